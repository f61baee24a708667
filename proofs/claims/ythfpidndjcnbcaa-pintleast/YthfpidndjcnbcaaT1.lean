import Derived.Test.YthfpidndjcnbcaaRows
import Derived.Test.YthfpidndjcnbcaaNums
import Derived.Test.YthfpidndjcnbcaaBits
import Derived.WalkKit
import Derived.WalkSpells
import Derived.WalkLawsBesides
namespace Go.Proofs.Ythfpidndjcnbcaa
open Go.RowKit

set_option maxHeartbeats 400000 in
theorem isPrefix_any (a : Int) (w : World) :
    Calls Try.prog 17 #[.int .i64 a] w fun e w' => e = .returned (.bool (decide (1 ≤ a ∧ a ≤ 8))) ∧ w' = w := by
  by_cases h1 : 1 ≤ a <;> by_cases h2 : a ≤ 8
  all_goals
    go_enter Try.func17, Try.ntmps17
    go_wp2
    go_ret
    exact ⟨by simp [h1, h2], rfl⟩

set_option maxHeartbeats 400000 in
theorem pfull_any (p : Nat) (w : World) (h : 1 ≤ p) (h8 : p ≤ 8) :
    Calls Try.prog 18 #[.int .i64 (p : Int)] w fun e w' => e = .returned (.int .i64 (fl p : Int)) ∧ w' = w := by
  obtain rfl | rfl | rfl | rfl | rfl | rfl | rfl | rfl : p = 1 ∨ p = 2 ∨ p = 3 ∨ p = 4 ∨ p = 5 ∨ p = 6 ∨ p = 7 ∨ p = 8 := by omega
  all_goals
    go_enter Try.func18, Try.ntmps18
    go_wp2
    go_ret
    exact ⟨by simp [fl], rfl⟩

set_option maxRecDepth 100000 in
set_option maxHeartbeats 800000 in
theorem tg_any (t : Nat) (s : ByteArray) (w : World) (hs : s.size ≤ 9223372036854775807) (ht : t ≤ 255) (h0 : 0 < s.size) :
    Calls Try.prog 19 #[.int .i64 (t : Int), .string s] w fun e w' => e = .returned (.tuple #[.int .i64 (gsum t s).1, .int .i64 (gsum t s).2.1, .int .i64 (gsum t s).2.2]) ∧ w' = w := by
  generalize hG : gsum t s = G
  have HG : Hid (grp 5 0 t (s.data.toList.drop 1) = G) := hG
  clear hG
  go_enter Try.func19, Try.ntmps19
  go_wp2
  go_loop [0, 9] (fun x i => ∃ k y : Nat, k ≤ 5 ∧ k < s.size ∧ i = .int .i64 k ∧ x = .int .i64 y ∧ y < 256 + 128 ^ k ∧ Hid (grp (5 - k) k y (s.data.toList.drop (k + 1)) = G)) (fun _ i => 5 - (intOf i).toNat)
  case atStart => exact ⟨0, t, by omega, h0, rfl, rfl, by omega, HG⟩
  case round =>
    obtain ⟨k, y, hk, hks, rfl, rfl, hy, H⟩ := hrel
    by_cases h5 : k = 5
    · subst h5
      go_wp2
      go_ret3
      have := H.out
      rw [grp_zero] at this; subst this
      exact ⟨rfl, rfl⟩
    · obtain rfl | rfl | rfl | rfl | rfl : k = 0 ∨ k = 1 ∨ k = 2 ∨ k = 3 ∨ k = 4 := by omega
      · by_cases hl : 1 < s.size
        · have hb : ((1 : Int) == (s.size : Int)) = false := beq_eq_false_iff_ne.2 (by omega)
          by_cases hm : 128 ≤ s[1].toNat
          · have H' : Hid (grp 4 1 (y + s[1].toNat % 128 * 128 ^ 0) (s.data.toList.drop (1 + 1)) = G) := by
              have := H.out
              rw [drop_cons s _ hl, grp_more _ _ _ _ _ hm] at this
              exact this
            clear H
            go_wp2
            go_round
            case rel => exact ⟨1, y + s[1].toNat % 128 * 128 ^ 0, by omega, by omega, rfl, by go_num, by omega, H'⟩
            case measure => simp [intOf]
          · by_cases hx : 2147483647 < y + s[1].toNat % 128 * 128 ^ 0
            · exfalso; omega
            · have H' := H.out
              rw [drop_cons s _ hl, grp_end _ _ _ _ _ hm hx] at H'
              subst H'
              go_wp2
              go_ret3
              exact ⟨by simp, rfl⟩
        · have hb : ((1 : Int) == (s.size : Int)) = true := beq_iff_eq.2 (by omega)
          have H' := H.out
          rw [drop_none s _ (by omega)] at H'
          subst H'
          go_wp2
          go_ret3
          exact ⟨rfl, rfl⟩
      · by_cases hl : 2 < s.size
        · have hb : ((2 : Int) == (s.size : Int)) = false := beq_eq_false_iff_ne.2 (by omega)
          by_cases hm : 128 ≤ s[2].toNat
          · have H' : Hid (grp 3 2 (y + s[2].toNat % 128 * 128 ^ 1) (s.data.toList.drop (2 + 1)) = G) := by
              have := H.out
              rw [drop_cons s _ hl, grp_more _ _ _ _ _ hm] at this
              exact this
            clear H
            go_wp2
            go_round
            case rel => exact ⟨2, y + s[2].toNat % 128 * 128 ^ 1, by omega, by omega, rfl, by go_num, by omega, H'⟩
            case measure => simp [intOf]
          · by_cases hx : 2147483647 < y + s[2].toNat % 128 * 128 ^ 1
            · exfalso; omega
            · have H' := H.out
              rw [drop_cons s _ hl, grp_end _ _ _ _ _ hm hx] at H'
              subst H'
              go_wp2
              go_ret3
              exact ⟨by simp, rfl⟩
        · have hb : ((2 : Int) == (s.size : Int)) = true := beq_iff_eq.2 (by omega)
          have H' := H.out
          rw [drop_none s _ (by omega)] at H'
          subst H'
          go_wp2
          go_ret3
          exact ⟨rfl, rfl⟩
      · by_cases hl : 3 < s.size
        · have hb : ((3 : Int) == (s.size : Int)) = false := beq_eq_false_iff_ne.2 (by omega)
          by_cases hm : 128 ≤ s[3].toNat
          · have H' : Hid (grp 2 3 (y + s[3].toNat % 128 * 128 ^ 2) (s.data.toList.drop (3 + 1)) = G) := by
              have := H.out
              rw [drop_cons s _ hl, grp_more _ _ _ _ _ hm] at this
              exact this
            clear H
            go_wp2
            go_round
            case rel => exact ⟨3, y + s[3].toNat % 128 * 128 ^ 2, by omega, by omega, rfl, by go_num, by omega, H'⟩
            case measure => simp [intOf]
          · by_cases hx : 2147483647 < y + s[3].toNat % 128 * 128 ^ 2
            · exfalso; omega
            · have H' := H.out
              rw [drop_cons s _ hl, grp_end _ _ _ _ _ hm hx] at H'
              subst H'
              go_wp2
              go_ret3
              exact ⟨by simp, rfl⟩
        · have hb : ((3 : Int) == (s.size : Int)) = true := beq_iff_eq.2 (by omega)
          have H' := H.out
          rw [drop_none s _ (by omega)] at H'
          subst H'
          go_wp2
          go_ret3
          exact ⟨rfl, rfl⟩
      · by_cases hl : 4 < s.size
        · have hb : ((4 : Int) == (s.size : Int)) = false := beq_eq_false_iff_ne.2 (by omega)
          by_cases hm : 128 ≤ s[4].toNat
          · have H' : Hid (grp 1 4 (y + s[4].toNat % 128 * 128 ^ 3) (s.data.toList.drop (4 + 1)) = G) := by
              have := H.out
              rw [drop_cons s _ hl, grp_more _ _ _ _ _ hm] at this
              exact this
            clear H
            go_wp2
            go_round
            case rel => exact ⟨4, y + s[4].toNat % 128 * 128 ^ 3, by omega, by omega, rfl, by go_num, by omega, H'⟩
            case measure => simp [intOf]
          · by_cases hx : 2147483647 < y + s[4].toNat % 128 * 128 ^ 3
            · exfalso; omega
            · have H' := H.out
              rw [drop_cons s _ hl, grp_end _ _ _ _ _ hm hx] at H'
              subst H'
              go_wp2
              go_ret3
              exact ⟨by simp, rfl⟩
        · have hb : ((4 : Int) == (s.size : Int)) = true := beq_iff_eq.2 (by omega)
          have H' := H.out
          rw [drop_none s _ (by omega)] at H'
          subst H'
          go_wp2
          go_ret3
          exact ⟨rfl, rfl⟩
      · by_cases hl : 5 < s.size
        · have hb : ((5 : Int) == (s.size : Int)) = false := beq_eq_false_iff_ne.2 (by omega)
          by_cases hm : 128 ≤ s[5].toNat
          · have H' : Hid (grp 0 5 (y + s[5].toNat % 128 * 128 ^ 4) (s.data.toList.drop (5 + 1)) = G) := by
              have := H.out
              rw [drop_cons s _ hl, grp_more _ _ _ _ _ hm] at this
              exact this
            clear H
            go_wp2
            go_round
            case rel => exact ⟨5, y + s[5].toNat % 128 * 128 ^ 4, by omega, by omega, rfl, by go_num, by omega, H'⟩
            case measure => simp [intOf]
          · by_cases hx : 2147483647 < y + s[5].toNat % 128 * 128 ^ 4
            · have H' := H.out
              rw [drop_cons s _ hl, grp_big _ _ _ _ _ hm hx] at H'
              subst H'
              go_wp2
              go_ret3
              exact ⟨rfl, rfl⟩
            · have H' := H.out
              rw [drop_cons s _ hl, grp_end _ _ _ _ _ hm hx] at H'
              subst H'
              go_wp2
              go_ret3
              exact ⟨by simp, rfl⟩
        · have hb : ((5 : Int) == (s.size : Int)) = true := beq_iff_eq.2 (by omega)
          have H' := H.out
          rw [drop_none s _ (by omega)] at H'
          subst H'
          go_wp2
          go_ret3
          exact ⟨rfl, rfl⟩

end Go.Proofs.Ythfpidndjcnbcaa
