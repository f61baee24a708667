import Derived.Test.YthfpidndjcnbcaaT3
namespace Go.Proofs.Ythfpidndjcnbcaa
open Go.RowKit

theorem lo_mod (x p : Nat) : ((x : Int) % ((fl p : Int) + 1)) = (lo p x : Int) := by
  have h := Nat.two_pow_pos p
  have e : ((fl p : Int) + 1) = ((2 ^ p : Nat) : Int) := by unfold fl; omega
  rw [e]; rfl

set_option maxRecDepth 100000 in
set_option maxHeartbeats 1600000 in
theorem rtake_full (p : Nat) (s : ByteArray) (w : World) (hs : s.size ≤ 9223372036854775807) (hp1 : 1 ≤ p) (hp8 : p ≤ 8) (h0 : 0 < s.size) (hf : lo p s[0].toNat = fl p) :
    Calls Try.prog 9 #[.int .i64 (p : Int), .string s] w fun e w' => e = .returned (.tuple #[.int .i64 (gsum (fl p) s).1, .int .i64 (gsum (fl p) s).2.1, .int .i64 (gsum (fl p) s).2.2]) ∧ w' = w := by
  have hx := s[0].toNat_lt
  have hmod := lo_mod s[0].toNat p
  have ht := fl_le hp8
  have ht1 := fl_pos hp1
  rw [hf] at hmod
  clear hf
  generalize hG : gsum (fl p) s = G
  have HG : Hid (grp 5 0 (fl p) (s.data.toList.drop 1) = G) := hG
  clear hG
  have hse : ((s.size : Int) == 0) = false := beq_eq_false_iff_ne.2 (by omega)
  go_enter Try.func9, Try.ntmps9
  go_wp2_with (first | (go_at_call 20; refine (rfull_any _ _ hp8).mono ?_; rintro e w' ⟨rfl, rfl⟩))
  go_loop [8, 9, 10] (fun x u i => ∃ k y : Nat, k ≤ 5 ∧ k < s.size ∧ i = .int .i64 ((k + 1 : Nat) : Int) ∧ u = .int .i64 ((128 ^ k : Nat) : Int) ∧ x = .int .i64 y ∧ y < 256 + 128 ^ k ∧ Hid (grp (5 - k) k y (s.data.toList.drop (k + 1)) = G)) (fun _ _ i => 6 - (intOf i).toNat)
  case atStart => exact ⟨0, fl p, by omega, h0, rfl, rfl, by rw [hmod], by omega, HG⟩
  case round =>
    clear hmod
    obtain ⟨k, y, hk, hks, rfl, rfl, rfl, hy, H⟩ := hrel
    by_cases h5 : k = 5
    · subst h5
      go_wp2
      go_ret3
      have := H.out
      rw [grp_zero] at this; subst this
      exact ⟨rfl, rfl⟩
    · obtain rfl | rfl | rfl | rfl | rfl : k = 0 ∨ k = 1 ∨ k = 2 ∨ k = 3 ∨ k = 4 := by omega
      · by_cases hl : 1 < s.size
        · by_cases hm : 128 ≤ s[1].toNat
          · have H' : Hid (grp 4 1 (y + s[1].toNat % 128 * 128 ^ 0) (s.data.toList.drop (1 + 1)) = G) := by
              have := H.out
              rw [drop_cons s _ hl, grp_more _ _ _ _ _ hm] at this
              exact this
            clear H
            go_wp2
            go_round
            case rel => exact ⟨1, y + s[1].toNat % 128 * 128 ^ 0, by omega, by omega, rfl, rfl, by go_num, by omega, H'⟩
            case measure => simp [intOf]
          · by_cases hx : 2147483647 < y + s[1].toNat % 128 * 128 ^ 0
            · exfalso; omega
            · have H' := H.out
              rw [drop_cons s _ hl, grp_end _ _ _ _ _ hm hx] at H'
              subst H'
              go_wp2
              go_ret3
              exact ⟨by simp, rfl⟩
        · have H' := H.out
          rw [drop_none s _ (by omega)] at H'
          subst H'
          go_wp2
          go_ret3
          exact ⟨rfl, rfl⟩
      · by_cases hl : 2 < s.size
        · by_cases hm : 128 ≤ s[2].toNat
          · have H' : Hid (grp 3 2 (y + s[2].toNat % 128 * 128 ^ 1) (s.data.toList.drop (2 + 1)) = G) := by
              have := H.out
              rw [drop_cons s _ hl, grp_more _ _ _ _ _ hm] at this
              exact this
            clear H
            go_wp2
            go_round
            case rel => exact ⟨2, y + s[2].toNat % 128 * 128 ^ 1, by omega, by omega, rfl, rfl, by go_num, by omega, H'⟩
            case measure => simp [intOf]
          · by_cases hx : 2147483647 < y + s[2].toNat % 128 * 128 ^ 1
            · exfalso; omega
            · have H' := H.out
              rw [drop_cons s _ hl, grp_end _ _ _ _ _ hm hx] at H'
              subst H'
              go_wp2
              go_ret3
              exact ⟨by simp, rfl⟩
        · have H' := H.out
          rw [drop_none s _ (by omega)] at H'
          subst H'
          go_wp2
          go_ret3
          exact ⟨rfl, rfl⟩
      · by_cases hl : 3 < s.size
        · by_cases hm : 128 ≤ s[3].toNat
          · have H' : Hid (grp 2 3 (y + s[3].toNat % 128 * 128 ^ 2) (s.data.toList.drop (3 + 1)) = G) := by
              have := H.out
              rw [drop_cons s _ hl, grp_more _ _ _ _ _ hm] at this
              exact this
            clear H
            go_wp2
            go_round
            case rel => exact ⟨3, y + s[3].toNat % 128 * 128 ^ 2, by omega, by omega, rfl, rfl, by go_num, by omega, H'⟩
            case measure => simp [intOf]
          · by_cases hx : 2147483647 < y + s[3].toNat % 128 * 128 ^ 2
            · exfalso; omega
            · have H' := H.out
              rw [drop_cons s _ hl, grp_end _ _ _ _ _ hm hx] at H'
              subst H'
              go_wp2
              go_ret3
              exact ⟨by simp, rfl⟩
        · have H' := H.out
          rw [drop_none s _ (by omega)] at H'
          subst H'
          go_wp2
          go_ret3
          exact ⟨rfl, rfl⟩
      · by_cases hl : 4 < s.size
        · by_cases hm : 128 ≤ s[4].toNat
          · have H' : Hid (grp 1 4 (y + s[4].toNat % 128 * 128 ^ 3) (s.data.toList.drop (4 + 1)) = G) := by
              have := H.out
              rw [drop_cons s _ hl, grp_more _ _ _ _ _ hm] at this
              exact this
            clear H
            go_wp2
            go_round
            case rel => exact ⟨4, y + s[4].toNat % 128 * 128 ^ 3, by omega, by omega, rfl, rfl, by go_num, by omega, H'⟩
            case measure => simp [intOf]
          · by_cases hx : 2147483647 < y + s[4].toNat % 128 * 128 ^ 3
            · exfalso; omega
            · have H' := H.out
              rw [drop_cons s _ hl, grp_end _ _ _ _ _ hm hx] at H'
              subst H'
              go_wp2
              go_ret3
              exact ⟨by simp, rfl⟩
        · have H' := H.out
          rw [drop_none s _ (by omega)] at H'
          subst H'
          go_wp2
          go_ret3
          exact ⟨rfl, rfl⟩
      · by_cases hl : 5 < s.size
        · by_cases hm : 128 ≤ s[5].toNat
          · have H' : Hid (grp 0 5 (y + s[5].toNat % 128 * 128 ^ 4) (s.data.toList.drop (5 + 1)) = G) := by
              have := H.out
              rw [drop_cons s _ hl, grp_more _ _ _ _ _ hm] at this
              exact this
            clear H
            go_wp2
            go_round
            case rel => exact ⟨5, y + s[5].toNat % 128 * 128 ^ 4, by omega, by omega, rfl, rfl, by go_num, by omega, H'⟩
            case measure => simp [intOf]
          · by_cases hx : 2147483647 < y + s[5].toNat % 128 * 128 ^ 4
            · have H' := H.out
              rw [drop_cons s _ hl, grp_big _ _ _ _ _ hm hx] at H'
              subst H'
              go_wp2
              go_ret3
              exact ⟨rfl, rfl⟩
            · have H' := H.out
              rw [drop_cons s _ hl, grp_end _ _ _ _ _ hm hx] at H'
              subst H'
              go_wp2
              go_ret3
              exact ⟨by simp, rfl⟩
        · have H' := H.out
          rw [drop_none s _ (by omega)] at H'
          subst H'
          go_wp2
          go_ret3
          exact ⟨rfl, rfl⟩

set_option maxRecDepth 100000 in
set_option maxHeartbeats 800000 in
theorem rtake_any (a : Int) (s : ByteArray) (w : World) (hs : s.size ≤ 9223372036854775807) :
    Calls Try.prog 9 #[.int .i64 a, .string s] w fun e w' => e = .returned (.tuple #[.int .i64 (takeS a s).1, .int .i64 (takeS a s).2.1, .int .i64 (takeS a s).2.2]) ∧ w' = w := by
  by_cases ha : 1 ≤ a ∧ a ≤ 8
  · obtain ⟨p, rfl⟩ := Int.eq_ofNat_of_zero_le (show 0 ≤ a by omega)
    have hp1 : 1 ≤ p := by omega
    have hp8 : p ≤ 8 := by omega
    have hT : takeS (p : Int) s = takeN p s.data.toList := by simp [takeS, takeI, ha]
    rw [hT]; clear hT
    by_cases h0 : 0 < s.size
    · have hcs := list_cons s h0
      by_cases hlt : lo p s[0].toNat < fl p
      · have hmod := lo_mod s[0].toNat p
        have ht := fl_le hp8
        have ht1 := fl_pos hp1
        have hx := s[0].toNat_lt
        have hse : ((s.size : Int) == 0) = false := beq_eq_false_iff_ne.2 (by omega)
        have hG' : takeN p s.data.toList = (lo p s[0].toNat, 1, 0) := by rw [hcs]; simp only [takeN, if_pos hlt]
        rw [hG']
        clear hcs hG'
        go_enter Try.func9, Try.ntmps9
        go_wp2_with (first | (go_at_call 20; refine (rfull_any _ _ hp8).mono ?_; rintro e w' ⟨rfl, rfl⟩))
        go_ret3
        exact ⟨by simp [hmod], rfl⟩
      · have hf : lo p s[0].toNat = fl p := by have := lo_le p s[0].toNat; omega
        have hG' : takeN p s.data.toList = gsum (fl p) s := by rw [hcs]; simp only [takeN, if_neg hlt]; rfl
        rw [hG']
        exact rtake_full p s w hs hp1 hp8 h0 hf
    · obtain rfl := list_none s h0
      go_enter Try.func9, Try.ntmps9
      go_wp2
      go_ret3
      exact ⟨rfl, rfl⟩
  · have hT : takeS a s = (0, 0, 1) := by simp [takeS, takeI, ha]
    rw [hT]; clear hT
    by_cases h1 : a < 1
    · clear ha
      go_enter Try.func9, Try.ntmps9
      go_wp2
      go_ret3
      exact ⟨rfl, rfl⟩
    · have h8 : 8 < a := by omega
      clear ha
      go_enter Try.func9, Try.ntmps9
      go_wp2
      go_ret3
      exact ⟨rfl, rfl⟩
end Go.Proofs.Ythfpidndjcnbcaa
