import Derived.Test.YthfpidndjcnbcaaT3
namespace Go.Proofs.Ythfpidndjcnbcaa
open Go.RowKit

set_option maxRecDepth 100000 in
set_option maxHeartbeats 1600000 in
theorem said_any (p : Nat) (s : ByteArray) (w : World) (hs : s.size ≤ 9223372036854775807) (hp1 : 1 ≤ p) (hp8 : p ≤ 8) :
    Calls Try.prog 16 #[.int .i64 (p : Int), .string s] w fun e w' => e = .returned (.tuple #[.int .i64 (saidS p s).1, .int .i64 (saidS p s).2]) ∧ ∃ n, w' = w.drewN n := by
  have ht := fl_le hp8
  have ht1 := fl_pos hp1
  by_cases h0 : 0 < s.size
  · have hcs := list_cons s h0
    have hx := s[0].toNat_lt
    have hbits := lo_bits s[0].toNat p hx hp8
    have hse : ((s.size : Int) == 0) = false := beq_eq_false_iff_ne.2 (by omega)
    have h00 : (0 : Int) < (s.size : Int) := by omega
    generalize hG : saidS p s = G
    by_cases hlt : lo p s[0].toNat < fl p
    · have hG' : G = (lo p s[0].toNat, 1) := by rw [← hG]; unfold saidS; rw [hcs]; simp only [saidN, if_pos hlt]
      subst hG'
      clear hG hcs
      go_enter Try.func16, Try.ntmps16
      go_wp2
      go_quiet ((go_at_call 12; exact Calls.quiet_of_same (lfull_any _ _ hp1 hp8)))
      go_wp2_with (first | (go_at_call 12; refine (lfull_any _ _ hp1 hp8).mono ?_; rintro e w' ⟨rfl, rfl⟩))
      go_ret2
      exact ⟨rfl, _, rfl⟩
    · have hf : lo p s[0].toNat = fl p := by have := lo_le p s[0].toNat; omega
      have HG : Hid (sd 5 0 (fl p) (s.data.toList.drop 1) = G) := by
        show _ = _
        rw [← hG]; unfold saidS; rw [hcs]; simp only [saidN, if_neg hlt]; rfl
      rw [hf] at hbits
      clear hG hcs hlt hf
      go_enter Try.func16, Try.ntmps16
      go_wp2
      go_quiet ((go_at_call 12; exact Calls.quiet_of_same (lfull_any _ _ hp1 hp8)))
      go_wp2_with (first | (go_at_call 12; refine (lfull_any _ _ hp1 hp8).mono ?_; rintro e w' ⟨rfl, rfl⟩))
      go_loop [6, 7] (fun x i => ∃ k y : Nat, k ≤ 5 ∧ k < s.size ∧ i = .int .i64 ((k + 1 : Nat) : Int) ∧ x = .int .i64 y ∧ y < 256 + 128 ^ k ∧ Hid (sd (5 - k) k y (s.data.toList.drop (k + 1)) = G)) (fun _ i => 6 - (intOf i).toNat)
      case atStart => exact ⟨0, fl p, by omega, h0, rfl, by first | rfl | rw [hbits], by omega, HG⟩
      case round =>
        clear hbits HG
        obtain ⟨k, y, hk, hks, rfl, rfl, hy, H⟩ := hrel
        by_cases h5 : k = 5
        · subst h5
          have H' := H.out
          rw [sd_zero] at H'
          subst H'
          by_cases hl : 6 < s.size
          · go_wp2
            go_ret2
            exact ⟨rfl, _, rfl⟩
          · go_wp2
            go_ret2
            exact ⟨rfl, _, rfl⟩
        · obtain rfl | rfl | rfl | rfl | rfl : k = 0 ∨ k = 1 ∨ k = 2 ∨ k = 3 ∨ k = 4 := by omega
          · by_cases hl : 1 < s.size
            · have hmk := mask127 s[1].toNat s[1].toNat_lt
              by_cases hm : 128 ≤ s[1].toNat
              · have H' : Hid (sd 4 1 (y + s[1].toNat % 128 * 128 ^ 0) (s.data.toList.drop (1 + 1)) = G) := by
                  have := H.out
                  rw [drop_cons s _ hl, sd_more _ _ _ _ _ hm] at this
                  exact this
                clear H
                go_wp2
                go_round
                case rel => exact ⟨1, y + s[1].toNat % 128 * 128 ^ 0, by omega, by omega, rfl, by go_num, by omega, H'⟩
                case measure => simp [intOf]
              · have H' := H.out
                rw [drop_cons s _ hl, sd_end _ _ _ _ _ hm] at H'
                subst H'
                go_wp2
                go_ret2
                exact ⟨by simp, _, rfl⟩
            · have H' := H.out
              rw [drop_none s _ (by omega), sd_nil] at H'
              subst H'
              go_wp2
              go_ret2
              exact ⟨rfl, _, rfl⟩
          · by_cases hl : 2 < s.size
            · have hmk := mask127 s[2].toNat s[2].toNat_lt
              by_cases hm : 128 ≤ s[2].toNat
              · have H' : Hid (sd 3 2 (y + s[2].toNat % 128 * 128 ^ 1) (s.data.toList.drop (2 + 1)) = G) := by
                  have := H.out
                  rw [drop_cons s _ hl, sd_more _ _ _ _ _ hm] at this
                  exact this
                clear H
                go_wp2
                go_round
                case rel => exact ⟨2, y + s[2].toNat % 128 * 128 ^ 1, by omega, by omega, rfl, by go_num, by omega, H'⟩
                case measure => simp [intOf]
              · have H' := H.out
                rw [drop_cons s _ hl, sd_end _ _ _ _ _ hm] at H'
                subst H'
                go_wp2
                go_ret2
                exact ⟨by simp, _, rfl⟩
            · have H' := H.out
              rw [drop_none s _ (by omega), sd_nil] at H'
              subst H'
              go_wp2
              go_ret2
              exact ⟨rfl, _, rfl⟩
          · by_cases hl : 3 < s.size
            · have hmk := mask127 s[3].toNat s[3].toNat_lt
              by_cases hm : 128 ≤ s[3].toNat
              · have H' : Hid (sd 2 3 (y + s[3].toNat % 128 * 128 ^ 2) (s.data.toList.drop (3 + 1)) = G) := by
                  have := H.out
                  rw [drop_cons s _ hl, sd_more _ _ _ _ _ hm] at this
                  exact this
                clear H
                go_wp2
                go_round
                case rel => exact ⟨3, y + s[3].toNat % 128 * 128 ^ 2, by omega, by omega, rfl, by go_num, by omega, H'⟩
                case measure => simp [intOf]
              · have H' := H.out
                rw [drop_cons s _ hl, sd_end _ _ _ _ _ hm] at H'
                subst H'
                go_wp2
                go_ret2
                exact ⟨by simp, _, rfl⟩
            · have H' := H.out
              rw [drop_none s _ (by omega), sd_nil] at H'
              subst H'
              go_wp2
              go_ret2
              exact ⟨rfl, _, rfl⟩
          · by_cases hl : 4 < s.size
            · have hmk := mask127 s[4].toNat s[4].toNat_lt
              by_cases hm : 128 ≤ s[4].toNat
              · have H' : Hid (sd 1 4 (y + s[4].toNat % 128 * 128 ^ 3) (s.data.toList.drop (4 + 1)) = G) := by
                  have := H.out
                  rw [drop_cons s _ hl, sd_more _ _ _ _ _ hm] at this
                  exact this
                clear H
                go_wp2
                go_round
                case rel => exact ⟨4, y + s[4].toNat % 128 * 128 ^ 3, by omega, by omega, rfl, by go_num, by omega, H'⟩
                case measure => simp [intOf]
              · have H' := H.out
                rw [drop_cons s _ hl, sd_end _ _ _ _ _ hm] at H'
                subst H'
                go_wp2
                go_ret2
                exact ⟨by simp, _, rfl⟩
            · have H' := H.out
              rw [drop_none s _ (by omega), sd_nil] at H'
              subst H'
              go_wp2
              go_ret2
              exact ⟨rfl, _, rfl⟩
          · by_cases hl : 5 < s.size
            · have hmk := mask127 s[5].toNat s[5].toNat_lt
              by_cases hm : 128 ≤ s[5].toNat
              · have H' : Hid (sd 0 5 (y + s[5].toNat % 128 * 128 ^ 4) (s.data.toList.drop (5 + 1)) = G) := by
                  have := H.out
                  rw [drop_cons s _ hl, sd_more _ _ _ _ _ hm] at this
                  exact this
                clear H
                go_wp2
                go_round
                case rel => exact ⟨5, y + s[5].toNat % 128 * 128 ^ 4, by omega, by omega, rfl, by go_num, by omega, H'⟩
                case measure => simp [intOf]
              · have H' := H.out
                rw [drop_cons s _ hl, sd_end _ _ _ _ _ hm] at H'
                subst H'
                go_wp2
                go_ret2
                exact ⟨by simp, _, rfl⟩
            · have H' := H.out
              rw [drop_none s _ (by omega), sd_nil] at H'
              subst H'
              go_wp2
              go_ret2
              exact ⟨rfl, _, rfl⟩
  · obtain rfl := list_none s h0
    go_enter Try.func16, Try.ntmps16
    go_wp2
    go_ret2
    exact ⟨rfl, 0, rfl⟩
end Go.Proofs.Ythfpidndjcnbcaa
