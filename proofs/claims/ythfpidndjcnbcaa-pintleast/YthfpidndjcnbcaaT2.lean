import Derived.Test.YthfpidndjcnbcaaT1
namespace Go.Proofs.Ythfpidndjcnbcaa
open Go.RowKit

set_option maxRecDepth 100000 in
set_option maxHeartbeats 800000 in
theorem take_any (a : Int) (s : ByteArray) (w : World) (hs : s.size ≤ 9223372036854775807) :
    Calls Try.prog 8 #[.int .i64 a, .string s] w fun e w' => e = .returned (.tuple #[.int .i64 (takeS a s).1, .int .i64 (takeS a s).2.1, .int .i64 (takeS a s).2.2]) ∧ w' = w := by
  by_cases ha : 1 ≤ a ∧ a ≤ 8
  · obtain ⟨p, rfl⟩ := Int.eq_ofNat_of_zero_le (show 0 ≤ a by omega)
    have hp1 : 1 ≤ p := by omega
    have hp8 : p ≤ 8 := by omega
    have hT : takeS (p : Int) s = takeN p s.data.toList := by simp [takeS, takeI, ha]
    rw [hT]; clear hT
    by_cases h0 : 0 < s.size
    · have hcs := list_cons s h0
      have hne := notEmpty s h0
      have hbits := lo_bitsb s[0].toNat p s[0].toNat_lt hp8
      have ht := fl_le hp8
      generalize hG : takeN p s.data.toList = G
      by_cases hlt : lo p s[0].toNat < fl p
      · have hG' : G = (lo p s[0].toNat, 1, 0) := by rw [← hG, hcs]; simp only [takeN, if_pos hlt]
        subst hG'
        clear hG hcs
        go_enter Try.func8, Try.ntmps8
        go_wp2_with (first | (go_at_call 17; refine (isPrefix_any _ _).mono ?_; rintro e w' ⟨rfl, rfl⟩) | (go_at_call 18; refine (pfull_any _ _ hp1 hp8).mono ?_; rintro e w' ⟨rfl, rfl⟩))
        go_ret3
        exact ⟨rfl, rfl⟩
      · have hG' : G = gsum (fl p) s := by rw [← hG, hcs]; simp only [takeN, if_neg hlt]; rfl
        subst hG'
        clear hG hcs
        go_enter Try.func8, Try.ntmps8
        go_wp2_with (first | (go_at_call 17; refine (isPrefix_any _ _).mono ?_; rintro e w' ⟨rfl, rfl⟩) | (go_at_call 18; refine (pfull_any _ _ hp1 hp8).mono ?_; rintro e w' ⟨rfl, rfl⟩) | (go_at_call 19; refine (tg_any _ _ _ hs ht h0).mono ?_; rintro e w' ⟨rfl, rfl⟩))
        go_ret3
        exact ⟨rfl, rfl⟩
    · obtain rfl := list_none s h0
      go_enter Try.func8, Try.ntmps8
      go_wp2_with (first | (go_at_call 17; refine (isPrefix_any _ _).mono ?_; rintro e w' ⟨rfl, rfl⟩))
      go_ret3
      exact ⟨rfl, rfl⟩
  · have hT : takeS a s = (0, 0, 1) := by simp [takeS, takeI, ha]
    rw [hT]; clear hT
    have hd : decide (1 ≤ a ∧ a ≤ 8) = false := by simpa using ha
    go_enter Try.func8, Try.ntmps8
    go_wp2_with (first | (go_at_call 17; refine (isPrefix_any _ _).mono ?_; rintro e w' ⟨rfl, rfl⟩))
    go_ret3
    exact ⟨rfl, rfl⟩
end Go.Proofs.Ythfpidndjcnbcaa
