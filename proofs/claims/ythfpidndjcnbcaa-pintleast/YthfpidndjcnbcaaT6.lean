import Derived.Test.YthfpidndjcnbcaaT1
import Derived.Test.YthfpidndjcnbcaaT3
import Derived.Test.YthfpidndjcnbcaaLen
namespace Go.Proofs.Ythfpidndjcnbcaa
open Go.RowKit

/-- may these be the upper bits? -/
def upB (f : Int) (p : Nat) : Bool := decide (0 ≤ f ∧ f ≤ 255 ∧ lo p f.toNat = 0)

set_option maxHeartbeats 800000 in
theorem isUpper_any (f : Int) (p : Nat) (w : World) (hp1 : 1 ≤ p) (hp8 : p ≤ 8) :
    Calls Try.prog 21 #[.int .i64 f, .int .i64 (p : Int)] w fun e w' => e = .returned (.bool (upB f p)) ∧ w' = w := by
  by_cases h1 : 0 ≤ f
  · by_cases h2 : f ≤ 255
    · obtain ⟨x, rfl⟩ := Int.eq_ofNat_of_zero_le h1
      have hb := lo_bits x p (by omega) hp8
      by_cases h3 : lo p x = 0
      · have hu : upB (x : Int) p = true := by unfold upB; simp; omega
        have h4 : ((lo p x : Int) == 0) = true := beq_iff_eq.2 (by omega)
        rw [hu]; clear hu h3
        go_enter Try.func21, Try.ntmps21
        go_wp2_with (first | (go_at_call 18; refine (pfull_any _ _ hp1 hp8).mono ?_; rintro e w' ⟨rfl, rfl⟩))
        go_ret
        exact ⟨rfl, rfl⟩
      · have hu : upB (x : Int) p = false := by unfold upB; simp; omega
        have h4 : ((lo p x : Int) == 0) = false := beq_eq_false_iff_ne.2 (by omega)
        rw [hu]; clear hu h3
        go_enter Try.func21, Try.ntmps21
        go_wp2_with (first | (go_at_call 18; refine (pfull_any _ _ hp1 hp8).mono ?_; rintro e w' ⟨rfl, rfl⟩))
        go_ret
        exact ⟨rfl, rfl⟩
    · have hu : upB f p = false := by unfold upB; simp; omega
      rw [hu]; clear hu
      go_enter Try.func21, Try.ntmps21
      go_wp2
      go_ret
      exact ⟨by simp, rfl⟩
  · have hu : upB f p = false := by unfold upB; simp; omega
    rw [hu]; clear hu
    go_enter Try.func21, Try.ntmps21
    go_wp2
    go_ret
    exact ⟨by simp, rfl⟩

theorem lo_tmod (x p : Nat) : ((x : Int).tmod ((fl p : Int) + 1)) = (lo p x : Int) := by
  have h := Nat.two_pow_pos p
  have e : ((fl p : Int) + 1) = ((2 ^ p : Nat) : Int) := by unfold fl; omega
  rw [e]; rfl
theorem lo_emod (x p : Nat) : ((x : Int) % ((fl p : Int) + 1)) = (lo p x : Int) := by
  have h := Nat.two_pow_pos p
  have e : ((fl p : Int) + 1) = ((2 ^ p : Nat) : Int) := by unfold fl; omega
  rw [e]; rfl

set_option maxHeartbeats 800000 in
theorem upper_any (f : Int) (p : Nat) (w : World) (hp1 : 1 ≤ p) (hp8 : p ≤ 8) :
    Calls Try.prog 23 #[.int .i64 (p : Int), .int .i64 f] w fun e w' => e = .returned (.bool (upB f p)) ∧ w' = w := by
  have ht := fl_le hp8
  have ht1 := fl_pos hp1
  by_cases h1 : 0 ≤ f
  · by_cases h2 : f ≤ 255
    · obtain ⟨x, rfl⟩ := Int.eq_ofNat_of_zero_le h1
      have hb := lo_emod x p
      by_cases h3 : lo p x = 0
      · have hu : upB (x : Int) p = true := by unfold upB; simp; omega
        have h4 : ((lo p x : Int) == 0) = true := beq_iff_eq.2 (by omega)
        have h5 : (((x : Int) % ((fl p : Int) + 1)) == 0) = true := by rw [hb]; exact h4
        rw [hu]; clear hu h3
        go_enter Try.func23, Try.ntmps23
        go_wp2_with (first | (go_at_call 20; refine (rfull_any _ _ hp8).mono ?_; rintro e w' ⟨rfl, rfl⟩))
        go_ret
        exact ⟨rfl, rfl⟩
      · have hu : upB (x : Int) p = false := by unfold upB; simp; omega
        have h4 : ((lo p x : Int) == 0) = false := beq_eq_false_iff_ne.2 (by omega)
        have h5 : (((x : Int) % ((fl p : Int) + 1)) == 0) = false := by rw [hb]; exact h4
        rw [hu]; clear hu h3
        go_enter Try.func23, Try.ntmps23
        go_wp2_with (first | (go_at_call 20; refine (rfull_any _ _ hp8).mono ?_; rintro e w' ⟨rfl, rfl⟩))
        go_ret
        exact ⟨rfl, rfl⟩
    · have hu : upB f p = false := by unfold upB; simp; omega
      rw [hu]; clear hu
      go_enter Try.func23, Try.ntmps23
      go_wp2
      go_ret
      exact ⟨by simp, rfl⟩
  · have hu : upB f p = false := by unfold upB; simp; omega
    rw [hu]; clear hu
    go_enter Try.func23, Try.ntmps23
    go_wp2
    go_ret
    exact ⟨by simp, rfl⟩

set_option maxHeartbeats 800000 in
theorem groups_any (x : Nat) (w : World) (h : x ≤ 2147483647) :
    Calls Try.prog 22 #[.int .i64 (x : Int)] w fun e w' => e = .returned (.int .i64 (gN x : Int)) ∧ w' = w := by
  have hl := bitLen_31 x h
  have hg := gN_eq x h
  have HG : Hid (max 1 ((Lib.bitLen x + 6) / 7) = gN x) := hg
  clear hg
  have hlen : ∀ w, Calls Try.prog 24 #[.int .u64 (x : Int)] w fun e w' => e = .returned (.int .i64 (Lib.bitLen x : Int)) ∧ w' = w := by
    intro w
    have := len64_any (x : Int) w (by omega) (by omega)
    rwa [Int.toNat_natCast] at this
  go_enter Try.func22, Try.ntmps22
  go_wp2_with (first | (go_at_call 24; refine (hlen _).mono ?_; rintro e w' ⟨rfl, rfl⟩))
  go_ret
  have e : max 1 (((Lib.bitLen x : Int) + 7 - 1) / 7) = (gN x : Int) := by rw [← HG.out]; omega
  exact ⟨congrArg Ending.returned (congrArg (Value.int IntKind.i64) e), rfl⟩
end Go.Proofs.Ythfpidndjcnbcaa
