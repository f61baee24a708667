/- Plain facts: the document's tests are the program's. -/
import Derived.Test.YtmhbaaemihljjaaDoorE1
import Derived.Test.YtmhbaaemihljjaaDoorA8
namespace Go.Proofs.YtmhbaaemihljjaaDoor
open Go.RowKit
set_option linter.unusedVariables false
set_option linter.unusedSimpArgs false

theorem fl_all : ((List.range 11).all fun n => (List.range 256).all fun x => decide (0 ≤ bits .and .i64 (x : Int) (kflags n)) && decide (bits .and .i64 (x : Int) (kflags n) < 256) && (!(hasF (bits .and .i64 (x : Int) (kflags n)) 8) || n == 0 || n == 1 || n == 5 || n == 10)) = true := by decide +kernel

/-- flags are a byte, and padding has three types alone -/
theorem fl_byte (b : ByteArray) : ∃ X : Nat, flS b = (X : Int) ∧ X < 256 ∧ (hasF (X : Int) 8 = true → byteAt b 3 = 0 ∨ byteAt b 3 = 1 ∨ byteAt b 3 = 5 ∨ 10 ≤ byteAt b 3) := by
  have hk : kiS b < 11 := by unfold kiS tyS; omega
  have ha := List.all_eq_true.1 fl_all (kiS b) (by simpa using hk)
  have hb := List.all_eq_true.1 ha (byteAt b 4) (by simpa using byteAt_lt b 4)
  rw [Bool.and_eq_true, Bool.and_eq_true, decide_eq_true_eq, decide_eq_true_eq] at hb
  obtain ⟨⟨h1, h2⟩, h3⟩ := hb
  refine ⟨(flS b).toNat, ?_, ?_, ?_⟩
  · unfold flS; omega
  · unfold flS; omega
  · intro h
    rw [show (((flS b).toNat : Nat) : Int) = flS b by unfold flS; omega] at h
    unfold flS at h
    rw [h] at h3
    simp at h3
    have : kiS b = (min (byteAt b 3 : Int) 10).toNat := rfl
    omega

theorem sr_eq (T : Nat) (S : Int) (h0 : 0 ≤ S) (h1 : S < 2147483648) : srS T S = true ↔ ¬ (S < kfrom (min (T : Int) 10).toNat ∨ kto (min (T : Int) 10).toNat < S) := by
  rcases cases_T T with rfl | rfl | rfl | rfl | rfl | rfl | rfl | rfl | rfl | rfl | hT
  rotate_left 10
  · rw [show (min (T : Int) 10).toNat = 10 by omega]
    unfold srS
    rw [if_neg (by omega), if_neg (by omega)]
    simp [kfrom, kto]
    omega
  all_goals
    simp [srS, kfrom, kto, show (min (0 : Int) 10).toNat = 0 from rfl, show (min (1 : Int) 10).toNat = 1 from rfl, show (min (2 : Int) 10).toNat = 2 from rfl, show (min (3 : Int) 10).toNat = 3 from rfl, show (min (4 : Int) 10).toNat = 4 from rfl, show (min (5 : Int) 10).toNat = 5 from rfl, show (min (6 : Int) 10).toNat = 6 from rfl, show (min (7 : Int) 10).toNat = 7 from rfl, show (min (8 : Int) 10).toNat = 8 from rfl, show (min (9 : Int) 10).toNat = 9 from rfl]
    try omega

theorem kd_big (T : Nat) (fl : Int) (h : 10 ≤ T) : kd (T : Int) fl = (72, 0, 62, 63) := by
  unfold kd
  rw [if_neg (by omega), if_neg (by omega), if_neg (by omega), if_neg (by omega), if_neg (by omega), if_neg (by omega), if_neg (by omega), if_neg (by omega)]

theorem lr_big (T X n : Nat) (c : Nat) (h : 10 ≤ T) (hc : c = 0) : lrS T X n = ftS (kd (T : Int) (X : Int)).1 (kd (T : Int) (X : Int)).2.1 ((n : Int) - (c : Int)) := by
  rw [kd_big T _ h, hc]
  unfold lrS
  rw [if_neg (by omega), if_neg (by omega), if_neg (by omega), if_neg (by omega), if_neg (by omega), if_neg (by omega)]
  simp [ftS]

theorem lr_4 (X n : Nat) (c : Nat) (h1 : hasF (X : Int) 1 = false) (hc : c = 0) : lrS 4 X n = ftS (kd ((4 : Nat) : Int) (X : Int)).1 (kd ((4 : Nat) : Int) (X : Int)).2.1 ((n : Int) - (c : Int)) := by
  have e : kd ((4 : Nat) : Int) (X : Int) = (74, 6, 57, 58) := by unfold kd; simp [h1]
  have hr : (n : Int).tmod 6 = ((n % 6 : Nat) : Int) := by rw [Int.tmod_eq_emod_of_nonneg (by omega)]; rfl
  rw [e, hc]
  show lrS 4 X n = (((n : Int) - ((0 : Nat) : Int)).tmod 6 == 0)
  rw [show (n : Int) - ((0 : Nat) : Int) = (n : Int) by omega, hr]
  have e2 : lrS 4 X n = decide (n % 6 = 0) := by simp [lrS, h1]
  rw [e2]
  by_cases hn : n % 6 = 0
  · rw [hn]; rfl
  · have : (((n % 6 : Nat) : Int) == 0) = false := by rw [beq_eq_false_iff_ne]; omega
    rw [this]
    simpa using hn

theorem lr_eq (T X n : Nat) (hmask : hasF (X : Int) 8 = true → T = 0 ∨ T = 1 ∨ T = 5 ∨ 10 ≤ T) :
    lrS T X n = ftS (kd (T : Int) (X : Int)).1 (kd (T : Int) (X : Int)).2.1 ((n : Int) - ((if (decide ((T : Int) < 10) && hasF (X : Int) 8) then 1 else 0 : Nat) : Int)) := by
  have hr : (n : Int).tmod 6 = ((n % 6 : Nat) : Int) := by rw [Int.tmod_eq_emod_of_nonneg (by omega)]; rfl
  cases h8 : hasF (X : Int) 8 <;> cases h32 : hasF (X : Int) 32 <;> cases h1 : hasF (X : Int) 1
  all_goals
    rcases cases_T T with rfl | rfl | rfl | rfl | rfl | rfl | rfl | rfl | rfl | rfl | hT
    all_goals
      first
        | (exfalso; have := hmask h8; omega)
        | (exact lr_big T X n _ hT (by first | (simp; done) | (simp; omega)))
        | (exact lr_4 X n _ h1 (by simp))
        | (simp [lrS, ahS, mpS, kd, ftS, h8, h32, h1, hr]; done)
        | (simp [lrS, ahS, mpS, kd, ftS, h8, h32, h1, hr]; omega)
        | (simp [lrS, ahS, mpS, kd, ftS, h8, h32, h1, hr]; by_cases hn : n = 0 <;> simp [hn] <;> omega)
        | (simp [lrS, ahS, mpS, kd, ftS, h8, h32, h1, hr]; by_cases hn : n = 5 <;> simp [hn] <;> omega)
        | (simp [lrS, ahS, mpS, kd, ftS, h8, h32, h1, hr]; by_cases hn : n = 4 <;> simp [hn] <;> omega)
        | (simp [lrS, ahS, mpS, kd, ftS, h8, h32, h1, hr]; by_cases hn : n = 8 <;> simp [hn] <;> omega)
end Go.Proofs.YtmhbaaemihljjaaDoor
