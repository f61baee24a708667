/- The document's right frame is a right frame. -/
import Derived.Test.YtjigjckclpccmaaDoorX6
namespace Go.Proofs.YtjigjckclpccmaaDoor
open Go.RowKit
set_option linter.unusedVariables false
set_option linter.unusedSimpArgs false

theorem tt (T : Nat) (h : T ≤ 10) : (min (T : Int) 10).toNat = T := by omega
theorem st_iff (T : Nat) (st : Int) : ((0 ≤ st ∧ st ≤ 2147483647) ∧ srS T st = true) ↔ (kfrom (min (T : Int) 10).toNat ≤ st ∧ st ≤ kto (min (T : Int) 10).toNat) := by
  rcases cases_T T with rfl | rfl | rfl | rfl | rfl | rfl | rfl | rfl | rfl | rfl | hT
  rotate_left 10
  · rw [show (min (T : Int) 10).toNat = 10 by omega]
    have e : srS T st = true := by
      unfold srS
      rw [if_neg (by omega), if_neg (by omega)]
    rw [e]
    simp [kfrom, kto]
  all_goals
    rw [tt _ (by omega)]
    simp [srS, kfrom, kto]
    try omega
/-- the kinds of payload, by the type -/
theorem kd_facts (T X : Nat) (hf : (T = 1 ∨ hasF (X : Int) 32 = false) ∨ 10 ≤ T) (h1 : T = 4 → (hasF (X : Int) 1 = true ↔ X ≠ 0)) (k1 : Nat) (k2 : Int) (k3 k4 : Nat) (hk : kd (T : Int) (X : Int) = (k1, k2, k3, k4)) :
    ((k4 = 51 ∨ k4 = 54) ↔ wgS T X = true) ∧ ((k4 = 56 ∨ k4 = 65) ↔ (T = 3 ∨ T = 7)) ∧ ((k4 = 61 ∨ k4 = 65 ∨ k4 = 67) ↔ (T = 5 ∨ T = 7 ∨ T = 8)) ∧ ((k4 = 58 ∧ k1 = 70) ↔ (T = 4 ∧ X = 0)) ∧ ((k4 = 54 ∨ k4 = 56 ∨ k4 = 58 ∨ k4 = 67) ↔ (T = 2 ∨ T = 3 ∨ T = 4 ∨ T = 8)) ∧ (¬ (k4 = 54 ∨ k4 = 56 ∨ k4 = 58 ∨ k4 = 67) → (k1 = 69 ↔ T = 6)) := by
  unfold kd at hk
  unfold wgS
  rcases cases_T T with rfl | rfl | rfl | rfl | rfl | rfl | rfl | rfl | rfl | rfl | hT
  rotate_left 10
  · rw [if_neg (by omega), if_neg (by omega), if_neg (by omega), if_neg (by omega), if_neg (by omega), if_neg (by omega), if_neg (by omega), if_neg (by omega)] at hk
    simp only [Prod.mk.injEq] at hk
    obtain ⟨rfl, rfl, rfl, rfl⟩ := hk
    have t1 : T ≠ 1 := by omega
    have t2 : T ≠ 2 := by omega
    simp [t1, t2]
    omega
  · simp at hk; obtain ⟨rfl, rfl, rfl, rfl⟩ := hk; simp
  · cases h32 : hasF (X : Int) 32 <;> (simp [h32] at hk; obtain ⟨rfl, rfl, rfl, rfl⟩ := hk; simp)
  · simp at hk; obtain ⟨rfl, rfl, rfl, rfl⟩ := hk; simp
  · simp at hk; obtain ⟨rfl, rfl, rfl, rfl⟩ := hk; simp
  · have h1 := h1 rfl
    cases hh : hasF (X : Int) 1 <;> (rw [hh] at h1; simp [hh] at hk; obtain ⟨rfl, rfl, rfl, rfl⟩ := hk; simp at h1 ⊢; omega)
  all_goals (simp at hk; obtain ⟨rfl, rfl, rfl, rfl⟩ := hk; simp)
end Go.Proofs.YtjigjckclpccmaaDoor
