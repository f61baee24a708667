/- The payload that the document puts is the program's. -/
import Derived.Test.YtjigjckclpccmaaDoorX8
namespace Go.Proofs.YtjigjckclpccmaaDoor
open Go.RowKit
set_option linter.unusedVariables false
set_option linter.unusedSimpArgs false

theorem pad_eq (f : Fr) (ps : List (Int × Int)) (h : Right f ps) : padS f = mpS f.ty.toNat f.fl.toNat ∧ ((f.ty = 1 ∨ 10 ≤ f.ty) ∨ hasF f.fl 32 = false) ∧ (f.ty = 4 → (hasF f.fl 1 = true ↔ f.fl ≠ 0)) := by
  have h1 := h.ty0
  have h2 := h.ty1
  have h3 := h.fl0
  have h4 := h.fl1
  obtain ⟨T, hT⟩ : ∃ T : Nat, f.ty = (T : Int) := ⟨f.ty.toNat, by omega⟩
  obtain ⟨X, hF⟩ : ∃ X : Nat, f.fl = (X : Int) := ⟨f.fl.toNat, by omega⟩
  have hX : X < 256 := by omega
  have hfl := h.fl
  unfold kiF at hfl
  rw [hT, hF] at hfl
  obtain ⟨f8, f32, f1⟩ := (flags_fact X (min (T : Int) 10).toNat hX (by omega)).2 hfl
  rw [hT, hF]
  refine ⟨?_, ?_, fun h4 => by rw [f1 (by omega)]; omega⟩
  · unfold padS mpS
    rw [hT, hF, Int.toNat_natCast, Int.toNat_natCast]
    rcases f8 with f8 | f8
    · by_cases h10 : 10 ≤ T
      · rw [decide_eq_false (by omega), decide_eq_false (by omega), decide_eq_false (by omega), decide_eq_false (by omega)]
        rfl
      · rw [decide_eq_true (by omega)]
        have : (decide (T = 0) || decide (T = 1) || decide (T = 5)) = true := by
          simp only [Bool.or_eq_true, decide_eq_true_eq]
          omega
        rw [this]
    · rw [f8, Bool.and_false, Bool.and_false]
  · rcases f32 with h | h
    · exact .inl (by omega)
    · exact .inr h

theorem whole_eq (f : Fr) (ps : List (Int × Int)) (h : Right f ps) : pyL f ps (mpS f.ty.toNat f.fl.toNat) (wgS f.ty.toNat f.fl.toNat) = wholeB f ps := by
  obtain ⟨hp, h32, h1⟩ := pad_eq f ps h
  have hpad := h.pad
  have hbody := h.body
  have t0 := h.ty0
  rw [← hp]
  obtain ⟨T, hT⟩ : ∃ T : Nat, f.ty = (T : Int) := ⟨f.ty.toNat, by omega⟩
  have key : pyA f false (wgS f.ty.toNat f.fl.toNat) ++ pyB f ++ parB ps ++ f.data.data.toList = payB (kd f.ty f.fl).2.2.1 f ps := by
    have fl0 := h.fl0
    unfold BodyR at hbody
    rw [hT] at hbody h32 h1 ⊢
    rw [Int.toNat_natCast]
    have hx : ((f.fl.toNat : Nat) : Int) = f.fl := Int.toNat_of_nonneg fl0
    have hnil : ∀ (s : ByteArray), s = ⟨#[]⟩ → s.data.toList = [] := fun s e => by rw [e]
    rcases cases_T T with rfl | rfl | rfl | rfl | rfl | rfl | rfl | rfl | rfl | rfl | hT10
    rotate_left 10
    · have e : kd (T : Int) f.fl = (68, 0, 62, 63) := by
        unfold kd
        rw [if_neg (by omega), if_neg (by omega), if_neg (by omega), if_neg (by omega), if_neg (by omega), if_neg (by omega), if_neg (by omega), if_neg (by omega)]
      rw [e] at hbody ⊢
      simp at hbody
      have t1 : T ≠ 1 := by omega
      have t2 : T ≠ 2 := by omega
      simp [pyA, pyB, payB, wgS, t1, t2, hT, hbody, parB]
      rw [if_neg (by omega), if_neg (by omega)]
      rfl
    · simp [kd] at hbody
      simp [kd, pyA, pyB, payB, wgS, hT, hbody, parB]
    · cases hh : hasF f.fl 32
      · simp [kd, hh] at hbody
        simp [kd, pyA, pyB, payB, wgS, hT, hbody, parB, hh, hx]
      · simp [kd, hh] at hbody
        simp [kd, pyA, pyB, payB, wgS, hT, hbody, parB, hh, hx]
    · simp [kd] at hbody
      simp [kd, pyA, pyB, payB, wgS, hT, hbody, parB]
    · simp [kd] at hbody
      simp [kd, pyA, pyB, payB, wgS, hT, hbody, parB]
    · cases hh : hasF f.fl 1
      · simp [kd, hh] at hbody
        simp [kd, pyA, pyB, payB, wgS, hT, hbody, hh]
      · simp [kd, hh] at hbody
        simp [kd, pyA, pyB, payB, wgS, hT, hbody, parB, hh]
    · simp [kd] at hbody
      have hm : f.last % 2147483648 = f.last := by omega
      simp [kd, pyA, pyB, payB, wgS, hT, hbody, parB, hm]
    · simp [kd] at hbody
      simp [kd, pyA, pyB, payB, wgS, hT, hbody, parB]
    · simp [kd] at hbody
      have hm : f.last % 2147483648 = f.last := by omega
      simp [kd, pyA, pyB, payB, wgS, hT, hbody, parB, hm]
    · simp [kd] at hbody
      have hm : f.last % 2147483648 = f.last := by omega
      simp [kd, pyA, pyB, payB, wgS, hT, hbody, parB, hm]
    · simp [kd] at hbody
      simp [kd, pyA, pyB, payB, wgS, hT, hbody, parB]
  unfold pyL wholeB
  cases hpd : padS f
  · rw [hpd] at hpad
    simp at hpad
    rw [key, hpad]
    simp
  · rw [hpd] at hpad
    simp at hpad
    have e1 : pyA f true (wgS f.ty.toNat f.fl.toNat) = [b8 f.pad] ++ pyA f false (wgS f.ty.toNat f.fl.toNat) := by unfold pyA; simp
    have e2 : (f.pad % 256).toNat = f.pad.toNat := by omega
    rw [e1, e2, ← key]
    simp only [if_true, List.append_assoc]
end Go.Proofs.YtjigjckclpccmaaDoor
