/- MessageApart: plain facts; a field written in a row. -/
import Derived.Test.YtnbaojdildelmaaDoorL0
namespace Go.Proofs.YtnbaojdildelmaaDoor
open Go.RowKit
set_option linter.unusedVariables false
set_option linter.unusedSimpArgs false
/-- the text of the value at a place -/
def vS (i : Nat) : ByteArray := (⟨#[118]⟩ : ByteArray) ++ decS i
def xF (i : Nat) : Fd := ⟨⟨#[120]⟩, vS i, false⟩
def xs (k : Nat) : List Fd := (List.range k).map xF
def AL (k : Nat) : List Fd := ⟨statS, ⟨#[50, 48, 48]⟩, false⟩ :: xs k
theorem xs_len (k : Nat) : (xs k).length = k := by simp [xs]
theorem AL_len (k : Nat) : (AL k).length = k + 1 := by simp [AL, xs_len]
theorem AL_succ (k : Nat) : AL (k + 1) = AL k ++ [xF k] := by simp [AL, xs, List.range_succ]
theorem xs_get (k i : Nat) (h : i < (xs k).length) : (xs k)[i] = xF i := by simp [xs]
theorem vS_list (i : Nat) : (vS i).data.toList = 118 :: Lib.decDigits i := by
  rw [vS, ByteArray.data_append, Array.toList_append, decS, bt_list]
  rfl
theorem vS_size (i : Nat) : (vS i).size = 1 + (Lib.decDigits i).length := by rw [Lib.size_eq, vS_list, List.length_cons]; omega
theorem xF_right {i : Nat} (h : i < 100) : wrongB (xF i) = false ∧ nofB (xF i) = false := by
  have hv : valB (vS i) = true := by
    have hl := dec_len 1 i (by omega)
    refine val_vis (by rw [vS_size]; omega) fun x hx => ?_
    rw [vS_list] at hx
    rcases List.mem_cons.1 hx with rfl | hx
    · decide
    · have := dec_bytes i x hx
      omega
  constructor
  · unfold wrongB xF
    simp only [hv]
    decide
  · unfold xF
    generalize vS i = V
    kernel_rfl
theorem AL_vs (k : Nat) : vsL (AL k) clS = [] := by
  unfold vsL AL
  rw [List.filterMap_cons]
  have h1 : (if ((⟨statS, ⟨#[50, 48, 48]⟩, false⟩ : Fd).n = clS) then some (⟨statS, ⟨#[50, 48, 48]⟩, false⟩ : Fd).v else none) = none := if_neg (by decide)
  rw [h1]
  rw [List.filterMap_eq_nil_iff]
  intro f hf
  obtain ⟨i, _, rfl⟩ := List.mem_map.1 hf
  exact if_neg (by show (⟨#[120]⟩ : ByteArray) ≠ clS; decide)
theorem AL_nw {k : Nat} (h : k ≤ 60) : nwE (AL k) = 0 ∧ stOf (AL k) = 200 := by
  have hC : stB ⟨#[50, 48, 48]⟩ = true ∧ valB ⟨#[50, 48, 48]⟩ = true ∧ numL (⟨#[50, 48, 48]⟩ : ByteArray).data.toList = 200 := by decide +kernel
  obtain ⟨h1, h2⟩ := res_ok (st := ⟨#[50, 48, 48]⟩) (nv := false) (r := xs k) hC.1 hC.2.1 (by rw [xs_len]; omega) (fun f hf => by
    obtain ⟨i, hi, rfl⟩ := List.mem_map.1 hf
    exact xF_right (by have := List.mem_range.1 hi; omega))
  rw [hC.2.2] at h2
  refine ⟨?_, h2⟩
  unfold nwE
  have h3 : hdE (AL k) = 0 := by unfold hdE AL; rw [if_neg (by rw [h1]; simp), h2, if_neg (by decide)]
  rw [h3, if_neg (by simp), AL_vs]
  rfl
theorem AL_names (k : Nat) : ∀ f ∈ AL k, f.n.size ≤ 140737488355328 := fun f hf => by
  rcases List.mem_cons.1 hf with rfl | hf
  · exact (by decide : statS.size ≤ 140737488355328)
  · obtain ⟨i, _, rfl⟩ := List.mem_map.1 hf
    exact (by decide : (⟨#[120]⟩ : ByteArray).size ≤ 140737488355328)
theorem AL_nx {k : Nat} (h : k ≤ 60) (y : SV) : (NwX ⟨#[71, 69, 84]⟩ (AL k) y).rq = false ∧ (NwX ⟨#[71, 69, 84]⟩ (AL k) y).bs = (none, 0, 0) := ⟨(NwX_keeps _ _ _).1, (NwX_keeps _ _ _).2.2.1⟩
end Go.Proofs.YtnbaojdildelmaaDoor
