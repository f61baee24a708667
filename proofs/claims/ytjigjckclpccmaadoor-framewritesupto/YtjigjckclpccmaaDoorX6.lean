/- The document's right frame is a right frame, and its payload is the program's. -/
import Derived.Test.YtjigjckclpccmaaDoorX5
import Derived.Test.YtjigjckclpccmaaDoorR2
namespace Go.Proofs.YtjigjckclpccmaaDoor
open Go.RowKit
set_option linter.unusedVariables false
set_option linter.unusedSimpArgs false

/-- what the flags of a type leave out -/
theorem flags_all : ((List.range 256).all fun x => (List.range 11).all fun t =>
    (decide (bits .andNot .i64 (x : Int) (kflags t) = 0) == decide (bits .and .i64 (x : Int) (kflags t) = (x : Int))) &&
    (!decide (bits .and .i64 (x : Int) (kflags t) = (x : Int)) || ((decide (t = 0 ∨ t = 1 ∨ t = 5 ∨ t = 10) || !hasF (x : Int) 8) && (decide (t = 1 ∨ t = 10) || !hasF (x : Int) 32) && (!decide (t = 4) || (hasF (x : Int) 1 == decide (x ≠ 0)))))) = true := by decide +kernel
theorem flags_fact (X t : Nat) (hX : X < 256) (ht : t < 11) :
    (bits .andNot .i64 (X : Int) (kflags t) = 0 ↔ bits .and .i64 (X : Int) (kflags t) = (X : Int)) ∧
    (bits .and .i64 (X : Int) (kflags t) = (X : Int) → ((t = 0 ∨ t = 1 ∨ t = 5 ∨ t = 10) ∨ hasF (X : Int) 8 = false) ∧ ((t = 1 ∨ t = 10) ∨ hasF (X : Int) 32 = false) ∧ (t = 4 → (hasF (X : Int) 1 = true ↔ X ≠ 0))) := by
  have h := List.all_eq_true.1 (List.all_eq_true.1 flags_all X (List.mem_range.2 hX)) t (List.mem_range.2 ht)
  simp only [Bool.and_eq_true, Bool.or_eq_true, Bool.not_eq_true', decide_eq_true_eq, beq_iff_eq, decide_eq_false_iff_not] at h
  obtain ⟨h1, h2⟩ := h
  refine ⟨by rw [← decide_eq_true_iff (p := _ = (0 : Int)), h1, decide_eq_true_iff], fun h3 => ?_⟩
  rcases h2 with h2 | ⟨⟨h4, h5⟩, h6⟩
  · exact absurd h3 h2
  · refine ⟨h4, h5, fun ht4 => ?_⟩
    rcases h6 with h6 | h6
    · exact absurd ht4 h6
    · rw [h6, decide_eq_true_iff]

theorem wi_iff (n m : Int) : wiS n m = true ↔ 0 ≤ n ∧ n ≤ m := by simp [wiS]
theorem okQ_all (ps : List (Int × Int)) : ps.all okQ = true ↔ ∀ q ∈ ps, 0 ≤ q.1 ∧ q.1 < 65536 ∧ 0 ≤ q.2 ∧ q.2 < 4294967296 := by
  rw [List.all_eq_true]
  constructor
  · intro h q hq
    have := h q hq
    unfold okQ at this
    rw [Bool.and_eq_true, wi_iff, wi_iff] at this
    omega
  · intro h q hq
    have := h q hq
    unfold okQ
    rw [Bool.and_eq_true, wi_iff, wi_iff]
    omega
theorem empty_iff (b : ByteArray) : b.toList.isEmpty = true ↔ b = ⟨#[]⟩ := by
  rw [ByteArray.toList_eq]
  constructor
  · intro h
    apply ByteArray.ext
    have : b.data.toList = [] := by simpa using h
    exact Array.ext' this
  · rintro rfl
    rfl
end Go.Proofs.YtjigjckclpccmaaDoor
