/- How many pieces the values of some fields have at most. -/
import Derived.Test.YtckdldbheejmhaaDoorG5
namespace Go.Proofs.YtckdldbheejmhaaDoor
set_option linter.unusedVariables false
set_option linter.unusedSimpArgs false
theorem cutL_len : ∀ l : List UInt8, (cutL l).length ≤ l.length + 1
  | [] => by simp [cutL]
  | c :: r => by
    have ih := cutL_len r
    unfold cutL
    split
    · simp only [List.length_cons]; omega
    · split
      · simp
      · rename_i p ps h
        rw [h] at ih
        simp only [List.length_cons] at ih ⊢
        omega
/-- the bytes of the values, and one a field -/
def totV : List Fd → Nat
  | [] => 0
  | f :: r => f.v.size + 1 + totV r
theorem allP_few (l : List Fd) (s : ByteArray) : (allP (vsL l s)).length ≤ totV l := by
  induction l with
  | nil => simp [vsL, allP, totV]
  | cons f r ih =>
    have h : vsL (f :: r) s = (if f.n = s then [f.v] else []) ++ vsL r s := by rw [← vsL_one, ← vsL_app]; rfl
    rw [h, allP_app, List.length_append, totV]
    by_cases e : f.n = s
    · rw [if_pos e, allP_one, List.length_map, cutS, List.length_map]
      have := cutL_len f.v.data.toList
      rw [← Lib.size_eq] at this
      omega
    · rw [if_neg e]
      simp [allP]
      simp [allP] at ih
      omega
end Go.Proofs.YtckdldbheejmhaaDoor
