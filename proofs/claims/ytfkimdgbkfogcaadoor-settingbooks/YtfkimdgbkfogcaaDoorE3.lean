/- Params among the arguments of the second form. -/
import Derived.Test.YtfkimdgbkfogcaaDoorE1
namespace Go.Proofs.YtfkimdgbkfogcaaDoor
open Go.ChangeShapes Go.WideShapes Go.ChangeAt Go.RowKit Go.Deep
set_option linter.unusedVariables false
set_option linter.unusedSimpArgs false

theorem bulk_one {H : Type} (d : DataW H) : 1 ≤ Rows.uptoBulk d := by
  cases d with
  | lit l => cases l <;> simp [Rows.uptoBulk]
  | nil => simp [Rows.uptoBulk]
  | ptr d => simp [Rows.uptoBulk]
  | slice elems spare => simp [Rows.uptoBulk]
  | agg parts => simp [Rows.uptoBulk]
  | iface t d => simp [Rows.uptoBulk]
  | map entries => simp [Rows.uptoBulk]
  | held h => simp [Rows.uptoBulk]
theorem bulk_length {H : Type} (l : List (DataW H)) : l.length ≤ Rows.uptoBulkAll l := by
  induction l with
  | nil => simp [Rows.uptoBulkAll]
  | cons x r ih => have := bulk_one x; simp only [Rows.uptoBulkAll, List.length_cons]; omega

theorem open_params_upto {H : Type} {enc : TypeId × Value → H} {W : World} {v : Value} {n : Nat} {x : DataW H × List MemPlace} (h : DataW.trod enc Tryd.prog W 0 (fun _ => true) true n 30 [v] = some x) (hsz : ∀ n ∈ x.1.weights Tryd.prog 30, n ≤ reachBytes) (hb : Rows.uptoBulk x.1 ≤ 1048576) :
    ∃ l, In EP W v l ∧ l.length ≤ 1048576 := by
  obtain ⟨l, hl, _⟩ := open_params h hsz
  refine ⟨l, hl, ?_⟩
  rcases open_slice Tryd.underlying30 h with ⟨hc, _⟩ | ⟨a, len, cap, m, k, D, Pl, hc, _, _, _, _, hx, _⟩
  · simp only [List.cons.injEq, and_true] at hc
    obtain ⟨b, c, e, _⟩ := hl.slice
    rw [hc] at e
    injection e with _ e2 _
    omega
  · simp only [List.cons.injEq, and_true] at hc
    obtain ⟨b, c, e, _⟩ := hl.slice
    rw [hc] at e
    injection e with _ e2 _
    rw [hx] at hb
    simp only [Rows.uptoBulk] at hb
    have := bulk_length ((List.range len).map D)
    simp at this
    omega
end Go.Proofs.YtfkimdgbkfogcaaDoor
