/- Texts among the arguments of the second form. -/
import Derived.Test.YtckdldbheejmhaaDoorE0
namespace Go.Proofs.YtckdldbheejmhaaDoor
open Go.ChangeShapes Go.WideShapes Go.ChangeAt Go.RowKit Go.Deep
set_option linter.unusedVariables false
set_option linter.unusedSimpArgs false

theorem bulk_one {H : Type} (d : DataW H) : 1 ≤ Rows.uptoBulk d := by
  cases d with
  | lit l => cases l <;> simp [Rows.uptoBulk]
  | nil => simp [Rows.uptoBulk]
  | ptr d => simp [Rows.uptoBulk]
  | slice elems spare => simp [Rows.uptoBulk]
  | agg parts => simp [Rows.uptoBulk]
  | iface t d => simp [Rows.uptoBulk]
  | map entries => simp [Rows.uptoBulk]
  | held h => simp [Rows.uptoBulk]
theorem bulk_length {H : Type} (l : List (DataW H)) : l.length ≤ Rows.uptoBulkAll l := by
  induction l with
  | nil => simp [Rows.uptoBulkAll]
  | cons x r ih => have := bulk_one x; simp only [Rows.uptoBulkAll, List.length_cons]; omega

theorem strs_bulk {H : Type} {enc : TypeId × Value → H} {W : World} {s : SV} {l : List ByteArray} {n : Nat} {x : DataW H × List MemPlace} (h : DataW.trod enc Tryd.prog W 0 (fun _ => true) true n 25 [sv s] = some x) (hl : In ES W (sv s) l) (hb : Rows.uptoBulk x.1 ≤ 1048576) : l.length ≤ 1048576 := by
  obtain ⟨b, c, e, _⟩ := hl.slice
  rcases open_slice Tryd.underlying25 h with ⟨hc, _⟩ | ⟨a, len, cap, m, k, D, Pl, hc, _, _, _, _, hx, _⟩
  · simp only [List.cons.injEq, and_true] at hc
    rw [hc] at e
    injection e with _ e2 _
    omega
  · simp only [List.cons.injEq, and_true] at hc
    rw [hc] at e
    injection e with _ e2 _
    rw [hx] at hb
    simp only [Rows.uptoBulk] at hb
    have := bulk_length ((List.range len).map D)
    simp at this
    omega
end Go.Proofs.YtckdldbheejmhaaDoor
