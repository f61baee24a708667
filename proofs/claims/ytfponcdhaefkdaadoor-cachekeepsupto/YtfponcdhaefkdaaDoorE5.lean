/- Sizes out of the bulk. -/
import Derived.Test.YtfponcdhaefkdaaDoorE4
import Derived.Test.YtfponcdhaefkdaaDoorD3
namespace Go.Proofs.YtfponcdhaefkdaaDoor
open Go.RowKit
set_option linter.unusedVariables false
set_option linter.unusedSimpArgs false
theorem szL_tot (l : List Fd) : szL l ≤ 33 * totF l := by
  induction l with
  | nil => exact Nat.zero_le _
  | cons f r ih =>
    unfold szL at ih ⊢
    rw [List.map_cons, List.sum_cons]
    simp only [totF]
    omega
theorem az_of {q : Rq} {Q : List Fd} {b : ByteArray} {fr : List Fd} (h1 : q.m.size ≤ 140737488351232 ∧ q.s.size ≤ 140737488351232 ∧ q.a.size ≤ 140737488351232 ∧ q.p.size ≤ 140737488351232) (h2 : ∀ e ∈ Q, e.n.size ≤ 140737488351232 ∧ e.v.size ≤ 140737488351232) (h3 : totF Q ≤ 1048576) (h4 : ∀ e ∈ fr, e.n.size ≤ 140737488351232 ∧ e.v.size ≤ 140737488351232) (h5 : totF fr ≤ 1048576) (h6 : b.size ≤ 140737488351232) : Az q Q b fr := by
  have a1 := len_le Q
  have a2 := len_le fr
  have a3 := szL_tot fr
  have a4 := allP_few fr varyS
  have a5 := totV_le fr
  exact ⟨⟨by omega, by omega, by omega, by omega⟩, by omega, fun f hf => ⟨by have := (h2 f hf).1; omega, by have := (h2 f hf).2; omega⟩, by omega, by omega, fun f hf => ⟨by have := (h4 f hf).1; omega, by have := (h4 f hf).2; omega⟩, by omega, by omega⟩
end Go.Proofs.YtfponcdhaefkdaaDoor
