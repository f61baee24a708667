/- head, Match. -/
import Derived.Test.YtfponcdhaefkdaaDoorVa
import Derived.Deep.Cut
import Derived.Deep.CutRange
namespace Go.Proofs.YtfponcdhaefkdaaDoor
open Go.RowKit
set_option linter.unusedVariables false
set_option linter.unusedSimpArgs false

/-- a request's values -/
structure Rq where
  m : ByteArray
  s : ByteArray
  a : ByteArray
  p : ByteArray
  y : SV
  b : ByteArray
def rqv (q : Rq) : Array Value := #[.string q.m, .string q.s, .string q.a, .string q.p, sv q.y, .string q.b]
def RqB (w : World) (g : Nat) (q : Rq) : Prop := w.heap[g]? = some (.cells (rqv q) 24 (0, 0))
theorem RqB.below {w w' : World} {g : Nat} {q : Rq} (h : RqB w g q) (hb : Below w.heap.size w w') : RqB w' g q := (hb.block g (heap_lt h)).trans h
theorem RqB.cells {w : World} {g : Nat} {q : Rq} (h : RqB w g q) : w.cell? ⟨g, 0, none⟩ = some (.string q.m) ∧ w.cell? ⟨g, 1, none⟩ = some (.string q.s) ∧ w.cell? ⟨g, 2, none⟩ = some (.string q.a) ∧ w.cell? ⟨g, 3, none⟩ = some (.string q.p) ∧ w.cell? ⟨g, 4, none⟩ = some (.slice q.y.1 q.y.2.1 q.y.2.2) ∧ w.cell? ⟨g, 5, none⟩ = some (.string q.b) ∧ g < w.heap.size :=
  ⟨cell_blk h 0, cell_blk h 1, cell_blk h 2, cell_blk h 3, cell_blk h 4, cell_blk h 5, heap_lt h⟩
def hdL (q : Rq) : List ByteArray := [q.m, q.s, q.a, q.p]

theorem R.whole {α : Type} {E : El α} (ok : E.Ok) {w : World} {g : Nat} {c : Array Value} (l : List α) (hl : l.length ≤ 64) (h : w.heap[g]? = some (.cells c E.e (0, 0))) (hc : c.toList = E.cs l) : R E w (.slice (some ⟨g, 0, none⟩) l.length l.length) l := by
  have hs : c.size = l.length * E.sz := by rw [← Array.length_toList, hc, ok.length]
  refine ⟨by rw [ok.length], .inr ⟨g, l.length, c, rfl, Nat.zero_le _, h, Nat.le_refl _, by unfold maxLen; omega, hs, ?_⟩⟩
  rw [← hs, List.take_of_length_le (by simp), hc]

set_option maxHeartbeats 4000000 in
set_option maxRecDepth 100000 in
theorem head_any (q : Rq) (w : World) : Calls Tryd.prog 84 #[.agg (rqv q)] w fun e w' => VsPost (hdL q) w e w' := by
  have hin : R ES ((w.alloc (.cells (rqv q) 24)).alloc (.cells #[.string q.m, .string q.s, .string q.a, .string q.p] 9)) (.slice (some ⟨w.heap.size + 1, 0, none⟩) 4 4) (hdL q) := R.whole okS (hdL q) (by simp [hdL]) (fresh2 _ _ _) rfl
  have HR : Hid (R ES ((w.alloc (.cells (rqv q) 24)).alloc (.cells #[.string q.m, .string q.s, .string q.a, .string q.p] 9)) (.slice (some ⟨w.heap.size + 1, 0, none⟩) 4 4) (hdL q) ∧ Below w.heap.size w ((w.alloc (.cells (rqv q) 24)).alloc (.cells #[.string q.m, .string q.s, .string q.a, .string q.p] 9))) := ⟨hin, bel2 w _ _⟩
  clear hin
  obtain ⟨m, s, a, p, ⟨yb, yl, yc⟩, b⟩ := q
  unfold rqv at HR ⊢
  simp only [sv] at HR ⊢
  go_enter Tryd.func84, Tryd.ntmps84
  go_wp2_with fail
  go_ret
  exact ⟨(some ⟨w.heap.size + 1, 0, none⟩, 4, 4), rfl, HR.out.2, HR.out.1, fun k hk => by simp [sv, Value.ownBlock] at hk; omega⟩
end Go.Proofs.YtfponcdhaefkdaaDoor
