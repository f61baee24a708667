/- The document's Do. -/
import Derived.Test.YtaaocgppniflcaaD6
import Derived.Test.YtaaocgppniflcaaA4
namespace Go.Proofs.Ytaaocgppniflcaa
open Go.RowKit Go.Maps
set_option linter.unusedVariables false
set_option linter.unusedSimpArgs false

/-- a stream's new state, in the list -/
def rput (l : List O1) (id n : Int) (cu : Bool) : List O1 :=
  match l.findIdx? (fun x => x.1 == id) with
  | some i => if h : i < l.length then l.set i (l[i].1, n, l[i].2.2 || cu) else l
  | none => l ++ [(id, n, cu)]
def rdo (c : Bool) (l : List O1) (id : Int) (g : Bool) (k : Int) : List O1 × Int × Int :=
  if isK k = false then (l, 4, 0)
  else if isStr id = false then (l, mis g)
  else if (rst l id == 0 && isB k && !rmay c id g k) = true then (l, mis g)
  else if (rcut l id && g && !(k == 5)) = true then (l, 1, 0)
  else (if ((nx (rst l id) g k).2.1 == 0 && !((nx (rst l id) g k).1 == rst l id)) = true then rput l id (nx (rst l id) g k).1 (k == 6 && !g) else l, (nx (rst l id) g k).2)
/-- all but the table's block and its row are as they were -/
def Kr (p : Nat) (v : Value) (w w' : World) : Prop := Ks (fun i => i = p ∨ v.ownBlock = some i) w w'

/-- within the document's Do: the event's block, the verdict's, the table -/
structure Dr (w w2 : World) (p : Nat) (v0 v : Value) (c : Bool) (l : List O1) (g : Bool) (k : Int) : Prop where
  ev : w2.heap[w.heap.size]? = some (.cells #[.bool g, .int .i64 k] 57)
  vd : w2.heap[w.heap.size + 1]? = some (.cells #[.int .i64 0, .int .i64 0] 55)
  rt : RT w2 p c v l
  ks : Kr p v0 w w2
  pl : p < w.heap.size
  nw : ∀ i, v.ownBlock = some i → v0.ownBlock = some i ∨ w.heap.size ≤ i
section
variable {w w2 w3 : World} {p : Nat} {v0 v : Value} {c : Bool} {l : List O1} {g : Bool} {k : Int}
theorem Dr.start (g : Bool) (k : Int) (h : RT w p c v l) : Dr w ((w.alloc (.cells #[.bool g, .int .i64 k] 57)).alloc (.cells #[.int .i64 0, .int .i64 0] 55)) p v v c l g k :=
  ⟨by rw [heap_al, if_neg (by simp), heap_al, if_pos rfl], fresh2 _ _ _, h.below (bel2 _ _ _), Ks.of_below (bel2 _ _ _), h.lt, fun i hi => .inl hi⟩
theorem Dr.below (h : Dr w w2 p v0 v c l g k) (hB : Below w2.heap.size w2 w3) : Dr w w3 p v0 v c l g k :=
  ⟨(hB.block _ (heap_lt h.ev)).trans h.ev, (hB.block _ (heap_lt h.vd)).trans h.vd, h.rt.below hB, Ks.trans h.ks (Ks.of_below hB) (fun _ _ e => e) (fun _ _ e => e), h.pl, h.nw⟩
theorem Dr.cells (h : Dr w w2 p v0 v c l g k) : w2.cell? ⟨w.heap.size, 0, none⟩ = some (.bool g) ∧ w2.cell? ⟨w.heap.size, 1, none⟩ = some (.int .i64 k) ∧ w.heap.size < w2.heap.size :=
  ⟨cell_blk h.ev 0, cell_blk h.ev 1, heap_lt h.ev⟩
theorem Dr.fin (h : Dr w w2 p v0 v c l g k) :
    w2.cell? ⟨w.heap.size + 1, 0, none⟩ = some (.int .i64 0) ∧ w2.cell? ⟨w.heap.size + 1, 1, none⟩ = some (.int .i64 0) ∧ w2.frozen? ⟨w.heap.size + 1, 0, none⟩ = false ∧ w2.frozen? ⟨w.heap.size + 1, 1, none⟩ = false ∧
      ∀ x y, ((w2.setCell ⟨w.heap.size + 1, 0, none⟩ x).setCell ⟨w.heap.size + 1, 1, none⟩ y).heap[w.heap.size + 1]? = some (.cells #[x, y] 55) ∧
        ∃ v', RT ((w2.setCell ⟨w.heap.size + 1, 0, none⟩ x).setCell ⟨w.heap.size + 1, 1, none⟩ y) p c v' l ∧ Kr p v0 w ((w2.setCell ⟨w.heap.size + 1, 0, none⟩ x).setCell ⟨w.heap.size + 1, 1, none⟩ y) ∧ ∀ i, v'.ownBlock = some i → v0.ownBlock = some i ∨ w.heap.size ≤ i := by
  have hp := h.pl
  have o : ∀ x y j, j ≠ w.heap.size + 1 → ((w2.setCell ⟨w.heap.size + 1, 0, none⟩ x).setCell ⟨w.heap.size + 1, 1, none⟩ y).heap[j]? = w2.heap[j]? := fun x y j hj => (setCell_other _ _ _ _ _ hj).trans (setCell_other _ _ _ _ _ hj)
  refine ⟨cell_blk h.vd 0, cell_blk h.vd 1, frozen_blk h.vd 0, frozen_blk h.vd 1, fun x y => ⟨?_, v, ?_, ?_, h.nw⟩⟩
  · exact setCell_block _ _ 1 y _ _ _ (setCell_block _ _ 0 x _ _ _ h.vd)
  · refine ⟨(o _ _ _ (by omega)).trans h.rt.blk, h.rt.row.stays fun i hi _ => o _ _ _ (fun e => ?_)⟩
    obtain ⟨cc, hc⟩ := h.rt.row.ty i hi
    rw [e, h.vd] at hc
    injection hc with hc; injection hc with _ hc; exact absurd hc (by decide)
  · refine ⟨h.ks.os, h.ks.tape, h.ks.output, by simpa [World.setCell] using h.ks.size, fun i hi hn => ?_⟩
    rw [o _ _ _ (by omega)]
    exact h.ks.block i hi hn
/-- a stream that stands in the list: its state is written, and its mark -/
theorem Dr.found (h : Dr w w2 p v0 v c l g k) (j : Nat) (hj : j < l.length) : ∃ gg cap, v = .slice (some ⟨gg, 0, none⟩) l.length cap ∧ l.length ≤ cap ∧ cap ≤ 9223372036854775807 ∧ gg < w2.heap.size ∧
    w2.cell? ⟨gg, j * 3 + 1, none⟩ = some (.int .i64 l[j].2.1) ∧ w2.cell? ⟨gg, j * 3 + 2, none⟩ = some (.bool l[j].2.2) ∧ w2.frozen? ⟨gg, j * 3 + 1, none⟩ = false ∧ w2.frozen? ⟨gg, j * 3 + 2, none⟩ = false ∧
    (∀ n, Dr w (w2.setCell ⟨gg, j * 3 + 1, none⟩ (.int .i64 n)) p v0 v c (l.set j (l[j].1, n, l[j].2.2)) g k) ∧ (∀ b, Dr w (w2.setCell ⟨gg, j * 3 + 2, none⟩ (.bool b)) p v0 v c (l.set j (l[j].1, l[j].2.1, b)) g k) ∧
    ∀ (i : Nat) (x : Value) (q : Nat) (cc : Array Value), w2.heap[q]? = some (.cells cc 55) → (w2.setCell ⟨gg, i, none⟩ x).heap[q]? = some (.cells cc 55) := by
  obtain ⟨gg, cap, e, h1, h2, h3, h4, h5, h6, h7, h8, h9, ha⟩ := h.rt.row.set1 j hj
  obtain ⟨c77, hc77⟩ := h.rt.row.ty gg h4
  have ne : ∀ (q : Nat) (cc : Array Value) (t : TypeId), w2.heap[q]? = some (.cells cc t) → t ≠ 77 → q ≠ gg := fun q cc t hq ht e => by
    rw [e, hc77] at hq
    injection hq with hq; injection hq with _ hq; exact ht hq.symm
  have keep : ∀ i x l', R E1 (w2.setCell ⟨gg, i, none⟩ x) v l' → Dr w (w2.setCell ⟨gg, i, none⟩ x) p v0 v c l' g k := fun i x l' hR =>
    ⟨(setCell_other _ _ _ _ _ (ne _ _ _ h.ev (by decide))).trans h.ev, (setCell_other _ _ _ _ _ (ne _ _ _ h.vd (by decide))).trans h.vd, ⟨(setCell_other _ _ _ _ _ (ne _ _ _ h.rt.blk (by decide))).trans h.rt.blk, hR⟩,
      ⟨h.ks.os, h.ks.tape, h.ks.output, by simpa [World.setCell] using h.ks.size, fun q hq hn => by
        rw [setCell_other _ _ _ _ _ (fun e => by
          rcases h.nw gg h4 with e2 | e2
          · exact hn (.inr (e ▸ e2))
          · omega)]
        exact h.ks.block q hq hn⟩, h.pl, h.nw⟩
  exact ⟨gg, cap, e, h1, h2, h3, h5, h6, h7, h8, fun n => keep _ _ _ (h9 n), fun b => keep _ _ _ (ha b), fun i x q cc hq => (setCell_other _ _ _ _ _ (ne q cc 55 hq (by decide))).trans hq⟩
/-- a stream that is born: it stands last in the list -/
theorem Dr.born (h : Dr w w2 p v0 v c l g k) (x : O1) (hlen : (l.length + 1) * 24 ≤ 140737488355328) : ∃ base cap w3, (Builtin.append_ #[69, 69] 69 #[v, .slice (some ⟨w2.heap.size, 0, none⟩) 1 1]).run Try.prog (w2.alloc (.cells #[.int .i64 x.1, .int .i64 x.2.1, .bool x.2.2] 77)) = .ok (.slice base (l.length + 1) cap) w3 ∧
    w3.cell? ⟨p, 1, none⟩ = some v ∧ w3.frozen? ⟨p, 1, none⟩ = false ∧ p < w3.heap.size ∧ Dr w (w3.setCell ⟨p, 1, none⟩ (.slice base (l.length + 1) cap)) p v0 (.slice base (l.length + 1) cap) c (l ++ [x]) g k ∧
    ∀ (q : Nat) (cc : Array Value), w2.heap[q]? = some (.cells cc 55) → (w3.setCell ⟨p, 1, none⟩ (.slice base (l.length + 1) cap)).heap[q]? = some (.cells cc 55) := by
  have hA := h.below (bel1 w2 (.cells #[.int .i64 x.1, .int .i64 x.2.1, .bool x.2.2] 77))
  obtain ⟨base, cap, w3, hrun, hR, hG⟩ := app ok1 (w2.alloc (.cells #[.int .i64 x.1, .int .i64 x.2.1, .bool x.2.2] 77)) v l hA.rt.row (.slice (some ⟨w2.heap.size, 0, none⟩) 1 1) [x] (in_one _ _ x _ _ _ (heap_alloc_new _ _) rfl) (by simpa [E1] using hlen)
  have ne : ∀ (q : Nat) (cc : Array Value) (t : TypeId), (w2.alloc (.cells #[.int .i64 x.1, .int .i64 x.2.1, .bool x.2.2] 77)).heap[q]? = some (.cells cc t) → t ≠ 77 → v.ownBlock ≠ some q := fun q cc t hq ht e => by
    obtain ⟨c77, hc⟩ := hA.rt.row.ty q e
    rw [hq] at hc
    injection hc with hc; injection hc with _ hc; exact ht hc
  have kp : ∀ (q : Nat) (cc : Array Value) (t : TypeId), (w2.alloc (.cells #[.int .i64 x.1, .int .i64 x.2.1, .bool x.2.2] 77)).heap[q]? = some (.cells cc t) → t ≠ 77 → w3.heap[q]? = some (.cells cc t) := fun q cc t hq ht => (hG.block q (heap_lt hq) (ne q cc t hq ht)).trans hq
  have hb := kp _ _ _ hA.rt.blk (by decide)
  have nep : ∀ (q : Nat) (cc : Array Value) (t : TypeId), w3.heap[q]? = some (.cells cc t) → t ≠ 71 → q ≠ p := fun q cc t hq ht e => by
    rw [e, hb] at hq
    injection hq with hq; injection hq with _ hq; exact ht hq.symm
  have kq : ∀ (q : Nat) (cc : Array Value) (t : TypeId), (w2.alloc (.cells #[.int .i64 x.1, .int .i64 x.2.1, .bool x.2.2] 77)).heap[q]? = some (.cells cc t) → t ≠ 77 → t ≠ 71 → (w3.setCell ⟨p, 1, none⟩ (.slice base (l.length + 1) cap)).heap[q]? = some (.cells cc t) := fun q cc t hq ht ht2 => by
    have h3 := kp q cc t hq ht
    exact (setCell_other _ _ _ _ _ (nep q cc t h3 ht2)).trans h3
  refine ⟨base, cap, w3, hrun, cell_blk hb 1, frozen_blk hb 1, heap_lt hb, ⟨kq _ _ _ hA.ev (by decide) (by decide), kq _ _ _ hA.vd (by decide) (by decide), ⟨setCell_block _ _ 1 _ _ _ _ hb, hR.stays fun i hi _ => setCell_other _ _ _ _ _ (fun e => ?_)⟩, ?_, h.pl, fun i hi => ?_⟩, fun q cc hq => kq q cc 55 ((heap_al _ _ _).trans ((if_neg (by have := heap_lt hq; omega)).trans hq)) (by decide) (by decide)⟩
  · obtain ⟨c77, hc⟩ := hR.ty i hi
    rw [e, hb] at hc
    injection hc with hc; injection hc with _ hc; exact absurd hc (by decide)
  · have hk : Ks (fun i => v.ownBlock = some i) (w2.alloc (.cells #[.int .i64 x.1, .int .i64 x.2.1, .bool x.2.2] 77)) w3 := Ks.of_gr hG
    refine Ks.trans (Ks.trans hA.ks hk (fun _ _ e => e) (fun i hi e => ?_)) (Ks.setCell (fun i => i = p) w3 p 1 _ rfl) (fun _ _ e => e) (fun i _ e => .inl e)
    rcases h.nw i e with e2 | e2
    · exact .inr e2
    · omega
  · rcases hG.own i hi with e | e
    · exact h.nw i e
    · have := h.ks.size
      rw [size_al] at e
      exact .inr (by omega)
end
end Go.Proofs.Ytaaocgppniflcaa
