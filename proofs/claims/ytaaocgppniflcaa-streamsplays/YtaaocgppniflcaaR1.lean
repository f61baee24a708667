/- StreamsPlays: all that lies side by side. -/
import Derived.Test.YtaaocgppniflcaaD9
import Derived.Test.YtaaocgppniflcaaQ0
namespace Go.Proofs.Ytaaocgppniflcaa
open Go.RowKit Go.Maps
set_option linter.unusedVariables false
set_option linter.unusedSimpArgs false

theorem TI.other {W : World} {p b : Nat} {T : Tb} (h : TI W p b T) {k : Nat} {c : Array Value} {t : TypeId} (hk : W.heap[k]? = some (.cells c t (0, 0))) (ht : t ≠ 61) : k ≠ p ∧ k ≠ b := by
  constructor
  · intro e
    rw [e, h.blk] at hk
    injection hk with hk
    injection hk with _ hk
    exact ht hk.symm
  · intro e
    obtain ⟨es, clock, hb, _⟩ := h.mp
    rw [e, hb] at hk
    cases hk
theorem blk_ne {W : World} {j k : Nat} {c d : Array Value} {s t : TypeId} (hj : W.heap[j]? = some (.cells c s (0, 0))) (hk : W.heap[k]? = some (.cells d t (0, 0))) (h : s ≠ t) : j ≠ k := by
  intro e
  rw [e, hk] at hj
  injection hj with hj
  injection hj with _ hj
  exact h hj.symm
/-- blocks of other types are as they were -/
def Kc (W W' : World) : Prop := ∀ (k : Nat) (c : Array Value) (t : TypeId), W.heap[k]? = some (.cells c t (0, 0)) → t ≠ 61 → t ≠ 71 → t ≠ 77 → W'.heap[k]? = some (.cells c t (0, 0))
theorem Kc.of_below {W W' : World} (h : Below W.heap.size W W') : Kc W W' := fun k c t hk _ _ _ => (h.block k (heap_lt hk)).trans hk

/-- two tables of the program, two of the document, the streams that will be asked -/
structure Pw (w W : World) (p0 b0 q0 : Nat) (v0 : Value) (A : Tb) (c0 : Bool) (l0 : List O1) (p1 b1 q1 : Nat) (v1 : Value) (B : Tb) (c1 : Bool) (l1 : List O1) (vi : Value) (I : List Int) : Prop where
  tw : Tw w W p0 b0 p1 b1 A B
  r0 : RT W q0 c0 v0 l0
  r1 : RT W q1 c1 v1 l1
  n0 : w.heap.size ≤ q0
  n1 : w.heap.size ≤ q1
  nq : q0 ≠ q1
  o0 : ∀ k, v0.ownBlock = some k → w.heap.size ≤ k
  o1 : ∀ k, v1.ownBlock = some k → w.heap.size ≤ k
  on : ∀ k, v0.ownBlock = some k → v1.ownBlock ≠ some k
  ri : R EI W vi I
  oi : ∀ k, vi.ownBlock = some k → w.heap.size ≤ k
section
variable {w W W' : World} {p0 b0 q0 : Nat} {v0 : Value} {A : Tb} {c0 : Bool} {l0 : List O1} {p1 b1 q1 : Nat} {v1 : Value} {B : Tb} {c1 : Bool} {l1 : List O1} {vi : Value} {I : List Int}
theorem Pw.swap (h : Pw w W p0 b0 q0 v0 A c0 l0 p1 b1 q1 v1 B c1 l1 vi I) : Pw w W p1 b1 q1 v1 B c1 l1 p0 b0 q0 v0 A c0 l0 vi I :=
  ⟨⟨h.tw.t1, h.tw.t0, h.tw.bel, h.tw.n1, h.tw.m1, h.tw.n0, h.tw.m0, h.tw.np.symm, h.tw.nb.symm⟩, h.r1, h.r0, h.n1, h.n0, h.nq.symm, h.o1, h.o0, fun k h1 h2 => h.on k h2 h1, h.ri, h.oi⟩
theorem Pw.below (h : Pw w W p0 b0 q0 v0 A c0 l0 p1 b1 q1 v1 B c1 l1 vi I) (hB : Below W.heap.size W W') : Pw w W' p0 b0 q0 v0 A c0 l0 p1 b1 q1 v1 B c1 l1 vi I :=
  ⟨h.tw.below hB, h.r0.below hB, h.r1.below hB, h.n0, h.n1, h.nq, h.o0, h.o1, h.on, h.ri.below hB, h.oi⟩
/-- the first table of the program does something -/
theorem Pw.do0 {A' : Tb} (h : Pw w W p0 b0 q0 v0 A c0 l0 p1 b1 q1 v1 B c1 l1 vi I) (ht : TI W' p0 b0 A') (hk : K2s p0 b0 W W') : Pw w W' p0 b0 q0 v0 A' c0 l0 p1 b1 q1 v1 B c1 l1 vi I ∧ Kc W W' := by
  have kc : Kc W W' := fun k c t hc h1 _ _ => by
    obtain ⟨e1, e2⟩ := h.tw.t0.other hc h1
    rw [hk.block k (heap_lt hc) (fun e => e.elim e1 e2)]
    exact hc
  have kr : ∀ {α : Type} {E : El α} {o : Value} {l : List α}, E.e ≠ 61 → R E W o l → R E W' o l := fun {α E o l} hE hR => hR.stays fun k hk' _ => by
    obtain ⟨c, hc⟩ := hR.ty k hk'
    obtain ⟨e1, e2⟩ := h.tw.t0.other hc hE
    exact hk.block k (heap_lt hc) (fun e => e.elim e1 e2)
  have kb : ∀ {q : Nat} {c : Bool} {v : Value} {l : List O1}, RT W q c v l → RT W' q c v l := fun {q c v l} hR => by
    obtain ⟨e1, e2⟩ := h.tw.t0.other hR.blk (by decide)
    exact ⟨(hk.block q hR.lt (fun e => e.elim e1 e2)).trans hR.blk, kr (by decide) hR.row⟩
  exact ⟨⟨h.tw.do0 ht hk, kb h.r0, kb h.r1, h.n0, h.n1, h.nq, h.o0, h.o1, h.on, kr (by decide) h.ri, h.oi⟩, kc⟩
/-- the document's first table does something -/
theorem Pw.rdo0 {v' : Value} {l' : List O1} (h : Pw w W p0 b0 q0 v0 A c0 l0 p1 b1 q1 v1 B c1 l1 vi I) (hr : RT W' q0 c0 v' l') (hk : Kr q0 v0 W W') (ho : ∀ i, v'.ownBlock = some i → v0.ownBlock = some i ∨ W.heap.size ≤ i) :
    Pw w W' p0 b0 q0 v' A c0 l' p1 b1 q1 v1 B c1 l1 vi I ∧ Kc W W' := by
  have own77 : ∀ i, v0.ownBlock = some i → ∃ c, W.heap[i]? = some (.cells c 77 (0, 0)) := fun i hi => h.r0.row.ty i hi
  have st : ∀ k, k < W.heap.size → k ≠ q0 → v0.ownBlock ≠ some k → W'.heap[k]? = W.heap[k]? := fun k hk' h1 h2 => hk.block k hk' (fun e => e.elim h1 h2)
  have kc : Kc W W' := fun k c t hc _ h2 h3 => by
    rw [st k (heap_lt hc) (blk_ne hc h.r0.blk h2) (fun e => by
      obtain ⟨d, hd⟩ := own77 k e
      exact blk_ne hc hd h3 rfl)]
    exact hc
  have kti : ∀ {p b : Nat} {T : Tb}, TI W p b T → TI W' p b T := fun {p b T} ht => by
    refine ht.stays (st p ht.lt (fun e => (ht.other h.r0.blk (by decide)).1 e.symm) (fun e => ?_)) (st b ht.mlt (fun e => (ht.other h.r0.blk (by decide)).2 e.symm) (fun e => ?_))
    · obtain ⟨d, hd⟩ := own77 p e
      exact (ht.other hd (by decide)).1 rfl
    · obtain ⟨d, hd⟩ := own77 b e
      exact (ht.other hd (by decide)).2 rfl
  have hbel : Below w.heap.size w W' := h.tw.bel.trans ⟨hk.os, hk.tape, hk.output, hk.size, fun k hk' => st k (Nat.lt_of_lt_of_le hk' h.tw.sz) (by have := h.n0; omega) (fun e => by have := h.o0 k e; omega)⟩
  refine ⟨⟨⟨kti h.tw.t0, kti h.tw.t1, hbel, h.tw.n0, h.tw.m0, h.tw.n1, h.tw.m1, h.tw.np, h.tw.nb⟩, hr, ⟨(st q1 h.r1.lt h.nq.symm (fun e => ?_)).trans h.r1.blk, h.r1.row.stays fun k hk' _ => ?_⟩, h.n0, h.n1, h.nq, fun k hk' => ?_, h.o1, fun k h1 h2 => ?_, h.ri.stays fun k hk' _ => ?_, h.oi⟩, kc⟩
  · obtain ⟨d, hd⟩ := own77 q1 e
    exact blk_ne h.r1.blk hd (by decide) rfl
  · obtain ⟨c, hc⟩ := h.r1.row.ty k hk'
    exact st k (heap_lt hc) (blk_ne hc h.r0.blk (by decide)) (fun e => h.on k e hk')
  · rcases ho k hk' with e | e
    · exact h.o0 k e
    · exact Nat.le_trans h.tw.sz e
  · rcases ho k h1 with e | e
    · exact h.on k e h2
    · obtain ⟨c, hc⟩ := h.r1.row.ty k h2
      have := heap_lt hc
      omega
  · obtain ⟨c, hc⟩ := h.ri.ty k hk'
    exact st k (heap_lt hc) (blk_ne hc h.r0.blk (by decide)) (fun e => by
      obtain ⟨d, hd⟩ := own77 k e
      exact blk_ne hc hd (by decide) rfl)
/-- the streams' row grows -/
theorem Pw.grow {vi' : Value} {I' : List Int} (h : Pw w W p0 b0 q0 v0 A c0 l0 p1 b1 q1 v1 B c1 l1 vi I) (hG : Gr W W' vi vi') (hR : R EI W' vi' I') : Pw w W' p0 b0 q0 v0 A c0 l0 p1 b1 q1 v1 B c1 l1 vi' I' ∧ ∀ (k : Nat) (c : Array Value) (t : TypeId), W.heap[k]? = some (.cells c t (0, 0)) → t ≠ 2 → W'.heap[k]? = some (.cells c t (0, 0)) := by
  have ow : ∀ k, vi.ownBlock = some k → ∃ c, W.heap[k]? = some (.cells c 2 (0, 0)) := fun k hk => h.ri.ty k hk
  have kc : ∀ (k : Nat) (c : Array Value) (t : TypeId), W.heap[k]? = some (.cells c t (0, 0)) → t ≠ 2 → W'.heap[k]? = some (.cells c t (0, 0)) := fun k c t hc ht => by
    rw [hG.block k (heap_lt hc) (fun e => by
      obtain ⟨d, hd⟩ := ow k e
      exact blk_ne hc hd ht rfl)]
    exact hc
  have kti : ∀ {p b : Nat} {T : Tb}, TI W p b T → TI W' p b T := fun {p b T} ht => by
    refine ht.stays (hG.block p ht.lt (fun e => ?_)) (hG.block b ht.mlt (fun e => ?_))
    · obtain ⟨d, hd⟩ := ow p e
      exact (ht.other hd (by decide)).1 rfl
    · obtain ⟨d, hd⟩ := ow b e
      exact (ht.other hd (by decide)).2 rfl
  have krt : ∀ {q : Nat} {c : Bool} {v : Value} {l : List O1}, RT W q c v l → RT W' q c v l := fun {q c v l} hR => by
    refine ⟨kc _ _ _ hR.blk (by decide), hR.row.stays fun k hk _ => ?_⟩
    obtain ⟨d, hd⟩ := hR.row.ty k hk
    exact (kc k d 77 hd (by decide)).trans hd.symm
  refine ⟨⟨⟨kti h.tw.t0, kti h.tw.t1, h.tw.bel.trans (hG.belowB h.tw.sz h.oi), h.tw.n0, h.tw.m0, h.tw.n1, h.tw.m1, h.tw.np, h.tw.nb⟩, krt h.r0, krt h.r1, h.n0, h.n1, h.nq, h.o0, h.o1, h.on, hR, fun k hk => ?_⟩, kc⟩
  rcases hG.own k hk with e | e
  · exact h.oi k e
  · exact Nat.le_trans h.tw.sz e
end
theorem rput_len (l : List O1) (id n : Int) (cu : Bool) : (rput l id n cu).length ≤ l.length + 1 := by
  unfold rput
  split
  · split
    · simp
    · omega
  · simp
theorem rdo_len (c : Bool) (l : List O1) (id : Int) (g : Bool) (k : Int) : (rdo c l id g k).1.length ≤ l.length + 1 := by
  unfold rdo
  split
  · exact Nat.le_succ _
  · split
    · exact Nat.le_succ _
    · split
      · exact Nat.le_succ _
      · split
        · exact Nat.le_succ _
        · show (if _ then _ else _ : List O1).length ≤ _
          split
          · exact rput_len _ _ _ _
          · exact Nat.le_succ _
theorem mv_cl (T : Tb) (id n : Int) (g : Bool) (k : Int) : (T.mv id n g k).cl = T.cl := by
  unfold Tb.mv
  rfl
end Go.Proofs.Ytaaocgppniflcaa
