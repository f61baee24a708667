/- A cache in memory; hear, isExpired, Len, drop, dropOldest. -/
import Derived.Test.YtfponcdhaefkdaaDoorC2
namespace Go.Proofs.YtfponcdhaefkdaaDoor
open Go.RowKit
set_option linter.unusedVariables false
set_option linter.unusedSimpArgs false
/-- the bounds and the clock -/
structure Ca where
  me : Int
  mb : Int
  lf : Int
  ck : Int
def cav (c : Ca) (y : SV) : Array Value := #[.int .i64 c.me, .int .i64 c.mb, .int .i64 c.lf, .int .i64 c.ck, sv y]
/-- the blocks of an entry's lists -/
def eblk (e : En) (k : Nat) : Prop := (sv e.q.y).ownBlock = some k ∨ (sv e.ns).ownBlock = some k ∨ (sv e.ry).ownBlock = some k
structure Er (w : World) (e : En) : Prop where
  q : R EFd w (sv e.q.y) e.fq
  n : R ES w (sv e.ns) e.nm
  r : R EFd w (sv e.ry) e.fr
theorem Er.keep {w w' : World} {e : En} (h : Er w e) (hk : ∀ k, eblk e k → k < w.heap.size → w'.heap[k]? = w.heap[k]?) : Er w' e :=
  ⟨h.q.stays fun k hk' hl => hk k (.inl hk') hl, h.n.stays fun k hk' hl => hk k (.inr (.inl hk')) hl, h.r.stays fun k hk' hl => hk k (.inr (.inr hk')) hl⟩
theorem Er.lt {w : World} {e : En} (h : Er w e) {k : Nat} (hk : eblk e k) : k < w.heap.size := by
  rcases hk with hk | hk | hk
  · exact h.q.lt k hk
  · exact h.n.lt k hk
  · exact h.r.lt k hk
theorem Er.ty {w : World} {e : En} (h : Er w e) {k : Nat} (hk : eblk e k) : ∃ c, w.heap[k]? = some (.cells c 51 (0, 0)) ∨ w.heap[k]? = some (.cells c 9 (0, 0)) := by
  rcases hk with hk | hk | hk
  · obtain ⟨c, hc⟩ := h.q.ty k hk; exact ⟨c, .inl hc⟩
  · obtain ⟨c, hc⟩ := h.n.ty k hk; exact ⟨c, .inr hc⟩
  · obtain ⟨c, hc⟩ := h.r.ty k hk; exact ⟨c, .inl hc⟩
def totL (L : List En) : Nat := (L.map fun e => e.sz).sum
theorem totL_take {L : List En} {k : Nat} (h : k < L.length) : totL (L.take (k + 1)) = totL (L.take k) + L[k].sz := by
  unfold totL
  rw [List.take_succ_eq_append_getElem h, List.map_append, List.sum_append]
  simp
theorem totL_le (L : List En) (k : Nat) : totL (L.take k) ≤ totL L := by
  unfold totL
  conv => rhs; rw [← List.take_append_drop k L, List.map_append, List.sum_append]
  omega
theorem totL_erase {L : List En} {i : Nat} (h : i < L.length) : totL (L.eraseIdx i) + L[i].sz = totL L := by
  unfold totL
  rw [List.eraseIdx_eq_take_drop_succ]
  conv => rhs; rw [← List.take_append_drop i L, List.drop_eq_getElem_cons h]
  simp only [List.map_append, List.map_cons, List.sum_append, List.sum_cons]
  omega
/-- numbers that fit -/
structure Cok (c : Ca) (L : List En) : Prop where
  me : 0 ≤ c.me ∧ c.me ≤ 64
  mb : 0 ≤ c.mb ∧ c.mb ≤ 1152921504606846976
  lf : 0 ≤ c.lf ∧ c.lf ≤ 1152921504606846976
  ck : 0 ≤ c.ck ∧ c.ck ≤ 9223372036854775807
  len : (L.length : Int) ≤ c.me
  tot : (totL L : Int) ≤ c.mb
  ar : ∀ e ∈ L, 0 ≤ e.ar ∧ e.ar ≤ c.ck
  fq : ∀ e ∈ L, e.fq.length ≤ 1099511627776
  up : L.Pairwise fun a b => a.ar ≤ b.ar
def Ow (g : Nat) (y : SV) (k : Nat) : Prop := k = g ∨ (sv y).ownBlock = some k
/-- a cache at g -/
structure Cx (w : World) (g : Nat) (c : Ca) (y : SV) (L : List En) : Prop where
  blk : w.heap[g]? = some (.cells (cav c y) 83 (0, 0))
  row : R EE w (sv y) L
  er : ∀ e ∈ L, Er w e
  ap : L.Pairwise fun a b => ∀ k, eblk a k → ¬ eblk b k
  ok : Cok c L
/-- all its blocks -/
def Cb (g : Nat) (y : SV) (L : List En) (k : Nat) : Prop := Ow g y k ∨ ∃ e ∈ L, eblk e k
theorem Cx.keep {w w' : World} {g : Nat} {c : Ca} {y : SV} {L : List En} (h : Cx w g c y L) (hk : ∀ k, Cb g y L k → k < w.heap.size → w'.heap[k]? = w.heap[k]?) : Cx w' g c y L :=
  ⟨(hk g (.inl (.inl rfl)) (heap_lt h.blk)).trans h.blk, h.row.stays fun k hk' hl => hk k (.inl (.inr hk')) hl, fun e he => (h.er e he).keep fun k hk' hl => hk k (.inr ⟨e, he, hk'⟩) hl, h.ap, h.ok⟩
theorem Cx.below {w w' : World} {g : Nat} {c : Ca} {y : SV} {L : List En} (h : Cx w g c y L) (hb : Below w.heap.size w w') : Cx w' g c y L := h.keep fun k _ hl => hb.block k hl
theorem Cx.lt {w : World} {g : Nat} {c : Ca} {y : SV} {L : List En} (h : Cx w g c y L) {k : Nat} (hk : Cb g y L k) : k < w.heap.size := by
  rcases hk with (rfl | hk) | ⟨e, he, hk⟩
  · exact heap_lt h.blk
  · exact h.row.lt k hk
  · exact (h.er e he).lt hk
/-- an entry's lists are none of the cache's own blocks -/
theorem Cx.off {w : World} {g : Nat} {c : Ca} {y : SV} {L : List En} (h : Cx w g c y L) {e : En} (hE : Er w e) {k : Nat} (hk : eblk e k) : ¬ Ow g y k := by
  obtain ⟨cc, hc⟩ := hE.ty hk
  rintro (rfl | ho)
  · rw [h.blk] at hc
    rcases hc with hc | hc
    · injection hc with hc; injection hc with _ hc; cases hc
    · injection hc with hc; injection hc with _ hc; cases hc
  · obtain ⟨cr, hr⟩ := h.row.ty k ho
    rw [hr] at hc
    rcases hc with hc | hc
    · injection hc with hc; injection hc with _ hc; cases hc
    · injection hc with hc; injection hc with _ hc; cases hc
theorem Cx.gy {w : World} {g : Nat} {c : Ca} {y : SV} {L : List En} (h : Cx w g c y L) : (sv y).ownBlock ≠ some g := fun e => by
  obtain ⟨cr, hr⟩ := h.row.ty g e
  rw [h.blk] at hr
  injection hr with hr; injection hr with _ hr; cases hr
theorem Cx.cells {w : World} {g : Nat} {c : Ca} {y : SV} {L : List En} (h : Cx w g c y L) : w.cell? ⟨g, 0, none⟩ = some (.int .i64 c.me) ∧ w.cell? ⟨g, 1, none⟩ = some (.int .i64 c.mb) ∧ w.cell? ⟨g, 2, none⟩ = some (.int .i64 c.lf) ∧ w.cell? ⟨g, 3, none⟩ = some (.int .i64 c.ck) ∧ w.cell? ⟨g, 4, none⟩ = some (sv y) ∧ (∀ i, w.frozen? ⟨g, i, none⟩ = false) :=
  ⟨cell_blk h.blk 0, cell_blk h.blk 1, cell_blk h.blk 2, cell_blk h.blk 3, cell_blk h.blk 4, fun i => frozen_blk h.blk i⟩
/-- the clock, behind a tick -/
def hr (c : Ca) (t : Int) : Ca := { c with ck := max c.ck t }
theorem Cx.hear {w : World} {g : Nat} {c : Ca} {y : SV} {L : List En} (h : Cx w g c y L) (t : Int) (ht : t ≤ 9223372036854775807) : Cx (w.setCell ⟨g, 3, none⟩ (.int .i64 (max c.ck t))) g (hr c t) y L := by
  refine ⟨?_, h.row.stays fun k hk _ => setCell_other _ _ _ _ _ (fun e => h.gy (by rw [← e]; exact hk)), fun e he => (h.er e he).keep fun k hk _ => setCell_other _ _ _ _ _ (fun e2 => h.off (h.er e he) hk (.inl e2)), h.ap, ⟨h.ok.me, h.ok.mb, h.ok.lf, ?_, h.ok.len, h.ok.tot, fun e he => ?_, h.ok.fq, h.ok.up⟩⟩
  · have := setCell_block w g 3 (.int .i64 (max c.ck t)) _ 83 (0, 0) h.blk
    rw [this]
    rfl
  · have := h.ok.ck
    show 0 ≤ max c.ck t ∧ max c.ck t ≤ _
    omega
  · have := h.ok.ar e he
    show 0 ≤ e.ar ∧ e.ar ≤ max c.ck t
    omega
set_option maxHeartbeats 1000000 in
theorem hear_any (w : World) (g : Nat) (c : Ca) (y : SV) (L : List En) (h : Cx w g c y L) (t : Int) (ht : t ≤ 9223372036854775807) :
    Calls Tryd.prog 34 #[.pointer (some ⟨g, 0, none⟩), .int .i64 t] w fun e w' => e = .returned (.tuple #[]) ∧ Cx w' g (hr c t) y L ∧ Ks (fun k => k = g) w w' := by
  obtain ⟨c0, c1, c2, c3, c4, cf⟩ := h.cells
  have f3 := cf 3
  have hl := heap_lt h.blk
  have HX := h.hear t ht
  have HK : Ks (fun k => k = g) w (w.setCell ⟨g, 3, none⟩ (.int .i64 (max c.ck t))) := Ks.setCell _ _ _ _ _ rfl
  replace HX : Hid _ := HX
  replace HK : Hid _ := HK
  clear h
  go_enter Tryd.func34, Tryd.ntmps34
  go_wp2_with fail
  go_end0
  exact ⟨rfl, HX.out, HK.out⟩
/-- is it expired? -/
def exB (c : Ca) (e : En) : Bool := decide (c.lf < c.ck - e.ar)
set_option maxHeartbeats 4000000 in
set_option maxRecDepth 100000 in
theorem isExpired_any (w : World) (g : Nat) (c : Ca) (y : SV) (e : En) (hb : w.heap[g]? = some (.cells (cav c y) 83 (0, 0))) (hc : 0 ≤ c.ck ∧ c.ck ≤ 9223372036854775807) (ha : 0 ≤ e.ar ∧ e.ar ≤ c.ck) :
    Calls Tryd.prog 35 #[.pointer (some ⟨g, 0, none⟩), .agg (env e)] w fun r w' => r = .returned (.bool (exB c e)) ∧ Below w.heap.size w w' := by
  have hlt := heap_lt hb
  have hb1 : (w.alloc (.cells (env e) 87)).heap[g]? = some (.cells (cav c y) 83 (0, 0)) := by rw [heap_al, if_neg (by omega)]; exact hb
  have hbe : (w.alloc (.cells (env e) 87)).heap[w.heap.size]? = some (.cells (env e) 87 (0, 0)) := by rw [heap_al, if_pos rfl]
  obtain ⟨d, hd⟩ : ∃ d : Int, c.ck - e.ar = d := ⟨_, rfl⟩
  have hd1 : -9223372036854775808 ≤ d := by omega
  have hd2 : d ≤ 9223372036854775807 := by omega
  have HE : Hid (exB c e = decide (c.lf < d)) := by show _ = _; unfold exB; rw [hd]
  have HQ : Hid (Below w.heap.size w ((w.alloc (.cells (env e) 87)).drew)) := (bel1 w _).drew
  have c2 := cell_blk hb1 2
  have c3 := cell_blk hb1 3
  have c12 := cell_blk hbe 12
  obtain ⟨me, mb, lf, ck⟩ := c
  obtain ⟨⟨qm, qs, qa, qp, ⟨qb1, qb2, qb3⟩, qb⟩, ⟨n1, n2, n3⟩, rn, ⟨r1, r2, r3⟩, rb, sz, st, ar, fq, nm, fr⟩ := e
  simp only [cav, env, sv, List.getElem?_toArray, List.getElem?_cons_succ, List.getElem?_cons_zero] at c2 c3 c12 HE HQ hd hlt ⊢
  clear hb hb1 hbe hc ha
  go_enter Tryd.func35, Tryd.ntmps35
  go_wp2_with fail
  go_region
  all_goals
    go_wp2_with fail
    go_ret
    refine ⟨?_, HQ.out⟩
    rw [HE.out]
    rfl
set_option maxHeartbeats 1000000 in
theorem len_any (w : World) (g : Nat) (c : Ca) (y : SV) (L : List En) (h : Cx w g c y L) : Calls Tryd.prog 12 #[.pointer (some ⟨g, 0, none⟩)] w fun e w' => e = .returned (.int .i64 (L.length : Int)) ∧ w' = w := by
  obtain ⟨c0, c1, c2, c3, c4, cf⟩ := h.cells
  have hl := heap_lt h.blk
  obtain ⟨b, cc, e, _, _⟩ := h.row.slice
  rw [e] at c4
  clear h e
  go_enter Tryd.func12, Tryd.ntmps12
  go_wp2_with fail
  go_ret
  exact ⟨rfl, rfl⟩
end Go.Proofs.YtfponcdhaefkdaaDoor
