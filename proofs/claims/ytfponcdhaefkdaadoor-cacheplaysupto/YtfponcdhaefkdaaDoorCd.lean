/- Store: what lies in memory. -/
import Derived.Test.YtfponcdhaefkdaaDoorCc
namespace Go.Proofs.YtfponcdhaefkdaaDoor
open Go.RowKit
set_option linter.unusedVariables false
set_option linter.unusedSimpArgs false
theorem Tk.base {w W wr : World} {g : Nat} {y : SV} {c : Ca} {M : List En} {gs : SV} {D : List Int} (h : Tk W wr g y c M gs D) (hb : Below w.heap.size w W) (hl : ∀ k, (Ow g y k ∨ ∃ e ∈ M, eblk e k) → k < w.heap.size) : Tk w wr g y c M gs D :=
  ⟨h.cx, (Ks.of_below hb (A := fun _ => False)).trans h.ks (fun i _ hi => hi.elim) (fun i _ hi => hi), h.gone, fun k hk => Nat.le_trans hb.size (h.new k hk), hl⟩
/-- what goes, and what stays, when there must be room -/
def evL (c : Ca) (z : Nat) : List En → List En
  | [] => []
  | x :: L => if lkB c (x :: L) z = true then evL c z L else x :: L
def evD (c : Ca) (z : Nat) : List En → List En
  | [] => []
  | x :: L => if lkB c (x :: L) z = true then x :: evD c z L else []
theorem ev_app (c : Ca) (z : Nat) (L : List En) : evD c z L ++ evL c z L = L := by
  induction L with
  | nil => rfl
  | cons x L ih =>
    unfold evD evL
    split
    · rw [List.cons_append, ih]
    · rfl
theorem ev_ok (c : Ca) (z : Nat) (h0 : lkB c [] z = false) (L : List En) : lkB c (evL c z L) z = false := by
  induction L with
  | nil => exact h0
  | cons x L ih =>
    unfold evL
    split
    · exact ih
    · rename_i h; simpa using h
/-- Store under way -/
structure So (w wr : World) (g : Nat) (y : SV) (c : Ca) (M : List En) (gs : SV) (D : List Int) (qb rb : Nat) (q : Rq) (n : Int) (ry : SV) (b : ByteArray) (ny : SV) (nm : List ByteArray) : Prop where
  tk : Tk w wr g y c M gs D
  bq : RqB wr qb q
  br : wr.heap[rb]? = some (.cells (rsv n (sv ry) b) 26 (0, 0))
  nr : R ES wr (sv ny) nm
  nw : ∀ k, (sv ny).ownBlock = some k → w.heap.size ≤ k
  hq : w.heap.size ≤ qb
  hr : w.heap.size ≤ rb
theorem So.below {w wr w' : World} {g : Nat} {y : SV} {c : Ca} {M : List En} {gs : SV} {D : List Int} {qb rb : Nat} {q : Rq} {n : Int} {ry : SV} {b : ByteArray} {ny : SV} {nm : List ByteArray} (h : So w wr g y c M gs D qb rb q n ry b ny nm) (hb : Below wr.heap.size wr w') : So w w' g y c M gs D qb rb q n ry b ny nm :=
  ⟨h.tk.below hb, h.bq.below hb, (hb.block _ (heap_lt h.br)).trans h.br, h.nr.below hb, h.nw, h.hq, h.hr⟩
theorem So.oldest {w wr : World} {g : Nat} {y : SV} {c : Ca} {x : En} {M : List En} {gs : SV} {D : List Int} {qb rb : Nat} {q : Rq} {n : Int} {ry : SV} {b : ByteArray} {ny : SV} {nm : List ByteArray} (h : So w wr g y c (x :: M) gs D qb rb q n ry b ny nm) :
    Calls Tryd.prog 36 #[.pointer (some ⟨g, 0, none⟩)] wr fun e w' => e = .returned (.int .i64 x.st) ∧ So w w' g y c M gs D qb rb q n ry b ny nm := by
  obtain ⟨z, h1, h2⟩ := h.tk.cx
  refine (dropOldest_any wr g c z x M h1).mono ?_
  rintro e w' ⟨rfl, z', q1, q2, q3⟩
  rw [ow_eq h2] at q3
  have hno : ∀ k, w.heap.size ≤ k → ¬ Ow g y k := fun k hk ho => by have := h.tk.lt k (.inl ho); omega
  refine ⟨rfl, ⟨⟨z', q1, q2.trans h2⟩, h.tk.ks.trans q3 (fun i _ hi => hi) (fun i _ hi => hi), h.tk.gone.stays fun k hk hl => q3.block k hl (hno k (h.tk.new k hk)), h.tk.new, fun k hk => h.tk.lt k (hk.imp id fun ⟨e, he, hb⟩ => ⟨e, List.mem_cons_of_mem _ he, hb⟩)⟩, (q3.block qb (heap_lt h.bq) (hno _ h.hq)).trans h.bq, (q3.block rb (heap_lt h.br) (hno _ h.hr)).trans h.br, h.nr.stays fun k hk hl => q3.block k hl (hno k (h.nw k hk)), h.nw, h.hq, h.hr⟩
theorem So.app {w W : World} {g : Nat} {y : SV} {c : Ca} {M : List En} {gb : Option Addr} {gl gc : Nat} {D : List Int} {qb rb : Nat} {q : Rq} {n : Int} {ry : SV} {b : ByteArray} {ny : SV} {nm : List ByteArray} (h : So w W g y c M (gb, gl, gc) D qb rb q n ry b ny nm) (t : Int) (hl : D.length ≤ 1000) :
    ∃ b2 c2 w2, (Builtin.append_ #[38, 38] 38 #[.slice gb gl gc, .slice (some ⟨W.heap.size, 0, none⟩) 1 1]).run Tryd.prog (W.alloc (.cells #[.int .i64 t] 2)) = .ok (.slice b2 (gl + 1) c2) w2 ∧ So w w2 g y c M (b2, gl + 1, c2) (D ++ [t]) qb rb q n ry b ny nm := by
  have ba := bel1 W (.cells #[.int .i64 t] 2)
  have h2 := h.below ba
  obtain ⟨b2, c2, w2, e1, e2, e3⟩ := Go.Proofs.YtfponcdhaefkdaaDoor.app okI (W.alloc (.cells #[.int .i64 t] 2)) (.slice gb gl gc) D h2.tk.gone (.slice (some ⟨W.heap.size, 0, none⟩) 1 1) [t] (in_one (E := EI) _ _ t #[.int .i64 t] 2 (0, 0) (by rw [heap_al, if_pos rfl]) rfl) (by simp only [EI, List.length_singleton]; omega)
  have hg : gl = D.length := by
    obtain ⟨_, _, e, _, _⟩ := h.tk.gone.slice
    simp only [sv] at e
    injection e
  have el : D.length + [t].length = gl + 1 := by rw [hg]; rfl
  rw [el] at e1 e2 e3
  obtain ⟨z, z1, z2⟩ := h2.tk.cx
  have hty : ∀ k, (Value.slice gb gl gc).ownBlock = some k → ∃ cc, (W.alloc (.cells #[.int .i64 t] 2)).heap[k]? = some (.cells cc 2 (0, 0)) := fun k hk => h2.tk.gone.ty k hk
  refine ⟨b2, c2, w2, e1, ⟨⟨z, z1.keep fun k hk hl => e3.block k hl fun e => ?_, z2⟩, h2.tk.ks.trans (Ks.of_gr e3) (fun i _ hi => hi) (fun i hi he => ?_), e2, fun k hk => ?_, h2.tk.lt⟩, (e3.block qb (heap_lt h2.bq) fun e => ?_).trans h2.bq, (e3.block rb (heap_lt h2.br) fun e => ?_).trans h2.br, h2.nr.stays fun k hk hl => e3.block k hl fun e => ?_, h2.nw, h2.hq, h2.hr⟩
  · have := h2.tk.new k e
    have := h2.tk.lt k (hk.imp (fun ho => by rw [← ow_eq z2]; exact ho) id)
    omega
  · have := h2.tk.new i he
    omega
  · rcases e3.own k hk with e | e
    · exact h2.tk.new k e
    · exact Nat.le_trans h2.tk.ks.size e
  · obtain ⟨cc, hc⟩ := hty _ e
    have := h2.bq
    unfold RqB at this
    rw [hc] at this
    injection this with this; injection this with _ this; cases this
  · obtain ⟨cc, hc⟩ := hty _ e
    have := h2.br
    rw [hc] at this
    injection this with this; injection this with _ this; cases this
  · obtain ⟨cc, hc⟩ := hty _ e
    obtain ⟨c9, h9⟩ := h2.nr.ty k hk
    rw [hc] at h9
    injection h9 with h9; injection h9 with _ h9; cases h9
/-- one more -/
theorem Cok.push {c : Ca} {L : List En} (h : Cok c L) (x : En) (hl : lkB c L x.sz = false) (ha : x.ar = c.ck) (hf : x.fq.length ≤ 1099511627776) : Cok c (L ++ [x]) := by
  unfold lkB at hl
  simp only [Bool.or_eq_false_iff, decide_eq_false_iff_not] at hl
  refine ⟨h.me, h.mb, h.lf, h.ck, ?_, ?_, fun e he => ?_, fun e he => ?_, ?_⟩
  · have := hl.1; rw [List.length_append, List.length_singleton]; omega
  · have := hl.2
    have e : totL (L ++ [x]) = totL L + x.sz := by unfold totL; rw [List.map_append, List.sum_append]; simp
    rw [e]; omega
  · rcases List.mem_append.1 he with he | he
    · exact h.ar e he
    · rw [List.mem_singleton.1 he, ha]; exact ⟨h.ck.1, Int.le_refl _⟩
  · rcases List.mem_append.1 he with he | he
    · exact h.fq e he
    · rw [List.mem_singleton.1 he]; exact hf
  · refine List.pairwise_append.2 ⟨h.up, List.pairwise_singleton _ _, fun a ha' b hb => ?_⟩
    rw [List.mem_singleton.1 hb, ha]
    exact (h.ar a ha').2
theorem Cx.push {w V w2 : World} {g : Nat} {c : Ca} {y : SV} {L : List En} (h : Cx V g c y L) (x : En) (hx : Er V x) (hn : ∀ k, eblk x k → w.heap.size ≤ k) (hlt : ∀ k, (∃ e ∈ L, eblk e k) → k < w.heap.size) (hok : Cok c (L ++ [x])) {z : SV} (hR : R EE w2 (sv z) (L ++ [x])) (hG : Gr V w2 (sv y) (sv z)) :
    Cx (w2.setCell ⟨g, 4, none⟩ (sv z)) g c z (L ++ [x]) ∧ w2.heap[g]? = some (.cells (cav c y) 83 (0, 0)) := by
  have hg2 : w2.heap[g]? = some (.cells (cav c y) 83 (0, 0)) := (hG.block g (heap_lt h.blk) h.gy).trans h.blk
  have hE : ∀ e, Er V e → Er (w2.setCell ⟨g, 4, none⟩ (sv z)) e := fun e he => he.keep fun k hk hl => by
    have ho := h.off he hk
    rw [setCell_other _ _ _ _ _ (fun e => ho (.inl e)), hG.block k hl (fun e => ho (.inr e))]
  refine ⟨⟨?_, hR.stays fun k hk _ => setCell_other _ _ _ _ _ (fun e => ?_), fun e he => ?_, ?_, hok⟩, hg2⟩
  · rw [setCell_block _ _ _ _ _ _ _ hg2]
    rfl
  · obtain ⟨cc, hc⟩ := hR.ty k hk
    rw [e, hg2] at hc
    injection hc with hc; injection hc with _ hc; cases hc
  · rcases List.mem_append.1 he with he | he
    · exact hE e (h.er e he)
    · rw [List.mem_singleton.1 he]; exact hE x hx
  · refine List.pairwise_append.2 ⟨h.ap, List.pairwise_singleton _ _, fun a ha b hb k hk => ?_⟩
    rw [List.mem_singleton.1 hb]
    intro hk2
    have := hn k hk2
    have := hlt k ⟨a, ha, hk⟩
    omega
end Go.Proofs.YtfponcdhaefkdaaDoor
