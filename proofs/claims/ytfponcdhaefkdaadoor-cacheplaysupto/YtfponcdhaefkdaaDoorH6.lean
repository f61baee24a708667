/- The document's Store: what lies in memory. -/
import Derived.Test.YtfponcdhaefkdaaDoorH5
import Derived.Test.YtfponcdhaefkdaaDoorH0
namespace Go.Proofs.YtfponcdhaefkdaaDoor
open Go.RowKit
set_option linter.unusedVariables false
set_option linter.unusedSimpArgs false
/-- is there no room? -/
def lkK (me mb : Int) (L : List Kn) (z : Nat) : Bool := decide (me < (L.length : Int) + 1) || decide (mb < (totK L : Int) + (z : Int))
def ekL (me mb : Int) (z : Nat) : List Kn → List Kn
  | [] => []
  | x :: L => if lkK me mb (x :: L) z = true then ekL me mb z L else x :: L
def ekD (me mb : Int) (z : Nat) : List Kn → List Kn
  | [] => []
  | x :: L => if lkK me mb (x :: L) z = true then x :: ekD me mb z L else []
/-- Store under way -/
structure Sr (W wr : World) (b : Nat) (me mb lf pd : Int) (y : SV) (L : List Kn) (now : Int) (gs : SV) (D : List Int) (q0 r0 : Nat) (q : Rq) (n : Int) (ry : SV) (rb : ByteArray) : Prop where
  rc : Rc wr b me mb lf pd y L now
  gn : R EI wr (sv gs) D
  ng : ∀ k, (sv gs).ownBlock = some k → W.heap.size ≤ k
  ny : ∀ k, (sv y).ownBlock = some k → W.heap.size ≤ k
  bq : RqB wr q0 q
  br : wr.heap[r0]? = some (.cells (rsv n (sv ry) rb) 26 (0, 0))
  ks : Ks (fun k => k = b) W wr
  hb : b < W.heap.size
variable {W wr V : World} {b : Nat} {me mb lf pd : Int} {y : SV} {L : List Kn} {now : Int} {gs : SV} {D : List Int} {q0 r0 : Nat} {q : Rq} {n : Int} {ry : SV} {rb : ByteArray}
theorem Sr.below (h : Sr W wr b me mb lf pd y L now gs D q0 r0 q n ry rb) (hb : Below wr.heap.size wr V) : Sr W V b me mb lf pd y L now gs D q0 r0 q n ry rb := ⟨h.rc.below hb, h.gn.below hb, h.ng, h.ny, h.bq.below hb, (hb.block _ (heap_lt h.br)).trans h.br, h.ks.bel hb, h.hb⟩
theorem Sr.gone {g1 : Option Addr} {g2 g3 : Nat} (h : Sr W wr b me mb lf pd y L now (g1, g2, g3) D q0 r0 q n ry rb) (t : Int) (hl : D.length ≤ 1000) : ∃ b2 c2 w2, (Builtin.append_ #[38, 38] 38 #[.slice g1 g2 g3, .slice (some ⟨wr.heap.size, 0, none⟩) 1 1]).run Tryd.prog (wr.alloc (.cells #[.int .i64 t] 2)) = .ok (.slice b2 (g2 + 1) c2) w2 ∧ Sr W w2 b me mb lf pd y L now (b2, g2 + 1, c2) (D ++ [t]) q0 r0 q n ry rb := by
  have h2 := h.below (bel1 wr (.cells #[.int .i64 t] 2))
  obtain ⟨b2, c2, w2, e1, e2, e3⟩ := app okI (wr.alloc (.cells #[.int .i64 t] 2)) (.slice g1 g2 g3) D h2.gn (.slice (some ⟨wr.heap.size, 0, none⟩) 1 1) [t] (in_one (E := EI) _ _ t #[.int .i64 t] 2 (0, 0) (by rw [heap_al, if_pos rfl]) rfl) (by simp only [EI, List.length_singleton]; omega)
  have hg : g2 = D.length := by
    obtain ⟨_, _, e, _, _⟩ := h.gn.slice
    simp only [sv] at e
    injection e
  have el : D.length + [t].length = g2 + 1 := by rw [hg]; rfl
  rw [el] at e1 e2 e3
  have ht : ∀ (k : Nat) (c : Array Value) (u : TypeId) (f : Nat × Nat), (wr.alloc (.cells #[.int .i64 t] 2)).heap[k]? = some (.cells c u f) → u ≠ 2 → w2.heap[k]? = (wr.alloc (.cells #[.int .i64 t] 2)).heap[k]? := fun k c u f hk hu => e3.block k (heap_lt hk) fun e => by
    obtain ⟨c1, hc1⟩ := h2.gn.ty k e
    exact ty_ne hk hc1 hu rfl
  refine ⟨b2, c2, w2, e1, ⟨h2.rc.keep fun k hk hl => ?_, e2, fun k hk => ?_, h.ny, (ht _ _ _ _ h2.bq (by decide)).trans h2.bq, (ht _ _ _ _ h2.br (by decide)).trans h2.br, h2.ks.trans (Ks.of_gr e3) (fun i _ hi => hi) (fun i hi he => ?_), h.hb⟩⟩
  · rcases hk with rfl | hk | ⟨x, hx, hk | hk⟩
    · exact ht _ _ _ _ h2.rc.blk (by decide)
    · obtain ⟨c, hc⟩ := h2.rc.row.ty k hk; exact ht _ _ _ _ hc (show (119 : TypeId) ≠ 2 by decide)
    · obtain ⟨c, hc⟩ := (h2.rc.fl x hx).1.ty k hk; exact ht _ _ _ _ hc (show (51 : TypeId) ≠ 2 by decide)
    · obtain ⟨c, hc⟩ := (h2.rc.fl x hx).2.ty k hk; exact ht _ _ _ _ hc (show (51 : TypeId) ≠ 2 by decide)
  · rcases e3.own k hk with e | e
    · exact h.ng k e
    · exact Nat.le_trans h2.ks.size e
  · have := h.ng i he
    omega
/-- the list is laid anew -/
theorem Sr.setL {y' : SV} {L' : List Kn} (h : Sr W wr b me mb lf pd y L now gs D q0 r0 q n ry rb) (hb : Below wr.heap.size wr V) (hR : R EV V (sv y') L') (hn : ∀ k, (sv y').ownBlock = some k → W.heap.size ≤ k) (hf : ∀ k ∈ L', k ∈ L) : Sr W (V.setCell ⟨b, 4, none⟩ (sv y')) b me mb lf pd y' L' now gs D q0 r0 q n ry rb := by
  have hV := h.below hb
  refine ⟨hV.rc.setL rfl hR fun k hk => hV.rc.fl k (hf k hk), hV.gn.stays fun k hk _ => ?_, h.ng, hn, (setCell_other _ _ _ _ _ (ty_ne hV.bq hV.rc.blk (by decide))).trans hV.bq, (setCell_other _ _ _ _ _ (ty_ne hV.br hV.rc.blk (by decide))).trans hV.br, hV.ks.trans (Ks.setCell (fun k => k = b) V b 4 _ rfl) (fun i _ hi => hi) (fun i _ hi => hi), h.hb⟩
  obtain ⟨c, hc⟩ := hV.gn.ty k hk
  exact setCell_other _ _ _ _ _ (ty_ne hc hV.rc.blk (show (2 : TypeId) ≠ 100 by decide))
/-- a box of its own is written -/
theorem Sr.box (h : Sr W wr b me mb lf pd y L now gs D q0 r0 q n ry rb) {k0 : Nat} {cc : Array Value} {t : TypeId} {fz : Nat × Nat} (hk : wr.heap[k0]? = some (.cells cc t fz)) (h1 : t ≠ 100 ∧ t ≠ 119 ∧ t ≠ 51 ∧ t ≠ 2) (h2 : k0 ≠ q0 ∧ k0 ≠ r0) (h3 : W.heap.size ≤ k0) (i : Nat) (v : Value) : Sr W (wr.setCell ⟨k0, i, none⟩ v) b me mb lf pd y L now gs D q0 r0 q n ry rb := by
  refine ⟨h.rc.keep fun k hk' _ => setCell_other _ _ _ _ _ ?_, h.gn.stays fun k hk' _ => setCell_other _ _ _ _ _ ?_, h.ng, h.ny, (setCell_other _ _ _ _ _ h2.1.symm).trans h.bq, (setCell_other _ _ _ _ _ h2.2.symm).trans h.br, h.ks.seta k0 i v h3, h.hb⟩
  · rcases hk' with rfl | hk' | ⟨x, hx, hk' | hk'⟩
    · exact ty_ne h.rc.blk hk (fun e => h1.1 e.symm)
    · obtain ⟨c, hc⟩ := h.rc.row.ty k hk'; exact ty_ne hc hk (fun e => h1.2.1 e.symm)
    · obtain ⟨c, hc⟩ := (h.rc.fl x hx).1.ty k hk'; exact ty_ne hc hk (fun e => h1.2.2.1 e.symm)
    · obtain ⟨c, hc⟩ := (h.rc.fl x hx).2.ty k hk'; exact ty_ne hc hk (fun e => h1.2.2.1 e.symm)
  · obtain ⟨c, hc⟩ := h.gn.ty k hk'; exact ty_ne hc hk (fun e => h1.2.2.2 e.symm)
/-- one more entry -/
theorem Sr.push (h : Sr W wr b me mb lf pd y L now gs D q0 r0 q n ry rb) (kn : Kn) (hq : R EFd wr (sv kn.q.y) kn.fq) (hr : R EFd wr (sv kn.ry) kn.fr) {W2 : World} {y2 : SV} (hR : R EV W2 (sv y2) (L ++ [kn])) (hG : Gr wr W2 (sv y) (sv y2)) : Rc (W2.setCell ⟨b, 4, none⟩ (sv y2)) b me mb lf pd y2 (L ++ [kn]) now ∧ R EI (W2.setCell ⟨b, 4, none⟩ (sv y2)) (sv gs) D ∧ Ks (fun k => k = b) W (W2.setCell ⟨b, 4, none⟩ (sv y2)) ∧ (∀ k, (sv y2).ownBlock = some k → W.heap.size ≤ k) ∧ W2.heap[b]? = wr.heap[b]? := by
  have ht : ∀ (k : Nat) (c : Array Value) (u : TypeId) (f : Nat × Nat), wr.heap[k]? = some (.cells c u f) → u ≠ 119 → W2.heap[k]? = wr.heap[k]? := fun k c u f hk hu => hG.block k (heap_lt hk) fun e => by
    obtain ⟨c1, hc1⟩ := h.rc.row.ty k e
    exact ty_ne hk hc1 hu rfl
  have hb2 := ht _ _ _ _ h.rc.blk (by decide)
  have hF : ∀ (v : SV) (l : List Fd), R EFd wr (sv v) l → R EFd W2 (sv v) l := fun v l hv => hv.stays fun k hk hl => by
    obtain ⟨c, hc⟩ := hv.ty k hk
    exact ht _ _ _ _ hc (show (51 : TypeId) ≠ 119 by decide)
  refine ⟨h.rc.setL hb2 hR fun k hk => ?_, ?_, (h.ks.trans (Ks.of_gr hG) (fun i _ hi => hi) (fun i hi he => ?_)).trans (Ks.setCell (fun k => k = b) W2 b 4 _ rfl) (fun i _ hi => hi) (fun i _ hi => hi), fun k hk => ?_, hb2⟩
  · rcases List.mem_append.1 hk with hk | hk
    · exact ⟨hF _ _ (h.rc.fl k hk).1, hF _ _ (h.rc.fl k hk).2⟩
    · rw [List.mem_singleton.1 hk]
      exact ⟨hF _ _ hq, hF _ _ hr⟩
  · have hg2 : R EI W2 (sv gs) D := h.gn.stays fun k hk hl => by
      obtain ⟨c, hc⟩ := h.gn.ty k hk
      exact ht _ _ _ _ hc (show (2 : TypeId) ≠ 119 by decide)
    exact hg2.stays fun k hk _ => by
      obtain ⟨c, hc⟩ := hg2.ty k hk
      exact setCell_other _ _ _ _ _ (ty_ne hc (hb2.trans h.rc.blk) (show (2 : TypeId) ≠ 100 by decide))
  · have := h.ny i he
    omega
  · rcases hG.own k hk with e | e
    · exact h.ny k e
    · exact Nat.le_trans h.ks.size e
/-- the document's Names and Match, ported, tell what is asked -/
theorem Rc.lenAt {z : SV} {B : List Kn} (h : Rc W b me mb lf pd z B now) : lenAt b W = B.length := by
  unfold Go.Proofs.YtfponcdhaefkdaaDoor.lenAt
  obtain ⟨_, _, e, _⟩ := h.row.slice
  rw [h.cells.2.2.2.2.1, e]
/-- may it not be kept? -/
def noK (me mb : Int) (b : ByteArray) (fr : List Fd) : Bool := starB fr || (decide (me = 0) || decide (mb < ((b.size + szL fr : Nat) : Int)))
end Go.Proofs.YtfponcdhaefkdaaDoor
