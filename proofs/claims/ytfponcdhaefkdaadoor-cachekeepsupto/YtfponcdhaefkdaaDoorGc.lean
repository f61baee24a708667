/- Store, of the cache and the book. -/
import Derived.Test.YtfponcdhaefkdaaDoorGb
namespace Go.Proofs.YtfponcdhaefkdaaDoor
open Go.RowKit
set_option linter.unusedVariables false
set_option linter.unusedSimpArgs false
/-- behind the Store -/
structure Cs (w0 W : World) (b g : Nat) (c : Ca) (y : SV) (L : List En) (z : SV) (B : List Kn) (now : Int) (o0 : Nat) (o : Os) (r0 : Nat) (rv gs : SV) (D : List Int) : Prop where
  m : Cj w0 W b g c y L z B now o0 o
  rb : W.heap[r0]? = some (.cells (rsv o.rn (sv rv) o.rb) 26 (0, 0))
  rr : R EFd W (sv rv) o.fr
  gn : R EI W (sv gs) D
variable {w0 W W' : World} {b g : Nat} {c c' : Ca} {y y' : SV} {L L' : List En} {z z' : SV} {B B' : List Kn} {now : Int} {o0 r0 : Nat} {o : Os} {rv gs : SV} {D : List Int}
theorem Cs.below (h : Cs w0 W b g c y L z B now o0 o r0 rv gs D) (hb : Below W.heap.size W W') : Cs w0 W' b g c y L z B now o0 o r0 rv gs D := ⟨h.m.below hb, (hb.block _ (heap_lt h.rb)).trans h.rb, h.rr.below hb, h.gn.below hb⟩
/-- behind what went -/
theorem Cs.went (h : Cs w0 W b g c y L z B now o0 o r0 rv gs D) (hw : Wn W W' b g c.me c.mb c.lf z z' B' now gs D) : Cs w0 W' b g c y L z' B' now o0 o r0 rv gs D := by
  have hoff : ¬ Cb g y L b := h.m.cx.offk h.m.bk.blk (by decide) (by decide) (by decide) (by decide)
  refine ⟨⟨h.m.cx.keep fun k hc hl => hw.ks.block k hl fun e => hoff (e ▸ hc), hw.bk, h.m.bel.trans (hw.ks.below h.m.bel.size fun i hi e => by have := h.m.nb; omega), h.m.nb, h.m.nc, fun k hk => (hw.own k hk).elim (h.m.nz k) fun e => Nat.le_trans h.m.bel.size e, ⟨(hw.ks.block _ (heap_lt h.m.bx.blk) (ty_ne h.m.bx.blk h.m.bk.blk (by decide))).trans h.m.bx.blk, h.m.bx.ty⟩⟩, (hw.ks.block _ (heap_lt h.rb) (ty_ne h.rb h.m.bk.blk (by decide))).trans h.rb, h.rr.stays fun k hk hl => ?_, hw.gone⟩
  obtain ⟨cc, hc⟩ := h.rr.ty k hk
  exact hw.ks.block k hl (ty_ne hc h.m.bk.blk (show (51 : TypeId) ≠ 58 by decide))
/-- a box of its own is written -/
theorem Cs.box (h : Cs w0 W b g c y L z B now o0 o r0 rv gs D) {q0 : Nat} {cc : Array Value} {t : TypeId} {fz : Nat × Nat} (hb : W.heap[q0]? = some (.cells cc t fz)) (h1 : t ≠ 83 ∧ t ≠ 87 ∧ t ≠ 51 ∧ t ≠ 9 ∧ t ≠ 58 ∧ t ≠ 95 ∧ t ≠ 60) (h2 : w0.heap.size ≤ q0) (h3 : t ≠ 26 ∧ t ≠ 2) (i : Nat) (v : Value) : Cs w0 (W.setCell ⟨q0, i, none⟩ v) b g c y L z B now o0 o r0 rv gs D := by
  refine ⟨h.m.box hb h1 h2 i v, (setCell_other _ _ _ _ _ (ty_ne h.rb hb (fun e => h3.1 e.symm))).trans h.rb, h.rr.stays fun k hk _ => ?_, h.gn.stays fun k hk _ => ?_⟩
  · obtain ⟨cd, hd⟩ := h.rr.ty k hk
    exact setCell_other _ _ _ _ _ (ty_ne hd hb (fun e => h1.2.2.1 e.symm))
  · obtain ⟨cd, hd⟩ := h.gn.ty k hk
    exact setCell_other _ _ _ _ _ (ty_ne hd hb (fun e => h3.2 e.symm))
/-- one more in the book -/
theorem Cs.push (h : Cs w0 W b g c y L z B now o0 o r0 rv gs D) (kn : Kn) (hq : R EFd W (sv kn.q.y) kn.fq) (hr : R EFd W (sv kn.ry) kn.fr) {W2 : World} {z2 : SV} (hR : R EK W2 (sv z2) (B ++ [kn])) (hG : Gr W W2 (sv z) (sv z2)) (hrl : Rl L (B ++ [kn])) : Ci w0 (W2.setCell ⟨b, 5, none⟩ (sv z2)) b g c y L z2 (B ++ [kn]) now := by
  have hoff : ¬ Cb g y L b := h.m.cx.offk h.m.bk.blk (by decide) (by decide) (by decide) (by decide)
  have hz95 : ∀ k, (sv z).ownBlock = some k → ∃ cc, W.heap[k]? = some (.cells cc 95 (0, 0)) := fun k hk => h.m.bk.row.ty k hk
  have hb2 : W2.heap[b]? = W.heap[b]? := hG.block b (heap_lt h.m.bk.blk) fun e => by
    obtain ⟨cc, hc⟩ := hz95 b e
    exact ty_ne hc h.m.bk.blk (show (95 : TypeId) ≠ 58 by decide) rfl
  have hF : ∀ (v : SV) (l : List Fd), R EFd W (sv v) l → R EFd W2 (sv v) l := fun v l hv => hv.stays fun k hk hl => hG.block k hl fun e => by
    obtain ⟨cc, hc⟩ := hz95 k e
    obtain ⟨cd, hd⟩ := hv.ty k hk
    exact ty_ne hc hd (show (95 : TypeId) ≠ 51 by decide) rfl
  have hx2 : Cx W2 g c y L := h.m.cx.keep fun k hc hl => hG.block k hl fun e => by
    obtain ⟨cc, hk⟩ := hz95 k e
    exact h.m.cx.offk hk (by decide) (by decide) (by decide) (by decide) hc
  have hbel : Below w0.heap.size w0 W2 := h.m.bel.trans (hG.belowB h.m.bel.size h.m.nz)
  refine ⟨hx2.keep fun k hc _ => setCell_other _ _ _ _ _ fun e => hoff (e ▸ hc), h.m.bk.setL hb2 hR fun k hk => ?_, hrl, hbel.setCell (p := ⟨b, 5, none⟩) h.m.nb _, h.m.nb, h.m.nc, fun k hk => ?_⟩
  · rcases List.mem_append.1 hk with hk | hk
    · exact ⟨hF _ _ (h.m.bk.fl k hk).1, hF _ _ (h.m.bk.fl k hk).2⟩
    · rw [List.mem_singleton.1 hk]
      exact ⟨hF _ _ hq, hF _ _ hr⟩
  · rcases hG.own k hk with e | e
    · exact h.m.nz k e
    · exact Nat.le_trans h.m.bel.size e
/-- what Store tells, and leaves -/
def srP (w0 w' : World) (b g : Nat) (c : Ca) (L : List En) (z : SV) (B : List Kn) (now : Int) (o0 : Nat) (o : Os) (r0 : Nat) (rv : SV) (i : Int) (r : Ending) : Prop :=
  ∃ (ok : Bool) (gs : SV) (n : Nat) (D : List Int) (y' : SV) (L' : List En), r = .returned (.tuple #[.bool ok, sv gs]) ∧ Cs w0 w' b g c y' L' z B now o0 o r0 rv gs D ∧ Sp c L B ok n D (o.rb.size + szL o.fr) ∧ ok = !noB c o.rb o.fr ∧ (ok = false → L' = L.drop n) ∧ (ok = true → ∃ e, L' = L.drop n ++ [e] ∧ Ee e o.q o.Q o.rn o.rb o.fr i c.ck)
theorem Cl.store {V : World} (h : Cl w0 V b g c y L z B now o0 o) (ho : Oi w0 o) (hrb : V.heap[r0]? = some (.cells (rsv o.rn (sv rv) o.rb) 26 (0, 0))) (hrr : R EFd V (sv rv) o.fr) (i : Int) :
    Calls Tryd.prog 11 #[.pointer (some ⟨g, 0, none⟩), .agg (rqv o.q), .agg (rsv o.rn (sv rv) o.rb), .int .i64 i, .int .i64 o.tk] V fun r w' => srP w0 w' b g (hr c o.tk) L z B now o0 o r0 rv i r := by
  have hbel : ∀ w', Ks (Ow g y) V w' → Below w0.heap.size w0 w' := fun w' hk => h.ci.bel.trans (hk.below h.ci.bel.size fun i hi ho => by have := h.ci.nc i ho; omega)
  have hF : ∀ w', Ks (Ow g y) V w' → R EFd w' (sv rv) o.fr := fun w' hk => hrr.stays fun k hk' hl => by
    obtain ⟨cc, hc⟩ := hrr.ty k hk'
    exact hk.block k hl (h.ci.cx.offb hc (show (51 : TypeId) ≠ 83 by decide) (show (51 : TypeId) ≠ 87 by decide))
  have hB : ∀ w', Ks (Ow g y) V w' → w'.heap[r0]? = some (.cells (rsv o.rn (sv rv) o.rb) 26 (0, 0)) := fun w' hk => (hk.block r0 (heap_lt hrb) (h.ci.cx.offb hrb (by decide) (by decide))).trans hrb
  refine (store_any V g c y L h.ci.cx o.q o.Q o.rn rv o.rb o.fr i o.tk ho.tk (fun V' hV' => ho.iq.below (hbel V' hV')) (fun V' hV' => (hF V' hV').isIn) ho.az.zq ho.az.zQ ho.az.zQf ho.az.zb ho.az.zR ho.az.zRf (by have := ho.az.zS; omega) ho.az.zN).mono ?_
  have hu : L.Pairwise fun a b => a.ar ≤ b.ar := h.ci.cx.ok.up
  have mk : ∀ w' y' L' gs D, Ks (Ow g y) V w' → Cx w' g (hr c o.tk) y' L' → (∀ k, Ow g y' k → Ow g y k ∨ V.heap.size ≤ k) → R EI w' (sv gs) D → Cs w0 w' b g (hr c o.tk) y' L' z B now o0 o r0 rv gs D := fun w' y' L' gs D hk hx hy hg =>
    ⟨⟨hx, h.ci.bk.cop h.ci.cx hk, hbel w' hk, h.ci.nb, fun k hk' => (hy k hk').elim (h.ci.nc k) fun e => Nat.le_trans h.ci.bel.size e, h.ci.nz, h.bx.cop h.ci.cx hk⟩, hB w' hk, hF w' hk, hg⟩
  rintro r w' (⟨hno, gs, rfl, hT⟩ | ⟨hno, gs, y1, y2, y3, z', rfl, hx, hz', hk, hgs, hgw, hn⟩)
  · obtain ⟨y', hx, hy⟩ := hT.cx
    obtain ⟨hS, hd⟩ := Sp.no (c := hr c o.tk) h.ci.rl hu (o.rb.size + szL o.fr)
    exact ⟨false, gs, _, _, y', _, rfl, mk w' y' _ gs _ hT.ks hx (fun k hk' => .inl (by rw [← ow_eq hy]; exact hk')) hT.gone, hS, by rw [hno]; rfl, fun _ => hd, fun e => by cases e⟩
  · obtain ⟨n, hS, hd⟩ := Sp.yes (c := hr c o.tk) h.ci.rl hu (o.rb.size + szL o.fr)
    refine ⟨true, gs, n, _, z', _, rfl, mk w' z' _ gs _ hk hx (fun k hk' => ?_) hgs, hS, by rw [hno]; rfl, (fun e => by cases e), fun _ => ⟨_, by rw [hd], ⟨rfl, rfl, rfl, rfl, rfl, rfl, rfl, rfl, rfl⟩⟩⟩
    rcases hk' with rfl | hk'
    · exact .inl (.inl rfl)
    · exact (hz' k hk').elim (fun e => .inl (.inr e)) .inr
end Go.Proofs.YtfponcdhaefkdaaDoor
