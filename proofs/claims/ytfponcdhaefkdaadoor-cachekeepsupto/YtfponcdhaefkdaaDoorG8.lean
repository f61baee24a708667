/- A Tick of the two; the script's steps in a row. -/
import Derived.Test.YtfponcdhaefkdaaDoorGc
namespace Go.Proofs.YtfponcdhaefkdaaDoor
open Go.RowKit
set_option linter.unusedVariables false
set_option linter.unusedSimpArgs false
def EO : El Os := ⟨53, 60, 13, 184, fun o => (opv o).toList⟩
theorem okO : EO.Ok := ⟨Tryd.underlying53, by kernel_rfl, by decide, by decide, fun _ => rfl, fun a u hu => by
  simp only [EO, opv, List.mem_cons, List.not_mem_nil, or_false] at hu
  rcases hu with rfl | rfl | rfl | rfl | rfl | rfl | rfl | rfl | rfl | rfl | rfl | rfl | rfl <;> rfl⟩
def CellsO (W : World) (B q : Nat) (o : Os) : Prop := W.cell? ⟨B, q, none⟩ = some (.int .i64 o.kd) ∧ W.cell? ⟨B, q + 1, none⟩ = some (.bool o.tw) ∧ W.cell? ⟨B, q + 2, none⟩ = some (.string o.q.m) ∧ W.cell? ⟨B, q + 3, none⟩ = some (.string o.q.s) ∧ W.cell? ⟨B, q + 4, none⟩ = some (.string o.q.a) ∧ W.cell? ⟨B, q + 5, none⟩ = some (.string o.q.p) ∧ W.cell? ⟨B, q + 6, none⟩ = some (sv o.q.y) ∧ W.cell? ⟨B, q + 7, none⟩ = some (.string o.q.b) ∧ W.cell? ⟨B, q + 8, none⟩ = some (.int .i64 o.rn) ∧ W.cell? ⟨B, q + 9, none⟩ = some (sv o.ry) ∧ W.cell? ⟨B, q + 10, none⟩ = some (.string o.rb) ∧ W.cell? ⟨B, q + 11, none⟩ = some (.int .i64 o.st) ∧ W.cell? ⟨B, q + 12, none⟩ = some (.int .i64 o.tk)
theorem In.op {w : World} {v : Value} {l : List Os} (h : In EO w v l) (k : Nat) (hk : k < l.length) : ∃ B off cap, v = .slice (some ⟨B, off, none⟩) l.length cap ∧ ∀ W, Below w.heap.size w W → CellsO W B (off + k * 13) l[k] := by
  obtain ⟨B, off, cap, e, hB, d⟩ := h.get okO k hk
  exact ⟨B, off, cap, e, fun W hb => ⟨(hb.cell hB).trans (d 0 _ rfl), (hb.cell hB).trans (d 1 _ rfl), (hb.cell hB).trans (d 2 _ rfl), (hb.cell hB).trans (d 3 _ rfl), (hb.cell hB).trans (d 4 _ rfl), (hb.cell hB).trans (d 5 _ rfl), (hb.cell hB).trans (d 6 _ rfl), (hb.cell hB).trans (d 7 _ rfl), (hb.cell hB).trans (d 8 _ rfl), (hb.cell hB).trans (d 9 _ rfl), (hb.cell hB).trans (d 10 _ rfl), (hb.cell hB).trans (d 11 _ rfl), (hb.cell hB).trans (d 12 _ rfl)⟩⟩
variable {w0 W W' : World} {b g : Nat} {c c' : Ca} {y y' : SV} {L L' : List En} {z z' : SV} {B B' : List Kn} {now : Int} {o0 r0 : Nat} {o : Os} {rv gs : SV} {D : List Int}
theorem Cj.went (h : Cj w0 W b g c y L z B now o0 o) (hw : Wn W W' b g c.me c.mb c.lf z z' B' now gs D) (hr : Rl L B') : Ci w0 W' b g c y L z' B' now := by
  have hoff : ¬ Cb g y L b := h.cx.offk h.bk.blk (by decide) (by decide) (by decide) (by decide)
  exact ⟨h.cx.keep fun k hc hl => hw.ks.block k hl fun e => hoff (e ▸ hc), hw.bk, hr, h.bel.trans (hw.ks.below h.bel.size fun i hi e => by have := h.nb; omega), h.nb, h.nc, fun k hk => (hw.own k hk).elim (h.nz k) fun e => Nat.le_trans h.bel.size e⟩
/-- what Tick tells, and leaves -/
def tiP (w0 w' : World) (b g : Nat) (c : Ca) (L : List En) (z : SV) (B : List Kn) (now : Int) (o0 : Nat) (o : Os) (r : Ending) : Prop :=
  ∃ (gs : SV) (n : Nat) (D : List Int) (y' : SV), r = .returned (sv gs) ∧ Cj w0 w' b g c y' (L.drop n) z B now o0 o ∧ R EI w' (sv gs) D ∧ Sp c L B false n D 0
theorem Cl.tick {V : World} (h : Cl w0 V b g c y L z B now o0 o) (t : Int) (ht : t ≤ 9223372036854775807) :
    Calls Tryd.prog 10 #[.pointer (some ⟨g, 0, none⟩), .int .i64 t] V fun r w' => tiP w0 w' b g (hr c t) L z B now o0 o r := by
  have hbel : ∀ w', Ks (Ow g y) V w' → Below w0.heap.size w0 w' := fun w' hk => h.ci.bel.trans (hk.below h.ci.bel.size fun i hi ho => by have := h.ci.nc i ho; omega)
  refine (tick_any V g c y L h.ci.cx t ht).mono ?_
  rintro r w' ⟨gs, rfl, hT⟩
  obtain ⟨y', hx, hy⟩ := hT.cx
  obtain ⟨hS, hd⟩ := Sp.no (c := hr c t) h.ci.rl h.ci.cx.ok.up 0
  rw [hd] at hx
  exact ⟨gs, _, _, y', rfl, ⟨hx, h.ci.bk.cop h.ci.cx hT.ks, hbel w' hT.ks, h.ci.nb, fun k hk => h.ci.nc k (by rw [← ow_eq hy]; exact hk), h.ci.nz, h.bx.cop h.ci.cx hT.ks⟩, hT.gone, hS⟩
/-- between two steps of the script -/
structure Kp (w0 W : World) (b g : Nat) (me mb lf : Int) (c : Ca) (y : SV) (L : List En) (z : SV) (B : List Kn) (i : Nat) : Prop where
  ci : Ci w0 W b g c y L z B c.ck
  cc : c.me = me ∧ c.mb = mb ∧ c.lf = lf
  st : ∀ x ∈ B, x.st < (i : Int)
  pw : B.Pairwise fun a b => a.st < b.st
theorem Kp.below {i : Nat} {me mb lf : Int} (h : Kp w0 W b g me mb lf c y L z B i) (hb : Below W.heap.size W W') : Kp w0 W' b g me mb lf c y L z B i := ⟨h.ci.below hb, h.cc, h.st, h.pw⟩
def KpE (w0 W : World) (b g : Nat) (me mb lf : Int) (i : Nat) : Prop := ∃ c y L z B, Kp w0 W b g me mb lf c y L z B i
theorem hr_cc {me mb lf : Int} (h : c.me = me ∧ c.mb = mb ∧ c.lf = lf) (t : Int) : (hr c t).me = me ∧ (hr c t).mb = mb ∧ (hr c t).lf = lf := h
end Go.Proofs.YtfponcdhaefkdaaDoor
