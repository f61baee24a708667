/- The law's plays. -/
import Derived.Test.YtfponcdhaefkdaaDoorK5
import Derived.Deep.CutBlock
namespace Go.Proofs.YtfponcdhaefkdaaDoor
open Go.RowKit
set_option linter.unusedVariables false
set_option linter.unusedSimpArgs false
/-- the step's box, the request's, the lent list -/
structure Sy (W V : World) (o0 q1 : Nat) (o : Os) (mk : Fd) (qv : Option Addr) (qc : Nat) : Prop where
  bo : V.heap[o0]? = some (.cells (opv o) 60 (0, 0))
  bq : V.heap[q1]? = some (.cells (rqv ⟨o.q.m, o.q.s, o.q.a, o.q.p, (qv, o.Q.length, qc), o.q.b⟩) 24 (0, 0))
  lq : R EFd V (.slice qv (o.Q.length + 1) qc) (o.Q ++ [mk])
theorem Sy.keep {W V V' : World} {o0 q1 : Nat} {o : Os} {mk : Fd} {qv : Option Addr} {qc : Nat} (h : Sy W V o0 q1 o mk qv qc) (hk : ∀ (k : Nat) (cc : Array Value) (t : TypeId) (fz : Nat × Nat), V.heap[k]? = some (.cells cc t fz) → (t = 60 ∨ t = 24 ∨ t = 51) → V'.heap[k]? = V.heap[k]?) : Sy W V' o0 q1 o mk qv qc :=
  ⟨(hk _ _ _ _ h.bo (.inl rfl)).trans h.bo, (hk _ _ _ _ h.bq (.inr (.inl rfl))).trans h.bq, h.lq.stays fun k hk' _ => by obtain ⟨cc, hc⟩ := h.lq.ty k hk'; exact hk _ _ _ _ hc (.inr (.inr rfl))⟩
theorem Sy.both {W V V' : World} {o0 q1 : Nat} {o : Os} {mk : Fd} {qv : Option Addr} {qc g b : Nat} {c : Ca} {y : SV} {L : List En} {me mb lf pd now : Int} {z : SV} {B : List Kn} (h : Sy W V o0 q1 o mk qv qc) (hx : Cx V g c y L) (hr : Rc V b me mb lf pd z B now) (hk : Ks (fun k => Ow g y k ∨ k = b) V V') : Sy W V' o0 q1 o mk qv qc := h.keep fun k cc t fz hb ht => hk.block k (heap_lt hb) fun e => e.elim (hx.offb hb (by rcases ht with rfl | rfl | rfl <;> decide) (by rcases ht with rfl | rfl | rfl <;> decide)) (ty_ne hb hr.blk (by rcases ht with rfl | rfl | rfl <;> decide))
theorem Sy.below {W V V' : World} {o0 q1 : Nat} {o : Os} {mk : Fd} {qv : Option Addr} {qc : Nat} (h : Sy W V o0 q1 o mk qv qc) (hb : Below V.heap.size V V') : Sy W V' o0 q1 o mk qv qc := h.keep fun k cc t fz hk _ => hb.block k (heap_lt hk)
/-- behind a step -/
def Pz (w0 W V : World) (g : Nat) (c : Ca) (y : SV) (L : List En) (b : Nat) (pd : Int) (z : SV) (B : List Kn) : Prop := ∃ (c' : Ca) (y' : SV) (L' : List En) (z' : SV) (B' : List Kn), (c'.me = c.me ∧ c'.mb = c.mb ∧ c'.lf = c.lf) ∧ Pq w0 V g c' y' L' b pd z' B' ∧ Ks (fun k => Ow g y k ∨ k = b) W V ∧ (∀ k, Cb g y' L' k → Cb g y L k ∨ W.heap.size ≤ k) ∧ (∀ k, Rb b z' B' k → Rb b z B k ∨ W.heap.size ≤ k)
end Go.Proofs.YtfponcdhaefkdaaDoor
