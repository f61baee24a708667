/- The law's stored. -/
import Derived.Test.YtfponcdhaefkdaaDoorVk
import Derived.Test.YtfponcdhaefkdaaDoorVf
namespace Go.Proofs.YtfponcdhaefkdaaDoor
open Go.RowKit
set_option linter.unusedVariables false
set_option linter.unusedSimpArgs false
/-- boxes and lent lists, beside -/
structure Sx (W V : World) (o0 q1 r1 : Nat) (o : Os) (mk : Fd) (qv : Option Addr) (qc : Nat) (rv : Option Addr) (rc : Nat) : Prop where
  bo : V.heap[o0]? = some (.cells (opv o) 60 (0, 0))
  bq : V.heap[q1]? = some (.cells (rqv ⟨o.q.m, o.q.s, o.q.a, o.q.p, (qv, o.Q.length, qc), o.q.b⟩) 24 (0, 0))
  br : V.heap[r1]? = some (.cells (rsv o.rn (.slice rv o.fr.length rc) o.rb) 26 (0, 0))
  lq : R EFd V (.slice qv (o.Q.length + 1) qc) (o.Q ++ [mk])
  lr : R EFd V (.slice rv (o.fr.length + 1) rc) (o.fr ++ [mk])
  nq : ∀ k, (Value.slice qv (o.Q.length + 1) qc).ownBlock = some k → W.heap.size ≤ k
  nr : ∀ k, (Value.slice rv (o.fr.length + 1) rc).ownBlock = some k → W.heap.size ≤ k
  ap : ∀ k, (Value.slice rv (o.fr.length + 1) rc).ownBlock = some k → ¬ (Value.slice qv (o.Q.length + 1) qc).ownBlock = some k
variable {w0 W V V' : World} {g : Nat} {c : Ca} {y : SV} {L : List En} {b : Nat} {pd : Int} {z : SV} {B : List Kn} {o0 q1 r1 : Nat} {o : Os} {mk : Fd} {qv rv : Option Addr} {qc rc : Nat}
theorem Sx.keep (h : Sx W V o0 q1 r1 o mk qv qc rv rc) (hk : ∀ (k : Nat) (cc : Array Value) (t : TypeId) (fz : Nat × Nat), V.heap[k]? = some (.cells cc t fz) → (t = 60 ∨ t = 24 ∨ t = 26 ∨ t = 51) → V'.heap[k]? = V.heap[k]?) : Sx W V' o0 q1 r1 o mk qv qc rv rc :=
  ⟨(hk _ _ _ _ h.bo (.inl rfl)).trans h.bo, (hk _ _ _ _ h.bq (.inr (.inl rfl))).trans h.bq, (hk _ _ _ _ h.br (.inr (.inr (.inl rfl)))).trans h.br, h.lq.stays fun k hk' _ => by obtain ⟨cc, hc⟩ := h.lq.ty k hk'; exact hk _ _ _ _ hc (.inr (.inr (.inr rfl))), h.lr.stays fun k hk' _ => by obtain ⟨cc, hc⟩ := h.lr.ty k hk'; exact hk _ _ _ _ hc (.inr (.inr (.inr rfl))), h.nq, h.nr, h.ap⟩
theorem Sx.below (h : Sx W V o0 q1 r1 o mk qv qc rv rc) (hb : Below V.heap.size V V') : Sx W V' o0 q1 r1 o mk qv qc rv rc := h.keep fun k cc t fz hk _ => hb.block k (heap_lt hk)
theorem Sx.cop (h : Sx W V o0 q1 r1 o mk qv qc rv rc) (hx : Cx V g c y L) (hk : Ks (Ow g y) V V') : Sx W V' o0 q1 r1 o mk qv qc rv rc := h.keep fun k cc t fz hb ht => hk.block k (heap_lt hb) (hx.offb hb (by rcases ht with rfl | rfl | rfl | rfl <;> decide) (by rcases ht with rfl | rfl | rfl | rfl <;> decide))
theorem Sx.rop {me mb lf : Int} {now : Int} (h : Sx W V o0 q1 r1 o mk qv qc rv rc) (hx : Rc V b me mb lf pd z B now) (hk : Ks (fun k => k = b) V V') : Sx W V' o0 q1 r1 o mk qv qc rv rc := h.keep fun k cc t fz hb ht => hk.block k (heap_lt hb) (ty_ne hb hx.blk (by rcases ht with rfl | rfl | rfl | rfl <;> decide))
theorem Sx.fq (h : Sx W V o0 q1 r1 o mk qv qc rv rc) : R EFd V (.slice qv o.Q.length qc) o.Q := R.front okFd (r := [mk]) h.lq (by simp)
theorem Sx.fr (h : Sx W V o0 q1 r1 o mk qv qc rv rc) : R EFd V (.slice rv o.fr.length rc) o.fr := R.front okFd (r := [mk]) h.lr (by simp)
end Go.Proofs.YtfponcdhaefkdaaDoor
