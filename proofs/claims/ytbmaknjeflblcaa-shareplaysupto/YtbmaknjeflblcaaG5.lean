/- SharePlays: two pairs. -/
import Derived.Test.YtbmaknjeflblcaaG3
namespace Go.Proofs.Ytbmaknjeflblcaa
open Go.RowKit Go.Maps
set_option linter.unusedVariables false
set_option linter.unusedSimpArgs false

structure Tw (w wr : World) (C0 C1 : Nat → Prop) (p0 q0 p1 q1 ga gb : Nat) (T0 T1 : St) (L0 L1 : List Stm) (m n : Nat) : Prop where
  a : Pr wr C0 p0 q0 T0 L0 m n
  b : Pr wr C1 p1 q1 T1 L1 m n
  dis : ∀ k, C0 k → ¬ C1 k
  lo : (∀ k, C0 k → w.heap.size ≤ k) ∧ ∀ k, C1 k → w.heap.size ≤ k
  ra : wr.heap[ga]? = some (.cells #[.pointer (some ⟨p0, 0, none⟩), .pointer (some ⟨p1, 0, none⟩)] 52 (0, 0))
  rb : wr.heap[gb]? = some (.cells #[.pointer (some ⟨q0, 0, none⟩), .pointer (some ⟨q1, 0, none⟩)] 55 (0, 0))
  nn : (¬ C0 ga ∧ ¬ C0 gb) ∧ ¬ C1 ga ∧ ¬ C1 gb
  lw : Below w.heap.size w wr
section
variable {w wr w' : World} {C0 C1 : Nat → Prop} {p0 q0 p1 q1 ga gb m n m' n' : Nat} {T0 T1 : St} {L0 L1 : List Stm} {e : Ending}
theorem Tw.more (h : Tw w wr C0 C1 p0 q0 p1 q1 ga gb T0 T1 L0 L1 m n) (hm : m ≤ m') (hn : n ≤ n') : Tw w wr C0 C1 p0 q0 p1 q1 ga gb T0 T1 L0 L1 m' n' := ⟨h.a.more hm hn, h.b.more hm hn, h.dis, h.lo, h.ra, h.rb, h.nn, h.lw⟩
theorem Tw.below (h : Tw w wr C0 C1 p0 q0 p1 q1 ga gb T0 T1 L0 L1 m n) (hb : Below wr.heap.size wr w') : Tw w w' C0 C1 p0 q0 p1 q1 ga gb T0 T1 L0 L1 m n :=
  ⟨h.a.below hb, h.b.below hb, h.dis, h.lo, (hb.block _ (heap_lt h.ra)).trans h.ra, (hb.block _ (heap_lt h.rb)).trans h.rb, h.nn, h.lw.trans (hb.mono h.lw.size)⟩
theorem Tw.step0 (h : Tw w wr C0 C1 p0 q0 p1 q1 ga gb T0 T1 L0 L1 m n) (hp : PlP wr C0 p0 q0 m' n' e w') (hm : m ≤ m') (hn : n ≤ n') : ∃ C T L, Tw w w' C C1 p0 q0 p1 q1 ga gb T T1 L L1 m' n' := by
  obtain ⟨_, ⟨T, L, hpr⟩, hk⟩ := hp
  have s0 := h.lw.size
  refine ⟨gr C0 wr w', T, L, hpr, (h.b.ks hk fun k h1 h2 => h.dis k h2 h1).more hm hn, fun k h1 h2 => ?_, ⟨fun k h1 => ?_, h.lo.2⟩, (hk.block _ (heap_lt h.ra) h.nn.1.1).trans h.ra, (hk.block _ (heap_lt h.rb) h.nn.1.2).trans h.rb, ⟨⟨fun h1 => ?_, fun h1 => ?_⟩, h.nn.2⟩, h.lw.trans (hk.below s0 fun i hi h1 => by have := h.lo.1 i h1; omega)⟩
  · rcases h1 with h1 | h1
    · exact h.dis k h1 h2
    · have := h.b.lt k h2; omega
  · rcases h1 with h1 | h1
    · exact h.lo.1 k h1
    · omega
  · rcases h1 with h1 | h1
    · exact h.nn.1.1 h1
    · have := heap_lt h.ra; omega
  · rcases h1 with h1 | h1
    · exact h.nn.1.2 h1
    · have := heap_lt h.rb; omega
theorem Tw.step1 (h : Tw w wr C0 C1 p0 q0 p1 q1 ga gb T0 T1 L0 L1 m n) (hp : PlP wr C1 p1 q1 m' n' e w') (hm : m ≤ m') (hn : n ≤ n') : ∃ C T L, Tw w w' C0 C p0 q0 p1 q1 ga gb T0 T L0 L m' n' := by
  obtain ⟨_, ⟨T, L, hpr⟩, hk⟩ := hp
  have s0 := h.lw.size
  refine ⟨gr C1 wr w', T, L, (h.a.ks hk fun k h1 h2 => h.dis k h1 h2).more hm hn, hpr, fun k h1 h2 => ?_, ⟨h.lo.1, fun k h1 => ?_⟩, (hk.block _ (heap_lt h.ra) h.nn.2.1).trans h.ra, (hk.block _ (heap_lt h.rb) h.nn.2.2).trans h.rb, ⟨h.nn.1, fun h1 => ?_, fun h1 => ?_⟩, h.lw.trans (hk.below s0 fun i hi h1 => by have := h.lo.2 i h1; omega)⟩
  · rcases h2 with h2 | h2
    · exact h.dis k h1 h2
    · have := h.a.lt k h1; omega
  · rcases h1 with h1 | h1
    · exact h.lo.2 k h1
    · omega
  · rcases h1 with h1 | h1
    · exact h.nn.2.1 h1
    · have := heap_lt h.ra; omega
  · rcases h1 with h1 | h1
    · exact h.nn.2.2 h1
    · have := heap_lt h.rb; omega
end
set_option maxRecDepth 100000 in
set_option maxHeartbeats 4000000 in
theorem plays3_any (w : World) (C : Nat → Prop) (p q m n : Nat) (T : St) (L : List Stm) (o : Op) (h : Pr w C p q T L m n) (hid : wf64 o.id) (h3 : o.k = 3) :
    Calls Try.prog 21 #[.pointer (some ⟨p, 0, none⟩), .pointer (some ⟨q, 0, none⟩), opg o] w fun e w' => e = .returned (.bool true) ∧ Below w.heap.size w w' := by
  obtain ⟨ok, os, oid, ot, oe, oc, ost, of, ⟨y1, y2, y3⟩, ol⟩ := o
  simp only at hid h3
  subst h3
  unfold opg sv
  simp only
  have hb1 := bel1 w (Obj.cells #[.int .i64 3, .int .i64 os, .int .i64 oid, .string ot, .bool oe, .int .i64 oc, .int .i64 ost, .int .i64 of, .slice y1 y2 y3] 41)
  have h1 := h.below hb1
  obtain ⟨A, B, hA, hB, hd, hAC, hBC⟩ := h1.ab
  have hrl := h.rl
  go_enter Try.func21, Try.ntmps21
  go_wp2_with fail
  refine (waits_any _ A p T oid hid hA).mono ?_
  rintro e w2 ⟨rfl, hB2⟩
  have hbx := (hB2.block _ (by simp)).trans (heap_alloc_new w (Obj.cells #[.int .i64 3, .int .i64 os, .int .i64 oid, .string ot, .bool oe, .int .i64 oc, .int .i64 ost, .int .i64 of, .slice y1 y2 y3] 41))
  have b2 := cell_blk hbx 2
  have hbl := heap_lt hbx
  clear hbx
  obtain ⟨v, hv1, _, _⟩ := (hB.stays (w' := w2) fun k hk _ => hB2.block k hk).s
  go_wp2_with fail
  refine (rwaits_any w2 q v L oid hv1).mono ?_
  rintro e w3 ⟨rfl, hB3⟩
  obtain ⟨wa, wb, _⟩ := hrl.waits oid
  rw [← wa, ← wb]
  have HQ : Hid (Below w.heap.size w w3) := (hb1.trans (hB2.mono hb1.size)).trans (hB3.mono (Nat.le_trans hb1.size hB2.size))
  clear hv1 wa wb hB3
  generalize (T.b oid).length = pl
  generalize T.e oid = pe
  go_wp2_with fail
  go_ret
  exact ⟨rfl, HQ.out⟩
end Go.Proofs.Ytbmaknjeflblcaa
