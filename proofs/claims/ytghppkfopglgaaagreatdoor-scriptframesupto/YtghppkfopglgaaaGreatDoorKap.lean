/- What is read, with the rows in it. The reader: command. The reader: what is left is of what was there. commandsOf. Parse. -/
import Derived.Test.YtghppkfopglgaaaGreatDoorRr
import Derived.Great.BuildSlice
namespace Go.Proofs.YtghppkfopglgaaaGreatDoor
open Go.RowKit
set_option linter.unusedVariables false
set_option linter.unusedSimpArgs false
structure Sl where
  b : Option Addr
  n : Nat
  c : Nat
def Sl.v (s : Sl) : Value := .slice s.b s.n s.c
def Sl.z : Sl := ⟨none, 0, 0⟩
def Own (B : Nat) (v : Value) : Prop := ∀ k, v.ownBlock = some k → B ≤ k
theorem Own.z (B : Nat) : Own B Sl.z.v := fun k e => absurd e (by simp [Sl.z, Sl.v, Value.ownBlock])
theorem Own.mono {B C : Nat} {v : Value} (h : Own B v) (hc : C ≤ B) : Own C v := fun k e => Nat.le_trans hc (h k e)
def pgA (p : Pg) (s : Sl) : Array Value := #[.string p.a, .string p.p, .int .i64 p.st, .string p.vr, s.v]
def EPg : El (Pg × Sl) := ⟨41, 34, 5, 80, fun x => (pgA x.1 x.2).toList⟩
theorem okPg : EPg.Ok := ⟨Tryz.underlying41, by kernel_rfl, by decide, by decide, fun _ => rfl, fun a u hu => by
  simp [EPg, pgA] at hu
  rcases hu with rfl | rfl | rfl | rfl | rfl <;> rfl⟩
def ruA (u : Ru) (s : Sl) : Array Value := #[.string u.of.a, .string u.of.p, s.v]
def ERu : El (Ru × Sl) := ⟨42, 64, 3, 56, fun x => (ruA x.1 x.2).toList⟩
theorem okRu : ERu.Ok := ⟨Tryz.underlying42, by kernel_rfl, by decide, by decide, fun _ => rfl, fun a u hu => by
  simp [ERu, ruA] at hu
  rcases hu with rfl | rfl | rfl <;> rfl⟩
def EOg : El ByteArray := ⟨43, 9, 1, 16, fun x => [.string x]⟩
theorem okOg : EOg.Ok := ⟨Tryz.underlying43, by kernel_rfl, by decide, by decide, fun _ => rfl, fun a u hu => by
  simp [EOg] at hu
  subst hu
  rfl⟩
/-- a world's rows -/
structure WoN (W : World) (B : Nat) (x : Wo) (sp su so : Sl) : Prop where
  pg : ∃ ps : List (Pg × Sl), ps.map (·.1) = x.pg ∧ R EPg W sp.v ps ∧ ∀ q ∈ ps, R ECh W q.2.v q.1.ch ∧ Own B q.2.v
  ru : ∃ us : List (Ru × Sl), us.map (·.1) = x.ru ∧ R ERu W su.v us ∧ ∀ q ∈ us, R ETg W q.2.v q.1.push ∧ Own B q.2.v
  og : R EOg W so.v x.og
  op : Own B sp.v
  ou : Own B su.v
  oo : Own B so.v
structure CmS where
  sp : Sl
  su : Sl
  so : Sl
  sf : Sl
  sc : Sl
def CmS.z : CmS := ⟨Sl.z, Sl.z, Sl.z, Sl.z, Sl.z⟩
structure CmN (W : World) (B : Nat) (x : Cm × CmS) : Prop where
  wo : WoN W B x.1.w x.2.sp x.2.su x.2.so
  fd : R EFd W x.2.sf.v x.1.m.rq.fs
  ch : R ECh W x.2.sc.v x.1.m.pg.ch
  of : Own B x.2.sf.v
  oc : Own B x.2.sc.v
/-- blocks of other types stay -/
def Stay (B t : Nat) (W W' : World) : Prop := ∀ k c t', B ≤ k → W.heap[k]? = some (.cells c t' (0, 0)) → t' ≠ t → W'.heap[k]? = W.heap[k]?
theorem Stay.r {α : Type} {E : El α} {B t : Nat} {W W' : World} {v : Value} {l : List α} (hs : Stay B t W W') (h : R E W v l) (ho : Own B v) (ht : E.e ≠ t) : R E W' v l :=
  h.stays fun k e _ => by
    obtain ⟨c, hc⟩ := h.ty k e
    exact hs k c E.e (ho k e) hc ht
theorem WoN.stay {B t : Nat} {W W' : World} {x : Wo} {sp su so : Sl} (h : WoN W B x sp su so) (hs : Stay B t W W') (h1 : t ≠ 34) (h2 : t ≠ 64) (h3 : t ≠ 9) (h4 : t ≠ 59) (h5 : t ≠ 61) : WoN W' B x sp su so := by
  obtain ⟨⟨ps, p1, p2, p3⟩, ⟨us, u1, u2, u3⟩, og, op, ou, oo⟩ := h
  refine ⟨⟨ps, p1, hs.r p2 op (Ne.symm h1), fun q hq => ⟨hs.r (p3 q hq).1 (p3 q hq).2 (Ne.symm h4), (p3 q hq).2⟩⟩, ⟨us, u1, hs.r u2 ou (Ne.symm h2), fun q hq => ⟨hs.r (u3 q hq).1 (u3 q hq).2 (Ne.symm h5), (u3 q hq).2⟩⟩, hs.r og oo (Ne.symm h3), op, ou, oo⟩
theorem CmN.stay {B t : Nat} {W W' : World} {x : Cm × CmS} (h : CmN W B x) (hs : Stay B t W W') (h1 : t ≠ 34) (h2 : t ≠ 64) (h3 : t ≠ 9) (h4 : t ≠ 59) (h5 : t ≠ 61) (h6 : t ≠ 66) : CmN W' B x :=
  ⟨h.wo.stay hs h1 h2 h3 h4 h5, hs.r h.fd h.of (Ne.symm h6), hs.r h.ch h.oc (Ne.symm h4), h.of, h.oc⟩
theorem WoN.z (W : World) (B : Nat) : WoN W B Wo.z Sl.z Sl.z Sl.z :=
  ⟨⟨[], rfl, R.nil _ _, fun q h => absurd h (by simp)⟩, ⟨[], rfl, R.nil _ _, fun q h => absurd h (by simp)⟩, R.nil _ _, Own.z _, Own.z _, Own.z _⟩
theorem WoN.mono {W : World} {B C : Nat} {x : Wo} {sp su so : Sl} (h : WoN W B x sp su so) (hc : C ≤ B) : WoN W C x sp su so := by
  obtain ⟨⟨ps, p1, p2, p3⟩, ⟨us, u1, u2, u3⟩, og, op, ou, oo⟩ := h
  exact ⟨⟨ps, p1, p2, fun q hq => ⟨(p3 q hq).1, (p3 q hq).2.mono hc⟩⟩, ⟨us, u1, u2, fun q hq => ⟨(u3 q hq).1, (u3 q hq).2.mono hc⟩⟩, og, op.mono hc, ou.mono hc, oo.mono hc⟩
theorem CmN.mono {W : World} {B C : Nat} {x : Cm × CmS} (h : CmN W B x) (hc : C ≤ B) : CmN W C x := ⟨h.wo.mono hc, h.fd, h.ch, h.of.mono hc, h.oc.mono hc⟩
def woA (x : Wo) (sp su so : Sl) : Array Value := #[.int .i64 x.sv.t, .int .i64 x.sv.p, .int .i64 x.sv.s, .int .i64 x.sv.w, .int .i64 x.sv.f, .int .i64 x.sv.l, .int .i64 x.cl.t, .int .i64 x.cl.p, .int .i64 x.cl.s, .int .i64 x.cl.w, .int .i64 x.cl.f, .int .i64 x.cl.l, .int .i64 x.ce, .int .i64 x.cb, .int .i64 x.cl', .int .i64 x.cp, sp.v, su.v, so.v]
def cmA (c : Cm) (s : CmS) : Array Value := #[.int .i64 c.k, .int .i64 c.w.sv.t, .int .i64 c.w.sv.p, .int .i64 c.w.sv.s, .int .i64 c.w.sv.w, .int .i64 c.w.sv.f, .int .i64 c.w.sv.l, .int .i64 c.w.cl.t, .int .i64 c.w.cl.p, .int .i64 c.w.cl.s, .int .i64 c.w.cl.w, .int .i64 c.w.cl.f, .int .i64 c.w.cl.l, .int .i64 c.w.ce, .int .i64 c.w.cb, .int .i64 c.w.cl', .int .i64 c.w.cp, s.sp.v, s.su.v, s.so.v, .int .i64 c.m.k, .int .i64 c.m.n, .string c.m.rq.m, .string c.m.rq.s, .string c.m.rq.a, .string c.m.rq.p, s.sf.v, .string c.m.rq.b, .string c.m.pg.a, .string c.m.pg.p, .int .i64 c.m.pg.st, .string c.m.pg.vr, s.sc.v, .int .i64 c.m.si.t, .int .i64 c.m.si.p, .int .i64 c.m.si.s, .int .i64 c.m.si.w, .int .i64 c.m.si.f, .int .i64 c.m.si.l, .string c.m.by', .int .i64 c.n, .bool c.sv]
def ECm : El (Cm × CmS) := ⟨25, 47, 42, 488, fun x => (cmA x.1 x.2).toList⟩
theorem okCm : ECm.Ok := ⟨Tryz.underlying25, by kernel_rfl, by decide, by decide, fun _ => rfl, fun a u hu => by
  simp only [ECm, cmA, List.mem_cons, List.not_mem_nil, or_false] at hu
  rcases hu with rfl | rfl | rfl | rfl | rfl | rfl | rfl | rfl | rfl | rfl | rfl | rfl | rfl | rfl | rfl | rfl | rfl | rfl | rfl | rfl | rfl | rfl | rfl | rfl | rfl | rfl | rfl | rfl | rfl | rfl | rfl | rfl | rfl | rfl | rfl | rfl | rfl | rfl | rfl | rfl | rfl | rfl <;> rfl⟩
/-- what the reader's world says -/
def WorldOk (gr bw : Nat) : Prop := ∀ (r : Rd) (w : World), RdS gr bw r w → r.l.length ≤ 1073741824 → Calls Tryz.prog 61 #[.pointer (some ⟨gr, 0, none⟩)] w fun e w' => ∃ sp su so, e = .returned (.agg (woA r.wo.1 sp su so)) ∧ WoN w' w.heap.size r.wo.1 sp su so ∧ RdS gr bw r.wo.2 w' ∧ Kr gr w w'
end Go.Proofs.YtghppkfopglgaaaGreatDoor
namespace Go.Proofs.YtghppkfopglgaaaGreatDoor
open Go.RowKit
set_option linter.unusedVariables false
set_option linter.unusedSimpArgs false
theorem move_s (gr bw : Nat) (r : Rd) (s : ByteArray) (w : World) (h : RdS gr bw r w) (hlen : r.l.length ≤ 1073741824) : Calls Tryz.prog 65 #[.pointer (some ⟨gr, 0, none⟩), .string s] w fun e w' => ∃ sf sc : Sl, e = .returned (.agg (mvA (r.mv s).1 sf.v sc.v)) ∧ R EFd w' sf.v (r.mv s).1.rq.fs ∧ R ECh w' sc.v (r.mv s).1.pg.ch ∧ Own w.heap.size sf.v ∧ Own w.heap.size sc.v ∧ RdS gr bw (r.mv s).2 w' ∧ Kr gr w w' := by
  refine (move_any gr bw r s w h hlen).mono ?_
  rintro e V ⟨vf, vc, rfl, h1, h2, h3, h4, h5, h6⟩
  obtain ⟨b, c, rfl, _⟩ := h1.slice
  obtain ⟨b2, c2, rfl, _⟩ := h2.slice
  exact ⟨⟨b, _, c⟩, ⟨b2, _, c2⟩, rfl, h1, h2, h3, h4, h5, h6⟩
def cmZ : Array Value := #[.int .i64 0, .int .i64 0, .int .i64 0, .int .i64 0, .int .i64 0, .int .i64 0, .int .i64 0, .int .i64 0, .int .i64 0, .int .i64 0, .int .i64 0, .int .i64 0, .int .i64 0, .int .i64 0, .int .i64 0, .int .i64 0, .int .i64 0, .slice none 0 0, .slice none 0 0, .slice none 0 0, .int .i64 0, .int .i64 0, .string ⟨#[]⟩, .string ⟨#[]⟩, .string ⟨#[]⟩, .string ⟨#[]⟩, .slice none 0 0, .string ⟨#[]⟩, .string ⟨#[]⟩, .string ⟨#[]⟩, .int .i64 0, .string ⟨#[]⟩, .slice none 0 0, .int .i64 0, .int .i64 0, .int .i64 0, .int .i64 0, .int .i64 0, .int .i64 0, .string ⟨#[]⟩, .int .i64 0, .bool false]
def cmK (K : Int) : Array Value := #[.int .i64 K, .int .i64 0, .int .i64 0, .int .i64 0, .int .i64 0, .int .i64 0, .int .i64 0, .int .i64 0, .int .i64 0, .int .i64 0, .int .i64 0, .int .i64 0, .int .i64 0, .int .i64 0, .int .i64 0, .int .i64 0, .int .i64 0, .slice none 0 0, .slice none 0 0, .slice none 0 0, .int .i64 0, .int .i64 0, .string ⟨#[]⟩, .string ⟨#[]⟩, .string ⟨#[]⟩, .string ⟨#[]⟩, .slice none 0 0, .string ⟨#[]⟩, .string ⟨#[]⟩, .string ⟨#[]⟩, .int .i64 0, .string ⟨#[]⟩, .slice none 0 0, .int .i64 0, .int .i64 0, .int .i64 0, .int .i64 0, .int .i64 0, .int .i64 0, .string ⟨#[]⟩, .int .i64 0, .bool false]
theorem BlJ.stay {ty : TypeId} {Z : Array Value} {gr bw g0 g1 : Nat} {w : World} {r : Rd} {c : Array Value} {V V' : World} (h : BlJ ty Z gr bw g0 g1 w r c V) (hg : gr < w.heap.size) (hk : Ks (fun k => k = gr ∨ k = g0 ∨ k = g1) V V') : Stay w.heap.size ty V V' := by
  intro k c' t' hB hc ht
  refine hk.block k (heap_lt hc) ?_
  rintro (e | e | e)
  · omega
  · subst e; have := h.b0; rw [hc] at this; injection this with this; injection this with a b; exact ht b
  · subst e; have := h.b1; rw [hc] at this; injection this with this; injection this with a b; exact ht b
theorem ks_gr {gr g0 g1 : Nat} {V V' : World} (h : Kr gr V V') : Ks (fun k => k = gr ∨ k = g0 ∨ k = g1) V V' := h.mono fun _ _ e => .inl e
theorem ks_g0 {gr g0 g1 : Nat} {V V' : World} (h : Ks (fun k => k = g0) V V') : Ks (fun k => k = gr ∨ k = g0 ∨ k = g1) V V' := h.mono fun _ _ e => .inr (.inl e)
theorem ks_g1 {gr g0 g1 : Nat} {V V' : World} (h : Ks (fun k => k = g1) V V') : Ks (fun k => k = gr ∨ k = g0 ∨ k = g1) V V' := h.mono fun _ _ e => .inr (.inr e)
theorem Stay.tr {B t : Nat} {a b c : World} (h : Stay B t a b) (k : Stay B t b c) : Stay B t a c := fun i cs t' hB hc ht => (k i cs t' hB ((h i cs t' hB hc ht).trans hc) ht).trans (h i cs t' hB hc ht)
theorem cm_0 (r r1 : Rd) (s : ByteArray) (h : r.nx 0 = (s, r1)) (hk : kindOf s = 0) : r.cm = ({ Cm.of 2 with m := (r1.mv s).1 }, (r1.mv s).2.el) := by unfold Rd.cm Rd.cm1; simp only [h, hk]
theorem cm_1 (r r1 : Rd) (s : ByteArray) (h : r.nx 0 = (s, r1)) (hk : kindOf s = 1) : r.cm = ({ Cm.of 1 with w := r1.el.wo.1 }, r1.el.wo.2.el) := by unfold Rd.cm Rd.cm1; simp only [h, hk]
theorem cm_3 (r r1 : Rd) (s : ByteArray) (h : r.nx 0 = (s, r1)) (hk : kindOf s = 3) : r.cm = ({ Cm.of 3 with n := r1.nu.1 }, r1.nu.2.el) := by unfold Rd.cm Rd.cm1; simp only [h, hk]
theorem cm_10 (r r1 : Rd) (s : ByteArray) (h : r.nx 0 = (s, r1)) (hk : kindOf s = 10) : r.cm = ({ Cm.of 10 with sv := (r1.sk nServer).1 }, (if (r1.sk nServer).1 then (r1.sk nServer).2 else r1.nm nClient).el) := by unfold Rd.cm Rd.cm1; simp only [h, hk]
theorem cm_n (r r1 : Rd) (s : ByteArray) (k : Nat) (h : r.nx 0 = (s, r1)) (hk : kindOf s = k) (h0 : k ≠ 0) (h1 : k ≠ 1) (h3 : k ≠ 3) (h10 : k ≠ 10) : r.cm = (Cm.of k, r1.el) := by
  unfold Rd.cm Rd.cm1
  simp only [h, hk]
  all_goals (split <;> first | omega | rfl)
set_option maxRecDepth 100000 in
set_option maxHeartbeats 8000000 in
theorem command_any (gr bw : Nat) (r : Rd) (w : World) (h : RdS gr bw r w) (hlen : r.l.length ≤ 1073741824) (hwo : kindOf (r.nx 0).1 = 1 → WorldOk gr bw) : Calls Tryz.prog 42 #[.pointer (some ⟨gr, 0, none⟩)] w fun e w' => ∃ s : CmS, e = .returned (.agg (cmA r.cm.1 s)) ∧ CmN w' w.heap.size (r.cm.1, s) ∧ RdS gr bw r.cm.2 w' ∧ Kr gr w w' := by
  have HX0 := hid (next_any gr bw)
  have HE := hid (endLine_any gr bw)
  have HN := hid (number_r gr bw)
  have HK := hid (skip_any gr bw)
  have HM := hid (name_any gr bw)
  have HV := hid (move_s gr bw)
  obtain ⟨⟨nm, r1⟩, hx⟩ : ∃ q, r.nx 0 = q := ⟨_, rfl⟩
  rw [hx] at hwo
  have HL : Hid (r1.l.length ≤ 1073741824) := hid (by have := nx_le r 0; rw [hx] at this; exact Nat.le_trans this hlen)
  obtain ⟨g0, hg0⟩ : ∃ g0, w.heap.size = g0 := ⟨_, rfl⟩
  obtain ⟨W0, hW0⟩ : ∃ W0, w.alloc (.cells #[.int .i64 0, .int .i64 0, .int .i64 0, .int .i64 0, .int .i64 0, .int .i64 0, .int .i64 0, .int .i64 0, .int .i64 0, .int .i64 0, .int .i64 0, .int .i64 0, .int .i64 0, .int .i64 0, .int .i64 0, .int .i64 0, .int .i64 0, .slice none 0 0, .slice none 0 0, .slice none 0 0, .int .i64 0, .int .i64 0, .string ⟨#[]⟩, .string ⟨#[]⟩, .string ⟨#[]⟩, .string ⟨#[]⟩, .slice none 0 0, .string ⟨#[]⟩, .string ⟨#[]⟩, .string ⟨#[]⟩, .int .i64 0, .string ⟨#[]⟩, .slice none 0 0, .int .i64 0, .int .i64 0, .int .i64 0, .int .i64 0, .int .i64 0, .int .i64 0, .string ⟨#[]⟩, .int .i64 0, .bool false] 47) = W0 := ⟨_, rfl⟩
  have b0 : Below w.heap.size w W0 := by rw [← hW0]; exact bel1 _ _
  have q0 : W0.heap[g0]? = some (.cells cmZ 47 (0, 0)) := by rw [← hW0, heap_al, if_pos hg0.symm]; rfl
  have hgl : gr < w.heap.size := h.lt
  have n0 : gr ≠ g0 := by omega
  have nb0 : bw ≠ g0 := by have := h.lb; omega
  have h8 : 8 ≤ g0 := by have := h.g8; omega
  have hw0 : w.heap.size ≤ g0 := by omega
  have hbl : bw < w.heap.size := h.lb
  have K0 : Hid (RdS gr bw r W0 ∧ Kr gr w W0 ∧ W0.heap[g0]? = some (.cells cmZ 47 (0, 0))) := hid ⟨h.below b0, Ks.of_below b0, q0⟩
  obtain ⟨K, hK0⟩ : ∃ K, kindOf nm = K := ⟨_, rfl⟩
  obtain ⟨kI, hkI⟩ : ∃ kI : Int, (K : Int) = kI := ⟨_, rfl⟩
  have HKK := hid hK0
  have HI := hid hkI
  have HX := hid hx
  have HWO := hid hwo
  have HG0 := hid hg0
  have HW0 := hid hW0
  have HH0 := hid (heap_lt q0)
  clear b0 q0 h hlen hK0 hkI hx hwo hW0
  go_enter Tryz.func42, Tryz.ntmps42
  go_wp2_with fail
  try rw [HG0.out]
  try rw [HW0.out]
  go_at_call 58
  refine (HX0.out r 0 W0 K0.out.1).mono ?_
  rw [HX.out]
  rintro e W1 ⟨rfl, hS, hK⟩
  obtain ⟨g1, hg1⟩ : ∃ g1, W1.heap.size = g1 := ⟨_, rfl⟩
  have hlt01 : g0 < g1 := by have := HH0.out; have := hK.size; omega
  have n01 : g0 ≠ g1 := by omega
  have n1 : gr ≠ g1 := by omega
  have nb1 : bw ≠ g1 := by omega
  have h81 : 8 ≤ g1 := by omega
  have hw1 : w.heap.size ≤ g1 := by omega
  have hA : Below W1.heap.size W1 (W1.alloc (.cells #[.int .i64 0, .int .i64 0, .int .i64 0, .int .i64 0, .int .i64 0, .int .i64 0, .int .i64 0, .int .i64 0, .int .i64 0, .int .i64 0, .int .i64 0, .int .i64 0, .int .i64 0, .int .i64 0, .int .i64 0, .int .i64 0, .int .i64 0, .slice none 0 0, .slice none 0 0, .slice none 0 0, .int .i64 0, .int .i64 0, .string ⟨#[]⟩, .string ⟨#[]⟩, .string ⟨#[]⟩, .string ⟨#[]⟩, .slice none 0 0, .string ⟨#[]⟩, .string ⟨#[]⟩, .string ⟨#[]⟩, .int .i64 0, .string ⟨#[]⟩, .slice none 0 0, .int .i64 0, .int .i64 0, .int .i64 0, .int .i64 0, .int .i64 0, .int .i64 0, .string ⟨#[]⟩, .int .i64 0, .bool false] 47)) := bel1 _ _
  have HJ : Hid (BlJ 47 cmZ gr bw g0 g1 w r1 #[.int .i64 0, .int .i64 0, .int .i64 0, .int .i64 0, .int .i64 0, .int .i64 0, .int .i64 0, .int .i64 0, .int .i64 0, .int .i64 0, .int .i64 0, .int .i64 0, .int .i64 0, .int .i64 0, .int .i64 0, .int .i64 0, .int .i64 0, .slice none 0 0, .slice none 0 0, .slice none 0 0, .int .i64 0, .int .i64 0, .string ⟨#[]⟩, .string ⟨#[]⟩, .string ⟨#[]⟩, .string ⟨#[]⟩, .slice none 0 0, .string ⟨#[]⟩, .string ⟨#[]⟩, .string ⟨#[]⟩, .int .i64 0, .string ⟨#[]⟩, .slice none 0 0, .int .i64 0, .int .i64 0, .int .i64 0, .int .i64 0, .int .i64 0, .int .i64 0, .string ⟨#[]⟩, .int .i64 0, .bool false] (W1.alloc (.cells #[.int .i64 0, .int .i64 0, .int .i64 0, .int .i64 0, .int .i64 0, .int .i64 0, .int .i64 0, .int .i64 0, .int .i64 0, .int .i64 0, .int .i64 0, .int .i64 0, .int .i64 0, .int .i64 0, .int .i64 0, .int .i64 0, .int .i64 0, .slice none 0 0, .slice none 0 0, .slice none 0 0, .int .i64 0, .int .i64 0, .string ⟨#[]⟩, .string ⟨#[]⟩, .string ⟨#[]⟩, .string ⟨#[]⟩, .slice none 0 0, .string ⟨#[]⟩, .string ⟨#[]⟩, .string ⟨#[]⟩, .int .i64 0, .string ⟨#[]⟩, .slice none 0 0, .int .i64 0, .int .i64 0, .int .i64 0, .int .i64 0, .int .i64 0, .int .i64 0, .string ⟨#[]⟩, .int .i64 0, .bool false] 47))) := hid ⟨hS.below hA, Kr.tr (Kr.tr K0.out.2.1 hK) (Ks.of_below hA), by rw [heap_al, if_pos hg1.symm], (hA.block _ (by omega)).trans ((hK.block _ HH0.out (fun e => n0 e.symm)).trans K0.out.2.2)⟩
  have HG1 := hid hg1
  have HKO := hid (kindOf_any nm W1 hS.env)
  rw [HKK.out, HI.out] at HKO
  clear hA hS hK hg1 K0
  go_wp2_with fail
  go_at_call 59
  refine HKO.out.mono ?_
  rintro e Vx ⟨rfl, e2⟩
  subst e2
  go_upto_region 3 with (refine wpList_store_blj HJ.out n01 n1 nb1 h81 hw1 rfl 47 (.tmp 4) (.tmp 9) rfl 0 (cmK kI) (by rw [← HG1.out]; rfl) rfl (by kernel_rfl) (Nat.le_refl _) rfl (cmK kI) rfl ?_; intro V HJ1 hks1)
  try rw [HG1.out]
  replace HJ1 := hid HJ1
  have c0 := cell_blk HJ1.out.b1 0
  have l1 := heap_lt HJ1.out.b1
  have f1 := frozen_blk HJ1.out.b1
  rw [show (cmK kI)[0]? = some (.int .i64 kI) from rfl] at c0
  by_cases e1 : kI = 1
  · subst e1
    have HC := hid (cm_1 r r1 nm HX.out (by have := HKK.out; have := HI.out; omega))
    go_wp2_with fail
    go_at_call 60
    refine (HE.out _ _ HJ1.out.rd).mono ?_
    rintro e W2 ⟨rfl, hS, hK⟩
    have HJ2 := hid (HJ1.out.call n0 n1 hS hK)
    clear hS hK
    go_wp2_with fail
    go_at_call 61
    refine ((HWO.out (by have := HKK.out; have := HI.out; omega)) _ _ HJ2.out.rd (Nat.le_trans (nx_le r1 2) HL.out)).mono ?_
    rintro e W3 ⟨sp, su, so, rfl, hW, hS, hK⟩
    have HJ3 := hid (HJ2.out.call n0 n1 hS hK)
    replace hW := hW.mono (Nat.le_trans hw1 (Nat.le_of_lt (heap_lt HJ2.out.b1)))
    go_upto_region 15 with (refine wpList_store_blj HJ3.out n01 n1 nb1 h81 hw1 rfl 45 (.tmp 18) (.tmp 17) rfl 1 (woA r1.el.wo.1 sp su so) (by first | rfl | (rw [← HG1.out]; rfl)) rfl (by kernel_rfl) (Nat.le_of_ble_eq_true rfl) rfl (cmA { Cm.of 1 with w := r1.el.wo.1 } ⟨sp, su, so, Sl.z, Sl.z⟩) rfl ?_; intro V4 HJ4 hks4; replace HJ4 := hid HJ4)
    have HW4 := hid (hW.stay (HJ3.out.stay hgl (ks_g1 hks4)) (by decide) (by decide) (by decide) (by decide) (by decide))
    go_wp2_with fail
    go_at_call 60
    refine (HE.out _ _ HJ4.out.rd).mono ?_
    rintro e V7 ⟨rfl, hS7, hK7⟩
    have HJ7 := hid (HJ4.out.call n0 n1 hS7 hK7)
    go_wp2_with (first
      | (refine wpList_load_row rfl 47 (.tmp 4) rfl g1 (by first | rfl | (rw [← HG1.out]; rfl)) 47 _ (0, 0) _ HJ7.out.b1 Tryz.underlying47 rfl (by kernel_rfl) ?_)
      | (refine wpList_fin_blj HJ7.out n0 nb0 h8 hw0 rfl (.tmp 2) (.tmp 43) rfl rfl rfl (by kernel_rfl) (Nat.le_refl _) rfl (cmA { Cm.of 1 with w := r1.el.wo.1 } ⟨sp, su, so, Sl.z, Sl.z⟩) rfl ?_; intro V9 f1 f2 f3 fk))
    refine bodyPost_ret (results_cell_row (p := 2) (ty := 47) rfl _ _ g0 47 _ (0, 0) _ rfl f3 Tryz.underlying47 rfl (by kernel_rfl)) rfl ?_
    rw [HC.out]
    exact ⟨⟨sp, su, so, Sl.z, Sl.z⟩, rfl, (by first | (rw [← HG0.out]; exact ⟨(HW4.out.stay (HJ4.out.stay hgl (ks_gr hK7)) (by decide) (by decide) (by decide) (by decide) (by decide)).stay (HJ7.out.stay hgl (ks_g0 fk)) (by decide) (by decide) (by decide) (by decide) (by decide), R.nil _ _, R.nil _ _, Own.z _, Own.z _⟩) | exact ⟨(HW4.out.stay (HJ4.out.stay hgl (ks_gr hK7)) (by decide) (by decide) (by decide) (by decide) (by decide)).stay (HJ7.out.stay hgl (ks_g0 fk)) (by decide) (by decide) (by decide) (by decide) (by decide), R.nil _ _, R.nil _ _, Own.z _, Own.z _⟩), f1, f2⟩
  by_cases e3 : kI = 3
  · subst e3
    have HC := hid (cm_3 r r1 nm HX.out (by have := HKK.out; have := HI.out; omega))
    go_wp2_with fail
    go_at_call 62
    refine (HN.out _ _ HJ1.out.rd).mono ?_
    rintro e W2 ⟨rfl, hS, hK⟩
    have HJ3 := hid (HJ1.out.call n0 n1 hS hK)
    have HJ5 := hid (HJ3.out.setCell n01 n1 nb1 h81 hw1 40 (.int .i64 r1.nu.1))
    rw [show (cmK 3).setIfInBounds 40 (.int .i64 r1.nu.1) = cmA { Cm.of 3 with n := r1.nu.1 } CmS.z from rfl] at HJ5
    have a1 := cell_blk HJ3.out.b1 40
    have l2 := heap_lt HJ3.out.b1
    have f2 := frozen_blk HJ3.out.b1
    rw [show (cmK 3)[40]? = some (.int .i64 0) from rfl] at a1
    go_wp2_with fail
    go_at_call 60
    refine (HE.out _ _ HJ5.out.rd).mono ?_
    rintro e V7 ⟨rfl, hS7, hK7⟩
    have HJ7 := hid (HJ5.out.call n0 n1 hS7 hK7)
    go_wp2_with (first
      | (refine wpList_load_row rfl 47 (.tmp 4) rfl g1 (by first | rfl | (rw [← HG1.out]; rfl)) 47 _ (0, 0) _ HJ7.out.b1 Tryz.underlying47 rfl (by kernel_rfl) ?_)
      | (refine wpList_fin_blj HJ7.out n0 nb0 h8 hw0 rfl (.tmp 2) (.tmp 43) rfl rfl rfl (by kernel_rfl) (Nat.le_refl _) rfl (cmA { Cm.of 3 with n := r1.nu.1 } CmS.z) rfl ?_; intro V9 f1 f2 f3 fk))
    refine bodyPost_ret (results_cell_row (p := 2) (ty := 47) rfl _ _ g0 47 _ (0, 0) _ rfl f3 Tryz.underlying47 rfl (by kernel_rfl)) rfl ?_
    rw [HC.out]
    exact ⟨CmS.z, rfl, (by first | (rw [← HG0.out]; exact ⟨WoN.z _ _, R.nil _ _, R.nil _ _, Own.z _, Own.z _⟩) | exact ⟨WoN.z _ _, R.nil _ _, R.nil _ _, Own.z _, Own.z _⟩), f1, f2⟩
  by_cases e10 : kI = 10
  · subst e10
    go_wp2_with fail
    go_at_call 63
    have HQ := hid (HK.out _ nServer _ HJ1.out.rd)
    cases hsv : (r1.sk nServer).1 with
    | true =>
      have HC := hid (cm_10 r r1 nm HX.out (by have := HKK.out; have := HI.out; omega))
      rw [hsv] at HC HQ
      refine HQ.out.mono ?_
      rintro e W2 ⟨rfl, hS, hK⟩
      have HJ3 := hid (HJ1.out.call n0 n1 hS hK)
      have HJ5 := hid (HJ3.out.setCell n01 n1 nb1 h81 hw1 41 (.bool true))
      rw [show (cmK 10).setIfInBounds 41 (.bool true) = cmA { Cm.of 10 with sv := true } CmS.z from rfl] at HJ5
      have a1 := cell_blk HJ3.out.b1 41
      have l2 := heap_lt HJ3.out.b1
      have f2 := frozen_blk HJ3.out.b1
      have a3 := cell_blk HJ5.out.b1 41
      have f3 := frozen_blk HJ5.out.b1
      have l3 := heap_lt HJ5.out.b1
      rw [show (cmK 10)[41]? = some (.bool false) from rfl] at a1
      rw [show (cmA { Cm.of 10 with sv := true } CmS.z)[41]? = some (.bool true) from rfl] at a3
      go_wp2_with fail
      go_at_call 60
      refine (HE.out _ _ HJ5.out.rd).mono ?_
      rintro e V7 ⟨rfl, hS7, hK7⟩
      have HJ7 := hid (HJ5.out.call n0 n1 hS7 hK7)
      go_wp2_with (first
        | (refine wpList_load_row rfl 47 (.tmp 4) rfl g1 (by first | rfl | (rw [← HG1.out]; rfl)) 47 _ (0, 0) _ HJ7.out.b1 Tryz.underlying47 rfl (by kernel_rfl) ?_)
        | (refine wpList_fin_blj HJ7.out n0 nb0 h8 hw0 rfl (.tmp 2) (.tmp 43) rfl rfl rfl (by kernel_rfl) (Nat.le_refl _) rfl (cmA { Cm.of 10 with sv := true } CmS.z) rfl ?_; intro V9 f1 f2 f3 fk))
      refine bodyPost_ret (results_cell_row (p := 2) (ty := 47) rfl _ _ g0 47 _ (0, 0) _ rfl f3 Tryz.underlying47 rfl (by kernel_rfl)) rfl ?_
      rw [HC.out]
      exact ⟨CmS.z, rfl, (by first | (rw [← HG0.out]; exact ⟨WoN.z _ _, R.nil _ _, R.nil _ _, Own.z _, Own.z _⟩) | exact ⟨WoN.z _ _, R.nil _ _, R.nil _ _, Own.z _, Own.z _⟩), f1, f2⟩
    | false =>
      have HC := hid (cm_10 r r1 nm HX.out (by have := HKK.out; have := HI.out; omega))
      rw [hsv] at HC HQ
      refine HQ.out.mono ?_
      rintro e W2 ⟨rfl, hS, hK⟩
      have HJ3 := hid (HJ1.out.call n0 n1 hS hK)
      have HJ5 := hid (HJ3.out.setCell n01 n1 nb1 h81 hw1 41 (.bool false))
      rw [show (cmK 10).setIfInBounds 41 (.bool false) = cmA { Cm.of 10 with sv := false } CmS.z from rfl] at HJ5
      have a1 := cell_blk HJ3.out.b1 41
      have l2 := heap_lt HJ3.out.b1
      have f2 := frozen_blk HJ3.out.b1
      have a3 := cell_blk HJ5.out.b1 41
      have f3 := frozen_blk HJ5.out.b1
      have l3 := heap_lt HJ5.out.b1
      rw [show (cmK 10)[41]? = some (.bool false) from rfl] at a1
      rw [show (cmA { Cm.of 10 with sv := false } CmS.z)[41]? = some (.bool false) from rfl] at a3
      have HSN : Hid ((r1.sk nServer).2 = r1) := hid (by
        obtain ⟨l, bd⟩ := r1
        cases l with
        | nil => rfl
        | cons x l =>
          unfold Rd.sk at hsv ⊢
          simp only at hsv ⊢
          split at hsv
          · cases hsv
          · rename_i hh; rw [if_neg hh])
      go_wp2_with fail
      go_at_call 64
      refine (HM.out _ _ _ HJ5.out.rd).mono ?_
      rintro e W4 ⟨rfl, hS4, hK4⟩
      rw [HSN.out] at hS4
      have HJ6 := hid (HJ5.out.call n0 n1 hS4 hK4)
      go_wp2_with fail
      go_at_call 60
      refine (HE.out _ _ HJ6.out.rd).mono ?_
      rintro e V7 ⟨rfl, hS7, hK7⟩
      have HJ7 := hid (HJ6.out.call n0 n1 hS7 hK7)
      go_wp2_with (first
        | (refine wpList_load_row rfl 47 (.tmp 4) rfl g1 (by first | rfl | (rw [← HG1.out]; rfl)) 47 _ (0, 0) _ HJ7.out.b1 Tryz.underlying47 rfl (by kernel_rfl) ?_)
        | (refine wpList_fin_blj HJ7.out n0 nb0 h8 hw0 rfl (.tmp 2) (.tmp 43) rfl rfl rfl (by kernel_rfl) (Nat.le_refl _) rfl (cmA { Cm.of 10 with sv := false } CmS.z) rfl ?_; intro V9 f1 f2 f3 fk))
      refine bodyPost_ret (results_cell_row (p := 2) (ty := 47) rfl _ _ g0 47 _ (0, 0) _ rfl f3 Tryz.underlying47 rfl (by kernel_rfl)) rfl ?_
      rw [HC.out]
      exact ⟨CmS.z, rfl, (by first | (rw [← HG0.out]; exact ⟨WoN.z _ _, R.nil _ _, R.nil _ _, Own.z _, Own.z _⟩) | exact ⟨WoN.z _ _, R.nil _ _, R.nil _ _, Own.z _, Own.z _⟩), f1, f2⟩
  by_cases e0 : kI = 0
  · subst e0
    have HC := hid (cm_0 r r1 nm HX.out (by have := HKK.out; have := HI.out; omega))
    go_wp2_with fail
    go_at_call 65
    refine (HV.out _ nm _ HJ1.out.rd HL.out).mono ?_
    rintro e W2 ⟨sf, sc, rfl, q1, q2, q3, q4, hS, hK⟩
    have HJ3 := hid (HJ1.out.call n0 n1 hS hK)
    replace q3 := q3.mono (Nat.le_trans hw1 (Nat.le_of_lt (heap_lt HJ1.out.b1)))
    replace q4 := q4.mono (Nat.le_trans hw1 (Nat.le_of_lt (heap_lt HJ1.out.b1)))
    have HJ4 := hid (HJ3.out.setCell n01 n1 nb1 h81 hw1 0 (.int .i64 2))
    rw [show (cmK 0).setIfInBounds 0 (.int .i64 2) = cmK 2 from rfl] at HJ4
    have a1 := cell_blk HJ3.out.b1 0
    have l2 := heap_lt HJ3.out.b1
    have f2 := frozen_blk HJ3.out.b1
    rw [show (cmK 0)[0]? = some (.int .i64 0) from rfl] at a1
    have hks3 := Ks.setCell (fun k => k = g1) W2 g1 0 (.int .i64 2) rfl
    go_upto_region 15 with (refine wpList_store_blj HJ4.out n01 n1 nb1 h81 hw1 rfl 38 (.tmp 40) (.tmp 38) rfl 20 (mvA (r1.mv nm).1 sf.v sc.v) (by first | rfl | (rw [← HG1.out]; rfl)) rfl (by kernel_rfl) (Nat.le_of_ble_eq_true rfl) rfl (cmA { Cm.of 2 with m := (r1.mv nm).1 } ⟨Sl.z, Sl.z, Sl.z, sf, sc⟩) rfl ?_; intro V5 HJ5 hks5; replace HJ5 := hid HJ5)
    have HS5 := hid ((HJ3.out.stay hgl (ks_g1 hks3)).tr (HJ4.out.stay hgl (ks_g1 hks5)))
    go_wp2_with fail
    go_at_call 60
    refine (HE.out _ _ HJ5.out.rd).mono ?_
    rintro e V7 ⟨rfl, hS7, hK7⟩
    have HJ7 := hid (HJ5.out.call n0 n1 hS7 hK7)
    go_wp2_with (first
      | (refine wpList_load_row rfl 47 (.tmp 4) rfl g1 (by first | rfl | (rw [← HG1.out]; rfl)) 47 _ (0, 0) _ HJ7.out.b1 Tryz.underlying47 rfl (by kernel_rfl) ?_)
      | (refine wpList_fin_blj HJ7.out n0 nb0 h8 hw0 rfl (.tmp 2) (.tmp 43) rfl rfl rfl (by kernel_rfl) (Nat.le_refl _) rfl (cmA { Cm.of 2 with m := (r1.mv nm).1 } ⟨Sl.z, Sl.z, Sl.z, sf, sc⟩) rfl ?_; intro V9 f1 f2 f3 fk))
    refine bodyPost_ret (results_cell_row (p := 2) (ty := 47) rfl _ _ g0 47 _ (0, 0) _ rfl f3 Tryz.underlying47 rfl (by kernel_rfl)) rfl ?_
    rw [HC.out]
    exact ⟨⟨Sl.z, Sl.z, Sl.z, sf, sc⟩, rfl, (by first | (rw [← HG0.out]; exact (by have HS9 := (HS5.out.tr (HJ5.out.stay hgl (ks_gr hK7))).tr (HJ7.out.stay hgl (ks_g0 fk)); exact ⟨WoN.z _ _, HS9.r q1 q3 (by decide), HS9.r q2 q4 (by decide), q3, q4⟩)) | exact (by have HS9 := (HS5.out.tr (HJ5.out.stay hgl (ks_gr hK7))).tr (HJ7.out.stay hgl (ks_g0 fk)); exact ⟨WoN.z _ _, HS9.r q1 q3 (by decide), HS9.r q2 q4 (by decide), q3, q4⟩)), f1, f2⟩
  have HC := hid (cm_n r r1 nm K HX.out HKK.out (by have := HI.out; omega) (by have := HI.out; omega) (by have := HI.out; omega) (by have := HI.out; omega))
  rw [HI.out] at HC
  have d1 : (kI == 1) = false := by simpa using e1
  have d3 : (kI == 3) = false := by simpa using e3
  have d10 : (kI == 10) = false := by simpa using e10
  have d0 : (kI == 0) = false := by simpa using e0
  go_wp2_with fail
  go_at_call 60
  refine (HE.out _ _ HJ1.out.rd).mono ?_
  rintro e V7 ⟨rfl, hS7, hK7⟩
  have HJ7 := hid (HJ1.out.call n0 n1 hS7 hK7)
  go_wp2_with (first
    | (refine wpList_load_row rfl 47 (.tmp 4) rfl g1 (by first | rfl | (rw [← HG1.out]; rfl)) 47 _ (0, 0) _ HJ7.out.b1 Tryz.underlying47 rfl (by kernel_rfl) ?_)
    | (refine wpList_fin_blj HJ7.out n0 nb0 h8 hw0 rfl (.tmp 2) (.tmp 43) rfl rfl rfl (by kernel_rfl) (Nat.le_refl _) rfl (cmA (Cm.of kI) CmS.z) rfl ?_; intro V9 f1 f2 f3 fk))
  refine bodyPost_ret (results_cell_row (p := 2) (ty := 47) rfl _ _ g0 47 _ (0, 0) _ rfl f3 Tryz.underlying47 rfl (by kernel_rfl)) rfl ?_
  rw [HC.out]
  exact ⟨CmS.z, rfl, (by first | (rw [← HG0.out]; exact ⟨WoN.z _ _, R.nil _ _, R.nil _ _, Own.z _, Own.z _⟩) | exact ⟨WoN.z _ _, R.nil _ _, R.nil _ _, Own.z _, Own.z _⟩), f1, f2⟩
end Go.Proofs.YtghppkfopglgaaaGreatDoor
namespace Go.Proofs.YtghppkfopglgaaaGreatDoor
open Go.RowKit
set_option linter.unusedVariables false
set_option linter.unusedSimpArgs false
def Sb (a b : Rd) : Prop := ∀ x ∈ a.l, x ∈ b.l
theorem Sb.refl (a : Rd) : Sb a a := fun _ h => h
theorem Sb.tr {a b c : Rd} (h : Sb a b) (k : Sb b c) : Sb a c := fun x hx => k x (h x hx)
theorem Sb.no (a : Rd) : Sb Rd.no a := fun x hx => absurd hx (by simp [Rd.no])
theorem nx_sb (r : Rd) (k : Nat) : Sb (r.nx k).2 r := by
  unfold Rd.nx
  split
  · exact Sb.no r
  · split
    · rename_i h _; intro x hx; rw [h]; exact List.mem_cons_of_mem _ hx
    · exact Sb.no r
theorem nu_sb (r : Rd) : Sb r.nu.2 r := by
  unfold Rd.nu
  split
  · exact nx_sb r 0
  · exact Sb.no r
theorem sk_sb (r : Rd) (s : ByteArray) : Sb (r.sk s).2 r := by
  unfold Rd.sk
  split
  · exact Sb.refl _
  · split
    · rename_i h _; intro x hx; rw [h]; exact List.mem_cons_of_mem _ hx
    · exact Sb.refl _
theorem nm_sb (r : Rd) (s : ByteArray) : Sb (r.nm s) r := by
  unfold Rd.nm
  split
  · exact sk_sb r s
  · exact Sb.no r
theorem loop_sb {α : Type} {f : Rd → Option (α × Rd)} (h : ∀ r x r1, f r = some (x, r1) → Sb r1 r) : ∀ (n : Nat) (r : Rd), Sb (loopR f n r).2 r
  | 0, r => Sb.refl _
  | n + 1, r => by
    unfold loopR
    cases e : f r with
    | none => exact Sb.refl _
    | some p => exact (loop_sb h n p.2).tr (h r p.1 p.2 e)
theorem lp_sb {α : Type} {f : Rd → Option (α × Rd)} (h : ∀ r x r1, f r = some (x, r1) → Sb r1 r) (r : Rd) : Sb (lpS f r).2 r := loop_sb h _ r
theorem fd_sb : ∀ r x r1, fdR r = some (x, r1) → Sb r1 r := fun r x r1 h => by
  unfold fdR at h
  split at h
  · cases h
  · simp only [Option.some.injEq, Prod.mk.injEq] at h
    obtain ⟨_, rfl⟩ := h
    exact (nx_sb _ 1).tr ((nx_sb _ 1).tr (sk_sb r _))
theorem ch_sb : ∀ r x r1, chR r = some (x, r1) → Sb r1 r := fun r x r1 h => by
  unfold chR at h
  split at h
  · cases h
  · simp only [Option.some.injEq, Prod.mk.injEq] at h
    obtain ⟨_, rfl⟩ := h
    exact (nx_sb _ 1).tr (nx_sb r 1)
theorem pg_sb (r : Rd) : Sb r.pg.2 r := (lp_sb ch_sb (((r.nx 1).2.nx 1).2.nu.2.nx 1).2).tr ((nx_sb _ 1).tr ((nu_sb _).tr ((nx_sb _ 1).tr (nx_sb r 1))))
theorem rq_sb (r : Rd) : Sb r.rq.2 r := (lp_sb fd_sb (((((r.nx 1).2.nx 1).2.nx 1).2.nx 1).2.nx 1).2).tr ((nx_sb _ 1).tr ((nx_sb _ 1).tr ((nx_sb _ 1).tr ((nx_sb _ 1).tr (nx_sb r 1)))))
theorem si_sb (r : Rd) : Sb r.si.2 r := (nu_sb _).tr ((nu_sb _).tr ((nu_sb _).tr ((nu_sb _).tr ((nu_sb _).tr (nu_sb r)))))
set_option maxRecDepth 100000 in
theorem mv_sb (r : Rd) (s : ByteArray) : Sb (r.mv s).2 r := by
  unfold Rd.mv
  split
  · exact Sb.no r
  · exact rq_sb r
  · exact pg_sb r
  · exact si_sb r
  · exact (nx_sb _ 1).tr (nu_sb r)
  · exact nu_sb r
/-- no word begins a world -/
def NoW (l : List Wd) : Prop := ∀ x ∈ l, x.k = 0 → kindOf x.t ≠ 1
theorem noW_nx {r : Rd} (h : NoW r.l) : kindOf (r.nx 0).1 ≠ 1 := by
  unfold Rd.nx
  split
  · decide +kernel
  · split
    · rename_i hl hk
      exact h _ (by rw [hl]; exact List.mem_cons_self ..) hk
    · decide +kernel
set_option maxRecDepth 100000 in
theorem noW_cm {r : Rd} (h : NoW r.l) : NoW r.cm.2.l := by
  have hn := noW_nx h
  have : Sb r.cm.2 r := by
    refine (nx_sb r.cm1.2 2).tr ?_
    have h0 := nx_sb r 0
    unfold Rd.cm1
    simp only
    split
    · exact (mv_sb _ _).tr h0
    · rename_i e; exact absurd e hn
    · exact (nu_sb _).tr h0
    · show Sb (if ((r.nx 0).2.sk nServer).1 = true then ((r.nx 0).2.sk nServer).2 else (r.nx 0).2.nm nClient) r
      split
      · exact (sk_sb _ _).tr h0
      · exact (nm_sb _ _).tr h0
    · exact h0
  exact fun x hx => h x (this x hx)
end Go.Proofs.YtghppkfopglgaaaGreatDoor
namespace Go.Proofs.YtghppkfopglgaaaGreatDoor
open Go.RowKit
set_option linter.unusedVariables false
set_option linter.unusedSimpArgs false
/-- a slice literal of one struct -/
theorem wpList_build_one {P : Program} {ops : Array Oper} {rest : List Oper} {o : Oper} {a : Act} {w : World} {Q : Exit → Act → World → Prop} (hg : o.guard = none) (t e : TypeId) (x : Operand) (ho : o.op = .buildSlice t 1 #[(0, x)])
    (cs : Array Value) (hx : a.eval x = .agg cs) (hu : P.underlying t = some (.slice e)) (hi : (P.info? e).map (fun i => (i.size, i.zero.isSome)) = some (cs.size, true)) (hpos : 0 < cs.size) (hle : cs.size ≤ 2 ^ 24)
    (h : wpList P ops Q rest (a.put o.dst (.slice (some ⟨w.heap.size, 0, none⟩) 1 1)) (w.alloc (.cells cs e))) : wpList P ops Q (o :: rest) a w := by
  cases hie : P.info? e with
  | none => simp [hie] at hi
  | some ie =>
    simp only [hie, Option.map_some, Option.some.injEq, Prod.mk.injEq] at hi
    obtain ⟨hsz, hz⟩ := hi
    obtain ⟨z, hzz⟩ := Option.isSome_iff_exists.1 hz
    refine wpList_buildSlice hg t e 1 _ ho cs ie z hu hie hzz (by rw [hsz]; omega) (by rw [hsz]; omega) ?_ h
    have := Great.fill_whole (s := cs.size) hpos [.agg cs] ((Array.range (1 * ie.size)).map (z.cells[· % z.cells.size]!)) (fun v hv => by rw [List.mem_singleton] at hv; subst hv; rfl) (by simp [hsz])
    simp only [hx, List.map_toArray, List.map_cons, List.map_nil] at this ⊢
    rw [hsz] at this ⊢
    simpa [Value.cells] using this
theorem Stay.of_below {B t : Nat} {W W' : World} (h : Below W.heap.size W W') : Stay B t W W' := fun k c t' _ hc _ => h.block k (heap_lt hc)
/-- behind some commands -/
structure CJ (gr bw : Nat) (w : World) (r0 : Rd) (W : World) (rr : Rd) (v : Value) (cs : List (Cm × CmS)) : Prop where
  eq : lpS cmR r0 = (cs.map (·.1) ++ (lpS cmR rr).1, (lpS cmR rr).2)
  rd : RdS gr bw rr W
  bel : Below gr w W
  row : R ECm W v cs
  own : ∀ k, v.ownBlock = some k → gr < k
  nest : ∀ x ∈ cs, CmN W (gr + 1) x
  len : cs.length + rr.l.length ≤ 1073741824
theorem CJ.put {gr bw : Nat} {w : World} {r0 : Rd} {W : World} {rr : Rd} {v : Value} {cs : List (Cm × CmS)} (h : CJ gr bw w r0 W rr v cs) (hw : gr = w.heap.size) (hbg : bw < gr) (hne : rr.l ≠ []) {V : World} {s : CmS} (hN : CmN V W.heap.size (rr.cm.1, s)) (hS : RdS gr bw rr.cm.2 V) (hK : Kr gr W V) :
    ∃ base cap V', (Builtin.append_ #[25, 25] 25 #[v, .slice (some ⟨V.heap.size, 0, none⟩) 1 1]).run Tryz.prog (V.alloc (.cells (cmA rr.cm.1 s) 47)) = .ok (.slice base (cs.length + 1) cap) V' ∧ CJ gr bw w r0 V' rr.cm.2 (.slice base (cs.length + 1) cap) (cs ++ [(rr.cm.1, s)]) := by
  obtain ⟨V2, hV2⟩ : ∃ V2, V.alloc (.cells (cmA rr.cm.1 s) 47) = V2 := ⟨_, rfl⟩
  have b2 : Below V.heap.size V V2 := by rw [← hV2]; exact bel1 _ _
  have g2 : V2.heap[V.heap.size]? = some (.cells (cmA rr.cm.1 s) 47 (0, 0)) := by rw [← hV2, heap_al, if_pos rfl]
  have hgW : gr < W.heap.size := h.rd.lt
  have r1 : R ECm V v cs := h.row.stays fun k e hl => hK.block k hl (by have := h.own k e; omega)
  have hsh : rr.cm.2.l.length < rr.l.length := cm_shr rr rr.cm.1 rr.cm.2 (by
    unfold cmR
    cases e : rr.l with
    | nil => exact absurd e hne
    | cons a b => rfl)
  obtain ⟨base, cap, V', hrun, hR, hG⟩ := app okCm V2 v cs (r1.below b2) (.slice (some ⟨V.heap.size, 0, none⟩) 1 1) [(rr.cm.1, s)] (in_one (E := ECm) V2 _ (rr.cm.1, s) _ 47 (0, 0) g2 rfl) (by
    have := h.len
    rw [show ECm.by' = 488 from rfl]
    simp only [List.length_cons, List.length_nil]
    omega)
  have hk := Ks.of_gr hG
  have kk : ∀ k, v.ownBlock = some k → k ≠ gr ∧ k ≠ bw ∧ 8 ≤ k := fun k e => by
    have h1 := h.own k e
    have h2 := h.rd.g8
    exact ⟨by omega, by omega, by omega⟩
  have st1 : Stay (gr + 1) 111 W V := fun k c t' hB hc ht => hK.block k (heap_lt hc) (by omega)
  have st3 : Stay (gr + 1) 47 V2 V' := fun k c t' hB hc ht => hk.block k (heap_lt hc) (fun e => by
    obtain ⟨c', hc'⟩ := (r1.below b2).ty k e
    rw [hc] at hc'
    injection hc' with q
    injection q with q1 q2
    exact ht q2)
  have hbel : Below gr w V' := ((h.bel.trans (hK.below (Nat.le_of_lt hgW) (fun i hi => by omega))).trans (b2.mono (by have := hK.size; omega))).trans (hk.below (by have := hK.size; have := b2.size; omega) (fun i hi e => by have := h.own i e; omega))
  rw [hV2]
  refine ⟨base, cap, V', hrun, ⟨?_, (hS.below b2).offs kk hk, hbel, hR, fun k e => (hG.own k e).elim (h.own k) fun q => by have := hK.size; have := b2.size; omega, fun x hx => ?_, ?_⟩⟩
  · rw [List.map_append]
    exact lp_go cm_shr h.eq (by
      unfold cmR
      cases e : rr.l with
      | nil => exact absurd e hne
      | cons a b => rfl)
  · rcases List.mem_append.1 hx with hx | hx
    · exact (((h.nest x hx).stay st1 (by decide) (by decide) (by decide) (by decide) (by decide) (by decide)).stay (t := 47) (Stay.of_below b2) (by decide) (by decide) (by decide) (by decide) (by decide) (by decide)).stay st3 (by decide) (by decide) (by decide) (by decide) (by decide) (by decide)
    · rw [List.mem_singleton] at hx
      subst hx
      exact ((hN.mono (by omega)).stay (t := 47) (Stay.of_below b2) (by decide) (by decide) (by decide) (by decide) (by decide) (by decide)).stay st3 (by decide) (by decide) (by decide) (by decide) (by decide) (by decide)
  · have := h.len
    simp
    omega
theorem cms_eq (l : List Wd) : cmsL l = ((lpS cmR ⟨l, false⟩).1, !(lpS cmR ⟨l, false⟩).2.bad) := rfl
set_option maxRecDepth 100000 in
set_option maxHeartbeats 8000000 in
theorem commandsOf_any (bw : Nat) (sl : Value) (l : List Wd) (w : World) (hE : Env w) (hI : InB bw w sl l) (hsm : ∀ x ∈ l, x.t.size ≤ 1048576) (hlb : bw < w.heap.size) (hlen : l.length ≤ 1073741824) (hwo : (∀ gr, WorldOk gr bw) ∨ NoW l) :
    Calls Tryz.prog 25 #[sl] w fun e w' => ∃ v, e = .returned (.tuple #[v, .bool (cmsL l).2]) ∧ ∃ cs : List (Cm × CmS), cs.map (·.1) = (cmsL l).1 ∧ R ECm w' v cs ∧ Own w.heap.size v ∧ (∀ x ∈ cs, CmN w' w.heap.size x) ∧ Below w.heap.size w w' := by
  obtain ⟨sb, sn, sc, rfl⟩ : ∃ b n c, sl = .slice b n c := by
    rcases hI with ⟨b, c, e, _⟩ | ⟨o, c, e, _⟩ <;> exact ⟨_, _, _, e⟩
  obtain ⟨gr, hgr⟩ : ∃ gr, w.heap.size = gr := ⟨_, rfl⟩
  obtain ⟨W0, hW0⟩ : ∃ W0, w.alloc (.cells #[.slice sb sn sc, .bool false] 111) = W0 := ⟨_, rfl⟩
  have b0 : Below w.heap.size w W0 := by rw [← hW0]; exact bel1 _ _
  have q0 : W0.heap[gr]? = some (.cells #[.slice sb sn sc, .bool false] 111 (0, 0)) := by rw [← hW0, heap_al, if_pos hgr.symm]
  have hg8 : 8 ≤ gr := by have := hE.sz; omega
  have hS0 : RdS gr bw ⟨l, false⟩ W0 := ⟨by omega, hg8, hE.of b0.size fun k hk => b0.block k (by omega), hsm, by have := b0.size; omega, .slice sb sn sc, q0, by
    rcases hI with h | ⟨off, cap, h1, h2, h3, h4, h5⟩
    · exact .inl h
    · refine .inr ⟨off, cap, h1, h2, h3, h4, fun j u hu => ?_⟩
      rw [← h5 j u hu]
      unfold World.cell?
      simp only
      rw [b0.block bw hlb]⟩
  have HJ0 : Hid (CJ gr bw w ⟨l, false⟩ W0 ⟨l, false⟩ (.slice none 0 0) []) := hid ⟨rfl, hS0, hgr ▸ b0, R.nil _ _, fun k hk => absurd hk (by simp [Value.ownBlock]), fun x hx => absurd hx (by simp), by simpa using hlen⟩
  have HNW0 : Hid ((∀ gr, WorldOk gr bw) ∨ NoW l) := hid hwo
  have hbg : bw < gr := by omega
  have HC := hid (command_any gr bw)
  have HG := hid hgr
  have HW0 := hid hW0
  clear hE hI hsm hlen b0 q0 hS0 hgr hW0 hwo hlb
  go_enter Tryz.func25, Tryz.ntmps25
  go_wp2_with fail
  try rw [HG.out]
  try rw [HW0.out]
  go_loopw [5] (fun v wr => ∃ (rr : Rd) (cs : List (Cm × CmS)), Hid (CJ gr bw w ⟨l, false⟩ wr rr v cs ∧ ((∀ gr, WorldOk gr bw) ∨ NoW rr.l))) (fun _ wr => rdLen gr wr)
  case atStart => exact ⟨⟨l, false⟩, [], hid ⟨HJ0.out, HNW0.out⟩⟩
  case round =>
    obtain ⟨rr, cs, HJ⟩ := hrel
    clear HJ0 HNW0
    have HM := hid (HJ.out.1.rd.len)
    obtain ⟨sl', hs1, hs2⟩ := HJ.out.1.rd.st
    have c0 := cell_blk hs1 0
    have c1 := cell_blk hs1 1
    have f0 := frozen_blk hs1
    have l0 := heap_lt hs1
    simp only [List.getElem?_toArray, List.getElem?_cons_zero, List.getElem?_cons_succ] at c0 c1
    cases hrl : rr.l with
    | nil =>
      have hsl : ∃ b c, sl' = .slice b 0 c := by
        rcases hs2 with ⟨b, c, e, _⟩ | ⟨o, c, e, e2, _⟩
        · exact ⟨b, c, e⟩
        · exact absurd hrl e2
      obtain ⟨b, c, rfl⟩ := hsl
      have HE : Hid (lpS cmR ⟨l, false⟩ = (cs.map (·.1), rr)) := hid (lp_end HJ.out.1.eq (by unfold cmR; rw [hrl]))
      clear hs1 hs2 hrl
      go_wp2_with fail
      (try simp only [Exit.inBlock, Exit.then])
      go_region
      go_wp2_with fail
      go_ret2
      have hd : Below wr.heap.size wr wr.drew := (Below.refl _ wr).drew
      rw [cms_eq, HE.out]
      refine ⟨_, rfl, cs, rfl, HJ.out.1.row.below hd, fun k e => by have := HJ.out.1.own k e; have := HG.out; omega, fun x hx => ?_, ?_⟩
      · exact ((HJ.out.1.nest x hx).mono (by have := HG.out; omega)).stay (t := 111) (Stay.of_below hd) (by decide) (by decide) (by decide) (by decide) (by decide) (by decide)
      · rw [HG.out]
        exact HJ.out.1.bel.trans (hd.mono (by have := HJ.out.1.rd.lt; omega))
    | cons x xs =>
      have hsl : ∃ b n c, sl' = .slice b n c ∧ (0 : Int) < (n : Int) := by
        rcases hs2 with ⟨b, c, e, e2, _⟩ | ⟨o, c, e, e2, _⟩
        · rw [hrl] at e2; cases e2
        · exact ⟨_, _, _, e, by rw [hrl]; simp⟩
      obtain ⟨b, sn', c, rfl, hn0⟩ := hsl
      have HNE : Hid (rr.l ≠ []) := hid (by rw [hrl]; simp)
      have HLN : Hid (rr.l.length ≤ 1073741824) := hid (by have := HJ.out.1.len; omega)
      clear hs1 hs2 hrl
      go_wp2_with fail
      go_at_call 42
      refine (HC.out rr _ HJ.out.1.rd HLN.out (fun e => HJ.out.2.elim (fun h => h gr) (fun h => absurd e (noW_nx h)))).mono ?_
      rintro e V ⟨s, rfl, hN, hS, hK⟩
      obtain ⟨base, cap, V', hrun, hJ'⟩ := HJ.out.1.put HG.out.symm hbg HNE.out hN hS hK
      have HRUN := hid hrun
      have HJN := hid hJ'
      have HSH : Hid (rr.cm.2.l.length < rr.l.length) := hid (cm_shr rr rr.cm.1 rr.cm.2 (by
        unfold cmR
        cases e : rr.l with
        | nil => exact absurd e HNE.out
        | cons a b => rfl))
      have HNW : Hid ((∀ gr, WorldOk gr bw) ∨ NoW rr.cm.2.l) := hid (HJ.out.2.elim .inl fun h => .inr (noW_cm h))
      clear hrun hJ' hN hS hK
      go_wp2_with (first | (refine wpList_build_one rfl 25 47 (.tmp 17) rfl (cmA rr.cm.1 s) rfl Tryz.underlying25 (by kernel_rfl) (Nat.lt_of_lt_of_le (by decide) (Nat.le_refl 42)) (Nat.le_of_ble_eq_true rfl) ?_) | (at_builtin; refine Lib.wpList_append_run _ rfl (.tmp 15) (.tmp 18) 25 25 rfl _ _ rfl rfl _ _ HRUN.out ?_))
      go_roundw
      case rel => exact ⟨rr.cm.2, cs ++ [(rr.cm.1, s)], hid ⟨HJN.out, HNW.out⟩⟩
      case measure => rw [HM.out, HJN.out.rd.len]; exact HSH.out
end Go.Proofs.YtghppkfopglgaaaGreatDoor
namespace Go.Proofs.YtghppkfopglgaaaGreatDoor
open Go.RowKit
set_option linter.unusedVariables false
set_option linter.unusedSimpArgs false
theorem unq_txt : ∀ (n : Nat) (l : List UInt8) p, l.length ≤ n → unq l = some p → p.1.length ≤ l.length
  | n, [], p, _, h => by simp [unq] at h
  | 0, c :: r, p, hl, h => absurd hl (by simp)
  | n + 1, c :: r, p, hl, h => by
    unfold unq at h
    split at h
    · cases h; simp
    · split at h
      · cases h
      · split at h
        · split at h
          · cases h
          · rename_i x r1
            split at h
            · obtain ⟨q, hq, rfl⟩ := Option.map_eq_some_iff.1 h
              have := unq_txt n r1 q (by simp at hl; omega) hq
              simp; omega
            · split at h
              · split at h
                · rename_i h' l' r2
                  split at h
                  · obtain ⟨q, hq, rfl⟩ := Option.map_eq_some_iff.1 h
                    have := unq_txt n r2 q (by simp at hl; omega) hq
                    simp; omega
                  · cases h
                · cases h
              · cases h
        · obtain ⟨q, hq, rfl⟩ := Option.map_eq_some_iff.1 h
          have := unq_txt n r q (by simp at hl; omega) hq
          simp; omega
theorem takew_len (p : UInt8 → Bool) : ∀ l : List UInt8, (l.takeWhile p).length ≤ l.length
  | [] => Nat.le_refl _
  | c :: r => by
    rw [List.takeWhile_cons]
    split
    · have := takew_len p r
      simp; omega
    · simp
theorem fw_txt (l : List UInt8) (w : Wd) (r : List UInt8) (h : fw l = some (w, r)) : w.t.size ≤ l.length := by
  unfold fw at h
  split at h
  · rename_i c x
    split at h
    · obtain ⟨q, hq, e⟩ := Option.map_eq_some_iff.1 h
      have := unq_txt _ x q (Nat.le_refl _) hq
      rw [← (Prod.mk.inj e).1]
      show (bt q.1).size ≤ _
      rw [sz_eq, bt_toList]
      simp; omega
    · rw [← (Prod.mk.inj (Option.some.inj h)).1]
      show (bt _).size ≤ _
      rw [sz_eq, bt_toList]
      exact takew_len _ _
  · rw [← (Prod.mk.inj (Option.some.inj h)).1]
    exact Nat.zero_le _
theorem wol_txt : ∀ (n : Nat) (l : List UInt8) (ws : List Wd), l.length ≤ n → wol l = some ws → ∀ x ∈ ws, x.t.size ≤ n := by
  intro n
  induction n with
  | zero =>
    intro l ws hl h
    have : l = [] := List.eq_nil_of_length_eq_zero (by omega)
    subst this
    have e : fw [] = some (⟨0, noS⟩, []) := rfl
    rw [wol_of e] at h
    cases h
    intro x hx
    rw [List.mem_singleton] at hx
    subst hx
    exact Nat.le_refl _
  | succ n ih =>
    intro l ws hl h
    cases hf : fw l with
    | none => rw [wol_no hf] at h; cases h
    | some p =>
      obtain ⟨w, r⟩ := p
      have hw := fw_txt l w r hf
      cases r with
      | nil =>
        rw [wol_of hf] at h
        cases h
        intro x hx
        rw [List.mem_singleton] at hx
        subst hx
        omega
      | cons c r =>
        have hlt := fw_len l w c r hf
        by_cases hc : c = 32
        · subst hc
          rw [wol_more hf] at h
          obtain ⟨ws', h1, rfl⟩ := Option.map_eq_some_iff.1 h
          intro x hx
          rcases List.mem_cons.1 hx with rfl | hx
          · omega
          · have := ih r ws' (by omega) h1 x hx; omega
        · rw [wol_bad hf hc] at h; cases h
theorem wds_txt_le (s : ByteArray) : ∀ x ∈ wds s.data.toList, x.t.size ≤ s.size := by
  rw [wds_B]
  intro x hx
  obtain ⟨y, hy, hx⟩ := List.mem_flatMap.1 hx
  have h1 := (lnB_len s).2 y hy
  have h2 := trimB_size y
  unfold wd1 at hx
  split at hx
  · cases hx
  · rcases List.mem_append.1 hx with hx | hx
    · cases e : wol (trimB y).data.toList with
      | none => rw [e] at hx; simp at hx
      | some ws =>
        rw [e] at hx
        have := wol_txt s.size _ ws (by rw [← sz_eq]; omega) e x hx
        exact this
    · rw [List.mem_singleton] at hx
      subst hx
      exact Nat.zero_le _
theorem wds_len (s : ByteArray) (h : longB s.data.toList = false) : (wds s.data.toList).length ≤ 1073741824 ∧ s.size ≤ 65536 := by
  rw [longB_eq] at h
  simp only [Bool.or_eq_false_iff, decide_eq_false_iff_not] at h
  obtain ⟨⟨h1, _⟩, h3⟩ := h
  have h4 := wdsB_len 65536 (lnB s) (fun x hx => by have := (lnB_len s).2 x hx; omega)
  have h5 : (lnB s).length * (65536 + 2) ≤ 1024 * (65536 + 2) := Nat.mul_le_mul_right _ (by omega)
  rw [wds_B]
  omega
/-- a row of words can be read -/
theorem R.inB {W : World} {z : Value} {l : List Wd} {B : Nat} (h : R EW W z l) (hB : B < W.heap.size) : ∃ bw, bw < W.heap.size ∧ InB bw W z l := by
  rcases h.2 with ⟨rfl, hn⟩ | ⟨g, cap, cur, rfl, hbs, hgg, hn, hm, hc, hz⟩
  · have hl : l = [] := List.eq_nil_of_length_eq_zero hn
    exact ⟨B, hB, .inl ⟨none, 0, rfl, hl, by omega⟩⟩
  · refine ⟨g, heap_lt hgg, ?_⟩
    have hc9 : cap ≤ 9223372036854775807 := by unfold maxLen at hm; omega
    by_cases hl : l = []
    · subst hl
      exact .inl ⟨some ⟨g, 0, none⟩, cap, rfl, rfl, hc9⟩
    · refine .inr ⟨0, cap, rfl, hl, hn, hc9, fun j u hu => ?_⟩
      have := World.ownsRow.cells h (g := g) rfl j u hu
      rw [Addr.add_lit] at this
      exact this
set_option maxRecDepth 100000 in
set_option maxHeartbeats 8000000 in
theorem Parse_any (s : ByteArray) (hs : s.size ≤ 140737488355328) (w : World) (hE : Env w) (hwo : (∀ gr bw, WorldOk gr bw) ∨ NoW (wds s.data.toList)) :
    Calls Tryz.prog 11 #[.string s] w fun e w' => ∃ v, e = .returned (.tuple #[v, .int .i64 (parseL s.data.toList).2]) ∧ ∃ cs : List (Cm × CmS), cs.map (·.1) = (parseL s.data.toList).1 ∧ R ECm w' v cs ∧ Own w.heap.size v ∧ (∀ x ∈ cs, CmN w' w.heap.size x) ∧ Below w.heap.size w w' := by
  have HL := hid (isLong_any s hs w)
  cases hlg : longB s.data.toList with
  | true =>
    have HP : Hid (parseL s.data.toList = ([], 3)) := hid (by unfold parseL; rw [hlg, if_pos rfl])
    rw [hlg] at HL
    clear hlg hwo hE
    go_enter Tryz.func11, Tryz.ntmps11
    go_wp2_with fail
    go_at_call 24
    refine HL.out.mono ?_
    rintro e V ⟨rfl, hb⟩
    go_wp2_with fail
    go_ret2
    rw [HP.out]
    exact ⟨_, rfl, [], rfl, R.nil _ _, Own.z _, fun x hx => absurd hx (by simp), hb⟩
  | false =>
    obtain ⟨hwl, hsz⟩ := wds_len s hlg
    have HWD := hid (wordsOf_any s (by omega))
    have HT := hid (fun x hx => Nat.le_trans (wds_txt_le s x hx) (by omega : s.size ≤ 1048576))
    have HC := hid commandsOf_any
    have HP : Hid (parseL s.data.toList = if (cmsL (wds s.data.toList)).2 then ((cmsL (wds s.data.toList)).1, 0) else ([], 260)) := hid (by unfold parseL; rw [hlg, if_neg (by simp)])
    have HWL := hid hwl
    have HWO := hid hwo
    have HE := hid hE
    rw [hlg] at HL
    clear hlg hwo hE hwl hsz
    go_enter Tryz.func11, Tryz.ntmps11
    go_wp2_with fail
    go_at_call 24
    refine HL.out.mono ?_
    rintro e V ⟨rfl, hb⟩
    go_wp2_with fail
    go_at_call 26
    refine (HWD.out V).mono ?_
    rintro e V2 ⟨z, rfl, hR, hO, hb2⟩
    have b2 : Below w.heap.size w V2 := hb.trans (hb2.mono hb.size)
    have hE2 : Env V2 := HE.out.of b2.size fun k hk => b2.block k (by have := HE.out.sz; omega)
    obtain ⟨bw, hbw, hI⟩ := R.inB (B := 0) hR (by have := hE2.sz; omega)
    have HC2 := hid (HC.out bw z _ V2 hE2 hI HT.out hbw HWL.out (HWO.out.elim (fun h => .inl fun gr => h gr bw) .inr))
    have HB2 := hid b2
    obtain ⟨zb, zc, hz, _⟩ := hR.slice
    clear hb hb2 b2 hE2 hI hbw hR hO HWD HC HWO HT
    cases hcm : (cmsL (wds s.data.toList)).2 with
    | true =>
      have hp := HP.out
      rw [hcm, if_pos rfl] at hp
      have HP2 := hid hp
      rw [hcm] at HC2
      clear hp HP hcm
      subst hz
      go_wp2_with fail
      go_at_call 25
      refine HC2.out.mono ?_
      rintro e V3 ⟨v, rfl, cs, k1, k2, k3, k4, k5⟩
      go_wp2_with fail
      go_ret2
      rw [HP2.out]
      exact ⟨v, rfl, cs, k1, k2, k3.mono HB2.out.size, fun x hx => (k4 x hx).mono HB2.out.size, HB2.out.trans (k5.mono HB2.out.size)⟩
    | false =>
      have hp := HP.out
      rw [hcm, if_neg (by simp)] at hp
      have HP2 := hid hp
      rw [hcm] at HC2
      clear hp HP hcm
      subst hz
      go_wp2_with fail
      go_at_call 25
      refine HC2.out.mono ?_
      rintro e V3 ⟨v, rfl, cs, k1, k2, k3, k4, k5⟩
      go_wp2_with fail
      go_ret2
      rw [HP2.out]
      exact ⟨_, rfl, [], rfl, R.nil _ _, Own.z _, fun x hx => absurd hx (by simp), HB2.out.trans (k5.mono HB2.out.size)⟩
end Go.Proofs.YtghppkfopglgaaaGreatDoor
