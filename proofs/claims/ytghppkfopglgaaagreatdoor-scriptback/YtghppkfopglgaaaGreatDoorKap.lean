/- What is read, with the rows in it. The reader: command. Script: one line without its end; quoted texts in the longest way, and wrong ones. Script: numbers read, and what is none. -/
import Derived.Test.YtghppkfopglgaaaGreatDoorRr
import Derived.Test.YtghppkfopglgaaaGreatDoorKab
namespace Go.Proofs.YtghppkfopglgaaaGreatDoor
open Go.RowKit
set_option linter.unusedVariables false
set_option linter.unusedSimpArgs false
structure Sl where
  b : Option Addr
  n : Nat
  c : Nat
def Sl.v (s : Sl) : Value := .slice s.b s.n s.c
def Sl.z : Sl := ⟨none, 0, 0⟩
def Own (B : Nat) (v : Value) : Prop := ∀ k, v.ownBlock = some k → B ≤ k
theorem Own.z (B : Nat) : Own B Sl.z.v := fun k e => absurd e (by simp [Sl.z, Sl.v, Value.ownBlock])
theorem Own.mono {B C : Nat} {v : Value} (h : Own B v) (hc : C ≤ B) : Own C v := fun k e => Nat.le_trans hc (h k e)
def pgA (p : Pg) (s : Sl) : Array Value := #[.string p.a, .string p.p, .int .i64 p.st, .string p.vr, s.v]
def EPg : El (Pg × Sl) := ⟨41, 34, 5, 80, fun x => (pgA x.1 x.2).toList⟩
theorem okPg : EPg.Ok := ⟨Tryz.underlying41, by kernel_rfl, by decide, by decide, fun _ => rfl, fun a u hu => by
  simp [EPg, pgA] at hu
  rcases hu with rfl | rfl | rfl | rfl | rfl <;> rfl⟩
def ruA (u : Ru) (s : Sl) : Array Value := #[.string u.of.a, .string u.of.p, s.v]
def ERu : El (Ru × Sl) := ⟨42, 64, 3, 56, fun x => (ruA x.1 x.2).toList⟩
theorem okRu : ERu.Ok := ⟨Tryz.underlying42, by kernel_rfl, by decide, by decide, fun _ => rfl, fun a u hu => by
  simp [ERu, ruA] at hu
  rcases hu with rfl | rfl | rfl <;> rfl⟩
def EOg : El ByteArray := ⟨43, 9, 1, 16, fun x => [.string x]⟩
theorem okOg : EOg.Ok := ⟨Tryz.underlying43, by kernel_rfl, by decide, by decide, fun _ => rfl, fun a u hu => by
  simp [EOg] at hu
  subst hu
  rfl⟩
/-- a world's rows -/
structure WoN (W : World) (B : Nat) (x : Wo) (sp su so : Sl) : Prop where
  pg : ∃ ps : List (Pg × Sl), ps.map (·.1) = x.pg ∧ R EPg W sp.v ps ∧ ∀ q ∈ ps, R ECh W q.2.v q.1.ch ∧ Own B q.2.v
  ru : ∃ us : List (Ru × Sl), us.map (·.1) = x.ru ∧ R ERu W su.v us ∧ ∀ q ∈ us, R ETg W q.2.v q.1.push ∧ Own B q.2.v
  og : R EOg W so.v x.og
  op : Own B sp.v
  ou : Own B su.v
  oo : Own B so.v
structure CmS where
  sp : Sl
  su : Sl
  so : Sl
  sf : Sl
  sc : Sl
def CmS.z : CmS := ⟨Sl.z, Sl.z, Sl.z, Sl.z, Sl.z⟩
structure CmN (W : World) (B : Nat) (x : Cm × CmS) : Prop where
  wo : WoN W B x.1.w x.2.sp x.2.su x.2.so
  fd : R EFd W x.2.sf.v x.1.m.rq.fs
  ch : R ECh W x.2.sc.v x.1.m.pg.ch
  of : Own B x.2.sf.v
  oc : Own B x.2.sc.v
/-- blocks of other types stay -/
def Stay (B t : Nat) (W W' : World) : Prop := ∀ k c t', B ≤ k → W.heap[k]? = some (.cells c t' (0, 0)) → t' ≠ t → W'.heap[k]? = W.heap[k]?
theorem Stay.r {α : Type} {E : El α} {B t : Nat} {W W' : World} {v : Value} {l : List α} (hs : Stay B t W W') (h : R E W v l) (ho : Own B v) (ht : E.e ≠ t) : R E W' v l :=
  h.stays fun k e _ => by
    obtain ⟨c, hc⟩ := h.ty k e
    exact hs k c E.e (ho k e) hc ht
theorem WoN.stay {B t : Nat} {W W' : World} {x : Wo} {sp su so : Sl} (h : WoN W B x sp su so) (hs : Stay B t W W') (h1 : t ≠ 34) (h2 : t ≠ 64) (h3 : t ≠ 9) (h4 : t ≠ 59) (h5 : t ≠ 61) : WoN W' B x sp su so := by
  obtain ⟨⟨ps, p1, p2, p3⟩, ⟨us, u1, u2, u3⟩, og, op, ou, oo⟩ := h
  refine ⟨⟨ps, p1, hs.r p2 op (Ne.symm h1), fun q hq => ⟨hs.r (p3 q hq).1 (p3 q hq).2 (Ne.symm h4), (p3 q hq).2⟩⟩, ⟨us, u1, hs.r u2 ou (Ne.symm h2), fun q hq => ⟨hs.r (u3 q hq).1 (u3 q hq).2 (Ne.symm h5), (u3 q hq).2⟩⟩, hs.r og oo (Ne.symm h3), op, ou, oo⟩
theorem CmN.stay {B t : Nat} {W W' : World} {x : Cm × CmS} (h : CmN W B x) (hs : Stay B t W W') (h1 : t ≠ 34) (h2 : t ≠ 64) (h3 : t ≠ 9) (h4 : t ≠ 59) (h5 : t ≠ 61) (h6 : t ≠ 66) : CmN W' B x :=
  ⟨h.wo.stay hs h1 h2 h3 h4 h5, hs.r h.fd h.of (Ne.symm h6), hs.r h.ch h.oc (Ne.symm h4), h.of, h.oc⟩
theorem WoN.z (W : World) (B : Nat) : WoN W B Wo.z Sl.z Sl.z Sl.z :=
  ⟨⟨[], rfl, R.nil _ _, fun q h => absurd h (by simp)⟩, ⟨[], rfl, R.nil _ _, fun q h => absurd h (by simp)⟩, R.nil _ _, Own.z _, Own.z _, Own.z _⟩
theorem WoN.mono {W : World} {B C : Nat} {x : Wo} {sp su so : Sl} (h : WoN W B x sp su so) (hc : C ≤ B) : WoN W C x sp su so := by
  obtain ⟨⟨ps, p1, p2, p3⟩, ⟨us, u1, u2, u3⟩, og, op, ou, oo⟩ := h
  exact ⟨⟨ps, p1, p2, fun q hq => ⟨(p3 q hq).1, (p3 q hq).2.mono hc⟩⟩, ⟨us, u1, u2, fun q hq => ⟨(u3 q hq).1, (u3 q hq).2.mono hc⟩⟩, og, op.mono hc, ou.mono hc, oo.mono hc⟩
theorem CmN.mono {W : World} {B C : Nat} {x : Cm × CmS} (h : CmN W B x) (hc : C ≤ B) : CmN W C x := ⟨h.wo.mono hc, h.fd, h.ch, h.of.mono hc, h.oc.mono hc⟩
def woA (x : Wo) (sp su so : Sl) : Array Value := #[.int .i64 x.sv.t, .int .i64 x.sv.p, .int .i64 x.sv.s, .int .i64 x.sv.w, .int .i64 x.sv.f, .int .i64 x.sv.l, .int .i64 x.cl.t, .int .i64 x.cl.p, .int .i64 x.cl.s, .int .i64 x.cl.w, .int .i64 x.cl.f, .int .i64 x.cl.l, .int .i64 x.ce, .int .i64 x.cb, .int .i64 x.cl', .int .i64 x.cp, sp.v, su.v, so.v]
def cmA (c : Cm) (s : CmS) : Array Value := #[.int .i64 c.k, .int .i64 c.w.sv.t, .int .i64 c.w.sv.p, .int .i64 c.w.sv.s, .int .i64 c.w.sv.w, .int .i64 c.w.sv.f, .int .i64 c.w.sv.l, .int .i64 c.w.cl.t, .int .i64 c.w.cl.p, .int .i64 c.w.cl.s, .int .i64 c.w.cl.w, .int .i64 c.w.cl.f, .int .i64 c.w.cl.l, .int .i64 c.w.ce, .int .i64 c.w.cb, .int .i64 c.w.cl', .int .i64 c.w.cp, s.sp.v, s.su.v, s.so.v, .int .i64 c.m.k, .int .i64 c.m.n, .string c.m.rq.m, .string c.m.rq.s, .string c.m.rq.a, .string c.m.rq.p, s.sf.v, .string c.m.rq.b, .string c.m.pg.a, .string c.m.pg.p, .int .i64 c.m.pg.st, .string c.m.pg.vr, s.sc.v, .int .i64 c.m.si.t, .int .i64 c.m.si.p, .int .i64 c.m.si.s, .int .i64 c.m.si.w, .int .i64 c.m.si.f, .int .i64 c.m.si.l, .string c.m.by', .int .i64 c.n, .bool c.sv]
def ECm : El (Cm × CmS) := ⟨25, 47, 42, 488, fun x => (cmA x.1 x.2).toList⟩
theorem okCm : ECm.Ok := ⟨Tryz.underlying25, by kernel_rfl, by decide, by decide, fun _ => rfl, fun a u hu => by
  simp only [ECm, cmA, List.mem_cons, List.not_mem_nil, or_false] at hu
  rcases hu with rfl | rfl | rfl | rfl | rfl | rfl | rfl | rfl | rfl | rfl | rfl | rfl | rfl | rfl | rfl | rfl | rfl | rfl | rfl | rfl | rfl | rfl | rfl | rfl | rfl | rfl | rfl | rfl | rfl | rfl | rfl | rfl | rfl | rfl | rfl | rfl | rfl | rfl | rfl | rfl | rfl | rfl <;> rfl⟩
/-- what the reader's world says -/
def WorldOk (gr bw : Nat) : Prop := ∀ (r : Rd) (w : World), RdS gr bw r w → r.l.length ≤ 1073741824 → Calls Tryz.prog 61 #[.pointer (some ⟨gr, 0, none⟩)] w fun e w' => ∃ sp su so, e = .returned (.agg (woA r.wo.1 sp su so)) ∧ WoN w' w.heap.size r.wo.1 sp su so ∧ RdS gr bw r.wo.2 w' ∧ Kr gr w w'
end Go.Proofs.YtghppkfopglgaaaGreatDoor
namespace Go.Proofs.YtghppkfopglgaaaGreatDoor
open Go.RowKit
set_option linter.unusedVariables false
set_option linter.unusedSimpArgs false
theorem move_s (gr bw : Nat) (r : Rd) (s : ByteArray) (w : World) (h : RdS gr bw r w) (hlen : r.l.length ≤ 1073741824) : Calls Tryz.prog 65 #[.pointer (some ⟨gr, 0, none⟩), .string s] w fun e w' => ∃ sf sc : Sl, e = .returned (.agg (mvA (r.mv s).1 sf.v sc.v)) ∧ R EFd w' sf.v (r.mv s).1.rq.fs ∧ R ECh w' sc.v (r.mv s).1.pg.ch ∧ Own w.heap.size sf.v ∧ Own w.heap.size sc.v ∧ RdS gr bw (r.mv s).2 w' ∧ Kr gr w w' := by
  refine (move_any gr bw r s w h hlen).mono ?_
  rintro e V ⟨vf, vc, rfl, h1, h2, h3, h4, h5, h6⟩
  obtain ⟨b, c, rfl, _⟩ := h1.slice
  obtain ⟨b2, c2, rfl, _⟩ := h2.slice
  exact ⟨⟨b, _, c⟩, ⟨b2, _, c2⟩, rfl, h1, h2, h3, h4, h5, h6⟩
def cmZ : Array Value := #[.int .i64 0, .int .i64 0, .int .i64 0, .int .i64 0, .int .i64 0, .int .i64 0, .int .i64 0, .int .i64 0, .int .i64 0, .int .i64 0, .int .i64 0, .int .i64 0, .int .i64 0, .int .i64 0, .int .i64 0, .int .i64 0, .int .i64 0, .slice none 0 0, .slice none 0 0, .slice none 0 0, .int .i64 0, .int .i64 0, .string ⟨#[]⟩, .string ⟨#[]⟩, .string ⟨#[]⟩, .string ⟨#[]⟩, .slice none 0 0, .string ⟨#[]⟩, .string ⟨#[]⟩, .string ⟨#[]⟩, .int .i64 0, .string ⟨#[]⟩, .slice none 0 0, .int .i64 0, .int .i64 0, .int .i64 0, .int .i64 0, .int .i64 0, .int .i64 0, .string ⟨#[]⟩, .int .i64 0, .bool false]
def cmK (K : Int) : Array Value := #[.int .i64 K, .int .i64 0, .int .i64 0, .int .i64 0, .int .i64 0, .int .i64 0, .int .i64 0, .int .i64 0, .int .i64 0, .int .i64 0, .int .i64 0, .int .i64 0, .int .i64 0, .int .i64 0, .int .i64 0, .int .i64 0, .int .i64 0, .slice none 0 0, .slice none 0 0, .slice none 0 0, .int .i64 0, .int .i64 0, .string ⟨#[]⟩, .string ⟨#[]⟩, .string ⟨#[]⟩, .string ⟨#[]⟩, .slice none 0 0, .string ⟨#[]⟩, .string ⟨#[]⟩, .string ⟨#[]⟩, .int .i64 0, .string ⟨#[]⟩, .slice none 0 0, .int .i64 0, .int .i64 0, .int .i64 0, .int .i64 0, .int .i64 0, .int .i64 0, .string ⟨#[]⟩, .int .i64 0, .bool false]
theorem BlJ.stay {ty : TypeId} {Z : Array Value} {gr bw g0 g1 : Nat} {w : World} {r : Rd} {c : Array Value} {V V' : World} (h : BlJ ty Z gr bw g0 g1 w r c V) (hg : gr < w.heap.size) (hk : Ks (fun k => k = gr ∨ k = g0 ∨ k = g1) V V') : Stay w.heap.size ty V V' := by
  intro k c' t' hB hc ht
  refine hk.block k (heap_lt hc) ?_
  rintro (e | e | e)
  · omega
  · subst e; have := h.b0; rw [hc] at this; injection this with this; injection this with a b; exact ht b
  · subst e; have := h.b1; rw [hc] at this; injection this with this; injection this with a b; exact ht b
theorem ks_gr {gr g0 g1 : Nat} {V V' : World} (h : Kr gr V V') : Ks (fun k => k = gr ∨ k = g0 ∨ k = g1) V V' := h.mono fun _ _ e => .inl e
theorem ks_g0 {gr g0 g1 : Nat} {V V' : World} (h : Ks (fun k => k = g0) V V') : Ks (fun k => k = gr ∨ k = g0 ∨ k = g1) V V' := h.mono fun _ _ e => .inr (.inl e)
theorem ks_g1 {gr g0 g1 : Nat} {V V' : World} (h : Ks (fun k => k = g1) V V') : Ks (fun k => k = gr ∨ k = g0 ∨ k = g1) V V' := h.mono fun _ _ e => .inr (.inr e)
theorem Stay.tr {B t : Nat} {a b c : World} (h : Stay B t a b) (k : Stay B t b c) : Stay B t a c := fun i cs t' hB hc ht => (k i cs t' hB ((h i cs t' hB hc ht).trans hc) ht).trans (h i cs t' hB hc ht)
theorem cm_0 (r r1 : Rd) (s : ByteArray) (h : r.nx 0 = (s, r1)) (hk : kindOf s = 0) : r.cm = ({ Cm.of 2 with m := (r1.mv s).1 }, (r1.mv s).2.el) := by unfold Rd.cm Rd.cm1; simp only [h, hk]
theorem cm_1 (r r1 : Rd) (s : ByteArray) (h : r.nx 0 = (s, r1)) (hk : kindOf s = 1) : r.cm = ({ Cm.of 1 with w := r1.el.wo.1 }, r1.el.wo.2.el) := by unfold Rd.cm Rd.cm1; simp only [h, hk]
theorem cm_3 (r r1 : Rd) (s : ByteArray) (h : r.nx 0 = (s, r1)) (hk : kindOf s = 3) : r.cm = ({ Cm.of 3 with n := r1.nu.1 }, r1.nu.2.el) := by unfold Rd.cm Rd.cm1; simp only [h, hk]
theorem cm_10 (r r1 : Rd) (s : ByteArray) (h : r.nx 0 = (s, r1)) (hk : kindOf s = 10) : r.cm = ({ Cm.of 10 with sv := (r1.sk nServer).1 }, (if (r1.sk nServer).1 then (r1.sk nServer).2 else r1.nm nClient).el) := by unfold Rd.cm Rd.cm1; simp only [h, hk]
theorem cm_n (r r1 : Rd) (s : ByteArray) (k : Nat) (h : r.nx 0 = (s, r1)) (hk : kindOf s = k) (h0 : k ≠ 0) (h1 : k ≠ 1) (h3 : k ≠ 3) (h10 : k ≠ 10) : r.cm = (Cm.of k, r1.el) := by
  unfold Rd.cm Rd.cm1
  simp only [h, hk]
  all_goals (split <;> first | omega | rfl)
set_option maxRecDepth 100000 in
set_option maxHeartbeats 8000000 in
theorem command_any (gr bw : Nat) (r : Rd) (w : World) (h : RdS gr bw r w) (hlen : r.l.length ≤ 1073741824) (hwo : kindOf (r.nx 0).1 = 1 → WorldOk gr bw) : Calls Tryz.prog 42 #[.pointer (some ⟨gr, 0, none⟩)] w fun e w' => ∃ s : CmS, e = .returned (.agg (cmA r.cm.1 s)) ∧ CmN w' w.heap.size (r.cm.1, s) ∧ RdS gr bw r.cm.2 w' ∧ Kr gr w w' := by
  have HX0 := hid (next_any gr bw)
  have HE := hid (endLine_any gr bw)
  have HN := hid (number_r gr bw)
  have HK := hid (skip_any gr bw)
  have HM := hid (name_any gr bw)
  have HV := hid (move_s gr bw)
  obtain ⟨⟨nm, r1⟩, hx⟩ : ∃ q, r.nx 0 = q := ⟨_, rfl⟩
  rw [hx] at hwo
  have HL : Hid (r1.l.length ≤ 1073741824) := hid (by have := nx_le r 0; rw [hx] at this; exact Nat.le_trans this hlen)
  obtain ⟨g0, hg0⟩ : ∃ g0, w.heap.size = g0 := ⟨_, rfl⟩
  obtain ⟨W0, hW0⟩ : ∃ W0, w.alloc (.cells #[.int .i64 0, .int .i64 0, .int .i64 0, .int .i64 0, .int .i64 0, .int .i64 0, .int .i64 0, .int .i64 0, .int .i64 0, .int .i64 0, .int .i64 0, .int .i64 0, .int .i64 0, .int .i64 0, .int .i64 0, .int .i64 0, .int .i64 0, .slice none 0 0, .slice none 0 0, .slice none 0 0, .int .i64 0, .int .i64 0, .string ⟨#[]⟩, .string ⟨#[]⟩, .string ⟨#[]⟩, .string ⟨#[]⟩, .slice none 0 0, .string ⟨#[]⟩, .string ⟨#[]⟩, .string ⟨#[]⟩, .int .i64 0, .string ⟨#[]⟩, .slice none 0 0, .int .i64 0, .int .i64 0, .int .i64 0, .int .i64 0, .int .i64 0, .int .i64 0, .string ⟨#[]⟩, .int .i64 0, .bool false] 47) = W0 := ⟨_, rfl⟩
  have b0 : Below w.heap.size w W0 := by rw [← hW0]; exact bel1 _ _
  have q0 : W0.heap[g0]? = some (.cells cmZ 47 (0, 0)) := by rw [← hW0, heap_al, if_pos hg0.symm]; rfl
  have hgl : gr < w.heap.size := h.lt
  have n0 : gr ≠ g0 := by omega
  have nb0 : bw ≠ g0 := by have := h.lb; omega
  have h8 : 8 ≤ g0 := by have := h.g8; omega
  have hw0 : w.heap.size ≤ g0 := by omega
  have hbl : bw < w.heap.size := h.lb
  have K0 : Hid (RdS gr bw r W0 ∧ Kr gr w W0 ∧ W0.heap[g0]? = some (.cells cmZ 47 (0, 0))) := hid ⟨h.below b0, Ks.of_below b0, q0⟩
  obtain ⟨K, hK0⟩ : ∃ K, kindOf nm = K := ⟨_, rfl⟩
  obtain ⟨kI, hkI⟩ : ∃ kI : Int, (K : Int) = kI := ⟨_, rfl⟩
  have HKK := hid hK0
  have HI := hid hkI
  have HX := hid hx
  have HWO := hid hwo
  have HG0 := hid hg0
  have HW0 := hid hW0
  have HH0 := hid (heap_lt q0)
  clear b0 q0 h hlen hK0 hkI hx hwo hW0
  go_enter Tryz.func42, Tryz.ntmps42
  go_wp2_with fail
  try rw [HG0.out]
  try rw [HW0.out]
  go_at_call 58
  refine (HX0.out r 0 W0 K0.out.1).mono ?_
  rw [HX.out]
  rintro e W1 ⟨rfl, hS, hK⟩
  obtain ⟨g1, hg1⟩ : ∃ g1, W1.heap.size = g1 := ⟨_, rfl⟩
  have hlt01 : g0 < g1 := by have := HH0.out; have := hK.size; omega
  have n01 : g0 ≠ g1 := by omega
  have n1 : gr ≠ g1 := by omega
  have nb1 : bw ≠ g1 := by omega
  have h81 : 8 ≤ g1 := by omega
  have hw1 : w.heap.size ≤ g1 := by omega
  have hA : Below W1.heap.size W1 (W1.alloc (.cells #[.int .i64 0, .int .i64 0, .int .i64 0, .int .i64 0, .int .i64 0, .int .i64 0, .int .i64 0, .int .i64 0, .int .i64 0, .int .i64 0, .int .i64 0, .int .i64 0, .int .i64 0, .int .i64 0, .int .i64 0, .int .i64 0, .int .i64 0, .slice none 0 0, .slice none 0 0, .slice none 0 0, .int .i64 0, .int .i64 0, .string ⟨#[]⟩, .string ⟨#[]⟩, .string ⟨#[]⟩, .string ⟨#[]⟩, .slice none 0 0, .string ⟨#[]⟩, .string ⟨#[]⟩, .string ⟨#[]⟩, .int .i64 0, .string ⟨#[]⟩, .slice none 0 0, .int .i64 0, .int .i64 0, .int .i64 0, .int .i64 0, .int .i64 0, .int .i64 0, .string ⟨#[]⟩, .int .i64 0, .bool false] 47)) := bel1 _ _
  have HJ : Hid (BlJ 47 cmZ gr bw g0 g1 w r1 #[.int .i64 0, .int .i64 0, .int .i64 0, .int .i64 0, .int .i64 0, .int .i64 0, .int .i64 0, .int .i64 0, .int .i64 0, .int .i64 0, .int .i64 0, .int .i64 0, .int .i64 0, .int .i64 0, .int .i64 0, .int .i64 0, .int .i64 0, .slice none 0 0, .slice none 0 0, .slice none 0 0, .int .i64 0, .int .i64 0, .string ⟨#[]⟩, .string ⟨#[]⟩, .string ⟨#[]⟩, .string ⟨#[]⟩, .slice none 0 0, .string ⟨#[]⟩, .string ⟨#[]⟩, .string ⟨#[]⟩, .int .i64 0, .string ⟨#[]⟩, .slice none 0 0, .int .i64 0, .int .i64 0, .int .i64 0, .int .i64 0, .int .i64 0, .int .i64 0, .string ⟨#[]⟩, .int .i64 0, .bool false] (W1.alloc (.cells #[.int .i64 0, .int .i64 0, .int .i64 0, .int .i64 0, .int .i64 0, .int .i64 0, .int .i64 0, .int .i64 0, .int .i64 0, .int .i64 0, .int .i64 0, .int .i64 0, .int .i64 0, .int .i64 0, .int .i64 0, .int .i64 0, .int .i64 0, .slice none 0 0, .slice none 0 0, .slice none 0 0, .int .i64 0, .int .i64 0, .string ⟨#[]⟩, .string ⟨#[]⟩, .string ⟨#[]⟩, .string ⟨#[]⟩, .slice none 0 0, .string ⟨#[]⟩, .string ⟨#[]⟩, .string ⟨#[]⟩, .int .i64 0, .string ⟨#[]⟩, .slice none 0 0, .int .i64 0, .int .i64 0, .int .i64 0, .int .i64 0, .int .i64 0, .int .i64 0, .string ⟨#[]⟩, .int .i64 0, .bool false] 47))) := hid ⟨hS.below hA, Kr.tr (Kr.tr K0.out.2.1 hK) (Ks.of_below hA), by rw [heap_al, if_pos hg1.symm], (hA.block _ (by omega)).trans ((hK.block _ HH0.out (fun e => n0 e.symm)).trans K0.out.2.2)⟩
  have HG1 := hid hg1
  have HKO := hid (kindOf_any nm W1 hS.env)
  rw [HKK.out, HI.out] at HKO
  clear hA hS hK hg1 K0
  go_wp2_with fail
  go_at_call 59
  refine HKO.out.mono ?_
  rintro e Vx ⟨rfl, e2⟩
  subst e2
  go_upto_region 3 with (refine wpList_store_blj HJ.out n01 n1 nb1 h81 hw1 rfl 47 (.tmp 4) (.tmp 9) rfl 0 (cmK kI) (by rw [← HG1.out]; rfl) rfl (by kernel_rfl) (Nat.le_refl _) rfl (cmK kI) rfl ?_; intro V HJ1 hks1)
  try rw [HG1.out]
  replace HJ1 := hid HJ1
  have c0 := cell_blk HJ1.out.b1 0
  have l1 := heap_lt HJ1.out.b1
  have f1 := frozen_blk HJ1.out.b1
  rw [show (cmK kI)[0]? = some (.int .i64 kI) from rfl] at c0
  by_cases e1 : kI = 1
  · subst e1
    have HC := hid (cm_1 r r1 nm HX.out (by have := HKK.out; have := HI.out; omega))
    go_wp2_with fail
    go_at_call 60
    refine (HE.out _ _ HJ1.out.rd).mono ?_
    rintro e W2 ⟨rfl, hS, hK⟩
    have HJ2 := hid (HJ1.out.call n0 n1 hS hK)
    clear hS hK
    go_wp2_with fail
    go_at_call 61
    refine ((HWO.out (by have := HKK.out; have := HI.out; omega)) _ _ HJ2.out.rd (Nat.le_trans (nx_le r1 2) HL.out)).mono ?_
    rintro e W3 ⟨sp, su, so, rfl, hW, hS, hK⟩
    have HJ3 := hid (HJ2.out.call n0 n1 hS hK)
    replace hW := hW.mono (Nat.le_trans hw1 (Nat.le_of_lt (heap_lt HJ2.out.b1)))
    go_upto_region 15 with (refine wpList_store_blj HJ3.out n01 n1 nb1 h81 hw1 rfl 45 (.tmp 18) (.tmp 17) rfl 1 (woA r1.el.wo.1 sp su so) (by first | rfl | (rw [← HG1.out]; rfl)) rfl (by kernel_rfl) (Nat.le_of_ble_eq_true rfl) rfl (cmA { Cm.of 1 with w := r1.el.wo.1 } ⟨sp, su, so, Sl.z, Sl.z⟩) rfl ?_; intro V4 HJ4 hks4; replace HJ4 := hid HJ4)
    have HW4 := hid (hW.stay (HJ3.out.stay hgl (ks_g1 hks4)) (by decide) (by decide) (by decide) (by decide) (by decide))
    go_wp2_with fail
    go_at_call 60
    refine (HE.out _ _ HJ4.out.rd).mono ?_
    rintro e V7 ⟨rfl, hS7, hK7⟩
    have HJ7 := hid (HJ4.out.call n0 n1 hS7 hK7)
    go_wp2_with (first
      | (refine wpList_load_row rfl 47 (.tmp 4) rfl g1 (by first | rfl | (rw [← HG1.out]; rfl)) 47 _ (0, 0) _ HJ7.out.b1 Tryz.underlying47 rfl (by kernel_rfl) ?_)
      | (refine wpList_fin_blj HJ7.out n0 nb0 h8 hw0 rfl (.tmp 2) (.tmp 43) rfl rfl rfl (by kernel_rfl) (Nat.le_refl _) rfl (cmA { Cm.of 1 with w := r1.el.wo.1 } ⟨sp, su, so, Sl.z, Sl.z⟩) rfl ?_; intro V9 f1 f2 f3 fk))
    refine bodyPost_ret (results_cell_row (p := 2) (ty := 47) rfl _ _ g0 47 _ (0, 0) _ rfl f3 Tryz.underlying47 rfl (by kernel_rfl)) rfl ?_
    rw [HC.out]
    exact ⟨⟨sp, su, so, Sl.z, Sl.z⟩, rfl, (by first | (rw [← HG0.out]; exact ⟨(HW4.out.stay (HJ4.out.stay hgl (ks_gr hK7)) (by decide) (by decide) (by decide) (by decide) (by decide)).stay (HJ7.out.stay hgl (ks_g0 fk)) (by decide) (by decide) (by decide) (by decide) (by decide), R.nil _ _, R.nil _ _, Own.z _, Own.z _⟩) | exact ⟨(HW4.out.stay (HJ4.out.stay hgl (ks_gr hK7)) (by decide) (by decide) (by decide) (by decide) (by decide)).stay (HJ7.out.stay hgl (ks_g0 fk)) (by decide) (by decide) (by decide) (by decide) (by decide), R.nil _ _, R.nil _ _, Own.z _, Own.z _⟩), f1, f2⟩
  by_cases e3 : kI = 3
  · subst e3
    have HC := hid (cm_3 r r1 nm HX.out (by have := HKK.out; have := HI.out; omega))
    go_wp2_with fail
    go_at_call 62
    refine (HN.out _ _ HJ1.out.rd).mono ?_
    rintro e W2 ⟨rfl, hS, hK⟩
    have HJ3 := hid (HJ1.out.call n0 n1 hS hK)
    have HJ5 := hid (HJ3.out.setCell n01 n1 nb1 h81 hw1 40 (.int .i64 r1.nu.1))
    rw [show (cmK 3).setIfInBounds 40 (.int .i64 r1.nu.1) = cmA { Cm.of 3 with n := r1.nu.1 } CmS.z from rfl] at HJ5
    have a1 := cell_blk HJ3.out.b1 40
    have l2 := heap_lt HJ3.out.b1
    have f2 := frozen_blk HJ3.out.b1
    rw [show (cmK 3)[40]? = some (.int .i64 0) from rfl] at a1
    go_wp2_with fail
    go_at_call 60
    refine (HE.out _ _ HJ5.out.rd).mono ?_
    rintro e V7 ⟨rfl, hS7, hK7⟩
    have HJ7 := hid (HJ5.out.call n0 n1 hS7 hK7)
    go_wp2_with (first
      | (refine wpList_load_row rfl 47 (.tmp 4) rfl g1 (by first | rfl | (rw [← HG1.out]; rfl)) 47 _ (0, 0) _ HJ7.out.b1 Tryz.underlying47 rfl (by kernel_rfl) ?_)
      | (refine wpList_fin_blj HJ7.out n0 nb0 h8 hw0 rfl (.tmp 2) (.tmp 43) rfl rfl rfl (by kernel_rfl) (Nat.le_refl _) rfl (cmA { Cm.of 3 with n := r1.nu.1 } CmS.z) rfl ?_; intro V9 f1 f2 f3 fk))
    refine bodyPost_ret (results_cell_row (p := 2) (ty := 47) rfl _ _ g0 47 _ (0, 0) _ rfl f3 Tryz.underlying47 rfl (by kernel_rfl)) rfl ?_
    rw [HC.out]
    exact ⟨CmS.z, rfl, (by first | (rw [← HG0.out]; exact ⟨WoN.z _ _, R.nil _ _, R.nil _ _, Own.z _, Own.z _⟩) | exact ⟨WoN.z _ _, R.nil _ _, R.nil _ _, Own.z _, Own.z _⟩), f1, f2⟩
  by_cases e10 : kI = 10
  · subst e10
    go_wp2_with fail
    go_at_call 63
    have HQ := hid (HK.out _ nServer _ HJ1.out.rd)
    cases hsv : (r1.sk nServer).1 with
    | true =>
      have HC := hid (cm_10 r r1 nm HX.out (by have := HKK.out; have := HI.out; omega))
      rw [hsv] at HC HQ
      refine HQ.out.mono ?_
      rintro e W2 ⟨rfl, hS, hK⟩
      have HJ3 := hid (HJ1.out.call n0 n1 hS hK)
      have HJ5 := hid (HJ3.out.setCell n01 n1 nb1 h81 hw1 41 (.bool true))
      rw [show (cmK 10).setIfInBounds 41 (.bool true) = cmA { Cm.of 10 with sv := true } CmS.z from rfl] at HJ5
      have a1 := cell_blk HJ3.out.b1 41
      have l2 := heap_lt HJ3.out.b1
      have f2 := frozen_blk HJ3.out.b1
      have a3 := cell_blk HJ5.out.b1 41
      have f3 := frozen_blk HJ5.out.b1
      have l3 := heap_lt HJ5.out.b1
      rw [show (cmK 10)[41]? = some (.bool false) from rfl] at a1
      rw [show (cmA { Cm.of 10 with sv := true } CmS.z)[41]? = some (.bool true) from rfl] at a3
      go_wp2_with fail
      go_at_call 60
      refine (HE.out _ _ HJ5.out.rd).mono ?_
      rintro e V7 ⟨rfl, hS7, hK7⟩
      have HJ7 := hid (HJ5.out.call n0 n1 hS7 hK7)
      go_wp2_with (first
        | (refine wpList_load_row rfl 47 (.tmp 4) rfl g1 (by first | rfl | (rw [← HG1.out]; rfl)) 47 _ (0, 0) _ HJ7.out.b1 Tryz.underlying47 rfl (by kernel_rfl) ?_)
        | (refine wpList_fin_blj HJ7.out n0 nb0 h8 hw0 rfl (.tmp 2) (.tmp 43) rfl rfl rfl (by kernel_rfl) (Nat.le_refl _) rfl (cmA { Cm.of 10 with sv := true } CmS.z) rfl ?_; intro V9 f1 f2 f3 fk))
      refine bodyPost_ret (results_cell_row (p := 2) (ty := 47) rfl _ _ g0 47 _ (0, 0) _ rfl f3 Tryz.underlying47 rfl (by kernel_rfl)) rfl ?_
      rw [HC.out]
      exact ⟨CmS.z, rfl, (by first | (rw [← HG0.out]; exact ⟨WoN.z _ _, R.nil _ _, R.nil _ _, Own.z _, Own.z _⟩) | exact ⟨WoN.z _ _, R.nil _ _, R.nil _ _, Own.z _, Own.z _⟩), f1, f2⟩
    | false =>
      have HC := hid (cm_10 r r1 nm HX.out (by have := HKK.out; have := HI.out; omega))
      rw [hsv] at HC HQ
      refine HQ.out.mono ?_
      rintro e W2 ⟨rfl, hS, hK⟩
      have HJ3 := hid (HJ1.out.call n0 n1 hS hK)
      have HJ5 := hid (HJ3.out.setCell n01 n1 nb1 h81 hw1 41 (.bool false))
      rw [show (cmK 10).setIfInBounds 41 (.bool false) = cmA { Cm.of 10 with sv := false } CmS.z from rfl] at HJ5
      have a1 := cell_blk HJ3.out.b1 41
      have l2 := heap_lt HJ3.out.b1
      have f2 := frozen_blk HJ3.out.b1
      have a3 := cell_blk HJ5.out.b1 41
      have f3 := frozen_blk HJ5.out.b1
      have l3 := heap_lt HJ5.out.b1
      rw [show (cmK 10)[41]? = some (.bool false) from rfl] at a1
      rw [show (cmA { Cm.of 10 with sv := false } CmS.z)[41]? = some (.bool false) from rfl] at a3
      have HSN : Hid ((r1.sk nServer).2 = r1) := hid (by
        obtain ⟨l, bd⟩ := r1
        cases l with
        | nil => rfl
        | cons x l =>
          unfold Rd.sk at hsv ⊢
          simp only at hsv ⊢
          split at hsv
          · cases hsv
          · rename_i hh; rw [if_neg hh])
      go_wp2_with fail
      go_at_call 64
      refine (HM.out _ _ _ HJ5.out.rd).mono ?_
      rintro e W4 ⟨rfl, hS4, hK4⟩
      rw [HSN.out] at hS4
      have HJ6 := hid (HJ5.out.call n0 n1 hS4 hK4)
      go_wp2_with fail
      go_at_call 60
      refine (HE.out _ _ HJ6.out.rd).mono ?_
      rintro e V7 ⟨rfl, hS7, hK7⟩
      have HJ7 := hid (HJ6.out.call n0 n1 hS7 hK7)
      go_wp2_with (first
        | (refine wpList_load_row rfl 47 (.tmp 4) rfl g1 (by first | rfl | (rw [← HG1.out]; rfl)) 47 _ (0, 0) _ HJ7.out.b1 Tryz.underlying47 rfl (by kernel_rfl) ?_)
        | (refine wpList_fin_blj HJ7.out n0 nb0 h8 hw0 rfl (.tmp 2) (.tmp 43) rfl rfl rfl (by kernel_rfl) (Nat.le_refl _) rfl (cmA { Cm.of 10 with sv := false } CmS.z) rfl ?_; intro V9 f1 f2 f3 fk))
      refine bodyPost_ret (results_cell_row (p := 2) (ty := 47) rfl _ _ g0 47 _ (0, 0) _ rfl f3 Tryz.underlying47 rfl (by kernel_rfl)) rfl ?_
      rw [HC.out]
      exact ⟨CmS.z, rfl, (by first | (rw [← HG0.out]; exact ⟨WoN.z _ _, R.nil _ _, R.nil _ _, Own.z _, Own.z _⟩) | exact ⟨WoN.z _ _, R.nil _ _, R.nil _ _, Own.z _, Own.z _⟩), f1, f2⟩
  by_cases e0 : kI = 0
  · subst e0
    have HC := hid (cm_0 r r1 nm HX.out (by have := HKK.out; have := HI.out; omega))
    go_wp2_with fail
    go_at_call 65
    refine (HV.out _ nm _ HJ1.out.rd HL.out).mono ?_
    rintro e W2 ⟨sf, sc, rfl, q1, q2, q3, q4, hS, hK⟩
    have HJ3 := hid (HJ1.out.call n0 n1 hS hK)
    replace q3 := q3.mono (Nat.le_trans hw1 (Nat.le_of_lt (heap_lt HJ1.out.b1)))
    replace q4 := q4.mono (Nat.le_trans hw1 (Nat.le_of_lt (heap_lt HJ1.out.b1)))
    have HJ4 := hid (HJ3.out.setCell n01 n1 nb1 h81 hw1 0 (.int .i64 2))
    rw [show (cmK 0).setIfInBounds 0 (.int .i64 2) = cmK 2 from rfl] at HJ4
    have a1 := cell_blk HJ3.out.b1 0
    have l2 := heap_lt HJ3.out.b1
    have f2 := frozen_blk HJ3.out.b1
    rw [show (cmK 0)[0]? = some (.int .i64 0) from rfl] at a1
    have hks3 := Ks.setCell (fun k => k = g1) W2 g1 0 (.int .i64 2) rfl
    go_upto_region 15 with (refine wpList_store_blj HJ4.out n01 n1 nb1 h81 hw1 rfl 38 (.tmp 40) (.tmp 38) rfl 20 (mvA (r1.mv nm).1 sf.v sc.v) (by first | rfl | (rw [← HG1.out]; rfl)) rfl (by kernel_rfl) (Nat.le_of_ble_eq_true rfl) rfl (cmA { Cm.of 2 with m := (r1.mv nm).1 } ⟨Sl.z, Sl.z, Sl.z, sf, sc⟩) rfl ?_; intro V5 HJ5 hks5; replace HJ5 := hid HJ5)
    have HS5 := hid ((HJ3.out.stay hgl (ks_g1 hks3)).tr (HJ4.out.stay hgl (ks_g1 hks5)))
    go_wp2_with fail
    go_at_call 60
    refine (HE.out _ _ HJ5.out.rd).mono ?_
    rintro e V7 ⟨rfl, hS7, hK7⟩
    have HJ7 := hid (HJ5.out.call n0 n1 hS7 hK7)
    go_wp2_with (first
      | (refine wpList_load_row rfl 47 (.tmp 4) rfl g1 (by first | rfl | (rw [← HG1.out]; rfl)) 47 _ (0, 0) _ HJ7.out.b1 Tryz.underlying47 rfl (by kernel_rfl) ?_)
      | (refine wpList_fin_blj HJ7.out n0 nb0 h8 hw0 rfl (.tmp 2) (.tmp 43) rfl rfl rfl (by kernel_rfl) (Nat.le_refl _) rfl (cmA { Cm.of 2 with m := (r1.mv nm).1 } ⟨Sl.z, Sl.z, Sl.z, sf, sc⟩) rfl ?_; intro V9 f1 f2 f3 fk))
    refine bodyPost_ret (results_cell_row (p := 2) (ty := 47) rfl _ _ g0 47 _ (0, 0) _ rfl f3 Tryz.underlying47 rfl (by kernel_rfl)) rfl ?_
    rw [HC.out]
    exact ⟨⟨Sl.z, Sl.z, Sl.z, sf, sc⟩, rfl, (by first | (rw [← HG0.out]; exact (by have HS9 := (HS5.out.tr (HJ5.out.stay hgl (ks_gr hK7))).tr (HJ7.out.stay hgl (ks_g0 fk)); exact ⟨WoN.z _ _, HS9.r q1 q3 (by decide), HS9.r q2 q4 (by decide), q3, q4⟩)) | exact (by have HS9 := (HS5.out.tr (HJ5.out.stay hgl (ks_gr hK7))).tr (HJ7.out.stay hgl (ks_g0 fk)); exact ⟨WoN.z _ _, HS9.r q1 q3 (by decide), HS9.r q2 q4 (by decide), q3, q4⟩)), f1, f2⟩
  have HC := hid (cm_n r r1 nm K HX.out HKK.out (by have := HI.out; omega) (by have := HI.out; omega) (by have := HI.out; omega) (by have := HI.out; omega))
  rw [HI.out] at HC
  have d1 : (kI == 1) = false := by simpa using e1
  have d3 : (kI == 3) = false := by simpa using e3
  have d10 : (kI == 10) = false := by simpa using e10
  have d0 : (kI == 0) = false := by simpa using e0
  go_wp2_with fail
  go_at_call 60
  refine (HE.out _ _ HJ1.out.rd).mono ?_
  rintro e V7 ⟨rfl, hS7, hK7⟩
  have HJ7 := hid (HJ1.out.call n0 n1 hS7 hK7)
  go_wp2_with (first
    | (refine wpList_load_row rfl 47 (.tmp 4) rfl g1 (by first | rfl | (rw [← HG1.out]; rfl)) 47 _ (0, 0) _ HJ7.out.b1 Tryz.underlying47 rfl (by kernel_rfl) ?_)
    | (refine wpList_fin_blj HJ7.out n0 nb0 h8 hw0 rfl (.tmp 2) (.tmp 43) rfl rfl rfl (by kernel_rfl) (Nat.le_refl _) rfl (cmA (Cm.of kI) CmS.z) rfl ?_; intro V9 f1 f2 f3 fk))
  refine bodyPost_ret (results_cell_row (p := 2) (ty := 47) rfl _ _ g0 47 _ (0, 0) _ rfl f3 Tryz.underlying47 rfl (by kernel_rfl)) rfl ?_
  rw [HC.out]
  exact ⟨CmS.z, rfl, (by first | (rw [← HG0.out]; exact ⟨WoN.z _ _, R.nil _ _, R.nil _ _, Own.z _, Own.z _⟩) | exact ⟨WoN.z _ _, R.nil _ _, R.nil _ _, Own.z _, Own.z _⟩), f1, f2⟩
end Go.Proofs.YtghppkfopglgaaaGreatDoor
namespace Go.Proofs.YtghppkfopglgaaaGreatDoor
open Go.RowKit
set_option linter.unusedVariables false
set_option linter.unusedSimpArgs false
/-- a text of one line -/
theorem lns_one : ∀ (x : List UInt8), (∀ c ∈ x, c ≠ 10) → x ≠ [] → lns x = [x]
  | [], _, h => absurd rfl h
  | [c], h, _ => by
    unfold lns
    rw [if_neg (h c (by simp))]
    rfl
  | c :: d :: x, h, _ => by
    rw [lns, if_neg (h c (by simp)), lns_one (d :: x) (fun e he => h e (by simp at he ⊢; exact .inr he)) (by simp)]
    rfl
theorem trimN_no (x : List UInt8) (h : ∀ c ∈ x, c ≠ 10) : trimN x = x := by
  unfold trimN Lib.trimSuffix Lib.hasSuffix
  rw [if_neg]
  intro e
  have h2 : (10 : UInt8) ∈ x.drop (x.length - 1) := by
    have e3 : [10] <:+ x := by
      first | exact e | exact List.isSuffixOf_iff_suffix.1 e | (simp at e; exact e)
    obtain ⟨t, rfl⟩ := e3
    simp
  exact h 10 (List.mem_of_mem_drop h2) rfl
theorem wds_line (x : List UInt8) (h : ∀ c ∈ x, c ≠ 10) (hs : silB x = false) : wds x = (wol x).getD [] ++ [eW] := by
  have hx : x ≠ [] := by rintro rfl; simp [silB] at hs
  unfold wds
  rw [lns_one x h hx]
  simp only [List.map_cons, List.map_nil, List.flatMap_cons, List.flatMap_nil, List.append_nil, trimN_no x h]
  rw [hs, if_neg (by simp)]
  rfl
theorem long_line (x : List UInt8) (h : ∀ c ∈ x, c ≠ 10) (hl : x.length ≤ 4096) : longB x = false := by
  unfold longB
  by_cases hx : x = []
  · subst hx; rfl
  · rw [lns_one x h hx]
    simp only [List.any_cons, List.any_nil, trimN_no x h, List.length_singleton, Bool.or_false, Bool.or_eq_false_iff, decide_eq_false_iff_not]
    omega
/-- one line that is not made of words -/
theorem parse_none (x : List UInt8) (h : ∀ c ∈ x, c ≠ 10) (hl : x.length ≤ 4096) (hs : silB x = false) (hw : wol x = none) : parseL x = ([], 260) := by
  unfold parseL
  rw [long_line x h hl, if_neg (by simp), wds_line x h hs, hw]
  show (if (cmsL [eW]).2 = true then _ else _) = _
  rw [if_neg (by decide +kernel)]
/-- one line that is made of words -/
theorem parse_line (x : List UInt8) (h : ∀ c ∈ x, c ≠ 10) (hl : x.length ≤ 4096) (hs : silB x = false) (l : List Wd) (hw : wol x = some l) : parseL x = (if (cmsL (l ++ [eW])).2 then ((cmsL (l ++ [eW])).1, 0) else ([], 260)) := by
  unfold parseL
  rw [long_line x h hl, if_neg (by simp), wds_line x h hs, hw]
  rfl
/-- the longest way -/
def hxC (c : UInt8) : List UInt8 := [92, 120, hexS.getD (c.toNat / 16) 0, hexS.getD (c.toNat % 16) 0]
theorem unq_hx (s r : List UInt8) : unq (s.flatMap hxC ++ r) = (unq r).map fun p => (s ++ p.1, p.2) := by
  induction s with
  | nil => simp
  | cons c s ih =>
    rw [List.flatMap_cons, List.append_assoc]
    show unq (92 :: 120 :: _ :: _ :: (s.flatMap hxC ++ r)) = _
    rw [unq_x, unqAdd, ih]
    cases unq r <;> simp
theorem unq_nil : unq [] = none := by unfold unq; rfl
theorem unq_end (r : List UInt8) : unq (34 :: r) = some ([], r) := by unfold unq; rw [if_pos rfl]
theorem unq_bad (c : UInt8) (r : List UInt8) (h : isPl c = false) : unq (c :: r) = none := by
  unfold unq
  rw [if_neg (by rintro rfl; exact absurd h (by decide)), if_pos h]
theorem unq_q (r : List UInt8) : unq (92 :: 113 :: r) = none := by
  unfold unq
  rw [if_neg (by decide), if_neg (by decide), if_pos rfl]
  simp only
  rw [if_neg (by decide), if_neg (by decide)]
theorem unq_A0 (r : List UInt8) : unq (92 :: 120 :: 65 :: 48 :: r) = none := by
  unfold unq
  rw [if_neg (by decide), if_neg (by decide), if_pos rfl]
  simp only
  rw [if_neg (by decide), if_pos (by decide), if_neg (by decide)]
def hdF : List UInt8 := [102, 111, 114, 103, 101, 32, 53, 32]
def wFo : Wd := bW (bt [102, 111, 114, 103, 101])
def w5 : Wd := nW 5
theorem gd_hd : GdW wFo ∧ GdW w5 := ⟨.inr ⟨rfl, by decide +kernel, by decide +kernel⟩, nW_gd 5⟩
theorem wol_hd (x : List UInt8) : wol (hdF ++ x) = (wol x).map fun l => wFo :: w5 :: l := by
  have h1 : fw (hdF ++ x) = some (wFo, 32 :: ([53, 32] ++ x)) := by
    have := fw_more wFo gd_hd.1 ([53, 32] ++ x)
    rwa [show wtx wFo = [102, 111, 114, 103, 101] by decide +kernel] at this
  have h2 : fw ([53, 32] ++ x) = some (w5, 32 :: x) := by
    have := fw_more w5 gd_hd.2 x
    rwa [show wtx w5 = [53] by decide +kernel] at this
  rw [wol_more h1, wol_more h2]
  cases wol x <;> rfl
theorem fw_q (x : List UInt8) : fw (34 :: x) = (unq x).map fun p => (⟨1, bt p.1⟩, p.2) := by
  unfold fw
  simp only
  rw [if_pos trivial]
theorem wol_none {x : List UInt8} (h : fw x = none) : wol x = none := by
  rw [wol]
  split
  · rfl
  · rename_i e; rw [h] at e; cases e
  · rename_i e; rw [h] at e; cases e
theorem wol_q_none (x : List UInt8) (h : unq x = none) : wol (hdF ++ 34 :: x) = none := by
  rw [wol_hd, wol_none (by rw [fw_q, h]; rfl)]
  rfl
theorem wol_q_some (x s : List UInt8) (h : unq x = some (s, [])) : wol (hdF ++ 34 :: x) = some [wFo, w5, qW (bt s)] := by
  have h2 : fw (34 :: x) = some (qW (bt s), []) := by rw [fw_q, h]; rfl
  rw [wol_hd, wol_of h2]
  rfl
def cmF (s : List UInt8) : Cm := { Cm.of 2 with m := { Mv.z with k := 10, n := 5, by' := bt s } }
theorem cms_F (s : List UInt8) : cmsL ([wFo, w5, qW (bt s)] ++ [eW]) = ([cmF s], true) := by
  have h := cms_hit [cmF s] (by
    intro c hc
    rw [List.mem_singleton] at hc
    subst hc
    refine ⟨⟨?_, ?_, ?_⟩, ?_⟩ <;> simp [cmF, Cm.of, WoOk, MvOk, PgOk, SiOk, I64, Mv.z, Wo.z, Si.z, Pg.z, KOk])
  have e : flW ([cmF s].flatMap cmW) = [wFo, w5, qW (bt s)] ++ [eW] := by
    simp [flW, cmW, cmF, Cm.of, mvW]
    exact ⟨rfl, rfl⟩
  rw [e] at h
  rw [h]
  rfl
theorem parse_q_some (x s : List UInt8) (h : unq x = some (s, [])) (h10 : ∀ c ∈ x, c ≠ 10) (hl : x.length ≤ 4087) : parseL (hdF ++ 34 :: x) = ([cmF s], 0) := by
  have ht : ∀ c ∈ hdF ++ 34 :: x, c ≠ 10 := by
    intro c hc
    rcases List.mem_append.1 hc with h | h
    · exact (by decide : ∀ c ∈ hdF, c ≠ 10) c h
    · rcases List.mem_cons.1 h with rfl | h
      · decide
      · exact h10 c h
  rw [parse_line _ ht (by simp [hdF]; omega) rfl _ (wol_q_some x s h), cms_F, if_pos rfl]
theorem parse_q_none (x : List UInt8) (h : unq x = none) (h10 : ∀ c ∈ x, c ≠ 10) (hl : x.length ≤ 4087) : parseL (hdF ++ 34 :: x) = ([], 260) := by
  have ht : ∀ c ∈ hdF ++ 34 :: x, c ≠ 10 := by
    intro c hc
    rcases List.mem_append.1 hc with h | h
    · exact (by decide : ∀ c ∈ hdF, c ≠ 10) c h
    · rcases List.mem_cons.1 h with rfl | h
      · decide
      · exact h10 c h
  exact parse_none _ ht (by simp [hdF]; omega) rfl (wol_q_none x h)
/-- bytes of a quoted text -/
theorem qt_range : ∀ c : UInt8, ∀ d ∈ qtC c, 32 ≤ d.toNat ∧ d.toNat ≤ 126 := all_u8 (by decide +kernel)
theorem hx_range : ∀ c : UInt8, ∀ d ∈ hxC c, 32 ≤ d.toNat ∧ d.toNat ≤ 126 := all_u8 (by decide +kernel)
theorem qt_le : ∀ c : UInt8, (qtC c).length ≤ 4 := all_u8 (by decide +kernel)
theorem qtS_range (s : List UInt8) : ∀ d ∈ qtS s, 32 ≤ d.toNat ∧ d.toNat ≤ 126 := by
  intro d hd
  unfold qtS at hd
  rcases List.mem_cons.1 hd with rfl | h
  · decide
  · rcases List.mem_append.1 h with h | h
    · obtain ⟨c, _, hc⟩ := List.mem_flatMap.1 h
      exact qt_range c d hc
    · rw [List.mem_singleton] at h; subst h; decide
theorem hxS_len (s : List UInt8) : (s.flatMap hxC).length = 4 * s.length := by
  induction s with
  | nil => rfl
  | cons c s ih => rw [List.flatMap_cons, List.length_append, ih]; simp [hxC]; omega
theorem qtS_len (s : List UInt8) : (qtS s).length ≤ 4 * s.length + 2 := by
  have : (s.flatMap qtC).length ≤ 4 * s.length := by
    induction s with
    | nil => simp
    | cons c s ih =>
      have := qt_le c
      rw [List.flatMap_cons, List.length_append, List.length_cons]
      omega
  unfold qtS
  rw [List.length_cons, List.length_append, List.length_singleton]
  omega
/-- what ScriptQuotes asks of Parse -/
theorem parse_quote (s : List UInt8) (h : s.length ≤ 900) : parseL (hdF ++ qtS s) = ([cmF s], 0) := by
  have hq := qtS_len s
  have hr := qtS_range s
  unfold qtS at hq hr ⊢
  refine parse_q_some _ s (unq_qt s []) (fun c hc e => ?_) (by rw [List.length_cons] at hq; omega)
  have := hr c (List.mem_cons_of_mem _ hc)
  subst e
  exact absurd this (by decide)
def lgS (s : List UInt8) : List UInt8 := 34 :: (s.flatMap hxC ++ [34])
theorem hxS_ne (s : List UInt8) : ∀ d ∈ s.flatMap hxC, d ≠ 10 := by
  intro d hd
  obtain ⟨c, _, hc⟩ := List.mem_flatMap.1 hd
  have := hx_range c d hc
  rintro rfl
  exact absurd this (by decide)
theorem parse_long (s : List UInt8) (h : s.length ≤ 900) : parseL (hdF ++ lgS s) = ([cmF s], 0) := by
  unfold lgS
  refine parse_q_some _ s (by rw [unq_hx, unq_end]; simp) (fun c hc => ?_) (by rw [List.length_append, hxS_len, List.length_singleton]; omega)
  rcases List.mem_append.1 hc with h | h
  · exact hxS_ne s c h
  · rw [List.mem_singleton] at h; subst h; decide
/-- cut short -/
theorem parse_cut (s : List UInt8) (h : s.length ≤ 900) : parseL (hdF ++ (lgS s).take ((lgS s).length - 1)) = ([], 260) := by
  have : (lgS s).take ((lgS s).length - 1) = 34 :: s.flatMap hxC := by
    unfold lgS
    simp only [List.length_cons, List.length_append, List.length_nil]
    rw [show ((s.flatMap hxC).length + (0 + 1) + 1 - 1) = (s.flatMap hxC).length + 1 by omega, List.take_succ_cons, List.take_left']
    rfl
  rw [this]
  refine parse_q_none _ ?_ (hxS_ne s) (by rw [hxS_len]; omega)
  have := unq_hx s []
  rw [List.append_nil, unq_nil] at this
  exact this
/-- something put in at an escape's beginning -/
theorem lgS_split (s : List UInt8) (j : Nat) (h : j ≤ s.length) : (lgS s).take (1 + 4 * j) = 34 :: (s.take j).flatMap hxC ∧ (lgS s).drop (1 + 4 * j) = (s.drop j).flatMap hxC ++ [34] := by
  have e : s.flatMap hxC = (s.take j).flatMap hxC ++ (s.drop j).flatMap hxC := by rw [← List.flatMap_append, List.take_append_drop]
  have hl : ((s.take j).flatMap hxC).length = 4 * j := by rw [hxS_len, List.length_take]; omega
  unfold lgS
  rw [e, show 1 + 4 * j = 4 * j + 1 by omega, List.take_succ_cons, List.drop_succ_cons, List.append_assoc]
  exact ⟨by rw [List.take_left' hl], by rw [List.drop_left' hl]⟩
theorem parse_put (s : List UInt8) (j : Nat) (y : List UInt8) (hj : j ≤ s.length) (h : s.length ≤ 900) (hy : y.length ≤ 400) (h10 : ∀ c ∈ y, c ≠ 10) (hn : ∀ r, unq (y ++ r) = none) : parseL (hdF ++ ((lgS s).take (1 + 4 * j) ++ (y ++ (lgS s).drop (1 + 4 * j)))) = ([], 260) := by
  obtain ⟨e1, e2⟩ := lgS_split s j hj
  rw [e1, e2, List.cons_append]
  refine parse_q_none _ ?_ ?_ ?_
  · rw [unq_hx, hn]; rfl
  · intro c hc
    rcases List.mem_append.1 hc with h | h
    · exact hxS_ne _ c h
    · rcases List.mem_append.1 h with h | h
      · exact h10 c h
      · rcases List.mem_append.1 h with h | h
        · exact hxS_ne _ c h
        · rw [List.mem_singleton] at h; subst h; decide
  · simp only [List.length_append, hxS_len, List.length_take, List.length_drop, List.length_singleton]
    omega
end Go.Proofs.YtghppkfopglgaaaGreatDoor
namespace Go.Proofs.YtghppkfopglgaaaGreatDoor
open Go.RowKit
set_option linter.unusedVariables false
set_option linter.unusedSimpArgs false
theorem cms_no (w : Wd) (l : List Wd) (h : (Rd.cm ⟨w :: l, false⟩).2 = Rd.no) : (cmsL (w :: l)).2 = false := by
  unfold cmsL
  have e : loopR cmR (w :: l).length ⟨w :: l, false⟩ = ([(Rd.cm ⟨w :: l, false⟩).1], Rd.no) := by
    have : cmR ⟨w :: l, false⟩ = some ((Rd.cm ⟨w :: l, false⟩).1, Rd.no) := by rw [← h]; rfl
    have hn : ∀ n, loopR cmR n Rd.no = ([], Rd.no) := by intro n; cases n <;> rfl
    rw [List.length_cons]
    simp only [loopR, this, hn]
  rw [e]
  rfl
def wRo : Wd := bW (kdB 3)
theorem cm_ro (l : List Wd) : (Rd.cm ⟨wRo :: l, false⟩).2 = (Rd.nu ⟨l, false⟩).2.el := by
  unfold Rd.cm Rd.cm1
  simp only [wRo, bW, nx_hit, name_tab.2.1]
theorem no_el : Rd.no.el = Rd.no := rfl
theorem ro_num (y : ByteArray) (l : List Wd) (h : numB y.data.toList = false) : (cmsL (wRo :: ⟨0, y⟩ :: l)).2 = false := by
  refine cms_no _ _ ?_
  rw [cm_ro]
  unfold Rd.nu
  rw [nx_hit]
  simp only
  rw [h, if_neg (by simp), no_el]
theorem nx_miss (w : Wd) (l : List Wd) (b : Bool) (k : Nat) (h : w.k ≠ k) : Rd.nx ⟨w :: l, b⟩ k = (noS, Rd.no) := by
  unfold Rd.nx
  simp only
  rw [if_neg h]
theorem ro_kind (w : Wd) (l : List Wd) (h : w.k ≠ 0) : (cmsL (wRo :: w :: l)).2 = false := by
  refine cms_no _ _ ?_
  rw [cm_ro]
  unfold Rd.nu
  rw [nx_miss w l _ _ h]
  simp only
  rw [show (if numB noS.data.toList = true then Rd.no else Rd.no) = Rd.no by simp, no_el]
theorem ro_more (v w : Wd) (l : List Wd) (h0 : v.k = 0) (h : w.k ≠ 2) : (cmsL (wRo :: v :: w :: l)).2 = false := by
  refine cms_no _ _ ?_
  rw [cm_ro]
  obtain ⟨k, t⟩ := v
  simp only at h0
  subst h0
  unfold Rd.nu
  rw [nx_hit]
  simp only
  split
  · unfold Rd.el
    rw [nx_miss w l _ _ h]
  · exact no_el
def hdR : List UInt8 := [114, 111, 117, 110, 100, 115, 32]
theorem gd_ro : GdW wRo := gd_tab.1 ⟨3, by decide⟩ (.inr (by decide))
theorem wol_ro (x : List UInt8) : wol (hdR ++ x) = (wol x).map fun l => wRo :: l := by
  have h1 : fw (hdR ++ x) = some (wRo, 32 :: x) := by
    have := fw_more wRo gd_ro x
    rwa [show wtx wRo = [114, 111, 117, 110, 100, 115] by decide +kernel] at this
  rw [wol_more h1]
/-- a line of rounds whose words are bad -/
theorem parse_ro (x : List UInt8) (l : List Wd) (hw : wol x = some l) (h : (cmsL (wRo :: (l ++ [eW]))).2 = false) (h10 : ∀ c ∈ x, c ≠ 10) (hl : x.length ≤ 4089) : parseL (hdR ++ x) = ([], 260) := by
  have ht : ∀ c ∈ hdR ++ x, c ≠ 10 := by
    intro c hc
    rcases List.mem_append.1 hc with h | h
    · exact (by decide : ∀ c ∈ hdR, c ≠ 10) c h
    · exact h10 c h
  rw [parse_line _ ht (by simp [hdR]; omega) rfl (wRo :: l) (by rw [wol_ro, hw]; rfl)]
  rw [if_neg (by rw [List.cons_append, h]; simp)]
theorem br_ne : ∀ c : UInt8, brC c = true → c ≠ 10 ∧ c ≠ 32 ∧ c ≠ 34 := all_u8 (by decide +kernel)
/-- a bare word of any bytes but blanks -/
theorem fw_bare9 (c : UInt8) (x : List UInt8) (h : c ≠ 34) (hx : ∀ d ∈ c :: x, d ≠ 32) : fw (c :: x) = some (⟨0, bt (c :: x)⟩, []) := by
  have h1 : ∀ l : List UInt8, (∀ d ∈ l, d ≠ 32) → l.takeWhile (· ≠ 32) = l ∧ l.dropWhile (· ≠ 32) = [] := by
    intro l hl
    induction l with
    | nil => exact ⟨rfl, rfl⟩
    | cons a l ih =>
      have ha := hl a (by simp)
      have := ih (fun d hd => hl d (by simp [hd]))
      simp [List.takeWhile_cons, List.dropWhile_cons, ha, this.1, this.2]
      simpa using this
  unfold fw
  simp only
  rw [if_neg h, (h1 _ hx).1, (h1 _ hx).2]
theorem wol_bare (c : UInt8) (x : List UInt8) (h : c ≠ 34) (hx : ∀ d ∈ c :: x, d ≠ 32) : wol (c :: x) = some [⟨0, bt (c :: x)⟩] := wol_of (fw_bare9 c x h hx)
theorem itoa_br (n : Int) : (Lib.itoa n).all brC = true ∧ Lib.itoa n ≠ [] := by
  rcases nW_gd n with h | ⟨_, h1, h2⟩
  · cases h
  · exact ⟨h2, h1⟩
theorem itoa_mem (n : Int) : ∀ c ∈ Lib.itoa n, c ≠ 10 ∧ c ≠ 32 ∧ c ≠ 34 := fun c hc => br_ne c (List.all_eq_true.1 (itoa_br n).1 c hc)
/-- digits of a number other than nought do not begin with one -/
theorem dec_nz : ∀ u : Nat, u ≠ 0 → ∃ c x, Lib.decDigits u = c :: x ∧ c ≠ 48 := by
  intro u
  induction u using Nat.strongRecOn with
  | _ u ih =>
    intro hu
    rw [Lib.decDigits]
    split
    · rename_i h
      refine ⟨_, _, rfl, ?_⟩
      intro e
      have := congrArg UInt8.toNat e
      rw [dig_nat u h] at this
      simp at this
      omega
    · rename_i h
      obtain ⟨c, x, e, hc⟩ := ih (u / 10) (by omega) (by omega)
      rw [e]
      exact ⟨c, _, rfl, hc⟩
theorem itoa_head (v : Int) (c : UInt8) (x : List UInt8) (h : Lib.itoa v = c :: x) : (c ≠ 43) ∧ (c = 48 → x = []) := by
  unfold Lib.itoa at h
  split at h
  · rename_i hv
    cases h
    exact ⟨by decide, fun e => absurd e (by decide)⟩
  · rename_i hv
    by_cases h0 : v.natAbs = 0
    · have : v = 0 := by omega
      subst this
      have e : Lib.decDigits (0 : Int).natAbs = [48] := by decide +kernel
      first
      | (rw [e] at h; cases h; exact ⟨by decide, fun _ => rfl⟩)
      | (rw [show Lib.decDigits (0 : Int).toNat = [48] by decide +kernel] at h; cases h; exact ⟨by decide, fun _ => rfl⟩)
    · have hn : ∃ u : Nat, u ≠ 0 ∧ Lib.decDigits u = c :: x := by
        first
        | exact ⟨v.natAbs, h0, h⟩
        | exact ⟨v.toNat, by omega, h⟩
      obtain ⟨u, hu, e⟩ := hn
      obtain ⟨c', x', e', hc⟩ := dec_nz u hu
      obtain ⟨c2, x2, e2, r1, r2⟩ := dec_head u
      rw [e'] at e e2
      cases e
      cases e2
      refine ⟨?_, fun e => absurd e hc⟩
      rintro rfl
      exact absurd r1 (by decide)
theorem numB_false (l : List UInt8) (h : ∀ v, Lib.itoa v ≠ l) : numB l = false := by
  unfold numB
  split
  · rename_i v _; simp [h v]
  · rfl
theorem num_zero (d : List UInt8) (h : d ≠ []) : numB (48 :: d) = false := numB_false _ fun v e => h ((itoa_head v 48 d e).2 rfl)
theorem num_plus (d : List UInt8) : numB (43 :: d) = false := numB_false _ fun v e => (itoa_head v 43 d e).1 rfl
theorem num_nil : numB [] = false := numB_false _ fun v => (itoa_br v).2
theorem itoa_len (n : Int) (h1 : -9223372036854775808 ≤ n) (h2 : n ≤ 9223372036854775807) : (Lib.itoa n).length ≤ 30 := by
  have hd : ∀ (k u : Nat), u < 10 ^ k → k ≠ 0 → (Lib.decDigits u).length ≤ k := by
    intro k
    induction k with
    | zero => intro u _ h; exact absurd rfl h
    | succ k ih =>
      intro u hu _
      rw [Lib.decDigits]
      split
      · simp
      · rename_i h
        by_cases hk : k = 0
        · subst hk; omega
        · have := ih (u / 10) (by rw [Nat.pow_succ] at hu; omega) hk
          simp
          omega
  have h10 : (10 : Nat) ^ 25 = 10000000000000000000000000 := by decide
  unfold Lib.itoa
  split
  · have := hd 25 n.natAbs (by rw [h10]; omega) (by decide)
    rw [List.length_cons]
    omega
  · have := hd 25 n.toNat (by rw [h10]; omega) (by decide)
    omega
/-- what ScriptNumbers asks of Parse -/
theorem num_line (n : Int) (hn : I64 n) (d : List UInt8) (hd : Lib.itoa n = d) :
    parseL (hdR ++ 48 :: d) = ([], 260) ∧ parseL (hdR ++ 43 :: d) = ([], 260) ∧ parseL (hdR ++ 32 :: d) = ([], 260) ∧ parseL (hdR ++ (d ++ [32])) = ([], 260) ∧ parseL (hdR ++ 34 :: (d ++ [34])) = ([], 260) ∧ parseL (hdR ++ (d ++ 32 :: d)) = ([], 260) := by
  have hl := itoa_len n hn.1 hn.2
  have hm := itoa_mem n
  have hb := itoa_br n
  have hg : GdW (nW n) := nW_gd n
  have hk : (nW n).k = 0 := rfl
  have hx : wtx (nW n) = d := hd
  rw [hd] at hl hm hb
  clear hd hn
  generalize nW n = N at hg hx hk
  refine ⟨?_, ?_, ?_, ?_, ?_, ?_⟩
  · refine parse_ro _ _ (wol_bare 48 d (by decide) ?_) (ro_num _ _ (num_zero d hb.2)) ?_ (by simp; omega)
    · intro c hc; rcases List.mem_cons.1 hc with rfl | h; decide; exact (hm c h).2.1
    · intro c hc; rcases List.mem_cons.1 hc with rfl | h; decide; exact (hm c h).1
  · refine parse_ro _ _ (wol_bare 43 d (by decide) ?_) (ro_num _ _ (num_plus d)) ?_ (by simp; omega)
    · intro c hc; rcases List.mem_cons.1 hc with rfl | h; decide; exact (hm c h).2.1
    · intro c hc; rcases List.mem_cons.1 hc with rfl | h; decide; exact (hm c h).1
  · have h1 : fw (32 :: d) = some (⟨0, noS⟩, 32 :: d) := by unfold fw; simp [bt]
    have h2 : wol d = some [N] := by
      have := wol_of (fw_end N hg)
      rwa [hx] at this
    refine parse_ro _ [⟨0, noS⟩, N] (by rw [wol_more h1, h2]; rfl) (ro_num noS [N, eW] (by rw [show noS.data.toList = ([] : List UInt8) from rfl]; exact num_nil)) ?_ (by simp; omega)
    intro c hc; rcases List.mem_cons.1 hc with rfl | h; decide; exact (hm c h).1
  · have h1 : fw (d ++ [32]) = some (N, 32 :: []) := by
      have := fw_more N hg []
      rwa [hx] at this
    have h2 : wol [] = some [⟨0, noS⟩] := wol_of rfl
    refine parse_ro _ [N, ⟨0, noS⟩] (by rw [wol_more h1, h2]; rfl) (ro_more N ⟨0, noS⟩ [eW] hk (by show (0 : Nat) ≠ 2; decide)) ?_ (by simp; omega)
    intro c hc; rcases List.mem_append.1 hc with h | h; exact (hm c h).1; rw [List.mem_singleton] at h; subst h; decide
  · have hu : unq (d ++ [34]) = some (d, []) := by
      have h34 : ∀ (l : List UInt8), (∀ c ∈ l, isPl c = true ∧ c ≠ 34 ∧ c ≠ 92) → unq (l ++ [34]) = some (l, []) := by
        intro l
        induction l with
        | nil => intro _; exact unq_end []
        | cons c l ih =>
          intro h
          obtain ⟨p1, p2, p3⟩ := h c (by simp)
          rw [List.cons_append, unq_c c p1 p2 p3, unqAdd, ih (fun e he => h e (by simp [he]))]
          rfl
      have hbp : ∀ c : UInt8, brC c = true → isPl c = true ∧ c ≠ 34 ∧ c ≠ 92 := all_u8 (by decide +kernel)
      exact h34 d fun c hc => hbp c (List.all_eq_true.1 hb.1 c hc)
    have h1 : fw (34 :: (d ++ [34])) = some (⟨1, bt d⟩, []) := by rw [fw_q, hu]; rfl
    refine parse_ro _ _ (wol_of h1) (ro_kind _ _ (by show (1 : Nat) ≠ 0; decide)) ?_ (by simp; omega)
    intro c hc
    rcases List.mem_cons.1 hc with rfl | h
    · decide
    · rcases List.mem_append.1 h with h | h
      · exact (hm c h).1
      · rw [List.mem_singleton] at h; subst h; decide
  · have h1 : fw (d ++ 32 :: d) = some (N, 32 :: d) := by
      have := fw_more N hg d
      rwa [hx] at this
    have h2 : wol d = some [N] := by
      have := wol_of (fw_end N hg)
      rwa [hx] at this
    refine parse_ro _ [N, N] (by rw [wol_more h1, h2]; rfl) (ro_more N N [eW] hk (by rw [hk]; decide)) ?_ (by simp; omega)
    intro c hc
    rcases List.mem_append.1 hc with h | h
    · exact (hm c h).1
    · rcases List.mem_cons.1 h with rfl | h
      · decide
      · exact (hm c h).1
theorem num_fix : parseL "rounds".toUTF8.data.toList = ([], 260) ∧ parseL "rounds 9223372036854775808".toUTF8.data.toList = ([], 260) ∧ parseL "rounds -9223372036854775809".toUTF8.data.toList = ([], 260) ∧ parseL "rounds -0".toUTF8.data.toList = ([], 260) := by
  have hR : wol "rounds".toUTF8.data.toList = some [wRo] := by
    rw [show "rounds".toUTF8.data.toList = wtx wRo by decide +kernel]
    exact wol_of (fw_end wRo gd_ro)
  refine ⟨?_, ?_, ?_, ?_⟩
  · rw [parse_line _ (by decide +kernel) (by decide +kernel) (by decide +kernel) _ hR, show [wRo] ++ [eW] = wRo :: eW :: [] from rfl, if_neg (by rw [ro_kind eW [] (by decide)]; simp)]
  · rw [show "rounds 9223372036854775808".toUTF8.data.toList = hdR ++ 57 :: "223372036854775808".toUTF8.data.toList by decide +kernel]
    exact parse_ro _ _ (wol_bare 57 _ (by decide) (by decide +kernel)) (ro_num _ _ (by rw [bt_toList]; decide +kernel)) (by decide +kernel) (by decide +kernel)
  · rw [show "rounds -9223372036854775809".toUTF8.data.toList = hdR ++ 45 :: "9223372036854775809".toUTF8.data.toList by decide +kernel]
    exact parse_ro _ _ (wol_bare 45 _ (by decide) (by decide +kernel)) (ro_num _ _ (by rw [bt_toList]; decide +kernel)) (by decide +kernel) (by decide +kernel)
  · rw [show "rounds -0".toUTF8.data.toList = hdR ++ 45 :: [48] by decide +kernel]
    exact parse_ro _ _ (wol_bare 45 _ (by decide) (by decide +kernel)) (ro_num _ _ (by rw [bt_toList]; decide +kernel)) (by decide +kernel) (by decide +kernel)
/-- two commands with numbers, printed and read -/
def cm3 (n : Int) : Cm := { Cm.of 3 with n := n }
def cm7 (m : Int) : Cm := { Cm.of 2 with m := { Mv.z with k := 7, n := m } }
theorem pr_nums (n m : Int) : prT [cm3 n, cm7 m] = hdR ++ (Lib.itoa n ++ 10 :: [116, 105, 99, 107, 32] ++ (Lib.itoa m ++ [10])) := by
  have h3 : wtx wRo = [114, 111, 117, 110, 100, 115] := by decide +kernel
  have h7 : wtx (bW (mvB 7)) = [116, 105, 99, 107] := by decide +kernel
  have hn : ∀ n, wtx (nW n) = Lib.itoa n := fun n => rfl
  have e : [cm3 n, cm7 m].flatMap cmW = [[wRo, nW n], [bW (mvB 7), nW m]] := by
    simp [cmW, cm3, cm7, Cm.of, mvW]
    rfl
  unfold prT
  rw [e]
  simp only [txt, List.flatMap_cons, List.flatMap_nil, ltx, h3, h7, hn, hdR]
  simp
theorem parse_nums (n m : Int) (hn : I64 n) (hm : I64 m) : parseL (prT [cm3 n, cm7 m]) = ([cm3 n, cm7 m], 0) := by
  have hok : ∀ c ∈ [cm3 n, cm7 m], CmOk c ∧ KOk c := by
    intro c hc
    simp only [List.mem_cons, List.not_mem_nil, or_false] at hc
    rcases hc with rfl | rfl
    · refine ⟨⟨?_, ?_, ?_⟩, ?_⟩ <;> first | exact hn | simp [cm3, Cm.of, WoOk, MvOk, PgOk, SiOk, I64, Mv.z, Wo.z, Si.z, Pg.z, KOk]
    · refine ⟨⟨?_, ⟨hm, ?_, ?_⟩, ?_⟩, ?_⟩ <;> simp [cm7, Cm.of, WoOk, MvOk, PgOk, SiOk, I64, Mv.z, Wo.z, Si.z, Pg.z, KOk]
  have hl : longB (prT [cm3 n, cm7 m]) = false := by
    have a := itoa_len n hn.1 hn.2
    have b := itoa_len m hm.1 hm.2
    have e : prT [cm3 n, cm7 m] = (hdR ++ Lib.itoa n) ++ 10 :: (([116, 105, 99, 107, 32] ++ Lib.itoa m) ++ 10 :: []) := by rw [pr_nums]; simp
    have q1 : ∀ c ∈ hdR ++ Lib.itoa n, c ≠ 10 := by
      intro c hc
      rcases List.mem_append.1 hc with h | h
      · exact (by decide : ∀ c ∈ hdR, c ≠ 10) c h
      · exact (itoa_mem n c h).1
    have q2 : ∀ c ∈ [116, 105, 99, 107, 32] ++ Lib.itoa m, c ≠ 10 := by
      intro c hc
      rcases List.mem_append.1 hc with h | h
      · exact (by decide : ∀ c ∈ ([116, 105, 99, 107, 32] : List UInt8), c ≠ 10) c h
      · exact (itoa_mem m c h).1
    unfold longB
    rw [e, lns_line _ _ q1, lns_line _ _ q2]
    simp only [lns, List.any_cons, List.any_nil, trimN_ln]
    simp only [hdR, List.length_append, List.length_cons, List.length_nil, Bool.or_false, Bool.or_eq_false_iff, decide_eq_false_iff_not]
    exact ⟨⟨by omega, by omega, by omega⟩, by simp⟩
  rw [parse_prT _ hok hl]
  rfl
end Go.Proofs.YtghppkfopglgaaaGreatDoor
