/- The reader: world. -/
import Derived.Test.YtghppkfopglgaaaGreatDoorKap
import Derived.Test.YtghppkfopglgaaaGreatDoorTg
import Derived.OrdersHeld
import Derived.Deep.RegionHeld
namespace Go.Proofs.YtghppkfopglgaaaGreatDoor
open Go.RowKit
set_option linter.unusedVariables false
set_option linter.unusedSimpArgs false
def wA (s1 s2 : Si) (a b c d : Int) (p u o : Value) : Array Value := #[.int .i64 s1.t, .int .i64 s1.p, .int .i64 s1.s, .int .i64 s1.w, .int .i64 s1.f, .int .i64 s1.l, .int .i64 s2.t, .int .i64 s2.p, .int .i64 s2.s, .int .i64 s2.w, .int .i64 s2.f, .int .i64 s2.l, .int .i64 a, .int .i64 b, .int .i64 c, .int .i64 d, p, u, o]
def wZ : Array Value := wA Si.z Si.z 0 0 0 0 Sl.z.v Sl.z.v Sl.z.v
/-- the rows read so far -/
structure KP (W : World) (B : Nat) (vp : Value) (ps : List (Pg × Sl)) (vu : Value) (us : List (Ru × Sl)) (vo : Value) (og : List ByteArray) : Prop where
  rp : R EPg W vp ps
  ru : R ERu W vu us
  ro : R EOg W vo og
  op : Own B vp
  ou : Own B vu
  oo : Own B vo
  np : ∀ q ∈ ps, R ECh W q.2.v q.1.ch ∧ Own B q.2.v
  nu : ∀ q ∈ us, R ETg W q.2.v q.1.push ∧ Own B q.2.v
section
variable {W W' : World} {B t : Nat} {vp vu vo v' : Value} {ps : List (Pg × Sl)} {us : List (Ru × Sl)} {og : List ByteArray}
theorem KP.nil (W : World) (B : Nat) : KP W B Sl.z.v [] Sl.z.v [] Sl.z.v [] :=
  ⟨R.nil _ _, R.nil _ _, R.nil _ _, Own.z _, Own.z _, Own.z _, fun q h => absurd h (by simp), fun q h => absurd h (by simp)⟩
theorem KP.stay (h : KP W B vp ps vu us vo og) (hs : Stay B t W W') (h1 : t ≠ 34) (h2 : t ≠ 64) (h3 : t ≠ 9) (h4 : t ≠ 59) (h5 : t ≠ 61) : KP W' B vp ps vu us vo og :=
  ⟨hs.r h.rp h.op (Ne.symm h1), hs.r h.ru h.ou (Ne.symm h2), hs.r h.ro h.oo (Ne.symm h3), h.op, h.ou, h.oo, fun q hq => ⟨hs.r (h.np q hq).1 (h.np q hq).2 (Ne.symm h4), (h.np q hq).2⟩, fun q hq => ⟨hs.r (h.nu q hq).1 (h.nu q hq).2 (Ne.symm h5), (h.nu q hq).2⟩⟩
theorem KP.pages (h : KP W B vp ps vu us vo og) (hs : Stay B 34 W W') (x : Pg × Sl) (hx : R ECh W x.2.v x.1.ch ∧ Own B x.2.v) (hR : R EPg W' v' (ps ++ [x])) (hO : Own B v') : KP W' B v' (ps ++ [x]) vu us vo og :=
  ⟨hR, hs.r h.ru h.ou (by decide), hs.r h.ro h.oo (by decide), hO, h.ou, h.oo, fun q hq => by
    have hq' : R ECh W q.2.v q.1.ch ∧ Own B q.2.v := (List.mem_append.1 hq).elim (h.np q) (fun e => by rw [List.mem_singleton] at e; subst e; exact hx)
    exact ⟨hs.r hq'.1 hq'.2 (by decide), hq'.2⟩, fun q hq => ⟨hs.r (h.nu q hq).1 (h.nu q hq).2 (by decide), (h.nu q hq).2⟩⟩
theorem KP.rules (h : KP W B vp ps vu us vo og) (hs : Stay B 64 W W') (x : Ru × Sl) (hx : R ETg W x.2.v x.1.push ∧ Own B x.2.v) (hR : R ERu W' v' (us ++ [x])) (hO : Own B v') : KP W' B vp ps v' (us ++ [x]) vo og :=
  ⟨hs.r h.rp h.op (by decide), hR, hs.r h.ro h.oo (by decide), h.op, hO, h.oo, fun q hq => ⟨hs.r (h.np q hq).1 (h.np q hq).2 (by decide), (h.np q hq).2⟩, fun q hq => by
    have hq' : R ETg W q.2.v q.1.push ∧ Own B q.2.v := (List.mem_append.1 hq).elim (h.nu q) (fun e => by rw [List.mem_singleton] at e; subst e; exact hx)
    exact ⟨hs.r hq'.1 hq'.2 (by decide), hq'.2⟩⟩
theorem KP.origins (h : KP W B vp ps vu us vo og) (hs : Stay B 9 W W') (x : ByteArray) (hR : R EOg W' v' (og ++ [x])) (hO : Own B v') : KP W' B vp ps vu us v' (og ++ [x]) :=
  ⟨hs.r h.rp h.op (by decide), hs.r h.ru h.ou (by decide), hR, h.op, h.ou, hO, fun q hq => ⟨hs.r (h.np q hq).1 (h.np q hq).2 (by decide), (h.np q hq).2⟩, fun q hq => ⟨hs.r (h.nu q hq).1 (h.nu q hq).2 (by decide), (h.nu q hq).2⟩⟩
theorem KP.won (h : KP W B vp ps vu us vo og) {sp su so : Sl} (e1 : vp = sp.v) (e2 : vu = su.v) (e3 : vo = so.v) (x : Wo) (h1 : ps.map (·.1) = x.pg) (h2 : us.map (·.1) = x.ru) (h3 : og = x.og) : WoN W B x sp su so := by
  subst e1; subst e2; subst e3; subst h3
  exact ⟨⟨ps, h1, h.rp, h.np⟩, ⟨us, h2, h.ru, h.nu⟩, h.ro, h.op, h.ou, h.oo⟩
end
theorem Stay.below {B t : Nat} {W W' : World} (hb : Below W.heap.size W W') : Stay B t W W' := fun k c t' _ hc _ => hb.block k (heap_lt hc)
theorem Stay.low {B t : Nat} {A : Nat → Prop} {W W' : World} (hk : Ks A W W') (h : ∀ k, A k → k < B) : Stay B t W W' := fun k c t' hB hc _ => hk.block k (heap_lt hc) (fun e => by have := h k e; omega)
/-- a row that grows: blocks of other types stay -/
theorem Stay.gr {α : Type} {E : El α} {B : Nat} {W W' : World} {v v' : Value} {l : List α} (hR : R E W v l) (hG : Gr W W' v v') : Stay B E.e W W' := fun k c t' hB hc ht => hG.block k (heap_lt hc) (fun e => by
  obtain ⟨c2, h2⟩ := hR.ty k e
  rw [hc] at h2
  injection h2 with h2
  injection h2 with _ h3
  exact ht h3)
section
variable {ty : TypeId} {Z : Array Value} {gr bw g0 g1 : Nat} {w : World} {r : Rd} {c : Array Value} {V V' : World}
theorem BlJ.bel (h : BlJ ty Z gr bw g0 g1 w r c V) (hb : Below V.heap.size V V') : BlJ ty Z gr bw g0 g1 w r c V' :=
  ⟨h.rd.below hb, Kr.tr h.kr (Ks.of_below hb), (hb.block _ (heap_lt h.b1)).trans h.b1, (hb.block _ (heap_lt h.b0)).trans h.b0⟩
theorem BlJ.grw {v v' : Value} (h : BlJ ty Z gr bw g0 g1 w r c V) (hG : Gr V V' v v') (ho : Own (g1 + 1) v) (h01 : g0 < g1) (hg : gr < g0) (hb : bw < g0) (h8 : 8 ≤ g0) (hw : w.heap.size ≤ g0) : BlJ ty Z gr bw g0 g1 w r c V' := by
  have hk := Ks.of_gr hG
  exact ⟨h.rd.offs (fun k e => by have := ho k e; omega) hk, h.kr.trans hk (fun _ _ h => h) (fun i hi e => by have := ho i e; omega), (hk.block _ (heap_lt h.b1) (fun e => by have := ho _ e; omega)).trans h.b1, (hk.block _ (heap_lt h.b0) (fun e => by have := ho _ e; omega)).trans h.b0⟩
end
theorem own_gr {B : Nat} {V V' : World} {v v' : Value} (hG : Gr V V' v v') (ho : Own B v) (hB : B ≤ V.heap.size) : Own B v' := fun k e => (hG.own k e).elim (ho k) (fun h => Nat.le_trans hB h)
set_option maxRecDepth 100000 in
set_option maxHeartbeats 16000000 in
theorem world_any (gr bw : Nat) : WorldOk gr bw := by
  intro r w h hlen
  have HNM := hid (name_any gr bw)
  have HSI := hid (set_any gr bw)
  have HCF := hid (conf_any gr bw)
  have HEL := hid (endLine_any gr bw)
  have HSK := hid (skip_any gr bw)
  have HPG := hid (page_any gr bw)
  have HRU := hid (rule_any gr bw)
  have HTX := hid (text_any gr bw)
  obtain ⟨r1, h1⟩ : ∃ q, r.nm nServer = q := ⟨_, rfl⟩
  obtain ⟨⟨s1, r2⟩, h2⟩ : ∃ q, r1.si = q := ⟨_, rfl⟩
  obtain ⟨r3, h3⟩ : ∃ q, r2.el = q := ⟨_, rfl⟩
  obtain ⟨r4, h4⟩ : ∃ q, r3.nm nClient = q := ⟨_, rfl⟩
  obtain ⟨⟨s2, r5⟩, h5⟩ : ∃ q, r4.si = q := ⟨_, rfl⟩
  obtain ⟨r6, h6⟩ : ∃ q, r5.el = q := ⟨_, rfl⟩
  obtain ⟨r7, h7⟩ : ∃ q, r6.nm nConf = q := ⟨_, rfl⟩
  obtain ⟨⟨ka, ra⟩, ha⟩ : ∃ q, r7.nu = q := ⟨_, rfl⟩
  obtain ⟨⟨kb, rb⟩, hb⟩ : ∃ q, ra.nu = q := ⟨_, rfl⟩
  obtain ⟨⟨kc, rc⟩, hc⟩ : ∃ q, rb.nu = q := ⟨_, rfl⟩
  obtain ⟨⟨kd, r8⟩, hd⟩ : ∃ q, rc.nu = q := ⟨_, rfl⟩
  obtain ⟨r9, h9⟩ : ∃ q, r8.el = q := ⟨_, rfl⟩
  have HWO : Hid (r.wo = (⟨s1, s2, ka, kb, kc, kd, (lpS pgR r9).1, (lpS ruR (lpS pgR r9).2).1, (lpS ogR (lpS ruR (lpS pgR r9).2).2).1⟩, (lpS ogR (lpS ruR (lpS pgR r9).2).2).2.nm nEnd)) := hid (by
    unfold Rd.wo
    simp only [h1, h2, h3, h4, h5, h6, h7, ha, hb, hc, hd, h9]
    rfl)
  have HL9 : Hid (r9.l.length ≤ 1073741824) := hid (by
    have e1 : r1.l.length ≤ r.l.length := by have := nm_le r nServer; rw [h1] at this; exact this
    have e2 : r2.l.length ≤ r1.l.length := by have := si_le r1; rw [h2] at this; exact this
    have e3 : r3.l.length ≤ r2.l.length := by have := el_le r2; rw [h3] at this; exact this
    have e4 : r4.l.length ≤ r3.l.length := by have := nm_le r3 nClient; rw [h4] at this; exact this
    have e5 : r5.l.length ≤ r4.l.length := by have := si_le r4; rw [h5] at this; exact this
    have e6 : r6.l.length ≤ r5.l.length := by have := el_le r5; rw [h6] at this; exact this
    have e7 : r7.l.length ≤ r6.l.length := by have := nm_le r6 nConf; rw [h7] at this; exact this
    have ea : ra.l.length ≤ r7.l.length := by have := nu_le r7; rw [ha] at this; exact this
    have eb : rb.l.length ≤ ra.l.length := by have := nu_le ra; rw [hb] at this; exact this
    have ec : rc.l.length ≤ rb.l.length := by have := nu_le rb; rw [hc] at this; exact this
    have ed : r8.l.length ≤ rc.l.length := by have := nu_le rc; rw [hd] at this; exact this
    have e9 : r9.l.length ≤ r8.l.length := by have := el_le r8; rw [h9] at this; exact this
    omega)
  obtain ⟨g0, hg0⟩ : ∃ g0, w.heap.size = g0 := ⟨_, rfl⟩
  obtain ⟨g1, hg1⟩ : ∃ g1, g0 + 1 = g1 := ⟨_, rfl⟩
  obtain ⟨W0, hW0⟩ : ∃ W0, (w.alloc (.cells #[.int .i64 0, .int .i64 0, .int .i64 0, .int .i64 0, .int .i64 0, .int .i64 0, .int .i64 0, .int .i64 0, .int .i64 0, .int .i64 0, .int .i64 0, .int .i64 0, .int .i64 0, .int .i64 0, .int .i64 0, .int .i64 0, .slice none 0 0, .slice none 0 0, .slice none 0 0] 45)).alloc (.cells #[.int .i64 0, .int .i64 0, .int .i64 0, .int .i64 0, .int .i64 0, .int .i64 0, .int .i64 0, .int .i64 0, .int .i64 0, .int .i64 0, .int .i64 0, .int .i64 0, .int .i64 0, .int .i64 0, .int .i64 0, .int .i64 0, .slice none 0 0, .slice none 0 0, .slice none 0 0] 45) = W0 := ⟨_, rfl⟩
  have b0 : Below w.heap.size w W0 := by rw [← hW0]; exact bel2 _ _ _
  have q0 : W0.heap[g0]? = some (.cells wZ 45 (0, 0)) := by rw [← hW0, heap_al, if_neg (by simp; omega), heap_al, if_pos hg0.symm]; rfl
  have q1 : W0.heap[g1]? = some (.cells wZ 45 (0, 0)) := by rw [← hW0, heap_al, if_pos (by simp; omega)]; rfl
  have hgl : gr < g0 := by have := h.lt; omega
  have hbl : bw < g0 := by have := h.lb; omega
  have n0 : gr ≠ g0 := by omega
  have n1 : gr ≠ g1 := by omega
  have n01 : g0 ≠ g1 := by omega
  have l01 : g0 < g1 := by omega
  have nb0 : bw ≠ g0 := by omega
  have nb1 : bw ≠ g1 := by omega
  have h80 : 8 ≤ g0 := by have := h.g8; omega
  have h81 : 8 ≤ g1 := by omega
  have hw0 : w.heap.size ≤ g0 := by omega
  have hw1 : w.heap.size ≤ g1 := by omega
  have HJ0 : Hid (BlJ 45 wZ gr bw g0 g1 w r wZ W0) := hid ⟨h.below b0, Ks.of_below b0, q1, q0⟩
  have HG0 := hid hg0
  have HG1 := hid hg1
  have HW0 := hid hW0
  have H1 := hid h1; have H2 := hid h2; have H3 := hid h3; have H4 := hid h4; have H5 := hid h5; have H6 := hid h6; have H7 := hid h7
  have HCC : Hid ((r7.nu.1 = ka ∧ r7.nu.2.nu.1 = kb ∧ r7.nu.2.nu.2.nu.1 = kc ∧ r7.nu.2.nu.2.nu.2.nu.1 = kd) ∧ r7.nu.2.nu.2.nu.2.nu.2 = r8) := hid (by simp only [ha, hb, hc, hd, and_self])
  have H9 := hid h9
  clear h hlen h1 h2 h3 h4 h5 h6 h7 ha hb hc hd h9 b0 q0 q1 hW0 hg0 hg1
  go_enter Tryz.func61, Tryz.ntmps61
  go_wp2_with fail
  try rw [HG0.out]
  try rw [HG1.out]
  try rw [HW0.out]
  go_at_call 64
  refine (HNM.out _ nServer _ HJ0.out.rd).mono ?_
  rw [H1.out]
  rintro e V1 ⟨rfl, hS, hK⟩
  have HJ1 := hid (HJ0.out.call n0 n1 hS hK)
  clear hS hK HJ0
  go_wp2_with fail
  go_at_call 84
  refine (HSI.out _ _ HJ1.out.rd).mono ?_
  rw [H2.out]
  rintro e V2 ⟨rfl, hS, hK⟩
  have HJ2 := hid (HJ1.out.call n0 n1 hS hK)
  clear hS hK HJ1
  go_upto_region 4 with (refine wpList_store_blj HJ2.out n01 n1 nb1 h81 hw1 rfl 36 (.tmp 8) (.tmp 7) rfl 0 (siA s1) (by first | rfl | (rw [← HG1.out]; rfl)) rfl (by kernel_rfl) (Nat.le_of_ble_eq_true rfl) rfl (wA s1 Si.z 0 0 0 0 Sl.z.v Sl.z.v Sl.z.v) rfl ?_; intro V3 HJ3 hks)
  replace HJ3 := hid HJ3
  clear hks HJ2
  go_wp2_with fail
  go_at_call 60
  refine (HEL.out _ _ HJ3.out.rd).mono ?_
  rw [H3.out]
  rintro e V4 ⟨rfl, hS, hK⟩
  have HJ4 := hid (HJ3.out.call n0 n1 hS hK)
  clear hS hK HJ3
  go_wp2_with fail
  go_at_call 64
  refine (HNM.out _ nClient _ HJ4.out.rd).mono ?_
  rw [H4.out]
  rintro e V5 ⟨rfl, hS, hK⟩
  have HJ5 := hid (HJ4.out.call n0 n1 hS hK)
  clear hS hK HJ4
  go_wp2_with fail
  go_at_call 84
  refine (HSI.out _ _ HJ5.out.rd).mono ?_
  rw [H5.out]
  rintro e V6 ⟨rfl, hS, hK⟩
  have HJ6 := hid (HJ5.out.call n0 n1 hS hK)
  clear hS hK HJ5
  go_upto_region 7 with (refine wpList_store_blj HJ6.out n01 n1 nb1 h81 hw1 rfl 36 (.tmp 15) (.tmp 14) rfl 6 (siA s2) (by first | rfl | (rw [← HG1.out]; rfl)) rfl (by kernel_rfl) (Nat.le_of_ble_eq_true rfl) rfl (wA s1 s2 0 0 0 0 Sl.z.v Sl.z.v Sl.z.v) rfl ?_; intro V7 HJ7 hks)
  replace HJ7 := hid HJ7
  clear hks HJ6
  go_wp2_with fail
  go_at_call 60
  refine (HEL.out _ _ HJ7.out.rd).mono ?_
  rw [H6.out]
  rintro e V8 ⟨rfl, hS, hK⟩
  have HJ8 := hid (HJ7.out.call n0 n1 hS hK)
  clear hS hK HJ7
  go_wp2_with fail
  go_at_call 64
  refine (HNM.out _ nConf _ HJ8.out.rd).mono ?_
  rw [H7.out]
  rintro e V9 ⟨rfl, hS, hK⟩
  have HJ9 := hid (HJ8.out.call n0 n1 hS hK)
  clear hS hK HJ8
  go_wp2_with fail
  go_at_call 85
  refine (HCF.out _ _ HJ9.out.rd).mono ?_
  rw [HCC.out.1.1]
  rw [HCC.out.1.2.1]
  rw [HCC.out.1.2.2.1]
  rw [HCC.out.1.2.2.2]
  rw [HCC.out.2]
  rintro e V10 ⟨rfl, hS, hK⟩
  have HJ10 := hid (HJ9.out.call n0 n1 hS hK)
  clear hS hK HJ9
  go_upto_region 10 with (refine wpList_store_blj HJ10.out n01 n1 nb1 h81 hw1 rfl 40 (.tmp 22) (.tmp 21) rfl 12 #[.int .i64 ka, .int .i64 kb, .int .i64 kc, .int .i64 kd] (by first | rfl | (rw [← HG1.out]; rfl)) rfl (by kernel_rfl) (Nat.le_of_ble_eq_true rfl) rfl (wA s1 s2 ka kb kc kd Sl.z.v Sl.z.v Sl.z.v) rfl ?_; intro V11 HJ11 hks)
  replace HJ11 := hid HJ11
  clear hks HJ10
  go_wp2_with fail
  go_at_call 60
  refine (HEL.out _ _ HJ11.out.rd).mono ?_
  rw [H9.out]
  rintro e V12 ⟨rfl, hS, hK⟩
  have HJ12 := hid (HJ11.out.call n0 n1 hS hK)
  clear hS hK HJ11
  have HQ0 : Hid (KP V12 (g1 + 1) Sl.z.v [] Sl.z.v [] Sl.z.v []) := hid (KP.nil _ _)
  go_wp2_with fail
  go_loopw [25] (fun _ wr => ∃ (rr : Rd) (vb1 : Option Addr) (vn1 vc1 : Nat) (acc1 : List (Pg × Sl)), Hid (lpS pgR r9 = (acc1.map (·.1) ++ (lpS pgR rr).1, (lpS pgR rr).2) ∧ BlJ 45 wZ gr bw g0 g1 w rr (wA s1 s2 ka kb kc kd (.slice vb1 vn1 vc1) (Sl.z.v) (Sl.z.v)) wr ∧ KP wr (g1 + 1) (.slice vb1 vn1 vc1) acc1 (Sl.z.v) [] (Sl.z.v) [] ∧ acc1.length + rr.l.length ≤ 1073741824)) (fun _ wr => rdLen gr wr)
  case atStart => exact ⟨r9, none, 0, 0, [], hid ⟨rfl, HJ12.out, HQ0.out, by have := HL9.out; simpa using this⟩⟩
  case round =>
    obtain ⟨rr1, vb1, vn1, vc1, acc1, HJ1x⟩ := hrel
    clear HJ12 HQ0
    have HM1 := hid (HJ1x.out.2.1.rd.len)
    go_wp2_with fail
    go_at_call 63
    refine (HSK.out rr1 nPage _ HJ1x.out.2.1.rd).mono ?_
    rintro e U1 ⟨rfl, hS, hK⟩
    have hQs := HJ1x.out.2.2.1.stay (Stay.low (t := 0) (B := g1 + 1) hK (fun k e => by have := e; omega)) (by decide) (by decide) (by decide) (by decide) (by decide)
    cases hsk : (rr1.sk nPage).1 with
    | true =>
      obtain ⟨rs, hrs⟩ : ∃ q, (rr1.sk nPage).2 = q := ⟨_, rfl⟩
      have hls : rs.l.length ≤ 1073741824 := by have := sk_le rr1 nPage; rw [hrs] at this; have := HJ1x.out.2.2.2; omega
      rw [hrs] at hS
      obtain ⟨⟨x, rt⟩, hpg⟩ : ∃ q, rs.pg = q := ⟨_, rfl⟩
      obtain ⟨rv, hel⟩ : ∃ q, rt.el = q := ⟨_, rfl⟩
      have HE : Hid (pgR rr1 = some (x, rv)) := hid (by unfold pgR; rw [hsk, if_pos rfl, hrs, hpg, hel])
      have HSH : Hid (rv.l.length < rr1.l.length) := hid (pg_shr rr1 _ _ HE.out)
      have HELL := hid hel
      have HB0 := hid (HJ1x.out.2.1.call n0 n1 hS hK)
      have HQ0 := hid hQs
      have HP1 := hid (fun W hW => HPG.out rs W hW hls)
      simp only [hpg] at HP1
      clear hS hK hQs hsk hrs hls hpg hel
      go_upto_region 12 with fail
      have HBW := hid (HB0.out.bel ((Below.refl _ _).drew))
      have HQW := hid (HQ0.out.stay (t := 0) (Stay.below ((Below.refl _ _).drew)) (by decide) (by decide) (by decide) (by decide) (by decide))
      refine wp_region_held_drew (S := fun _ => True) (by kernel_rfl) trivial (fun hHeld => ?_)
      generalize World.drew _ = W at HBW HQW ⊢
      clear HB0 HQ0
      refine wpAnyH_take (i := 0) (oi := { dst := some 27, op := Op.fieldAddr 45 (Operand.tmp 3) 3, type := 0, pos := "read.go:116", after := #[], guard := none }) (v := ?vv1) rfl (by kernel_rfl) (by kernel_rfl) (by kernel_rfl) (fun _ _ _ h => h) (Or.inl ⟨by rfl, ?hy1⟩) (by assumption) ?_
      case hy1 => (intro w hSw; (try dsimp only at hSw); go_simp; all_goals with_reducible rfl)
      try simp only [Act.put, List.setIfInBounds_toArray, List.set_cons_zero, List.set_cons_succ]
      refine wpAnyH_take (i := 2) (oi := { dst := some 29, op := Op.move (Operand.tmp 0), type := 109, pos := "read.go:116", after := #[], guard := none }) (v := ?vv2) rfl (by kernel_rfl) (by kernel_rfl) (by kernel_rfl) (fun _ _ _ h => h) (Or.inl ⟨by rfl, ?hy2⟩) (by assumption) ?_
      case hy2 => (intro w hSw; (try dsimp only at hSw); go_simp; all_goals with_reducible rfl)
      try simp only [Act.put, List.setIfInBounds_toArray, List.set_cons_zero, List.set_cons_succ]
      refine wpAnyH_ready (rs := [1, 3]) (by kernel_rfl) (by simp) ?_
      refine AllReadyH.cons (o := { dst := some 28, op := Op.load 41 (Operand.tmp 27), type := 41, pos := "read.go:116", after := #[{ on := 0, ground := Ground.data }], guard := none }) rfl (fun K hK => ?_) ?_
      · have c16 := cell_blk HBW.out.b1 16
        rw [show (wA s1 s2 ka kb kc kd (.slice vb1 vn1 vc1) (Sl.z.v) (Sl.z.v))[16]? = some (.slice vb1 vn1 vc1) from rfl] at c16
        go_simp
        go_wp2_with fail
        refine hK.out _ _ trivial (fun hHeld => ?_)
        clear hK K c16
        try simp only [Act.put, List.setIfInBounds_toArray, List.set_cons_zero, List.set_cons_succ]
        refine wpAnyH_ready (rs := [3]) (by kernel_rfl) (by simp) ?_
        refine AllReadyH.cons (o := { dst := some 30, op := Op.call { callee := Callee.value (Operand.func 86), args := #[Operand.tmp 29], argTypes := #[109] }, type := 34, pos := "read.go:116", after := #[{ on := 2, ground := Ground.data }], guard := none }) rfl (fun K hK => ?_) AllReadyH.nil
        go_simp
        refine (HP1.out _ HBW.out.rd).mono ?_
        rintro e' Wx ⟨v1, rfl, hR1, hO1, hS1, hK1⟩
        obtain ⟨s, rfl⟩ : ∃ s : Sl, v1 = s.v := by
          obtain ⟨b, c, e, _⟩ := hR1.slice
          exact ⟨⟨b, _, c⟩, e⟩
        have HXWx := hid (And.intro hR1 (show Own (g1 + 1) s.v from fun k e => by have := hO1 k e; have := heap_lt HBW.out.b1; omega))
        have HBWx := hid (HBW.out.call n0 n1 hS1 hK1)
        have HQWx := hid (HQW.out.stay (Stay.low (t := 0) (B := g1 + 1) hK1 (fun k e => by have := e; omega)) (by decide) (by decide) (by decide) (by decide) (by decide))
        clear hS1 hK1 HBW HQW hR1 hO1
        go_wp2_with fail
        refine hK.out _ _ trivial (fun hHeld => ?_)
        clear hK K
        try simp only [Act.put, List.setIfInBounds_toArray, List.set_cons_zero, List.set_cons_succ]
        refine wpAnyH_ready (rs := [4]) (by kernel_rfl) (by simp) ?_
        refine AllReadyH.cons (o := { dst := some 31, op := Op.buildSlice 41 1 #[(0, Operand.tmp 30)], type := 41, pos := "read.go:116", after := #[{ on := 3, ground := Ground.data }], guard := none }) rfl (fun K hK => ?_) AllReadyH.nil
        go_simp
        go_wp2_with fail
        have hal : Below Wx.heap.size Wx (Wx.alloc (.cells #[.string x.a, .string x.p, .int .i64 x.st, .string x.vr, s.v] 34)) := bel1 _ _
        have HBa := hid (HBWx.out.bel hal)
        have HQa := hid (HQWx.out.stay (t := 0) (Stay.below hal) (by decide) (by decide) (by decide) (by decide) (by decide))
        have HXa := hid (And.intro (HXWx.out.1.below hal) HXWx.out.2)
        clear HXWx
        clear hal HBWx HQWx
        refine hK.out _ _ trivial (fun hHeld => ?_)
        clear hK K
        try simp only [Act.put, List.setIfInBounds_toArray, List.set_cons_zero, List.set_cons_succ]
        refine wpAnyH_ready (rs := [5]) (by kernel_rfl) (by simp) ?_
        refine AllReadyH.cons (o := { dst := some 32, op := Op.call { callee := Callee.builtin Builtin.append, args := #[Operand.tmp 28, Operand.tmp 31], argTypes := #[41, 41] }, type := 41, pos := "read.go:116", after := #[{ on := 1, ground := Ground.data }, { on := 4, ground := Ground.data }, { on := 3, ground := Ground.chain }], guard := none }) rfl (fun K hK => ?_) AllReadyH.nil
        obtain ⟨base, cap, Y, hrun, hR, hG⟩ := app okPg _ (.slice vb1 vn1 vc1) acc1 HQa.out.rp (.slice (some ⟨Wx.heap.size, 0, none⟩) 1 1) [(x, s)] (in_one _ _ (x, s) #[.string x.a, .string x.p, .int .i64 x.st, .string x.vr, s.v] 34 (0, 0) (by rw [heap_al, if_pos rfl]) rfl) (by rw [show EPg.by' = 80 from rfl]; have := HJ1x.out.2.2.2; simp only [List.length_cons, List.length_nil]; omega)
        have hb0 := heap_lt HBa.out.b1
        have ho2 := own_gr hG HQa.out.op (by omega)
        have hQ9 := HQa.out.pages (Stay.gr HQa.out.rp hG) (x, s) HXa.out hR ho2
        have HB9 := hid (HBa.out.grw hG HQa.out.op l01 hgl hbl h80 hw0)
        obtain ⟨vn9, hvn⟩ : ∃ n, acc1.length + [(x, s)].length = n := ⟨_, rfl⟩
        rw [hvn] at hrun hQ9
        have HQ9 := hid hQ9
        clear hR hG ho2 hQ9 hb0 hvn HBa HQa HXa
        refine step_append_run rfl (.tmp 28) (.tmp 31) 41 41 rfl hrun (by first | rfl | simp [Act.eval, Act.put]) (by first | rfl | simp [Act.eval, Act.put]) ?_
        refine hK.out _ _ trivial (fun hHeld => ?_)
        clear hK K hrun
        try simp only [Act.put, List.setIfInBounds_toArray, List.set_cons_zero, List.set_cons_succ]
        refine wpAnyH_take (i := 6) (oi := { dst := some 33, op := Op.fieldAddr 45 (Operand.tmp 3) 3, type := 0, pos := "read.go:116", after := #[{ on := 0, ground := Ground.phase }, { on := 1, ground := Ground.phase }, { on := 2, ground := Ground.phase }, { on := 3, ground := Ground.phase }, { on := 4, ground := Ground.phase }, { on := 5, ground := Ground.phase }], guard := none }) (v := ?vv3) rfl (by kernel_rfl) (by kernel_rfl) (by kernel_rfl) (fun _ _ _ h => h) (Or.inl ⟨by rfl, ?hy3⟩) (by assumption) ?_
        case hy3 => (intro w hSw; (try dsimp only at hSw); go_simp; all_goals with_reducible rfl)
        try simp only [Act.put, List.setIfInBounds_toArray, List.set_cons_zero, List.set_cons_succ]
        refine wpAnyH_ready (rs := [7]) (by kernel_rfl) (by simp) ?_
        refine AllReadyH.cons (o := { dst := none, op := Op.store 41 (Operand.tmp 33) (Operand.tmp 32), type := 0, pos := "read.go:116", after := #[{ on := 6, ground := Ground.data }, { on := 5, ground := Ground.data }, { on := 5, ground := Ground.chain }, { on := 0, ground := Ground.phase }, { on := 1, ground := Ground.phase }, { on := 2, ground := Ground.phase }, { on := 3, ground := Ground.phase }, { on := 4, ground := Ground.phase }, { on := 5, ground := Ground.phase }], guard := none }) rfl (fun K hK => ?_) AllReadyH.nil
        have c16 := cell_blk HB9.out.b1 16
        have z16 := frozen_blk HB9.out.b1
        have l16 := heap_lt HB9.out.b1
        rw [show (wA s1 s2 ka kb kc kd (.slice vb1 vn1 vc1) (Sl.z.v) (Sl.z.v))[16]? = some (.slice vb1 vn1 vc1) from rfl] at c16
        have hbs := HB9.out.setCell n01 n1 nb1 h81 hw1 16 (.slice base vn9 cap)
        rw [show (wA s1 s2 ka kb kc kd (.slice vb1 vn1 vc1) (Sl.z.v) (Sl.z.v)).setIfInBounds 16 (.slice base vn9 cap) = (wA s1 s2 ka kb kc kd (.slice base vn9 cap) (Sl.z.v) (Sl.z.v)) from rfl] at hbs
        have hks := Ks.setCell (fun k => k = g1) Y g1 16 (.slice base vn9 cap) rfl
        have HBs := hid hbs
        have HQs := hid (HQ9.out.stay (Stay.low (t := 0) (B := g1 + 1) hks (fun k e => by have := e; omega)) (by decide) (by decide) (by decide) (by decide) (by decide))
        clear hbs hks HB9 HQ9
        go_simp
        go_wp2_with fail
        refine hK.out _ _ trivial (fun hHeld => ?_)
        clear hK K c16 z16 l16
        try simp only [Act.put, List.setIfInBounds_toArray, List.set_cons_zero, List.set_cons_succ]
        refine wpAnyH_done (by kernel_rfl) ?_ _
        go_wp2_with fail
        go_at_call 60
        refine (HEL.out _ _ HBs.out.rd).mono ?_
        rw [HELL.out]
        rintro e X9 ⟨rfl, hS, hK⟩
        have HBt := hid (HBs.out.call n0 n1 hS hK)
        have HQt := hid (HQs.out.stay (Stay.low (t := 0) (B := g1 + 1) hK (fun k e => by have := e; omega)) (by decide) (by decide) (by decide) (by decide) (by decide))
        clear hS hK HBs HQs
        go_wp2_with fail
        go_roundw
        case rel => exact ⟨rv, base, vn9, cap, _, hid ⟨by rw [List.map_append]; exact lp_go pg_shr HJ1x.out.1 HE.out, HBt.out, HQt.out, by have := HJ1x.out.2.2.2; have := HSH.out; simp only [List.length_append, List.length_cons, List.length_nil]; omega⟩⟩
        case measure => rw [HM1.out, HBt.out.rd.len]; exact HSH.out
      refine AllReadyH.cons (o := { dst := some 30, op := Op.call { callee := Callee.value (Operand.func 86), args := #[Operand.tmp 29], argTypes := #[109] }, type := 34, pos := "read.go:116", after := #[{ on := 2, ground := Ground.data }], guard := none }) rfl (fun K hK => ?_) AllReadyH.nil
      go_simp
      refine (HP1.out _ HBW.out.rd).mono ?_
      rintro e' Wx ⟨v1, rfl, hR1, hO1, hS1, hK1⟩
      obtain ⟨s, rfl⟩ : ∃ s : Sl, v1 = s.v := by
        obtain ⟨b, c, e, _⟩ := hR1.slice
        exact ⟨⟨b, _, c⟩, e⟩
      have HXWx := hid (And.intro hR1 (show Own (g1 + 1) s.v from fun k e => by have := hO1 k e; have := heap_lt HBW.out.b1; omega))
      have HBWx := hid (HBW.out.call n0 n1 hS1 hK1)
      have HQWx := hid (HQW.out.stay (Stay.low (t := 0) (B := g1 + 1) hK1 (fun k e => by have := e; omega)) (by decide) (by decide) (by decide) (by decide) (by decide))
      clear hS1 hK1 HBW HQW hR1 hO1
      go_wp2_with fail
      refine hK.out _ _ trivial (fun hHeld => ?_)
      clear hK K
      try simp only [Act.put, List.setIfInBounds_toArray, List.set_cons_zero, List.set_cons_succ]
      refine wpAnyH_ready (rs := [1, 4]) (by kernel_rfl) (by simp) ?_
      refine AllReadyH.cons (o := { dst := some 28, op := Op.load 41 (Operand.tmp 27), type := 41, pos := "read.go:116", after := #[{ on := 0, ground := Ground.data }], guard := none }) rfl (fun K hK => ?_) ?_
      · have c16 := cell_blk HBWx.out.b1 16
        rw [show (wA s1 s2 ka kb kc kd (.slice vb1 vn1 vc1) (Sl.z.v) (Sl.z.v))[16]? = some (.slice vb1 vn1 vc1) from rfl] at c16
        go_simp
        go_wp2_with fail
        refine hK.out _ _ trivial (fun hHeld => ?_)
        clear hK K c16
        try simp only [Act.put, List.setIfInBounds_toArray, List.set_cons_zero, List.set_cons_succ]
        refine wpAnyH_ready (rs := [4]) (by kernel_rfl) (by simp) ?_
        refine AllReadyH.cons (o := { dst := some 31, op := Op.buildSlice 41 1 #[(0, Operand.tmp 30)], type := 41, pos := "read.go:116", after := #[{ on := 3, ground := Ground.data }], guard := none }) rfl (fun K hK => ?_) AllReadyH.nil
        go_simp
        go_wp2_with fail
        have hal : Below Wx.heap.size Wx (Wx.alloc (.cells #[.string x.a, .string x.p, .int .i64 x.st, .string x.vr, s.v] 34)) := bel1 _ _
        have HBa := hid (HBWx.out.bel hal)
        have HQa := hid (HQWx.out.stay (t := 0) (Stay.below hal) (by decide) (by decide) (by decide) (by decide) (by decide))
        have HXa := hid (And.intro (HXWx.out.1.below hal) HXWx.out.2)
        clear HXWx
        clear hal HBWx HQWx
        refine hK.out _ _ trivial (fun hHeld => ?_)
        clear hK K
        try simp only [Act.put, List.setIfInBounds_toArray, List.set_cons_zero, List.set_cons_succ]
        refine wpAnyH_ready (rs := [5]) (by kernel_rfl) (by simp) ?_
        refine AllReadyH.cons (o := { dst := some 32, op := Op.call { callee := Callee.builtin Builtin.append, args := #[Operand.tmp 28, Operand.tmp 31], argTypes := #[41, 41] }, type := 41, pos := "read.go:116", after := #[{ on := 1, ground := Ground.data }, { on := 4, ground := Ground.data }, { on := 3, ground := Ground.chain }], guard := none }) rfl (fun K hK => ?_) AllReadyH.nil
        obtain ⟨base, cap, Y, hrun, hR, hG⟩ := app okPg _ (.slice vb1 vn1 vc1) acc1 HQa.out.rp (.slice (some ⟨Wx.heap.size, 0, none⟩) 1 1) [(x, s)] (in_one _ _ (x, s) #[.string x.a, .string x.p, .int .i64 x.st, .string x.vr, s.v] 34 (0, 0) (by rw [heap_al, if_pos rfl]) rfl) (by rw [show EPg.by' = 80 from rfl]; have := HJ1x.out.2.2.2; simp only [List.length_cons, List.length_nil]; omega)
        have hb0 := heap_lt HBa.out.b1
        have ho2 := own_gr hG HQa.out.op (by omega)
        have hQ9 := HQa.out.pages (Stay.gr HQa.out.rp hG) (x, s) HXa.out hR ho2
        have HB9 := hid (HBa.out.grw hG HQa.out.op l01 hgl hbl h80 hw0)
        obtain ⟨vn9, hvn⟩ : ∃ n, acc1.length + [(x, s)].length = n := ⟨_, rfl⟩
        rw [hvn] at hrun hQ9
        have HQ9 := hid hQ9
        clear hR hG ho2 hQ9 hb0 hvn HBa HQa HXa
        refine step_append_run rfl (.tmp 28) (.tmp 31) 41 41 rfl hrun (by first | rfl | simp [Act.eval, Act.put]) (by first | rfl | simp [Act.eval, Act.put]) ?_
        refine hK.out _ _ trivial (fun hHeld => ?_)
        clear hK K hrun
        try simp only [Act.put, List.setIfInBounds_toArray, List.set_cons_zero, List.set_cons_succ]
        refine wpAnyH_take (i := 6) (oi := { dst := some 33, op := Op.fieldAddr 45 (Operand.tmp 3) 3, type := 0, pos := "read.go:116", after := #[{ on := 0, ground := Ground.phase }, { on := 1, ground := Ground.phase }, { on := 2, ground := Ground.phase }, { on := 3, ground := Ground.phase }, { on := 4, ground := Ground.phase }, { on := 5, ground := Ground.phase }], guard := none }) (v := ?vv4) rfl (by kernel_rfl) (by kernel_rfl) (by kernel_rfl) (fun _ _ _ h => h) (Or.inl ⟨by rfl, ?hy4⟩) (by assumption) ?_
        case hy4 => (intro w hSw; (try dsimp only at hSw); go_simp; all_goals with_reducible rfl)
        try simp only [Act.put, List.setIfInBounds_toArray, List.set_cons_zero, List.set_cons_succ]
        refine wpAnyH_ready (rs := [7]) (by kernel_rfl) (by simp) ?_
        refine AllReadyH.cons (o := { dst := none, op := Op.store 41 (Operand.tmp 33) (Operand.tmp 32), type := 0, pos := "read.go:116", after := #[{ on := 6, ground := Ground.data }, { on := 5, ground := Ground.data }, { on := 5, ground := Ground.chain }, { on := 0, ground := Ground.phase }, { on := 1, ground := Ground.phase }, { on := 2, ground := Ground.phase }, { on := 3, ground := Ground.phase }, { on := 4, ground := Ground.phase }, { on := 5, ground := Ground.phase }], guard := none }) rfl (fun K hK => ?_) AllReadyH.nil
        have c16 := cell_blk HB9.out.b1 16
        have z16 := frozen_blk HB9.out.b1
        have l16 := heap_lt HB9.out.b1
        rw [show (wA s1 s2 ka kb kc kd (.slice vb1 vn1 vc1) (Sl.z.v) (Sl.z.v))[16]? = some (.slice vb1 vn1 vc1) from rfl] at c16
        have hbs := HB9.out.setCell n01 n1 nb1 h81 hw1 16 (.slice base vn9 cap)
        rw [show (wA s1 s2 ka kb kc kd (.slice vb1 vn1 vc1) (Sl.z.v) (Sl.z.v)).setIfInBounds 16 (.slice base vn9 cap) = (wA s1 s2 ka kb kc kd (.slice base vn9 cap) (Sl.z.v) (Sl.z.v)) from rfl] at hbs
        have hks := Ks.setCell (fun k => k = g1) Y g1 16 (.slice base vn9 cap) rfl
        have HBs := hid hbs
        have HQs := hid (HQ9.out.stay (Stay.low (t := 0) (B := g1 + 1) hks (fun k e => by have := e; omega)) (by decide) (by decide) (by decide) (by decide) (by decide))
        clear hbs hks HB9 HQ9
        go_simp
        go_wp2_with fail
        refine hK.out _ _ trivial (fun hHeld => ?_)
        clear hK K c16 z16 l16
        try simp only [Act.put, List.setIfInBounds_toArray, List.set_cons_zero, List.set_cons_succ]
        refine wpAnyH_done (by kernel_rfl) ?_ _
        go_wp2_with fail
        go_at_call 60
        refine (HEL.out _ _ HBs.out.rd).mono ?_
        rw [HELL.out]
        rintro e X9 ⟨rfl, hS, hK⟩
        have HBt := hid (HBs.out.call n0 n1 hS hK)
        have HQt := hid (HQs.out.stay (Stay.low (t := 0) (B := g1 + 1) hK (fun k e => by have := e; omega)) (by decide) (by decide) (by decide) (by decide) (by decide))
        clear hS hK HBs HQs
        go_wp2_with fail
        go_roundw
        case rel => exact ⟨rv, base, vn9, cap, _, hid ⟨by rw [List.map_append]; exact lp_go pg_shr HJ1x.out.1 HE.out, HBt.out, HQt.out, by have := HJ1x.out.2.2.2; have := HSH.out; simp only [List.length_append, List.length_cons, List.length_nil]; omega⟩⟩
        case measure => rw [HM1.out, HBt.out.rd.len]; exact HSH.out
      refine AllReadyH.cons (o := { dst := some 31, op := Op.buildSlice 41 1 #[(0, Operand.tmp 30)], type := 41, pos := "read.go:116", after := #[{ on := 3, ground := Ground.data }], guard := none }) rfl (fun K hK => ?_) AllReadyH.nil
      go_simp
      go_wp2_with fail
      have hal : Below Wx.heap.size Wx (Wx.alloc (.cells #[.string x.a, .string x.p, .int .i64 x.st, .string x.vr, s.v] 34)) := bel1 _ _
      have HBa := hid (HBWx.out.bel hal)
      have HQa := hid (HQWx.out.stay (t := 0) (Stay.below hal) (by decide) (by decide) (by decide) (by decide) (by decide))
      have HXa := hid (And.intro (HXWx.out.1.below hal) HXWx.out.2)
      clear HXWx
      clear hal HBWx HQWx
      refine hK.out _ _ trivial (fun hHeld => ?_)
      clear hK K
      try simp only [Act.put, List.setIfInBounds_toArray, List.set_cons_zero, List.set_cons_succ]
      refine wpAnyH_ready (rs := [1]) (by kernel_rfl) (by simp) ?_
      refine AllReadyH.cons (o := { dst := some 28, op := Op.load 41 (Operand.tmp 27), type := 41, pos := "read.go:116", after := #[{ on := 0, ground := Ground.data }], guard := none }) rfl (fun K hK => ?_) AllReadyH.nil
      have c16 := cell_blk HBa.out.b1 16
      rw [show (wA s1 s2 ka kb kc kd (.slice vb1 vn1 vc1) (Sl.z.v) (Sl.z.v))[16]? = some (.slice vb1 vn1 vc1) from rfl] at c16
      go_simp
      go_wp2_with fail
      refine hK.out _ _ trivial (fun hHeld => ?_)
      clear hK K c16
      try simp only [Act.put, List.setIfInBounds_toArray, List.set_cons_zero, List.set_cons_succ]
      refine wpAnyH_ready (rs := [5]) (by kernel_rfl) (by simp) ?_
      refine AllReadyH.cons (o := { dst := some 32, op := Op.call { callee := Callee.builtin Builtin.append, args := #[Operand.tmp 28, Operand.tmp 31], argTypes := #[41, 41] }, type := 41, pos := "read.go:116", after := #[{ on := 1, ground := Ground.data }, { on := 4, ground := Ground.data }, { on := 3, ground := Ground.chain }], guard := none }) rfl (fun K hK => ?_) AllReadyH.nil
      obtain ⟨base, cap, Y, hrun, hR, hG⟩ := app okPg _ (.slice vb1 vn1 vc1) acc1 HQa.out.rp (.slice (some ⟨Wx.heap.size, 0, none⟩) 1 1) [(x, s)] (in_one _ _ (x, s) #[.string x.a, .string x.p, .int .i64 x.st, .string x.vr, s.v] 34 (0, 0) (by rw [heap_al, if_pos rfl]) rfl) (by rw [show EPg.by' = 80 from rfl]; have := HJ1x.out.2.2.2; simp only [List.length_cons, List.length_nil]; omega)
      have hb0 := heap_lt HBa.out.b1
      have ho2 := own_gr hG HQa.out.op (by omega)
      have hQ9 := HQa.out.pages (Stay.gr HQa.out.rp hG) (x, s) HXa.out hR ho2
      have HB9 := hid (HBa.out.grw hG HQa.out.op l01 hgl hbl h80 hw0)
      obtain ⟨vn9, hvn⟩ : ∃ n, acc1.length + [(x, s)].length = n := ⟨_, rfl⟩
      rw [hvn] at hrun hQ9
      have HQ9 := hid hQ9
      clear hR hG ho2 hQ9 hb0 hvn HBa HQa HXa
      refine step_append_run rfl (.tmp 28) (.tmp 31) 41 41 rfl hrun (by first | rfl | simp [Act.eval, Act.put]) (by first | rfl | simp [Act.eval, Act.put]) ?_
      refine hK.out _ _ trivial (fun hHeld => ?_)
      clear hK K hrun
      try simp only [Act.put, List.setIfInBounds_toArray, List.set_cons_zero, List.set_cons_succ]
      refine wpAnyH_take (i := 6) (oi := { dst := some 33, op := Op.fieldAddr 45 (Operand.tmp 3) 3, type := 0, pos := "read.go:116", after := #[{ on := 0, ground := Ground.phase }, { on := 1, ground := Ground.phase }, { on := 2, ground := Ground.phase }, { on := 3, ground := Ground.phase }, { on := 4, ground := Ground.phase }, { on := 5, ground := Ground.phase }], guard := none }) (v := ?vv5) rfl (by kernel_rfl) (by kernel_rfl) (by kernel_rfl) (fun _ _ _ h => h) (Or.inl ⟨by rfl, ?hy5⟩) (by assumption) ?_
      case hy5 => (intro w hSw; (try dsimp only at hSw); go_simp; all_goals with_reducible rfl)
      try simp only [Act.put, List.setIfInBounds_toArray, List.set_cons_zero, List.set_cons_succ]
      refine wpAnyH_ready (rs := [7]) (by kernel_rfl) (by simp) ?_
      refine AllReadyH.cons (o := { dst := none, op := Op.store 41 (Operand.tmp 33) (Operand.tmp 32), type := 0, pos := "read.go:116", after := #[{ on := 6, ground := Ground.data }, { on := 5, ground := Ground.data }, { on := 5, ground := Ground.chain }, { on := 0, ground := Ground.phase }, { on := 1, ground := Ground.phase }, { on := 2, ground := Ground.phase }, { on := 3, ground := Ground.phase }, { on := 4, ground := Ground.phase }, { on := 5, ground := Ground.phase }], guard := none }) rfl (fun K hK => ?_) AllReadyH.nil
      have c16 := cell_blk HB9.out.b1 16
      have z16 := frozen_blk HB9.out.b1
      have l16 := heap_lt HB9.out.b1
      rw [show (wA s1 s2 ka kb kc kd (.slice vb1 vn1 vc1) (Sl.z.v) (Sl.z.v))[16]? = some (.slice vb1 vn1 vc1) from rfl] at c16
      have hbs := HB9.out.setCell n01 n1 nb1 h81 hw1 16 (.slice base vn9 cap)
      rw [show (wA s1 s2 ka kb kc kd (.slice vb1 vn1 vc1) (Sl.z.v) (Sl.z.v)).setIfInBounds 16 (.slice base vn9 cap) = (wA s1 s2 ka kb kc kd (.slice base vn9 cap) (Sl.z.v) (Sl.z.v)) from rfl] at hbs
      have hks := Ks.setCell (fun k => k = g1) Y g1 16 (.slice base vn9 cap) rfl
      have HBs := hid hbs
      have HQs := hid (HQ9.out.stay (Stay.low (t := 0) (B := g1 + 1) hks (fun k e => by have := e; omega)) (by decide) (by decide) (by decide) (by decide) (by decide))
      clear hbs hks HB9 HQ9
      go_simp
      go_wp2_with fail
      refine hK.out _ _ trivial (fun hHeld => ?_)
      clear hK K c16 z16 l16
      try simp only [Act.put, List.setIfInBounds_toArray, List.set_cons_zero, List.set_cons_succ]
      refine wpAnyH_done (by kernel_rfl) ?_ _
      go_wp2_with fail
      go_at_call 60
      refine (HEL.out _ _ HBs.out.rd).mono ?_
      rw [HELL.out]
      rintro e X9 ⟨rfl, hS, hK⟩
      have HBt := hid (HBs.out.call n0 n1 hS hK)
      have HQt := hid (HQs.out.stay (Stay.low (t := 0) (B := g1 + 1) hK (fun k e => by have := e; omega)) (by decide) (by decide) (by decide) (by decide) (by decide))
      clear hS hK HBs HQs
      go_wp2_with fail
      go_roundw
      case rel => exact ⟨rv, base, vn9, cap, _, hid ⟨by rw [List.map_append]; exact lp_go pg_shr HJ1x.out.1 HE.out, HBt.out, HQt.out, by have := HJ1x.out.2.2.2; have := HSH.out; simp only [List.length_append, List.length_cons, List.length_nil]; omega⟩⟩
      case measure => rw [HM1.out, HBt.out.rd.len]; exact HSH.out
    | false =>
      rw [sk_f rr1 nPage hsk] at hS
      have HB1e := hid (HJ1x.out.2.1.call n0 n1 hS hK)
      have HQ1e := hid hQs
      have HEND1 : Hid (lpS pgR r9 = (acc1.map (·.1), rr1)) := hid (lp_end HJ1x.out.1 (by unfold pgR; rw [hsk]; rfl))
      have HL9 : Hid (rr1.l.length ≤ 1073741824) := hid (by have := HJ1x.out.2.2.2; omega)
      clear hS hK hQs hsk HJ1x HM1
      go_wp2_with fail
      go_loopw [36] (fun _ wr => ∃ (rr : Rd) (vb2 : Option Addr) (vn2 vc2 : Nat) (acc2 : List (Ru × Sl)), Hid (lpS ruR rr1 = (acc2.map (·.1) ++ (lpS ruR rr).1, (lpS ruR rr).2) ∧ BlJ 45 wZ gr bw g0 g1 w rr (wA s1 s2 ka kb kc kd (.slice vb1 vn1 vc1) (.slice vb2 vn2 vc2) (Sl.z.v)) wr ∧ KP wr (g1 + 1) (.slice vb1 vn1 vc1) acc1 (.slice vb2 vn2 vc2) acc2 (Sl.z.v) [] ∧ acc2.length + rr.l.length ≤ 1073741824)) (fun _ wr => rdLen gr wr)
      case atStart => exact ⟨rr1, none, 0, 0, [], hid ⟨rfl, HB1e.out, HQ1e.out, by have := HL9.out; simpa using this⟩⟩
      case round =>
        obtain ⟨rr2, vb2, vn2, vc2, acc2, HJ2x⟩ := hrel
        clear HB1e HQ1e
        have HM2 := hid (HJ2x.out.2.1.rd.len)
        go_wp2_with fail
        go_at_call 63
        refine (HSK.out rr2 nRule _ HJ2x.out.2.1.rd).mono ?_
        rintro e U2 ⟨rfl, hS, hK⟩
        have hQs := HJ2x.out.2.2.1.stay (Stay.low (t := 0) (B := g1 + 1) hK (fun k e => by have := e; omega)) (by decide) (by decide) (by decide) (by decide) (by decide)
        cases hsk : (rr2.sk nRule).1 with
        | true =>
          obtain ⟨rs, hrs⟩ : ∃ q, (rr2.sk nRule).2 = q := ⟨_, rfl⟩
          have hls : rs.l.length ≤ 1073741824 := by have := sk_le rr2 nRule; rw [hrs] at this; have := HJ2x.out.2.2.2; omega
          rw [hrs] at hS
          obtain ⟨⟨x, rt⟩, hpg⟩ : ∃ q, rs.ru = q := ⟨_, rfl⟩
          obtain ⟨rv, hel⟩ : ∃ q, rt.el = q := ⟨_, rfl⟩
          have HE : Hid (ruR rr2 = some (x, rv)) := hid (by unfold ruR; rw [hsk, if_pos rfl, hrs, hpg, hel])
          have HSH : Hid (rv.l.length < rr2.l.length) := hid (ru_shr rr2 _ _ HE.out)
          have HELL := hid hel
          have HB0 := hid (HJ2x.out.2.1.call n0 n1 hS hK)
          have HQ0 := hid hQs
          have HP1 := hid (fun W hW => HRU.out rs W hW hls)
          simp only [hpg] at HP1
          clear hS hK hQs hsk hrs hls hpg hel
          go_upto_region 15 with fail
          have HBW := hid (HB0.out.bel ((Below.refl _ _).drew))
          have HQW := hid (HQ0.out.stay (t := 0) (Stay.below ((Below.refl _ _).drew)) (by decide) (by decide) (by decide) (by decide) (by decide))
          refine wp_region_held_drew (S := fun _ => True) (by kernel_rfl) trivial (fun hHeld => ?_)
          generalize World.drew _ = W at HBW HQW ⊢
          clear HB0 HQ0
          refine wpAnyH_take (i := 0) (oi := { dst := some 38, op := Op.fieldAddr 45 (Operand.tmp 3) 4, type := 0, pos := "read.go:120", after := #[], guard := none }) (v := ?vv6) rfl (by kernel_rfl) (by kernel_rfl) (by kernel_rfl) (fun _ _ _ h => h) (Or.inl ⟨by rfl, ?hy6⟩) (by assumption) ?_
          case hy6 => (intro w hSw; (try dsimp only at hSw); go_simp; all_goals with_reducible rfl)
          try simp only [Act.put, List.setIfInBounds_toArray, List.set_cons_zero, List.set_cons_succ]
          refine wpAnyH_take (i := 2) (oi := { dst := some 40, op := Op.move (Operand.tmp 0), type := 109, pos := "read.go:120", after := #[], guard := none }) (v := ?vv7) rfl (by kernel_rfl) (by kernel_rfl) (by kernel_rfl) (fun _ _ _ h => h) (Or.inl ⟨by rfl, ?hy7⟩) (by assumption) ?_
          case hy7 => (intro w hSw; (try dsimp only at hSw); go_simp; all_goals with_reducible rfl)
          try simp only [Act.put, List.setIfInBounds_toArray, List.set_cons_zero, List.set_cons_succ]
          refine wpAnyH_ready (rs := [1, 3]) (by kernel_rfl) (by simp) ?_
          refine AllReadyH.cons (o := { dst := some 39, op := Op.load 42 (Operand.tmp 38), type := 42, pos := "read.go:120", after := #[{ on := 0, ground := Ground.data }], guard := none }) rfl (fun K hK => ?_) ?_
          · have c16 := cell_blk HBW.out.b1 17
            rw [show (wA s1 s2 ka kb kc kd (.slice vb1 vn1 vc1) (.slice vb2 vn2 vc2) (Sl.z.v))[17]? = some (.slice vb2 vn2 vc2) from rfl] at c16
            go_simp
            go_wp2_with fail
            refine hK.out _ _ trivial (fun hHeld => ?_)
            clear hK K c16
            try simp only [Act.put, List.setIfInBounds_toArray, List.set_cons_zero, List.set_cons_succ]
            refine wpAnyH_ready (rs := [3]) (by kernel_rfl) (by simp) ?_
            refine AllReadyH.cons (o := { dst := some 41, op := Op.call { callee := Callee.value (Operand.func 87), args := #[Operand.tmp 40], argTypes := #[109] }, type := 64, pos := "read.go:120", after := #[{ on := 2, ground := Ground.data }], guard := none }) rfl (fun K hK => ?_) AllReadyH.nil
            go_simp
            refine (HP1.out _ HBW.out.rd).mono ?_
            rintro e' Wx ⟨v1, rfl, hR1, hO1, hS1, hK1⟩
            obtain ⟨s, rfl⟩ : ∃ s : Sl, v1 = s.v := by
              obtain ⟨b, c, e, _⟩ := hR1.slice
              exact ⟨⟨b, _, c⟩, e⟩
            have HXWx := hid (And.intro hR1 (show Own (g1 + 1) s.v from fun k e => by have := hO1 k e; have := heap_lt HBW.out.b1; omega))
            have HBWx := hid (HBW.out.call n0 n1 hS1 hK1)
            have HQWx := hid (HQW.out.stay (Stay.low (t := 0) (B := g1 + 1) hK1 (fun k e => by have := e; omega)) (by decide) (by decide) (by decide) (by decide) (by decide))
            clear hS1 hK1 HBW HQW hR1 hO1
            go_wp2_with fail
            refine hK.out _ _ trivial (fun hHeld => ?_)
            clear hK K
            try simp only [Act.put, List.setIfInBounds_toArray, List.set_cons_zero, List.set_cons_succ]
            refine wpAnyH_ready (rs := [4]) (by kernel_rfl) (by simp) ?_
            refine AllReadyH.cons (o := { dst := some 42, op := Op.buildSlice 42 1 #[(0, Operand.tmp 41)], type := 42, pos := "read.go:120", after := #[{ on := 3, ground := Ground.data }], guard := none }) rfl (fun K hK => ?_) AllReadyH.nil
            go_simp
            go_wp2_with fail
            have hal : Below Wx.heap.size Wx (Wx.alloc (.cells #[.string x.of.a, .string x.of.p, s.v] 64)) := bel1 _ _
            have HBa := hid (HBWx.out.bel hal)
            have HQa := hid (HQWx.out.stay (t := 0) (Stay.below hal) (by decide) (by decide) (by decide) (by decide) (by decide))
            have HXa := hid (And.intro (HXWx.out.1.below hal) HXWx.out.2)
            clear HXWx
            clear hal HBWx HQWx
            refine hK.out _ _ trivial (fun hHeld => ?_)
            clear hK K
            try simp only [Act.put, List.setIfInBounds_toArray, List.set_cons_zero, List.set_cons_succ]
            refine wpAnyH_ready (rs := [5]) (by kernel_rfl) (by simp) ?_
            refine AllReadyH.cons (o := { dst := some 43, op := Op.call { callee := Callee.builtin Builtin.append, args := #[Operand.tmp 39, Operand.tmp 42], argTypes := #[42, 42] }, type := 42, pos := "read.go:120", after := #[{ on := 1, ground := Ground.data }, { on := 4, ground := Ground.data }, { on := 3, ground := Ground.chain }], guard := none }) rfl (fun K hK => ?_) AllReadyH.nil
            obtain ⟨base, cap, Y, hrun, hR, hG⟩ := app okRu _ (.slice vb2 vn2 vc2) acc2 HQa.out.ru (.slice (some ⟨Wx.heap.size, 0, none⟩) 1 1) [(x, s)] (in_one _ _ (x, s) #[.string x.of.a, .string x.of.p, s.v] 64 (0, 0) (by rw [heap_al, if_pos rfl]) rfl) (by rw [show ERu.by' = 56 from rfl]; have := HJ2x.out.2.2.2; simp only [List.length_cons, List.length_nil]; omega)
            have hb0 := heap_lt HBa.out.b1
            have ho2 := own_gr hG HQa.out.ou (by omega)
            have hQ9 := HQa.out.rules (Stay.gr HQa.out.ru hG) (x, s) HXa.out hR ho2
            have HB9 := hid (HBa.out.grw hG HQa.out.ou l01 hgl hbl h80 hw0)
            obtain ⟨vn9, hvn⟩ : ∃ n, acc2.length + [(x, s)].length = n := ⟨_, rfl⟩
            rw [hvn] at hrun hQ9
            have HQ9 := hid hQ9
            clear hR hG ho2 hQ9 hb0 hvn HBa HQa HXa
            refine step_append_run rfl (.tmp 39) (.tmp 42) 42 42 rfl hrun (by first | rfl | simp [Act.eval, Act.put]) (by first | rfl | simp [Act.eval, Act.put]) ?_
            refine hK.out _ _ trivial (fun hHeld => ?_)
            clear hK K hrun
            try simp only [Act.put, List.setIfInBounds_toArray, List.set_cons_zero, List.set_cons_succ]
            refine wpAnyH_take (i := 6) (oi := { dst := some 44, op := Op.fieldAddr 45 (Operand.tmp 3) 4, type := 0, pos := "read.go:120", after := #[{ on := 0, ground := Ground.phase }, { on := 1, ground := Ground.phase }, { on := 2, ground := Ground.phase }, { on := 3, ground := Ground.phase }, { on := 4, ground := Ground.phase }, { on := 5, ground := Ground.phase }], guard := none }) (v := ?vv8) rfl (by kernel_rfl) (by kernel_rfl) (by kernel_rfl) (fun _ _ _ h => h) (Or.inl ⟨by rfl, ?hy8⟩) (by assumption) ?_
            case hy8 => (intro w hSw; (try dsimp only at hSw); go_simp; all_goals with_reducible rfl)
            try simp only [Act.put, List.setIfInBounds_toArray, List.set_cons_zero, List.set_cons_succ]
            refine wpAnyH_ready (rs := [7]) (by kernel_rfl) (by simp) ?_
            refine AllReadyH.cons (o := { dst := none, op := Op.store 42 (Operand.tmp 44) (Operand.tmp 43), type := 0, pos := "read.go:120", after := #[{ on := 6, ground := Ground.data }, { on := 5, ground := Ground.data }, { on := 5, ground := Ground.chain }, { on := 0, ground := Ground.phase }, { on := 1, ground := Ground.phase }, { on := 2, ground := Ground.phase }, { on := 3, ground := Ground.phase }, { on := 4, ground := Ground.phase }, { on := 5, ground := Ground.phase }], guard := none }) rfl (fun K hK => ?_) AllReadyH.nil
            have c16 := cell_blk HB9.out.b1 17
            have z16 := frozen_blk HB9.out.b1
            have l16 := heap_lt HB9.out.b1
            rw [show (wA s1 s2 ka kb kc kd (.slice vb1 vn1 vc1) (.slice vb2 vn2 vc2) (Sl.z.v))[17]? = some (.slice vb2 vn2 vc2) from rfl] at c16
            have hbs := HB9.out.setCell n01 n1 nb1 h81 hw1 17 (.slice base vn9 cap)
            rw [show (wA s1 s2 ka kb kc kd (.slice vb1 vn1 vc1) (.slice vb2 vn2 vc2) (Sl.z.v)).setIfInBounds 17 (.slice base vn9 cap) = (wA s1 s2 ka kb kc kd (.slice vb1 vn1 vc1) (.slice base vn9 cap) (Sl.z.v)) from rfl] at hbs
            have hks := Ks.setCell (fun k => k = g1) Y g1 17 (.slice base vn9 cap) rfl
            have HBs := hid hbs
            have HQs := hid (HQ9.out.stay (Stay.low (t := 0) (B := g1 + 1) hks (fun k e => by have := e; omega)) (by decide) (by decide) (by decide) (by decide) (by decide))
            clear hbs hks HB9 HQ9
            go_simp
            go_wp2_with fail
            refine hK.out _ _ trivial (fun hHeld => ?_)
            clear hK K c16 z16 l16
            try simp only [Act.put, List.setIfInBounds_toArray, List.set_cons_zero, List.set_cons_succ]
            refine wpAnyH_done (by kernel_rfl) ?_ _
            go_wp2_with fail
            go_at_call 60
            refine (HEL.out _ _ HBs.out.rd).mono ?_
            rw [HELL.out]
            rintro e X9 ⟨rfl, hS, hK⟩
            have HBt := hid (HBs.out.call n0 n1 hS hK)
            have HQt := hid (HQs.out.stay (Stay.low (t := 0) (B := g1 + 1) hK (fun k e => by have := e; omega)) (by decide) (by decide) (by decide) (by decide) (by decide))
            clear hS hK HBs HQs
            go_wp2_with fail
            go_roundw
            case rel => exact ⟨rv, base, vn9, cap, _, hid ⟨by rw [List.map_append]; exact lp_go ru_shr HJ2x.out.1 HE.out, HBt.out, HQt.out, by have := HJ2x.out.2.2.2; have := HSH.out; simp only [List.length_append, List.length_cons, List.length_nil]; omega⟩⟩
            case measure => rw [HM2.out, HBt.out.rd.len]; exact HSH.out
          refine AllReadyH.cons (o := { dst := some 41, op := Op.call { callee := Callee.value (Operand.func 87), args := #[Operand.tmp 40], argTypes := #[109] }, type := 64, pos := "read.go:120", after := #[{ on := 2, ground := Ground.data }], guard := none }) rfl (fun K hK => ?_) AllReadyH.nil
          go_simp
          refine (HP1.out _ HBW.out.rd).mono ?_
          rintro e' Wx ⟨v1, rfl, hR1, hO1, hS1, hK1⟩
          obtain ⟨s, rfl⟩ : ∃ s : Sl, v1 = s.v := by
            obtain ⟨b, c, e, _⟩ := hR1.slice
            exact ⟨⟨b, _, c⟩, e⟩
          have HXWx := hid (And.intro hR1 (show Own (g1 + 1) s.v from fun k e => by have := hO1 k e; have := heap_lt HBW.out.b1; omega))
          have HBWx := hid (HBW.out.call n0 n1 hS1 hK1)
          have HQWx := hid (HQW.out.stay (Stay.low (t := 0) (B := g1 + 1) hK1 (fun k e => by have := e; omega)) (by decide) (by decide) (by decide) (by decide) (by decide))
          clear hS1 hK1 HBW HQW hR1 hO1
          go_wp2_with fail
          refine hK.out _ _ trivial (fun hHeld => ?_)
          clear hK K
          try simp only [Act.put, List.setIfInBounds_toArray, List.set_cons_zero, List.set_cons_succ]
          refine wpAnyH_ready (rs := [1, 4]) (by kernel_rfl) (by simp) ?_
          refine AllReadyH.cons (o := { dst := some 39, op := Op.load 42 (Operand.tmp 38), type := 42, pos := "read.go:120", after := #[{ on := 0, ground := Ground.data }], guard := none }) rfl (fun K hK => ?_) ?_
          · have c16 := cell_blk HBWx.out.b1 17
            rw [show (wA s1 s2 ka kb kc kd (.slice vb1 vn1 vc1) (.slice vb2 vn2 vc2) (Sl.z.v))[17]? = some (.slice vb2 vn2 vc2) from rfl] at c16
            go_simp
            go_wp2_with fail
            refine hK.out _ _ trivial (fun hHeld => ?_)
            clear hK K c16
            try simp only [Act.put, List.setIfInBounds_toArray, List.set_cons_zero, List.set_cons_succ]
            refine wpAnyH_ready (rs := [4]) (by kernel_rfl) (by simp) ?_
            refine AllReadyH.cons (o := { dst := some 42, op := Op.buildSlice 42 1 #[(0, Operand.tmp 41)], type := 42, pos := "read.go:120", after := #[{ on := 3, ground := Ground.data }], guard := none }) rfl (fun K hK => ?_) AllReadyH.nil
            go_simp
            go_wp2_with fail
            have hal : Below Wx.heap.size Wx (Wx.alloc (.cells #[.string x.of.a, .string x.of.p, s.v] 64)) := bel1 _ _
            have HBa := hid (HBWx.out.bel hal)
            have HQa := hid (HQWx.out.stay (t := 0) (Stay.below hal) (by decide) (by decide) (by decide) (by decide) (by decide))
            have HXa := hid (And.intro (HXWx.out.1.below hal) HXWx.out.2)
            clear HXWx
            clear hal HBWx HQWx
            refine hK.out _ _ trivial (fun hHeld => ?_)
            clear hK K
            try simp only [Act.put, List.setIfInBounds_toArray, List.set_cons_zero, List.set_cons_succ]
            refine wpAnyH_ready (rs := [5]) (by kernel_rfl) (by simp) ?_
            refine AllReadyH.cons (o := { dst := some 43, op := Op.call { callee := Callee.builtin Builtin.append, args := #[Operand.tmp 39, Operand.tmp 42], argTypes := #[42, 42] }, type := 42, pos := "read.go:120", after := #[{ on := 1, ground := Ground.data }, { on := 4, ground := Ground.data }, { on := 3, ground := Ground.chain }], guard := none }) rfl (fun K hK => ?_) AllReadyH.nil
            obtain ⟨base, cap, Y, hrun, hR, hG⟩ := app okRu _ (.slice vb2 vn2 vc2) acc2 HQa.out.ru (.slice (some ⟨Wx.heap.size, 0, none⟩) 1 1) [(x, s)] (in_one _ _ (x, s) #[.string x.of.a, .string x.of.p, s.v] 64 (0, 0) (by rw [heap_al, if_pos rfl]) rfl) (by rw [show ERu.by' = 56 from rfl]; have := HJ2x.out.2.2.2; simp only [List.length_cons, List.length_nil]; omega)
            have hb0 := heap_lt HBa.out.b1
            have ho2 := own_gr hG HQa.out.ou (by omega)
            have hQ9 := HQa.out.rules (Stay.gr HQa.out.ru hG) (x, s) HXa.out hR ho2
            have HB9 := hid (HBa.out.grw hG HQa.out.ou l01 hgl hbl h80 hw0)
            obtain ⟨vn9, hvn⟩ : ∃ n, acc2.length + [(x, s)].length = n := ⟨_, rfl⟩
            rw [hvn] at hrun hQ9
            have HQ9 := hid hQ9
            clear hR hG ho2 hQ9 hb0 hvn HBa HQa HXa
            refine step_append_run rfl (.tmp 39) (.tmp 42) 42 42 rfl hrun (by first | rfl | simp [Act.eval, Act.put]) (by first | rfl | simp [Act.eval, Act.put]) ?_
            refine hK.out _ _ trivial (fun hHeld => ?_)
            clear hK K hrun
            try simp only [Act.put, List.setIfInBounds_toArray, List.set_cons_zero, List.set_cons_succ]
            refine wpAnyH_take (i := 6) (oi := { dst := some 44, op := Op.fieldAddr 45 (Operand.tmp 3) 4, type := 0, pos := "read.go:120", after := #[{ on := 0, ground := Ground.phase }, { on := 1, ground := Ground.phase }, { on := 2, ground := Ground.phase }, { on := 3, ground := Ground.phase }, { on := 4, ground := Ground.phase }, { on := 5, ground := Ground.phase }], guard := none }) (v := ?vv9) rfl (by kernel_rfl) (by kernel_rfl) (by kernel_rfl) (fun _ _ _ h => h) (Or.inl ⟨by rfl, ?hy9⟩) (by assumption) ?_
            case hy9 => (intro w hSw; (try dsimp only at hSw); go_simp; all_goals with_reducible rfl)
            try simp only [Act.put, List.setIfInBounds_toArray, List.set_cons_zero, List.set_cons_succ]
            refine wpAnyH_ready (rs := [7]) (by kernel_rfl) (by simp) ?_
            refine AllReadyH.cons (o := { dst := none, op := Op.store 42 (Operand.tmp 44) (Operand.tmp 43), type := 0, pos := "read.go:120", after := #[{ on := 6, ground := Ground.data }, { on := 5, ground := Ground.data }, { on := 5, ground := Ground.chain }, { on := 0, ground := Ground.phase }, { on := 1, ground := Ground.phase }, { on := 2, ground := Ground.phase }, { on := 3, ground := Ground.phase }, { on := 4, ground := Ground.phase }, { on := 5, ground := Ground.phase }], guard := none }) rfl (fun K hK => ?_) AllReadyH.nil
            have c16 := cell_blk HB9.out.b1 17
            have z16 := frozen_blk HB9.out.b1
            have l16 := heap_lt HB9.out.b1
            rw [show (wA s1 s2 ka kb kc kd (.slice vb1 vn1 vc1) (.slice vb2 vn2 vc2) (Sl.z.v))[17]? = some (.slice vb2 vn2 vc2) from rfl] at c16
            have hbs := HB9.out.setCell n01 n1 nb1 h81 hw1 17 (.slice base vn9 cap)
            rw [show (wA s1 s2 ka kb kc kd (.slice vb1 vn1 vc1) (.slice vb2 vn2 vc2) (Sl.z.v)).setIfInBounds 17 (.slice base vn9 cap) = (wA s1 s2 ka kb kc kd (.slice vb1 vn1 vc1) (.slice base vn9 cap) (Sl.z.v)) from rfl] at hbs
            have hks := Ks.setCell (fun k => k = g1) Y g1 17 (.slice base vn9 cap) rfl
            have HBs := hid hbs
            have HQs := hid (HQ9.out.stay (Stay.low (t := 0) (B := g1 + 1) hks (fun k e => by have := e; omega)) (by decide) (by decide) (by decide) (by decide) (by decide))
            clear hbs hks HB9 HQ9
            go_simp
            go_wp2_with fail
            refine hK.out _ _ trivial (fun hHeld => ?_)
            clear hK K c16 z16 l16
            try simp only [Act.put, List.setIfInBounds_toArray, List.set_cons_zero, List.set_cons_succ]
            refine wpAnyH_done (by kernel_rfl) ?_ _
            go_wp2_with fail
            go_at_call 60
            refine (HEL.out _ _ HBs.out.rd).mono ?_
            rw [HELL.out]
            rintro e X9 ⟨rfl, hS, hK⟩
            have HBt := hid (HBs.out.call n0 n1 hS hK)
            have HQt := hid (HQs.out.stay (Stay.low (t := 0) (B := g1 + 1) hK (fun k e => by have := e; omega)) (by decide) (by decide) (by decide) (by decide) (by decide))
            clear hS hK HBs HQs
            go_wp2_with fail
            go_roundw
            case rel => exact ⟨rv, base, vn9, cap, _, hid ⟨by rw [List.map_append]; exact lp_go ru_shr HJ2x.out.1 HE.out, HBt.out, HQt.out, by have := HJ2x.out.2.2.2; have := HSH.out; simp only [List.length_append, List.length_cons, List.length_nil]; omega⟩⟩
            case measure => rw [HM2.out, HBt.out.rd.len]; exact HSH.out
          refine AllReadyH.cons (o := { dst := some 42, op := Op.buildSlice 42 1 #[(0, Operand.tmp 41)], type := 42, pos := "read.go:120", after := #[{ on := 3, ground := Ground.data }], guard := none }) rfl (fun K hK => ?_) AllReadyH.nil
          go_simp
          go_wp2_with fail
          have hal : Below Wx.heap.size Wx (Wx.alloc (.cells #[.string x.of.a, .string x.of.p, s.v] 64)) := bel1 _ _
          have HBa := hid (HBWx.out.bel hal)
          have HQa := hid (HQWx.out.stay (t := 0) (Stay.below hal) (by decide) (by decide) (by decide) (by decide) (by decide))
          have HXa := hid (And.intro (HXWx.out.1.below hal) HXWx.out.2)
          clear HXWx
          clear hal HBWx HQWx
          refine hK.out _ _ trivial (fun hHeld => ?_)
          clear hK K
          try simp only [Act.put, List.setIfInBounds_toArray, List.set_cons_zero, List.set_cons_succ]
          refine wpAnyH_ready (rs := [1]) (by kernel_rfl) (by simp) ?_
          refine AllReadyH.cons (o := { dst := some 39, op := Op.load 42 (Operand.tmp 38), type := 42, pos := "read.go:120", after := #[{ on := 0, ground := Ground.data }], guard := none }) rfl (fun K hK => ?_) AllReadyH.nil
          have c16 := cell_blk HBa.out.b1 17
          rw [show (wA s1 s2 ka kb kc kd (.slice vb1 vn1 vc1) (.slice vb2 vn2 vc2) (Sl.z.v))[17]? = some (.slice vb2 vn2 vc2) from rfl] at c16
          go_simp
          go_wp2_with fail
          refine hK.out _ _ trivial (fun hHeld => ?_)
          clear hK K c16
          try simp only [Act.put, List.setIfInBounds_toArray, List.set_cons_zero, List.set_cons_succ]
          refine wpAnyH_ready (rs := [5]) (by kernel_rfl) (by simp) ?_
          refine AllReadyH.cons (o := { dst := some 43, op := Op.call { callee := Callee.builtin Builtin.append, args := #[Operand.tmp 39, Operand.tmp 42], argTypes := #[42, 42] }, type := 42, pos := "read.go:120", after := #[{ on := 1, ground := Ground.data }, { on := 4, ground := Ground.data }, { on := 3, ground := Ground.chain }], guard := none }) rfl (fun K hK => ?_) AllReadyH.nil
          obtain ⟨base, cap, Y, hrun, hR, hG⟩ := app okRu _ (.slice vb2 vn2 vc2) acc2 HQa.out.ru (.slice (some ⟨Wx.heap.size, 0, none⟩) 1 1) [(x, s)] (in_one _ _ (x, s) #[.string x.of.a, .string x.of.p, s.v] 64 (0, 0) (by rw [heap_al, if_pos rfl]) rfl) (by rw [show ERu.by' = 56 from rfl]; have := HJ2x.out.2.2.2; simp only [List.length_cons, List.length_nil]; omega)
          have hb0 := heap_lt HBa.out.b1
          have ho2 := own_gr hG HQa.out.ou (by omega)
          have hQ9 := HQa.out.rules (Stay.gr HQa.out.ru hG) (x, s) HXa.out hR ho2
          have HB9 := hid (HBa.out.grw hG HQa.out.ou l01 hgl hbl h80 hw0)
          obtain ⟨vn9, hvn⟩ : ∃ n, acc2.length + [(x, s)].length = n := ⟨_, rfl⟩
          rw [hvn] at hrun hQ9
          have HQ9 := hid hQ9
          clear hR hG ho2 hQ9 hb0 hvn HBa HQa HXa
          refine step_append_run rfl (.tmp 39) (.tmp 42) 42 42 rfl hrun (by first | rfl | simp [Act.eval, Act.put]) (by first | rfl | simp [Act.eval, Act.put]) ?_
          refine hK.out _ _ trivial (fun hHeld => ?_)
          clear hK K hrun
          try simp only [Act.put, List.setIfInBounds_toArray, List.set_cons_zero, List.set_cons_succ]
          refine wpAnyH_take (i := 6) (oi := { dst := some 44, op := Op.fieldAddr 45 (Operand.tmp 3) 4, type := 0, pos := "read.go:120", after := #[{ on := 0, ground := Ground.phase }, { on := 1, ground := Ground.phase }, { on := 2, ground := Ground.phase }, { on := 3, ground := Ground.phase }, { on := 4, ground := Ground.phase }, { on := 5, ground := Ground.phase }], guard := none }) (v := ?vv10) rfl (by kernel_rfl) (by kernel_rfl) (by kernel_rfl) (fun _ _ _ h => h) (Or.inl ⟨by rfl, ?hy10⟩) (by assumption) ?_
          case hy10 => (intro w hSw; (try dsimp only at hSw); go_simp; all_goals with_reducible rfl)
          try simp only [Act.put, List.setIfInBounds_toArray, List.set_cons_zero, List.set_cons_succ]
          refine wpAnyH_ready (rs := [7]) (by kernel_rfl) (by simp) ?_
          refine AllReadyH.cons (o := { dst := none, op := Op.store 42 (Operand.tmp 44) (Operand.tmp 43), type := 0, pos := "read.go:120", after := #[{ on := 6, ground := Ground.data }, { on := 5, ground := Ground.data }, { on := 5, ground := Ground.chain }, { on := 0, ground := Ground.phase }, { on := 1, ground := Ground.phase }, { on := 2, ground := Ground.phase }, { on := 3, ground := Ground.phase }, { on := 4, ground := Ground.phase }, { on := 5, ground := Ground.phase }], guard := none }) rfl (fun K hK => ?_) AllReadyH.nil
          have c16 := cell_blk HB9.out.b1 17
          have z16 := frozen_blk HB9.out.b1
          have l16 := heap_lt HB9.out.b1
          rw [show (wA s1 s2 ka kb kc kd (.slice vb1 vn1 vc1) (.slice vb2 vn2 vc2) (Sl.z.v))[17]? = some (.slice vb2 vn2 vc2) from rfl] at c16
          have hbs := HB9.out.setCell n01 n1 nb1 h81 hw1 17 (.slice base vn9 cap)
          rw [show (wA s1 s2 ka kb kc kd (.slice vb1 vn1 vc1) (.slice vb2 vn2 vc2) (Sl.z.v)).setIfInBounds 17 (.slice base vn9 cap) = (wA s1 s2 ka kb kc kd (.slice vb1 vn1 vc1) (.slice base vn9 cap) (Sl.z.v)) from rfl] at hbs
          have hks := Ks.setCell (fun k => k = g1) Y g1 17 (.slice base vn9 cap) rfl
          have HBs := hid hbs
          have HQs := hid (HQ9.out.stay (Stay.low (t := 0) (B := g1 + 1) hks (fun k e => by have := e; omega)) (by decide) (by decide) (by decide) (by decide) (by decide))
          clear hbs hks HB9 HQ9
          go_simp
          go_wp2_with fail
          refine hK.out _ _ trivial (fun hHeld => ?_)
          clear hK K c16 z16 l16
          try simp only [Act.put, List.setIfInBounds_toArray, List.set_cons_zero, List.set_cons_succ]
          refine wpAnyH_done (by kernel_rfl) ?_ _
          go_wp2_with fail
          go_at_call 60
          refine (HEL.out _ _ HBs.out.rd).mono ?_
          rw [HELL.out]
          rintro e X9 ⟨rfl, hS, hK⟩
          have HBt := hid (HBs.out.call n0 n1 hS hK)
          have HQt := hid (HQs.out.stay (Stay.low (t := 0) (B := g1 + 1) hK (fun k e => by have := e; omega)) (by decide) (by decide) (by decide) (by decide) (by decide))
          clear hS hK HBs HQs
          go_wp2_with fail
          go_roundw
          case rel => exact ⟨rv, base, vn9, cap, _, hid ⟨by rw [List.map_append]; exact lp_go ru_shr HJ2x.out.1 HE.out, HBt.out, HQt.out, by have := HJ2x.out.2.2.2; have := HSH.out; simp only [List.length_append, List.length_cons, List.length_nil]; omega⟩⟩
          case measure => rw [HM2.out, HBt.out.rd.len]; exact HSH.out
        | false =>
          rw [sk_f rr2 nRule hsk] at hS
          have HB2e := hid (HJ2x.out.2.1.call n0 n1 hS hK)
          have HQ2e := hid hQs
          have HEND2 : Hid (lpS ruR rr1 = (acc2.map (·.1), rr2)) := hid (lp_end HJ2x.out.1 (by unfold ruR; rw [hsk]; rfl))
          have HL9 : Hid (rr2.l.length ≤ 1073741824) := hid (by have := HJ2x.out.2.2.2; omega)
          clear hS hK hQs hsk HJ2x HM2
          go_wp2_with fail
          go_loopw [47] (fun _ wr => ∃ (rr : Rd) (vb3 : Option Addr) (vn3 vc3 : Nat) (acc3 : List ByteArray), Hid (lpS ogR rr2 = (acc3 ++ (lpS ogR rr).1, (lpS ogR rr).2) ∧ BlJ 45 wZ gr bw g0 g1 w rr (wA s1 s2 ka kb kc kd (.slice vb1 vn1 vc1) (.slice vb2 vn2 vc2) (.slice vb3 vn3 vc3)) wr ∧ KP wr (g1 + 1) (.slice vb1 vn1 vc1) acc1 (.slice vb2 vn2 vc2) acc2 (.slice vb3 vn3 vc3) acc3 ∧ acc3.length + rr.l.length ≤ 1073741824)) (fun _ wr => rdLen gr wr)
          case atStart => exact ⟨rr2, none, 0, 0, [], hid ⟨rfl, HB2e.out, HQ2e.out, by have := HL9.out; simpa using this⟩⟩
          case round =>
            obtain ⟨rr3, vb3, vn3, vc3, acc3, HJ3x⟩ := hrel
            clear HB2e HQ2e
            have HM3 := hid (HJ3x.out.2.1.rd.len)
            go_wp2_with fail
            go_at_call 63
            refine (HSK.out rr3 nOrigin _ HJ3x.out.2.1.rd).mono ?_
            rintro e U3 ⟨rfl, hS, hK⟩
            have hQs := HJ3x.out.2.2.1.stay (Stay.low (t := 0) (B := g1 + 1) hK (fun k e => by have := e; omega)) (by decide) (by decide) (by decide) (by decide) (by decide)
            cases hsk : (rr3.sk nOrigin).1 with
            | true =>
              obtain ⟨rs, hrs⟩ : ∃ q, (rr3.sk nOrigin).2 = q := ⟨_, rfl⟩
              have hls : rs.l.length ≤ 1073741824 := by have := sk_le rr3 nOrigin; rw [hrs] at this; have := HJ3x.out.2.2.2; omega
              rw [hrs] at hS
              obtain ⟨⟨x, rt⟩, hpg⟩ : ∃ q, rs.nx 1 = q := ⟨_, rfl⟩
              obtain ⟨rv, hel⟩ : ∃ q, rt.el = q := ⟨_, rfl⟩
              have HE : Hid (ogR rr3 = some (x, rv)) := hid (by unfold ogR; rw [hsk, if_pos rfl, hrs, hpg, hel])
              have HSH : Hid (rv.l.length < rr3.l.length) := hid (og_shr rr3 _ _ HE.out)
              have HELL := hid hel
              have HB0 := hid (HJ3x.out.2.1.call n0 n1 hS hK)
              have HQ0 := hid hQs
              have HP1 := hid (fun W hW => HTX.out rs W hW)
              simp only [hpg] at HP1
              clear hS hK hQs hsk hrs hls hpg hel
              go_upto_region 18 with fail
              have HBW := hid (HB0.out.bel ((Below.refl _ _).drew))
              have HQW := hid (HQ0.out.stay (t := 0) (Stay.below ((Below.refl _ _).drew)) (by decide) (by decide) (by decide) (by decide) (by decide))
              refine wp_region_held_drew (S := fun _ => True) (by kernel_rfl) trivial (fun hHeld => ?_)
              generalize World.drew _ = W at HBW HQW ⊢
              clear HB0 HQ0
              refine wpAnyH_take (i := 0) (oi := { dst := some 49, op := Op.fieldAddr 45 (Operand.tmp 3) 5, type := 0, pos := "read.go:124", after := #[], guard := none }) (v := ?vv11) rfl (by kernel_rfl) (by kernel_rfl) (by kernel_rfl) (fun _ _ _ h => h) (Or.inl ⟨by rfl, ?hy11⟩) (by assumption) ?_
              case hy11 => (intro w hSw; (try dsimp only at hSw); go_simp; all_goals with_reducible rfl)
              try simp only [Act.put, List.setIfInBounds_toArray, List.set_cons_zero, List.set_cons_succ]
              refine wpAnyH_take (i := 2) (oi := { dst := some 51, op := Op.move (Operand.tmp 0), type := 109, pos := "read.go:124", after := #[], guard := none }) (v := ?vv12) rfl (by kernel_rfl) (by kernel_rfl) (by kernel_rfl) (fun _ _ _ h => h) (Or.inl ⟨by rfl, ?hy12⟩) (by assumption) ?_
              case hy12 => (intro w hSw; (try dsimp only at hSw); go_simp; all_goals with_reducible rfl)
              try simp only [Act.put, List.setIfInBounds_toArray, List.set_cons_zero, List.set_cons_succ]
              refine wpAnyH_ready (rs := [1, 3]) (by kernel_rfl) (by simp) ?_
              refine AllReadyH.cons (o := { dst := some 50, op := Op.load 43 (Operand.tmp 49), type := 43, pos := "read.go:124", after := #[{ on := 0, ground := Ground.data }], guard := none }) rfl (fun K hK => ?_) ?_
              · have c16 := cell_blk HBW.out.b1 18
                rw [show (wA s1 s2 ka kb kc kd (.slice vb1 vn1 vc1) (.slice vb2 vn2 vc2) (.slice vb3 vn3 vc3))[18]? = some (.slice vb3 vn3 vc3) from rfl] at c16
                go_simp
                go_wp2_with fail
                refine hK.out _ _ trivial (fun hHeld => ?_)
                clear hK K c16
                try simp only [Act.put, List.setIfInBounds_toArray, List.set_cons_zero, List.set_cons_succ]
                refine wpAnyH_ready (rs := [3]) (by kernel_rfl) (by simp) ?_
                refine AllReadyH.cons (o := { dst := some 52, op := Op.call { callee := Callee.value (Operand.func 88), args := #[Operand.tmp 51], argTypes := #[109] }, type := 9, pos := "read.go:124", after := #[{ on := 2, ground := Ground.data }], guard := none }) rfl (fun K hK => ?_) AllReadyH.nil
                go_simp
                refine (HP1.out _ HBW.out.rd).mono ?_
                rintro e' Wx ⟨rfl, hS1, hK1⟩
                have HBWx := hid (HBW.out.call n0 n1 hS1 hK1)
                have HQWx := hid (HQW.out.stay (Stay.low (t := 0) (B := g1 + 1) hK1 (fun k e => by have := e; omega)) (by decide) (by decide) (by decide) (by decide) (by decide))
                clear hS1 hK1 HBW HQW
                go_wp2_with fail
                refine hK.out _ _ trivial (fun hHeld => ?_)
                clear hK K
                try simp only [Act.put, List.setIfInBounds_toArray, List.set_cons_zero, List.set_cons_succ]
                refine wpAnyH_ready (rs := [4]) (by kernel_rfl) (by simp) ?_
                refine AllReadyH.cons (o := { dst := some 53, op := Op.buildSlice 43 1 #[(0, Operand.tmp 52)], type := 43, pos := "read.go:124", after := #[{ on := 3, ground := Ground.data }], guard := none }) rfl (fun K hK => ?_) AllReadyH.nil
                go_simp
                go_wp2_with fail
                have hal : Below Wx.heap.size Wx (Wx.alloc (.cells #[.string x] 9)) := bel1 _ _
                have HBa := hid (HBWx.out.bel hal)
                have HQa := hid (HQWx.out.stay (t := 0) (Stay.below hal) (by decide) (by decide) (by decide) (by decide) (by decide))
                clear hal HBWx HQWx
                refine hK.out _ _ trivial (fun hHeld => ?_)
                clear hK K
                try simp only [Act.put, List.setIfInBounds_toArray, List.set_cons_zero, List.set_cons_succ]
                refine wpAnyH_ready (rs := [5]) (by kernel_rfl) (by simp) ?_
                refine AllReadyH.cons (o := { dst := some 54, op := Op.call { callee := Callee.builtin Builtin.append, args := #[Operand.tmp 50, Operand.tmp 53], argTypes := #[43, 43] }, type := 43, pos := "read.go:124", after := #[{ on := 1, ground := Ground.data }, { on := 4, ground := Ground.data }, { on := 3, ground := Ground.chain }], guard := none }) rfl (fun K hK => ?_) AllReadyH.nil
                obtain ⟨base, cap, Y, hrun, hR, hG⟩ := app okOg _ (.slice vb3 vn3 vc3) acc3 HQa.out.ro (.slice (some ⟨Wx.heap.size, 0, none⟩) 1 1) [x] (in_one _ _ x #[.string x] 9 (0, 0) (by rw [heap_al, if_pos rfl]) rfl) (by rw [show EOg.by' = 16 from rfl]; have := HJ3x.out.2.2.2; simp only [List.length_cons, List.length_nil]; omega)
                have hb0 := heap_lt HBa.out.b1
                have ho2 := own_gr hG HQa.out.oo (by omega)
                have hQ9 := HQa.out.origins (Stay.gr HQa.out.ro hG) x hR ho2
                have HB9 := hid (HBa.out.grw hG HQa.out.oo l01 hgl hbl h80 hw0)
                obtain ⟨vn9, hvn⟩ : ∃ n, acc3.length + [x].length = n := ⟨_, rfl⟩
                rw [hvn] at hrun hQ9
                have HQ9 := hid hQ9
                clear hR hG ho2 hQ9 hb0 hvn HBa HQa
                refine step_append_run rfl (.tmp 50) (.tmp 53) 43 43 rfl hrun (by first | rfl | simp [Act.eval, Act.put]) (by first | rfl | simp [Act.eval, Act.put]) ?_
                refine hK.out _ _ trivial (fun hHeld => ?_)
                clear hK K hrun
                try simp only [Act.put, List.setIfInBounds_toArray, List.set_cons_zero, List.set_cons_succ]
                refine wpAnyH_take (i := 6) (oi := { dst := some 55, op := Op.fieldAddr 45 (Operand.tmp 3) 5, type := 0, pos := "read.go:124", after := #[{ on := 0, ground := Ground.phase }, { on := 1, ground := Ground.phase }, { on := 2, ground := Ground.phase }, { on := 3, ground := Ground.phase }, { on := 4, ground := Ground.phase }, { on := 5, ground := Ground.phase }], guard := none }) (v := ?vv13) rfl (by kernel_rfl) (by kernel_rfl) (by kernel_rfl) (fun _ _ _ h => h) (Or.inl ⟨by rfl, ?hy13⟩) (by assumption) ?_
                case hy13 => (intro w hSw; (try dsimp only at hSw); go_simp; all_goals with_reducible rfl)
                try simp only [Act.put, List.setIfInBounds_toArray, List.set_cons_zero, List.set_cons_succ]
                refine wpAnyH_ready (rs := [7]) (by kernel_rfl) (by simp) ?_
                refine AllReadyH.cons (o := { dst := none, op := Op.store 43 (Operand.tmp 55) (Operand.tmp 54), type := 0, pos := "read.go:124", after := #[{ on := 6, ground := Ground.data }, { on := 5, ground := Ground.data }, { on := 5, ground := Ground.chain }, { on := 0, ground := Ground.phase }, { on := 1, ground := Ground.phase }, { on := 2, ground := Ground.phase }, { on := 3, ground := Ground.phase }, { on := 4, ground := Ground.phase }, { on := 5, ground := Ground.phase }], guard := none }) rfl (fun K hK => ?_) AllReadyH.nil
                have c16 := cell_blk HB9.out.b1 18
                have z16 := frozen_blk HB9.out.b1
                have l16 := heap_lt HB9.out.b1
                rw [show (wA s1 s2 ka kb kc kd (.slice vb1 vn1 vc1) (.slice vb2 vn2 vc2) (.slice vb3 vn3 vc3))[18]? = some (.slice vb3 vn3 vc3) from rfl] at c16
                have hbs := HB9.out.setCell n01 n1 nb1 h81 hw1 18 (.slice base vn9 cap)
                rw [show (wA s1 s2 ka kb kc kd (.slice vb1 vn1 vc1) (.slice vb2 vn2 vc2) (.slice vb3 vn3 vc3)).setIfInBounds 18 (.slice base vn9 cap) = (wA s1 s2 ka kb kc kd (.slice vb1 vn1 vc1) (.slice vb2 vn2 vc2) (.slice base vn9 cap)) from rfl] at hbs
                have hks := Ks.setCell (fun k => k = g1) Y g1 18 (.slice base vn9 cap) rfl
                have HBs := hid hbs
                have HQs := hid (HQ9.out.stay (Stay.low (t := 0) (B := g1 + 1) hks (fun k e => by have := e; omega)) (by decide) (by decide) (by decide) (by decide) (by decide))
                clear hbs hks HB9 HQ9
                go_simp
                go_wp2_with fail
                refine hK.out _ _ trivial (fun hHeld => ?_)
                clear hK K c16 z16 l16
                try simp only [Act.put, List.setIfInBounds_toArray, List.set_cons_zero, List.set_cons_succ]
                refine wpAnyH_done (by kernel_rfl) ?_ _
                go_wp2_with fail
                go_at_call 60
                refine (HEL.out _ _ HBs.out.rd).mono ?_
                rw [HELL.out]
                rintro e X9 ⟨rfl, hS, hK⟩
                have HBt := hid (HBs.out.call n0 n1 hS hK)
                have HQt := hid (HQs.out.stay (Stay.low (t := 0) (B := g1 + 1) hK (fun k e => by have := e; omega)) (by decide) (by decide) (by decide) (by decide) (by decide))
                clear hS hK HBs HQs
                go_wp2_with fail
                go_roundw
                case rel => exact ⟨rv, base, vn9, cap, _, hid ⟨lp_go og_shr HJ3x.out.1 HE.out, HBt.out, HQt.out, by have := HJ3x.out.2.2.2; have := HSH.out; simp only [List.length_append, List.length_cons, List.length_nil]; omega⟩⟩
                case measure => rw [HM3.out, HBt.out.rd.len]; exact HSH.out
              refine AllReadyH.cons (o := { dst := some 52, op := Op.call { callee := Callee.value (Operand.func 88), args := #[Operand.tmp 51], argTypes := #[109] }, type := 9, pos := "read.go:124", after := #[{ on := 2, ground := Ground.data }], guard := none }) rfl (fun K hK => ?_) AllReadyH.nil
              go_simp
              refine (HP1.out _ HBW.out.rd).mono ?_
              rintro e' Wx ⟨rfl, hS1, hK1⟩
              have HBWx := hid (HBW.out.call n0 n1 hS1 hK1)
              have HQWx := hid (HQW.out.stay (Stay.low (t := 0) (B := g1 + 1) hK1 (fun k e => by have := e; omega)) (by decide) (by decide) (by decide) (by decide) (by decide))
              clear hS1 hK1 HBW HQW
              go_wp2_with fail
              refine hK.out _ _ trivial (fun hHeld => ?_)
              clear hK K
              try simp only [Act.put, List.setIfInBounds_toArray, List.set_cons_zero, List.set_cons_succ]
              refine wpAnyH_ready (rs := [1, 4]) (by kernel_rfl) (by simp) ?_
              refine AllReadyH.cons (o := { dst := some 50, op := Op.load 43 (Operand.tmp 49), type := 43, pos := "read.go:124", after := #[{ on := 0, ground := Ground.data }], guard := none }) rfl (fun K hK => ?_) ?_
              · have c16 := cell_blk HBWx.out.b1 18
                rw [show (wA s1 s2 ka kb kc kd (.slice vb1 vn1 vc1) (.slice vb2 vn2 vc2) (.slice vb3 vn3 vc3))[18]? = some (.slice vb3 vn3 vc3) from rfl] at c16
                go_simp
                go_wp2_with fail
                refine hK.out _ _ trivial (fun hHeld => ?_)
                clear hK K c16
                try simp only [Act.put, List.setIfInBounds_toArray, List.set_cons_zero, List.set_cons_succ]
                refine wpAnyH_ready (rs := [4]) (by kernel_rfl) (by simp) ?_
                refine AllReadyH.cons (o := { dst := some 53, op := Op.buildSlice 43 1 #[(0, Operand.tmp 52)], type := 43, pos := "read.go:124", after := #[{ on := 3, ground := Ground.data }], guard := none }) rfl (fun K hK => ?_) AllReadyH.nil
                go_simp
                go_wp2_with fail
                have hal : Below Wx.heap.size Wx (Wx.alloc (.cells #[.string x] 9)) := bel1 _ _
                have HBa := hid (HBWx.out.bel hal)
                have HQa := hid (HQWx.out.stay (t := 0) (Stay.below hal) (by decide) (by decide) (by decide) (by decide) (by decide))
                clear hal HBWx HQWx
                refine hK.out _ _ trivial (fun hHeld => ?_)
                clear hK K
                try simp only [Act.put, List.setIfInBounds_toArray, List.set_cons_zero, List.set_cons_succ]
                refine wpAnyH_ready (rs := [5]) (by kernel_rfl) (by simp) ?_
                refine AllReadyH.cons (o := { dst := some 54, op := Op.call { callee := Callee.builtin Builtin.append, args := #[Operand.tmp 50, Operand.tmp 53], argTypes := #[43, 43] }, type := 43, pos := "read.go:124", after := #[{ on := 1, ground := Ground.data }, { on := 4, ground := Ground.data }, { on := 3, ground := Ground.chain }], guard := none }) rfl (fun K hK => ?_) AllReadyH.nil
                obtain ⟨base, cap, Y, hrun, hR, hG⟩ := app okOg _ (.slice vb3 vn3 vc3) acc3 HQa.out.ro (.slice (some ⟨Wx.heap.size, 0, none⟩) 1 1) [x] (in_one _ _ x #[.string x] 9 (0, 0) (by rw [heap_al, if_pos rfl]) rfl) (by rw [show EOg.by' = 16 from rfl]; have := HJ3x.out.2.2.2; simp only [List.length_cons, List.length_nil]; omega)
                have hb0 := heap_lt HBa.out.b1
                have ho2 := own_gr hG HQa.out.oo (by omega)
                have hQ9 := HQa.out.origins (Stay.gr HQa.out.ro hG) x hR ho2
                have HB9 := hid (HBa.out.grw hG HQa.out.oo l01 hgl hbl h80 hw0)
                obtain ⟨vn9, hvn⟩ : ∃ n, acc3.length + [x].length = n := ⟨_, rfl⟩
                rw [hvn] at hrun hQ9
                have HQ9 := hid hQ9
                clear hR hG ho2 hQ9 hb0 hvn HBa HQa
                refine step_append_run rfl (.tmp 50) (.tmp 53) 43 43 rfl hrun (by first | rfl | simp [Act.eval, Act.put]) (by first | rfl | simp [Act.eval, Act.put]) ?_
                refine hK.out _ _ trivial (fun hHeld => ?_)
                clear hK K hrun
                try simp only [Act.put, List.setIfInBounds_toArray, List.set_cons_zero, List.set_cons_succ]
                refine wpAnyH_take (i := 6) (oi := { dst := some 55, op := Op.fieldAddr 45 (Operand.tmp 3) 5, type := 0, pos := "read.go:124", after := #[{ on := 0, ground := Ground.phase }, { on := 1, ground := Ground.phase }, { on := 2, ground := Ground.phase }, { on := 3, ground := Ground.phase }, { on := 4, ground := Ground.phase }, { on := 5, ground := Ground.phase }], guard := none }) (v := ?vv14) rfl (by kernel_rfl) (by kernel_rfl) (by kernel_rfl) (fun _ _ _ h => h) (Or.inl ⟨by rfl, ?hy14⟩) (by assumption) ?_
                case hy14 => (intro w hSw; (try dsimp only at hSw); go_simp; all_goals with_reducible rfl)
                try simp only [Act.put, List.setIfInBounds_toArray, List.set_cons_zero, List.set_cons_succ]
                refine wpAnyH_ready (rs := [7]) (by kernel_rfl) (by simp) ?_
                refine AllReadyH.cons (o := { dst := none, op := Op.store 43 (Operand.tmp 55) (Operand.tmp 54), type := 0, pos := "read.go:124", after := #[{ on := 6, ground := Ground.data }, { on := 5, ground := Ground.data }, { on := 5, ground := Ground.chain }, { on := 0, ground := Ground.phase }, { on := 1, ground := Ground.phase }, { on := 2, ground := Ground.phase }, { on := 3, ground := Ground.phase }, { on := 4, ground := Ground.phase }, { on := 5, ground := Ground.phase }], guard := none }) rfl (fun K hK => ?_) AllReadyH.nil
                have c16 := cell_blk HB9.out.b1 18
                have z16 := frozen_blk HB9.out.b1
                have l16 := heap_lt HB9.out.b1
                rw [show (wA s1 s2 ka kb kc kd (.slice vb1 vn1 vc1) (.slice vb2 vn2 vc2) (.slice vb3 vn3 vc3))[18]? = some (.slice vb3 vn3 vc3) from rfl] at c16
                have hbs := HB9.out.setCell n01 n1 nb1 h81 hw1 18 (.slice base vn9 cap)
                rw [show (wA s1 s2 ka kb kc kd (.slice vb1 vn1 vc1) (.slice vb2 vn2 vc2) (.slice vb3 vn3 vc3)).setIfInBounds 18 (.slice base vn9 cap) = (wA s1 s2 ka kb kc kd (.slice vb1 vn1 vc1) (.slice vb2 vn2 vc2) (.slice base vn9 cap)) from rfl] at hbs
                have hks := Ks.setCell (fun k => k = g1) Y g1 18 (.slice base vn9 cap) rfl
                have HBs := hid hbs
                have HQs := hid (HQ9.out.stay (Stay.low (t := 0) (B := g1 + 1) hks (fun k e => by have := e; omega)) (by decide) (by decide) (by decide) (by decide) (by decide))
                clear hbs hks HB9 HQ9
                go_simp
                go_wp2_with fail
                refine hK.out _ _ trivial (fun hHeld => ?_)
                clear hK K c16 z16 l16
                try simp only [Act.put, List.setIfInBounds_toArray, List.set_cons_zero, List.set_cons_succ]
                refine wpAnyH_done (by kernel_rfl) ?_ _
                go_wp2_with fail
                go_at_call 60
                refine (HEL.out _ _ HBs.out.rd).mono ?_
                rw [HELL.out]
                rintro e X9 ⟨rfl, hS, hK⟩
                have HBt := hid (HBs.out.call n0 n1 hS hK)
                have HQt := hid (HQs.out.stay (Stay.low (t := 0) (B := g1 + 1) hK (fun k e => by have := e; omega)) (by decide) (by decide) (by decide) (by decide) (by decide))
                clear hS hK HBs HQs
                go_wp2_with fail
                go_roundw
                case rel => exact ⟨rv, base, vn9, cap, _, hid ⟨lp_go og_shr HJ3x.out.1 HE.out, HBt.out, HQt.out, by have := HJ3x.out.2.2.2; have := HSH.out; simp only [List.length_append, List.length_cons, List.length_nil]; omega⟩⟩
                case measure => rw [HM3.out, HBt.out.rd.len]; exact HSH.out
              refine AllReadyH.cons (o := { dst := some 53, op := Op.buildSlice 43 1 #[(0, Operand.tmp 52)], type := 43, pos := "read.go:124", after := #[{ on := 3, ground := Ground.data }], guard := none }) rfl (fun K hK => ?_) AllReadyH.nil
              go_simp
              go_wp2_with fail
              have hal : Below Wx.heap.size Wx (Wx.alloc (.cells #[.string x] 9)) := bel1 _ _
              have HBa := hid (HBWx.out.bel hal)
              have HQa := hid (HQWx.out.stay (t := 0) (Stay.below hal) (by decide) (by decide) (by decide) (by decide) (by decide))
              clear hal HBWx HQWx
              refine hK.out _ _ trivial (fun hHeld => ?_)
              clear hK K
              try simp only [Act.put, List.setIfInBounds_toArray, List.set_cons_zero, List.set_cons_succ]
              refine wpAnyH_ready (rs := [1]) (by kernel_rfl) (by simp) ?_
              refine AllReadyH.cons (o := { dst := some 50, op := Op.load 43 (Operand.tmp 49), type := 43, pos := "read.go:124", after := #[{ on := 0, ground := Ground.data }], guard := none }) rfl (fun K hK => ?_) AllReadyH.nil
              have c16 := cell_blk HBa.out.b1 18
              rw [show (wA s1 s2 ka kb kc kd (.slice vb1 vn1 vc1) (.slice vb2 vn2 vc2) (.slice vb3 vn3 vc3))[18]? = some (.slice vb3 vn3 vc3) from rfl] at c16
              go_simp
              go_wp2_with fail
              refine hK.out _ _ trivial (fun hHeld => ?_)
              clear hK K c16
              try simp only [Act.put, List.setIfInBounds_toArray, List.set_cons_zero, List.set_cons_succ]
              refine wpAnyH_ready (rs := [5]) (by kernel_rfl) (by simp) ?_
              refine AllReadyH.cons (o := { dst := some 54, op := Op.call { callee := Callee.builtin Builtin.append, args := #[Operand.tmp 50, Operand.tmp 53], argTypes := #[43, 43] }, type := 43, pos := "read.go:124", after := #[{ on := 1, ground := Ground.data }, { on := 4, ground := Ground.data }, { on := 3, ground := Ground.chain }], guard := none }) rfl (fun K hK => ?_) AllReadyH.nil
              obtain ⟨base, cap, Y, hrun, hR, hG⟩ := app okOg _ (.slice vb3 vn3 vc3) acc3 HQa.out.ro (.slice (some ⟨Wx.heap.size, 0, none⟩) 1 1) [x] (in_one _ _ x #[.string x] 9 (0, 0) (by rw [heap_al, if_pos rfl]) rfl) (by rw [show EOg.by' = 16 from rfl]; have := HJ3x.out.2.2.2; simp only [List.length_cons, List.length_nil]; omega)
              have hb0 := heap_lt HBa.out.b1
              have ho2 := own_gr hG HQa.out.oo (by omega)
              have hQ9 := HQa.out.origins (Stay.gr HQa.out.ro hG) x hR ho2
              have HB9 := hid (HBa.out.grw hG HQa.out.oo l01 hgl hbl h80 hw0)
              obtain ⟨vn9, hvn⟩ : ∃ n, acc3.length + [x].length = n := ⟨_, rfl⟩
              rw [hvn] at hrun hQ9
              have HQ9 := hid hQ9
              clear hR hG ho2 hQ9 hb0 hvn HBa HQa
              refine step_append_run rfl (.tmp 50) (.tmp 53) 43 43 rfl hrun (by first | rfl | simp [Act.eval, Act.put]) (by first | rfl | simp [Act.eval, Act.put]) ?_
              refine hK.out _ _ trivial (fun hHeld => ?_)
              clear hK K hrun
              try simp only [Act.put, List.setIfInBounds_toArray, List.set_cons_zero, List.set_cons_succ]
              refine wpAnyH_take (i := 6) (oi := { dst := some 55, op := Op.fieldAddr 45 (Operand.tmp 3) 5, type := 0, pos := "read.go:124", after := #[{ on := 0, ground := Ground.phase }, { on := 1, ground := Ground.phase }, { on := 2, ground := Ground.phase }, { on := 3, ground := Ground.phase }, { on := 4, ground := Ground.phase }, { on := 5, ground := Ground.phase }], guard := none }) (v := ?vv15) rfl (by kernel_rfl) (by kernel_rfl) (by kernel_rfl) (fun _ _ _ h => h) (Or.inl ⟨by rfl, ?hy15⟩) (by assumption) ?_
              case hy15 => (intro w hSw; (try dsimp only at hSw); go_simp; all_goals with_reducible rfl)
              try simp only [Act.put, List.setIfInBounds_toArray, List.set_cons_zero, List.set_cons_succ]
              refine wpAnyH_ready (rs := [7]) (by kernel_rfl) (by simp) ?_
              refine AllReadyH.cons (o := { dst := none, op := Op.store 43 (Operand.tmp 55) (Operand.tmp 54), type := 0, pos := "read.go:124", after := #[{ on := 6, ground := Ground.data }, { on := 5, ground := Ground.data }, { on := 5, ground := Ground.chain }, { on := 0, ground := Ground.phase }, { on := 1, ground := Ground.phase }, { on := 2, ground := Ground.phase }, { on := 3, ground := Ground.phase }, { on := 4, ground := Ground.phase }, { on := 5, ground := Ground.phase }], guard := none }) rfl (fun K hK => ?_) AllReadyH.nil
              have c16 := cell_blk HB9.out.b1 18
              have z16 := frozen_blk HB9.out.b1
              have l16 := heap_lt HB9.out.b1
              rw [show (wA s1 s2 ka kb kc kd (.slice vb1 vn1 vc1) (.slice vb2 vn2 vc2) (.slice vb3 vn3 vc3))[18]? = some (.slice vb3 vn3 vc3) from rfl] at c16
              have hbs := HB9.out.setCell n01 n1 nb1 h81 hw1 18 (.slice base vn9 cap)
              rw [show (wA s1 s2 ka kb kc kd (.slice vb1 vn1 vc1) (.slice vb2 vn2 vc2) (.slice vb3 vn3 vc3)).setIfInBounds 18 (.slice base vn9 cap) = (wA s1 s2 ka kb kc kd (.slice vb1 vn1 vc1) (.slice vb2 vn2 vc2) (.slice base vn9 cap)) from rfl] at hbs
              have hks := Ks.setCell (fun k => k = g1) Y g1 18 (.slice base vn9 cap) rfl
              have HBs := hid hbs
              have HQs := hid (HQ9.out.stay (Stay.low (t := 0) (B := g1 + 1) hks (fun k e => by have := e; omega)) (by decide) (by decide) (by decide) (by decide) (by decide))
              clear hbs hks HB9 HQ9
              go_simp
              go_wp2_with fail
              refine hK.out _ _ trivial (fun hHeld => ?_)
              clear hK K c16 z16 l16
              try simp only [Act.put, List.setIfInBounds_toArray, List.set_cons_zero, List.set_cons_succ]
              refine wpAnyH_done (by kernel_rfl) ?_ _
              go_wp2_with fail
              go_at_call 60
              refine (HEL.out _ _ HBs.out.rd).mono ?_
              rw [HELL.out]
              rintro e X9 ⟨rfl, hS, hK⟩
              have HBt := hid (HBs.out.call n0 n1 hS hK)
              have HQt := hid (HQs.out.stay (Stay.low (t := 0) (B := g1 + 1) hK (fun k e => by have := e; omega)) (by decide) (by decide) (by decide) (by decide) (by decide))
              clear hS hK HBs HQs
              go_wp2_with fail
              go_roundw
              case rel => exact ⟨rv, base, vn9, cap, _, hid ⟨lp_go og_shr HJ3x.out.1 HE.out, HBt.out, HQt.out, by have := HJ3x.out.2.2.2; have := HSH.out; simp only [List.length_append, List.length_cons, List.length_nil]; omega⟩⟩
              case measure => rw [HM3.out, HBt.out.rd.len]; exact HSH.out
            | false =>
              rw [sk_f rr3 nOrigin hsk] at hS
              have HB3e := hid (HJ3x.out.2.1.call n0 n1 hS hK)
              have HQ3e := hid hQs
              have HEND3 : Hid (lpS ogR rr2 = (acc3, rr3)) := hid (lp_end HJ3x.out.1 (by unfold ogR; rw [hsk]; rfl))
              have HL9 : Hid (rr3.l.length ≤ 1073741824) := hid (by have := HJ3x.out.2.2.2; omega)
              clear hS hK hQs hsk HJ3x HM3
              go_wp2_with fail
              go_at_call 64
              refine (HNM.out _ nEnd _ HB3e.out.rd).mono ?_
              rintro e X1 ⟨rfl, hS, hK⟩
              have HBf := hid (HB3e.out.call n0 n1 hS hK)
              have HQf := hid (HQ3e.out.stay (Stay.low (t := 0) (B := g1 + 1) hK (fun k e => by have := e; omega)) (by decide) (by decide) (by decide) (by decide) (by decide))
              clear hS hK HB3e HQ3e
              go_wp2_with (first
                | (refine wpList_load_row rfl 45 (.tmp 3) rfl g1 (by first | rfl | (rw [← HG1.out]; rfl)) 45 _ (0, 0) _ HBf.out.b1 Tryz.underlying45 rfl (by kernel_rfl) ?_)
                | (refine wpList_fin_blj HBf.out n0 nb0 h80 hw0 rfl (.tmp 2) (.tmp 60) rfl rfl rfl (by kernel_rfl) (Nat.le_refl _) rfl (wA s1 s2 ka kb kc kd (.slice vb1 vn1 vc1) (.slice vb2 vn2 vc2) (.slice vb3 vn3 vc3)) rfl ?_; intro V9 f1 f2 f3 fk))
              refine bodyPost_ret (results_cell_row (p := 2) (ty := 45) rfl _ _ g0 45 _ (0, 0) _ rfl f3 Tryz.underlying45 rfl (by kernel_rfl)) rfl ?_
              have hwo := HWO.out
              rw [HEND1.out] at hwo
              simp only at hwo
              rw [HEND2.out] at hwo
              simp only at hwo
              rw [HEND3.out] at hwo
              simp only at hwo
              rw [hwo]
              have hq9 := HQf.out.stay (Stay.low (t := 0) (B := g1 + 1) fk (fun k e => by have := e; omega)) (by decide) (by decide) (by decide) (by decide) (by decide)
              exact ⟨⟨vb1, vn1, vc1⟩, ⟨vb2, vn2, vc2⟩, ⟨vb3, vn3, vc3⟩, rfl, (hq9.won (sp := ⟨vb1, vn1, vc1⟩) (su := ⟨vb2, vn2, vc2⟩) (so := ⟨vb3, vn3, vc3⟩) rfl rfl rfl _ rfl rfl rfl).mono (by omega), f1, f2⟩
end Go.Proofs.YtghppkfopglgaaaGreatDoor
