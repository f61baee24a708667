/- The law's plays, walked. -/
import Derived.Test.YtfponcdhaefkdaaDoorK6
namespace Go.Proofs.YtfponcdhaefkdaaDoor
open Go.RowKit
set_option linter.unusedVariables false
set_option linter.unusedSimpArgs false
set_option maxHeartbeats 40000000 in
set_option maxRecDepth 100000 in
theorem plays_any (w0 W : World) (g : Nat) (c : Ca) (y : SV) (L : List En) (b : Nat) (pd : Int) (z : SV) (B : List Kn) (h : Pq w0 W g c y L b pd z B) (hb0 : Below w0.heap.size w0 W) (o : Os) (ho : Oi w0 o) (zv : ∀ v ∈ vsL o.fr varyS, v.size ≤ 140737488351232) (mk : Fd) (mt : TypeId) (hM : w0.heap[0]? = some (.cells (fdv mk) mt (0, 0))) :
    Calls Tryd.prog 27 #[.pointer (some ⟨g, 0, none⟩), .pointer (some ⟨b, 0, none⟩), .agg (opv o)] W fun e W' => e = .returned (.bool true) ∧ Pz w0 W W' g c y L b pd z B := by
  obtain ⟨W1, hW1⟩ : ∃ V, W.alloc (.cells (opv o) 60) = V := ⟨_, rfl⟩
  obtain ⟨o0, ho0⟩ : ∃ k, W.heap.size = k := ⟨_, rfl⟩
  have b1 : Below W.heap.size W W1 := by rw [← hW1]; exact bel1 _ _
  have hO1 : W1.heap[o0]? = some (.cells (opv o) 60 (0, 0)) := by rw [← hW1, ← ho0, heap_al, if_pos rfl]
  have HB1 : Hid (Below W.heap.size W W1 ∧ W1.heap[o0]? = some (.cells (opv o) 60 (0, 0)) ∧ W.heap.size ≤ o0) := ⟨b1, hO1, by omega⟩
  have HP : Hid (Pq w0 W g c y L b pd z B) := h
  have HOi : Hid (Oi w0 o) := ho
  have HB0 : Hid (Below w0.heap.size w0 W) := hb0
  have HZv : Hid (∀ v ∈ vsL o.fr varyS, v.size ≤ 140737488351232) := zv
  have HM : Hid (w0.heap[0]? = some (.cells (fdv mk) mt (0, 0))) := hM
  have HW0 : Hid (∀ V, Below W.heap.size W V → Below w0.heap.size w0 V) := fun V hV => hb0.trans (hV.mono hb0.size)
  have HLq : Hid (∀ V, Below W.heap.size W V → Calls Tryd.prog 48 #[sv o.q.y] V fun e w' => ∃ (base : Option Addr) (cap : Nat), e = .returned (.slice base o.Q.length cap) ∧ R EFd w' (.slice base (o.Q.length + 1) cap) (o.Q ++ [mk]) ∧ (∀ k, (Value.slice base (o.Q.length + 1) cap).ownBlock = some k → V.heap.size ≤ k) ∧ Below V.heap.size V w') := fun V hV => lent_any o.q.y o.Q mk mt V (ho.iq.below (HW0.out V hV)) ho.az.zQ (((HW0.out V hV).block 0 (heap_lt hM)).trans hM)
  obtain ⟨x0, x1, x2, x3, x4, x5, x6, x7, x8, x9, x10, x11, x12⟩ := cells60 hO1
  clear h hb0 ho zv hM b1 hO1
  obtain ⟨kd, tw, ⟨m, s, a, p, ⟨y1, y2, y3⟩, qb⟩, rn, ⟨r1, r2, r3⟩, rb, st, tk, Q, fr⟩ := o
  simp only [sv, opv] at hW1 x6 x9 HLq ⊢
  go_enter Tryd.func27, Tryd.ntmps27
  go_upto_region 2 with fail
  try rw [hW1]
  try rw [ho0]
  clear hW1 ho0
  obtain ⟨q1, hq1⟩ : ∃ k, W1.heap.size = k := ⟨_, rfl⟩
  obtain ⟨W2, hW2⟩ : ∃ V, W1.alloc (.cells #[.string m, .string s, .string a, .string p, .slice y1 y2 y3, .string qb] 24) = V := ⟨_, rfl⟩
  have b2 : Below W1.heap.size W1 W2 := by rw [← hW2]; exact bel1 _ _
  have HB2 : Hid (Below W.heap.size W W2 ∧ W2.heap[o0]? = some (.cells (opv (⟨kd, tw, ⟨m, s, a, p, (y1, y2, y3), qb⟩, rn, (r1, r2, r3), rb, st, tk, Q, fr⟩ : Os)) 60 (0, 0)) ∧ W.heap.size ≤ o0 ∧ W2.heap[q1]? = some (.cells #[.string m, .string s, .string a, .string p, .slice y1 y2 y3, .string qb] 24 (0, 0)) ∧ W.heap.size ≤ q1) := ⟨HB1.out.1.trans (b2.mono HB1.out.1.size), (b2.block _ (heap_lt HB1.out.2.1)).trans HB1.out.2.1, HB1.out.2.2, by rw [← hW2, ← hq1, heap_al, if_pos rfl], by rw [← hq1]; exact HB1.out.1.size⟩
  try rw [hW2]
  try rw [hq1]
  clear hW2 hq1 b2 HB1 x0 x1 x2 x3 x4 x5 x6 x7 x8 x9 x10 x11 x12
  obtain ⟨x0, x1, x2, x3, x4, x5, x6, x7, x8, x9, x10, x11, x12⟩ := cells60 HB2.out.2.1
  simp only [sv] at x6 x9
  clear x0 x1 x2 x3 x4 x5 x7 x8 x10 x11 x12 x9
  go_wp2_with fail
  go_at_call 48
  refine (HLq.out W2 HB2.out.1).mono ?_
  rintro e V2 ⟨qv, qc, rfl, hLq, hnq, bV2⟩
  obtain ⟨N, hN⟩ : ∃ N, Q.length = N := ⟨_, rfl⟩
  have HNq : Hid (Q.length = N) := hN
  rw [hN]
  have hK2 := (bV2.block _ (heap_lt HB2.out.2.2.2.1)).trans HB2.out.2.2.2.1
  have p4 := cell_blk hK2 4
  have f4 := frozen_blk hK2 4
  simp only [List.getElem?_toArray, List.getElem?_cons_succ, List.getElem?_cons_zero] at p4
  obtain ⟨V3, hV3⟩ : ∃ V, V2.setCell ⟨q1, 4, none⟩ (.slice qv N qc) = V := ⟨_, rfl⟩
  have HB3 : Hid (Below W.heap.size W V3 ∧ V3.heap[o0]? = some (.cells (opv (⟨kd, tw, ⟨m, s, a, p, (y1, y2, y3), qb⟩, rn, (r1, r2, r3), rb, st, tk, Q, fr⟩ : Os)) 60 (0, 0)) ∧ W.heap.size ≤ o0 ∧ V3.heap[q1]? = some (.cells #[.string m, .string s, .string a, .string p, .slice qv N qc, .string qb] 24 (0, 0)) ∧ R EFd V3 (.slice qv (Q.length + 1) qc) (Q ++ [mk]) ∧ (∀ k, (Value.slice qv (Q.length + 1) qc).ownBlock = some k → W.heap.size ≤ k)) := by
    have hbb : Below W.heap.size W V2 := HB2.out.1.trans (bV2.mono HB2.out.1.size)
    refine ⟨by rw [← hV3]; exact hbb.setCell (p := ⟨q1, 4, none⟩) HB2.out.2.2.2.2 _, ?_, HB2.out.2.2.1, by rw [← hV3, setCell_block _ _ _ _ _ _ _ hK2]; rfl, hLq.stays fun k hk _ => ?_, fun k hk => Nat.le_trans HB2.out.1.size (hnq k hk)⟩
    · have h1 := (bV2.block _ (heap_lt HB2.out.2.1)).trans HB2.out.2.1
      rw [← hV3]
      exact (setCell_other _ _ _ _ _ (ty_ne h1 hK2 (by decide))).trans h1
    · obtain ⟨cc, hc⟩ := hLq.ty k hk
      rw [← hV3]
      exact setCell_other _ _ _ _ _ (ty_ne hc hK2 (show (51 : TypeId) ≠ 24 by decide))
  clear hLq hnq bV2 hK2 HLq HB2 x6 hN
  go_upto_region 3 with fail
  try rw [hV3]
  clear hV3 p4 f4
  have HSy : Hid (Below W.heap.size W V3 ∧ Sy W V3 o0 q1 (⟨kd, tw, ⟨m, s, a, p, (y1, y2, y3), qb⟩, rn, (r1, r2, r3), rb, st, tk, Q, fr⟩ : Os) mk qv qc) := ⟨HB3.out.1, HB3.out.2.1, by have h1 := HB3.out.2.2.2.1; rw [h1]; simp only [rqv, sv]; rw [HNq.out], HB3.out.2.2.2.2.1⟩
  have HP3 : Hid (Pq w0 V3 g c y L b pd z B) := HP.out.below HB3.out.1
  have HB03 : Hid (Below w0.heap.size w0 V3) := HW0.out V3 HB3.out.1
  have HKs : Hid (∀ V, Ks (fun k => Ow g y k ∨ k = b) V3 V → Ks (fun k => Ow g y k ∨ k = b) W V) := fun V hV => (Ks.of_below HSy.out.1 (A := fun _ => False)).trans hV (fun i _ hi => hi.elim) (fun i _ hi => hi)
  have HWz : Hid (W.heap.size ≤ V3.heap.size) := HB3.out.1.size
  clear HB3
  obtain ⟨x0, x1, x2, x3, x4, x5, x6, x7, x8, x9, x10, x11, x12⟩ := cells60 HSy.out.2.bo
  simp only [sv] at x6 x9
  go_upto_block 0 with fail
  go_cut [] from 8 (fun wx => Hid (Pz w0 W wx g c y L b pd z B ∧ Sy W wx o0 q1 (⟨kd, tw, ⟨m, s, a, p, (y1, y2, y3), qb⟩, rn, (r1, r2, r3), rb, st, tk, Q, fr⟩ : Os) mk qv qc))
  case first =>
    by_cases h1 : kd = 1
    · have HSt : Hid (Calls Tryd.prog 49 #[.pointer (some ⟨g, 0, none⟩), .pointer (some ⟨b, 0, none⟩), .agg (opv (⟨kd, tw, ⟨m, s, a, p, (y1, y2, y3), qb⟩, rn, (r1, r2, r3), rb, st, tk, Q, fr⟩ : Os))] V3 fun e W' => e = .returned (.bool true) ∧ ∃ (y' : SV) (L' : List En) (z' : SV) (B' : List Kn), Pq w0 W' g (hr c tk) y' L' b pd z' B' ∧ Ks (fun k => Ow g y k ∨ k = b) V3 W' ∧ (∀ k, Cb g y' L' k → Cb g y L k ∨ V3.heap.size ≤ k) ∧ (∀ k, Rb b z' B' k → Rb b z B k ∨ V3.heap.size ≤ k)) := stored_any w0 V3 g c y L b pd z B HP3.out HB03.out (⟨kd, tw, ⟨m, s, a, p, (y1, y2, y3), qb⟩, rn, (r1, r2, r3), rb, st, tk, Q, fr⟩ : Os) HOi.out HZv.out mk mt HM.out
      simp only [opv, sv] at HSt
      subst h1
      go_wp2_with fail
      go_at_call 49
      refine HSt.out.mono ?_
      rintro e V5 ⟨rfl, y', L', z', B', hP5, hK5, hc5, hr5⟩
      have HE : Hid (Pz w0 W V5 g c y L b pd z B ∧ Sy W V5 o0 q1 (⟨1, tw, ⟨m, s, a, p, (y1, y2, y3), qb⟩, rn, (r1, r2, r3), rb, st, tk, Q, fr⟩ : Os) mk qv qc) := ⟨⟨hr c tk, y', L', z', B', ⟨rfl, rfl, rfl⟩, hP5, HKs.out V5 hK5, fun k hk => (hc5 k hk).imp id fun e => Nat.le_trans HWz.out e, fun k hk => (hr5 k hk).imp id fun e => Nat.le_trans HWz.out e⟩, HSy.out.2.both HP3.out.ph.cx HP3.out.ph.rc hK5⟩
      clear hP5 hK5 hc5 hr5 HSt
      go_wp2_with fail
      go_meet
      case rel => exact HE.out
    · by_cases h2 : kd = 2
      · have hgw : ∀ k, Ow g y k → w0.heap.size ≤ k := fun k hk => HP3.out.ph.lo k (.inl (.inl hk))
        have hbw : w0.heap.size ≤ b := HP3.out.ph.lo b (.inr (.inl rfl))
        have HCl : Hid (Calls Tryd.prog 13 #[.pointer (some ⟨g, 0, none⟩), .agg #[.string m, .string s, .string a, .string p, .slice qv N qc, .string qb], .int .i64 tk] V3 fun r w' => pcP w0 V3 w' g (hr c tk) y L b c.me c.mb c.lf pd z B c.ck r (B.findIdx? (anK (hr c tk).ck c.lf ⟨m, s, a, p, (qv, N, qc), qb⟩ Q))) := HP3.out.claim HB03.out.size ⟨m, s, a, p, (qv, N, qc), qb⟩ Q (fun V hV => by
          have h1 := (HSy.out.2.both HP3.out.ph.cx HP3.out.ph.rc (hV.mono fun i _ e => .inl (.inl e))).lq
          have h2 : R EFd V (.slice qv Q.length qc) Q := R.front okFd (r := [mk]) h1 (by simp)
          rw [HNq.out] at h2
          exact h2.isIn) HOi.out.az.zQ tk HOi.out.tk
        obtain ⟨ko, hko⟩ : ∃ x, B.findIdx? (anK (hr c tk).ck c.lf ⟨m, s, a, p, (qv, N, qc), qb⟩ Q) = x := ⟨_, rfl⟩
        have HKo : Hid (B.findIdx? (anK (hr c tk).ck c.lf ⟨m, s, a, p, (y1, y2, y3), qb⟩ Q) = ko) := hko
        rw [hko] at HCl
        have HRl : Hid (∀ (V : World) (y' : SV) (L' : List En), Below w0.heap.size w0 V → Ph w0 V g (hr c tk) y' L' b c.me c.mb c.lf pd z B c.ck → (L' = erO L ko) → Calls Tryd.prog 50 #[.pointer (some ⟨b, 0, none⟩), .agg #[.string m, .string s, .string a, .string p, .slice y1 y2 y3, .string qb], .int .i64 tk] V fun r w' => Ks (fun k => k = b) V w' ∧ ∃ (z' : SV) (B' : List Kn), Pq w0 w' g (hr c tk) y' L' b pd z' B' ∧ (∀ k, Rb b z' B' k → Rb b z B k ∨ V.heap.size ≤ k) ∧ rcQ w' B r ko) := fun V y' L' hV hp hL => HP3.out.rclaim hV.size ⟨m, s, a, p, (y1, y2, y3), qb⟩ Q (fun U hU => HOi.out.iq.below (hV.trans (hU.below hV.size fun i hi e => by omega))) HOi.out.az.zQ tk HOi.out.tk ko HKo.out hp hL
        have hbq := HSy.out.2.bq
        simp only [rqv, sv] at hbq
        rw [HNq.out] at hbq
        have z0 := cell_blk hbq 0
        have z1 := cell_blk hbq 1
        have z2 := cell_blk hbq 2
        have z3 := cell_blk hbq 3
        have z4 := cell_blk hbq 4
        have z5 := cell_blk hbq 5
        simp only [List.getElem?_toArray, List.getElem?_cons_succ, List.getElem?_cons_zero] at z0 z1 z2 z3 z4 z5
        subst h2
        clear hko hbq
        go_wp2_with fail
        go_at_call 13
        refine HCl.out.mono ?_
        intro e V5 hP5
        have hBw : Ks (Ow g y) V3 V5 → Below w0.heap.size w0 V5 := fun hK => HB03.out.trans (hK.below HB03.out.size fun i hi e => by have := hgw i e; omega)
        clear HCl z0 z1 z2 z3 z4 z5
        cases ko with
        | none =>
          obtain ⟨rfl, hK5, hPh5⟩ := hP5
          have hk5 : Ks (fun k => Ow g y k ∨ k = b) V3 V5 := hK5.mono fun i _ e => .inl e
          have hB5 := hBw hK5
          have hS5 : Sy W V5 o0 q1 (⟨2, tw, ⟨m, s, a, p, (y1, y2, y3), qb⟩, rn, (r1, r2, r3), rb, st, tk, Q, fr⟩ : Os) mk qv qc := HSy.out.2.both HP3.out.ph.cx HP3.out.ph.rc hk5
          clear x0 x1 x2 x3 x4 x5 x6 x7 x8 x9 x10 x11 x12
          obtain ⟨x0, x1, x2, x3, x4, x5, x6, x7, x8, x9, x10, x11, x12⟩ := cells60 hS5.bo
          simp only [sv] at x6 x9 ⊢
          go_upto_region 9 with fail
          obtain ⟨a1, ha1⟩ : ∃ k, V5.heap.size = k := ⟨_, rfl⟩
          obtain ⟨V6, hV6⟩ : ∃ V, V5.alloc (.cells #[.int .i64 0, .slice none 0 0, .string ⟨#[]⟩] 26) = V := ⟨_, rfl⟩
          have b6 : Below V5.heap.size V5 V6 := by rw [← hV6]; exact bel1 _ _
          have hA6 : V6.heap[a1]? = some (.cells #[.int .i64 0, .slice none 0 0, .string ⟨#[]⟩] 26 (0, 0)) := by rw [← hV6, ← ha1, heap_al, if_pos rfl]
          try rw [hV6]
          try rw [ha1]
          have HRc := HRl.out V6 y L (hB5.trans (b6.mono hB5.size)) (hPh5.below b6) rfl
          have HS6 : Hid (Sy W V6 o0 q1 (⟨2, tw, ⟨m, s, a, p, (y1, y2, y3), qb⟩, rn, (r1, r2, r3), rb, st, tk, Q, fr⟩ : Os) mk qv qc ∧ Ks (fun k => Ow g y k ∨ k = b) V3 V6 ∧ Rc V6 b c.me c.mb c.lf pd z B c.ck ∧ V6.heap[a1]? = some (.cells #[.int .i64 0, .slice none 0 0, .string ⟨#[]⟩] 26 (0, 0)) ∧ V3.heap.size ≤ V6.heap.size) := ⟨hS5.below b6, hk5.bel b6, hPh5.rc.below b6, hA6, Nat.le_trans hK5.size b6.size⟩
          replace HRc : Hid _ := HRc
          clear hV6 ha1 b6 hA6 hk5 hB5 hS5 hK5 hPh5 x0 x1 x2 x3 x4 x5 x6 x7 x8 x9 x10 x11 x12
          obtain ⟨x0, x1, x2, x3, x4, x5, x6, x7, x8, x9, x10, x11, x12⟩ := cells60 HS6.out.1.bo
          simp only [sv] at x6 x9
          go_wp2_with fail
          go_at_call 50
          refine Calls.mono HRc.out ?_
          rintro e V7 ⟨hK7, z', B', hP7, hr7, rfl⟩
          have hk7 : Ks (fun k => Ow g y k ∨ k = b) V6 V7 := hK7.mono fun i _ e => .inr e
          have hS7 : Sy W V7 o0 q1 (⟨2, tw, ⟨m, s, a, p, (y1, y2, y3), qb⟩, rn, (r1, r2, r3), rb, st, tk, Q, fr⟩ : Os) mk qv qc := HS6.out.1.keep fun k cc t fz hb ht => hK7.block k (heap_lt hb) (ty_ne hb HS6.out.2.2.1.blk (by rcases ht with rfl | rfl | rfl <;> decide))
          have hA7 : V7.heap[a1]? = some (.cells #[.int .i64 0, .slice none 0 0, .string ⟨#[]⟩] 26 (0, 0)) := (hK7.block a1 (heap_lt HS6.out.2.2.2.1) (ty_ne HS6.out.2.2.2.1 HS6.out.2.2.1.blk (by decide))).trans HS6.out.2.2.2.1
          have HE7 : Hid (Pz w0 W V7 g c y L b pd z B ∧ Sy W V7 o0 q1 (⟨2, tw, ⟨m, s, a, p, (y1, y2, y3), qb⟩, rn, (r1, r2, r3), rb, st, tk, Q, fr⟩ : Os) mk qv qc) := ⟨⟨hr c tk, y, L, z', B', ⟨rfl, rfl, rfl⟩, hP7, HKs.out V7 (HS6.out.2.1.trans hk7 (fun i _ e => e) (fun i _ e => e)), fun k hk => .inl hk, fun k hk => (hr7 k hk).imp id fun e => Nat.le_trans HWz.out (Nat.le_trans HS6.out.2.2.2.2 e)⟩, hS7⟩
          simp only [sv]
          clear hK7 hP7 hr7 hk7 hS7 HRc x0 x1 x2 x3 x4 x5 x6 x7 x8 x9 x10 x11 x12
          go_upto_region 10 with fail
          obtain ⟨a2, ha2⟩ : ∃ k, V7.heap.size = k := ⟨_, rfl⟩
          obtain ⟨V8, hV8⟩ : ∃ V, V7.alloc (.cells #[.int .i64 0, .slice none 0 0, .string ⟨#[]⟩] 26) = V := ⟨_, rfl⟩
          have b8 : Below V7.heap.size V7 V8 := by rw [← hV8]; exact bel1 _ _
          have hA8 : V8.heap[a2]? = some (.cells #[.int .i64 0, .slice none 0 0, .string ⟨#[]⟩] 26 (0, 0)) := by rw [← hV8, ← ha2, heap_al, if_pos rfl]
          have hA8' := (b8.block _ (heap_lt hA7)).trans hA7
          try rw [hV8]
          try rw [ha2]
          have HSm : Hid (Calls Tryd.prog 15 #[.agg #[.int .i64 0, .slice none 0 0, .string ⟨#[]⟩], .agg #[.int .i64 0, .slice none 0 0, .string ⟨#[]⟩]] V8 fun e w' => e = .returned (.bool true) ∧ Below V8.heap.size V8 w') := same_eq 0 ⟨#[]⟩ (none, 0, 0) (none, 0, 0) [] V8 (.inl ⟨rfl, rfl⟩) (.inl ⟨rfl, rfl⟩)
          have HE8 : Hid (Below V7.heap.size V7 V8) := b8
          have s0 := cell_blk hA8' 0
          have s1 := cell_blk hA8' 1
          have s2 := cell_blk hA8' 2
          have t0 := cell_blk hA8 0
          have t1 := cell_blk hA8 1
          have t2 := cell_blk hA8 2
          simp only [List.getElem?_toArray, List.getElem?_cons_succ, List.getElem?_cons_zero] at s0 s1 s2 t0 t1 t2
          clear hV8 ha2 b8 hA8 hA8' hA7
          go_wp2_with fail
          go_at_call 15
          refine HSm.out.mono ?_
          rintro e V9 ⟨rfl, b9⟩
          have hb79 : Below V7.heap.size V7 V9 := HE8.out.trans (b9.mono HE8.out.size)
          have HE : Hid (Pz w0 W V9 g c y L b pd z B ∧ Sy W V9 o0 q1 (⟨2, tw, ⟨m, s, a, p, (y1, y2, y3), qb⟩, rn, (r1, r2, r3), rb, st, tk, Q, fr⟩ : Os) mk qv qc) := ⟨by obtain ⟨c', y', L', z', B', q1, q2, q3, q4, q5⟩ := HE7.out.1; exact ⟨c', y', L', z', B', q1, q2.below hb79, q3.bel hb79, q4, q5⟩, HE7.out.2.below hb79⟩
          clear b9 hb79 HSm HE8 HE7 s0 s1 s2 t0 t1 t2
          go_wp2_with fail
          go_meet
          case rel => exact HE.out
        | some i =>
          obtain ⟨hi5, ⟨v1, v2, v3⟩, y', rfl, hRv5, hvC5, hK5, hPh5, hc5⟩ := hP5
          obtain ⟨x, hx⟩ : ∃ x, B[i] = x := ⟨_, rfl⟩
          have HX : Hid (∀ h : i < B.length, B[i]'h = x) := fun _ => hx
          rw [hx] at hRv5 ⊢
          obtain ⟨kst, kar, kq, krn, ⟨kr1, kr2, kr3⟩, krb, kfq, kfr⟩ := x
          have hk5 : Ks (fun k => Ow g y k ∨ k = b) V3 V5 := hK5.mono fun i _ e => .inl e
          have hB5 := hBw hK5
          have hS5 : Sy W V5 o0 q1 (⟨2, tw, ⟨m, s, a, p, (y1, y2, y3), qb⟩, rn, (r1, r2, r3), rb, st, tk, Q, fr⟩ : Os) mk qv qc := HSy.out.2.both HP3.out.ph.cx HP3.out.ph.rc hk5
          clear x0 x1 x2 x3 x4 x5 x6 x7 x8 x9 x10 x11 x12
          obtain ⟨x0, x1, x2, x3, x4, x5, x6, x7, x8, x9, x10, x11, x12⟩ := cells60 hS5.bo
          simp only [sv, rsv] at x6 x9 ⊢
          go_upto_region 9 with fail
          obtain ⟨a1, ha1⟩ : ∃ k, V5.heap.size = k := ⟨_, rfl⟩
          obtain ⟨V6, hV6⟩ : ∃ V, V5.alloc (.cells #[.int .i64 krn, .slice v1 v2 v3, .string krb] 26) = V := ⟨_, rfl⟩
          have b6 : Below V5.heap.size V5 V6 := by rw [← hV6]; exact bel1 _ _
          have hA6 : V6.heap[a1]? = some (.cells #[.int .i64 krn, .slice v1 v2 v3, .string krb] 26 (0, 0)) := by rw [← hV6, ← ha1, heap_al, if_pos rfl]
          try rw [hV6]
          try rw [ha1]
          have HRc := HRl.out V6 y' (L.eraseIdx i) (hB5.trans (b6.mono hB5.size)) (hPh5.below b6) rfl
          have HS6 : Hid (Sy W V6 o0 q1 (⟨2, tw, ⟨m, s, a, p, (y1, y2, y3), qb⟩, rn, (r1, r2, r3), rb, st, tk, Q, fr⟩ : Os) mk qv qc ∧ Ks (fun k => Ow g y k ∨ k = b) V3 V6 ∧ Rc V6 b c.me c.mb c.lf pd z B c.ck ∧ V6.heap[a1]? = some (.cells #[.int .i64 krn, .slice v1 v2 v3, .string krb] 26 (0, 0)) ∧ V3.heap.size ≤ V6.heap.size ∧ R EFd V6 (.slice v1 v2 v3) kfr ∧ (∀ k, Cb g y' (L.eraseIdx i) k → Cb g y L k ∨ V3.heap.size ≤ k)) := ⟨hS5.below b6, hk5.bel b6, hPh5.rc.below b6, hA6, Nat.le_trans hK5.size b6.size, R.below hRv5 b6, hc5⟩
          replace HRc : Hid _ := HRc
          clear hV6 ha1 b6 hA6 hk5 hB5 hS5 hK5 hPh5 x0 x1 x2 x3 x4 x5 x6 x7 x8 x9 x10 x11 x12 hRv5 hvC5 hc5 hx
          obtain ⟨x0, x1, x2, x3, x4, x5, x6, x7, x8, x9, x10, x11, x12⟩ := cells60 HS6.out.1.bo
          simp only [sv] at x6 x9
          go_wp2_with fail
          go_at_call 50
          refine Calls.mono HRc.out ?_
          rintro e V7 ⟨hK7, z', B', hP7, hr7, hi7, rfl, hRw7⟩
          rw [HX.out] at hRw7 ⊢
          have hk7 : Ks (fun k => Ow g y k ∨ k = b) V6 V7 := hK7.mono fun i _ e => .inr e
          have hS7 : Sy W V7 o0 q1 (⟨2, tw, ⟨m, s, a, p, (y1, y2, y3), qb⟩, rn, (r1, r2, r3), rb, st, tk, Q, fr⟩ : Os) mk qv qc := HS6.out.1.keep fun k cc t fz hb ht => hK7.block k (heap_lt hb) (ty_ne hb HS6.out.2.2.1.blk (by rcases ht with rfl | rfl | rfl <;> decide))
          have hA7 : V7.heap[a1]? = some (.cells #[.int .i64 krn, .slice v1 v2 v3, .string krb] 26 (0, 0)) := (hK7.block a1 (heap_lt HS6.out.2.2.2.1) (ty_ne HS6.out.2.2.2.1 HS6.out.2.2.1.blk (by decide))).trans HS6.out.2.2.2.1
          have HE7 : Hid (Pz w0 W V7 g c y L b pd z B ∧ Sy W V7 o0 q1 (⟨2, tw, ⟨m, s, a, p, (y1, y2, y3), qb⟩, rn, (r1, r2, r3), rb, st, tk, Q, fr⟩ : Os) mk qv qc) := ⟨⟨hr c tk, y', (L.eraseIdx i), z', B', ⟨rfl, rfl, rfl⟩, hP7, HKs.out V7 (HS6.out.2.1.trans hk7 (fun i _ e => e) (fun i _ e => e)), fun k hk => (HS6.out.2.2.2.2.2.2 k hk).imp id fun e => Nat.le_trans HWz.out e, fun k hk => (hr7 k hk).imp id fun e => Nat.le_trans HWz.out (Nat.le_trans HS6.out.2.2.2.2.1 e)⟩, hS7⟩
          have hRv7 : R EFd V7 (.slice v1 v2 v3) kfr := HS6.out.2.2.2.2.2.1.stays fun k hk hl => by
            obtain ⟨cc, hc⟩ := HS6.out.2.2.2.2.2.1.ty k hk
            exact hK7.block k hl (ty_ne hc HS6.out.2.2.1.blk (show (51 : TypeId) ≠ 100 by decide))
          have HV7 : Hid (R EFd V7 (.slice v1 v2 v3) kfr ∧ R EFd V7 (.slice kr1 kr2 kr3) kfr) := ⟨hRv7, hRw7⟩
          clear hRv7 hRw7
          simp only [sv, rsv]
          clear hK7 hP7 hr7 hk7 hS7 HRc x0 x1 x2 x3 x4 x5 x6 x7 x8 x9 x10 x11 x12
          go_upto_region 10 with fail
          obtain ⟨a2, ha2⟩ : ∃ k, V7.heap.size = k := ⟨_, rfl⟩
          obtain ⟨V8, hV8⟩ : ∃ V, V7.alloc (.cells #[.int .i64 krn, .slice kr1 kr2 kr3, .string krb] 26) = V := ⟨_, rfl⟩
          have b8 : Below V7.heap.size V7 V8 := by rw [← hV8]; exact bel1 _ _
          have hA8 : V8.heap[a2]? = some (.cells #[.int .i64 krn, .slice kr1 kr2 kr3, .string krb] 26 (0, 0)) := by rw [← hV8, ← ha2, heap_al, if_pos rfl]
          have hA8' := (b8.block _ (heap_lt hA7)).trans hA7
          try rw [hV8]
          try rw [ha2]
          have HSm : Hid (Calls Tryd.prog 15 #[.agg #[.int .i64 krn, .slice v1 v2 v3, .string krb], .agg #[.int .i64 krn, .slice kr1 kr2 kr3, .string krb]] V8 fun e w' => e = .returned (.bool true) ∧ Below V8.heap.size V8 w') := same_eq krn krb (v1, v2, v3) (kr1, kr2, kr3) kfr V8 (HV7.out.1.below b8).isIn (HV7.out.2.below b8).isIn
          have HE8 : Hid (Below V7.heap.size V7 V8) := b8
          have s0 := cell_blk hA8' 0
          have s1 := cell_blk hA8' 1
          have s2 := cell_blk hA8' 2
          have t0 := cell_blk hA8 0
          have t1 := cell_blk hA8 1
          have t2 := cell_blk hA8 2
          simp only [List.getElem?_toArray, List.getElem?_cons_succ, List.getElem?_cons_zero] at s0 s1 s2 t0 t1 t2
          clear hV8 ha2 b8 hA8 hA8' hA7
          go_wp2_with fail
          go_at_call 15
          refine HSm.out.mono ?_
          rintro e V9 ⟨rfl, b9⟩
          have hb79 : Below V7.heap.size V7 V9 := HE8.out.trans (b9.mono HE8.out.size)
          have HE : Hid (Pz w0 W V9 g c y L b pd z B ∧ Sy W V9 o0 q1 (⟨2, tw, ⟨m, s, a, p, (y1, y2, y3), qb⟩, rn, (r1, r2, r3), rb, st, tk, Q, fr⟩ : Os) mk qv qc) := ⟨by obtain ⟨c', y', L', z', B', q1, q2, q3, q4, q5⟩ := HE7.out.1; exact ⟨c', y', L', z', B', q1, q2.below hb79, q3.bel hb79, q4, q5⟩, HE7.out.2.below hb79⟩
          clear b9 hb79 HSm HE8 HE7 s0 s1 s2 t0 t1 t2
          go_wp2_with fail
          go_meet
          case rel => exact HE.out
      · by_cases h3 : kd = 3
        · have HQb : Hid (∀ V, Below w0.heap.size w0 V → In EFd V (.slice y1 y2 y3) Q) := fun V hV => HOi.out.iq.below hV
          have hgw : ∀ k, Ow g y k → w0.heap.size ≤ k := fun k hk => HP3.out.ph.lo k (.inl (.inl hk))
          have hbw : w0.heap.size ≤ b := HP3.out.ph.lo b (.inr (.inl rfl))
          have HHo : Hid (Calls Tryd.prog 14 #[.pointer (some ⟨g, 0, none⟩), .agg #[.string m, .string s, .string a, .string p, .slice qv N qc, .string qb], .int .i64 tk] V3 fun r w' => r = .returned (.bool (B.findIdx? (anK (hr c tk).ck c.lf ⟨m, s, a, p, (qv, N, qc), qb⟩ Q)).isSome) ∧ Ks (fun k => k = g) V3 w' ∧ Ph w0 w' g (hr c tk) y L b c.me c.mb c.lf pd z B c.ck) := HP3.out.holds HB03.out.size ⟨m, s, a, p, (qv, N, qc), qb⟩ Q (fun V hV => by
            have h1 := (HSy.out.2.both HP3.out.ph.cx HP3.out.ph.rc (hV.mono fun i _ e => .inl (.inl e))).lq
            have h2 : R EFd V (.slice qv Q.length qc) Q := R.front okFd (r := [mk]) h1 (by simp)
            rw [HNq.out] at h2
            exact h2.isIn) HOi.out.az.zQ tk HOi.out.tk
          obtain ⟨fs, hfs⟩ : ∃ x, (B.findIdx? (anK (hr c tk).ck c.lf ⟨m, s, a, p, (qv, N, qc), qb⟩ Q)).isSome = x := ⟨_, rfl⟩
          have HFs : Hid ((B.findIdx? (anK (hr c tk).ck c.lf ⟨m, s, a, p, (y1, y2, y3), qb⟩ Q)).isSome = fs) := hfs
          rw [hfs] at HHo
          have hbq := HSy.out.2.bq
          simp only [rqv, sv] at hbq
          rw [HNq.out] at hbq
          have z0 := cell_blk hbq 0
          have z1 := cell_blk hbq 1
          have z2 := cell_blk hbq 2
          have z3 := cell_blk hbq 3
          have z4 := cell_blk hbq 4
          have z5 := cell_blk hbq 5
          simp only [List.getElem?_toArray, List.getElem?_cons_succ, List.getElem?_cons_zero] at z0 z1 z2 z3 z4 z5
          subst h3
          clear hfs hbq
          go_wp2_with fail
          go_at_call 14
          refine HHo.out.mono ?_
          rintro e V5 ⟨rfl, hK5, hPh5⟩
          have hk5 : Ks (fun k => Ow g y k ∨ k = b) V3 V5 := hK5.mono fun i _ e => .inl (.inl e)
          have hS5 := HSy.out.2.both HP3.out.ph.cx HP3.out.ph.rc hk5
          have hB5 : Below w0.heap.size w0 V5 := HB03.out.trans (hK5.below HB03.out.size fun i hi e => by have := hgw i (.inl e); omega)
          have HRo : Hid (Calls Tryd.prog 51 #[.pointer (some ⟨b, 0, none⟩), .agg #[.string m, .string s, .string a, .string p, .slice y1 y2 y3, .string qb], .int .i64 tk] V5 fun r w' => r = .returned (.bool fs) ∧ Ks (fun k => k = b) V5 w' ∧ Pq w0 w' g (hr c tk) y L b pd z B) := by
            have := HP3.out.rholds hB5.size ⟨m, s, a, p, (y1, y2, y3), qb⟩ Q (fun V hV => HQb.out V (hB5.trans (hV.below hB5.size fun i hi e => by omega))) HOi.out.az.zQ tk HOi.out.tk hPh5
            rw [HFs.out] at this
            exact this
          have HS5 : Hid (Sy W V5 o0 q1 (⟨3, tw, ⟨m, s, a, p, (y1, y2, y3), qb⟩, rn, (r1, r2, r3), rb, st, tk, Q, fr⟩ : Os) mk qv qc ∧ Ks (fun k => Ow g y k ∨ k = b) V3 V5 ∧ Cx V5 g (hr c tk) y L ∧ Rc V5 b c.me c.mb c.lf pd z B c.ck) := ⟨hS5, hk5, hPh5.cx, hPh5.rc⟩
          clear x0 x1 x2 x3 x4 x5 x6 x7 x8 x9 x10 x11 x12 z0 z1 z2 z3 z4 z5
          obtain ⟨x0, x1, x2, x3, x4, x5, x6, x7, x8, x9, x10, x11, x12⟩ := cells60 hS5.bo
          simp only [sv] at x6 x9
          have hff : (fs != fs) = false := by cases fs <;> rfl
          clear hK5 hPh5 hk5 hS5 hB5 HHo
          go_wp2_with fail
          go_at_call 51
          refine HRo.out.mono ?_
          rintro e V6 ⟨rfl, hK6, hP6⟩
          have hk6 : Ks (fun k => Ow g y k ∨ k = b) V5 V6 := hK6.mono fun i _ e => .inr e
          have HE : Hid (Pz w0 W V6 g c y L b pd z B ∧ Sy W V6 o0 q1 (⟨3, tw, ⟨m, s, a, p, (y1, y2, y3), qb⟩, rn, (r1, r2, r3), rb, st, tk, Q, fr⟩ : Os) mk qv qc) := ⟨⟨hr c tk, y, L, z, B, ⟨rfl, rfl, rfl⟩, hP6, HKs.out V6 (HS5.out.2.1.trans hk6 (fun i _ e => e) (fun i _ e => e)), fun k hk => .inl hk, fun k hk => .inl hk⟩, HS5.out.1.both HS5.out.2.2.1 HS5.out.2.2.2 hk6⟩
          clear hK6 hP6 hk6 HRo
          go_wp2_with fail
          go_meet
          case rel => exact HE.out
        · by_cases h4 : kd = 4
          · have hgw : ∀ k, Ow g y k → w0.heap.size ≤ k := fun k hk => HP3.out.ph.lo k (.inl (.inl hk))
            have HTi : Hid (Calls Tryd.prog 10 #[.pointer (some ⟨g, 0, none⟩), .int .i64 tk] V3 fun r w' => ∃ gs y' : SV, r = .returned (sv gs) ∧ R EI w' (sv gs) ((L.takeWhile (exB (hr c tk))).map (·.st)) ∧ (∀ k, (sv gs).ownBlock = some k → V3.heap.size ≤ k) ∧ Ks (Ow g y) V3 w' ∧ Ph w0 w' g (hr c tk) y' (L.dropWhile (exB (hr c tk))) b c.me c.mb c.lf pd z B c.ck ∧ (∀ k, Cb g y' (L.dropWhile (exB (hr c tk))) k → Cb g y L k ∨ V3.heap.size ≤ k)) := HP3.out.tick HB03.out.size tk HOi.out.tk
            subst h4
            go_wp2_with fail
            go_at_call 10
            refine HTi.out.mono ?_
            rintro e V5 ⟨⟨g1, g2, g3⟩, y', rfl, hg5, hn5, hK5, hPh5, hc5⟩
            have hk5 : Ks (fun k => Ow g y k ∨ k = b) V3 V5 := hK5.mono fun i _ e => .inl e
            have hS5 := HSy.out.2.both HP3.out.ph.cx HP3.out.ph.rc hk5
            have hB5 : Below w0.heap.size w0 V5 := HB03.out.trans (hK5.below HB03.out.size fun i hi e => by have := hgw i e; omega)
            have HRt := HP3.out.rtick hB5.size tk HOi.out.tk hPh5
            replace HRt : Hid _ := HRt
            have HS5 : Hid (Sy W V5 o0 q1 (⟨4, tw, ⟨m, s, a, p, (y1, y2, y3), qb⟩, rn, (r1, r2, r3), rb, st, tk, Q, fr⟩ : Os) mk qv qc ∧ Ks (fun k => Ow g y k ∨ k = b) V3 V5 ∧ Ph w0 V5 g (hr c tk) y' (L.dropWhile (exB (hr c tk))) b c.me c.mb c.lf pd z B c.ck ∧ (∀ k, Cb g y' (L.dropWhile (exB (hr c tk))) k → Cb g y L k ∨ V3.heap.size ≤ k) ∧ R EI V5 (.slice g1 g2 g3) ((L.takeWhile (exB (hr c tk))).map (·.st)) ∧ V3.heap.size ≤ V5.heap.size) := ⟨hS5, hk5, hPh5, hc5, hg5, hK5.size⟩
            clear x0 x1 x2 x3 x4 x5 x6 x7 x8 x9 x10 x11 x12
            obtain ⟨x0, x1, x2, x3, x4, x5, x6, x7, x8, x9, x10, x11, x12⟩ := cells60 hS5.bo
            simp only [sv]
            clear hg5 hn5 hK5 hPh5 hc5 hk5 hS5 hB5 HTi x0 x1 x2 x3 x4 x5 x6 x7 x8 x9 x10 x11
            go_wp2_with fail
            go_at_call 52
            refine Calls.mono HRt.out ?_
            rintro e V6 ⟨⟨h1', h2', h3'⟩, z', rfl, hg6, hK6, hP6, hr6⟩
            have hk6 : Ks (fun k => Ow g y k ∨ k = b) V5 V6 := hK6.mono fun i _ e => .inr e
            have hg5' : R EI V6 (.slice g1 g2 g3) ((L.takeWhile (exB (hr c tk))).map (·.st)) := HS5.out.2.2.2.2.1.stays fun k hk hl => by
              obtain ⟨cc, hc⟩ := HS5.out.2.2.2.2.1.ty k hk
              exact hK6.block k hl (ty_ne hc HS5.out.2.2.1.rc.blk (show (2 : TypeId) ≠ 100 by decide))
            have HSi : Hid (Calls Tryd.prog 16 #[.slice g1 g2 g3, .slice h1' h2' h3'] V6 fun e w' => e = .returned (.bool true) ∧ Below V6.heap.size V6 w') := sameInts_eq (g1, g2, g3) (h1', h2', h3') _ V6 hg5'.isIn hg6.isIn
            have HE6 : Hid (Pz w0 W V6 g c y L b pd z B ∧ Sy W V6 o0 q1 (⟨4, tw, ⟨m, s, a, p, (y1, y2, y3), qb⟩, rn, (r1, r2, r3), rb, st, tk, Q, fr⟩ : Os) mk qv qc) := ⟨⟨hr c tk, y', _, z', _, ⟨rfl, rfl, rfl⟩, hP6, HKs.out V6 (HS5.out.2.1.trans hk6 (fun i _ e => e) (fun i _ e => e)), fun k hk => (HS5.out.2.2.2.1 k hk).imp id fun e => Nat.le_trans HWz.out e, fun k hk => (hr6 k hk).imp id fun e => Nat.le_trans HWz.out (Nat.le_trans HS5.out.2.2.2.2.2 e)⟩, HS5.out.1.keep fun k cc t fz hb ht => hK6.block k (heap_lt hb) (ty_ne hb HS5.out.2.2.1.rc.blk (by rcases ht with rfl | rfl | rfl <;> decide))⟩
            simp only [sv]
            clear hg6 hK6 hP6 hr6 hk6 hg5' HRt
            go_wp2_with fail
            go_at_call 16
            refine HSi.out.mono ?_
            rintro e V7 ⟨rfl, b7⟩
            have HE : Hid (Pz w0 W V7 g c y L b pd z B ∧ Sy W V7 o0 q1 (⟨4, tw, ⟨m, s, a, p, (y1, y2, y3), qb⟩, rn, (r1, r2, r3), rb, st, tk, Q, fr⟩ : Os) mk qv qc) := ⟨by obtain ⟨c', y', L', z', B', q1, q2, q3, q4, q5⟩ := HE6.out.1; exact ⟨c', y', L', z', B', q1, q2.below b7, q3.bel b7, q4, q5⟩, HE6.out.2.below b7⟩
            clear b7 HSi HE6
            go_wp2_with fail
            go_meet
            case rel => exact HE.out
          · have h1b : (kd == 1) = false := beq_eq_false_iff_ne.2 h1
            have h2b : (kd == 2) = false := beq_eq_false_iff_ne.2 h2
            have h3b : (kd == 3) = false := beq_eq_false_iff_ne.2 h3
            have h4b : (kd == 4) = false := beq_eq_false_iff_ne.2 h4
            have HE : Hid (Pz w0 W V3 g c y L b pd z B ∧ Sy W V3 o0 q1 (⟨kd, tw, ⟨m, s, a, p, (y1, y2, y3), qb⟩, rn, (r1, r2, r3), rb, st, tk, Q, fr⟩ : Os) mk qv qc) := ⟨⟨c, y, L, z, B, ⟨rfl, rfl, rfl⟩, HP3.out, HKs.out V3 (Ks.refl _ _), fun k hk => .inl hk, fun k hk => .inl hk⟩, HSy.out.2⟩
            go_wp2_with fail
            go_meet
            case rel => exact HE.out
  case rest =>
    obtain ⟨⟨c', y', L', z', B', hcc, hP4, hK4, hc4, hr4⟩, hS4⟩ := hcut.out
    obtain ⟨T, hT⟩ : ∃ T, totL L' = T := ⟨_, rfl⟩
    obtain ⟨NL, hNL⟩ : ∃ T, L'.length = T := ⟨_, rfl⟩
    have HBl : Hid (∀ V, Below wc.heap.size wc V → Below w0.heap.size w0 V) := fun V hV => by
      have h1 : Below w0.heap.size w0 wc := HB0.out.trans (hK4.below HB0.out.size fun i hi e => by
        have := e.elim (fun e => HP.out.ph.lo i (.inl (.inl e))) (fun e => HP.out.ph.lo i (.inr (.inl e)))
        omega)
      exact h1.trans (hV.mono h1.size)
    have HKp : Hid (Calls Tryd.prog 53 #[.slice qv N qc, .slice y1 y2 y3] wc fun e w' => e = .returned (.bool true) ∧ Below wc.heap.size wc w') := by
      have h1 := hS4.lq
      rw [show ((⟨kd, tw, ⟨m, s, a, p, (y1, y2, y3), qb⟩, rn, (r1, r2, r3), rb, st, tk, Q, fr⟩ : Os)).Q.length = N from HNq.out] at h1
      exact kept_any qv N qc (y1, y2, y3) Q mk mt wc HNq.out h1 (HOi.out.iq.below (HBl.out wc (Below.refl _ _))) HOi.out.az.zQ (((HBl.out wc (Below.refl _ _)).block 0 (heap_lt HM.out)).trans HM.out)
    have HLn : Hid (∀ V, Below wc.heap.size wc V → Calls Tryd.prog 12 #[.pointer (some ⟨g, 0, none⟩)] V fun e w' => e = .returned (.int .i64 (NL : Int)) ∧ w' = V) := fun V hV => by
      have := len_any V g c' y' L' (hP4.below hV).ph.cx
      rw [hNL] at this
      exact this
    have HRn : Hid (∀ V, Below wc.heap.size wc V → Calls Tryd.prog 54 #[.pointer (some ⟨b, 0, none⟩)] V fun e w' => e = .returned (.int .i64 (NL : Int)) ∧ w' = V) := fun V hV => by
      have := rlen_any V b _ _ _ _ _ B' _ (hP4.below hV).ph.rc
      rw [← hP4.rl.len, hNL] at this
      exact this
    have HBy : Hid (∀ V, Below wc.heap.size wc V → Calls Tryd.prog 22 #[.pointer (some ⟨g, 0, none⟩)] V fun e w' => e = .returned (.int .i64 (T : Int)) ∧ Below V.heap.size V w') := fun V hV => by
      have := bytes_any V g c' y' L' (hP4.below hV).ph.cx
      rw [hT] at this
      exact this
    have HRy : Hid (∀ V, Below wc.heap.size wc V → Calls Tryd.prog 55 #[.pointer (some ⟨b, 0, none⟩)] V fun e w' => e = .returned (.int .i64 (T : Int)) ∧ Below V.heap.size V w') := fun V hV => by
      have := rbytes_any V b _ _ _ _ _ B' _ (hP4.below hV).ph.rc (by have := hP4.tot; omega)
      rw [← hP4.rl.tot, hT] at this
      exact this
    have HPz : Hid (∀ V, Below wc.heap.size wc V → Pz w0 W V g c y L b pd z B) := fun V hV => ⟨c', y', L', z', B', hcc, hP4.below hV, hK4.bel hV, hc4, hr4⟩
    have hbq := hS4.bq
    simp only [rqv, sv] at hbq
    rw [HNq.out] at hbq
    have z4 := cell_blk hbq 4
    simp only [List.getElem?_toArray, List.getElem?_cons_succ, List.getElem?_cons_zero] at z4
    clear x0 x1 x2 x3 x4 x5 x6 x7 x8 x9 x10 x11 x12
    obtain ⟨x0, x1, x2, x3, x4, x5, x6, x7, x8, x9, x10, x11, x12⟩ := cells60 hS4.bo
    simp only [sv] at x6
    clear x0 x1 x2 x3 x4 x5 x7 x8 x9 x10 x11 x12 hbq hS4 hcc hP4 hK4 hc4 hr4 hcut hT hNL HSy HP3 HB03 HKs HWz
    go_wp2_with fail
    go_at_call 53
    refine HKp.out.mono ?_
    rintro e U1 ⟨rfl, b1⟩
    have HU1 : Hid (Below wc.heap.size wc U1) := b1
    clear b1 HKp x6 z4
    go_wp2_with fail
    go_at_call 12
    refine (HLn.out U1 HU1.out).mono ?_
    rintro e U ⟨rfl, rfl⟩
    go_wp2_with fail
    go_at_call 54
    refine (HRn.out U HU1.out).mono ?_
    rintro e U' ⟨rfl, rfl⟩
    go_wp2_with fail
    go_at_call 22
    refine (HBy.out U' HU1.out).mono ?_
    rintro e U2 ⟨rfl, b2⟩
    have HU2 : Hid (Below wc.heap.size wc U2) := HU1.out.trans (b2.mono HU1.out.size)
    clear b2 HBy
    go_wp2_with fail
    go_at_call 55
    refine (HRy.out U2 HU2.out).mono ?_
    rintro e U3 ⟨rfl, b3⟩
    have HE : Hid (Pz w0 W U3 g c y L b pd z B) := HPz.out U3 (HU2.out.trans (b3.mono HU2.out.size))
    clear b3 HRy HPz
    go_wp2_with fail
    go_ret
    exact ⟨by first | rfl | simp, HE.out⟩
end Go.Proofs.YtfponcdhaefkdaaDoor
