/- An entry stands behind the others. -/
import Derived.Test.YtfmljlflnpmceaaGreatDoorZs
import Derived.Test.YtfmljlflnpmceaaGreatDoorZt
import Derived.Test.YtfmljlflnpmceaaGreatDoorZa
namespace Go.Proofs.YtfmljlflnpmceaaGreatDoor
open Go.RowKit
set_option linter.unusedVariables false
set_option linter.unusedSimpArgs false
/-- an entry in memory -/
structure EOk (w0 : World) (e : Et) (p : Value) : Prop where
  st : I64 e.f.st
  la : I64 e.f.last
  dz : e.f.data.size ≤ 140737488355328
  pin : Fm.PIn w0 p e.ps
  inn : In EP w0 p e.ps
  sz : (Fm.asmB e.f e.ps).size * 3 + 2000 ≤ 140737488355328
  fn : Fn e.f e.ps e.n
/-- what stays so, whatever the entries are -/
structure KOk (k : Lk) : Prop where
  lv : Lv k
  ln : ∀ s, 0 ≤ (k.wy s).ln ∧ (k.wy s).ln ≤ 1099511627776
  ac : ∀ s, okW (k.wy s).ac
  wt : ∀ s, ∀ x ∈ (k.wy s).wt, okW x
theorem form_right {f : Fm.Fr} {ps : List (Int × Int)} {n : Option Nat} {frm : Int} (h : Fn f ps n) (h0 : formC n frm = 0) : Fm.Right f ps ∧ (Fm.asmB f ps).size ≤ 65545 := by
  rcases h with ⟨h1, rfl⟩ | ⟨_, rfl⟩
  · refine ⟨h1, ?_⟩
    unfold formC at h0
    simp only [Option.elim_some] at h0
    split at h0
    · exact absurd h0 (by decide)
    · omega
  · exact absurd (show (1 : Int) = 0 from h0) (by decide)
theorem right_pad {f : Fm.Fr} {ps : List (Int × Int)} (h : Fm.Right f ps) (ht : f.ty = 0) (h8 : Fm.hasF f.fl 8 = true) : 0 ≤ f.pad ∧ f.pad ≤ 255 := by
  have := h.pad
  rw [if_pos (by simp [Fm.padS, ht, h8])] at this
  omega
set_option maxRecDepth 100000 in
set_option maxHeartbeats 40000000 in
theorem takeE_any (e : Et) (p : Value) (w0 w : World) (A : LA) (k : Lk) (m : Nat) (h : LJ w0 w A k m) (hk : KOk k) (he : EOk w0 e p) (hm : m + 2 < maxLen) (hpg : ∀ s, (k.wy s).pg.length ≤ 1099511627776) (h0 : Std w0) (hK : Fm.Kinds w0) (hw2 : 2 ≤ w0.heap.size) :
    Calls Tryz.prog 23 #[.pointer (some ⟨A.g, 0, none⟩), .agg (env e.s e.f p)] w fun r w' => r = .returned (.int .i64 (k.take e).2) ∧ ∃ A', A'.g = A.g ∧ (∀ u, (A'.w u).g = (A.w u).g) ∧ LJ w0 w' A' (k.take e).1 (m + 3) := by
  obtain ⟨R, hR⟩ : ∃ R, k.take e = R := ⟨_, rfl⟩
  obtain ⟨pb, pn, pc, hps⟩ : ∃ b n c, p = .slice b n c := by obtain ⟨b, c, hh, _⟩ := he.inn.slice; exact ⟨b, _, c, hh⟩
  obtain ⟨t, ht⟩ : ∃ t : Tn, ⟨A.g, e.f, p, e.s, (A.w e.s).g, (A.w (!e.s)).g⟩ = t := ⟨_, rfl⟩
  have t1 : t.f = e.f := by rw [← ht]
  have t2 : t.s = e.s := by rw [← ht]
  have t3 : t.lk = A.g := by rw [← ht]
  have t4 : t.wa = (A.w t.s).g := by rw [← ht]
  have t5 : t.bk = (A.w (!t.s)).g := by rw [← ht]
  have t6 : t.p = p := by rw [← ht]
  obtain ⟨fc, hfc⟩ : ∃ v, k.form e = v := ⟨_, rfl⟩
  obtain ⟨ea, hea⟩ : ∃ v, k.early e = v := ⟨_, rfl⟩
  obtain ⟨az, has⟩ : ∃ v, k.astray e = v := ⟨_, rfl⟩
  obtain ⟨lt, hlt⟩ : ∃ v, k.late e = v := ⟨_, rfl⟩
  obtain ⟨ga, hga⟩ : ∃ v, (k.wy true).ga = v := ⟨_, rfl⟩
  obtain ⟨k', hk'⟩ : ∃ v, (k.upd e.s fun w => { w with bg := true }) = v := ⟨_, rfl⟩
  obtain ⟨Rb, hRb⟩ : ∃ v, k'.byType e = v := ⟨_, rfl⟩
  have HR : Hid (R = if ga = true then (k, 1) else if fc ≠ 0 then (k, fc) else if (ea || az) = true then (k, 1) else if lt = true then (k, 5) else Rb) := by
    show _ = _
    rw [← hR]
    unfold Lk.take
    rw [hfc, hea, has, hlt, hga, hk', hRb]
  have HTo : Hid (∀ V, LJ w0 V A k m → Calls Tryz.prog 27 #[.pointer (some ⟨A.g, 0, none⟩), .agg (env e.s e.f p)] V fun r w' => r = .returned (.agg (tnv t)) ∧ Below V.heap.size V w') := fun V hV => by
    have := turnOf_any e.s e.f p w0 V A k m hV (by obtain ⟨b, c, hh, _⟩ := he.inn.slice; exact ⟨b, _, c, hh⟩)
    rw [ht] at this
    exact this
  have HFo : Hid (∀ V, LJ w0 V A k m → Calls Tryz.prog 28 #[.agg (tnv t)] V fun r w' => r = .returned (.int .i64 fc) ∧ Below V.heap.size V w') := fun V hV => by
    have := form_any t e.ps e.n (A.w t.s) (k.wy t.s) m V (hV.wi t.s) t4 (by rw [t6]; exact he.pin.below hV.bel) (hK.of_eq (hV.bel.block 1 (by omega))) (Nat.le_trans hw2 hV.bel.size) (by rw [t1]; exact he.sz) (by rw [t1]; exact he.fn)
    have e1 : formC e.n (k.wy t.s).ac.frm = fc := by rw [t2]; exact hfc
    rw [e1] at this
    exact this
  have HEa : Hid (∀ V, LJ w0 V A k m → Calls Tryz.prog 29 #[.agg (tnv t)] V fun r w' => r = .returned (.bool ea) ∧ Below V.heap.size V w') := fun V hV => by
    have := isEarly_any t (A.w t.s) (k.wy t.s) m V (hV.wi t.s) t4
    have e1 : (!(k.wy t.s).bg && (!(t.f.ty == 4) || Fm.hasF t.f.fl 1)) = ea := by rw [t1, t2]; exact hea
    rw [e1] at this
    exact this
  have HAs : Hid (∀ V, LJ w0 V A k m → Calls Tryz.prog 30 #[.agg (tnv t)] V fun r w' => r = .returned (.bool az) ∧ Below V.heap.size V w') := fun V hV => by
    have := isAstray_any t (A.w t.s) (k.wy t.s) m V (hV.wi t.s) t4
    have e1 : (if t.f.ty = 9 then !((k.wy t.s).bk == t.f.st) else !((k.wy t.s).bk == 0)) = az := by rw [t1, t2]; exact has
    rw [e1] at this
    exact this
  have HLt : Hid (∀ V, LJ w0 V A k m → Calls Tryz.prog 31 #[.agg (tnv t)] V fun r w' => r = .returned (.bool lt) ∧ Below V.heap.size V w') := fun V hV => by
    have := isLate_any t (A.w t.s) (k.wy t.s) m V (hV.wi t.s) t4 (by rw [t1]; exact he.st)
    have e1 : (isLateT t.f.ty && (k.wy t.s).rs.contains t.f.st) = lt := by rw [t1, t2]; exact hlt
    rw [e1] at this
    exact this
  have kk : ∀ s, (k'.wy s).ln = (k.wy s).ln ∧ (k'.wy s).ac = (k.wy s).ac ∧ (k'.wy s).wt = (k.wy s).wt ∧ (k'.wy s).pg = (k.wy s).pg := fun s => by
    rw [← hk']
    unfold Lk.upd
    simp only
    split <;> exact ⟨rfl, rfl, rfl, rfl⟩
  have HBt : Hid (fc = 0 → ∀ V, LJ w0 V A k' m → Calls Tryz.prog 32 #[.agg (tnv t)] V fun r w' => r = .returned (.int .i64 Rb.2) ∧ ∃ A', A'.g = A.g ∧ (∀ u, (A'.w u).g = (A.w u).g) ∧ LJ w0 w' A' Rb.1 (m + 3)) := fun hz V hV => by
    have hr := form_right he.fn (frm := (k.wy e.s).ac.frm) (hfc.trans hz)
    have := byType_any t e w0 V A k' m hV (by rw [← hk']; exact hk.lv.upd _ _ (fun y => rfl)) t1 t2 t3 t4 t5 (by rw [t1]; exact he.st) (by rw [t1]; exact he.la) hm (by rw [(kk _).1]; exact hk.ln _) (by rw [t1]; exact he.dz) (fun hy h8 => by rw [t1] at hy h8 ⊢; exact right_pad hr.1 hy h8) (by rw [(kk _).2.2.2]; exact hpg _) (by rw [(kk _).2.1]; exact hk.ac _) (by rw [(kk _).2.2.1]; exact hk.wt _) h0 (by rw [t6]; exact he.inn)
    rw [hRb] at this
    exact this
  have HSg : Hid (∀ V, LJ w0 V A k m → LJ w0 (V.setCell ⟨t.wa, 0, none⟩ (.bool true)) A k' m ∧ V.cell? ⟨t.wa, 0, none⟩ = some (.bool (k.wy e.s).bg) ∧ V.frozen? ⟨t.wa, 0, none⟩ = false ∧ t.wa < V.heap.size) := fun V hV => by
    rw [t4, t2, ← hk']
    exact ⟨hV.bg e.s, (hV.wi e.s).cells.1, frozen_blk (hV.wi e.s).blk 0, heap_lt (hV.wi e.s).blk⟩
  have c1 : w.cell? ⟨A.g, 1, none⟩ = some (.pointer (some ⟨(A.w true).g, 0, none⟩)) := cell_blk h.blk 1
  have c2 : w.cell? ⟨(A.w true).g, 1, none⟩ = some (.bool ga) := by rw [← hga]; exact (h.wi true).cells.2.1
  have l1 := heap_lt h.blk
  have l2 : (A.w true).g < w.heap.size := heap_lt (h.wi true).blk
  rw [hR]
  have HL : Hid (LJ w0 w A k m) := h
  have HNe : Hid (∀ (V : World) (q : Nat) (c : Array Value), LJ w0 V A k m → V.heap[q]? = some (.cells c 78 (0, 0)) → q ≠ t.wa) := fun V q c hV hq => by
    rw [t4]
    exact ty_ne hq (hV.wi t.s).blk (by decide)
  have hta : t.lk = A.g := t3
  have htp : t.p = .slice pb pn pc := t6.trans hps
  rw [hps] at HTo ⊢
  clear h hk he hm hpg h0 hK hw2 hR t1 t2 t3 t4 t5 t6 hps hfc hea has hlt hga hk' hRb kk ht
  obtain ⟨es, ⟨ey, el, et, ed, ep, ee, eX, ew, ec, eL⟩, eps, en⟩ := e
  obtain ⟨lk, ⟨ty, fl, st, da, pa, de, ex, wt, co, la⟩, tp, s, wa, bk⟩ := t
  simp only [env] at HTo HSg ⊢
  simp only at hta htp
  subst hta htp
  simp only [tnv] at HTo HFo HEa HAs HLt HBt
  simp only at HNe
  have hSb : Hid (∀ (b0 : Nat) (V : World), V.heap[b0]? = some (.cells #[.pointer (some ⟨A.g, 0, none⟩), .int .i64 ty, .int .i64 fl, .int .i64 st, .string da, .int .i64 pa, .int .i64 de, .bool ex, .int .i64 wt, .int .i64 co, .int .i64 la, .slice pb pn pc, .bool s, .pointer (some ⟨wa, 0, none⟩), .pointer (some ⟨bk, 0, none⟩)] 78 (0, 0)) → V.cell? ⟨b0, 0, none⟩ = some (.pointer (some ⟨A.g, 0, none⟩)) ∧ V.cell? ⟨b0, 1, none⟩ = some (.int .i64 ty) ∧ V.cell? ⟨b0, 2, none⟩ = some (.int .i64 fl) ∧ V.cell? ⟨b0, 3, none⟩ = some (.int .i64 st) ∧ V.cell? ⟨b0, 4, none⟩ = some (.string da) ∧ V.cell? ⟨b0, 5, none⟩ = some (.int .i64 pa) ∧ V.cell? ⟨b0, 6, none⟩ = some (.int .i64 de) ∧ V.cell? ⟨b0, 7, none⟩ = some (.bool ex) ∧ V.cell? ⟨b0, 8, none⟩ = some (.int .i64 wt) ∧ V.cell? ⟨b0, 9, none⟩ = some (.int .i64 co) ∧ V.cell? ⟨b0, 10, none⟩ = some (.int .i64 la) ∧ V.cell? ⟨b0, 11, none⟩ = some (.slice pb pn pc) ∧ V.cell? ⟨b0, 12, none⟩ = some (.bool s) ∧ V.cell? ⟨b0, 13, none⟩ = some (.pointer (some ⟨wa, 0, none⟩)) ∧ V.cell? ⟨b0, 14, none⟩ = some (.pointer (some ⟨bk, 0, none⟩))) := fun b0 V h1 => ⟨cell_blk h1 0, cell_blk h1 1, cell_blk h1 2, cell_blk h1 3, cell_blk h1 4, cell_blk h1 5, cell_blk h1 6, cell_blk h1 7, cell_blk h1 8, cell_blk h1 9, cell_blk h1 10, cell_blk h1 11, cell_blk h1 12, cell_blk h1 13, cell_blk h1 14⟩
  obtain ⟨gt, hgt⟩ : ∃ v, (A.w true).g = v := ⟨_, rfl⟩
  rw [hgt] at c1 c2 l2
  cases ga
  · have HR2 : Hid (R = if fc ≠ 0 then (k, fc) else if (ea || az) = true then (k, 1) else if lt = true then (k, 5) else Rb) := by show _ = _; rw [HR.out, if_neg (by decide)]
    clear HR
    go_enter Tryz.func23, Tryz.ntmps23
    go_wp2_with fail
    go_at_call 27
    refine (HTo.out _ (HL.out.below (bel1 _ _))).mono ?_
    rintro e' V1 ⟨rfl, hV1⟩
    obtain ⟨V2, hV2⟩ : ∃ V, V1.alloc (.cells #[.pointer (some ⟨A.g, 0, none⟩), .int .i64 ty, .int .i64 fl, .int .i64 st, .string da, .int .i64 pa, .int .i64 de, .bool ex, .int .i64 wt, .int .i64 co, .int .i64 la, .slice pb pn pc, .bool s, .pointer (some ⟨wa, 0, none⟩), .pointer (some ⟨bk, 0, none⟩)] 78) = V := ⟨_, rfl⟩
    obtain ⟨b0, hb0⟩ : ∃ v, V1.heap.size = v := ⟨_, rfl⟩
    have HL2 : Hid (LJ w0 V2 A k m ∧ V2.heap[b0]? = some (.cells #[.pointer (some ⟨A.g, 0, none⟩), .int .i64 ty, .int .i64 fl, .int .i64 st, .string da, .int .i64 pa, .int .i64 de, .bool ex, .int .i64 wt, .int .i64 co, .int .i64 la, .slice pb pn pc, .bool s, .pointer (some ⟨wa, 0, none⟩), .pointer (some ⟨bk, 0, none⟩)] 78 (0, 0))) := ⟨(HL.out.below ((bel1 _ _).trans (hV1.mono (by simp)))).below (by rw [← hV2]; exact bel1 _ _), by rw [← hV2, ← hb0, heap_al, if_pos rfl]⟩
    clear hV1 HTo HL c1 c2 l1 l2 hgt
    go_upto_region 4 with fail
    try rw [hV2]
    try rw [hb0]
    clear hV2 hb0
    obtain ⟨j0, j1, j2, j3, j4, j5, j6, j7, j8, j9, j10, j11, j12, j13, j14⟩ := hSb.out _ _ HL2.out.2
    go_wp2_with fail
    go_at_call 28
    refine (HFo.out _ HL2.out.1).mono ?_
    rintro e' V3 ⟨rfl, hV3⟩
    have HL3 : Hid (LJ w0 V3 A k m ∧ V3.heap[b0]? = some (.cells #[.pointer (some ⟨A.g, 0, none⟩), .int .i64 ty, .int .i64 fl, .int .i64 st, .string da, .int .i64 pa, .int .i64 de, .bool ex, .int .i64 wt, .int .i64 co, .int .i64 la, .slice pb pn pc, .bool s, .pointer (some ⟨wa, 0, none⟩), .pointer (some ⟨bk, 0, none⟩)] 78 (0, 0))) := ⟨HL2.out.1.below hV3, (hV3.block _ (heap_lt HL2.out.2)).trans HL2.out.2⟩
    clear j0 j1 j2 j3 j4 j5 j6 j7 j8 j9 j10 j11 j12 j13 j14 hV3 HL2 HFo
    by_cases hz : fc = 0
    · subst hz
      replace HBt : Hid (∀ V, LJ w0 V A k' m → Calls Tryz.prog 32 #[.agg #[.pointer (some ⟨A.g, 0, none⟩), .int .i64 ty, .int .i64 fl, .int .i64 st, .string da, .int .i64 pa, .int .i64 de, .bool ex, .int .i64 wt, .int .i64 co, .int .i64 la, .slice pb pn pc, .bool s, .pointer (some ⟨wa, 0, none⟩), .pointer (some ⟨bk, 0, none⟩)]] V fun r w' => r = .returned (.int .i64 Rb.2) ∧ ∃ A', A'.g = A.g ∧ (∀ u, (A'.w u).g = (A.w u).g) ∧ LJ w0 w' A' Rb.1 (m + 3)) := HBt.out rfl
      obtain ⟨j0, j1, j2, j3, j4, j5, j6, j7, j8, j9, j10, j11, j12, j13, j14⟩ := hSb.out _ _ HL3.out.2
      go_wp2_with fail
      go_at_call 29
      refine (HEa.out _ HL3.out.1).mono ?_
      rintro e' V4 ⟨rfl, hV4⟩
      have HL4 : Hid (LJ w0 V4 A k m ∧ V4.heap[b0]? = some (.cells #[.pointer (some ⟨A.g, 0, none⟩), .int .i64 ty, .int .i64 fl, .int .i64 st, .string da, .int .i64 pa, .int .i64 de, .bool ex, .int .i64 wt, .int .i64 co, .int .i64 la, .slice pb pn pc, .bool s, .pointer (some ⟨wa, 0, none⟩), .pointer (some ⟨bk, 0, none⟩)] 78 (0, 0))) := ⟨HL3.out.1.below hV4, (hV4.block _ (heap_lt HL3.out.2)).trans HL3.out.2⟩
      clear j0 j1 j2 j3 j4 j5 j6 j7 j8 j9 j10 j11 j12 j13 j14 hV4 HL3 HEa
      cases ea
      · obtain ⟨j0, j1, j2, j3, j4, j5, j6, j7, j8, j9, j10, j11, j12, j13, j14⟩ := hSb.out _ _ HL4.out.2
        go_wp2_with fail
        go_at_call 30
        refine (HAs.out _ HL4.out.1).mono ?_
        rintro e' V5 ⟨rfl, hV5⟩
        have HL5 : Hid (LJ w0 V5 A k m ∧ V5.heap[b0]? = some (.cells #[.pointer (some ⟨A.g, 0, none⟩), .int .i64 ty, .int .i64 fl, .int .i64 st, .string da, .int .i64 pa, .int .i64 de, .bool ex, .int .i64 wt, .int .i64 co, .int .i64 la, .slice pb pn pc, .bool s, .pointer (some ⟨wa, 0, none⟩), .pointer (some ⟨bk, 0, none⟩)] 78 (0, 0))) := ⟨HL4.out.1.below hV5, (hV5.block _ (heap_lt HL4.out.2)).trans HL4.out.2⟩
        clear j0 j1 j2 j3 j4 j5 j6 j7 j8 j9 j10 j11 j12 j13 j14 hV5 HL4 HAs
        cases az
        · obtain ⟨j0, j1, j2, j3, j4, j5, j6, j7, j8, j9, j10, j11, j12, j13, j14⟩ := hSb.out _ _ HL5.out.2
          go_wp2_with fail
          go_at_call 31
          refine (HLt.out _ HL5.out.1).mono ?_
          rintro e' V6 ⟨rfl, hV6⟩
          have HL6 : Hid (LJ w0 V6 A k m ∧ V6.heap[b0]? = some (.cells #[.pointer (some ⟨A.g, 0, none⟩), .int .i64 ty, .int .i64 fl, .int .i64 st, .string da, .int .i64 pa, .int .i64 de, .bool ex, .int .i64 wt, .int .i64 co, .int .i64 la, .slice pb pn pc, .bool s, .pointer (some ⟨wa, 0, none⟩), .pointer (some ⟨bk, 0, none⟩)] 78 (0, 0))) := ⟨HL5.out.1.below hV6, (hV6.block _ (heap_lt HL5.out.2)).trans HL5.out.2⟩
          clear j0 j1 j2 j3 j4 j5 j6 j7 j8 j9 j10 j11 j12 j13 j14 hV6 HL5 HLt
          cases lt
          · have HQ : Hid (R = Rb) := by show _ = _; rw [HR2.out, if_neg (by simp), if_neg (by decide), if_neg (by decide)]
            obtain ⟨j0, j1, j2, j3, j4, j5, j6, j7, j8, j9, j10, j11, j12, j13, j14⟩ := hSb.out _ _ HL6.out.2
            obtain ⟨z1, z2, z3, z4⟩ := HSg.out _ HL6.out.1
            have hne := HNe.out _ _ _ HL6.out.1 HL6.out.2
            obtain ⟨V7, hV7⟩ : ∃ V, V6.setCell ⟨wa, 0, none⟩ (.bool true) = V := ⟨_, rfl⟩
            have HL7 : Hid (LJ w0 V7 A k' m ∧ V7.heap[b0]? = some (.cells #[.pointer (some ⟨A.g, 0, none⟩), .int .i64 ty, .int .i64 fl, .int .i64 st, .string da, .int .i64 pa, .int .i64 de, .bool ex, .int .i64 wt, .int .i64 co, .int .i64 la, .slice pb pn pc, .bool s, .pointer (some ⟨wa, 0, none⟩), .pointer (some ⟨bk, 0, none⟩)] 78 (0, 0))) := ⟨by rw [← hV7]; exact z1, by rw [← hV7]; exact (setCell_other _ _ _ _ _ hne).trans HL6.out.2⟩
            clear z1 HSg
            go_upto_region 13 with fail
            try rw [hV7]
            clear hV7 j0 j1 j2 j3 j4 j5 j6 j7 j8 j9 j10 j11 j12 j13 j14 z2 z3 z4 hne
            obtain ⟨j0, j1, j2, j3, j4, j5, j6, j7, j8, j9, j10, j11, j12, j13, j14⟩ := hSb.out _ _ HL7.out.2
            go_wp2_with fail
            go_at_call 32
            refine (HBt.out _ HL7.out.1).mono ?_
            rintro e' V8 ⟨rfl, A1, a1, a2, a3⟩
            have HE := hid (And.intro a1 (And.intro a2 a3))
            clear a1 a2 a3 j0 j1 j2 j3 j4 j5 j6 j7 j8 j9 j10 j11 j12 j13 j14
            go_wp2_with fail
            go_ret
            exact ⟨by rw [HQ.out]; rfl, A1, HE.out.1, (by first | exact HE.out.2.1 | exact ⟨HE.out.2.1 _, HE.out.2.1 _⟩), by rw [HQ.out]; exact HE.out.2.2⟩
          · have HQ : Hid (R = (k, 5)) := by show _ = _; rw [HR2.out, if_neg (by simp), if_neg (by decide), if_pos (by decide)]
            go_wp2_with fail
            go_ret
            exact ⟨by rw [HQ.out]; rfl, A, rfl, (by first | exact fun u => rfl | exact ⟨rfl, rfl⟩), by rw [HQ.out]; exact HL6.out.1.more (by omega)⟩
        · have HQ : Hid (R = (k, 1)) := by show _ = _; rw [HR2.out, if_neg (by simp), if_pos (by decide)]
          go_wp2_with fail
          go_ret
          exact ⟨by rw [HQ.out]; rfl, A, rfl, (by first | exact fun u => rfl | exact ⟨rfl, rfl⟩), by rw [HQ.out]; exact HL5.out.1.more (by omega)⟩
      · have HQ : Hid (R = (k, 1)) := by show _ = _; rw [HR2.out, if_neg (by simp), if_pos (by cases az <;> decide)]
        go_wp2_with fail
        go_ret
        exact ⟨by rw [HQ.out]; rfl, A, rfl, (by first | exact fun u => rfl | exact ⟨rfl, rfl⟩), by rw [HQ.out]; exact HL4.out.1.more (by omega)⟩
    · have HQ : Hid (R = (k, fc)) := by show _ = _; rw [HR2.out, if_pos hz]
      have hzb : (fc == 0) = false := beq_eq_false_iff_ne.2 hz
      go_wp2_with fail
      go_ret
      exact ⟨by rw [HQ.out]; rfl, A, rfl, (by first | exact fun u => rfl | exact ⟨rfl, rfl⟩), by rw [HQ.out]; exact HL3.out.1.more (by omega)⟩
  · have HQ : Hid (R = (k, 1)) := by show _ = _; rw [HR.out, if_pos rfl]
    clear hgt
    go_enter Tryz.func23, Tryz.ntmps23
    go_wp2_with fail
    go_ret
    exact ⟨by rw [HQ.out]; rfl, A, rfl, (by first | exact fun u => rfl | exact ⟨rfl, rfl⟩), by rw [HQ.out]; exact (HL.out.below (bel1 _ _)).more (by omega)⟩
end Go.Proofs.YtfmljlflnpmceaaGreatDoor
