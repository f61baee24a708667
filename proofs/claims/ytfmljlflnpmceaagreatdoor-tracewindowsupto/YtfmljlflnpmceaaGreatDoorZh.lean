/- PUSH_PROMISE. -/
import Derived.Test.YtfmljlflnpmceaaGreatDoorVz3
namespace Go.Proofs.YtfmljlflnpmceaaGreatDoor
open Go.RowKit
set_option linter.unusedVariables false
set_option linter.unusedSimpArgs false
theorem field92b (a b c d e f : Value) (W : World) : (Instr.field 92 (.agg #[a, b, c, d, e, f]) 1).run Tryz.prog W = .ok b W := by
  simp [Instr.field, run_underlying Tryz.underlying92, part, Tryz.isAgg2, asAgg]
set_option maxRecDepth 100000 in
set_option maxHeartbeats 40000000 in
theorem promise_any (t : Tn) (e : Et) (w0 w : World) (A : LA) (k : Lk) (m : Nat) (h : LJ w0 w A k m) (hv : Lv k) (hf : t.f = e.f) (hs : t.s = e.s) (hg : t.lk = A.g) (hw : t.wa = (A.w t.s).g) (hb : t.bk = (A.w (!t.s)).g) (hi : I64 t.f.st) (hla : I64 t.f.last) (hm : m + 2 < maxLen) :
    Calls Tryz.prog 40 #[.agg (tnv t)] w fun r w' => r = .returned (.int .i64 (k.promise e).2) ∧ ∃ A', A'.g = A.g ∧ (∀ u, (A'.w u).g = (A.w u).g) ∧ LJ w0 w' A' (k.promise e).1 (m + 3) := by
  obtain ⟨R, hR⟩ : ∃ R, k.promise e = R := ⟨_, rfl⟩
  obtain ⟨⟨q1, ps, q3, q4, q5, q6⟩, hac⟩ : ∃ q : St, (k.wy t.s).ac = q := ⟨_, rfl⟩
  obtain ⟨cr, hcr⟩ : ∃ v, k.carries e = v := ⟨_, rfl⟩
  obtain ⟨⟨k1, c1, i1⟩, hH⟩ : ∃ H, k.happen t.s t.f.last 5 = H := ⟨_, rfl⟩
  have HR : Hid (R = if (!(ps == 1) || !cr) = true then (k, 1) else if c1 ≠ 0 then (k1, c1) else if (t.s && (k1.wy false).ga) = true then (k1, 1) else (k1.block e, 0)) := by
    show _ = _
    rw [← hR]
    unfold Lk.promise
    simp only
    rw [← hf, ← hs, hac, hcr, hH]
  rw [hR]
  obtain ⟨W1, hW1⟩ : ∃ V, w.alloc (.cells (tnv t) 78) = V := ⟨_, rfl⟩
  obtain ⟨b0, hb'⟩ : ∃ q, w.heap.size = q := ⟨_, rfl⟩
  have b1 : Below w.heap.size w W1 := by rw [← hW1]; exact bel1 _ _
  have hb0 : W1.heap[b0]? = some (.cells (tnv t) 78 (0, 0)) := by rw [← hW1, ← hb', heap_al, if_pos rfl]
  have HL0 : Hid (LJ w0 W1 A k m ∧ W1.heap[b0]? = some (.cells (tnv t) 78 (0, 0))) := ⟨h.below b1, hb0⟩
  have HAc : Hid (∀ V, Below W1.heap.size W1 V → Calls Tryz.prog 37 #[.pointer (some ⟨(A.w t.s).b, 0, none⟩)] V fun e w' => e = .returned (.agg #[.int .i64 q1, .int .i64 ps, .int .i64 q3, .int .i64 q4, .int .i64 q5, .int .i64 q6]) ∧ Below V.heap.size V w') := fun V hV => by
    have := acked_any V _ _ _ _ _ ((HL0.out.1.below hV).wi t.s).bk
    rw [hac] at this
    exact this
  have HCr : Hid (∀ V, LJ w0 V A k m → Calls Tryz.prog 57 #[.agg (tnv t)] V fun r w' => r = .returned (.bool cr) ∧ Below V.heap.size V w') := fun V hV => by
    have := carries_any t e w0 V A k m hV hf hs hg hb hi
    rw [hcr] at this
    exact this
  have HHp : Hid (∀ V, LJ w0 V A k m → Calls Tryz.prog 47 #[.agg (tnv t), .int .i64 t.f.last, .int .i64 5] V fun e w' => e = .returned (.tuple #[.int .i64 c1, .bool i1]) ∧ ∃ A', A'.g = A.g ∧ (∀ u, (A'.w u).g = (A.w u).g) ∧ LJ w0 w' A' k1 (m + 2) ∧ KpO V w') := fun V hV => by
    have := happen_any t t.f.last 5 w0 V A k m hV hv hg hw hb hla (by omega)
    rw [hH] at this
    exact this
  have HBb : Hid (∀ (V : World) (A1 : LA), (∀ u, (A1.w u).g = (A.w u).g) → LJ w0 V A1 k1 (m + 2) → Calls Tryz.prog 56 #[.agg (tnv t)] V fun r w' => r = .returned (.tuple #[]) ∧ LJ w0 w' A1 (k1.block e) (m + 2)) := fun V A1 g2 hV => beginBlock_any t e w0 V A1 k1 (m + 2) hV hf hs (hw.trans (g2 _).symm)
  have HC7 : Hid (∀ V, Below W1.heap.size W1 V → V.cell? ⟨t.wa, 7, none⟩ = some (.pointer (some ⟨(A.w t.s).b, 0, none⟩)) ∧ t.wa < V.heap.size) := fun V hV => by
    rw [hw]
    exact ⟨((HL0.out.1.below hV).wi t.s).cells.2.2.2.2.2.2.2.1, heap_lt ((HL0.out.1.below hV).wi t.s).blk⟩
  have c7 := (HC7.out _ (Below.refl _ _)).1
  have j0 := cell_blk hb0 0
  have j1 := cell_blk hb0 1
  have j2 := cell_blk hb0 2
  have j3 := cell_blk hb0 3
  have j4 := cell_blk hb0 4
  have j5 := cell_blk hb0 5
  have j6 := cell_blk hb0 6
  have j7 := cell_blk hb0 7
  have j8 := cell_blk hb0 8
  have j9 := cell_blk hb0 9
  have j10 := cell_blk hb0 10
  have j11 := cell_blk hb0 11
  have j12 := cell_blk hb0 12
  have j13 := cell_blk hb0 13
  have j14 := cell_blk hb0 14
  clear h hv hw hb hi hla hm hH hR hcr hac b1 hb0 hf hs
  obtain ⟨lk, ⟨ty, fl, st, da, pa, de, ex, wt, co, la⟩, p, s, wa, bk⟩ := t
  simp only at hg HR HC7 c7 HHp HAc
  subst hg
  simp only [tnv] at hW1 HL0 HHp HCr HBb j0 j1 j2 j3 j4 j5 j6 j7 j8 j9 j10 j11 j12 j13 j14 ⊢
  simp only [List.getElem?_toArray, List.getElem?_cons_succ, List.getElem?_cons_zero] at j0 j1 j2 j3 j4 j5 j6 j7 j8 j9 j10 j11 j12 j13 j14
  have hfc := fun W => field92b (.int .i64 q1) (.int .i64 ps) (.int .i64 q3) (.int .i64 q4) (.int .i64 q5) (.int .i64 q6) W
  have hSb : Hid (∀ V : World, V.heap[b0]? = some (.cells #[.pointer (some ⟨A.g, 0, none⟩), .int .i64 ty, .int .i64 fl, .int .i64 st, .string da, .int .i64 pa, .int .i64 de, .bool ex, .int .i64 wt, .int .i64 co, .int .i64 la, p, .bool s, .pointer (some ⟨wa, 0, none⟩), .pointer (some ⟨bk, 0, none⟩)] 78 (0, 0)) → V.cell? ⟨b0, 0, none⟩ = some (.pointer (some ⟨A.g, 0, none⟩)) ∧ V.cell? ⟨b0, 1, none⟩ = some (.int .i64 ty) ∧ V.cell? ⟨b0, 2, none⟩ = some (.int .i64 fl) ∧ V.cell? ⟨b0, 3, none⟩ = some (.int .i64 st) ∧ V.cell? ⟨b0, 4, none⟩ = some (.string da) ∧ V.cell? ⟨b0, 5, none⟩ = some (.int .i64 pa) ∧ V.cell? ⟨b0, 6, none⟩ = some (.int .i64 de) ∧ V.cell? ⟨b0, 7, none⟩ = some (.bool ex) ∧ V.cell? ⟨b0, 8, none⟩ = some (.int .i64 wt) ∧ V.cell? ⟨b0, 9, none⟩ = some (.int .i64 co) ∧ V.cell? ⟨b0, 10, none⟩ = some (.int .i64 la) ∧ V.cell? ⟨b0, 11, none⟩ = some p ∧ V.cell? ⟨b0, 12, none⟩ = some (.bool s) ∧ V.cell? ⟨b0, 13, none⟩ = some (.pointer (some ⟨wa, 0, none⟩)) ∧ V.cell? ⟨b0, 14, none⟩ = some (.pointer (some ⟨bk, 0, none⟩))) := fun V h1 => ⟨cell_blk h1 0, cell_blk h1 1, cell_blk h1 2, cell_blk h1 3, cell_blk h1 4, cell_blk h1 5, cell_blk h1 6, cell_blk h1 7, cell_blk h1 8, cell_blk h1 9, cell_blk h1 10, cell_blk h1 11, cell_blk h1 12, cell_blk h1 13, cell_blk h1 14⟩
  go_enter Tryz.func40, Tryz.ntmps40
  go_wp2_with fail
  try rw [hW1]
  try rw [hb']
  clear hW1 hb'
  go_at_call 37
  refine (HAc.out _ (Below.refl _ _)).mono ?_
  rintro e' V1 ⟨rfl, hV1⟩
  have HL1 : Hid (LJ w0 V1 A k m ∧ V1.heap[b0]? = some (.cells #[.pointer (some ⟨A.g, 0, none⟩), .int .i64 ty, .int .i64 fl, .int .i64 st, .string da, .int .i64 pa, .int .i64 de, .bool ex, .int .i64 wt, .int .i64 co, .int .i64 la, p, .bool s, .pointer (some ⟨wa, 0, none⟩), .pointer (some ⟨bk, 0, none⟩)] 78 (0, 0))) := ⟨HL0.out.1.below hV1, (hV1.block _ (heap_lt HL0.out.2)).trans HL0.out.2⟩
  clear c7 j0 j1 j2 j3 j4 j5 j6 j7 j8 j9 j10 j11 j12 j13 j14 HAc HC7 HL0 hV1
  obtain ⟨j0, j1, j2, j3, j4, j5, j6, j7, j8, j9, j10, j11, j12, j13, j14⟩ := hSb.out _ HL1.out.2
  by_cases hps : ps = 1
  · subst hps
    go_wp2_with fail
    go_at_call 57
    refine (HCr.out _ HL1.out.1).mono ?_
    rintro e' V2 ⟨rfl, hV2⟩
    have HL2 : Hid (LJ w0 V2 A k m ∧ V2.heap[b0]? = some (.cells #[.pointer (some ⟨A.g, 0, none⟩), .int .i64 ty, .int .i64 fl, .int .i64 st, .string da, .int .i64 pa, .int .i64 de, .bool ex, .int .i64 wt, .int .i64 co, .int .i64 la, p, .bool s, .pointer (some ⟨wa, 0, none⟩), .pointer (some ⟨bk, 0, none⟩)] 78 (0, 0))) := ⟨HL1.out.1.below hV2, (hV2.block _ (heap_lt HL1.out.2)).trans HL1.out.2⟩
    clear j0 j1 j2 j3 j4 j5 j6 j7 j8 j9 j10 j11 j12 j13 j14 HCr HL1 hV2
    cases cr
    · have HQ : Hid (R = (k, 1)) := by show _ = _; rw [HR.out, if_pos (by simp)]
      go_wp2_with fail
      go_ret
      exact ⟨by rw [HQ.out]; rfl, A, rfl, fun u => rfl, by rw [HQ.out]; exact HL2.out.1.more (by omega)⟩
    · obtain ⟨j0, j1, j2, j3, j4, j5, j6, j7, j8, j9, j10, j11, j12, j13, j14⟩ := hSb.out _ HL2.out.2
      go_wp2_with fail
      go_at_call 47
      refine (HHp.out _ HL2.out.1).mono ?_
      rintro e' V3 ⟨rfl, A1, a1, a2, a3, a4⟩
      have HL3 : Hid (LJ w0 V3 A1 k1 (m + 2) ∧ V3.heap[b0]? = some (.cells #[.pointer (some ⟨A.g, 0, none⟩), .int .i64 ty, .int .i64 fl, .int .i64 st, .string da, .int .i64 pa, .int .i64 de, .bool ex, .int .i64 wt, .int .i64 co, .int .i64 la, p, .bool s, .pointer (some ⟨wa, 0, none⟩), .pointer (some ⟨bk, 0, none⟩)] 78 (0, 0))) := ⟨a3, a4 _ _ _ _ HL2.out.2 ot78⟩
      have HA : Hid (A1.g = A.g ∧ ∀ u, (A1.w u).g = (A.w u).g) := ⟨a1, a2⟩
      clear j0 j1 j2 j3 j4 j5 j6 j7 j8 j9 j10 j11 j12 j13 j14 HHp HL2 a1 a2 a3 a4
      by_cases hc : c1 = 0
      · subst hc
        have HX : Hid (R = if (s && (k1.wy false).ga) = true then (k1, 1) else (k1.block e, 0)) := by show _ = _; rw [HR.out, if_neg (by simp), if_neg (by simp)]
        have yg : V3.cell? ⟨A.g, 2, none⟩ = some (.pointer (some ⟨(A1.w false).g, 0, none⟩)) := by rw [← HA.out.1]; exact cell_blk HL3.out.1.blk 2
        have yw : V3.cell? ⟨(A1.w false).g, 1, none⟩ = some (.bool (k1.wy false).ga) := (HL3.out.1.wi false).cells.2.1
        obtain ⟨ga, hga⟩ : ∃ v, (k1.wy false).ga = v := ⟨_, rfl⟩
        rw [hga] at yw HX
        clear hga HR
        have yb : Hid (∀ s', s = s' → V3.heap[b0]? = some (.cells #[.pointer (some ⟨A.g, 0, none⟩), .int .i64 ty, .int .i64 fl, .int .i64 st, .string da, .int .i64 pa, .int .i64 de, .bool ex, .int .i64 wt, .int .i64 co, .int .i64 la, p, .bool s, .pointer (some ⟨wa, 0, none⟩), .pointer (some ⟨bk, 0, none⟩)] 78 (0, 0))) := fun _ _ => HL3.out.2
        obtain ⟨j0, j1, j2, j3, j4, j5, j6, j7, j8, j9, j10, j11, j12, j13, j14⟩ := hSb.out _ HL3.out.2
        cases s
        · have HQ : Hid (R = (k1.block e, 0)) := by show _ = _; rw [HX.out, if_neg (by simp)]
          go_wp2_with fail
          go_at_call 56
          refine (HBb.out _ A1 HA.out.2 HL3.out.1).mono ?_
          rintro e' V9 ⟨rfl, h9⟩
          have HL9 : Hid (LJ w0 V9 A1 (k1.block e) (m + 2)) := h9
          clear h9
          go_wp2_with fail
          go_ret
          exact ⟨by rw [HQ.out]; rfl, A1, HA.out.1, by first | exact HA.out.2 | exact ⟨HA.out.2 _, HA.out.2 _⟩, by rw [HQ.out]; exact HL9.out.more (by omega)⟩
        · cases ga
          · have HQ : Hid (R = (k1.block e, 0)) := by show _ = _; rw [HX.out, if_neg (by simp)]
            go_wp2_with fail
            go_at_call 56
            refine (HBb.out _ A1 HA.out.2 HL3.out.1).mono ?_
            rintro e' V9 ⟨rfl, h9⟩
            have HL9 : Hid (LJ w0 V9 A1 (k1.block e) (m + 2)) := h9
            clear h9
            go_wp2_with fail
            go_ret
            exact ⟨by rw [HQ.out]; rfl, A1, HA.out.1, by first | exact HA.out.2 | exact ⟨HA.out.2 _, HA.out.2 _⟩, by rw [HQ.out]; exact HL9.out.more (by omega)⟩
          · have HQ : Hid (R = (k1, 1)) := by show _ = _; rw [HX.out, if_pos (by simp)]
            go_wp2_with fail
            go_ret
            exact ⟨by rw [HQ.out]; rfl, A1, HA.out.1, HA.out.2, by rw [HQ.out]; exact HL3.out.1.more (by omega)⟩
      · have HQ : Hid (R = (k1, c1)) := by show _ = _; rw [HR.out, if_neg (by simp), if_pos hc]
        have hcb : (c1 == 0) = false := beq_eq_false_iff_ne.2 hc
        go_wp2_with fail
        go_ret
        exact ⟨by rw [HQ.out]; rfl, A1, HA.out.1, HA.out.2, by rw [HQ.out]; exact HL3.out.1.more (by omega)⟩
  · have hpb : (ps == 1) = false := beq_eq_false_iff_ne.2 hps
    have HQ : Hid (R = (k, 1)) := by show _ = _; rw [HR.out, if_pos (by simp [hpb])]
    go_wp2_with fail
    go_ret
    exact ⟨by rw [HQ.out]; rfl, A, rfl, fun u => rfl, by rw [HQ.out]; exact HL1.out.1.more (by omega)⟩
end Go.Proofs.YtfmljlflnpmceaaGreatDoor
