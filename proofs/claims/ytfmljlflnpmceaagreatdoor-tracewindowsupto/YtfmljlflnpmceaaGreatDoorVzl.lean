import Derived.Test.YtfmljlflnpmceaaGreatDoorVa
import Derived.Test.YtfmljlflnpmceaaGreatDoorZl
/- WINDOW_UPDATE. -/
namespace Go.Proofs.YtfmljlflnpmceaaGreatDoor
open Go.RowKit
set_option linter.unusedVariables false
set_option linter.unusedSimpArgs false
set_option maxRecDepth 100000 in
set_option maxHeartbeats 40000000 in
theorem update_any (t : Tn) (e : Et) (w0 w : World) (A : LA) (k : Lk) (m : Nat) (h : LJ w0 w A k m) (hv : Lv k) (hf : t.f = e.f) (hs : t.s = e.s) (hg : t.lk = A.g) (hw : t.wa = (A.w t.s).g) (hb : t.bk = (A.w (!t.s)).g) (hi : I64 t.f.st) (hm : m + 2 < maxLen) :
    Calls Tryz.prog 46 #[.agg (tnv t)] w fun r w' => r = .returned (.int .i64 (k.update e).2) ∧ ∃ A', A'.g = A.g ∧ (∀ u, (A'.w u).g = (A.w u).g) ∧ LJ w0 w' A' (k.update e).1 (m + 3) := by
  obtain ⟨R, hR⟩ : ∃ R, k.update e = R := ⟨_, rfl⟩
  obtain ⟨u, hu⟩ : ∃ u, (!t.s) = u := ⟨_, rfl⟩
  obtain ⟨s0, hs0⟩ : ∃ v, k.T.st t.f.st = v := ⟨_, rfl⟩
  obtain ⟨k2, hk2⟩ : ∃ v, (k.upd u fun y => { y with rm := gvN y.rm t.f.last }) = v := ⟨_, rfl⟩
  obtain ⟨g2, hg2⟩ : ∃ v, gvC (k.wy u).rm t.f.last = v := ⟨_, rfl⟩
  obtain ⟨⟨k1, c1, i1⟩, hH⟩ : ∃ H, k.happen t.s t.f.st 7 = H := ⟨_, rfl⟩
  obtain ⟨k3, hk3⟩ : ∃ v, (k1.upd u fun y => { y with rw := putm y.rw t.f.st (gvN ((look (k1.wy u).rw t.f.st).getD 0) t.f.last) }) = v := ⟨_, rfl⟩
  obtain ⟨g3, hg3⟩ : ∃ v, gvC ((look (k1.wy u).rw t.f.st).getD 0) t.f.last = v := ⟨_, rfl⟩
  have HR : Hid (R = if t.f.last = 0 then (k, 1) else if t.f.st = 0 then (k2, g2) else if (t.s && s0 == 6) = true then (k, 0) else if c1 ≠ 0 then (k1, c1) else if i1 = true then (k1, 0) else (k3, g3)) := by
    show _ = _
    rw [← hR]
    unfold Lk.update
    simp only
    rw [← hf, ← hs, hH, hu]
    simp only
    rw [hs0, hk2, hg2, hk3, hg3]
  have HRm : Hid (c1 = 0 → i1 = false → (look (k1.wy u).rw t.f.st).isSome = true) := fun hc hi1 => by
    have := happen_room hv h.ti.ok (fun u => (h.wi u).srt) (s := t.s) (id := t.f.st) (kd := 7) (.inr (.inr rfl)) (by rw [hH]; exact hc) (.inr (by rw [hH]; exact hi1)) u
    rw [hH] at this
    exact this
  rw [hR]
  obtain ⟨W1, hW1⟩ : ∃ V, w.alloc (.cells (tnv t) 78) = V := ⟨_, rfl⟩
  obtain ⟨b0, hb'⟩ : ∃ q, w.heap.size = q := ⟨_, rfl⟩
  have b1 : Below w.heap.size w W1 := by rw [← hW1]; exact bel1 _ _
  have hb0 : W1.heap[b0]? = some (.cells (tnv t) 78 (0, 0)) := by rw [← hW1, ← hb', heap_al, if_pos rfl]
  have HL0 : Hid (LJ w0 W1 A k m ∧ W1.heap[b0]? = some (.cells (tnv t) 78 (0, 0))) := ⟨h.below b1, hb0⟩
  have HHp0 : Hid (∀ V, LJ w0 V A k m → Calls Tryz.prog 47 #[.agg (tnv t), .int .i64 t.f.st, .int .i64 7] V fun e w' => e = .returned (.tuple #[.int .i64 c1, .bool i1]) ∧ ∃ A', A'.g = A.g ∧ (∀ u, (A'.w u).g = (A.w u).g) ∧ LJ w0 w' A' k1 (m + 2) ∧ KpO V w') := fun V hV => by
    have := happen_any t t.f.st 7 w0 V A k m hV hv hg hw hb hi (by omega)
    rw [hH] at this
    exact this
  have HSt : Hid (∀ V, Below W1.heap.size W1 V → Calls Tryz.prog 52 #[.pointer (some ⟨A.p, 0, none⟩), .int .i64 t.f.st] V fun e w' => e = .returned (.int .i64 s0) ∧ Below V.heap.size V w') := fun V hV => by
    have := state_any V A.p A.mb k.T t.f.st (HL0.out.1.below hV).ti hi
    rw [hs0] at this
    exact this
  obtain ⟨rv, hrv⟩ : ∃ v, (A.w u).rm = v := ⟨_, rfl⟩
  have HG2 : Hid (∀ V, LJ w0 V A k m → Calls Tryz.prog 63 #[.pointer (some ⟨rv, 0, none⟩), .int .i64 t.f.last] V fun e w' => e = .returned (.int .i64 g2) ∧ LJ w0 w' A k2 m ∧ KpO V w') := fun V hV => by
    have := hV.giveC u t.f.last
    rw [hrv, hg2, hk2] at this
    exact this
  have HC8 : Hid (∀ (V : World) (kx : Lk), LJ w0 V A kx m → V.cell? ⟨t.bk, 8, none⟩ = some (.pointer (some ⟨rv, 0, none⟩))) := fun V kx hV => by
    rw [hb, hu, ← hrv]
    exact (hV.wi u).cells.2.2.2.2.2.2.2.2.1
  have HI : Hid (I64 t.f.st) := hi
  have HW : Hid (t.bk = (A.w u).g) := by rw [← hu]; exact hb
  have HC3 : Hid (gvC ((look (k1.wy u).rw t.f.st).getD 0) t.f.last = g3 ∧ (k1.upd u fun y => { y with rw := putm y.rw t.f.st (gvN ((look (k1.wy u).rw t.f.st).getD 0) t.f.last) }) = k3) := ⟨hg3, hk3⟩
  have j0 := cell_blk hb0 0
  have j1 := cell_blk hb0 1
  have j2 := cell_blk hb0 2
  have j3 := cell_blk hb0 3
  have j4 := cell_blk hb0 4
  have j5 := cell_blk hb0 5
  have j6 := cell_blk hb0 6
  have j7 := cell_blk hb0 7
  have j8 := cell_blk hb0 8
  have j9 := cell_blk hb0 9
  have j10 := cell_blk hb0 10
  have j11 := cell_blk hb0 11
  have j12 := cell_blk hb0 12
  have j13 := cell_blk hb0 13
  have j14 := cell_blk hb0 14
  clear h hv hw hb hi hm hH hR hk2 hg2 hk3 hg3 hs0 b1 hb0 hf hs hrv hu
  obtain ⟨lk, ⟨ty, fl, st, da, pa, de, ex, wt, co, la⟩, p, s, wa, bk⟩ := t
  simp only at hg HR HHp0 HSt HG2 HC8 HI HW HC3 HRm
  subst hg
  simp only [tnv] at hW1 HL0 HHp0 j0 j1 j2 j3 j4 j5 j6 j7 j8 j9 j10 j11 j12 j13 j14 ⊢
  simp only [List.getElem?_toArray, List.getElem?_cons_succ, List.getElem?_cons_zero] at j0 j1 j2 j3 j4 j5 j6 j7 j8 j9 j10 j11 j12 j13 j14
  have hSb : Hid (∀ V : World, V.heap[b0]? = some (.cells #[.pointer (some ⟨A.g, 0, none⟩), .int .i64 ty, .int .i64 fl, .int .i64 st, .string da, .int .i64 pa, .int .i64 de, .bool ex, .int .i64 wt, .int .i64 co, .int .i64 la, p, .bool s, .pointer (some ⟨wa, 0, none⟩), .pointer (some ⟨bk, 0, none⟩)] 78 (0, 0)) → V.cell? ⟨b0, 0, none⟩ = some (.pointer (some ⟨A.g, 0, none⟩)) ∧ V.cell? ⟨b0, 1, none⟩ = some (.int .i64 ty) ∧ V.cell? ⟨b0, 2, none⟩ = some (.int .i64 fl) ∧ V.cell? ⟨b0, 3, none⟩ = some (.int .i64 st) ∧ V.cell? ⟨b0, 4, none⟩ = some (.string da) ∧ V.cell? ⟨b0, 5, none⟩ = some (.int .i64 pa) ∧ V.cell? ⟨b0, 6, none⟩ = some (.int .i64 de) ∧ V.cell? ⟨b0, 7, none⟩ = some (.bool ex) ∧ V.cell? ⟨b0, 8, none⟩ = some (.int .i64 wt) ∧ V.cell? ⟨b0, 9, none⟩ = some (.int .i64 co) ∧ V.cell? ⟨b0, 10, none⟩ = some (.int .i64 la) ∧ V.cell? ⟨b0, 11, none⟩ = some p ∧ V.cell? ⟨b0, 12, none⟩ = some (.bool s) ∧ V.cell? ⟨b0, 13, none⟩ = some (.pointer (some ⟨wa, 0, none⟩)) ∧ V.cell? ⟨b0, 14, none⟩ = some (.pointer (some ⟨bk, 0, none⟩))) := fun V h1 => ⟨cell_blk h1 0, cell_blk h1 1, cell_blk h1 2, cell_blk h1 3, cell_blk h1 4, cell_blk h1 5, cell_blk h1 6, cell_blk h1 7, cell_blk h1 8, cell_blk h1 9, cell_blk h1 10, cell_blk h1 11, cell_blk h1 12, cell_blk h1 13, cell_blk h1 14⟩
  by_cases hl0 : la = 0
  · have HQ : Hid (R = (k, 1)) := by show _ = _; rw [HR.out, if_pos hl0]
    subst hl0
    go_enter Tryz.func46, Tryz.ntmps46
    go_wp2_with fail
    try rw [hW1]
    try rw [hb']
    clear hW1 hb'
    go_wp2_with fail
    go_ret
    exact ⟨by rw [HQ.out]; rfl, A, rfl, (by first | exact fun u => rfl | exact ⟨rfl, rfl⟩), by rw [HQ.out]; exact HL0.out.1.more (by omega)⟩
  have hlb : (la == 0) = false := beq_eq_false_iff_ne.2 hl0
  by_cases hz : st = 0
  · have HQ : Hid (R = (k2, g2)) := by show _ = _; rw [HR.out, if_neg hl0, if_pos hz]
    have hS4 : Hid (∀ (V : World) (kx : Lk), LJ w0 V A kx m → V.heap[b0]? = some (.cells #[.pointer (some ⟨A.g, 0, none⟩), .int .i64 ty, .int .i64 fl, .int .i64 st, .string da, .int .i64 pa, .int .i64 de, .bool ex, .int .i64 wt, .int .i64 co, .int .i64 la, p, .bool s, .pointer (some ⟨wa, 0, none⟩), .pointer (some ⟨bk, 0, none⟩)] 78 (0, 0)) → (V.cell? ⟨b0, 0, none⟩ = some (.pointer (some ⟨A.g, 0, none⟩)) ∧ V.cell? ⟨b0, 1, none⟩ = some (.int .i64 ty) ∧ V.cell? ⟨b0, 2, none⟩ = some (.int .i64 fl) ∧ V.cell? ⟨b0, 3, none⟩ = some (.int .i64 st) ∧ V.cell? ⟨b0, 4, none⟩ = some (.string da) ∧ V.cell? ⟨b0, 5, none⟩ = some (.int .i64 pa) ∧ V.cell? ⟨b0, 6, none⟩ = some (.int .i64 de) ∧ V.cell? ⟨b0, 7, none⟩ = some (.bool ex) ∧ V.cell? ⟨b0, 8, none⟩ = some (.int .i64 wt) ∧ V.cell? ⟨b0, 9, none⟩ = some (.int .i64 co) ∧ V.cell? ⟨b0, 10, none⟩ = some (.int .i64 la) ∧ V.cell? ⟨b0, 11, none⟩ = some p ∧ V.cell? ⟨b0, 12, none⟩ = some (.bool s) ∧ V.cell? ⟨b0, 13, none⟩ = some (.pointer (some ⟨wa, 0, none⟩)) ∧ V.cell? ⟨b0, 14, none⟩ = some (.pointer (some ⟨bk, 0, none⟩))) ∧ V.cell? ⟨bk, 8, none⟩ = some (.pointer (some ⟨rv, 0, none⟩))) := fun V kx hV hbz => ⟨hSb.out V hbz, HC8.out V kx hV⟩
    subst hz
    go_enter Tryz.func46, Tryz.ntmps46
    go_upto_region 4 with fail
    try rw [hW1]
    try rw [hb']
    clear hW1 hb' j0 j1 j2 j3 j4 j5 j6 j7 j8 j9 j10 j11 j12 j13 j14
    have hIW : LJ w0 W1.drew A k (m) ∧ W1.drew.heap[b0]? = some (.cells #[.pointer (some ⟨A.g, 0, none⟩), .int .i64 ty, .int .i64 fl, .int .i64 0, .string da, .int .i64 pa, .int .i64 de, .bool ex, .int .i64 wt, .int .i64 co, .int .i64 la, p, .bool s, .pointer (some ⟨wa, 0, none⟩), .pointer (some ⟨bk, 0, none⟩)] 78 (0, 0)) := ⟨HL0.out.1.dr, HL0.out.2⟩
    refine wp_region_held_drew (S := (fun V => (V.cell? ⟨b0, 0, none⟩ = some (.pointer (some ⟨A.g, 0, none⟩)) ∧ V.cell? ⟨b0, 1, none⟩ = some (.int .i64 ty) ∧ V.cell? ⟨b0, 2, none⟩ = some (.int .i64 fl) ∧ V.cell? ⟨b0, 3, none⟩ = some (.int .i64 0) ∧ V.cell? ⟨b0, 4, none⟩ = some (.string da) ∧ V.cell? ⟨b0, 5, none⟩ = some (.int .i64 pa) ∧ V.cell? ⟨b0, 6, none⟩ = some (.int .i64 de) ∧ V.cell? ⟨b0, 7, none⟩ = some (.bool ex) ∧ V.cell? ⟨b0, 8, none⟩ = some (.int .i64 wt) ∧ V.cell? ⟨b0, 9, none⟩ = some (.int .i64 co) ∧ V.cell? ⟨b0, 10, none⟩ = some (.int .i64 la) ∧ V.cell? ⟨b0, 11, none⟩ = some p ∧ V.cell? ⟨b0, 12, none⟩ = some (.bool s) ∧ V.cell? ⟨b0, 13, none⟩ = some (.pointer (some ⟨wa, 0, none⟩)) ∧ V.cell? ⟨b0, 14, none⟩ = some (.pointer (some ⟨bk, 0, none⟩))) ∧ V.cell? ⟨bk, 8, none⟩ = some (.pointer (some ⟨rv, 0, none⟩)))) (by kernel_rfl) (hS4.out _ _ hIW.1 hIW.2) (fun hHeld => ?_)
    generalize hWg : World.drew _ = W2 at hIW hHeld ⊢
    clear hWg
    refine tkA (i := 0) (oi := ⟨some 15, .fieldAddr 78 (.tmp 1) 4, 0, "types.go:217", #[], none⟩) ?_
    try simp only [Act.put, lA, l0, lS]
    refine tkA (i := 1) (oi := ⟨some 16, .load 66 (.tmp 15), 66, "types.go:217", #[⟨0, .data⟩], none⟩) ?_
    try simp only [Act.put, lA, l0, lS]
    refine tkA (i := 2) (oi := ⟨some 17, .nilCheck (.tmp 16), 0, "types.go:217", #[⟨1, .data⟩], none⟩) ?_
    try simp only [Act.put, lA, l0, lS]
    refine tkA (i := 3) (oi := ⟨some 18, .fieldAddr 76 (.tmp 17) 8, 0, "types.go:217", #[⟨2, .data⟩], none⟩) ?_
    try simp only [Act.put, lA, l0, lS]
    refine tkA (i := 4) (oi := ⟨some 19, .load 73 (.tmp 18), 73, "types.go:217", #[⟨3, .data⟩], none⟩) ?_
    try simp only [Act.put, lA, l0, lS]
    refine tkA (i := 5) (oi := ⟨some 20, .fieldAddr 78 (.tmp 1) 1, 0, "types.go:217", #[], none⟩) ?_
    try simp only [Act.put, lA, l0, lS]
    refine tkA (i := 6) (oi := ⟨some 21, .fieldAddr 31 (.tmp 20) 9, 0, "types.go:217", #[⟨5, .data⟩], none⟩) ?_
    try simp only [Act.put, lA, l0, lS]
    refine tkA (i := 7) (oi := ⟨some 22, .load 2 (.tmp 21), 2, "types.go:217", #[⟨6, .data⟩], none⟩) ?_
    try simp only [Act.put, lA, l0, lS]
    refine wpAnyH_ready (rs := [8]) (by kernel_rfl) (by simp) ?_
    refine AllReadyH.cons (o := ⟨some 23, .call { callee := Callee.value (.func 63), args := #[.tmp 19, .tmp 22], argTypes := #[73, 2] }, 2, "types.go:217", #[⟨4, .data⟩, ⟨7, .data⟩], none⟩) rfl (fun K hK => ?_) AllReadyH.nil
    go_simp
    refine (HG2.out _ hIW.1).mono ?_
    rintro e' W2x ⟨rfl, x1, x2⟩
    have hW2x := And.intro x1 (x2 _ _ _ _ hIW.2 ot78)
    clear x1 x2
    go_wp2_with fail
    refine hK.out _ _ (hS4.out _ _ hW2x.1 hW2x.2) (fun hHeld => ?_)
    clear hK K
    try simp only [Act.put, lA, l0, lS]
    refine tkA (i := 9) (oi := ⟨some 2, .assign (.tmp 23), 2, "types.go:217", #[⟨8, .data⟩, ⟨8, .chain⟩, ⟨0, .phase⟩, ⟨1, .phase⟩, ⟨2, .phase⟩, ⟨3, .phase⟩, ⟨4, .phase⟩, ⟨5, .phase⟩, ⟨6, .phase⟩, ⟨7, .phase⟩, ⟨8, .phase⟩], none⟩) ?_
    try simp only [Act.put, lA, l0, lS]
    refine wpAnyH_done (by kernel_rfl) ?_ _
    have HE := hid hW2x.1
    clear hHeld hW2x
    go_wp2_with fail
    go_ret
    exact ⟨by rw [HQ.out]; rfl, A, rfl, (by first | exact fun u => rfl | exact ⟨rfl, rfl⟩), by rw [HQ.out]; exact HE.out.more (by omega)⟩
  have hzb : (st == 0) = false := beq_eq_false_iff_ne.2 hz
  have hS5 : Hid (∀ V, Below W1.heap.size W1 V → (V.cell? ⟨b0, 0, none⟩ = some (.pointer (some ⟨A.g, 0, none⟩)) ∧ V.cell? ⟨b0, 1, none⟩ = some (.int .i64 ty) ∧ V.cell? ⟨b0, 2, none⟩ = some (.int .i64 fl) ∧ V.cell? ⟨b0, 3, none⟩ = some (.int .i64 st) ∧ V.cell? ⟨b0, 4, none⟩ = some (.string da) ∧ V.cell? ⟨b0, 5, none⟩ = some (.int .i64 pa) ∧ V.cell? ⟨b0, 6, none⟩ = some (.int .i64 de) ∧ V.cell? ⟨b0, 7, none⟩ = some (.bool ex) ∧ V.cell? ⟨b0, 8, none⟩ = some (.int .i64 wt) ∧ V.cell? ⟨b0, 9, none⟩ = some (.int .i64 co) ∧ V.cell? ⟨b0, 10, none⟩ = some (.int .i64 la) ∧ V.cell? ⟨b0, 11, none⟩ = some p ∧ V.cell? ⟨b0, 12, none⟩ = some (.bool s) ∧ V.cell? ⟨b0, 13, none⟩ = some (.pointer (some ⟨wa, 0, none⟩)) ∧ V.cell? ⟨b0, 14, none⟩ = some (.pointer (some ⟨bk, 0, none⟩))) ∧ V.cell? ⟨A.g, 0, none⟩ = some (.pointer (some ⟨A.p, 0, none⟩))) := fun V hV => ⟨hSb.out V ((hV.block _ (heap_lt HL0.out.2)).trans HL0.out.2), (HL0.out.1.below hV).cell0⟩
  go_enter Tryz.func46, Tryz.ntmps46
  go_upto_region 5 with fail
  try rw [hW1]
  try rw [hb']
  clear hW1 hb' j0 j1 j2 j3 j4 j5 j6 j7 j8 j9 j10 j11 j12 j13 j14
  go_cut [24] from 25 (fun v wx => v = .bool (s && s0 == 6) ∧ Below W1.heap.size W1 wx)
  case first =>
    as_aux_lemma =>
      cases s
      · have hIW : Below W1.heap.size W1 W1.drew := (Below.refl _ _).drew
        refine wp_region_held_drew (S := (fun V => (V.cell? ⟨b0, 0, none⟩ = some (.pointer (some ⟨A.g, 0, none⟩)) ∧ V.cell? ⟨b0, 1, none⟩ = some (.int .i64 ty) ∧ V.cell? ⟨b0, 2, none⟩ = some (.int .i64 fl) ∧ V.cell? ⟨b0, 3, none⟩ = some (.int .i64 st) ∧ V.cell? ⟨b0, 4, none⟩ = some (.string da) ∧ V.cell? ⟨b0, 5, none⟩ = some (.int .i64 pa) ∧ V.cell? ⟨b0, 6, none⟩ = some (.int .i64 de) ∧ V.cell? ⟨b0, 7, none⟩ = some (.bool ex) ∧ V.cell? ⟨b0, 8, none⟩ = some (.int .i64 wt) ∧ V.cell? ⟨b0, 9, none⟩ = some (.int .i64 co) ∧ V.cell? ⟨b0, 10, none⟩ = some (.int .i64 la) ∧ V.cell? ⟨b0, 11, none⟩ = some p ∧ V.cell? ⟨b0, 12, none⟩ = some (.bool false) ∧ V.cell? ⟨b0, 13, none⟩ = some (.pointer (some ⟨wa, 0, none⟩)) ∧ V.cell? ⟨b0, 14, none⟩ = some (.pointer (some ⟨bk, 0, none⟩))) ∧ V.cell? ⟨A.g, 0, none⟩ = some (.pointer (some ⟨A.p, 0, none⟩)))) (by kernel_rfl) (hS5.out _ hIW) (fun hHeld => ?_)
        generalize hWg : World.drew _ = W2 at hIW hHeld ⊢
        clear hWg
        refine tkA (i := 0) (oi := ⟨some 25, .fieldAddr 78 (.tmp 1) 2, 0, "types.go:218", #[], none⟩) ?_
        try simp only [Act.put, lA, l0, lS]
        refine tkA (i := 1) (oi := ⟨some 26, .load 4 (.tmp 25), 4, "types.go:218", #[⟨0, .data⟩], none⟩) ?_
        try simp only [Act.put, lA, l0, lS]
        refine tkA (i := 2) (oi := ⟨some 27, .move (.tmp 26), 4, "types.go:218", #[⟨1, .data⟩], none⟩) ?_
        try simp only [Act.put, lA, l0, lS]
        refine wpAnyH_take (i := 3) (oi := ⟨some 28, .fieldAddr 78 (.tmp 1) 0, 0, "types.go:218", #[⟨2, .guard⟩], some (2, true)⟩) (v := undef) rfl (by kernel_rfl) (by kernel_rfl) (by kernel_rfl) (fun _ _ _ h => h) (Or.inr ⟨by rfl, rfl⟩) (by assumption) ?_
        try simp only [Act.put, lA, l0, lS]
        refine wpAnyH_take (i := 4) (oi := ⟨some 29, .load 58 (.tmp 28), 58, "types.go:218", #[⟨3, .data⟩, ⟨2, .guard⟩], some (2, true)⟩) (v := undef) rfl (by kernel_rfl) (by kernel_rfl) (by kernel_rfl) (fun _ _ _ h => h) (Or.inr ⟨by rfl, rfl⟩) (by assumption) ?_
        try simp only [Act.put, lA, l0, lS]
        refine wpAnyH_take (i := 5) (oi := ⟨some 30, .nilCheck (.tmp 29), 0, "types.go:218", #[⟨4, .data⟩, ⟨2, .guard⟩], some (2, true)⟩) (v := undef) rfl (by kernel_rfl) (by kernel_rfl) (by kernel_rfl) (fun _ _ _ h => h) (Or.inr ⟨by rfl, rfl⟩) (by assumption) ?_
        try simp only [Act.put, lA, l0, lS]
        refine wpAnyH_take (i := 6) (oi := ⟨some 31, .fieldAddr 69 (.tmp 30) 0, 0, "types.go:218", #[⟨5, .data⟩, ⟨2, .guard⟩], some (2, true)⟩) (v := undef) rfl (by kernel_rfl) (by kernel_rfl) (by kernel_rfl) (fun _ _ _ h => h) (Or.inr ⟨by rfl, rfl⟩) (by assumption) ?_
        try simp only [Act.put, lA, l0, lS]
        refine wpAnyH_take (i := 7) (oi := ⟨some 32, .load 64 (.tmp 31), 64, "types.go:218", #[⟨6, .data⟩, ⟨2, .guard⟩], some (2, true)⟩) (v := undef) rfl (by kernel_rfl) (by kernel_rfl) (by kernel_rfl) (fun _ _ _ h => h) (Or.inr ⟨by rfl, rfl⟩) (by assumption) ?_
        try simp only [Act.put, lA, l0, lS]
        refine wpAnyH_take (i := 8) (oi := ⟨some 33, .fieldAddr 78 (.tmp 1) 1, 0, "types.go:218", #[⟨2, .guard⟩], some (2, true)⟩) (v := undef) rfl (by kernel_rfl) (by kernel_rfl) (by kernel_rfl) (fun _ _ _ h => h) (Or.inr ⟨by rfl, rfl⟩) (by assumption) ?_
        try simp only [Act.put, lA, l0, lS]
        refine wpAnyH_take (i := 9) (oi := ⟨some 34, .fieldAddr 31 (.tmp 33) 2, 0, "types.go:218", #[⟨8, .data⟩, ⟨2, .guard⟩], some (2, true)⟩) (v := undef) rfl (by kernel_rfl) (by kernel_rfl) (by kernel_rfl) (fun _ _ _ h => h) (Or.inr ⟨by rfl, rfl⟩) (by assumption) ?_
        try simp only [Act.put, lA, l0, lS]
        refine wpAnyH_take (i := 10) (oi := ⟨some 35, .load 2 (.tmp 34), 2, "types.go:218", #[⟨9, .data⟩, ⟨2, .guard⟩], some (2, true)⟩) (v := undef) rfl (by kernel_rfl) (by kernel_rfl) (by kernel_rfl) (fun _ _ _ h => h) (Or.inr ⟨by rfl, rfl⟩) (by assumption) ?_
        try simp only [Act.put, lA, l0, lS]
        refine wpAnyH_take (i := 11) (oi := ⟨some 36, .call { callee := Callee.value (.func 52), args := #[.tmp 32, .tmp 35], argTypes := #[64, 2] }, 3, "types.go:218", #[⟨7, .data⟩, ⟨10, .data⟩, ⟨2, .chain⟩, ⟨2, .guard⟩], some (2, true)⟩) (v := undef) rfl (by kernel_rfl) (by kernel_rfl) (by kernel_rfl) (fun _ _ _ h => h) (Or.inr ⟨by rfl, rfl⟩) (by assumption) ?_
        try simp only [Act.put, lA, l0, lS]
        refine wpAnyH_take (i := 12) (oi := ⟨some 37, .binOp .eql 3 (.tmp 36) (.const (.int IntKind.i64 6)) 3, 4, "types.go:218", #[⟨11, .data⟩, ⟨2, .guard⟩], some (2, true)⟩) (v := undef) rfl (by kernel_rfl) (by kernel_rfl) (by kernel_rfl) (fun _ _ _ h => h) (Or.inr ⟨by rfl, rfl⟩) (by assumption) ?_
        try simp only [Act.put, lA, l0, lS]
        refine tkA (i := 13) (oi := ⟨some 38, .pick (.tmp 27) (.tmp 37) (.const (.bool false)), 4, "types.go:218", #[⟨2, .data⟩, ⟨12, .data⟩], none⟩) ?_
        try simp only [Act.put, lA, l0, lS]
        refine tkA (i := 14) (oi := ⟨some 24, .assign (.tmp 38), 4, "types.go:218", #[⟨13, .data⟩, ⟨11, .chain⟩], none⟩) ?_
        try simp only [Act.put, lA, l0, lS]
        refine wpAnyH_done (by kernel_rfl) ?_ _
        have HB2 : Hid (Below W1.heap.size W1 W2) := hIW
        clear hHeld hIW
        go_wp2_with fail
        go_meet
        case rel => exact ⟨by first | rfl | simp, HB2.out⟩
      · have hIW : Below W1.heap.size W1 W1.drew := (Below.refl _ _).drew
        refine wp_region_held_drew (S := (fun V => (V.cell? ⟨b0, 0, none⟩ = some (.pointer (some ⟨A.g, 0, none⟩)) ∧ V.cell? ⟨b0, 1, none⟩ = some (.int .i64 ty) ∧ V.cell? ⟨b0, 2, none⟩ = some (.int .i64 fl) ∧ V.cell? ⟨b0, 3, none⟩ = some (.int .i64 st) ∧ V.cell? ⟨b0, 4, none⟩ = some (.string da) ∧ V.cell? ⟨b0, 5, none⟩ = some (.int .i64 pa) ∧ V.cell? ⟨b0, 6, none⟩ = some (.int .i64 de) ∧ V.cell? ⟨b0, 7, none⟩ = some (.bool ex) ∧ V.cell? ⟨b0, 8, none⟩ = some (.int .i64 wt) ∧ V.cell? ⟨b0, 9, none⟩ = some (.int .i64 co) ∧ V.cell? ⟨b0, 10, none⟩ = some (.int .i64 la) ∧ V.cell? ⟨b0, 11, none⟩ = some p ∧ V.cell? ⟨b0, 12, none⟩ = some (.bool true) ∧ V.cell? ⟨b0, 13, none⟩ = some (.pointer (some ⟨wa, 0, none⟩)) ∧ V.cell? ⟨b0, 14, none⟩ = some (.pointer (some ⟨bk, 0, none⟩))) ∧ V.cell? ⟨A.g, 0, none⟩ = some (.pointer (some ⟨A.p, 0, none⟩)))) (by kernel_rfl) (hS5.out _ hIW) (fun hHeld => ?_)
        generalize hWg : World.drew _ = W2 at hIW hHeld ⊢
        clear hWg
        refine tkA (i := 0) (oi := ⟨some 25, .fieldAddr 78 (.tmp 1) 2, 0, "types.go:218", #[], none⟩) ?_
        try simp only [Act.put, lA, l0, lS]
        refine tkA (i := 1) (oi := ⟨some 26, .load 4 (.tmp 25), 4, "types.go:218", #[⟨0, .data⟩], none⟩) ?_
        try simp only [Act.put, lA, l0, lS]
        refine tkA (i := 2) (oi := ⟨some 27, .move (.tmp 26), 4, "types.go:218", #[⟨1, .data⟩], none⟩) ?_
        try simp only [Act.put, lA, l0, lS]
        refine tkA (i := 3) (oi := ⟨some 28, .fieldAddr 78 (.tmp 1) 0, 0, "types.go:218", #[⟨2, .guard⟩], some (2, true)⟩) ?_
        try simp only [Act.put, lA, l0, lS]
        refine tkA (i := 4) (oi := ⟨some 29, .load 58 (.tmp 28), 58, "types.go:218", #[⟨3, .data⟩, ⟨2, .guard⟩], some (2, true)⟩) ?_
        try simp only [Act.put, lA, l0, lS]
        refine tkA (i := 5) (oi := ⟨some 30, .nilCheck (.tmp 29), 0, "types.go:218", #[⟨4, .data⟩, ⟨2, .guard⟩], some (2, true)⟩) ?_
        try simp only [Act.put, lA, l0, lS]
        refine tkA (i := 6) (oi := ⟨some 31, .fieldAddr 69 (.tmp 30) 0, 0, "types.go:218", #[⟨5, .data⟩, ⟨2, .guard⟩], some (2, true)⟩) ?_
        try simp only [Act.put, lA, l0, lS]
        refine tkA (i := 7) (oi := ⟨some 32, .load 64 (.tmp 31), 64, "types.go:218", #[⟨6, .data⟩, ⟨2, .guard⟩], some (2, true)⟩) ?_
        try simp only [Act.put, lA, l0, lS]
        refine tkA (i := 8) (oi := ⟨some 33, .fieldAddr 78 (.tmp 1) 1, 0, "types.go:218", #[⟨2, .guard⟩], some (2, true)⟩) ?_
        try simp only [Act.put, lA, l0, lS]
        refine tkA (i := 9) (oi := ⟨some 34, .fieldAddr 31 (.tmp 33) 2, 0, "types.go:218", #[⟨8, .data⟩, ⟨2, .guard⟩], some (2, true)⟩) ?_
        try simp only [Act.put, lA, l0, lS]
        refine tkA (i := 10) (oi := ⟨some 35, .load 2 (.tmp 34), 2, "types.go:218", #[⟨9, .data⟩, ⟨2, .guard⟩], some (2, true)⟩) ?_
        try simp only [Act.put, lA, l0, lS]
        refine wpAnyH_ready (rs := [11]) (by kernel_rfl) (by simp) ?_
        refine AllReadyH.cons (o := ⟨some 36, .call { callee := Callee.value (.func 52), args := #[.tmp 32, .tmp 35], argTypes := #[64, 2] }, 3, "types.go:218", #[⟨7, .data⟩, ⟨10, .data⟩, ⟨2, .chain⟩, ⟨2, .guard⟩], some (2, true)⟩) rfl (fun K hK => ?_) AllReadyH.nil
        refine ite_take (by rfl) ?_
        go_simp
        refine (HSt.out _ hIW).mono ?_
        rintro e' W2x ⟨rfl, bX⟩
        have hW2x : Below W1.heap.size W1 W2x := hIW.trans (bX.mono hIW.size)
        clear bX
        go_wp2_with fail
        refine hK.out _ _ (hS5.out _ hW2x) (fun hHeld => ?_)
        clear hK K
        try simp only [Act.put, lA, l0, lS]
        refine tkA (i := 12) (oi := ⟨some 37, .binOp .eql 3 (.tmp 36) (.const (.int IntKind.i64 6)) 3, 4, "types.go:218", #[⟨11, .data⟩, ⟨2, .guard⟩], some (2, true)⟩) ?_
        try simp only [Act.put, lA, l0, lS]
        refine tkA (i := 13) (oi := ⟨some 38, .pick (.tmp 27) (.tmp 37) (.const (.bool false)), 4, "types.go:218", #[⟨2, .data⟩, ⟨12, .data⟩], none⟩) ?_
        try simp only [Act.put, lA, l0, lS]
        refine tkA (i := 14) (oi := ⟨some 24, .assign (.tmp 38), 4, "types.go:218", #[⟨13, .data⟩, ⟨11, .chain⟩], none⟩) ?_
        try simp only [Act.put, lA, l0, lS]
        refine wpAnyH_done (by kernel_rfl) ?_ _
        have HB2 : Hid (Below W1.heap.size W1 W2x) := hW2x
        clear hHeld hW2x
        go_wp2_with fail
        go_meet
        case rel => exact ⟨by first | rfl | simp, HB2.out⟩
  case rest =>
    obtain ⟨rfl, hbw⟩ := hcut
    have HL1 : Hid (LJ w0 wc A k m ∧ wc.heap[b0]? = some (.cells #[.pointer (some ⟨A.g, 0, none⟩), .int .i64 ty, .int .i64 fl, .int .i64 st, .string da, .int .i64 pa, .int .i64 de, .bool ex, .int .i64 wt, .int .i64 co, .int .i64 la, p, .bool s, .pointer (some ⟨wa, 0, none⟩), .pointer (some ⟨bk, 0, none⟩)] 78 (0, 0))) := ⟨HL0.out.1.below hbw, (hbw.block _ (heap_lt HL0.out.2)).trans HL0.out.2⟩
    clear hbw HL0 HSt hS5
    generalize wc = V1 at HL1 ⊢
    obtain ⟨x, hx⟩ : ∃ x, (s && s0 == 6) = x := ⟨_, rfl⟩
    rw [hx] at HR ⊢
    clear hx
    cases x
    · obtain ⟨j0, j1, j2, j3, j4, j5, j6, j7, j8, j9, j10, j11, j12, j13, j14⟩ := hSb.out _ HL1.out.2
      go_wp2_with fail
      go_at_call 47
      refine (HHp0.out _ HL1.out.1).mono ?_
      rintro e' V2 ⟨rfl, A1, a1, a2, a3, a4⟩
      have HL2 : Hid (LJ w0 V2 A1 k1 (m + 2) ∧ V2.heap[b0]? = some (.cells #[.pointer (some ⟨A.g, 0, none⟩), .int .i64 ty, .int .i64 fl, .int .i64 st, .string da, .int .i64 pa, .int .i64 de, .bool ex, .int .i64 wt, .int .i64 co, .int .i64 la, p, .bool s, .pointer (some ⟨wa, 0, none⟩), .pointer (some ⟨bk, 0, none⟩)] 78 (0, 0))) := ⟨a3, a4 _ _ _ _ HL1.out.2 ot78⟩
      have HA : Hid (A1.g = A.g ∧ ∀ u, (A1.w u).g = (A.w u).g) := ⟨a1, a2⟩
      clear j0 j1 j2 j3 j4 j5 j6 j7 j8 j9 j10 j11 j12 j13 j14 HHp0 HL1 a1 a2 a3 a4
      by_cases hc : c1 = 0
      · subst hc
        cases i1
        · have HQ : Hid (R = (k3, g3)) := by show _ = _; rw [HR.out, if_neg hl0, if_neg hz, if_neg (by simp), if_neg (by simp), if_neg (by simp)]
          obtain ⟨kk, hkk⟩ := HL2.out.1.at_q u (HRm.out rfl rfl)
          obtain ⟨wv, hwv⟩ : ∃ v, (A1.w u).wb = v := ⟨_, rfl⟩
          have HG3 : Hid (∀ V, LJ w0 V A1 k1 (m + 2) → Calls Tryz.prog 63 #[.pointer (some ⟨kk, 0, none⟩), .int .i64 la] V fun e w' => e = .returned (.int .i64 g3) ∧ LJ w0 w' A1 k3 (m + 2) ∧ KpO V w') := fun V hV => by
            have := hV.giveS u st la hkk
            rw [HC3.out.1, HC3.out.2] at this
            exact this
          have hSc : Hid (∀ (V : World) (kx : Lk), LJ w0 V A1 kx (m + 2) → V.heap[b0]? = some (.cells #[.pointer (some ⟨A.g, 0, none⟩), .int .i64 ty, .int .i64 fl, .int .i64 st, .string da, .int .i64 pa, .int .i64 de, .bool ex, .int .i64 wt, .int .i64 co, .int .i64 la, p, .bool s, .pointer (some ⟨wa, 0, none⟩), .pointer (some ⟨bk, 0, none⟩)] 78 (0, 0)) → (V.cell? ⟨b0, 0, none⟩ = some (.pointer (some ⟨A.g, 0, none⟩)) ∧ V.cell? ⟨b0, 1, none⟩ = some (.int .i64 ty) ∧ V.cell? ⟨b0, 2, none⟩ = some (.int .i64 fl) ∧ V.cell? ⟨b0, 3, none⟩ = some (.int .i64 st) ∧ V.cell? ⟨b0, 4, none⟩ = some (.string da) ∧ V.cell? ⟨b0, 5, none⟩ = some (.int .i64 pa) ∧ V.cell? ⟨b0, 6, none⟩ = some (.int .i64 de) ∧ V.cell? ⟨b0, 7, none⟩ = some (.bool ex) ∧ V.cell? ⟨b0, 8, none⟩ = some (.int .i64 wt) ∧ V.cell? ⟨b0, 9, none⟩ = some (.int .i64 co) ∧ V.cell? ⟨b0, 10, none⟩ = some (.int .i64 la) ∧ V.cell? ⟨b0, 11, none⟩ = some p ∧ V.cell? ⟨b0, 12, none⟩ = some (.bool s) ∧ V.cell? ⟨b0, 13, none⟩ = some (.pointer (some ⟨wa, 0, none⟩)) ∧ V.cell? ⟨b0, 14, none⟩ = some (.pointer (some ⟨bk, 0, none⟩))) ∧ V.cell? ⟨bk, 9, none⟩ = some (.map (some wv)) ∧ (Instr.lookup 74 (.map (some wv)) (.int .i64 st) false).run Tryz.prog V = .ok (.pointer (some ⟨kk, 0, none⟩)) V) := fun V kx hV hbz => by
            have hc := (hV.wi u).cells
            have hlk := hV.lookS u HI.out hkk
            rw [hwv] at hlk
            rw [HA.out.2 u, ← HW.out] at hc
            unfold Wc at hc
            rw [hwv] at hc
            exact ⟨hSb.out V hbz, hc.2.2.2.2.2.2.2.2.2.1, hlk⟩
          clear hkk hwv HR
          go_upto_region 10 with fail
          as_aux_lemma =>
            have hIW : LJ w0 V2.drew A1 k1 (m + 2) ∧ V2.drew.heap[b0]? = some (.cells #[.pointer (some ⟨A.g, 0, none⟩), .int .i64 ty, .int .i64 fl, .int .i64 st, .string da, .int .i64 pa, .int .i64 de, .bool ex, .int .i64 wt, .int .i64 co, .int .i64 la, p, .bool s, .pointer (some ⟨wa, 0, none⟩), .pointer (some ⟨bk, 0, none⟩)] 78 (0, 0)) := ⟨HL2.out.1.dr, HL2.out.2⟩
            refine wp_region_held_drew (S := (fun V => (V.cell? ⟨b0, 0, none⟩ = some (.pointer (some ⟨A.g, 0, none⟩)) ∧ V.cell? ⟨b0, 1, none⟩ = some (.int .i64 ty) ∧ V.cell? ⟨b0, 2, none⟩ = some (.int .i64 fl) ∧ V.cell? ⟨b0, 3, none⟩ = some (.int .i64 st) ∧ V.cell? ⟨b0, 4, none⟩ = some (.string da) ∧ V.cell? ⟨b0, 5, none⟩ = some (.int .i64 pa) ∧ V.cell? ⟨b0, 6, none⟩ = some (.int .i64 de) ∧ V.cell? ⟨b0, 7, none⟩ = some (.bool ex) ∧ V.cell? ⟨b0, 8, none⟩ = some (.int .i64 wt) ∧ V.cell? ⟨b0, 9, none⟩ = some (.int .i64 co) ∧ V.cell? ⟨b0, 10, none⟩ = some (.int .i64 la) ∧ V.cell? ⟨b0, 11, none⟩ = some p ∧ V.cell? ⟨b0, 12, none⟩ = some (.bool s) ∧ V.cell? ⟨b0, 13, none⟩ = some (.pointer (some ⟨wa, 0, none⟩)) ∧ V.cell? ⟨b0, 14, none⟩ = some (.pointer (some ⟨bk, 0, none⟩))) ∧ V.cell? ⟨bk, 9, none⟩ = some (.map (some wv)) ∧ (Instr.lookup 74 (.map (some wv)) (.int .i64 st) false).run Tryz.prog V = .ok (.pointer (some ⟨kk, 0, none⟩)) V)) (by kernel_rfl) (hSc.out _ _ hIW.1 hIW.2) (fun hHeld => ?_)
            generalize hWg : World.drew _ = W2 at hIW hHeld ⊢
            clear hWg
            refine tkA (i := 0) (oi := ⟨some 53, .fieldAddr 78 (.tmp 1) 4, 0, "types.go:226", #[], none⟩) ?_
            try simp only [Act.put, lA, l0, lS]
            refine tkA (i := 1) (oi := ⟨some 54, .load 66 (.tmp 53), 66, "types.go:226", #[⟨0, .data⟩], none⟩) ?_
            try simp only [Act.put, lA, l0, lS]
            refine tkA (i := 2) (oi := ⟨some 55, .nilCheck (.tmp 54), 0, "types.go:226", #[⟨1, .data⟩], none⟩) ?_
            try simp only [Act.put, lA, l0, lS]
            refine tkA (i := 3) (oi := ⟨some 56, .fieldAddr 76 (.tmp 55) 9, 0, "types.go:226", #[⟨2, .data⟩], none⟩) ?_
            try simp only [Act.put, lA, l0, lS]
            refine tkA (i := 4) (oi := ⟨some 57, .load 74 (.tmp 56), 74, "types.go:226", #[⟨3, .data⟩], none⟩) ?_
            try simp only [Act.put, lA, l0, lS]
            refine tkA (i := 5) (oi := ⟨some 58, .fieldAddr 78 (.tmp 1) 1, 0, "types.go:226", #[], none⟩) ?_
            try simp only [Act.put, lA, l0, lS]
            refine tkA (i := 6) (oi := ⟨some 59, .fieldAddr 31 (.tmp 58) 2, 0, "types.go:226", #[⟨5, .data⟩], none⟩) ?_
            try simp only [Act.put, lA, l0, lS]
            refine tkA (i := 7) (oi := ⟨some 60, .load 2 (.tmp 59), 2, "types.go:226", #[⟨6, .data⟩], none⟩) ?_
            try simp only [Act.put, lA, l0, lS]
            refine tkA (i := 8) (oi := ⟨some 61, .lookup 74 (.tmp 57) (.tmp 60) false, 73, "types.go:226", #[⟨4, .data⟩, ⟨7, .data⟩], none⟩) ?_
            try simp only [Act.put, lA, l0, lS]
            refine tkA (i := 9) (oi := ⟨some 62, .fieldAddr 78 (.tmp 1) 1, 0, "types.go:226", #[], none⟩) ?_
            try simp only [Act.put, lA, l0, lS]
            refine tkA (i := 10) (oi := ⟨some 63, .fieldAddr 31 (.tmp 62) 9, 0, "types.go:226", #[⟨9, .data⟩], none⟩) ?_
            try simp only [Act.put, lA, l0, lS]
            refine tkA (i := 11) (oi := ⟨some 64, .load 2 (.tmp 63), 2, "types.go:226", #[⟨10, .data⟩], none⟩) ?_
            try simp only [Act.put, lA, l0, lS]
            refine wpAnyH_ready (rs := [12]) (by kernel_rfl) (by simp) ?_
            refine AllReadyH.cons (o := ⟨some 65, .call { callee := Callee.value (.func 63), args := #[.tmp 61, .tmp 64], argTypes := #[73, 2] }, 2, "types.go:226", #[⟨8, .data⟩, ⟨11, .data⟩], none⟩) rfl (fun K hK => ?_) AllReadyH.nil
            go_simp
            refine (HG3.out _ hIW.1).mono ?_
            rintro e' W2x ⟨rfl, x1, x2⟩
            have hW2x := And.intro x1 (x2 _ _ _ _ hIW.2 ot78)
            clear x1 x2
            go_wp2_with fail
            refine hK.out _ _ (hSc.out _ _ hW2x.1 hW2x.2) (fun hHeld => ?_)
            clear hK K
            try simp only [Act.put, lA, l0, lS]
            refine tkA (i := 13) (oi := ⟨some 2, .assign (.tmp 65), 2, "types.go:226", #[⟨12, .data⟩, ⟨12, .chain⟩, ⟨0, .phase⟩, ⟨1, .phase⟩, ⟨2, .phase⟩, ⟨3, .phase⟩, ⟨4, .phase⟩, ⟨5, .phase⟩, ⟨6, .phase⟩, ⟨7, .phase⟩, ⟨8, .phase⟩, ⟨9, .phase⟩, ⟨10, .phase⟩, ⟨11, .phase⟩, ⟨12, .phase⟩], none⟩) ?_
            try simp only [Act.put, lA, l0, lS]
            refine wpAnyH_done (by kernel_rfl) ?_ _
            have HE := hid hW2x.1
            clear hHeld hW2x
            go_wp2_with fail
            go_ret
            exact ⟨by rw [HQ.out]; rfl, A1, HA.out.1, (by first | exact HA.out.2 | exact ⟨HA.out.2 _, HA.out.2 _⟩), by rw [HQ.out]; exact HE.out.more (by omega)⟩
        · have HQ : Hid (R = (k1, 0)) := by show _ = _; rw [HR.out, if_neg hl0, if_neg hz, if_neg (by simp), if_neg (by simp), if_pos (by simp)]
          go_wp2_with fail
          go_ret
          exact ⟨by rw [HQ.out]; rfl, A1, HA.out.1, (by first | exact HA.out.2 | exact ⟨HA.out.2 _, HA.out.2 _⟩), by rw [HQ.out]; exact HL2.out.1.more (by omega)⟩
      · have HQ : Hid (R = (k1, c1)) := by show _ = _; rw [HR.out, if_neg hl0, if_neg hz, if_neg (by simp), if_pos hc]
        have hcb : (c1 == 0) = false := beq_eq_false_iff_ne.2 hc
        go_wp2_with fail
        go_ret
        exact ⟨by rw [HQ.out]; rfl, A1, HA.out.1, (by first | exact HA.out.2 | exact ⟨HA.out.2 _, HA.out.2 _⟩), by rw [HQ.out]; exact HL2.out.1.more (by omega)⟩
    · have HQ : Hid (R = (k, 0)) := by show _ = _; rw [HR.out, if_neg hl0, if_neg hz, if_pos (by simp)]
      go_wp2_with fail
      go_ret
      exact ⟨by rw [HQ.out]; rfl, A, rfl, (by first | exact fun u => rfl | exact ⟨rfl, rfl⟩), by rw [HQ.out]; exact HL1.out.1.more (by omega)⟩
end Go.Proofs.YtfmljlflnpmceaaGreatDoor
/- The PINGs that wait are another list. -/
namespace Go.Proofs.YtfmljlflnpmceaaGreatDoor
open Go.RowKit
set_option linter.unusedVariables false
set_option linter.unusedSimpArgs false
variable {w0 w w1 : World} {A : LA} {k : Lk} {m : Nat}
theorem LJ.push (h : LJ w0 w A k m) (s : Bool) {v : Value} {l : List ByteArray} (hG : Gr w w1 (A.w s).pv v) (hW : WSr w1 v l) :
    (w1.cell? ⟨(A.w s).g, 4, none⟩ = some (A.w s).pv ∧ w1.frozen? ⟨(A.w s).g, 4, none⟩ = false ∧ KpO w w1) ∧ LJ w0 (w1.setCell ⟨(A.w s).g, 4, none⟩ v) (A.upd s { A.w s with pv := v }) (k.upd s fun y => { y with pg := l }) m := by
  have hi := h.wi s
  have hpv : ∀ {j : Nat} {cc : Array Value} {t : TypeId} {fz : Nat × Nat}, w.heap[j]? = some (.cells cc t fz) → t ≠ 9 → (A.w s).pv.ownBlock ≠ some j := fun hb ht e => by
    obtain ⟨_, c, hc⟩ := hi.pg.lt _ e
    exact ty_ne hb hc ht rfl
  have c : ∀ {j : Nat} {cc : Array Value} {t : TypeId} {fz : Nat × Nat}, w.heap[j]? = some (.cells cc t fz) → t ≠ 9 → w1.heap[j]? = w.heap[j]? := fun hb ht => hG.block _ (heap_lt hb) (hpv hb ht)
  have hblk1 := (c hi.blk (by decide)).trans hi.blk
  have o : ∀ j, j ≠ (A.w s).g → (w1.setCell ⟨(A.w s).g, 4, none⟩ v).heap[j]? = w1.heap[j]? := fun j hj => setCell_other _ _ _ _ _ hj
  have c2 : ∀ {j : Nat} {cc : Array Value} {t : TypeId} {fz : Nat × Nat}, w.heap[j]? = some (.cells cc t fz) → t ≠ 9 → t ≠ 76 → (w1.setCell ⟨(A.w s).g, 4, none⟩ v).heap[j]? = w.heap[j]? := fun hb ht ht' => (o _ (ty_ne hb hi.blk ht')).trans (c hb ht)
  have mp : ∀ {b : Nat} {g : Int → Option Value}, MV w b m g → MV (w1.setCell ⟨(A.w s).g, 4, none⟩ v) b m g := fun hm => hm.stays ((o _ (hm.ne hi.blk).symm).trans (hG.block _ hm.lt fun e => by
    obtain ⟨_, c, hc⟩ := hi.pg.lt _ e
    exact hm.ne hc rfl))
  have hvg : v.ownBlock ≠ some (A.w s).g := fun e => (hG.own _ e).elim (hpv hi.blk (by decide)) fun e => by
    have := heap_lt hi.blk
    omega
  have hx : WI (w1.setCell ⟨(A.w s).g, 4, none⟩ v) { A.w s with pv := v } { k.wy s with pg := l } m := {
    blk := by
      show (w1.setCell ⟨(A.w s).g, 4, none⟩ v).heap[(A.w s).g]? = _
      rw [setCell_block _ _ _ _ _ _ _ hblk1]
      rfl
    pg := hW.same fun j hj => o j fun e => hvg (e ▸ hj)
    rs := mp hi.rs
    bk := ⟨(c2 hi.bk.blk (by decide) (by decide)).trans hi.bk.blk, hi.bk.row.stays fun j hj _ => by
      obtain ⟨cc, hc⟩ := bk_row_ty hi.bk hj
      exact c2 hc (by decide) (by decide), hi.bk.len⟩
    rm := (c2 hi.rm (by decide) (by decide)).trans hi.rm
    rmB := hi.rmB
    rw := mp hi.rw
    rq := hi.rq
    rd := fun j q hq => by
      obtain ⟨n, h1, h2, h3⟩ := hi.rd j q hq
      exact ⟨n, h1, (c2 h2 (by decide) (by decide)).trans h2, h3⟩
    inj := hi.inj
    nr := hi.nr
    srt := hi.srt
    ne := hi.ne }
  have hks : Ks (WB (A.w s)) w (w1.setCell ⟨(A.w s).g, 4, none⟩ v) := (Ks.of_gr hG).trans (Ks.setCell (WB (A.w s)) w1 _ 4 v (.inl rfl)) (fun _ _ e => .inr (.inr (.inr (.inr (.inr (.inr (.inl e))))))) (fun _ _ e => e)
  have h4 := h.way (s := s) hx rfl hks (fun j hj => by
    rcases hj with e | e | e | e | e | e | e | e
    · exact .inl (.inl e)
    · exact .inl (.inr (.inl e))
    · exact .inl (.inr (.inr (.inl e)))
    · exact .inl (.inr (.inr (.inr (.inl e))))
    · exact .inl (.inr (.inr (.inr (.inr (.inl e)))))
    · exact .inl (.inr (.inr (.inr (.inr (.inr (.inl e))))))
    · exact (hG.own _ e).imp (fun e => .inr (.inr (.inr (.inr (.inr (.inr (.inl e))))))) id
    · exact .inl (.inr (.inr (.inr (.inr (.inr (.inr (.inr e))))))))
  refine ⟨⟨cell_blk hblk1 4, frozen_blk hblk1 4, fun j cc t fz hj ht => (c hj ht.2.2.2.2.2.2).trans hj⟩, ?_⟩
  rw [Lk.upd_const]
  exact h4
theorem LA.upd_g (A : LA) (s : Bool) (v : Value) (u : Bool) : ((A.upd s { A.w s with pv := v }).w u).g = (A.w u).g := by
  unfold LA.upd
  by_cases e : u = s <;> simp [e]
end Go.Proofs.YtfmljlflnpmceaaGreatDoor
