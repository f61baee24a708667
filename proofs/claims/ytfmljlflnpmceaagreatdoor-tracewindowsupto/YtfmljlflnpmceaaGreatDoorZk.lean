/- DATA that is got. -/
import Derived.Test.YtfmljlflnpmceaaGreatDoorVa
import Derived.Test.YtfmljlflnpmceaaGreatDoorVi
namespace Go.Proofs.YtfmljlflnpmceaaGreatDoor
open Go.RowKit
set_option linter.unusedVariables false
set_option linter.unusedSimpArgs false
theorem Lv.upd {k : Lk} (hv : Lv k) (s : Bool) (f : Wy → Wy) (hf : ∀ y, (f y).rw = y.rw) : Lv (k.upd s f) := by
  intro t id v hl
  have := hv t id v hl
  unfold Lk.upd
  simp only
  split
  · rw [hf]; exact this
  · exact this
set_option maxRecDepth 100000 in
set_option maxHeartbeats 40000000 in
theorem getData_any (t : Tn) (e : Et) (n : Int) (w0 w : World) (A : LA) (k : Lk) (m : Nat) (h : LJ w0 w A k m) (hv : Lv k) (hf : t.f = e.f) (hs : t.s = e.s) (hn : n = e.size) (hg : t.lk = A.g) (hw : t.wa = (A.w t.s).g) (hb : t.bk = (A.w (!t.s)).g) (hi : I64 t.f.st) (hm : m + 2 < maxLen) :
    Calls Tryz.prog 59 #[.agg (tnv t), .int .i64 n] w fun r w' => r = .returned (.int .i64 (k.getData e).2) ∧ ∃ A', A'.g = A.g ∧ (∀ u, (A'.w u).g = (A.w u).g) ∧ LJ w0 w' A' (k.getData e).1 (m + 3) := by
  obtain ⟨R, hR⟩ : ∃ R, k.getData e = R := ⟨_, rfl⟩
  obtain ⟨kd, hkd⟩ : ∃ v, (if Fm.hasF t.f.fl 1 = true then (4 : Int) else 3) = v := ⟨_, rfl⟩
  obtain ⟨⟨k2, c2⟩, hC2⟩ : ∃ H, k.takeC t.s n = H := ⟨_, rfl⟩
  have hv2 : Lv k2 := by
    have := hv.upd t.s (fun y => { y with rm := tkN y.rm n }) (fun y => rfl)
    have e : (k.takeC t.s n).1 = k2 := by rw [hC2]
    rw [← e]
    exact this
  obtain ⟨⟨k3, c1, i1⟩, hH⟩ : ∃ H, k2.happen t.s t.f.st kd = H := ⟨_, rfl⟩
  obtain ⟨k4, hk4⟩ : ∃ v, (k3.takeS t.s t.f.st n).1 = v := ⟨_, rfl⟩
  obtain ⟨c3, hc3⟩ : ∃ v, tk ((look (k3.wy t.s).rw t.f.st).getD 0) n = v := ⟨_, rfl⟩
  have HR : Hid (R = if c2 = false then (k2, 3) else if c1 ≠ 0 then (k3, c1) else if i1 = true then (k3, 0) else (k4, if c3 = true then 0 else 3)) := by
    show _ = _
    rw [← hR]
    unfold Lk.getData Et.kind
    simp only
    rw [← hf, ← hs, ← hn, hC2]
    have e1 : (if e.has 1 = true then (4 : Int) else 3) = kd := by rw [← hkd, hf]; rfl
    simp only
    rw [e1, hH]
    simp only
    rw [← hk4, ← hc3]
    rfl
  have HRm : Hid (∀ {w : World} {A : LA} {m : Nat}, LJ w0 w A k2 m → c1 = 0 → i1 = false → (look (k3.wy t.s).rw t.f.st).isSome = true) := fun h hc hi1 => by
    have := happen_room hv2 h.ti.ok (fun u => (h.wi u).srt) (s := t.s) (id := t.f.st) (kd := kd) (by rw [← hkd]; split <;> simp) (by rw [hH]; exact hc) (.inr (by rw [hH]; exact hi1)) t.s
    rw [hH] at this
    exact this
  rw [hR]
  obtain ⟨W1, hW1⟩ : ∃ V, w.alloc (.cells (tnv t) 78) = V := ⟨_, rfl⟩
  obtain ⟨b0, hb'⟩ : ∃ q, w.heap.size = q := ⟨_, rfl⟩
  have b1 : Below w.heap.size w W1 := by rw [← hW1]; exact bel1 _ _
  have hb0 : W1.heap[b0]? = some (.cells (tnv t) 78 (0, 0)) := by rw [← hW1, ← hb', heap_al, if_pos rfl]
  have HL0 : Hid (LJ w0 W1 A k m ∧ W1.heap[b0]? = some (.cells (tnv t) 78 (0, 0))) := ⟨h.below b1, hb0⟩
  have HKd0 : Hid (∀ V, Calls Tryz.prog 53 #[.agg (tnv t), .int .i64 3, .int .i64 4] V fun e w' => e = .returned (.int .i64 kd) ∧ Below V.heap.size V w') := fun V => by
    have := kind_any t 3 4 V
    rw [hkd] at this
    exact this
  have HHp0 : Hid (∀ V, LJ w0 V A k2 m → Calls Tryz.prog 47 #[.agg (tnv t), .int .i64 t.f.st, .int .i64 kd] V fun e w' => e = .returned (.tuple #[.int .i64 c1, .bool i1]) ∧ ∃ A', A'.g = A.g ∧ (∀ u, (A'.w u).g = (A.w u).g) ∧ LJ w0 w' A' k3 (m + 2) ∧ KpO V w') := fun V hV => by
    have := happen_any t t.f.st kd w0 V A k2 m hV hv2 hg hw hb hi (by omega)
    rw [hH] at this
    exact this
  obtain ⟨rv, hrv⟩ : ∃ v, (A.w t.s).rm = v := ⟨_, rfl⟩
  have HT1 : Hid (∀ V, LJ w0 V A k m → Calls Tryz.prog 76 #[.pointer (some ⟨rv, 0, none⟩), .int .i64 n] V fun e w' => e = .returned (.bool c2) ∧ LJ w0 w' A k2 m ∧ KpO V w') := fun V hV => by
    have := hV.takeC t.s n
    rw [hrv, hC2] at this
    exact this
  have c8 : W1.cell? ⟨t.wa, 8, none⟩ = some (.pointer (some ⟨rv, 0, none⟩)) := by
    rw [hw, ← hrv]
    exact (HL0.out.1.wi t.s).cells.2.2.2.2.2.2.2.2.1
  have HI : Hid (I64 t.f.st) := hi
  have HW : Hid (t.wa = (A.w t.s).g) := hw
  have HC3 : Hid (tk ((look (k3.wy t.s).rw t.f.st).getD 0) n = c3 ∧ (k3.takeS t.s t.f.st n).1 = k4) := ⟨hc3, hk4⟩
  have j0 := cell_blk hb0 0
  have j1 := cell_blk hb0 1
  have j2 := cell_blk hb0 2
  have j3 := cell_blk hb0 3
  have j4 := cell_blk hb0 4
  have j5 := cell_blk hb0 5
  have j6 := cell_blk hb0 6
  have j7 := cell_blk hb0 7
  have j8 := cell_blk hb0 8
  have j9 := cell_blk hb0 9
  have j10 := cell_blk hb0 10
  have j11 := cell_blk hb0 11
  have j12 := cell_blk hb0 12
  have j13 := cell_blk hb0 13
  have j14 := cell_blk hb0 14
  clear h hv hv2 hw hb hi hm hH hR hC2 hk4 hc3 hkd b1 hb0 hf hs hn hrv
  obtain ⟨lk, ⟨ty, fl, st, da, pa, de, ex, wt, co, la⟩, p, s, wa, bk⟩ := t
  simp only at hg HHp0 HI HW HC3 HRm c8
  subst hg
  simp only [tnv] at hW1 HL0 HHp0 HKd0 j0 j1 j2 j3 j4 j5 j6 j7 j8 j9 j10 j11 j12 j13 j14 ⊢
  simp only [List.getElem?_toArray, List.getElem?_cons_succ, List.getElem?_cons_zero] at j0 j1 j2 j3 j4 j5 j6 j7 j8 j9 j10 j11 j12 j13 j14
  have hSb : Hid (∀ V : World, V.heap[b0]? = some (.cells #[.pointer (some ⟨A.g, 0, none⟩), .int .i64 ty, .int .i64 fl, .int .i64 st, .string da, .int .i64 pa, .int .i64 de, .bool ex, .int .i64 wt, .int .i64 co, .int .i64 la, p, .bool s, .pointer (some ⟨wa, 0, none⟩), .pointer (some ⟨bk, 0, none⟩)] 78 (0, 0)) → V.cell? ⟨b0, 0, none⟩ = some (.pointer (some ⟨A.g, 0, none⟩)) ∧ V.cell? ⟨b0, 1, none⟩ = some (.int .i64 ty) ∧ V.cell? ⟨b0, 2, none⟩ = some (.int .i64 fl) ∧ V.cell? ⟨b0, 3, none⟩ = some (.int .i64 st) ∧ V.cell? ⟨b0, 4, none⟩ = some (.string da) ∧ V.cell? ⟨b0, 5, none⟩ = some (.int .i64 pa) ∧ V.cell? ⟨b0, 6, none⟩ = some (.int .i64 de) ∧ V.cell? ⟨b0, 7, none⟩ = some (.bool ex) ∧ V.cell? ⟨b0, 8, none⟩ = some (.int .i64 wt) ∧ V.cell? ⟨b0, 9, none⟩ = some (.int .i64 co) ∧ V.cell? ⟨b0, 10, none⟩ = some (.int .i64 la) ∧ V.cell? ⟨b0, 11, none⟩ = some p ∧ V.cell? ⟨b0, 12, none⟩ = some (.bool s) ∧ V.cell? ⟨b0, 13, none⟩ = some (.pointer (some ⟨wa, 0, none⟩)) ∧ V.cell? ⟨b0, 14, none⟩ = some (.pointer (some ⟨bk, 0, none⟩))) := fun V h1 => ⟨cell_blk h1 0, cell_blk h1 1, cell_blk h1 2, cell_blk h1 3, cell_blk h1 4, cell_blk h1 5, cell_blk h1 6, cell_blk h1 7, cell_blk h1 8, cell_blk h1 9, cell_blk h1 10, cell_blk h1 11, cell_blk h1 12, cell_blk h1 13, cell_blk h1 14⟩
  go_enter Tryz.func59, Tryz.ntmps59
  go_wp2_with fail
  try rw [hW1]
  try rw [hb']
  clear hW1 hb'
  go_at_call 76
  refine (HT1.out _ HL0.out.1).mono ?_
  rintro e' V1 ⟨rfl, x1, x2⟩
  have HL1 : Hid (LJ w0 V1 A k2 m ∧ V1.heap[b0]? = some (.cells #[.pointer (some ⟨A.g, 0, none⟩), .int .i64 ty, .int .i64 fl, .int .i64 st, .string da, .int .i64 pa, .int .i64 de, .bool ex, .int .i64 wt, .int .i64 co, .int .i64 la, p, .bool s, .pointer (some ⟨wa, 0, none⟩), .pointer (some ⟨bk, 0, none⟩)] 78 (0, 0))) := ⟨x1, x2 _ _ _ _ HL0.out.2 ot78⟩
  clear x1 x2 HL0 HT1 c8 j0 j1 j2 j3 j4 j5 j6 j7 j8 j9 j10 j11 j12 j13 j14
  replace HRm : Hid (c1 = 0 → i1 = false → (look (k3.wy s).rw st).isSome = true) := fun a b => HRm.out HL1.out.1 a b
  cases c2
  · have HQ : Hid (R = (k2, 3)) := by show _ = _; rw [HR.out, if_pos (by simp)]
    go_wp2_with fail
    go_ret
    exact ⟨by rw [HQ.out]; rfl, A, rfl, fun u => rfl, by rw [HQ.out]; exact HL1.out.1.more (by omega)⟩
  · go_upto_region 3 with fail
    go_cut [5, 6] from 15 (fun v v' wx => v = .int .i64 c1 ∧ v' = .bool i1 ∧ ∃ A1 : LA, A1.g = A.g ∧ (∀ u, (A1.w u).g = (A.w u).g) ∧ LJ w0 wx A1 k3 (m + 2) ∧ wx.heap[b0]? = some (.cells #[.pointer (some ⟨A.g, 0, none⟩), .int .i64 ty, .int .i64 fl, .int .i64 st, .string da, .int .i64 pa, .int .i64 de, .bool ex, .int .i64 wt, .int .i64 co, .int .i64 la, p, .bool s, .pointer (some ⟨wa, 0, none⟩), .pointer (some ⟨bk, 0, none⟩)] 78 (0, 0)))
    case first =>
      as_aux_lemma =>
        have hIW : Below V1.heap.size V1 V1.drew := (Below.refl _ _).drew
        refine wp_region_held_drew (S := (fun V => V.cell? ⟨b0, 0, none⟩ = some (.pointer (some ⟨A.g, 0, none⟩)) ∧ V.cell? ⟨b0, 1, none⟩ = some (.int .i64 ty) ∧ V.cell? ⟨b0, 2, none⟩ = some (.int .i64 fl) ∧ V.cell? ⟨b0, 3, none⟩ = some (.int .i64 st) ∧ V.cell? ⟨b0, 4, none⟩ = some (.string da) ∧ V.cell? ⟨b0, 5, none⟩ = some (.int .i64 pa) ∧ V.cell? ⟨b0, 6, none⟩ = some (.int .i64 de) ∧ V.cell? ⟨b0, 7, none⟩ = some (.bool ex) ∧ V.cell? ⟨b0, 8, none⟩ = some (.int .i64 wt) ∧ V.cell? ⟨b0, 9, none⟩ = some (.int .i64 co) ∧ V.cell? ⟨b0, 10, none⟩ = some (.int .i64 la) ∧ V.cell? ⟨b0, 11, none⟩ = some p ∧ V.cell? ⟨b0, 12, none⟩ = some (.bool s) ∧ V.cell? ⟨b0, 13, none⟩ = some (.pointer (some ⟨wa, 0, none⟩)) ∧ V.cell? ⟨b0, 14, none⟩ = some (.pointer (some ⟨bk, 0, none⟩)))) (by kernel_rfl) (hSb.out _ ((hIW.block _ (heap_lt HL1.out.2)).trans HL1.out.2)) (fun hHeld => ?_)
        generalize hWg : World.drew _ = W2 at hIW hHeld ⊢
        clear hWg
        refine tkA (i := 0) (oi := ⟨some 16, .load 78 (.tmp 2), 78, "types.go:141", #[], none⟩) ?_
        try simp only [Act.put, lA, l0, lS]
        refine tkA (i := 1) (oi := ⟨some 17, .fieldAddr 78 (.tmp 2) 1, 0, "types.go:141", #[], none⟩) ?_
        try simp only [Act.put, lA, l0, lS]
        refine tkA (i := 2) (oi := ⟨some 18, .fieldAddr 31 (.tmp 17) 2, 0, "types.go:141", #[⟨1, .data⟩], none⟩) ?_
        try simp only [Act.put, lA, l0, lS]
        refine tkA (i := 3) (oi := ⟨some 19, .load 2 (.tmp 18), 2, "types.go:141", #[⟨2, .data⟩], none⟩) ?_
        try simp only [Act.put, lA, l0, lS]
        refine tkA (i := 4) (oi := ⟨some 20, .load 78 (.tmp 2), 78, "types.go:141", #[], none⟩) ?_
        try simp only [Act.put, lA, l0, lS]
        refine wpAnyH_ready (rs := [5]) (by kernel_rfl) (by simp) ?_
        refine AllReadyH.cons (o := ⟨some 21, .call { callee := Callee.value (.func 53), args := #[.tmp 20, .const (.int IntKind.i64 3), .const (.int IntKind.i64 4)], argTypes := #[78, 3, 3] }, 3, "types.go:141", #[⟨4, .data⟩], none⟩) rfl (fun K hK => ?_) AllReadyH.nil
        go_simp
        refine (HKd0.out _).mono ?_
        rintro e' W2x ⟨rfl, bX⟩
        have hW2x : Below V1.heap.size V1 W2x := hIW.trans (bX.mono hIW.size)
        clear bX
        go_wp2_with fail
        refine hK.out _ _ (hSb.out _ ((hW2x.block _ (heap_lt HL1.out.2)).trans HL1.out.2)) (fun hHeld => ?_)
        clear hK K
        try simp only [Act.put, lA, l0, lS]
        refine wpAnyH_ready (rs := [6]) (by kernel_rfl) (by simp) ?_
        refine AllReadyH.cons (o := ⟨some 22, .call { callee := Callee.value (.func 47), args := #[.tmp 16, .tmp 19, .tmp 21], argTypes := #[78, 2, 3] }, 97, "types.go:141", #[⟨0, .data⟩, ⟨3, .data⟩, ⟨5, .data⟩, ⟨5, .chain⟩], none⟩) rfl (fun K hK => ?_) AllReadyH.nil
        go_simp
        refine (HHp0.out _ (HL1.out.1.below hW2x)).mono ?_
        rintro e' W2xx ⟨rfl, A1, a1, a2, a3, a4⟩
        have hbz := a4 _ _ _ _ ((hW2x.block _ (heap_lt HL1.out.2)).trans HL1.out.2) ot78
        have HE : Hid (∃ A1 : LA, A1.g = A.g ∧ (∀ u, (A1.w u).g = (A.w u).g) ∧ LJ w0 W2xx A1 k3 (m + 2) ∧ W2xx.heap[b0]? = some (.cells #[.pointer (some ⟨A.g, 0, none⟩), .int .i64 ty, .int .i64 fl, .int .i64 st, .string da, .int .i64 pa, .int .i64 de, .bool ex, .int .i64 wt, .int .i64 co, .int .i64 la, p, .bool s, .pointer (some ⟨wa, 0, none⟩), .pointer (some ⟨bk, 0, none⟩)] 78 (0, 0))) := ⟨A1, a1, a2, a3, hbz⟩
        go_wp2_with fail
        refine hK.out _ _ (hSb.out _ hbz) (fun hHeld => ?_)
        clear hK K a1 a2 a3 a4 hbz
        try simp only [Act.put, lA, l0, lS]
        refine tkA (i := 7) (oi := ⟨some 15, .move (.tmp 22), 97, "types.go:141", #[⟨6, .data⟩], none⟩) ?_
        try simp only [Act.put, lA, l0, lS]
        refine tkA (i := 8) (oi := ⟨some 23, .extract (.tmp 15) 0, 2, "types.go:141", #[⟨7, .data⟩], none⟩) ?_
        try simp only [Act.put, lA, l0, lS]
        refine tkA (i := 9) (oi := ⟨some 24, .extract (.tmp 15) 1, 4, "types.go:141", #[⟨7, .data⟩, { on := 10, ground := Ground.gcOnly Departure.lateStores }], none⟩) ?_
        try simp only [Act.put, lA, l0, lS]
        refine tkA (i := 10) (oi := ⟨some 5, .assign (.tmp 23), 2, "types.go:141", #[⟨8, .data⟩, ⟨6, .chain⟩, ⟨0, .phase⟩, ⟨1, .phase⟩, ⟨2, .phase⟩, ⟨3, .phase⟩, ⟨4, .phase⟩, ⟨5, .phase⟩, ⟨6, .phase⟩, ⟨7, .phase⟩, ⟨8, .phase⟩, { on := 9, ground := Ground.textOnly Departure.lateStores }], none⟩) ?_
        try simp only [Act.put, lA, l0, lS]
        refine tkA (i := 11) (oi := ⟨some 6, .assign (.tmp 24), 4, "types.go:141", #[⟨9, .data⟩, ⟨10, .chain⟩, ⟨0, .phase⟩, ⟨1, .phase⟩, ⟨2, .phase⟩, ⟨3, .phase⟩, ⟨4, .phase⟩, ⟨5, .phase⟩, ⟨6, .phase⟩, ⟨7, .phase⟩, ⟨8, .phase⟩, ⟨9, .phase⟩, ⟨10, .phase⟩], none⟩) ?_
        try simp only [Act.put, lA, l0, lS]
        refine wpAnyH_done (by kernel_rfl) ?_ _
        clear hHeld
        go_wp2_with fail
        go_meet
        case rel => exact ⟨rfl, rfl, HE.out⟩
    case rest =>
      obtain ⟨rfl, rfl, A1, a1, a2, a3, a4⟩ := hcut
      have HL2 : Hid (LJ w0 wc A1 k3 (m + 2) ∧ wc.heap[b0]? = some (.cells #[.pointer (some ⟨A.g, 0, none⟩), .int .i64 ty, .int .i64 fl, .int .i64 st, .string da, .int .i64 pa, .int .i64 de, .bool ex, .int .i64 wt, .int .i64 co, .int .i64 la, p, .bool s, .pointer (some ⟨wa, 0, none⟩), .pointer (some ⟨bk, 0, none⟩)] 78 (0, 0))) := ⟨a3, a4⟩
      have HA : Hid (A1.g = A.g ∧ ∀ u, (A1.w u).g = (A.w u).g) := ⟨a1, a2⟩
      clear a1 a2 a3 a4 HL1 HKd0 HHp0
      generalize wc = V2 at HL2 ⊢
      by_cases hc : c1 = 0
      · subst hc
        cases i1
        · have HX : Hid (R = (k4, if c3 = true then 0 else 3)) := by show _ = _; rw [HR.out, if_neg (by simp), if_neg (by simp), if_neg (by simp)]
          obtain ⟨kk, hkk⟩ := HL2.out.1.at_q s (HRm.out rfl rfl)
          obtain ⟨wv, hwv⟩ : ∃ v, (A1.w s).wb = v := ⟨_, rfl⟩
          have HT2 : Hid (∀ V, LJ w0 V A1 k3 (m + 2) → Calls Tryz.prog 76 #[.pointer (some ⟨kk, 0, none⟩), .int .i64 n] V fun e w' => e = .returned (.bool c3) ∧ LJ w0 w' A1 k4 (m + 2) ∧ KpO V w') := fun V hV => by
            have := hV.takeS s st n hkk
            rw [HC3.out.1, HC3.out.2] at this
            exact this
          have hSc : Hid (∀ (V : World) (kx : Lk), LJ w0 V A1 kx (m + 2) → V.heap[b0]? = some (.cells #[.pointer (some ⟨A.g, 0, none⟩), .int .i64 ty, .int .i64 fl, .int .i64 st, .string da, .int .i64 pa, .int .i64 de, .bool ex, .int .i64 wt, .int .i64 co, .int .i64 la, p, .bool s, .pointer (some ⟨wa, 0, none⟩), .pointer (some ⟨bk, 0, none⟩)] 78 (0, 0)) → (V.cell? ⟨b0, 0, none⟩ = some (.pointer (some ⟨A.g, 0, none⟩)) ∧ V.cell? ⟨b0, 1, none⟩ = some (.int .i64 ty) ∧ V.cell? ⟨b0, 2, none⟩ = some (.int .i64 fl) ∧ V.cell? ⟨b0, 3, none⟩ = some (.int .i64 st) ∧ V.cell? ⟨b0, 4, none⟩ = some (.string da) ∧ V.cell? ⟨b0, 5, none⟩ = some (.int .i64 pa) ∧ V.cell? ⟨b0, 6, none⟩ = some (.int .i64 de) ∧ V.cell? ⟨b0, 7, none⟩ = some (.bool ex) ∧ V.cell? ⟨b0, 8, none⟩ = some (.int .i64 wt) ∧ V.cell? ⟨b0, 9, none⟩ = some (.int .i64 co) ∧ V.cell? ⟨b0, 10, none⟩ = some (.int .i64 la) ∧ V.cell? ⟨b0, 11, none⟩ = some p ∧ V.cell? ⟨b0, 12, none⟩ = some (.bool s) ∧ V.cell? ⟨b0, 13, none⟩ = some (.pointer (some ⟨wa, 0, none⟩)) ∧ V.cell? ⟨b0, 14, none⟩ = some (.pointer (some ⟨bk, 0, none⟩))) ∧ V.cell? ⟨wa, 9, none⟩ = some (.map (some wv)) ∧ (Instr.lookup 74 (.map (some wv)) (.int .i64 st) false).run Tryz.prog V = .ok (.pointer (some ⟨kk, 0, none⟩)) V) := fun V kx hV hbz => by
            have hc := (hV.wi s).cells
            have hlk := hV.lookS s HI.out hkk
            rw [hwv] at hlk
            rw [HA.out.2 s, ← HW.out] at hc
            unfold Wc at hc
            rw [hwv] at hc
            exact ⟨hSb.out V hbz, hc.2.2.2.2.2.2.2.2.2.1, hlk⟩
          clear hkk hwv HR
          go_upto_region 6 with fail
          as_aux_lemma =>
            have hIW : LJ w0 V2.drew A1 k3 (m + 2) ∧ V2.drew.heap[b0]? = some (.cells #[.pointer (some ⟨A.g, 0, none⟩), .int .i64 ty, .int .i64 fl, .int .i64 st, .string da, .int .i64 pa, .int .i64 de, .bool ex, .int .i64 wt, .int .i64 co, .int .i64 la, p, .bool s, .pointer (some ⟨wa, 0, none⟩), .pointer (some ⟨bk, 0, none⟩)] 78 (0, 0)) := ⟨HL2.out.1.dr, HL2.out.2⟩
            refine wp_region_held_drew (S := (fun V => (V.cell? ⟨b0, 0, none⟩ = some (.pointer (some ⟨A.g, 0, none⟩)) ∧ V.cell? ⟨b0, 1, none⟩ = some (.int .i64 ty) ∧ V.cell? ⟨b0, 2, none⟩ = some (.int .i64 fl) ∧ V.cell? ⟨b0, 3, none⟩ = some (.int .i64 st) ∧ V.cell? ⟨b0, 4, none⟩ = some (.string da) ∧ V.cell? ⟨b0, 5, none⟩ = some (.int .i64 pa) ∧ V.cell? ⟨b0, 6, none⟩ = some (.int .i64 de) ∧ V.cell? ⟨b0, 7, none⟩ = some (.bool ex) ∧ V.cell? ⟨b0, 8, none⟩ = some (.int .i64 wt) ∧ V.cell? ⟨b0, 9, none⟩ = some (.int .i64 co) ∧ V.cell? ⟨b0, 10, none⟩ = some (.int .i64 la) ∧ V.cell? ⟨b0, 11, none⟩ = some p ∧ V.cell? ⟨b0, 12, none⟩ = some (.bool s) ∧ V.cell? ⟨b0, 13, none⟩ = some (.pointer (some ⟨wa, 0, none⟩)) ∧ V.cell? ⟨b0, 14, none⟩ = some (.pointer (some ⟨bk, 0, none⟩))) ∧ V.cell? ⟨wa, 9, none⟩ = some (.map (some wv)) ∧ (Instr.lookup 74 (.map (some wv)) (.int .i64 st) false).run Tryz.prog V = .ok (.pointer (some ⟨kk, 0, none⟩)) V)) (by kernel_rfl) (hSc.out _ _ hIW.1 hIW.2) (fun hHeld => ?_)
            generalize hWg : World.drew _ = W2 at hIW hHeld ⊢
            clear hWg
            refine tkA (i := 0) (oi := ⟨some 31, .fieldAddr 78 (.tmp 2) 3, 0, "types.go:145", #[], none⟩) ?_
            try simp only [Act.put, lA, l0, lS]
            refine tkA (i := 1) (oi := ⟨some 32, .load 66 (.tmp 31), 66, "types.go:145", #[⟨0, .data⟩], none⟩) ?_
            try simp only [Act.put, lA, l0, lS]
            refine tkA (i := 2) (oi := ⟨some 33, .nilCheck (.tmp 32), 0, "types.go:145", #[⟨1, .data⟩], none⟩) ?_
            try simp only [Act.put, lA, l0, lS]
            refine tkA (i := 3) (oi := ⟨some 34, .fieldAddr 76 (.tmp 33) 9, 0, "types.go:145", #[⟨2, .data⟩], none⟩) ?_
            try simp only [Act.put, lA, l0, lS]
            refine tkA (i := 4) (oi := ⟨some 35, .load 74 (.tmp 34), 74, "types.go:145", #[⟨3, .data⟩], none⟩) ?_
            try simp only [Act.put, lA, l0, lS]
            refine tkA (i := 5) (oi := ⟨some 36, .fieldAddr 78 (.tmp 2) 1, 0, "types.go:145", #[], none⟩) ?_
            try simp only [Act.put, lA, l0, lS]
            refine tkA (i := 6) (oi := ⟨some 37, .fieldAddr 31 (.tmp 36) 2, 0, "types.go:145", #[⟨5, .data⟩], none⟩) ?_
            try simp only [Act.put, lA, l0, lS]
            refine tkA (i := 7) (oi := ⟨some 38, .load 2 (.tmp 37), 2, "types.go:145", #[⟨6, .data⟩], none⟩) ?_
            try simp only [Act.put, lA, l0, lS]
            refine tkA (i := 8) (oi := ⟨some 39, .lookup 74 (.tmp 35) (.tmp 38) false, 73, "types.go:145", #[⟨4, .data⟩, ⟨7, .data⟩], none⟩) ?_
            try simp only [Act.put, lA, l0, lS]
            refine tkA (i := 9) (oi := ⟨some 40, .move (.tmp 1), 2, "types.go:145", #[], none⟩) ?_
            try simp only [Act.put, lA, l0, lS]
            refine wpAnyH_ready (rs := [10]) (by kernel_rfl) (by simp) ?_
            refine AllReadyH.cons (o := ⟨some 41, .call { callee := Callee.value (.func 76), args := #[.tmp 39, .tmp 40], argTypes := #[73, 2] }, 4, "types.go:145", #[⟨8, .data⟩, ⟨9, .data⟩], none⟩) rfl (fun K hK => ?_) AllReadyH.nil
            go_simp
            refine (HT2.out _ hIW.1).mono ?_
            rintro e' W2x ⟨rfl, x1, x2⟩
            have hW2x := And.intro x1 (x2 _ _ _ _ hIW.2 ot78)
            clear x1 x2
            go_wp2_with fail
            refine hK.out _ _ (hSc.out _ _ hW2x.1 hW2x.2) (fun hHeld => ?_)
            clear hK K
            try simp only [Act.put, lA, l0, lS]
            refine tkA (i := 11) (oi := ⟨some 42, .unOp .not 4 (.tmp 41), 4, "types.go:145", #[⟨10, .data⟩], none⟩) ?_
            try simp only [Act.put, lA, l0, lS]
            refine wpAnyH_done (by kernel_rfl) ?_ _
            have HE := hid hW2x.1
            clear hHeld hW2x
            cases c3
            · have HQ : Hid (R = (k4, 3)) := by show _ = _; rw [HX.out, if_neg (by simp)]
              go_wp2_with fail
              go_ret
              exact ⟨by rw [HQ.out]; rfl, A1, HA.out.1, (by first | exact HA.out.2 | exact ⟨HA.out.2 _, HA.out.2 _⟩), by rw [HQ.out]; exact HE.out.more (by omega)⟩
            · have HQ : Hid (R = (k4, 0)) := by show _ = _; rw [HX.out, if_pos (by simp)]
              go_wp2_with fail
              go_ret
              exact ⟨by rw [HQ.out]; rfl, A1, HA.out.1, (by first | exact HA.out.2 | exact ⟨HA.out.2 _, HA.out.2 _⟩), by rw [HQ.out]; exact HE.out.more (by omega)⟩
        · have HQ : Hid (R = (k3, 0)) := by show _ = _; rw [HR.out, if_neg (by simp), if_neg (by simp), if_pos (by simp)]
          go_wp2_with fail
          go_ret
          exact ⟨by rw [HQ.out]; rfl, A1, HA.out.1, (by first | exact HA.out.2 | exact ⟨HA.out.2 _, HA.out.2 _⟩), by rw [HQ.out]; exact HL2.out.1.more (by omega)⟩
      · have HQ : Hid (R = (k3, c1)) := by show _ = _; rw [HR.out, if_neg (by simp), if_pos hc]
        have hcb : (c1 == 0) = false := beq_eq_false_iff_ne.2 hc
        go_wp2_with fail
        go_ret
        exact ⟨by rw [HQ.out]; rfl, A1, HA.out.1, (by first | exact HA.out.2 | exact ⟨HA.out.2 _, HA.out.2 _⟩), by rw [HQ.out]; exact HL2.out.1.more (by omega)⟩
end Go.Proofs.YtfmljlflnpmceaaGreatDoor
