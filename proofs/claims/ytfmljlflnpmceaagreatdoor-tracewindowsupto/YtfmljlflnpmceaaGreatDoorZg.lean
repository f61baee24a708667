/- HEADERS. -/
import Derived.Test.YtfmljlflnpmceaaGreatDoorVa
import Derived.Test.YtfmljlflnpmceaaGreatDoorVz3
namespace Go.Proofs.YtfmljlflnpmceaaGreatDoor
open Go.RowKit
set_option linter.unusedVariables false
set_option linter.unusedSimpArgs false
set_option maxRecDepth 100000 in
set_option maxHeartbeats 40000000 in
theorem headers_any (t : Tn) (e : Et) (w0 w : World) (A : LA) (k : Lk) (m : Nat) (h : LJ w0 w A k m) (hv : Lv k) (hf : t.f = e.f) (hs : t.s = e.s) (hg : t.lk = A.g) (hw : t.wa = (A.w t.s).g) (hb : t.bk = (A.w (!t.s)).g) (hi : I64 t.f.st) (hm : m + 2 < maxLen) :
    Calls Tryz.prog 39 #[.agg (tnv t)] w fun r w' => r = .returned (.int .i64 (k.headers e).2) ∧ ∃ A', A'.g = A.g ∧ (∀ u, (A'.w u).g = (A.w u).g) ∧ LJ w0 w' A' (k.headers e).1 (m + 3) := by
  obtain ⟨R, hR⟩ : ∃ R, k.headers e = R := ⟨_, rfl⟩
  obtain ⟨b, hbb⟩ : ∃ v, k.T.st t.f.st = v := ⟨_, rfl⟩
  obtain ⟨kd, hkd⟩ : ∃ v, (if Fm.hasF t.f.fl 1 = true then (2 : Int) else 1) = v := ⟨_, rfl⟩
  obtain ⟨⟨k1, c1, i1⟩, hH⟩ : ∃ H, k.happen t.s t.f.st kd = H := ⟨_, rfl⟩
  obtain ⟨s1, hs1⟩ : ∃ v, k1.T.st t.f.st = v := ⟨_, rfl⟩
  have HR : Hid (R = if c1 ≠ 0 then (k1, c1) else if (t.s && (k1.wy false).ga && b == 0) = true then (k1, 1) else if (!ct b && ct s1 && k1.crowded t.s) = true then (k1, 7) else (k1.block e, 0)) := by
    show _ = _
    rw [← hR]
    unfold Lk.headers Et.kind
    simp only
    rw [← hf, ← hs]
    have e1 : (if e.has 1 = true then (2 : Int) else 1) = kd := by rw [← hkd, hf]; rfl
    rw [e1, hH]
    simp only
    rw [hbb, hs1]
  rw [hR]
  have HEf : Hid (t.f = e.f ∧ t.s = e.s) := ⟨hf, hs⟩
  obtain ⟨W1, hW1⟩ : ∃ V, w.alloc (.cells (tnv t) 78) = V := ⟨_, rfl⟩
  obtain ⟨b0, hb'⟩ : ∃ q, w.heap.size = q := ⟨_, rfl⟩
  have b1 : Below w.heap.size w W1 := by rw [← hW1]; exact bel1 _ _
  have hb0 : W1.heap[b0]? = some (.cells (tnv t) 78 (0, 0)) := by rw [← hW1, ← hb', heap_al, if_pos rfl]
  have HL0 : Hid (LJ w0 W1 A k m ∧ W1.heap[b0]? = some (.cells (tnv t) 78 (0, 0))) := ⟨h.below b1, hb0⟩
  have HSt : Hid (∀ V, Below W1.heap.size W1 V → Calls Tryz.prog 52 #[.pointer (some ⟨A.p, 0, none⟩), .int .i64 t.f.st] V fun e w' => e = .returned (.int .i64 b) ∧ Below V.heap.size V w') := fun V hV => by
    have := state_any V A.p A.mb k.T t.f.st (HL0.out.1.below hV).ti hi
    rw [hbb] at this
    exact this
  have HKd0 : Hid (∀ V, Calls Tryz.prog 53 #[.agg (tnv t), .int .i64 1, .int .i64 2] V fun e w' => e = .returned (.int .i64 kd) ∧ Below V.heap.size V w') := fun V => by
    have := kind_any t 1 2 V
    rw [hkd] at this
    exact this
  have HHp0 : Hid (∀ V, LJ w0 V A k m → Calls Tryz.prog 47 #[.agg (tnv t), .int .i64 t.f.st, .int .i64 kd] V fun e w' => e = .returned (.tuple #[.int .i64 c1, .bool i1]) ∧ ∃ A', A'.g = A.g ∧ (∀ u, (A'.w u).g = (A.w u).g) ∧ LJ w0 w' A' k1 (m + 2) ∧ KpO V w') := fun V hV => by
    have := happen_any t t.f.st kd w0 V A k m hV hv hg hw hb hi (by omega)
    rw [hH] at this
    exact this
  have HCr0 : Hid (∀ (V : World) (A1 : LA), A1.g = A.g → (∀ u, (A1.w u).g = (A.w u).g) → LJ w0 V A1 k1 (m + 2) → Calls Tryz.prog 55 #[.agg (tnv t)] V fun e w' => e = .returned (.bool (k1.crowded t.s)) ∧ Below V.heap.size V w') := fun V A1 g1 g2 hV => isCrowded_any t w0 V A1 k1 (m + 2) hV (hg.trans g1.symm) (hw.trans (g2 _).symm)
  have HBb0 : Hid (∀ (V : World) (A1 : LA), (∀ u, (A1.w u).g = (A.w u).g) → LJ w0 V A1 k1 (m + 2) → Calls Tryz.prog 56 #[.agg (tnv t)] V fun r w' => r = .returned (.tuple #[]) ∧ LJ w0 w' A1 (k1.block e) (m + 2)) := fun V A1 g2 hV => beginBlock_any t e w0 V A1 k1 (m + 2) hV hf hs (hw.trans (g2 _).symm)
  have HI : Hid (I64 t.f.st) := hi
  have HS1 : Hid (k1.T.st t.f.st = s1) := hs1
  have j0 := cell_blk hb0 0
  have j1 := cell_blk hb0 1
  have j2 := cell_blk hb0 2
  have j3 := cell_blk hb0 3
  have j4 := cell_blk hb0 4
  have j5 := cell_blk hb0 5
  have j6 := cell_blk hb0 6
  have j7 := cell_blk hb0 7
  have j8 := cell_blk hb0 8
  have j9 := cell_blk hb0 9
  have j10 := cell_blk hb0 10
  have j11 := cell_blk hb0 11
  have j12 := cell_blk hb0 12
  have j13 := cell_blk hb0 13
  have j14 := cell_blk hb0 14
  clear h hv hw hb hi hm hH hs1 hR hbb hkd b1 hb0 hf hs
  obtain ⟨lk, ⟨ty, fl, st, da, pa, de, ex, wt, co, la⟩, p, s, wa, bk⟩ := t
  simp only at hg HR HI HS1 HSt HHp0 HCr0
  subst hg
  simp only [tnv] at hW1 HL0 HKd0 HHp0 HCr0 HBb0 j0 j1 j2 j3 j4 j5 j6 j7 j8 j9 j10 j11 j12 j13 j14 ⊢
  simp only [List.getElem?_toArray, List.getElem?_cons_succ, List.getElem?_cons_zero] at j0 j1 j2 j3 j4 j5 j6 j7 j8 j9 j10 j11 j12 j13 j14
  obtain ⟨cr, hcr⟩ : ∃ v, k1.crowded s = v := ⟨_, rfl⟩
  rw [hcr] at HR HCr0
  clear hcr
  have hSc : Hid (∀ V, Below W1.heap.size W1 V → (V.cell? ⟨b0, 0, none⟩ = some (.pointer (some ⟨A.g, 0, none⟩)) ∧ V.cell? ⟨b0, 1, none⟩ = some (.int .i64 ty) ∧ V.cell? ⟨b0, 2, none⟩ = some (.int .i64 fl) ∧ V.cell? ⟨b0, 3, none⟩ = some (.int .i64 st) ∧ V.cell? ⟨b0, 4, none⟩ = some (.string da) ∧ V.cell? ⟨b0, 5, none⟩ = some (.int .i64 pa) ∧ V.cell? ⟨b0, 6, none⟩ = some (.int .i64 de) ∧ V.cell? ⟨b0, 7, none⟩ = some (.bool ex) ∧ V.cell? ⟨b0, 8, none⟩ = some (.int .i64 wt) ∧ V.cell? ⟨b0, 9, none⟩ = some (.int .i64 co) ∧ V.cell? ⟨b0, 10, none⟩ = some (.int .i64 la) ∧ V.cell? ⟨b0, 11, none⟩ = some p ∧ V.cell? ⟨b0, 12, none⟩ = some (.bool s) ∧ V.cell? ⟨b0, 13, none⟩ = some (.pointer (some ⟨wa, 0, none⟩)) ∧ V.cell? ⟨b0, 14, none⟩ = some (.pointer (some ⟨bk, 0, none⟩))) ∧ V.cell? ⟨A.g, 0, none⟩ = some (.pointer (some ⟨A.p, 0, none⟩))) := fun V hV => by
    have h1 := (hV.block _ (heap_lt HL0.out.2)).trans HL0.out.2
    refine ⟨⟨cell_blk h1 0, cell_blk h1 1, cell_blk h1 2, cell_blk h1 3, cell_blk h1 4, cell_blk h1 5, cell_blk h1 6, cell_blk h1 7, cell_blk h1 8, cell_blk h1 9, cell_blk h1 10, cell_blk h1 11, cell_blk h1 12, cell_blk h1 13, cell_blk h1 14⟩, ?_⟩
    exact (HL0.out.1.below hV).cell0
  go_enter Tryz.func39, Tryz.ntmps39
  go_upto_region 1 with fail
  try rw [hW1]
  try rw [hb']
  clear hW1 hb' j0 j1 j2 j3 j4 j5 j6 j7 j8 j9 j10 j11 j12 j13 j14
  go_cut [3] from 6 (fun v wx => v = .int .i64 b ∧ Below W1.heap.size W1 wx)
  case first =>
    as_aux_lemma =>
      have hIW : Below W1.heap.size W1 W1.drew := (Below.refl _ _).drew
      refine wp_region_held_drew (S := (fun V => (V.cell? ⟨b0, 0, none⟩ = some (.pointer (some ⟨A.g, 0, none⟩)) ∧ V.cell? ⟨b0, 1, none⟩ = some (.int .i64 ty) ∧ V.cell? ⟨b0, 2, none⟩ = some (.int .i64 fl) ∧ V.cell? ⟨b0, 3, none⟩ = some (.int .i64 st) ∧ V.cell? ⟨b0, 4, none⟩ = some (.string da) ∧ V.cell? ⟨b0, 5, none⟩ = some (.int .i64 pa) ∧ V.cell? ⟨b0, 6, none⟩ = some (.int .i64 de) ∧ V.cell? ⟨b0, 7, none⟩ = some (.bool ex) ∧ V.cell? ⟨b0, 8, none⟩ = some (.int .i64 wt) ∧ V.cell? ⟨b0, 9, none⟩ = some (.int .i64 co) ∧ V.cell? ⟨b0, 10, none⟩ = some (.int .i64 la) ∧ V.cell? ⟨b0, 11, none⟩ = some p ∧ V.cell? ⟨b0, 12, none⟩ = some (.bool s) ∧ V.cell? ⟨b0, 13, none⟩ = some (.pointer (some ⟨wa, 0, none⟩)) ∧ V.cell? ⟨b0, 14, none⟩ = some (.pointer (some ⟨bk, 0, none⟩))) ∧ V.cell? ⟨A.g, 0, none⟩ = some (.pointer (some ⟨A.p, 0, none⟩)))) (by kernel_rfl) (hSc.out _ hIW) (fun hHeld => ?_)
      generalize hWg : World.drew _ = W2 at hIW hHeld ⊢
      clear hWg
      refine tkA (i := 0) (oi := ⟨some 6, .fieldAddr 78 (.tmp 1) 0, 0, "types.go:38", #[], none⟩) ?_
      try simp only [Act.put, lA, l0, lS]
      refine tkA (i := 1) (oi := ⟨some 7, .load 58 (.tmp 6), 58, "types.go:38", #[⟨0, .data⟩], none⟩) ?_
      try simp only [Act.put, lA, l0, lS]
      refine tkA (i := 2) (oi := ⟨some 8, .nilCheck (.tmp 7), 0, "types.go:38", #[⟨1, .data⟩], none⟩) ?_
      try simp only [Act.put, lA, l0, lS]
      refine tkA (i := 3) (oi := ⟨some 9, .fieldAddr 69 (.tmp 8) 0, 0, "types.go:38", #[⟨2, .data⟩], none⟩) ?_
      try simp only [Act.put, lA, l0, lS]
      refine tkA (i := 4) (oi := ⟨some 10, .load 64 (.tmp 9), 64, "types.go:38", #[⟨3, .data⟩], none⟩) ?_
      try simp only [Act.put, lA, l0, lS]
      refine tkA (i := 5) (oi := ⟨some 11, .fieldAddr 78 (.tmp 1) 1, 0, "types.go:38", #[], none⟩) ?_
      try simp only [Act.put, lA, l0, lS]
      refine tkA (i := 6) (oi := ⟨some 12, .fieldAddr 31 (.tmp 11) 2, 0, "types.go:38", #[⟨5, .data⟩], none⟩) ?_
      try simp only [Act.put, lA, l0, lS]
      refine tkA (i := 7) (oi := ⟨some 13, .load 2 (.tmp 12), 2, "types.go:38", #[⟨6, .data⟩], none⟩) ?_
      try simp only [Act.put, lA, l0, lS]
      refine wpAnyH_ready (rs := [8]) (by kernel_rfl) (by simp) ?_
      refine AllReadyH.cons (o := ⟨some 14, .call { callee := Callee.value (.func 52), args := #[.tmp 10, .tmp 13], argTypes := #[64, 2] }, 3, "types.go:38", #[⟨4, .data⟩, ⟨7, .data⟩], none⟩) rfl (fun K hK => ?_) AllReadyH.nil
      go_simp
      refine (HSt.out _ hIW).mono ?_
      rintro e' W2x ⟨rfl, bX⟩
      have hW2x : Below W1.heap.size W1 W2x := hIW.trans (bX.mono hIW.size)
      clear bX
      go_wp2_with fail
      refine hK.out _ _ (hSc.out _ hW2x) (fun hHeld => ?_)
      clear hK K
      try simp only [Act.put, lA, l0, lS]
      refine tkA (i := 9) (oi := ⟨some 3, .assign (.tmp 14), 3, "types.go:38", #[⟨8, .data⟩, ⟨8, .chain⟩, ⟨0, .phase⟩, ⟨1, .phase⟩, ⟨2, .phase⟩, ⟨3, .phase⟩, ⟨4, .phase⟩, ⟨5, .phase⟩, ⟨6, .phase⟩, ⟨7, .phase⟩, ⟨8, .phase⟩], none⟩) ?_
      try simp only [Act.put, lA, l0, lS]
      refine wpAnyH_done (by kernel_rfl) ?_ _
      have HB2 : Hid (Below W1.heap.size W1 W2x) := hW2x
      clear hHeld hW2x
      go_wp2_with fail
      go_meet
      case rel => exact ⟨rfl, HB2.out⟩
  case rest =>
    obtain ⟨rfl, hbw⟩ := hcut
    have HL1 : Hid (LJ w0 wc A k m ∧ wc.heap[b0]? = some (.cells #[.pointer (some ⟨A.g, 0, none⟩), .int .i64 ty, .int .i64 fl, .int .i64 st, .string da, .int .i64 pa, .int .i64 de, .bool ex, .int .i64 wt, .int .i64 co, .int .i64 la, p, .bool s, .pointer (some ⟨wa, 0, none⟩), .pointer (some ⟨bk, 0, none⟩)] 78 (0, 0))) := ⟨HL0.out.1.below hbw, (hbw.block _ (heap_lt HL0.out.2)).trans HL0.out.2⟩
    clear hbw HL0 hSc HSt
    generalize wc = V1 at HL1 ⊢
    have hSb : Hid (∀ V : World, V.heap[b0]? = some (.cells #[.pointer (some ⟨A.g, 0, none⟩), .int .i64 ty, .int .i64 fl, .int .i64 st, .string da, .int .i64 pa, .int .i64 de, .bool ex, .int .i64 wt, .int .i64 co, .int .i64 la, p, .bool s, .pointer (some ⟨wa, 0, none⟩), .pointer (some ⟨bk, 0, none⟩)] 78 (0, 0)) → V.cell? ⟨b0, 0, none⟩ = some (.pointer (some ⟨A.g, 0, none⟩)) ∧ V.cell? ⟨b0, 1, none⟩ = some (.int .i64 ty) ∧ V.cell? ⟨b0, 2, none⟩ = some (.int .i64 fl) ∧ V.cell? ⟨b0, 3, none⟩ = some (.int .i64 st) ∧ V.cell? ⟨b0, 4, none⟩ = some (.string da) ∧ V.cell? ⟨b0, 5, none⟩ = some (.int .i64 pa) ∧ V.cell? ⟨b0, 6, none⟩ = some (.int .i64 de) ∧ V.cell? ⟨b0, 7, none⟩ = some (.bool ex) ∧ V.cell? ⟨b0, 8, none⟩ = some (.int .i64 wt) ∧ V.cell? ⟨b0, 9, none⟩ = some (.int .i64 co) ∧ V.cell? ⟨b0, 10, none⟩ = some (.int .i64 la) ∧ V.cell? ⟨b0, 11, none⟩ = some p ∧ V.cell? ⟨b0, 12, none⟩ = some (.bool s) ∧ V.cell? ⟨b0, 13, none⟩ = some (.pointer (some ⟨wa, 0, none⟩)) ∧ V.cell? ⟨b0, 14, none⟩ = some (.pointer (some ⟨bk, 0, none⟩))) := fun V h1 => ⟨cell_blk h1 0, cell_blk h1 1, cell_blk h1 2, cell_blk h1 3, cell_blk h1 4, cell_blk h1 5, cell_blk h1 6, cell_blk h1 7, cell_blk h1 8, cell_blk h1 9, cell_blk h1 10, cell_blk h1 11, cell_blk h1 12, cell_blk h1 13, cell_blk h1 14⟩
    have HKd : Hid (∀ V, Below V1.heap.size V1 V → Calls Tryz.prog 53 #[.agg #[.pointer (some ⟨A.g, 0, none⟩), .int .i64 ty, .int .i64 fl, .int .i64 st, .string da, .int .i64 pa, .int .i64 de, .bool ex, .int .i64 wt, .int .i64 co, .int .i64 la, p, .bool s, .pointer (some ⟨wa, 0, none⟩), .pointer (some ⟨bk, 0, none⟩)], .int .i64 1, .int .i64 2] V fun e w' => e = .returned (.int .i64 kd) ∧ Below V.heap.size V w') := fun V _ => HKd0.out V
    have HHp : Hid (∀ V, Below V1.heap.size V1 V → Calls Tryz.prog 47 #[.agg #[.pointer (some ⟨A.g, 0, none⟩), .int .i64 ty, .int .i64 fl, .int .i64 st, .string da, .int .i64 pa, .int .i64 de, .bool ex, .int .i64 wt, .int .i64 co, .int .i64 la, p, .bool s, .pointer (some ⟨wa, 0, none⟩), .pointer (some ⟨bk, 0, none⟩)], .int .i64 st, .int .i64 kd] V fun e w' => e = .returned (.tuple #[.int .i64 c1, .bool i1]) ∧ ∃ A', A'.g = A.g ∧ (∀ u, (A'.w u).g = (A.w u).g) ∧ LJ w0 w' A' k1 (m + 2) ∧ KpO V w') := fun V hV => HHp0.out V (HL1.out.1.below hV)
    go_upto_region 2 with fail
    go_cut [4, 5] from 6 (fun v v' wx => v = .int .i64 c1 ∧ v' = .bool i1 ∧ ∃ A1 : LA, A1.g = A.g ∧ (∀ u, (A1.w u).g = (A.w u).g) ∧ LJ w0 wx A1 k1 (m + 2) ∧ wx.heap[b0]? = some (.cells #[.pointer (some ⟨A.g, 0, none⟩), .int .i64 ty, .int .i64 fl, .int .i64 st, .string da, .int .i64 pa, .int .i64 de, .bool ex, .int .i64 wt, .int .i64 co, .int .i64 la, p, .bool s, .pointer (some ⟨wa, 0, none⟩), .pointer (some ⟨bk, 0, none⟩)] 78 (0, 0)))
    case first =>
      as_aux_lemma =>
        have hIW : Below V1.heap.size V1 V1.drew := (Below.refl _ _).drew
        refine wp_region_held_drew (S := (fun V => V.cell? ⟨b0, 0, none⟩ = some (.pointer (some ⟨A.g, 0, none⟩)) ∧ V.cell? ⟨b0, 1, none⟩ = some (.int .i64 ty) ∧ V.cell? ⟨b0, 2, none⟩ = some (.int .i64 fl) ∧ V.cell? ⟨b0, 3, none⟩ = some (.int .i64 st) ∧ V.cell? ⟨b0, 4, none⟩ = some (.string da) ∧ V.cell? ⟨b0, 5, none⟩ = some (.int .i64 pa) ∧ V.cell? ⟨b0, 6, none⟩ = some (.int .i64 de) ∧ V.cell? ⟨b0, 7, none⟩ = some (.bool ex) ∧ V.cell? ⟨b0, 8, none⟩ = some (.int .i64 wt) ∧ V.cell? ⟨b0, 9, none⟩ = some (.int .i64 co) ∧ V.cell? ⟨b0, 10, none⟩ = some (.int .i64 la) ∧ V.cell? ⟨b0, 11, none⟩ = some p ∧ V.cell? ⟨b0, 12, none⟩ = some (.bool s) ∧ V.cell? ⟨b0, 13, none⟩ = some (.pointer (some ⟨wa, 0, none⟩)) ∧ V.cell? ⟨b0, 14, none⟩ = some (.pointer (some ⟨bk, 0, none⟩)))) (by kernel_rfl) (hSb.out _ ((hIW.block _ (heap_lt HL1.out.2)).trans HL1.out.2)) (fun hHeld => ?_)
        generalize hWg : World.drew _ = W2 at hIW hHeld ⊢
        clear hWg
        refine tkA (i := 0) (oi := ⟨some 16, .load 78 (.tmp 1), 78, "types.go:39", #[], none⟩) ?_
        try simp only [Act.put, lA, l0, lS]
        refine tkA (i := 1) (oi := ⟨some 17, .fieldAddr 78 (.tmp 1) 1, 0, "types.go:39", #[], none⟩) ?_
        try simp only [Act.put, lA, l0, lS]
        refine tkA (i := 2) (oi := ⟨some 18, .fieldAddr 31 (.tmp 17) 2, 0, "types.go:39", #[⟨1, .data⟩], none⟩) ?_
        try simp only [Act.put, lA, l0, lS]
        refine tkA (i := 3) (oi := ⟨some 19, .load 2 (.tmp 18), 2, "types.go:39", #[⟨2, .data⟩], none⟩) ?_
        try simp only [Act.put, lA, l0, lS]
        refine tkA (i := 4) (oi := ⟨some 20, .load 78 (.tmp 1), 78, "types.go:39", #[], none⟩) ?_
        try simp only [Act.put, lA, l0, lS]
        refine wpAnyH_ready (rs := [5]) (by kernel_rfl) (by simp) ?_
        refine AllReadyH.cons (o := ⟨some 21, .call { callee := Callee.value (.func 53), args := #[.tmp 20, .const (.int IntKind.i64 1), .const (.int IntKind.i64 2)], argTypes := #[78, 3, 3] }, 3, "types.go:39", #[⟨4, .data⟩], none⟩) rfl (fun K hK => ?_) AllReadyH.nil
        go_simp
        refine (HKd.out _ hIW).mono ?_
        rintro e' W2x ⟨rfl, bX⟩
        have hW2x : Below V1.heap.size V1 W2x := hIW.trans (bX.mono hIW.size)
        clear bX
        go_wp2_with fail
        refine hK.out _ _ (hSb.out _ ((hW2x.block _ (heap_lt HL1.out.2)).trans HL1.out.2)) (fun hHeld => ?_)
        clear hK K
        try simp only [Act.put, lA, l0, lS]
        refine wpAnyH_ready (rs := [6]) (by kernel_rfl) (by simp) ?_
        refine AllReadyH.cons (o := ⟨some 22, .call { callee := Callee.value (.func 47), args := #[.tmp 16, .tmp 19, .tmp 21], argTypes := #[78, 2, 3] }, 97, "types.go:39", #[⟨0, .data⟩, ⟨3, .data⟩, ⟨5, .data⟩, ⟨5, .chain⟩], none⟩) rfl (fun K hK => ?_) AllReadyH.nil
        go_simp
        refine (HHp.out _ hW2x).mono ?_
        rintro e' W2xx ⟨rfl, A1, a1, a2, a3, a4⟩
        have hbz := a4 _ _ _ _ ((hW2x.block _ (heap_lt HL1.out.2)).trans HL1.out.2) ot78
        have HE : Hid (∃ A1 : LA, A1.g = A.g ∧ (∀ u, (A1.w u).g = (A.w u).g) ∧ LJ w0 W2xx A1 k1 (m + 2) ∧ W2xx.heap[b0]? = some (.cells #[.pointer (some ⟨A.g, 0, none⟩), .int .i64 ty, .int .i64 fl, .int .i64 st, .string da, .int .i64 pa, .int .i64 de, .bool ex, .int .i64 wt, .int .i64 co, .int .i64 la, p, .bool s, .pointer (some ⟨wa, 0, none⟩), .pointer (some ⟨bk, 0, none⟩)] 78 (0, 0))) := ⟨A1, a1, a2, a3, hbz⟩
        go_wp2_with fail
        refine hK.out _ _ (hSb.out _ hbz) (fun hHeld => ?_)
        clear hK K a1 a2 a3 a4 hbz
        try simp only [Act.put, lA, l0, lS]
        refine tkA (i := 7) (oi := ⟨some 15, .move (.tmp 22), 97, "types.go:39", #[⟨6, .data⟩], none⟩) ?_
        try simp only [Act.put, lA, l0, lS]
        refine tkA (i := 8) (oi := ⟨some 23, .extract (.tmp 15) 0, 2, "types.go:39", #[⟨7, .data⟩], none⟩) ?_
        try simp only [Act.put, lA, l0, lS]
        refine tkA (i := 9) (oi := ⟨some 24, .extract (.tmp 15) 1, 4, "types.go:39", #[⟨7, .data⟩, { on := 10, ground := Ground.gcOnly Departure.lateStores }], none⟩) ?_
        try simp only [Act.put, lA, l0, lS]
        refine tkA (i := 10) (oi := ⟨some 4, .assign (.tmp 23), 2, "types.go:39", #[⟨8, .data⟩, ⟨6, .chain⟩, ⟨0, .phase⟩, ⟨1, .phase⟩, ⟨2, .phase⟩, ⟨3, .phase⟩, ⟨4, .phase⟩, ⟨5, .phase⟩, ⟨6, .phase⟩, ⟨7, .phase⟩, ⟨8, .phase⟩, { on := 9, ground := Ground.textOnly Departure.lateStores }], none⟩) ?_
        try simp only [Act.put, lA, l0, lS]
        refine tkA (i := 11) (oi := ⟨some 5, .assign (.tmp 24), 4, "types.go:39", #[⟨9, .data⟩, ⟨10, .chain⟩, ⟨0, .phase⟩, ⟨1, .phase⟩, ⟨2, .phase⟩, ⟨3, .phase⟩, ⟨4, .phase⟩, ⟨5, .phase⟩, ⟨6, .phase⟩, ⟨7, .phase⟩, ⟨8, .phase⟩, ⟨9, .phase⟩, ⟨10, .phase⟩], none⟩) ?_
        try simp only [Act.put, lA, l0, lS]
        refine wpAnyH_done (by kernel_rfl) ?_ _
        clear hHeld
        go_wp2_with fail
        go_meet
        case rel => exact ⟨rfl, rfl, HE.out⟩
    case rest =>
      obtain ⟨rfl, rfl, A1, a1, a2, a3, a4⟩ := hcut
      have HL2 : Hid (LJ w0 wc A1 k1 (m + 2) ∧ wc.heap[b0]? = some (.cells #[.pointer (some ⟨A.g, 0, none⟩), .int .i64 ty, .int .i64 fl, .int .i64 st, .string da, .int .i64 pa, .int .i64 de, .bool ex, .int .i64 wt, .int .i64 co, .int .i64 la, p, .bool s, .pointer (some ⟨wa, 0, none⟩), .pointer (some ⟨bk, 0, none⟩)] 78 (0, 0))) := ⟨a3, a4⟩
      have HA : Hid (A1.g = A.g ∧ ∀ u, (A1.w u).g = (A.w u).g) := ⟨a1, a2⟩
      clear a1 a2 a3 a4 HL1 HKd HHp hSb
      generalize wc = V2 at HL2 ⊢
      have hSc : Hid (∀ V, Below V2.heap.size V2 V → (V.cell? ⟨b0, 0, none⟩ = some (.pointer (some ⟨A.g, 0, none⟩)) ∧ V.cell? ⟨b0, 1, none⟩ = some (.int .i64 ty) ∧ V.cell? ⟨b0, 2, none⟩ = some (.int .i64 fl) ∧ V.cell? ⟨b0, 3, none⟩ = some (.int .i64 st) ∧ V.cell? ⟨b0, 4, none⟩ = some (.string da) ∧ V.cell? ⟨b0, 5, none⟩ = some (.int .i64 pa) ∧ V.cell? ⟨b0, 6, none⟩ = some (.int .i64 de) ∧ V.cell? ⟨b0, 7, none⟩ = some (.bool ex) ∧ V.cell? ⟨b0, 8, none⟩ = some (.int .i64 wt) ∧ V.cell? ⟨b0, 9, none⟩ = some (.int .i64 co) ∧ V.cell? ⟨b0, 10, none⟩ = some (.int .i64 la) ∧ V.cell? ⟨b0, 11, none⟩ = some p ∧ V.cell? ⟨b0, 12, none⟩ = some (.bool s) ∧ V.cell? ⟨b0, 13, none⟩ = some (.pointer (some ⟨wa, 0, none⟩)) ∧ V.cell? ⟨b0, 14, none⟩ = some (.pointer (some ⟨bk, 0, none⟩))) ∧ V.cell? ⟨A.g, 0, none⟩ = some (.pointer (some ⟨A1.p, 0, none⟩))) := fun V hV => by
        have h1 := (hV.block _ (heap_lt HL2.out.2)).trans HL2.out.2
        refine ⟨⟨cell_blk h1 0, cell_blk h1 1, cell_blk h1 2, cell_blk h1 3, cell_blk h1 4, cell_blk h1 5, cell_blk h1 6, cell_blk h1 7, cell_blk h1 8, cell_blk h1 9, cell_blk h1 10, cell_blk h1 11, cell_blk h1 12, cell_blk h1 13, cell_blk h1 14⟩, ?_⟩
        rw [← HA.out.1]; exact (HL2.out.1.below hV).cell0
      have HS2 : Hid (∀ V, Below V2.heap.size V2 V → Calls Tryz.prog 52 #[.pointer (some ⟨A1.p, 0, none⟩), .int .i64 st] V fun e w' => e = .returned (.int .i64 s1) ∧ Below V.heap.size V w') := fun V hV => by
        have := state_any V A1.p A1.mb k1.T st (HL2.out.1.below hV).ti HI.out
        rw [HS1.out] at this
        exact this
      have HCr : Hid (∀ V, Below V2.heap.size V2 V → Calls Tryz.prog 55 #[.agg #[.pointer (some ⟨A.g, 0, none⟩), .int .i64 ty, .int .i64 fl, .int .i64 st, .string da, .int .i64 pa, .int .i64 de, .bool ex, .int .i64 wt, .int .i64 co, .int .i64 la, p, .bool s, .pointer (some ⟨wa, 0, none⟩), .pointer (some ⟨bk, 0, none⟩)]] V fun e w' => e = .returned (.bool cr) ∧ Below V.heap.size V w') := fun V hV => HCr0.out V A1 HA.out.1 HA.out.2 (HL2.out.1.below hV)
      by_cases hc : c1 = 0
      · subst hc
        have y0 : V2.cell? ⟨b0, 0, none⟩ = some (.pointer (some ⟨A.g, 0, none⟩)) := cell_blk HL2.out.2 0
        have y12 : V2.cell? ⟨b0, 12, none⟩ = some (.bool s) := cell_blk HL2.out.2 12
        have yg : V2.cell? ⟨A.g, 2, none⟩ = some (.pointer (some ⟨(A1.w false).g, 0, none⟩)) := by rw [← HA.out.1]; exact cell_blk HL2.out.1.blk 2
        have yw : V2.cell? ⟨(A1.w false).g, 1, none⟩ = some (.bool (k1.wy false).ga) := (HL2.out.1.wi false).cells.2.1
        obtain ⟨ga, hga⟩ : ∃ v, (k1.wy false).ga = v := ⟨_, rfl⟩
        rw [hga] at yw HR
        clear hga
        cases s
        · have HX : Hid (R = if (!ct b && ct s1 && cr) = true then (k1, 7) else (k1.block e, 0)) := by show _ = _; rw [HR.out, if_neg (by simp), if_neg (by first | (simp; done) | (simp [zb]; done))]
          go_upto_region 7 with fail
          clear y0 y12 yg yw
          cases x1 : ct b
          · cases x2 : ct s1
            · as_aux_lemma =>
                have hIW : Below V2.heap.size V2 V2.drew := (Below.refl _ _).drew
                refine wp_region_held_drew (S := (fun V => (V.cell? ⟨b0, 0, none⟩ = some (.pointer (some ⟨A.g, 0, none⟩)) ∧ V.cell? ⟨b0, 1, none⟩ = some (.int .i64 ty) ∧ V.cell? ⟨b0, 2, none⟩ = some (.int .i64 fl) ∧ V.cell? ⟨b0, 3, none⟩ = some (.int .i64 st) ∧ V.cell? ⟨b0, 4, none⟩ = some (.string da) ∧ V.cell? ⟨b0, 5, none⟩ = some (.int .i64 pa) ∧ V.cell? ⟨b0, 6, none⟩ = some (.int .i64 de) ∧ V.cell? ⟨b0, 7, none⟩ = some (.bool ex) ∧ V.cell? ⟨b0, 8, none⟩ = some (.int .i64 wt) ∧ V.cell? ⟨b0, 9, none⟩ = some (.int .i64 co) ∧ V.cell? ⟨b0, 10, none⟩ = some (.int .i64 la) ∧ V.cell? ⟨b0, 11, none⟩ = some p ∧ V.cell? ⟨b0, 12, none⟩ = some (.bool false) ∧ V.cell? ⟨b0, 13, none⟩ = some (.pointer (some ⟨wa, 0, none⟩)) ∧ V.cell? ⟨b0, 14, none⟩ = some (.pointer (some ⟨bk, 0, none⟩))) ∧ V.cell? ⟨A.g, 0, none⟩ = some (.pointer (some ⟨A1.p, 0, none⟩)))) (by kernel_rfl) (hSc.out _ hIW) (fun hHeld => ?_)
                generalize hWg : World.drew _ = W2 at hIW hHeld ⊢
                clear hWg
                refine tkA (i := 0) (oi := ⟨some 47, .move (.tmp 3), 3, "types.go:45", #[], none⟩) ?_
                try simp only [Act.put, lA, l0, lS]
                refine wpAnyH_ready (rs := [1]) (by kernel_rfl) (by simp) ?_
                refine AllReadyH.cons (o := ⟨some 48, .call { callee := Callee.value (.func 54), args := #[.tmp 47], argTypes := #[3] }, 4, "types.go:45", #[⟨0, .data⟩], none⟩) rfl (fun K hK => ?_) AllReadyH.nil
                go_simp
                refine (counts_any b _).mono ?_
                rintro e' W2x ⟨rfl, rfl⟩
                have hW2x := hIW
                go_wp2_with fail
                refine hK.out _ _ (hSc.out _ hW2x) (fun hHeld => ?_)
                clear hK K
                try simp only [Act.put, lA, l0, lS]
                refine tkA (i := 2) (oi := ⟨some 49, .unOp .not 4 (.tmp 48), 4, "types.go:45", #[⟨1, .data⟩], none⟩) ?_
                try simp only [Act.put, lA, l0, lS]
                refine tkA (i := 3) (oi := ⟨some 50, .move (.tmp 49), 4, "types.go:45", #[⟨2, .data⟩, ⟨1, .chain⟩], none⟩) ?_
                try simp only [Act.put, lA, l0, lS]
                refine tkA (i := 4) (oi := ⟨some 51, .fieldAddr 78 (.tmp 1) 0, 0, "types.go:45", #[⟨3, .guard⟩], some (3, true)⟩) ?_
                try simp only [Act.put, lA, l0, lS]
                refine tkA (i := 5) (oi := ⟨some 52, .load 58 (.tmp 51), 58, "types.go:45", #[⟨4, .data⟩, ⟨3, .guard⟩], some (3, true)⟩) ?_
                try simp only [Act.put, lA, l0, lS]
                refine tkA (i := 6) (oi := ⟨some 53, .nilCheck (.tmp 52), 0, "types.go:45", #[⟨5, .data⟩, ⟨3, .guard⟩], some (3, true)⟩) ?_
                try simp only [Act.put, lA, l0, lS]
                refine tkA (i := 7) (oi := ⟨some 54, .fieldAddr 69 (.tmp 53) 0, 0, "types.go:45", #[⟨6, .data⟩, ⟨3, .guard⟩], some (3, true)⟩) ?_
                try simp only [Act.put, lA, l0, lS]
                refine tkA (i := 8) (oi := ⟨some 55, .load 64 (.tmp 54), 64, "types.go:45", #[⟨7, .data⟩, ⟨3, .guard⟩], some (3, true)⟩) ?_
                try simp only [Act.put, lA, l0, lS]
                refine tkA (i := 9) (oi := ⟨some 56, .fieldAddr 78 (.tmp 1) 1, 0, "types.go:45", #[⟨3, .guard⟩], some (3, true)⟩) ?_
                try simp only [Act.put, lA, l0, lS]
                refine tkA (i := 10) (oi := ⟨some 57, .fieldAddr 31 (.tmp 56) 2, 0, "types.go:45", #[⟨9, .data⟩, ⟨3, .guard⟩], some (3, true)⟩) ?_
                try simp only [Act.put, lA, l0, lS]
                refine tkA (i := 11) (oi := ⟨some 58, .load 2 (.tmp 57), 2, "types.go:45", #[⟨10, .data⟩, ⟨3, .guard⟩], some (3, true)⟩) ?_
                try simp only [Act.put, lA, l0, lS]
                refine wpAnyH_ready (rs := [12]) (by kernel_rfl) (by simp) ?_
                refine AllReadyH.cons (o := ⟨some 59, .call { callee := Callee.value (.func 52), args := #[.tmp 55, .tmp 58], argTypes := #[64, 2] }, 3, "types.go:45", #[⟨8, .data⟩, ⟨11, .data⟩, ⟨3, .chain⟩, ⟨3, .guard⟩], some (3, true)⟩) rfl (fun K hK => ?_) AllReadyH.nil
                refine ite_take (by rfl) ?_
                go_simp
                refine (HS2.out _ hW2x).mono ?_
                rintro e' W2xx ⟨rfl, bX⟩
                have hW2xx : Below V2.heap.size V2 W2xx := hW2x.trans (bX.mono hW2x.size)
                clear bX
                go_wp2_with fail
                refine hK.out _ _ (hSc.out _ hW2xx) (fun hHeld => ?_)
                clear hK K
                try simp only [Act.put, lA, l0, lS]
                refine wpAnyH_ready (rs := [13]) (by kernel_rfl) (by simp) ?_
                refine AllReadyH.cons (o := ⟨some 60, .call { callee := Callee.value (.func 54), args := #[.tmp 59], argTypes := #[3] }, 4, "types.go:45", #[⟨12, .data⟩, ⟨12, .chain⟩, ⟨3, .guard⟩], some (3, true)⟩) rfl (fun K hK => ?_) AllReadyH.nil
                refine ite_take (by rfl) ?_
                go_simp
                refine (counts_any s1 _).mono ?_
                rintro e' W2xxx ⟨rfl, rfl⟩
                have hW2xxx := hW2xx
                go_wp2_with fail
                refine hK.out _ _ (hSc.out _ hW2xxx) (fun hHeld => ?_)
                clear hK K
                try simp only [Act.put, lA, l0, lS]
                refine tkA (i := 14) (oi := ⟨some 61, .pick (.tmp 50) (.tmp 60) (.const (.bool false)), 4, "types.go:45", #[⟨3, .data⟩, ⟨13, .data⟩], none⟩) ?_
                try simp only [Act.put, lA, l0, lS]
                refine tkA (i := 15) (oi := ⟨some 62, .move (.tmp 61), 4, "types.go:45", #[⟨14, .data⟩, ⟨13, .chain⟩], none⟩) ?_
                try simp only [Act.put, lA, l0, lS]
                refine wpAnyH_take (i := 16) (oi := ⟨some 63, .load 78 (.tmp 1), 78, "types.go:45", #[⟨15, .guard⟩], some (15, true)⟩) (v := undef) rfl (by kernel_rfl) (by kernel_rfl) (by kernel_rfl) (fun _ _ _ h => h) (Or.inr ⟨by rfl, rfl⟩) (by assumption) ?_
                try simp only [Act.put, lA, l0, lS]
                refine wpAnyH_take (i := 17) (oi := ⟨some 64, .call { callee := Callee.value (.func 55), args := #[.tmp 63], argTypes := #[78] }, 4, "types.go:45", #[⟨16, .data⟩, ⟨15, .chain⟩, ⟨15, .guard⟩], some (15, true)⟩) (v := undef) rfl (by kernel_rfl) (by kernel_rfl) (by kernel_rfl) (fun _ _ _ h => h) (Or.inr ⟨by rfl, rfl⟩) (by assumption) ?_
                try simp only [Act.put, lA, l0, lS]
                refine tkA (i := 18) (oi := ⟨some 65, .pick (.tmp 62) (.tmp 64) (.const (.bool false)), 4, "types.go:45", #[⟨15, .data⟩, ⟨17, .data⟩], none⟩) ?_
                try simp only [Act.put, lA, l0, lS]
                refine tkA (i := 19) (oi := ⟨some 46, .assign (.tmp 65), 4, "types.go:45", #[⟨18, .data⟩, ⟨17, .chain⟩], none⟩) ?_
                try simp only [Act.put, lA, l0, lS]
                refine wpAnyH_done (by kernel_rfl) ?_ _
                have HB3 : Hid (Below V2.heap.size V2 W2xxx) := hW2xxx
                clear hHeld hW2xxx
                have HQ : Hid (R = (k1.block e, 0)) := by show _ = _; rw [HX.out, if_neg (by first | (simp [x1]; done) | (simp [x1, x2]; done))]
                obtain ⟨⟨j0, j1, j2, j3, j4, j5, j6, j7, j8, j9, j10, j11, j12, j13, j14⟩, _⟩ := hSc.out W2xxx HB3.out
                go_wp2_with fail
                go_at_call 56
                refine (HBb0.out _ A1 HA.out.2 (HL2.out.1.below HB3.out)).mono ?_
                rintro e' V9 ⟨rfl, h9⟩
                have HL9 : Hid (LJ w0 V9 A1 (k1.block e) (m + 2)) := h9
                clear h9
                go_wp2_with fail
                go_ret
                exact ⟨by rw [HQ.out]; rfl, A1, HA.out.1, by first | exact HA.out.2 | exact ⟨HA.out.2 _, HA.out.2 _⟩, by rw [HQ.out]; exact HL9.out.more (by omega)⟩
            · as_aux_lemma =>
                have hIW : Below V2.heap.size V2 V2.drew := (Below.refl _ _).drew
                refine wp_region_held_drew (S := (fun V => (V.cell? ⟨b0, 0, none⟩ = some (.pointer (some ⟨A.g, 0, none⟩)) ∧ V.cell? ⟨b0, 1, none⟩ = some (.int .i64 ty) ∧ V.cell? ⟨b0, 2, none⟩ = some (.int .i64 fl) ∧ V.cell? ⟨b0, 3, none⟩ = some (.int .i64 st) ∧ V.cell? ⟨b0, 4, none⟩ = some (.string da) ∧ V.cell? ⟨b0, 5, none⟩ = some (.int .i64 pa) ∧ V.cell? ⟨b0, 6, none⟩ = some (.int .i64 de) ∧ V.cell? ⟨b0, 7, none⟩ = some (.bool ex) ∧ V.cell? ⟨b0, 8, none⟩ = some (.int .i64 wt) ∧ V.cell? ⟨b0, 9, none⟩ = some (.int .i64 co) ∧ V.cell? ⟨b0, 10, none⟩ = some (.int .i64 la) ∧ V.cell? ⟨b0, 11, none⟩ = some p ∧ V.cell? ⟨b0, 12, none⟩ = some (.bool false) ∧ V.cell? ⟨b0, 13, none⟩ = some (.pointer (some ⟨wa, 0, none⟩)) ∧ V.cell? ⟨b0, 14, none⟩ = some (.pointer (some ⟨bk, 0, none⟩))) ∧ V.cell? ⟨A.g, 0, none⟩ = some (.pointer (some ⟨A1.p, 0, none⟩)))) (by kernel_rfl) (hSc.out _ hIW) (fun hHeld => ?_)
                generalize hWg : World.drew _ = W2 at hIW hHeld ⊢
                clear hWg
                refine tkA (i := 0) (oi := ⟨some 47, .move (.tmp 3), 3, "types.go:45", #[], none⟩) ?_
                try simp only [Act.put, lA, l0, lS]
                refine wpAnyH_ready (rs := [1]) (by kernel_rfl) (by simp) ?_
                refine AllReadyH.cons (o := ⟨some 48, .call { callee := Callee.value (.func 54), args := #[.tmp 47], argTypes := #[3] }, 4, "types.go:45", #[⟨0, .data⟩], none⟩) rfl (fun K hK => ?_) AllReadyH.nil
                go_simp
                refine (counts_any b _).mono ?_
                rintro e' W2x ⟨rfl, rfl⟩
                have hW2x := hIW
                go_wp2_with fail
                refine hK.out _ _ (hSc.out _ hW2x) (fun hHeld => ?_)
                clear hK K
                try simp only [Act.put, lA, l0, lS]
                refine tkA (i := 2) (oi := ⟨some 49, .unOp .not 4 (.tmp 48), 4, "types.go:45", #[⟨1, .data⟩], none⟩) ?_
                try simp only [Act.put, lA, l0, lS]
                refine tkA (i := 3) (oi := ⟨some 50, .move (.tmp 49), 4, "types.go:45", #[⟨2, .data⟩, ⟨1, .chain⟩], none⟩) ?_
                try simp only [Act.put, lA, l0, lS]
                refine tkA (i := 4) (oi := ⟨some 51, .fieldAddr 78 (.tmp 1) 0, 0, "types.go:45", #[⟨3, .guard⟩], some (3, true)⟩) ?_
                try simp only [Act.put, lA, l0, lS]
                refine tkA (i := 5) (oi := ⟨some 52, .load 58 (.tmp 51), 58, "types.go:45", #[⟨4, .data⟩, ⟨3, .guard⟩], some (3, true)⟩) ?_
                try simp only [Act.put, lA, l0, lS]
                refine tkA (i := 6) (oi := ⟨some 53, .nilCheck (.tmp 52), 0, "types.go:45", #[⟨5, .data⟩, ⟨3, .guard⟩], some (3, true)⟩) ?_
                try simp only [Act.put, lA, l0, lS]
                refine tkA (i := 7) (oi := ⟨some 54, .fieldAddr 69 (.tmp 53) 0, 0, "types.go:45", #[⟨6, .data⟩, ⟨3, .guard⟩], some (3, true)⟩) ?_
                try simp only [Act.put, lA, l0, lS]
                refine tkA (i := 8) (oi := ⟨some 55, .load 64 (.tmp 54), 64, "types.go:45", #[⟨7, .data⟩, ⟨3, .guard⟩], some (3, true)⟩) ?_
                try simp only [Act.put, lA, l0, lS]
                refine tkA (i := 9) (oi := ⟨some 56, .fieldAddr 78 (.tmp 1) 1, 0, "types.go:45", #[⟨3, .guard⟩], some (3, true)⟩) ?_
                try simp only [Act.put, lA, l0, lS]
                refine tkA (i := 10) (oi := ⟨some 57, .fieldAddr 31 (.tmp 56) 2, 0, "types.go:45", #[⟨9, .data⟩, ⟨3, .guard⟩], some (3, true)⟩) ?_
                try simp only [Act.put, lA, l0, lS]
                refine tkA (i := 11) (oi := ⟨some 58, .load 2 (.tmp 57), 2, "types.go:45", #[⟨10, .data⟩, ⟨3, .guard⟩], some (3, true)⟩) ?_
                try simp only [Act.put, lA, l0, lS]
                refine wpAnyH_ready (rs := [12]) (by kernel_rfl) (by simp) ?_
                refine AllReadyH.cons (o := ⟨some 59, .call { callee := Callee.value (.func 52), args := #[.tmp 55, .tmp 58], argTypes := #[64, 2] }, 3, "types.go:45", #[⟨8, .data⟩, ⟨11, .data⟩, ⟨3, .chain⟩, ⟨3, .guard⟩], some (3, true)⟩) rfl (fun K hK => ?_) AllReadyH.nil
                refine ite_take (by rfl) ?_
                go_simp
                refine (HS2.out _ hW2x).mono ?_
                rintro e' W2xx ⟨rfl, bX⟩
                have hW2xx : Below V2.heap.size V2 W2xx := hW2x.trans (bX.mono hW2x.size)
                clear bX
                go_wp2_with fail
                refine hK.out _ _ (hSc.out _ hW2xx) (fun hHeld => ?_)
                clear hK K
                try simp only [Act.put, lA, l0, lS]
                refine wpAnyH_ready (rs := [13]) (by kernel_rfl) (by simp) ?_
                refine AllReadyH.cons (o := ⟨some 60, .call { callee := Callee.value (.func 54), args := #[.tmp 59], argTypes := #[3] }, 4, "types.go:45", #[⟨12, .data⟩, ⟨12, .chain⟩, ⟨3, .guard⟩], some (3, true)⟩) rfl (fun K hK => ?_) AllReadyH.nil
                refine ite_take (by rfl) ?_
                go_simp
                refine (counts_any s1 _).mono ?_
                rintro e' W2xxx ⟨rfl, rfl⟩
                have hW2xxx := hW2xx
                go_wp2_with fail
                refine hK.out _ _ (hSc.out _ hW2xxx) (fun hHeld => ?_)
                clear hK K
                try simp only [Act.put, lA, l0, lS]
                refine tkA (i := 14) (oi := ⟨some 61, .pick (.tmp 50) (.tmp 60) (.const (.bool false)), 4, "types.go:45", #[⟨3, .data⟩, ⟨13, .data⟩], none⟩) ?_
                try simp only [Act.put, lA, l0, lS]
                refine tkA (i := 15) (oi := ⟨some 62, .move (.tmp 61), 4, "types.go:45", #[⟨14, .data⟩, ⟨13, .chain⟩], none⟩) ?_
                try simp only [Act.put, lA, l0, lS]
                refine tkA (i := 16) (oi := ⟨some 63, .load 78 (.tmp 1), 78, "types.go:45", #[⟨15, .guard⟩], some (15, true)⟩) ?_
                try simp only [Act.put, lA, l0, lS]
                refine wpAnyH_ready (rs := [17]) (by kernel_rfl) (by simp) ?_
                refine AllReadyH.cons (o := ⟨some 64, .call { callee := Callee.value (.func 55), args := #[.tmp 63], argTypes := #[78] }, 4, "types.go:45", #[⟨16, .data⟩, ⟨15, .chain⟩, ⟨15, .guard⟩], some (15, true)⟩) rfl (fun K hK => ?_) AllReadyH.nil
                refine ite_take (by rfl) ?_
                go_simp
                refine (HCr.out _ hW2xxx).mono ?_
                rintro e' W2xxxx ⟨rfl, bX⟩
                have hW2xxxx : Below V2.heap.size V2 W2xxxx := hW2xxx.trans (bX.mono hW2xxx.size)
                clear bX
                go_wp2_with fail
                refine hK.out _ _ (hSc.out _ hW2xxxx) (fun hHeld => ?_)
                clear hK K
                try simp only [Act.put, lA, l0, lS]
                refine tkA (i := 18) (oi := ⟨some 65, .pick (.tmp 62) (.tmp 64) (.const (.bool false)), 4, "types.go:45", #[⟨15, .data⟩, ⟨17, .data⟩], none⟩) ?_
                try simp only [Act.put, lA, l0, lS]
                refine tkA (i := 19) (oi := ⟨some 46, .assign (.tmp 65), 4, "types.go:45", #[⟨18, .data⟩, ⟨17, .chain⟩], none⟩) ?_
                try simp only [Act.put, lA, l0, lS]
                refine wpAnyH_done (by kernel_rfl) ?_ _
                have HB3 : Hid (Below V2.heap.size V2 W2xxxx) := hW2xxxx
                clear hHeld hW2xxxx
                cases cr
                · have HQ : Hid (R = (k1.block e, 0)) := by show _ = _; rw [HX.out, if_neg (by simp)]
                  obtain ⟨⟨j0, j1, j2, j3, j4, j5, j6, j7, j8, j9, j10, j11, j12, j13, j14⟩, _⟩ := hSc.out W2xxxx HB3.out
                  go_wp2_with fail
                  go_at_call 56
                  refine (HBb0.out _ A1 HA.out.2 (HL2.out.1.below HB3.out)).mono ?_
                  rintro e' V9 ⟨rfl, h9⟩
                  have HL9 : Hid (LJ w0 V9 A1 (k1.block e) (m + 2)) := h9
                  clear h9
                  go_wp2_with fail
                  go_ret
                  exact ⟨by rw [HQ.out]; rfl, A1, HA.out.1, by first | exact HA.out.2 | exact ⟨HA.out.2 _, HA.out.2 _⟩, by rw [HQ.out]; exact HL9.out.more (by omega)⟩
                · have HQ : Hid (R = (k1, 7)) := by show _ = _; rw [HX.out, if_pos (by simp [x1, x2])]
                  go_wp2_with fail
                  go_ret
                  exact ⟨by rw [HQ.out]; rfl, A1, HA.out.1, by first | exact HA.out.2 | exact ⟨HA.out.2 _, HA.out.2 _⟩, by rw [HQ.out]; exact (HL2.out.1.below HB3.out).more (by omega)⟩
          · as_aux_lemma =>
              have hIW : Below V2.heap.size V2 V2.drew := (Below.refl _ _).drew
              refine wp_region_held_drew (S := (fun V => (V.cell? ⟨b0, 0, none⟩ = some (.pointer (some ⟨A.g, 0, none⟩)) ∧ V.cell? ⟨b0, 1, none⟩ = some (.int .i64 ty) ∧ V.cell? ⟨b0, 2, none⟩ = some (.int .i64 fl) ∧ V.cell? ⟨b0, 3, none⟩ = some (.int .i64 st) ∧ V.cell? ⟨b0, 4, none⟩ = some (.string da) ∧ V.cell? ⟨b0, 5, none⟩ = some (.int .i64 pa) ∧ V.cell? ⟨b0, 6, none⟩ = some (.int .i64 de) ∧ V.cell? ⟨b0, 7, none⟩ = some (.bool ex) ∧ V.cell? ⟨b0, 8, none⟩ = some (.int .i64 wt) ∧ V.cell? ⟨b0, 9, none⟩ = some (.int .i64 co) ∧ V.cell? ⟨b0, 10, none⟩ = some (.int .i64 la) ∧ V.cell? ⟨b0, 11, none⟩ = some p ∧ V.cell? ⟨b0, 12, none⟩ = some (.bool false) ∧ V.cell? ⟨b0, 13, none⟩ = some (.pointer (some ⟨wa, 0, none⟩)) ∧ V.cell? ⟨b0, 14, none⟩ = some (.pointer (some ⟨bk, 0, none⟩))) ∧ V.cell? ⟨A.g, 0, none⟩ = some (.pointer (some ⟨A1.p, 0, none⟩)))) (by kernel_rfl) (hSc.out _ hIW) (fun hHeld => ?_)
              generalize hWg : World.drew _ = W2 at hIW hHeld ⊢
              clear hWg
              refine tkA (i := 0) (oi := ⟨some 47, .move (.tmp 3), 3, "types.go:45", #[], none⟩) ?_
              try simp only [Act.put, lA, l0, lS]
              refine wpAnyH_ready (rs := [1]) (by kernel_rfl) (by simp) ?_
              refine AllReadyH.cons (o := ⟨some 48, .call { callee := Callee.value (.func 54), args := #[.tmp 47], argTypes := #[3] }, 4, "types.go:45", #[⟨0, .data⟩], none⟩) rfl (fun K hK => ?_) AllReadyH.nil
              go_simp
              refine (counts_any b _).mono ?_
              rintro e' W2x ⟨rfl, rfl⟩
              have hW2x := hIW
              go_wp2_with fail
              refine hK.out _ _ (hSc.out _ hW2x) (fun hHeld => ?_)
              clear hK K
              try simp only [Act.put, lA, l0, lS]
              refine tkA (i := 2) (oi := ⟨some 49, .unOp .not 4 (.tmp 48), 4, "types.go:45", #[⟨1, .data⟩], none⟩) ?_
              try simp only [Act.put, lA, l0, lS]
              refine tkA (i := 3) (oi := ⟨some 50, .move (.tmp 49), 4, "types.go:45", #[⟨2, .data⟩, ⟨1, .chain⟩], none⟩) ?_
              try simp only [Act.put, lA, l0, lS]
              refine wpAnyH_take (i := 4) (oi := ⟨some 51, .fieldAddr 78 (.tmp 1) 0, 0, "types.go:45", #[⟨3, .guard⟩], some (3, true)⟩) (v := undef) rfl (by kernel_rfl) (by kernel_rfl) (by kernel_rfl) (fun _ _ _ h => h) (Or.inr ⟨by rfl, rfl⟩) (by assumption) ?_
              try simp only [Act.put, lA, l0, lS]
              refine wpAnyH_take (i := 5) (oi := ⟨some 52, .load 58 (.tmp 51), 58, "types.go:45", #[⟨4, .data⟩, ⟨3, .guard⟩], some (3, true)⟩) (v := undef) rfl (by kernel_rfl) (by kernel_rfl) (by kernel_rfl) (fun _ _ _ h => h) (Or.inr ⟨by rfl, rfl⟩) (by assumption) ?_
              try simp only [Act.put, lA, l0, lS]
              refine wpAnyH_take (i := 6) (oi := ⟨some 53, .nilCheck (.tmp 52), 0, "types.go:45", #[⟨5, .data⟩, ⟨3, .guard⟩], some (3, true)⟩) (v := undef) rfl (by kernel_rfl) (by kernel_rfl) (by kernel_rfl) (fun _ _ _ h => h) (Or.inr ⟨by rfl, rfl⟩) (by assumption) ?_
              try simp only [Act.put, lA, l0, lS]
              refine wpAnyH_take (i := 7) (oi := ⟨some 54, .fieldAddr 69 (.tmp 53) 0, 0, "types.go:45", #[⟨6, .data⟩, ⟨3, .guard⟩], some (3, true)⟩) (v := undef) rfl (by kernel_rfl) (by kernel_rfl) (by kernel_rfl) (fun _ _ _ h => h) (Or.inr ⟨by rfl, rfl⟩) (by assumption) ?_
              try simp only [Act.put, lA, l0, lS]
              refine wpAnyH_take (i := 8) (oi := ⟨some 55, .load 64 (.tmp 54), 64, "types.go:45", #[⟨7, .data⟩, ⟨3, .guard⟩], some (3, true)⟩) (v := undef) rfl (by kernel_rfl) (by kernel_rfl) (by kernel_rfl) (fun _ _ _ h => h) (Or.inr ⟨by rfl, rfl⟩) (by assumption) ?_
              try simp only [Act.put, lA, l0, lS]
              refine wpAnyH_take (i := 9) (oi := ⟨some 56, .fieldAddr 78 (.tmp 1) 1, 0, "types.go:45", #[⟨3, .guard⟩], some (3, true)⟩) (v := undef) rfl (by kernel_rfl) (by kernel_rfl) (by kernel_rfl) (fun _ _ _ h => h) (Or.inr ⟨by rfl, rfl⟩) (by assumption) ?_
              try simp only [Act.put, lA, l0, lS]
              refine wpAnyH_take (i := 10) (oi := ⟨some 57, .fieldAddr 31 (.tmp 56) 2, 0, "types.go:45", #[⟨9, .data⟩, ⟨3, .guard⟩], some (3, true)⟩) (v := undef) rfl (by kernel_rfl) (by kernel_rfl) (by kernel_rfl) (fun _ _ _ h => h) (Or.inr ⟨by rfl, rfl⟩) (by assumption) ?_
              try simp only [Act.put, lA, l0, lS]
              refine wpAnyH_take (i := 11) (oi := ⟨some 58, .load 2 (.tmp 57), 2, "types.go:45", #[⟨10, .data⟩, ⟨3, .guard⟩], some (3, true)⟩) (v := undef) rfl (by kernel_rfl) (by kernel_rfl) (by kernel_rfl) (fun _ _ _ h => h) (Or.inr ⟨by rfl, rfl⟩) (by assumption) ?_
              try simp only [Act.put, lA, l0, lS]
              refine wpAnyH_take (i := 12) (oi := ⟨some 59, .call { callee := Callee.value (.func 52), args := #[.tmp 55, .tmp 58], argTypes := #[64, 2] }, 3, "types.go:45", #[⟨8, .data⟩, ⟨11, .data⟩, ⟨3, .chain⟩, ⟨3, .guard⟩], some (3, true)⟩) (v := undef) rfl (by kernel_rfl) (by kernel_rfl) (by kernel_rfl) (fun _ _ _ h => h) (Or.inr ⟨by rfl, rfl⟩) (by assumption) ?_
              try simp only [Act.put, lA, l0, lS]
              refine wpAnyH_take (i := 13) (oi := ⟨some 60, .call { callee := Callee.value (.func 54), args := #[.tmp 59], argTypes := #[3] }, 4, "types.go:45", #[⟨12, .data⟩, ⟨12, .chain⟩, ⟨3, .guard⟩], some (3, true)⟩) (v := undef) rfl (by kernel_rfl) (by kernel_rfl) (by kernel_rfl) (fun _ _ _ h => h) (Or.inr ⟨by rfl, rfl⟩) (by assumption) ?_
              try simp only [Act.put, lA, l0, lS]
              refine tkA (i := 14) (oi := ⟨some 61, .pick (.tmp 50) (.tmp 60) (.const (.bool false)), 4, "types.go:45", #[⟨3, .data⟩, ⟨13, .data⟩], none⟩) ?_
              try simp only [Act.put, lA, l0, lS]
              refine tkA (i := 15) (oi := ⟨some 62, .move (.tmp 61), 4, "types.go:45", #[⟨14, .data⟩, ⟨13, .chain⟩], none⟩) ?_
              try simp only [Act.put, lA, l0, lS]
              refine wpAnyH_take (i := 16) (oi := ⟨some 63, .load 78 (.tmp 1), 78, "types.go:45", #[⟨15, .guard⟩], some (15, true)⟩) (v := undef) rfl (by kernel_rfl) (by kernel_rfl) (by kernel_rfl) (fun _ _ _ h => h) (Or.inr ⟨by rfl, rfl⟩) (by assumption) ?_
              try simp only [Act.put, lA, l0, lS]
              refine wpAnyH_take (i := 17) (oi := ⟨some 64, .call { callee := Callee.value (.func 55), args := #[.tmp 63], argTypes := #[78] }, 4, "types.go:45", #[⟨16, .data⟩, ⟨15, .chain⟩, ⟨15, .guard⟩], some (15, true)⟩) (v := undef) rfl (by kernel_rfl) (by kernel_rfl) (by kernel_rfl) (fun _ _ _ h => h) (Or.inr ⟨by rfl, rfl⟩) (by assumption) ?_
              try simp only [Act.put, lA, l0, lS]
              refine tkA (i := 18) (oi := ⟨some 65, .pick (.tmp 62) (.tmp 64) (.const (.bool false)), 4, "types.go:45", #[⟨15, .data⟩, ⟨17, .data⟩], none⟩) ?_
              try simp only [Act.put, lA, l0, lS]
              refine tkA (i := 19) (oi := ⟨some 46, .assign (.tmp 65), 4, "types.go:45", #[⟨18, .data⟩, ⟨17, .chain⟩], none⟩) ?_
              try simp only [Act.put, lA, l0, lS]
              refine wpAnyH_done (by kernel_rfl) ?_ _
              have HB3 : Hid (Below V2.heap.size V2 W2x) := hW2x
              clear hHeld hW2x
              have HQ : Hid (R = (k1.block e, 0)) := by show _ = _; rw [HX.out, if_neg (by first | (simp [x1]; done) | (simp [x1, x2]; done))]
              obtain ⟨⟨j0, j1, j2, j3, j4, j5, j6, j7, j8, j9, j10, j11, j12, j13, j14⟩, _⟩ := hSc.out W2x HB3.out
              go_wp2_with fail
              go_at_call 56
              refine (HBb0.out _ A1 HA.out.2 (HL2.out.1.below HB3.out)).mono ?_
              rintro e' V9 ⟨rfl, h9⟩
              have HL9 : Hid (LJ w0 V9 A1 (k1.block e) (m + 2)) := h9
              clear h9
              go_wp2_with fail
              go_ret
              exact ⟨by rw [HQ.out]; rfl, A1, HA.out.1, by first | exact HA.out.2 | exact ⟨HA.out.2 _, HA.out.2 _⟩, by rw [HQ.out]; exact HL9.out.more (by omega)⟩
        · cases ga
          · have HX : Hid (R = if (!ct b && ct s1 && cr) = true then (k1, 7) else (k1.block e, 0)) := by show _ = _; rw [HR.out, if_neg (by simp), if_neg (by first | (simp; done) | (simp [zb]; done))]
            go_upto_region 7 with fail
            clear y0 y12 yg yw
            cases x1 : ct b
            · cases x2 : ct s1
              · as_aux_lemma =>
                  have hIW : Below V2.heap.size V2 V2.drew := (Below.refl _ _).drew
                  refine wp_region_held_drew (S := (fun V => (V.cell? ⟨b0, 0, none⟩ = some (.pointer (some ⟨A.g, 0, none⟩)) ∧ V.cell? ⟨b0, 1, none⟩ = some (.int .i64 ty) ∧ V.cell? ⟨b0, 2, none⟩ = some (.int .i64 fl) ∧ V.cell? ⟨b0, 3, none⟩ = some (.int .i64 st) ∧ V.cell? ⟨b0, 4, none⟩ = some (.string da) ∧ V.cell? ⟨b0, 5, none⟩ = some (.int .i64 pa) ∧ V.cell? ⟨b0, 6, none⟩ = some (.int .i64 de) ∧ V.cell? ⟨b0, 7, none⟩ = some (.bool ex) ∧ V.cell? ⟨b0, 8, none⟩ = some (.int .i64 wt) ∧ V.cell? ⟨b0, 9, none⟩ = some (.int .i64 co) ∧ V.cell? ⟨b0, 10, none⟩ = some (.int .i64 la) ∧ V.cell? ⟨b0, 11, none⟩ = some p ∧ V.cell? ⟨b0, 12, none⟩ = some (.bool true) ∧ V.cell? ⟨b0, 13, none⟩ = some (.pointer (some ⟨wa, 0, none⟩)) ∧ V.cell? ⟨b0, 14, none⟩ = some (.pointer (some ⟨bk, 0, none⟩))) ∧ V.cell? ⟨A.g, 0, none⟩ = some (.pointer (some ⟨A1.p, 0, none⟩)))) (by kernel_rfl) (hSc.out _ hIW) (fun hHeld => ?_)
                  generalize hWg : World.drew _ = W2 at hIW hHeld ⊢
                  clear hWg
                  refine tkA (i := 0) (oi := ⟨some 47, .move (.tmp 3), 3, "types.go:45", #[], none⟩) ?_
                  try simp only [Act.put, lA, l0, lS]
                  refine wpAnyH_ready (rs := [1]) (by kernel_rfl) (by simp) ?_
                  refine AllReadyH.cons (o := ⟨some 48, .call { callee := Callee.value (.func 54), args := #[.tmp 47], argTypes := #[3] }, 4, "types.go:45", #[⟨0, .data⟩], none⟩) rfl (fun K hK => ?_) AllReadyH.nil
                  go_simp
                  refine (counts_any b _).mono ?_
                  rintro e' W2x ⟨rfl, rfl⟩
                  have hW2x := hIW
                  go_wp2_with fail
                  refine hK.out _ _ (hSc.out _ hW2x) (fun hHeld => ?_)
                  clear hK K
                  try simp only [Act.put, lA, l0, lS]
                  refine tkA (i := 2) (oi := ⟨some 49, .unOp .not 4 (.tmp 48), 4, "types.go:45", #[⟨1, .data⟩], none⟩) ?_
                  try simp only [Act.put, lA, l0, lS]
                  refine tkA (i := 3) (oi := ⟨some 50, .move (.tmp 49), 4, "types.go:45", #[⟨2, .data⟩, ⟨1, .chain⟩], none⟩) ?_
                  try simp only [Act.put, lA, l0, lS]
                  refine tkA (i := 4) (oi := ⟨some 51, .fieldAddr 78 (.tmp 1) 0, 0, "types.go:45", #[⟨3, .guard⟩], some (3, true)⟩) ?_
                  try simp only [Act.put, lA, l0, lS]
                  refine tkA (i := 5) (oi := ⟨some 52, .load 58 (.tmp 51), 58, "types.go:45", #[⟨4, .data⟩, ⟨3, .guard⟩], some (3, true)⟩) ?_
                  try simp only [Act.put, lA, l0, lS]
                  refine tkA (i := 6) (oi := ⟨some 53, .nilCheck (.tmp 52), 0, "types.go:45", #[⟨5, .data⟩, ⟨3, .guard⟩], some (3, true)⟩) ?_
                  try simp only [Act.put, lA, l0, lS]
                  refine tkA (i := 7) (oi := ⟨some 54, .fieldAddr 69 (.tmp 53) 0, 0, "types.go:45", #[⟨6, .data⟩, ⟨3, .guard⟩], some (3, true)⟩) ?_
                  try simp only [Act.put, lA, l0, lS]
                  refine tkA (i := 8) (oi := ⟨some 55, .load 64 (.tmp 54), 64, "types.go:45", #[⟨7, .data⟩, ⟨3, .guard⟩], some (3, true)⟩) ?_
                  try simp only [Act.put, lA, l0, lS]
                  refine tkA (i := 9) (oi := ⟨some 56, .fieldAddr 78 (.tmp 1) 1, 0, "types.go:45", #[⟨3, .guard⟩], some (3, true)⟩) ?_
                  try simp only [Act.put, lA, l0, lS]
                  refine tkA (i := 10) (oi := ⟨some 57, .fieldAddr 31 (.tmp 56) 2, 0, "types.go:45", #[⟨9, .data⟩, ⟨3, .guard⟩], some (3, true)⟩) ?_
                  try simp only [Act.put, lA, l0, lS]
                  refine tkA (i := 11) (oi := ⟨some 58, .load 2 (.tmp 57), 2, "types.go:45", #[⟨10, .data⟩, ⟨3, .guard⟩], some (3, true)⟩) ?_
                  try simp only [Act.put, lA, l0, lS]
                  refine wpAnyH_ready (rs := [12]) (by kernel_rfl) (by simp) ?_
                  refine AllReadyH.cons (o := ⟨some 59, .call { callee := Callee.value (.func 52), args := #[.tmp 55, .tmp 58], argTypes := #[64, 2] }, 3, "types.go:45", #[⟨8, .data⟩, ⟨11, .data⟩, ⟨3, .chain⟩, ⟨3, .guard⟩], some (3, true)⟩) rfl (fun K hK => ?_) AllReadyH.nil
                  refine ite_take (by rfl) ?_
                  go_simp
                  refine (HS2.out _ hW2x).mono ?_
                  rintro e' W2xx ⟨rfl, bX⟩
                  have hW2xx : Below V2.heap.size V2 W2xx := hW2x.trans (bX.mono hW2x.size)
                  clear bX
                  go_wp2_with fail
                  refine hK.out _ _ (hSc.out _ hW2xx) (fun hHeld => ?_)
                  clear hK K
                  try simp only [Act.put, lA, l0, lS]
                  refine wpAnyH_ready (rs := [13]) (by kernel_rfl) (by simp) ?_
                  refine AllReadyH.cons (o := ⟨some 60, .call { callee := Callee.value (.func 54), args := #[.tmp 59], argTypes := #[3] }, 4, "types.go:45", #[⟨12, .data⟩, ⟨12, .chain⟩, ⟨3, .guard⟩], some (3, true)⟩) rfl (fun K hK => ?_) AllReadyH.nil
                  refine ite_take (by rfl) ?_
                  go_simp
                  refine (counts_any s1 _).mono ?_
                  rintro e' W2xxx ⟨rfl, rfl⟩
                  have hW2xxx := hW2xx
                  go_wp2_with fail
                  refine hK.out _ _ (hSc.out _ hW2xxx) (fun hHeld => ?_)
                  clear hK K
                  try simp only [Act.put, lA, l0, lS]
                  refine tkA (i := 14) (oi := ⟨some 61, .pick (.tmp 50) (.tmp 60) (.const (.bool false)), 4, "types.go:45", #[⟨3, .data⟩, ⟨13, .data⟩], none⟩) ?_
                  try simp only [Act.put, lA, l0, lS]
                  refine tkA (i := 15) (oi := ⟨some 62, .move (.tmp 61), 4, "types.go:45", #[⟨14, .data⟩, ⟨13, .chain⟩], none⟩) ?_
                  try simp only [Act.put, lA, l0, lS]
                  refine wpAnyH_take (i := 16) (oi := ⟨some 63, .load 78 (.tmp 1), 78, "types.go:45", #[⟨15, .guard⟩], some (15, true)⟩) (v := undef) rfl (by kernel_rfl) (by kernel_rfl) (by kernel_rfl) (fun _ _ _ h => h) (Or.inr ⟨by rfl, rfl⟩) (by assumption) ?_
                  try simp only [Act.put, lA, l0, lS]
                  refine wpAnyH_take (i := 17) (oi := ⟨some 64, .call { callee := Callee.value (.func 55), args := #[.tmp 63], argTypes := #[78] }, 4, "types.go:45", #[⟨16, .data⟩, ⟨15, .chain⟩, ⟨15, .guard⟩], some (15, true)⟩) (v := undef) rfl (by kernel_rfl) (by kernel_rfl) (by kernel_rfl) (fun _ _ _ h => h) (Or.inr ⟨by rfl, rfl⟩) (by assumption) ?_
                  try simp only [Act.put, lA, l0, lS]
                  refine tkA (i := 18) (oi := ⟨some 65, .pick (.tmp 62) (.tmp 64) (.const (.bool false)), 4, "types.go:45", #[⟨15, .data⟩, ⟨17, .data⟩], none⟩) ?_
                  try simp only [Act.put, lA, l0, lS]
                  refine tkA (i := 19) (oi := ⟨some 46, .assign (.tmp 65), 4, "types.go:45", #[⟨18, .data⟩, ⟨17, .chain⟩], none⟩) ?_
                  try simp only [Act.put, lA, l0, lS]
                  refine wpAnyH_done (by kernel_rfl) ?_ _
                  have HB3 : Hid (Below V2.heap.size V2 W2xxx) := hW2xxx
                  clear hHeld hW2xxx
                  have HQ : Hid (R = (k1.block e, 0)) := by show _ = _; rw [HX.out, if_neg (by first | (simp [x1]; done) | (simp [x1, x2]; done))]
                  obtain ⟨⟨j0, j1, j2, j3, j4, j5, j6, j7, j8, j9, j10, j11, j12, j13, j14⟩, _⟩ := hSc.out W2xxx HB3.out
                  go_wp2_with fail
                  go_at_call 56
                  refine (HBb0.out _ A1 HA.out.2 (HL2.out.1.below HB3.out)).mono ?_
                  rintro e' V9 ⟨rfl, h9⟩
                  have HL9 : Hid (LJ w0 V9 A1 (k1.block e) (m + 2)) := h9
                  clear h9
                  go_wp2_with fail
                  go_ret
                  exact ⟨by rw [HQ.out]; rfl, A1, HA.out.1, by first | exact HA.out.2 | exact ⟨HA.out.2 _, HA.out.2 _⟩, by rw [HQ.out]; exact HL9.out.more (by omega)⟩
              · as_aux_lemma =>
                  have hIW : Below V2.heap.size V2 V2.drew := (Below.refl _ _).drew
                  refine wp_region_held_drew (S := (fun V => (V.cell? ⟨b0, 0, none⟩ = some (.pointer (some ⟨A.g, 0, none⟩)) ∧ V.cell? ⟨b0, 1, none⟩ = some (.int .i64 ty) ∧ V.cell? ⟨b0, 2, none⟩ = some (.int .i64 fl) ∧ V.cell? ⟨b0, 3, none⟩ = some (.int .i64 st) ∧ V.cell? ⟨b0, 4, none⟩ = some (.string da) ∧ V.cell? ⟨b0, 5, none⟩ = some (.int .i64 pa) ∧ V.cell? ⟨b0, 6, none⟩ = some (.int .i64 de) ∧ V.cell? ⟨b0, 7, none⟩ = some (.bool ex) ∧ V.cell? ⟨b0, 8, none⟩ = some (.int .i64 wt) ∧ V.cell? ⟨b0, 9, none⟩ = some (.int .i64 co) ∧ V.cell? ⟨b0, 10, none⟩ = some (.int .i64 la) ∧ V.cell? ⟨b0, 11, none⟩ = some p ∧ V.cell? ⟨b0, 12, none⟩ = some (.bool true) ∧ V.cell? ⟨b0, 13, none⟩ = some (.pointer (some ⟨wa, 0, none⟩)) ∧ V.cell? ⟨b0, 14, none⟩ = some (.pointer (some ⟨bk, 0, none⟩))) ∧ V.cell? ⟨A.g, 0, none⟩ = some (.pointer (some ⟨A1.p, 0, none⟩)))) (by kernel_rfl) (hSc.out _ hIW) (fun hHeld => ?_)
                  generalize hWg : World.drew _ = W2 at hIW hHeld ⊢
                  clear hWg
                  refine tkA (i := 0) (oi := ⟨some 47, .move (.tmp 3), 3, "types.go:45", #[], none⟩) ?_
                  try simp only [Act.put, lA, l0, lS]
                  refine wpAnyH_ready (rs := [1]) (by kernel_rfl) (by simp) ?_
                  refine AllReadyH.cons (o := ⟨some 48, .call { callee := Callee.value (.func 54), args := #[.tmp 47], argTypes := #[3] }, 4, "types.go:45", #[⟨0, .data⟩], none⟩) rfl (fun K hK => ?_) AllReadyH.nil
                  go_simp
                  refine (counts_any b _).mono ?_
                  rintro e' W2x ⟨rfl, rfl⟩
                  have hW2x := hIW
                  go_wp2_with fail
                  refine hK.out _ _ (hSc.out _ hW2x) (fun hHeld => ?_)
                  clear hK K
                  try simp only [Act.put, lA, l0, lS]
                  refine tkA (i := 2) (oi := ⟨some 49, .unOp .not 4 (.tmp 48), 4, "types.go:45", #[⟨1, .data⟩], none⟩) ?_
                  try simp only [Act.put, lA, l0, lS]
                  refine tkA (i := 3) (oi := ⟨some 50, .move (.tmp 49), 4, "types.go:45", #[⟨2, .data⟩, ⟨1, .chain⟩], none⟩) ?_
                  try simp only [Act.put, lA, l0, lS]
                  refine tkA (i := 4) (oi := ⟨some 51, .fieldAddr 78 (.tmp 1) 0, 0, "types.go:45", #[⟨3, .guard⟩], some (3, true)⟩) ?_
                  try simp only [Act.put, lA, l0, lS]
                  refine tkA (i := 5) (oi := ⟨some 52, .load 58 (.tmp 51), 58, "types.go:45", #[⟨4, .data⟩, ⟨3, .guard⟩], some (3, true)⟩) ?_
                  try simp only [Act.put, lA, l0, lS]
                  refine tkA (i := 6) (oi := ⟨some 53, .nilCheck (.tmp 52), 0, "types.go:45", #[⟨5, .data⟩, ⟨3, .guard⟩], some (3, true)⟩) ?_
                  try simp only [Act.put, lA, l0, lS]
                  refine tkA (i := 7) (oi := ⟨some 54, .fieldAddr 69 (.tmp 53) 0, 0, "types.go:45", #[⟨6, .data⟩, ⟨3, .guard⟩], some (3, true)⟩) ?_
                  try simp only [Act.put, lA, l0, lS]
                  refine tkA (i := 8) (oi := ⟨some 55, .load 64 (.tmp 54), 64, "types.go:45", #[⟨7, .data⟩, ⟨3, .guard⟩], some (3, true)⟩) ?_
                  try simp only [Act.put, lA, l0, lS]
                  refine tkA (i := 9) (oi := ⟨some 56, .fieldAddr 78 (.tmp 1) 1, 0, "types.go:45", #[⟨3, .guard⟩], some (3, true)⟩) ?_
                  try simp only [Act.put, lA, l0, lS]
                  refine tkA (i := 10) (oi := ⟨some 57, .fieldAddr 31 (.tmp 56) 2, 0, "types.go:45", #[⟨9, .data⟩, ⟨3, .guard⟩], some (3, true)⟩) ?_
                  try simp only [Act.put, lA, l0, lS]
                  refine tkA (i := 11) (oi := ⟨some 58, .load 2 (.tmp 57), 2, "types.go:45", #[⟨10, .data⟩, ⟨3, .guard⟩], some (3, true)⟩) ?_
                  try simp only [Act.put, lA, l0, lS]
                  refine wpAnyH_ready (rs := [12]) (by kernel_rfl) (by simp) ?_
                  refine AllReadyH.cons (o := ⟨some 59, .call { callee := Callee.value (.func 52), args := #[.tmp 55, .tmp 58], argTypes := #[64, 2] }, 3, "types.go:45", #[⟨8, .data⟩, ⟨11, .data⟩, ⟨3, .chain⟩, ⟨3, .guard⟩], some (3, true)⟩) rfl (fun K hK => ?_) AllReadyH.nil
                  refine ite_take (by rfl) ?_
                  go_simp
                  refine (HS2.out _ hW2x).mono ?_
                  rintro e' W2xx ⟨rfl, bX⟩
                  have hW2xx : Below V2.heap.size V2 W2xx := hW2x.trans (bX.mono hW2x.size)
                  clear bX
                  go_wp2_with fail
                  refine hK.out _ _ (hSc.out _ hW2xx) (fun hHeld => ?_)
                  clear hK K
                  try simp only [Act.put, lA, l0, lS]
                  refine wpAnyH_ready (rs := [13]) (by kernel_rfl) (by simp) ?_
                  refine AllReadyH.cons (o := ⟨some 60, .call { callee := Callee.value (.func 54), args := #[.tmp 59], argTypes := #[3] }, 4, "types.go:45", #[⟨12, .data⟩, ⟨12, .chain⟩, ⟨3, .guard⟩], some (3, true)⟩) rfl (fun K hK => ?_) AllReadyH.nil
                  refine ite_take (by rfl) ?_
                  go_simp
                  refine (counts_any s1 _).mono ?_
                  rintro e' W2xxx ⟨rfl, rfl⟩
                  have hW2xxx := hW2xx
                  go_wp2_with fail
                  refine hK.out _ _ (hSc.out _ hW2xxx) (fun hHeld => ?_)
                  clear hK K
                  try simp only [Act.put, lA, l0, lS]
                  refine tkA (i := 14) (oi := ⟨some 61, .pick (.tmp 50) (.tmp 60) (.const (.bool false)), 4, "types.go:45", #[⟨3, .data⟩, ⟨13, .data⟩], none⟩) ?_
                  try simp only [Act.put, lA, l0, lS]
                  refine tkA (i := 15) (oi := ⟨some 62, .move (.tmp 61), 4, "types.go:45", #[⟨14, .data⟩, ⟨13, .chain⟩], none⟩) ?_
                  try simp only [Act.put, lA, l0, lS]
                  refine tkA (i := 16) (oi := ⟨some 63, .load 78 (.tmp 1), 78, "types.go:45", #[⟨15, .guard⟩], some (15, true)⟩) ?_
                  try simp only [Act.put, lA, l0, lS]
                  refine wpAnyH_ready (rs := [17]) (by kernel_rfl) (by simp) ?_
                  refine AllReadyH.cons (o := ⟨some 64, .call { callee := Callee.value (.func 55), args := #[.tmp 63], argTypes := #[78] }, 4, "types.go:45", #[⟨16, .data⟩, ⟨15, .chain⟩, ⟨15, .guard⟩], some (15, true)⟩) rfl (fun K hK => ?_) AllReadyH.nil
                  refine ite_take (by rfl) ?_
                  go_simp
                  refine (HCr.out _ hW2xxx).mono ?_
                  rintro e' W2xxxx ⟨rfl, bX⟩
                  have hW2xxxx : Below V2.heap.size V2 W2xxxx := hW2xxx.trans (bX.mono hW2xxx.size)
                  clear bX
                  go_wp2_with fail
                  refine hK.out _ _ (hSc.out _ hW2xxxx) (fun hHeld => ?_)
                  clear hK K
                  try simp only [Act.put, lA, l0, lS]
                  refine tkA (i := 18) (oi := ⟨some 65, .pick (.tmp 62) (.tmp 64) (.const (.bool false)), 4, "types.go:45", #[⟨15, .data⟩, ⟨17, .data⟩], none⟩) ?_
                  try simp only [Act.put, lA, l0, lS]
                  refine tkA (i := 19) (oi := ⟨some 46, .assign (.tmp 65), 4, "types.go:45", #[⟨18, .data⟩, ⟨17, .chain⟩], none⟩) ?_
                  try simp only [Act.put, lA, l0, lS]
                  refine wpAnyH_done (by kernel_rfl) ?_ _
                  have HB3 : Hid (Below V2.heap.size V2 W2xxxx) := hW2xxxx
                  clear hHeld hW2xxxx
                  cases cr
                  · have HQ : Hid (R = (k1.block e, 0)) := by show _ = _; rw [HX.out, if_neg (by simp)]
                    obtain ⟨⟨j0, j1, j2, j3, j4, j5, j6, j7, j8, j9, j10, j11, j12, j13, j14⟩, _⟩ := hSc.out W2xxxx HB3.out
                    go_wp2_with fail
                    go_at_call 56
                    refine (HBb0.out _ A1 HA.out.2 (HL2.out.1.below HB3.out)).mono ?_
                    rintro e' V9 ⟨rfl, h9⟩
                    have HL9 : Hid (LJ w0 V9 A1 (k1.block e) (m + 2)) := h9
                    clear h9
                    go_wp2_with fail
                    go_ret
                    exact ⟨by rw [HQ.out]; rfl, A1, HA.out.1, by first | exact HA.out.2 | exact ⟨HA.out.2 _, HA.out.2 _⟩, by rw [HQ.out]; exact HL9.out.more (by omega)⟩
                  · have HQ : Hid (R = (k1, 7)) := by show _ = _; rw [HX.out, if_pos (by simp [x1, x2])]
                    go_wp2_with fail
                    go_ret
                    exact ⟨by rw [HQ.out]; rfl, A1, HA.out.1, by first | exact HA.out.2 | exact ⟨HA.out.2 _, HA.out.2 _⟩, by rw [HQ.out]; exact (HL2.out.1.below HB3.out).more (by omega)⟩
            · as_aux_lemma =>
                have hIW : Below V2.heap.size V2 V2.drew := (Below.refl _ _).drew
                refine wp_region_held_drew (S := (fun V => (V.cell? ⟨b0, 0, none⟩ = some (.pointer (some ⟨A.g, 0, none⟩)) ∧ V.cell? ⟨b0, 1, none⟩ = some (.int .i64 ty) ∧ V.cell? ⟨b0, 2, none⟩ = some (.int .i64 fl) ∧ V.cell? ⟨b0, 3, none⟩ = some (.int .i64 st) ∧ V.cell? ⟨b0, 4, none⟩ = some (.string da) ∧ V.cell? ⟨b0, 5, none⟩ = some (.int .i64 pa) ∧ V.cell? ⟨b0, 6, none⟩ = some (.int .i64 de) ∧ V.cell? ⟨b0, 7, none⟩ = some (.bool ex) ∧ V.cell? ⟨b0, 8, none⟩ = some (.int .i64 wt) ∧ V.cell? ⟨b0, 9, none⟩ = some (.int .i64 co) ∧ V.cell? ⟨b0, 10, none⟩ = some (.int .i64 la) ∧ V.cell? ⟨b0, 11, none⟩ = some p ∧ V.cell? ⟨b0, 12, none⟩ = some (.bool true) ∧ V.cell? ⟨b0, 13, none⟩ = some (.pointer (some ⟨wa, 0, none⟩)) ∧ V.cell? ⟨b0, 14, none⟩ = some (.pointer (some ⟨bk, 0, none⟩))) ∧ V.cell? ⟨A.g, 0, none⟩ = some (.pointer (some ⟨A1.p, 0, none⟩)))) (by kernel_rfl) (hSc.out _ hIW) (fun hHeld => ?_)
                generalize hWg : World.drew _ = W2 at hIW hHeld ⊢
                clear hWg
                refine tkA (i := 0) (oi := ⟨some 47, .move (.tmp 3), 3, "types.go:45", #[], none⟩) ?_
                try simp only [Act.put, lA, l0, lS]
                refine wpAnyH_ready (rs := [1]) (by kernel_rfl) (by simp) ?_
                refine AllReadyH.cons (o := ⟨some 48, .call { callee := Callee.value (.func 54), args := #[.tmp 47], argTypes := #[3] }, 4, "types.go:45", #[⟨0, .data⟩], none⟩) rfl (fun K hK => ?_) AllReadyH.nil
                go_simp
                refine (counts_any b _).mono ?_
                rintro e' W2x ⟨rfl, rfl⟩
                have hW2x := hIW
                go_wp2_with fail
                refine hK.out _ _ (hSc.out _ hW2x) (fun hHeld => ?_)
                clear hK K
                try simp only [Act.put, lA, l0, lS]
                refine tkA (i := 2) (oi := ⟨some 49, .unOp .not 4 (.tmp 48), 4, "types.go:45", #[⟨1, .data⟩], none⟩) ?_
                try simp only [Act.put, lA, l0, lS]
                refine tkA (i := 3) (oi := ⟨some 50, .move (.tmp 49), 4, "types.go:45", #[⟨2, .data⟩, ⟨1, .chain⟩], none⟩) ?_
                try simp only [Act.put, lA, l0, lS]
                refine wpAnyH_take (i := 4) (oi := ⟨some 51, .fieldAddr 78 (.tmp 1) 0, 0, "types.go:45", #[⟨3, .guard⟩], some (3, true)⟩) (v := undef) rfl (by kernel_rfl) (by kernel_rfl) (by kernel_rfl) (fun _ _ _ h => h) (Or.inr ⟨by rfl, rfl⟩) (by assumption) ?_
                try simp only [Act.put, lA, l0, lS]
                refine wpAnyH_take (i := 5) (oi := ⟨some 52, .load 58 (.tmp 51), 58, "types.go:45", #[⟨4, .data⟩, ⟨3, .guard⟩], some (3, true)⟩) (v := undef) rfl (by kernel_rfl) (by kernel_rfl) (by kernel_rfl) (fun _ _ _ h => h) (Or.inr ⟨by rfl, rfl⟩) (by assumption) ?_
                try simp only [Act.put, lA, l0, lS]
                refine wpAnyH_take (i := 6) (oi := ⟨some 53, .nilCheck (.tmp 52), 0, "types.go:45", #[⟨5, .data⟩, ⟨3, .guard⟩], some (3, true)⟩) (v := undef) rfl (by kernel_rfl) (by kernel_rfl) (by kernel_rfl) (fun _ _ _ h => h) (Or.inr ⟨by rfl, rfl⟩) (by assumption) ?_
                try simp only [Act.put, lA, l0, lS]
                refine wpAnyH_take (i := 7) (oi := ⟨some 54, .fieldAddr 69 (.tmp 53) 0, 0, "types.go:45", #[⟨6, .data⟩, ⟨3, .guard⟩], some (3, true)⟩) (v := undef) rfl (by kernel_rfl) (by kernel_rfl) (by kernel_rfl) (fun _ _ _ h => h) (Or.inr ⟨by rfl, rfl⟩) (by assumption) ?_
                try simp only [Act.put, lA, l0, lS]
                refine wpAnyH_take (i := 8) (oi := ⟨some 55, .load 64 (.tmp 54), 64, "types.go:45", #[⟨7, .data⟩, ⟨3, .guard⟩], some (3, true)⟩) (v := undef) rfl (by kernel_rfl) (by kernel_rfl) (by kernel_rfl) (fun _ _ _ h => h) (Or.inr ⟨by rfl, rfl⟩) (by assumption) ?_
                try simp only [Act.put, lA, l0, lS]
                refine wpAnyH_take (i := 9) (oi := ⟨some 56, .fieldAddr 78 (.tmp 1) 1, 0, "types.go:45", #[⟨3, .guard⟩], some (3, true)⟩) (v := undef) rfl (by kernel_rfl) (by kernel_rfl) (by kernel_rfl) (fun _ _ _ h => h) (Or.inr ⟨by rfl, rfl⟩) (by assumption) ?_
                try simp only [Act.put, lA, l0, lS]
                refine wpAnyH_take (i := 10) (oi := ⟨some 57, .fieldAddr 31 (.tmp 56) 2, 0, "types.go:45", #[⟨9, .data⟩, ⟨3, .guard⟩], some (3, true)⟩) (v := undef) rfl (by kernel_rfl) (by kernel_rfl) (by kernel_rfl) (fun _ _ _ h => h) (Or.inr ⟨by rfl, rfl⟩) (by assumption) ?_
                try simp only [Act.put, lA, l0, lS]
                refine wpAnyH_take (i := 11) (oi := ⟨some 58, .load 2 (.tmp 57), 2, "types.go:45", #[⟨10, .data⟩, ⟨3, .guard⟩], some (3, true)⟩) (v := undef) rfl (by kernel_rfl) (by kernel_rfl) (by kernel_rfl) (fun _ _ _ h => h) (Or.inr ⟨by rfl, rfl⟩) (by assumption) ?_
                try simp only [Act.put, lA, l0, lS]
                refine wpAnyH_take (i := 12) (oi := ⟨some 59, .call { callee := Callee.value (.func 52), args := #[.tmp 55, .tmp 58], argTypes := #[64, 2] }, 3, "types.go:45", #[⟨8, .data⟩, ⟨11, .data⟩, ⟨3, .chain⟩, ⟨3, .guard⟩], some (3, true)⟩) (v := undef) rfl (by kernel_rfl) (by kernel_rfl) (by kernel_rfl) (fun _ _ _ h => h) (Or.inr ⟨by rfl, rfl⟩) (by assumption) ?_
                try simp only [Act.put, lA, l0, lS]
                refine wpAnyH_take (i := 13) (oi := ⟨some 60, .call { callee := Callee.value (.func 54), args := #[.tmp 59], argTypes := #[3] }, 4, "types.go:45", #[⟨12, .data⟩, ⟨12, .chain⟩, ⟨3, .guard⟩], some (3, true)⟩) (v := undef) rfl (by kernel_rfl) (by kernel_rfl) (by kernel_rfl) (fun _ _ _ h => h) (Or.inr ⟨by rfl, rfl⟩) (by assumption) ?_
                try simp only [Act.put, lA, l0, lS]
                refine tkA (i := 14) (oi := ⟨some 61, .pick (.tmp 50) (.tmp 60) (.const (.bool false)), 4, "types.go:45", #[⟨3, .data⟩, ⟨13, .data⟩], none⟩) ?_
                try simp only [Act.put, lA, l0, lS]
                refine tkA (i := 15) (oi := ⟨some 62, .move (.tmp 61), 4, "types.go:45", #[⟨14, .data⟩, ⟨13, .chain⟩], none⟩) ?_
                try simp only [Act.put, lA, l0, lS]
                refine wpAnyH_take (i := 16) (oi := ⟨some 63, .load 78 (.tmp 1), 78, "types.go:45", #[⟨15, .guard⟩], some (15, true)⟩) (v := undef) rfl (by kernel_rfl) (by kernel_rfl) (by kernel_rfl) (fun _ _ _ h => h) (Or.inr ⟨by rfl, rfl⟩) (by assumption) ?_
                try simp only [Act.put, lA, l0, lS]
                refine wpAnyH_take (i := 17) (oi := ⟨some 64, .call { callee := Callee.value (.func 55), args := #[.tmp 63], argTypes := #[78] }, 4, "types.go:45", #[⟨16, .data⟩, ⟨15, .chain⟩, ⟨15, .guard⟩], some (15, true)⟩) (v := undef) rfl (by kernel_rfl) (by kernel_rfl) (by kernel_rfl) (fun _ _ _ h => h) (Or.inr ⟨by rfl, rfl⟩) (by assumption) ?_
                try simp only [Act.put, lA, l0, lS]
                refine tkA (i := 18) (oi := ⟨some 65, .pick (.tmp 62) (.tmp 64) (.const (.bool false)), 4, "types.go:45", #[⟨15, .data⟩, ⟨17, .data⟩], none⟩) ?_
                try simp only [Act.put, lA, l0, lS]
                refine tkA (i := 19) (oi := ⟨some 46, .assign (.tmp 65), 4, "types.go:45", #[⟨18, .data⟩, ⟨17, .chain⟩], none⟩) ?_
                try simp only [Act.put, lA, l0, lS]
                refine wpAnyH_done (by kernel_rfl) ?_ _
                have HB3 : Hid (Below V2.heap.size V2 W2x) := hW2x
                clear hHeld hW2x
                have HQ : Hid (R = (k1.block e, 0)) := by show _ = _; rw [HX.out, if_neg (by first | (simp [x1]; done) | (simp [x1, x2]; done))]
                obtain ⟨⟨j0, j1, j2, j3, j4, j5, j6, j7, j8, j9, j10, j11, j12, j13, j14⟩, _⟩ := hSc.out W2x HB3.out
                go_wp2_with fail
                go_at_call 56
                refine (HBb0.out _ A1 HA.out.2 (HL2.out.1.below HB3.out)).mono ?_
                rintro e' V9 ⟨rfl, h9⟩
                have HL9 : Hid (LJ w0 V9 A1 (k1.block e) (m + 2)) := h9
                clear h9
                go_wp2_with fail
                go_ret
                exact ⟨by rw [HQ.out]; rfl, A1, HA.out.1, by first | exact HA.out.2 | exact ⟨HA.out.2 _, HA.out.2 _⟩, by rw [HQ.out]; exact HL9.out.more (by omega)⟩
          · by_cases zb0 : b = 0
            · have HQ : Hid (R = (k1, 1)) := by show _ = _; rw [HR.out, if_neg (by simp), if_pos (by simp [zb0])]
              subst zb0
              go_wp2_with fail
              go_ret
              exact ⟨by rw [HQ.out]; rfl, A1, HA.out.1, by first | exact HA.out.2 | exact ⟨HA.out.2 _, HA.out.2 _⟩, by rw [HQ.out]; exact HL2.out.1.more (by omega)⟩
            · have zb : (b == 0) = false := beq_eq_false_iff_ne.2 zb0
              have HX : Hid (R = if (!ct b && ct s1 && cr) = true then (k1, 7) else (k1.block e, 0)) := by show _ = _; rw [HR.out, if_neg (by simp), if_neg (by first | (simp; done) | (simp [zb]; done))]
              go_upto_region 7 with fail
              clear y0 y12 yg yw
              cases x1 : ct b
              · cases x2 : ct s1
                · as_aux_lemma =>
                    have hIW : Below V2.heap.size V2 V2.drew := (Below.refl _ _).drew
                    refine wp_region_held_drew (S := (fun V => (V.cell? ⟨b0, 0, none⟩ = some (.pointer (some ⟨A.g, 0, none⟩)) ∧ V.cell? ⟨b0, 1, none⟩ = some (.int .i64 ty) ∧ V.cell? ⟨b0, 2, none⟩ = some (.int .i64 fl) ∧ V.cell? ⟨b0, 3, none⟩ = some (.int .i64 st) ∧ V.cell? ⟨b0, 4, none⟩ = some (.string da) ∧ V.cell? ⟨b0, 5, none⟩ = some (.int .i64 pa) ∧ V.cell? ⟨b0, 6, none⟩ = some (.int .i64 de) ∧ V.cell? ⟨b0, 7, none⟩ = some (.bool ex) ∧ V.cell? ⟨b0, 8, none⟩ = some (.int .i64 wt) ∧ V.cell? ⟨b0, 9, none⟩ = some (.int .i64 co) ∧ V.cell? ⟨b0, 10, none⟩ = some (.int .i64 la) ∧ V.cell? ⟨b0, 11, none⟩ = some p ∧ V.cell? ⟨b0, 12, none⟩ = some (.bool true) ∧ V.cell? ⟨b0, 13, none⟩ = some (.pointer (some ⟨wa, 0, none⟩)) ∧ V.cell? ⟨b0, 14, none⟩ = some (.pointer (some ⟨bk, 0, none⟩))) ∧ V.cell? ⟨A.g, 0, none⟩ = some (.pointer (some ⟨A1.p, 0, none⟩)))) (by kernel_rfl) (hSc.out _ hIW) (fun hHeld => ?_)
                    generalize hWg : World.drew _ = W2 at hIW hHeld ⊢
                    clear hWg
                    refine tkA (i := 0) (oi := ⟨some 47, .move (.tmp 3), 3, "types.go:45", #[], none⟩) ?_
                    try simp only [Act.put, lA, l0, lS]
                    refine wpAnyH_ready (rs := [1]) (by kernel_rfl) (by simp) ?_
                    refine AllReadyH.cons (o := ⟨some 48, .call { callee := Callee.value (.func 54), args := #[.tmp 47], argTypes := #[3] }, 4, "types.go:45", #[⟨0, .data⟩], none⟩) rfl (fun K hK => ?_) AllReadyH.nil
                    go_simp
                    refine (counts_any b _).mono ?_
                    rintro e' W2x ⟨rfl, rfl⟩
                    have hW2x := hIW
                    go_wp2_with fail
                    refine hK.out _ _ (hSc.out _ hW2x) (fun hHeld => ?_)
                    clear hK K
                    try simp only [Act.put, lA, l0, lS]
                    refine tkA (i := 2) (oi := ⟨some 49, .unOp .not 4 (.tmp 48), 4, "types.go:45", #[⟨1, .data⟩], none⟩) ?_
                    try simp only [Act.put, lA, l0, lS]
                    refine tkA (i := 3) (oi := ⟨some 50, .move (.tmp 49), 4, "types.go:45", #[⟨2, .data⟩, ⟨1, .chain⟩], none⟩) ?_
                    try simp only [Act.put, lA, l0, lS]
                    refine tkA (i := 4) (oi := ⟨some 51, .fieldAddr 78 (.tmp 1) 0, 0, "types.go:45", #[⟨3, .guard⟩], some (3, true)⟩) ?_
                    try simp only [Act.put, lA, l0, lS]
                    refine tkA (i := 5) (oi := ⟨some 52, .load 58 (.tmp 51), 58, "types.go:45", #[⟨4, .data⟩, ⟨3, .guard⟩], some (3, true)⟩) ?_
                    try simp only [Act.put, lA, l0, lS]
                    refine tkA (i := 6) (oi := ⟨some 53, .nilCheck (.tmp 52), 0, "types.go:45", #[⟨5, .data⟩, ⟨3, .guard⟩], some (3, true)⟩) ?_
                    try simp only [Act.put, lA, l0, lS]
                    refine tkA (i := 7) (oi := ⟨some 54, .fieldAddr 69 (.tmp 53) 0, 0, "types.go:45", #[⟨6, .data⟩, ⟨3, .guard⟩], some (3, true)⟩) ?_
                    try simp only [Act.put, lA, l0, lS]
                    refine tkA (i := 8) (oi := ⟨some 55, .load 64 (.tmp 54), 64, "types.go:45", #[⟨7, .data⟩, ⟨3, .guard⟩], some (3, true)⟩) ?_
                    try simp only [Act.put, lA, l0, lS]
                    refine tkA (i := 9) (oi := ⟨some 56, .fieldAddr 78 (.tmp 1) 1, 0, "types.go:45", #[⟨3, .guard⟩], some (3, true)⟩) ?_
                    try simp only [Act.put, lA, l0, lS]
                    refine tkA (i := 10) (oi := ⟨some 57, .fieldAddr 31 (.tmp 56) 2, 0, "types.go:45", #[⟨9, .data⟩, ⟨3, .guard⟩], some (3, true)⟩) ?_
                    try simp only [Act.put, lA, l0, lS]
                    refine tkA (i := 11) (oi := ⟨some 58, .load 2 (.tmp 57), 2, "types.go:45", #[⟨10, .data⟩, ⟨3, .guard⟩], some (3, true)⟩) ?_
                    try simp only [Act.put, lA, l0, lS]
                    refine wpAnyH_ready (rs := [12]) (by kernel_rfl) (by simp) ?_
                    refine AllReadyH.cons (o := ⟨some 59, .call { callee := Callee.value (.func 52), args := #[.tmp 55, .tmp 58], argTypes := #[64, 2] }, 3, "types.go:45", #[⟨8, .data⟩, ⟨11, .data⟩, ⟨3, .chain⟩, ⟨3, .guard⟩], some (3, true)⟩) rfl (fun K hK => ?_) AllReadyH.nil
                    refine ite_take (by rfl) ?_
                    go_simp
                    refine (HS2.out _ hW2x).mono ?_
                    rintro e' W2xx ⟨rfl, bX⟩
                    have hW2xx : Below V2.heap.size V2 W2xx := hW2x.trans (bX.mono hW2x.size)
                    clear bX
                    go_wp2_with fail
                    refine hK.out _ _ (hSc.out _ hW2xx) (fun hHeld => ?_)
                    clear hK K
                    try simp only [Act.put, lA, l0, lS]
                    refine wpAnyH_ready (rs := [13]) (by kernel_rfl) (by simp) ?_
                    refine AllReadyH.cons (o := ⟨some 60, .call { callee := Callee.value (.func 54), args := #[.tmp 59], argTypes := #[3] }, 4, "types.go:45", #[⟨12, .data⟩, ⟨12, .chain⟩, ⟨3, .guard⟩], some (3, true)⟩) rfl (fun K hK => ?_) AllReadyH.nil
                    refine ite_take (by rfl) ?_
                    go_simp
                    refine (counts_any s1 _).mono ?_
                    rintro e' W2xxx ⟨rfl, rfl⟩
                    have hW2xxx := hW2xx
                    go_wp2_with fail
                    refine hK.out _ _ (hSc.out _ hW2xxx) (fun hHeld => ?_)
                    clear hK K
                    try simp only [Act.put, lA, l0, lS]
                    refine tkA (i := 14) (oi := ⟨some 61, .pick (.tmp 50) (.tmp 60) (.const (.bool false)), 4, "types.go:45", #[⟨3, .data⟩, ⟨13, .data⟩], none⟩) ?_
                    try simp only [Act.put, lA, l0, lS]
                    refine tkA (i := 15) (oi := ⟨some 62, .move (.tmp 61), 4, "types.go:45", #[⟨14, .data⟩, ⟨13, .chain⟩], none⟩) ?_
                    try simp only [Act.put, lA, l0, lS]
                    refine wpAnyH_take (i := 16) (oi := ⟨some 63, .load 78 (.tmp 1), 78, "types.go:45", #[⟨15, .guard⟩], some (15, true)⟩) (v := undef) rfl (by kernel_rfl) (by kernel_rfl) (by kernel_rfl) (fun _ _ _ h => h) (Or.inr ⟨by rfl, rfl⟩) (by assumption) ?_
                    try simp only [Act.put, lA, l0, lS]
                    refine wpAnyH_take (i := 17) (oi := ⟨some 64, .call { callee := Callee.value (.func 55), args := #[.tmp 63], argTypes := #[78] }, 4, "types.go:45", #[⟨16, .data⟩, ⟨15, .chain⟩, ⟨15, .guard⟩], some (15, true)⟩) (v := undef) rfl (by kernel_rfl) (by kernel_rfl) (by kernel_rfl) (fun _ _ _ h => h) (Or.inr ⟨by rfl, rfl⟩) (by assumption) ?_
                    try simp only [Act.put, lA, l0, lS]
                    refine tkA (i := 18) (oi := ⟨some 65, .pick (.tmp 62) (.tmp 64) (.const (.bool false)), 4, "types.go:45", #[⟨15, .data⟩, ⟨17, .data⟩], none⟩) ?_
                    try simp only [Act.put, lA, l0, lS]
                    refine tkA (i := 19) (oi := ⟨some 46, .assign (.tmp 65), 4, "types.go:45", #[⟨18, .data⟩, ⟨17, .chain⟩], none⟩) ?_
                    try simp only [Act.put, lA, l0, lS]
                    refine wpAnyH_done (by kernel_rfl) ?_ _
                    have HB3 : Hid (Below V2.heap.size V2 W2xxx) := hW2xxx
                    clear hHeld hW2xxx
                    have HQ : Hid (R = (k1.block e, 0)) := by show _ = _; rw [HX.out, if_neg (by first | (simp [x1]; done) | (simp [x1, x2]; done))]
                    obtain ⟨⟨j0, j1, j2, j3, j4, j5, j6, j7, j8, j9, j10, j11, j12, j13, j14⟩, _⟩ := hSc.out W2xxx HB3.out
                    go_wp2_with fail
                    go_at_call 56
                    refine (HBb0.out _ A1 HA.out.2 (HL2.out.1.below HB3.out)).mono ?_
                    rintro e' V9 ⟨rfl, h9⟩
                    have HL9 : Hid (LJ w0 V9 A1 (k1.block e) (m + 2)) := h9
                    clear h9
                    go_wp2_with fail
                    go_ret
                    exact ⟨by rw [HQ.out]; rfl, A1, HA.out.1, by first | exact HA.out.2 | exact ⟨HA.out.2 _, HA.out.2 _⟩, by rw [HQ.out]; exact HL9.out.more (by omega)⟩
                · as_aux_lemma =>
                    have hIW : Below V2.heap.size V2 V2.drew := (Below.refl _ _).drew
                    refine wp_region_held_drew (S := (fun V => (V.cell? ⟨b0, 0, none⟩ = some (.pointer (some ⟨A.g, 0, none⟩)) ∧ V.cell? ⟨b0, 1, none⟩ = some (.int .i64 ty) ∧ V.cell? ⟨b0, 2, none⟩ = some (.int .i64 fl) ∧ V.cell? ⟨b0, 3, none⟩ = some (.int .i64 st) ∧ V.cell? ⟨b0, 4, none⟩ = some (.string da) ∧ V.cell? ⟨b0, 5, none⟩ = some (.int .i64 pa) ∧ V.cell? ⟨b0, 6, none⟩ = some (.int .i64 de) ∧ V.cell? ⟨b0, 7, none⟩ = some (.bool ex) ∧ V.cell? ⟨b0, 8, none⟩ = some (.int .i64 wt) ∧ V.cell? ⟨b0, 9, none⟩ = some (.int .i64 co) ∧ V.cell? ⟨b0, 10, none⟩ = some (.int .i64 la) ∧ V.cell? ⟨b0, 11, none⟩ = some p ∧ V.cell? ⟨b0, 12, none⟩ = some (.bool true) ∧ V.cell? ⟨b0, 13, none⟩ = some (.pointer (some ⟨wa, 0, none⟩)) ∧ V.cell? ⟨b0, 14, none⟩ = some (.pointer (some ⟨bk, 0, none⟩))) ∧ V.cell? ⟨A.g, 0, none⟩ = some (.pointer (some ⟨A1.p, 0, none⟩)))) (by kernel_rfl) (hSc.out _ hIW) (fun hHeld => ?_)
                    generalize hWg : World.drew _ = W2 at hIW hHeld ⊢
                    clear hWg
                    refine tkA (i := 0) (oi := ⟨some 47, .move (.tmp 3), 3, "types.go:45", #[], none⟩) ?_
                    try simp only [Act.put, lA, l0, lS]
                    refine wpAnyH_ready (rs := [1]) (by kernel_rfl) (by simp) ?_
                    refine AllReadyH.cons (o := ⟨some 48, .call { callee := Callee.value (.func 54), args := #[.tmp 47], argTypes := #[3] }, 4, "types.go:45", #[⟨0, .data⟩], none⟩) rfl (fun K hK => ?_) AllReadyH.nil
                    go_simp
                    refine (counts_any b _).mono ?_
                    rintro e' W2x ⟨rfl, rfl⟩
                    have hW2x := hIW
                    go_wp2_with fail
                    refine hK.out _ _ (hSc.out _ hW2x) (fun hHeld => ?_)
                    clear hK K
                    try simp only [Act.put, lA, l0, lS]
                    refine tkA (i := 2) (oi := ⟨some 49, .unOp .not 4 (.tmp 48), 4, "types.go:45", #[⟨1, .data⟩], none⟩) ?_
                    try simp only [Act.put, lA, l0, lS]
                    refine tkA (i := 3) (oi := ⟨some 50, .move (.tmp 49), 4, "types.go:45", #[⟨2, .data⟩, ⟨1, .chain⟩], none⟩) ?_
                    try simp only [Act.put, lA, l0, lS]
                    refine tkA (i := 4) (oi := ⟨some 51, .fieldAddr 78 (.tmp 1) 0, 0, "types.go:45", #[⟨3, .guard⟩], some (3, true)⟩) ?_
                    try simp only [Act.put, lA, l0, lS]
                    refine tkA (i := 5) (oi := ⟨some 52, .load 58 (.tmp 51), 58, "types.go:45", #[⟨4, .data⟩, ⟨3, .guard⟩], some (3, true)⟩) ?_
                    try simp only [Act.put, lA, l0, lS]
                    refine tkA (i := 6) (oi := ⟨some 53, .nilCheck (.tmp 52), 0, "types.go:45", #[⟨5, .data⟩, ⟨3, .guard⟩], some (3, true)⟩) ?_
                    try simp only [Act.put, lA, l0, lS]
                    refine tkA (i := 7) (oi := ⟨some 54, .fieldAddr 69 (.tmp 53) 0, 0, "types.go:45", #[⟨6, .data⟩, ⟨3, .guard⟩], some (3, true)⟩) ?_
                    try simp only [Act.put, lA, l0, lS]
                    refine tkA (i := 8) (oi := ⟨some 55, .load 64 (.tmp 54), 64, "types.go:45", #[⟨7, .data⟩, ⟨3, .guard⟩], some (3, true)⟩) ?_
                    try simp only [Act.put, lA, l0, lS]
                    refine tkA (i := 9) (oi := ⟨some 56, .fieldAddr 78 (.tmp 1) 1, 0, "types.go:45", #[⟨3, .guard⟩], some (3, true)⟩) ?_
                    try simp only [Act.put, lA, l0, lS]
                    refine tkA (i := 10) (oi := ⟨some 57, .fieldAddr 31 (.tmp 56) 2, 0, "types.go:45", #[⟨9, .data⟩, ⟨3, .guard⟩], some (3, true)⟩) ?_
                    try simp only [Act.put, lA, l0, lS]
                    refine tkA (i := 11) (oi := ⟨some 58, .load 2 (.tmp 57), 2, "types.go:45", #[⟨10, .data⟩, ⟨3, .guard⟩], some (3, true)⟩) ?_
                    try simp only [Act.put, lA, l0, lS]
                    refine wpAnyH_ready (rs := [12]) (by kernel_rfl) (by simp) ?_
                    refine AllReadyH.cons (o := ⟨some 59, .call { callee := Callee.value (.func 52), args := #[.tmp 55, .tmp 58], argTypes := #[64, 2] }, 3, "types.go:45", #[⟨8, .data⟩, ⟨11, .data⟩, ⟨3, .chain⟩, ⟨3, .guard⟩], some (3, true)⟩) rfl (fun K hK => ?_) AllReadyH.nil
                    refine ite_take (by rfl) ?_
                    go_simp
                    refine (HS2.out _ hW2x).mono ?_
                    rintro e' W2xx ⟨rfl, bX⟩
                    have hW2xx : Below V2.heap.size V2 W2xx := hW2x.trans (bX.mono hW2x.size)
                    clear bX
                    go_wp2_with fail
                    refine hK.out _ _ (hSc.out _ hW2xx) (fun hHeld => ?_)
                    clear hK K
                    try simp only [Act.put, lA, l0, lS]
                    refine wpAnyH_ready (rs := [13]) (by kernel_rfl) (by simp) ?_
                    refine AllReadyH.cons (o := ⟨some 60, .call { callee := Callee.value (.func 54), args := #[.tmp 59], argTypes := #[3] }, 4, "types.go:45", #[⟨12, .data⟩, ⟨12, .chain⟩, ⟨3, .guard⟩], some (3, true)⟩) rfl (fun K hK => ?_) AllReadyH.nil
                    refine ite_take (by rfl) ?_
                    go_simp
                    refine (counts_any s1 _).mono ?_
                    rintro e' W2xxx ⟨rfl, rfl⟩
                    have hW2xxx := hW2xx
                    go_wp2_with fail
                    refine hK.out _ _ (hSc.out _ hW2xxx) (fun hHeld => ?_)
                    clear hK K
                    try simp only [Act.put, lA, l0, lS]
                    refine tkA (i := 14) (oi := ⟨some 61, .pick (.tmp 50) (.tmp 60) (.const (.bool false)), 4, "types.go:45", #[⟨3, .data⟩, ⟨13, .data⟩], none⟩) ?_
                    try simp only [Act.put, lA, l0, lS]
                    refine tkA (i := 15) (oi := ⟨some 62, .move (.tmp 61), 4, "types.go:45", #[⟨14, .data⟩, ⟨13, .chain⟩], none⟩) ?_
                    try simp only [Act.put, lA, l0, lS]
                    refine tkA (i := 16) (oi := ⟨some 63, .load 78 (.tmp 1), 78, "types.go:45", #[⟨15, .guard⟩], some (15, true)⟩) ?_
                    try simp only [Act.put, lA, l0, lS]
                    refine wpAnyH_ready (rs := [17]) (by kernel_rfl) (by simp) ?_
                    refine AllReadyH.cons (o := ⟨some 64, .call { callee := Callee.value (.func 55), args := #[.tmp 63], argTypes := #[78] }, 4, "types.go:45", #[⟨16, .data⟩, ⟨15, .chain⟩, ⟨15, .guard⟩], some (15, true)⟩) rfl (fun K hK => ?_) AllReadyH.nil
                    refine ite_take (by rfl) ?_
                    go_simp
                    refine (HCr.out _ hW2xxx).mono ?_
                    rintro e' W2xxxx ⟨rfl, bX⟩
                    have hW2xxxx : Below V2.heap.size V2 W2xxxx := hW2xxx.trans (bX.mono hW2xxx.size)
                    clear bX
                    go_wp2_with fail
                    refine hK.out _ _ (hSc.out _ hW2xxxx) (fun hHeld => ?_)
                    clear hK K
                    try simp only [Act.put, lA, l0, lS]
                    refine tkA (i := 18) (oi := ⟨some 65, .pick (.tmp 62) (.tmp 64) (.const (.bool false)), 4, "types.go:45", #[⟨15, .data⟩, ⟨17, .data⟩], none⟩) ?_
                    try simp only [Act.put, lA, l0, lS]
                    refine tkA (i := 19) (oi := ⟨some 46, .assign (.tmp 65), 4, "types.go:45", #[⟨18, .data⟩, ⟨17, .chain⟩], none⟩) ?_
                    try simp only [Act.put, lA, l0, lS]
                    refine wpAnyH_done (by kernel_rfl) ?_ _
                    have HB3 : Hid (Below V2.heap.size V2 W2xxxx) := hW2xxxx
                    clear hHeld hW2xxxx
                    cases cr
                    · have HQ : Hid (R = (k1.block e, 0)) := by show _ = _; rw [HX.out, if_neg (by simp)]
                      obtain ⟨⟨j0, j1, j2, j3, j4, j5, j6, j7, j8, j9, j10, j11, j12, j13, j14⟩, _⟩ := hSc.out W2xxxx HB3.out
                      go_wp2_with fail
                      go_at_call 56
                      refine (HBb0.out _ A1 HA.out.2 (HL2.out.1.below HB3.out)).mono ?_
                      rintro e' V9 ⟨rfl, h9⟩
                      have HL9 : Hid (LJ w0 V9 A1 (k1.block e) (m + 2)) := h9
                      clear h9
                      go_wp2_with fail
                      go_ret
                      exact ⟨by rw [HQ.out]; rfl, A1, HA.out.1, by first | exact HA.out.2 | exact ⟨HA.out.2 _, HA.out.2 _⟩, by rw [HQ.out]; exact HL9.out.more (by omega)⟩
                    · have HQ : Hid (R = (k1, 7)) := by show _ = _; rw [HX.out, if_pos (by simp [x1, x2])]
                      go_wp2_with fail
                      go_ret
                      exact ⟨by rw [HQ.out]; rfl, A1, HA.out.1, by first | exact HA.out.2 | exact ⟨HA.out.2 _, HA.out.2 _⟩, by rw [HQ.out]; exact (HL2.out.1.below HB3.out).more (by omega)⟩
              · as_aux_lemma =>
                  have hIW : Below V2.heap.size V2 V2.drew := (Below.refl _ _).drew
                  refine wp_region_held_drew (S := (fun V => (V.cell? ⟨b0, 0, none⟩ = some (.pointer (some ⟨A.g, 0, none⟩)) ∧ V.cell? ⟨b0, 1, none⟩ = some (.int .i64 ty) ∧ V.cell? ⟨b0, 2, none⟩ = some (.int .i64 fl) ∧ V.cell? ⟨b0, 3, none⟩ = some (.int .i64 st) ∧ V.cell? ⟨b0, 4, none⟩ = some (.string da) ∧ V.cell? ⟨b0, 5, none⟩ = some (.int .i64 pa) ∧ V.cell? ⟨b0, 6, none⟩ = some (.int .i64 de) ∧ V.cell? ⟨b0, 7, none⟩ = some (.bool ex) ∧ V.cell? ⟨b0, 8, none⟩ = some (.int .i64 wt) ∧ V.cell? ⟨b0, 9, none⟩ = some (.int .i64 co) ∧ V.cell? ⟨b0, 10, none⟩ = some (.int .i64 la) ∧ V.cell? ⟨b0, 11, none⟩ = some p ∧ V.cell? ⟨b0, 12, none⟩ = some (.bool true) ∧ V.cell? ⟨b0, 13, none⟩ = some (.pointer (some ⟨wa, 0, none⟩)) ∧ V.cell? ⟨b0, 14, none⟩ = some (.pointer (some ⟨bk, 0, none⟩))) ∧ V.cell? ⟨A.g, 0, none⟩ = some (.pointer (some ⟨A1.p, 0, none⟩)))) (by kernel_rfl) (hSc.out _ hIW) (fun hHeld => ?_)
                  generalize hWg : World.drew _ = W2 at hIW hHeld ⊢
                  clear hWg
                  refine tkA (i := 0) (oi := ⟨some 47, .move (.tmp 3), 3, "types.go:45", #[], none⟩) ?_
                  try simp only [Act.put, lA, l0, lS]
                  refine wpAnyH_ready (rs := [1]) (by kernel_rfl) (by simp) ?_
                  refine AllReadyH.cons (o := ⟨some 48, .call { callee := Callee.value (.func 54), args := #[.tmp 47], argTypes := #[3] }, 4, "types.go:45", #[⟨0, .data⟩], none⟩) rfl (fun K hK => ?_) AllReadyH.nil
                  go_simp
                  refine (counts_any b _).mono ?_
                  rintro e' W2x ⟨rfl, rfl⟩
                  have hW2x := hIW
                  go_wp2_with fail
                  refine hK.out _ _ (hSc.out _ hW2x) (fun hHeld => ?_)
                  clear hK K
                  try simp only [Act.put, lA, l0, lS]
                  refine tkA (i := 2) (oi := ⟨some 49, .unOp .not 4 (.tmp 48), 4, "types.go:45", #[⟨1, .data⟩], none⟩) ?_
                  try simp only [Act.put, lA, l0, lS]
                  refine tkA (i := 3) (oi := ⟨some 50, .move (.tmp 49), 4, "types.go:45", #[⟨2, .data⟩, ⟨1, .chain⟩], none⟩) ?_
                  try simp only [Act.put, lA, l0, lS]
                  refine wpAnyH_take (i := 4) (oi := ⟨some 51, .fieldAddr 78 (.tmp 1) 0, 0, "types.go:45", #[⟨3, .guard⟩], some (3, true)⟩) (v := undef) rfl (by kernel_rfl) (by kernel_rfl) (by kernel_rfl) (fun _ _ _ h => h) (Or.inr ⟨by rfl, rfl⟩) (by assumption) ?_
                  try simp only [Act.put, lA, l0, lS]
                  refine wpAnyH_take (i := 5) (oi := ⟨some 52, .load 58 (.tmp 51), 58, "types.go:45", #[⟨4, .data⟩, ⟨3, .guard⟩], some (3, true)⟩) (v := undef) rfl (by kernel_rfl) (by kernel_rfl) (by kernel_rfl) (fun _ _ _ h => h) (Or.inr ⟨by rfl, rfl⟩) (by assumption) ?_
                  try simp only [Act.put, lA, l0, lS]
                  refine wpAnyH_take (i := 6) (oi := ⟨some 53, .nilCheck (.tmp 52), 0, "types.go:45", #[⟨5, .data⟩, ⟨3, .guard⟩], some (3, true)⟩) (v := undef) rfl (by kernel_rfl) (by kernel_rfl) (by kernel_rfl) (fun _ _ _ h => h) (Or.inr ⟨by rfl, rfl⟩) (by assumption) ?_
                  try simp only [Act.put, lA, l0, lS]
                  refine wpAnyH_take (i := 7) (oi := ⟨some 54, .fieldAddr 69 (.tmp 53) 0, 0, "types.go:45", #[⟨6, .data⟩, ⟨3, .guard⟩], some (3, true)⟩) (v := undef) rfl (by kernel_rfl) (by kernel_rfl) (by kernel_rfl) (fun _ _ _ h => h) (Or.inr ⟨by rfl, rfl⟩) (by assumption) ?_
                  try simp only [Act.put, lA, l0, lS]
                  refine wpAnyH_take (i := 8) (oi := ⟨some 55, .load 64 (.tmp 54), 64, "types.go:45", #[⟨7, .data⟩, ⟨3, .guard⟩], some (3, true)⟩) (v := undef) rfl (by kernel_rfl) (by kernel_rfl) (by kernel_rfl) (fun _ _ _ h => h) (Or.inr ⟨by rfl, rfl⟩) (by assumption) ?_
                  try simp only [Act.put, lA, l0, lS]
                  refine wpAnyH_take (i := 9) (oi := ⟨some 56, .fieldAddr 78 (.tmp 1) 1, 0, "types.go:45", #[⟨3, .guard⟩], some (3, true)⟩) (v := undef) rfl (by kernel_rfl) (by kernel_rfl) (by kernel_rfl) (fun _ _ _ h => h) (Or.inr ⟨by rfl, rfl⟩) (by assumption) ?_
                  try simp only [Act.put, lA, l0, lS]
                  refine wpAnyH_take (i := 10) (oi := ⟨some 57, .fieldAddr 31 (.tmp 56) 2, 0, "types.go:45", #[⟨9, .data⟩, ⟨3, .guard⟩], some (3, true)⟩) (v := undef) rfl (by kernel_rfl) (by kernel_rfl) (by kernel_rfl) (fun _ _ _ h => h) (Or.inr ⟨by rfl, rfl⟩) (by assumption) ?_
                  try simp only [Act.put, lA, l0, lS]
                  refine wpAnyH_take (i := 11) (oi := ⟨some 58, .load 2 (.tmp 57), 2, "types.go:45", #[⟨10, .data⟩, ⟨3, .guard⟩], some (3, true)⟩) (v := undef) rfl (by kernel_rfl) (by kernel_rfl) (by kernel_rfl) (fun _ _ _ h => h) (Or.inr ⟨by rfl, rfl⟩) (by assumption) ?_
                  try simp only [Act.put, lA, l0, lS]
                  refine wpAnyH_take (i := 12) (oi := ⟨some 59, .call { callee := Callee.value (.func 52), args := #[.tmp 55, .tmp 58], argTypes := #[64, 2] }, 3, "types.go:45", #[⟨8, .data⟩, ⟨11, .data⟩, ⟨3, .chain⟩, ⟨3, .guard⟩], some (3, true)⟩) (v := undef) rfl (by kernel_rfl) (by kernel_rfl) (by kernel_rfl) (fun _ _ _ h => h) (Or.inr ⟨by rfl, rfl⟩) (by assumption) ?_
                  try simp only [Act.put, lA, l0, lS]
                  refine wpAnyH_take (i := 13) (oi := ⟨some 60, .call { callee := Callee.value (.func 54), args := #[.tmp 59], argTypes := #[3] }, 4, "types.go:45", #[⟨12, .data⟩, ⟨12, .chain⟩, ⟨3, .guard⟩], some (3, true)⟩) (v := undef) rfl (by kernel_rfl) (by kernel_rfl) (by kernel_rfl) (fun _ _ _ h => h) (Or.inr ⟨by rfl, rfl⟩) (by assumption) ?_
                  try simp only [Act.put, lA, l0, lS]
                  refine tkA (i := 14) (oi := ⟨some 61, .pick (.tmp 50) (.tmp 60) (.const (.bool false)), 4, "types.go:45", #[⟨3, .data⟩, ⟨13, .data⟩], none⟩) ?_
                  try simp only [Act.put, lA, l0, lS]
                  refine tkA (i := 15) (oi := ⟨some 62, .move (.tmp 61), 4, "types.go:45", #[⟨14, .data⟩, ⟨13, .chain⟩], none⟩) ?_
                  try simp only [Act.put, lA, l0, lS]
                  refine wpAnyH_take (i := 16) (oi := ⟨some 63, .load 78 (.tmp 1), 78, "types.go:45", #[⟨15, .guard⟩], some (15, true)⟩) (v := undef) rfl (by kernel_rfl) (by kernel_rfl) (by kernel_rfl) (fun _ _ _ h => h) (Or.inr ⟨by rfl, rfl⟩) (by assumption) ?_
                  try simp only [Act.put, lA, l0, lS]
                  refine wpAnyH_take (i := 17) (oi := ⟨some 64, .call { callee := Callee.value (.func 55), args := #[.tmp 63], argTypes := #[78] }, 4, "types.go:45", #[⟨16, .data⟩, ⟨15, .chain⟩, ⟨15, .guard⟩], some (15, true)⟩) (v := undef) rfl (by kernel_rfl) (by kernel_rfl) (by kernel_rfl) (fun _ _ _ h => h) (Or.inr ⟨by rfl, rfl⟩) (by assumption) ?_
                  try simp only [Act.put, lA, l0, lS]
                  refine tkA (i := 18) (oi := ⟨some 65, .pick (.tmp 62) (.tmp 64) (.const (.bool false)), 4, "types.go:45", #[⟨15, .data⟩, ⟨17, .data⟩], none⟩) ?_
                  try simp only [Act.put, lA, l0, lS]
                  refine tkA (i := 19) (oi := ⟨some 46, .assign (.tmp 65), 4, "types.go:45", #[⟨18, .data⟩, ⟨17, .chain⟩], none⟩) ?_
                  try simp only [Act.put, lA, l0, lS]
                  refine wpAnyH_done (by kernel_rfl) ?_ _
                  have HB3 : Hid (Below V2.heap.size V2 W2x) := hW2x
                  clear hHeld hW2x
                  have HQ : Hid (R = (k1.block e, 0)) := by show _ = _; rw [HX.out, if_neg (by first | (simp [x1]; done) | (simp [x1, x2]; done))]
                  obtain ⟨⟨j0, j1, j2, j3, j4, j5, j6, j7, j8, j9, j10, j11, j12, j13, j14⟩, _⟩ := hSc.out W2x HB3.out
                  go_wp2_with fail
                  go_at_call 56
                  refine (HBb0.out _ A1 HA.out.2 (HL2.out.1.below HB3.out)).mono ?_
                  rintro e' V9 ⟨rfl, h9⟩
                  have HL9 : Hid (LJ w0 V9 A1 (k1.block e) (m + 2)) := h9
                  clear h9
                  go_wp2_with fail
                  go_ret
                  exact ⟨by rw [HQ.out]; rfl, A1, HA.out.1, by first | exact HA.out.2 | exact ⟨HA.out.2 _, HA.out.2 _⟩, by rw [HQ.out]; exact HL9.out.more (by omega)⟩
      · have HQ : Hid (R = (k1, c1)) := by show _ = _; rw [HR.out, if_pos hc]
        have hcb : (c1 == 0) = false := beq_eq_false_iff_ne.2 hc
        go_wp2_with fail
        go_ret
        exact ⟨by rw [HQ.out]; rfl, A1, HA.out.1, by first | exact HA.out.2 | exact ⟨HA.out.2 _, HA.out.2 _⟩, by rw [HQ.out]; exact HL2.out.1.more (by omega)⟩
end Go.Proofs.YtfmljlflnpmceaaGreatDoor
