/- HEADERS. -/
import Derived.Test.YtfmljlflnpmceaaGreatDoorKq
import Derived.Test.YtfmljlflnpmceaaGreatDoorVz3
namespace Go.Proofs.YtfmljlflnpmceaaGreatDoor
open Go.RowKit
set_option linter.unusedVariables false
set_option linter.unusedSimpArgs false
set_option maxRecDepth 100000 in
set_option maxHeartbeats 40000000 in
theorem headers_any (t : Tn) (e : Et) (w0 w : World) (A : LA) (k : Lk) (m : Nat) (h : LJ w0 w A k m) (hv : Lv k) (hf : t.f = e.f) (hs : t.s = e.s) (hg : t.lk = A.g) (hw : t.wa = (A.w t.s).g) (hb : t.bk = (A.w (!t.s)).g) (hi : I64 t.f.st) (hm : m + 2 < maxLen) :
    Calls Tryz.prog 39 #[.agg (tnv t)] w fun r w' => r = .returned (.int .i64 (k.headers e).2) ∧ ∃ A', A'.g = A.g ∧ (∀ u, (A'.w u).g = (A.w u).g) ∧ LJ w0 w' A' (k.headers e).1 (m + 3) := by
  obtain ⟨R, hR⟩ : ∃ R, k.headers e = R := ⟨_, rfl⟩
  obtain ⟨b, hbb⟩ : ∃ v, k.T.st t.f.st = v := ⟨_, rfl⟩
  obtain ⟨kd, hkd⟩ : ∃ v, (if Fm.hasF t.f.fl 1 = true then (2 : Int) else 1) = v := ⟨_, rfl⟩
  obtain ⟨⟨k1, c1, i1⟩, hH⟩ : ∃ H, k.happen t.s t.f.st kd = H := ⟨_, rfl⟩
  obtain ⟨s1, hs1⟩ : ∃ v, k1.T.st t.f.st = v := ⟨_, rfl⟩
  have HR : Hid (R = if c1 ≠ 0 then (k1, c1) else if (t.s && (k1.wy false).ga && b == 0) = true then (k1, 1) else if (!ct b && ct s1 && k1.crowded t.s) = true then (k1, 7) else (k1.block e, 0)) := by
    show _ = _
    rw [← hR]
    unfold Lk.headers Et.kind
    simp only
    rw [← hf, ← hs]
    have e1 : (if e.has 1 = true then (2 : Int) else 1) = kd := by rw [← hkd, hf]; rfl
    rw [e1, hH]
    simp only
    rw [hbb, hs1]
  rw [hR]
  have HEf : Hid (t.f = e.f ∧ t.s = e.s) := ⟨hf, hs⟩
  obtain ⟨W1, hW1⟩ : ∃ V, w.alloc (.cells (tnv t) 78) = V := ⟨_, rfl⟩
  obtain ⟨b0, hb'⟩ : ∃ q, w.heap.size = q := ⟨_, rfl⟩
  have b1 : Below w.heap.size w W1 := by rw [← hW1]; exact bel1 _ _
  have hb0 : W1.heap[b0]? = some (.cells (tnv t) 78 (0, 0)) := by rw [← hW1, ← hb', heap_al, if_pos rfl]
  have HL0 : Hid (LJ w0 W1 A k m ∧ W1.heap[b0]? = some (.cells (tnv t) 78 (0, 0))) := ⟨h.below b1, hb0⟩
  have HSt : Hid (∀ V, Below W1.heap.size W1 V → Calls Tryz.prog 52 #[.pointer (some ⟨A.p, 0, none⟩), .int .i64 t.f.st] V fun e w' => e = .returned (.int .i64 b) ∧ Below V.heap.size V w') := fun V hV => by
    have := state_any V A.p A.mb k.T t.f.st (HL0.out.1.below hV).ti hi
    rw [hbb] at this
    exact this
  have HKd0 : Hid (∀ V, Calls Tryz.prog 53 #[.agg (tnv t), .int .i64 1, .int .i64 2] V fun e w' => e = .returned (.int .i64 kd) ∧ Below V.heap.size V w') := fun V => by
    have := kind_any t 1 2 V
    rw [hkd] at this
    exact this
  have HHp0 : Hid (∀ V, LJ w0 V A k m → Calls Tryz.prog 47 #[.agg (tnv t), .int .i64 t.f.st, .int .i64 kd] V fun e w' => e = .returned (.tuple #[.int .i64 c1, .bool i1]) ∧ ∃ A', A'.g = A.g ∧ (∀ u, (A'.w u).g = (A.w u).g) ∧ LJ w0 w' A' k1 (m + 2) ∧ KpO V w') := fun V hV => by
    have := happen_any t t.f.st kd w0 V A k m hV hv hg hw hb hi (by omega)
    rw [hH] at this
    exact this
  have HCr0 : Hid (∀ (V : World) (A1 : LA), A1.g = A.g → (∀ u, (A1.w u).g = (A.w u).g) → LJ w0 V A1 k1 (m + 2) → Calls Tryz.prog 55 #[.agg (tnv t)] V fun e w' => e = .returned (.bool (k1.crowded t.s)) ∧ Below V.heap.size V w') := fun V A1 g1 g2 hV => isCrowded_any t w0 V A1 k1 (m + 2) hV (hg.trans g1.symm) (hw.trans (g2 _).symm)
  have HBb0 : Hid (∀ (V : World) (A1 : LA), (∀ u, (A1.w u).g = (A.w u).g) → LJ w0 V A1 k1 (m + 2) → Calls Tryz.prog 56 #[.agg (tnv t)] V fun r w' => r = .returned (.tuple #[]) ∧ LJ w0 w' A1 (k1.block e) (m + 2)) := fun V A1 g2 hV => beginBlock_any t e w0 V A1 k1 (m + 2) hV hf hs (hw.trans (g2 _).symm)
  have HI : Hid (I64 t.f.st) := hi
  have HS1 : Hid (k1.T.st t.f.st = s1) := hs1
  have j0 := cell_blk hb0 0
  have j1 := cell_blk hb0 1
  have j2 := cell_blk hb0 2
  have j3 := cell_blk hb0 3
  have j4 := cell_blk hb0 4
  have j5 := cell_blk hb0 5
  have j6 := cell_blk hb0 6
  have j7 := cell_blk hb0 7
  have j8 := cell_blk hb0 8
  have j9 := cell_blk hb0 9
  have j10 := cell_blk hb0 10
  have j11 := cell_blk hb0 11
  have j12 := cell_blk hb0 12
  have j13 := cell_blk hb0 13
  have j14 := cell_blk hb0 14
  clear h hv hw hb hi hm hH hs1 hR hbb hkd b1 hb0 hf hs
  obtain ⟨lk, ⟨ty, fl, st, da, pa, de, ex, wt, co, la⟩, p, s, wa, bk⟩ := t
  simp only at hg HR HI HS1 HSt HHp0 HCr0
  subst hg
  simp only [tnv] at hW1 HL0 HKd0 HHp0 HCr0 HBb0 j0 j1 j2 j3 j4 j5 j6 j7 j8 j9 j10 j11 j12 j13 j14 ⊢
  simp only [List.getElem?_toArray, List.getElem?_cons_succ, List.getElem?_cons_zero] at j0 j1 j2 j3 j4 j5 j6 j7 j8 j9 j10 j11 j12 j13 j14
  obtain ⟨cr, hcr⟩ : ∃ v, k1.crowded s = v := ⟨_, rfl⟩
  rw [hcr] at HR HCr0
  clear hcr
  have hSc : Hid (∀ V, Below W1.heap.size W1 V → (V.cell? ⟨b0, 0, none⟩ = some (.pointer (some ⟨A.g, 0, none⟩)) ∧ V.cell? ⟨b0, 1, none⟩ = some (.int .i64 ty) ∧ V.cell? ⟨b0, 2, none⟩ = some (.int .i64 fl) ∧ V.cell? ⟨b0, 3, none⟩ = some (.int .i64 st) ∧ V.cell? ⟨b0, 4, none⟩ = some (.string da) ∧ V.cell? ⟨b0, 5, none⟩ = some (.int .i64 pa) ∧ V.cell? ⟨b0, 6, none⟩ = some (.int .i64 de) ∧ V.cell? ⟨b0, 7, none⟩ = some (.bool ex) ∧ V.cell? ⟨b0, 8, none⟩ = some (.int .i64 wt) ∧ V.cell? ⟨b0, 9, none⟩ = some (.int .i64 co) ∧ V.cell? ⟨b0, 10, none⟩ = some (.int .i64 la) ∧ V.cell? ⟨b0, 11, none⟩ = some p ∧ V.cell? ⟨b0, 12, none⟩ = some (.bool s) ∧ V.cell? ⟨b0, 13, none⟩ = some (.pointer (some ⟨wa, 0, none⟩)) ∧ V.cell? ⟨b0, 14, none⟩ = some (.pointer (some ⟨bk, 0, none⟩))) ∧ V.cell? ⟨A.g, 0, none⟩ = some (.pointer (some ⟨A.p, 0, none⟩))) := fun V hV => by
    have h1 := (hV.block _ (heap_lt HL0.out.2)).trans HL0.out.2
    refine ⟨⟨cell_blk h1 0, cell_blk h1 1, cell_blk h1 2, cell_blk h1 3, cell_blk h1 4, cell_blk h1 5, cell_blk h1 6, cell_blk h1 7, cell_blk h1 8, cell_blk h1 9, cell_blk h1 10, cell_blk h1 11, cell_blk h1 12, cell_blk h1 13, cell_blk h1 14⟩, ?_⟩
    exact (HL0.out.1.below hV).cell0
  go_enter Tryz.func39, Tryz.ntmps39
  go_upto_region 1 with fail
  try rw [hW1]
  try rw [hb']
  clear hW1 hb' j0 j1 j2 j3 j4 j5 j6 j7 j8 j9 j10 j11 j12 j13 j14
  go_cut [3] from 6 (fun v wx => v = .int .i64 b ∧ Below W1.heap.size W1 wx)
  case first =>
    as_aux_lemma =>
      have hIW : Below W1.heap.size W1 W1.drew := (Below.refl _ _).drew
      refine wp_region_held_drew (S := (fun V => (V.cell? ⟨b0, 0, none⟩ = some (.pointer (some ⟨A.g, 0, none⟩)) ∧ V.cell? ⟨b0, 1, none⟩ = some (.int .i64 ty) ∧ V.cell? ⟨b0, 2, none⟩ = some (.int .i64 fl) ∧ V.cell? ⟨b0, 3, none⟩ = some (.int .i64 st) ∧ V.cell? ⟨b0, 4, none⟩ = some (.string da) ∧ V.cell? ⟨b0, 5, none⟩ = some (.int .i64 pa) ∧ V.cell? ⟨b0, 6, none⟩ = some (.int .i64 de) ∧ V.cell? ⟨b0, 7, none⟩ = some (.bool ex) ∧ V.cell? ⟨b0, 8, none⟩ = some (.int .i64 wt) ∧ V.cell? ⟨b0, 9, none⟩ = some (.int .i64 co) ∧ V.cell? ⟨b0, 10, none⟩ = some (.int .i64 la) ∧ V.cell? ⟨b0, 11, none⟩ = some p ∧ V.cell? ⟨b0, 12, none⟩ = some (.bool s) ∧ V.cell? ⟨b0, 13, none⟩ = some (.pointer (some ⟨wa, 0, none⟩)) ∧ V.cell? ⟨b0, 14, none⟩ = some (.pointer (some ⟨bk, 0, none⟩))) ∧ V.cell? ⟨A.g, 0, none⟩ = some (.pointer (some ⟨A.p, 0, none⟩)))) (by kernel_rfl) (hSc.out _ hIW) (fun hHeld => ?_)
      generalize hWg : World.drew _ = W2 at hIW hHeld ⊢
      clear hWg
      refine tkH (i := 0) (oi := ⟨some 6, .fieldAddr 78 (.tmp 1) 0, 0, "types.go:38", #[], none⟩) (v := ?vv1) ?hy1 ?_
      case hy1 => (intro w hSw; (try dsimp only at hSw); go_simp; all_goals with_reducible rfl)
      try simp only [Act.put, lA, l0, lS]
      refine tkH (i := 1) (oi := ⟨some 7, .load 58 (.tmp 6), 58, "types.go:38", #[⟨0, .data⟩], none⟩) (v := ?vv2) ?hy2 ?_
      case hy2 => (intro w hSw; (try dsimp only at hSw); go_simp; all_goals with_reducible rfl)
      try simp only [Act.put, lA, l0, lS]
      refine tkH (i := 2) (oi := ⟨some 8, .nilCheck (.tmp 7), 0, "types.go:38", #[⟨1, .data⟩], none⟩) (v := ?vv3) ?hy3 ?_
      case hy3 => (intro w hSw; (try dsimp only at hSw); go_simp; all_goals with_reducible rfl)
      try simp only [Act.put, lA, l0, lS]
      refine tkH (i := 3) (oi := ⟨some 9, .fieldAddr 69 (.tmp 8) 0, 0, "types.go:38", #[⟨2, .data⟩], none⟩) (v := ?vv4) ?hy4 ?_
      case hy4 => (intro w hSw; (try dsimp only at hSw); go_simp; all_goals with_reducible rfl)
      try simp only [Act.put, lA, l0, lS]
      refine tkH (i := 4) (oi := ⟨some 10, .load 64 (.tmp 9), 64, "types.go:38", #[⟨3, .data⟩], none⟩) (v := ?vv5) ?hy5 ?_
      case hy5 => (intro w hSw; (try dsimp only at hSw); go_simp; all_goals with_reducible rfl)
      try simp only [Act.put, lA, l0, lS]
      refine tkH (i := 5) (oi := ⟨some 11, .fieldAddr 78 (.tmp 1) 1, 0, "types.go:38", #[], none⟩) (v := ?vv6) ?hy6 ?_
      case hy6 => (intro w hSw; (try dsimp only at hSw); go_simp; all_goals with_reducible rfl)
      try simp only [Act.put, lA, l0, lS]
      refine tkH (i := 6) (oi := ⟨some 12, .fieldAddr 31 (.tmp 11) 2, 0, "types.go:38", #[⟨5, .data⟩], none⟩) (v := ?vv7) ?hy7 ?_
      case hy7 => (intro w hSw; (try dsimp only at hSw); go_simp; all_goals with_reducible rfl)
      try simp only [Act.put, lA, l0, lS]
      refine tkH (i := 7) (oi := ⟨some 13, .load 2 (.tmp 12), 2, "types.go:38", #[⟨6, .data⟩], none⟩) (v := ?vv8) ?hy8 ?_
      case hy8 => (intro w hSw; (try dsimp only at hSw); go_simp; all_goals with_reducible rfl)
      try simp only [Act.put, lA, l0, lS]
      refine wpAnyH_ready (rs := [8]) (by kernel_rfl) (by simp) ?_
      refine AllReadyH.cons (o := ⟨some 14, .call { callee := Callee.value (.func 52), args := #[.tmp 10, .tmp 13], argTypes := #[64, 2] }, 3, "types.go:38", #[⟨4, .data⟩, ⟨7, .data⟩], none⟩) rfl (fun K hK => ?_) AllReadyH.nil
      go_simp
      refine (HSt.out _ hIW).mono ?_
      rintro e' W2x ⟨rfl, bX⟩
      have hW2x : Below W1.heap.size W1 W2x := hIW.trans (bX.mono hIW.size)
      clear bX
      go_wp2_with fail
      refine hK.out _ _ (hSc.out _ hW2x) (fun hHeld => ?_)
      clear hK K
      try simp only [Act.put, lA, l0, lS]
      refine tkH (i := 9) (oi := ⟨some 3, .assign (.tmp 14), 3, "types.go:38", #[⟨8, .data⟩, ⟨8, .chain⟩, ⟨0, .phase⟩, ⟨1, .phase⟩, ⟨2, .phase⟩, ⟨3, .phase⟩, ⟨4, .phase⟩, ⟨5, .phase⟩, ⟨6, .phase⟩, ⟨7, .phase⟩, ⟨8, .phase⟩], none⟩) (v := ?vv9) ?hy9 ?_
      case hy9 => (intro w hSw; (try dsimp only at hSw); go_simp; all_goals with_reducible rfl)
      try simp only [Act.put, lA, l0, lS]
      refine wpAnyH_done (by kernel_rfl) ?_ _
      have HB2 : Hid (Below W1.heap.size W1 W2x) := hW2x
      clear hHeld hW2x
      go_wp2_with fail
      go_meet
      case rel => exact ⟨rfl, HB2.out⟩
  case rest =>
    obtain ⟨rfl, hbw⟩ := hcut
    have HL1 : Hid (LJ w0 wc A k m ∧ wc.heap[b0]? = some (.cells #[.pointer (some ⟨A.g, 0, none⟩), .int .i64 ty, .int .i64 fl, .int .i64 st, .string da, .int .i64 pa, .int .i64 de, .bool ex, .int .i64 wt, .int .i64 co, .int .i64 la, p, .bool s, .pointer (some ⟨wa, 0, none⟩), .pointer (some ⟨bk, 0, none⟩)] 78 (0, 0))) := ⟨HL0.out.1.below hbw, (hbw.block _ (heap_lt HL0.out.2)).trans HL0.out.2⟩
    clear hbw HL0 hSc HSt
    generalize wc = V1 at HL1 ⊢
    have hSb : Hid (∀ V : World, V.heap[b0]? = some (.cells #[.pointer (some ⟨A.g, 0, none⟩), .int .i64 ty, .int .i64 fl, .int .i64 st, .string da, .int .i64 pa, .int .i64 de, .bool ex, .int .i64 wt, .int .i64 co, .int .i64 la, p, .bool s, .pointer (some ⟨wa, 0, none⟩), .pointer (some ⟨bk, 0, none⟩)] 78 (0, 0)) → V.cell? ⟨b0, 0, none⟩ = some (.pointer (some ⟨A.g, 0, none⟩)) ∧ V.cell? ⟨b0, 1, none⟩ = some (.int .i64 ty) ∧ V.cell? ⟨b0, 2, none⟩ = some (.int .i64 fl) ∧ V.cell? ⟨b0, 3, none⟩ = some (.int .i64 st) ∧ V.cell? ⟨b0, 4, none⟩ = some (.string da) ∧ V.cell? ⟨b0, 5, none⟩ = some (.int .i64 pa) ∧ V.cell? ⟨b0, 6, none⟩ = some (.int .i64 de) ∧ V.cell? ⟨b0, 7, none⟩ = some (.bool ex) ∧ V.cell? ⟨b0, 8, none⟩ = some (.int .i64 wt) ∧ V.cell? ⟨b0, 9, none⟩ = some (.int .i64 co) ∧ V.cell? ⟨b0, 10, none⟩ = some (.int .i64 la) ∧ V.cell? ⟨b0, 11, none⟩ = some p ∧ V.cell? ⟨b0, 12, none⟩ = some (.bool s) ∧ V.cell? ⟨b0, 13, none⟩ = some (.pointer (some ⟨wa, 0, none⟩)) ∧ V.cell? ⟨b0, 14, none⟩ = some (.pointer (some ⟨bk, 0, none⟩))) := fun V h1 => ⟨cell_blk h1 0, cell_blk h1 1, cell_blk h1 2, cell_blk h1 3, cell_blk h1 4, cell_blk h1 5, cell_blk h1 6, cell_blk h1 7, cell_blk h1 8, cell_blk h1 9, cell_blk h1 10, cell_blk h1 11, cell_blk h1 12, cell_blk h1 13, cell_blk h1 14⟩
    have HKd : Hid (∀ V, Below V1.heap.size V1 V → Calls Tryz.prog 53 #[.agg #[.pointer (some ⟨A.g, 0, none⟩), .int .i64 ty, .int .i64 fl, .int .i64 st, .string da, .int .i64 pa, .int .i64 de, .bool ex, .int .i64 wt, .int .i64 co, .int .i64 la, p, .bool s, .pointer (some ⟨wa, 0, none⟩), .pointer (some ⟨bk, 0, none⟩)], .int .i64 1, .int .i64 2] V fun e w' => e = .returned (.int .i64 kd) ∧ Below V.heap.size V w') := fun V _ => HKd0.out V
    have HHp : Hid (∀ V, Below V1.heap.size V1 V → Calls Tryz.prog 47 #[.agg #[.pointer (some ⟨A.g, 0, none⟩), .int .i64 ty, .int .i64 fl, .int .i64 st, .string da, .int .i64 pa, .int .i64 de, .bool ex, .int .i64 wt, .int .i64 co, .int .i64 la, p, .bool s, .pointer (some ⟨wa, 0, none⟩), .pointer (some ⟨bk, 0, none⟩)], .int .i64 st, .int .i64 kd] V fun e w' => e = .returned (.tuple #[.int .i64 c1, .bool i1]) ∧ ∃ A', A'.g = A.g ∧ (∀ u, (A'.w u).g = (A.w u).g) ∧ LJ w0 w' A' k1 (m + 2) ∧ KpO V w') := fun V hV => HHp0.out V (HL1.out.1.below hV)
    go_upto_region 2 with fail
    go_cut [4, 5] from 6 (fun v v' wx => v = .int .i64 c1 ∧ v' = .bool i1 ∧ ∃ A1 : LA, A1.g = A.g ∧ (∀ u, (A1.w u).g = (A.w u).g) ∧ LJ w0 wx A1 k1 (m + 2) ∧ wx.heap[b0]? = some (.cells #[.pointer (some ⟨A.g, 0, none⟩), .int .i64 ty, .int .i64 fl, .int .i64 st, .string da, .int .i64 pa, .int .i64 de, .bool ex, .int .i64 wt, .int .i64 co, .int .i64 la, p, .bool s, .pointer (some ⟨wa, 0, none⟩), .pointer (some ⟨bk, 0, none⟩)] 78 (0, 0)))
    case first =>
      as_aux_lemma =>
        have hIW : Below V1.heap.size V1 V1.drew := (Below.refl _ _).drew
        refine wp_region_held_drew (S := (fun V => V.cell? ⟨b0, 0, none⟩ = some (.pointer (some ⟨A.g, 0, none⟩)) ∧ V.cell? ⟨b0, 1, none⟩ = some (.int .i64 ty) ∧ V.cell? ⟨b0, 2, none⟩ = some (.int .i64 fl) ∧ V.cell? ⟨b0, 3, none⟩ = some (.int .i64 st) ∧ V.cell? ⟨b0, 4, none⟩ = some (.string da) ∧ V.cell? ⟨b0, 5, none⟩ = some (.int .i64 pa) ∧ V.cell? ⟨b0, 6, none⟩ = some (.int .i64 de) ∧ V.cell? ⟨b0, 7, none⟩ = some (.bool ex) ∧ V.cell? ⟨b0, 8, none⟩ = some (.int .i64 wt) ∧ V.cell? ⟨b0, 9, none⟩ = some (.int .i64 co) ∧ V.cell? ⟨b0, 10, none⟩ = some (.int .i64 la) ∧ V.cell? ⟨b0, 11, none⟩ = some p ∧ V.cell? ⟨b0, 12, none⟩ = some (.bool s) ∧ V.cell? ⟨b0, 13, none⟩ = some (.pointer (some ⟨wa, 0, none⟩)) ∧ V.cell? ⟨b0, 14, none⟩ = some (.pointer (some ⟨bk, 0, none⟩)))) (by kernel_rfl) (hSb.out _ ((hIW.block _ (heap_lt HL1.out.2)).trans HL1.out.2)) (fun hHeld => ?_)
        generalize hWg : World.drew _ = W2 at hIW hHeld ⊢
        clear hWg
        refine tkH (i := 0) (oi := ⟨some 16, .load 78 (.tmp 1), 78, "types.go:39", #[], none⟩) (v := ?vv10) ?hy10 ?_
        case hy10 => (intro w hSw; (try dsimp only at hSw); go_simp; all_goals with_reducible rfl)
        try simp only [Act.put, lA, l0, lS]
        refine tkH (i := 1) (oi := ⟨some 17, .fieldAddr 78 (.tmp 1) 1, 0, "types.go:39", #[], none⟩) (v := ?vv11) ?hy11 ?_
        case hy11 => (intro w hSw; (try dsimp only at hSw); go_simp; all_goals with_reducible rfl)
        try simp only [Act.put, lA, l0, lS]
        refine tkH (i := 2) (oi := ⟨some 18, .fieldAddr 31 (.tmp 17) 2, 0, "types.go:39", #[⟨1, .data⟩], none⟩) (v := ?vv12) ?hy12 ?_
        case hy12 => (intro w hSw; (try dsimp only at hSw); go_simp; all_goals with_reducible rfl)
        try simp only [Act.put, lA, l0, lS]
        refine tkH (i := 3) (oi := ⟨some 19, .load 2 (.tmp 18), 2, "types.go:39", #[⟨2, .data⟩], none⟩) (v := ?vv13) ?hy13 ?_
        case hy13 => (intro w hSw; (try dsimp only at hSw); go_simp; all_goals with_reducible rfl)
        try simp only [Act.put, lA, l0, lS]
        refine tkH (i := 4) (oi := ⟨some 20, .load 78 (.tmp 1), 78, "types.go:39", #[], none⟩) (v := ?vv14) ?hy14 ?_
        case hy14 => (intro w hSw; (try dsimp only at hSw); go_simp; all_goals with_reducible rfl)
        try simp only [Act.put, lA, l0, lS]
        refine wpAnyH_ready (rs := [5]) (by kernel_rfl) (by simp) ?_
        refine AllReadyH.cons (o := ⟨some 21, .call { callee := Callee.value (.func 53), args := #[.tmp 20, .const (.int IntKind.i64 1), .const (.int IntKind.i64 2)], argTypes := #[78, 3, 3] }, 3, "types.go:39", #[⟨4, .data⟩], none⟩) rfl (fun K hK => ?_) AllReadyH.nil
        go_simp
        refine (HKd.out _ hIW).mono ?_
        rintro e' W2x ⟨rfl, bX⟩
        have hW2x : Below V1.heap.size V1 W2x := hIW.trans (bX.mono hIW.size)
        clear bX
        go_wp2_with fail
        refine hK.out _ _ (hSb.out _ ((hW2x.block _ (heap_lt HL1.out.2)).trans HL1.out.2)) (fun hHeld => ?_)
        clear hK K
        try simp only [Act.put, lA, l0, lS]
        refine wpAnyH_ready (rs := [6]) (by kernel_rfl) (by simp) ?_
        refine AllReadyH.cons (o := ⟨some 22, .call { callee := Callee.value (.func 47), args := #[.tmp 16, .tmp 19, .tmp 21], argTypes := #[78, 2, 3] }, 97, "types.go:39", #[⟨0, .data⟩, ⟨3, .data⟩, ⟨5, .data⟩, ⟨5, .chain⟩], none⟩) rfl (fun K hK => ?_) AllReadyH.nil
        go_simp
        refine (HHp.out _ hW2x).mono ?_
        rintro e' W2xx ⟨rfl, A1, a1, a2, a3, a4⟩
        have hbz := a4 _ _ _ _ ((hW2x.block _ (heap_lt HL1.out.2)).trans HL1.out.2) ot78
        have HE : Hid (∃ A1 : LA, A1.g = A.g ∧ (∀ u, (A1.w u).g = (A.w u).g) ∧ LJ w0 W2xx A1 k1 (m + 2) ∧ W2xx.heap[b0]? = some (.cells #[.pointer (some ⟨A.g, 0, none⟩), .int .i64 ty, .int .i64 fl, .int .i64 st, .string da, .int .i64 pa, .int .i64 de, .bool ex, .int .i64 wt, .int .i64 co, .int .i64 la, p, .bool s, .pointer (some ⟨wa, 0, none⟩), .pointer (some ⟨bk, 0, none⟩)] 78 (0, 0))) := ⟨A1, a1, a2, a3, hbz⟩
        go_wp2_with fail
        refine hK.out _ _ (hSb.out _ hbz) (fun hHeld => ?_)
        clear hK K a1 a2 a3 a4 hbz
        try simp only [Act.put, lA, l0, lS]
        refine tkH (i := 7) (oi := ⟨some 15, .move (.tmp 22), 97, "types.go:39", #[⟨6, .data⟩], none⟩) (v := ?vv15) ?hy15 ?_
        case hy15 => (intro w hSw; (try dsimp only at hSw); go_simp; all_goals with_reducible rfl)
        try simp only [Act.put, lA, l0, lS]
        refine tkH (i := 8) (oi := ⟨some 23, .extract (.tmp 15) 0, 2, "types.go:39", #[⟨7, .data⟩], none⟩) (v := ?vv16) ?hy16 ?_
        case hy16 => (intro w hSw; (try dsimp only at hSw); go_simp; all_goals with_reducible rfl)
        try simp only [Act.put, lA, l0, lS]
        refine tkH (i := 9) (oi := ⟨some 24, .extract (.tmp 15) 1, 4, "types.go:39", #[⟨7, .data⟩, { on := 10, ground := Ground.gcOnly Departure.lateStores }], none⟩) (v := ?vv17) ?hy17 ?_
        case hy17 => (intro w hSw; (try dsimp only at hSw); go_simp; all_goals with_reducible rfl)
        try simp only [Act.put, lA, l0, lS]
        refine tkH (i := 10) (oi := ⟨some 4, .assign (.tmp 23), 2, "types.go:39", #[⟨8, .data⟩, ⟨6, .chain⟩, ⟨0, .phase⟩, ⟨1, .phase⟩, ⟨2, .phase⟩, ⟨3, .phase⟩, ⟨4, .phase⟩, ⟨5, .phase⟩, ⟨6, .phase⟩, ⟨7, .phase⟩, ⟨8, .phase⟩, { on := 9, ground := Ground.textOnly Departure.lateStores }], none⟩) (v := ?vv18) ?hy18 ?_
        case hy18 => (intro w hSw; (try dsimp only at hSw); go_simp; all_goals with_reducible rfl)
        try simp only [Act.put, lA, l0, lS]
        refine tkH (i := 11) (oi := ⟨some 5, .assign (.tmp 24), 4, "types.go:39", #[⟨9, .data⟩, ⟨10, .chain⟩, ⟨0, .phase⟩, ⟨1, .phase⟩, ⟨2, .phase⟩, ⟨3, .phase⟩, ⟨4, .phase⟩, ⟨5, .phase⟩, ⟨6, .phase⟩, ⟨7, .phase⟩, ⟨8, .phase⟩, ⟨9, .phase⟩, ⟨10, .phase⟩], none⟩) (v := ?vv19) ?hy19 ?_
        case hy19 => (intro w hSw; (try dsimp only at hSw); go_simp; all_goals with_reducible rfl)
        try simp only [Act.put, lA, l0, lS]
        refine wpAnyH_done (by kernel_rfl) ?_ _
        clear hHeld
        go_wp2_with fail
        go_meet
        case rel => exact ⟨rfl, rfl, HE.out⟩
    case rest =>
      obtain ⟨rfl, rfl, A1, a1, a2, a3, a4⟩ := hcut
      have HL2 : Hid (LJ w0 wc A1 k1 (m + 2) ∧ wc.heap[b0]? = some (.cells #[.pointer (some ⟨A.g, 0, none⟩), .int .i64 ty, .int .i64 fl, .int .i64 st, .string da, .int .i64 pa, .int .i64 de, .bool ex, .int .i64 wt, .int .i64 co, .int .i64 la, p, .bool s, .pointer (some ⟨wa, 0, none⟩), .pointer (some ⟨bk, 0, none⟩)] 78 (0, 0))) := ⟨a3, a4⟩
      have HA : Hid (A1.g = A.g ∧ ∀ u, (A1.w u).g = (A.w u).g) := ⟨a1, a2⟩
      clear a1 a2 a3 a4 HL1 HKd HHp hSb
      generalize wc = V2 at HL2 ⊢
      have hSc : Hid (∀ V, Below V2.heap.size V2 V → (V.cell? ⟨b0, 0, none⟩ = some (.pointer (some ⟨A.g, 0, none⟩)) ∧ V.cell? ⟨b0, 1, none⟩ = some (.int .i64 ty) ∧ V.cell? ⟨b0, 2, none⟩ = some (.int .i64 fl) ∧ V.cell? ⟨b0, 3, none⟩ = some (.int .i64 st) ∧ V.cell? ⟨b0, 4, none⟩ = some (.string da) ∧ V.cell? ⟨b0, 5, none⟩ = some (.int .i64 pa) ∧ V.cell? ⟨b0, 6, none⟩ = some (.int .i64 de) ∧ V.cell? ⟨b0, 7, none⟩ = some (.bool ex) ∧ V.cell? ⟨b0, 8, none⟩ = some (.int .i64 wt) ∧ V.cell? ⟨b0, 9, none⟩ = some (.int .i64 co) ∧ V.cell? ⟨b0, 10, none⟩ = some (.int .i64 la) ∧ V.cell? ⟨b0, 11, none⟩ = some p ∧ V.cell? ⟨b0, 12, none⟩ = some (.bool s) ∧ V.cell? ⟨b0, 13, none⟩ = some (.pointer (some ⟨wa, 0, none⟩)) ∧ V.cell? ⟨b0, 14, none⟩ = some (.pointer (some ⟨bk, 0, none⟩))) ∧ V.cell? ⟨A.g, 0, none⟩ = some (.pointer (some ⟨A1.p, 0, none⟩))) := fun V hV => by
        have h1 := (hV.block _ (heap_lt HL2.out.2)).trans HL2.out.2
        refine ⟨⟨cell_blk h1 0, cell_blk h1 1, cell_blk h1 2, cell_blk h1 3, cell_blk h1 4, cell_blk h1 5, cell_blk h1 6, cell_blk h1 7, cell_blk h1 8, cell_blk h1 9, cell_blk h1 10, cell_blk h1 11, cell_blk h1 12, cell_blk h1 13, cell_blk h1 14⟩, ?_⟩
        rw [← HA.out.1]; exact (HL2.out.1.below hV).cell0
      have HS2 : Hid (∀ V, Below V2.heap.size V2 V → Calls Tryz.prog 52 #[.pointer (some ⟨A1.p, 0, none⟩), .int .i64 st] V fun e w' => e = .returned (.int .i64 s1) ∧ Below V.heap.size V w') := fun V hV => by
        have := state_any V A1.p A1.mb k1.T st (HL2.out.1.below hV).ti HI.out
        rw [HS1.out] at this
        exact this
      have HCr : Hid (∀ V, Below V2.heap.size V2 V → Calls Tryz.prog 55 #[.agg #[.pointer (some ⟨A.g, 0, none⟩), .int .i64 ty, .int .i64 fl, .int .i64 st, .string da, .int .i64 pa, .int .i64 de, .bool ex, .int .i64 wt, .int .i64 co, .int .i64 la, p, .bool s, .pointer (some ⟨wa, 0, none⟩), .pointer (some ⟨bk, 0, none⟩)]] V fun e w' => e = .returned (.bool cr) ∧ Below V.heap.size V w') := fun V hV => HCr0.out V A1 HA.out.1 HA.out.2 (HL2.out.1.below hV)
      by_cases hc : c1 = 0
      · subst hc
        have y0 : V2.cell? ⟨b0, 0, none⟩ = some (.pointer (some ⟨A.g, 0, none⟩)) := cell_blk HL2.out.2 0
        have y12 : V2.cell? ⟨b0, 12, none⟩ = some (.bool s) := cell_blk HL2.out.2 12
        have yg : V2.cell? ⟨A.g, 2, none⟩ = some (.pointer (some ⟨(A1.w false).g, 0, none⟩)) := by rw [← HA.out.1]; exact cell_blk HL2.out.1.blk 2
        have yw : V2.cell? ⟨(A1.w false).g, 1, none⟩ = some (.bool (k1.wy false).ga) := (HL2.out.1.wi false).cells.2.1
        obtain ⟨ga, hga⟩ : ∃ v, (k1.wy false).ga = v := ⟨_, rfl⟩
        rw [hga] at yw HR
        clear hga
        cases s
        · have HX : Hid (R = if (!ct b && ct s1 && cr) = true then (k1, 7) else (k1.block e, 0)) := by show _ = _; rw [HR.out, if_neg (by simp), if_neg (by first | (simp; done) | (simp [zb]; done))]
          go_upto_region 7 with fail
          clear y0 y12 yg yw
          cases x1 : ct b
          · cases x2 : ct s1
            · as_aux_lemma =>
                have hIW : Below V2.heap.size V2 V2.drew := (Below.refl _ _).drew
                refine wp_region_held_drew (S := (fun V => (V.cell? ⟨b0, 0, none⟩ = some (.pointer (some ⟨A.g, 0, none⟩)) ∧ V.cell? ⟨b0, 1, none⟩ = some (.int .i64 ty) ∧ V.cell? ⟨b0, 2, none⟩ = some (.int .i64 fl) ∧ V.cell? ⟨b0, 3, none⟩ = some (.int .i64 st) ∧ V.cell? ⟨b0, 4, none⟩ = some (.string da) ∧ V.cell? ⟨b0, 5, none⟩ = some (.int .i64 pa) ∧ V.cell? ⟨b0, 6, none⟩ = some (.int .i64 de) ∧ V.cell? ⟨b0, 7, none⟩ = some (.bool ex) ∧ V.cell? ⟨b0, 8, none⟩ = some (.int .i64 wt) ∧ V.cell? ⟨b0, 9, none⟩ = some (.int .i64 co) ∧ V.cell? ⟨b0, 10, none⟩ = some (.int .i64 la) ∧ V.cell? ⟨b0, 11, none⟩ = some p ∧ V.cell? ⟨b0, 12, none⟩ = some (.bool false) ∧ V.cell? ⟨b0, 13, none⟩ = some (.pointer (some ⟨wa, 0, none⟩)) ∧ V.cell? ⟨b0, 14, none⟩ = some (.pointer (some ⟨bk, 0, none⟩))) ∧ V.cell? ⟨A.g, 0, none⟩ = some (.pointer (some ⟨A1.p, 0, none⟩)))) (by kernel_rfl) (hSc.out _ hIW) (fun hHeld => ?_)
                generalize hWg : World.drew _ = W2 at hIW hHeld ⊢
                clear hWg
                refine tkH (i := 0) (oi := ⟨some 47, .move (.tmp 3), 3, "types.go:45", #[], none⟩) (v := ?vv20) ?hy20 ?_
                case hy20 => (intro w hSw; (try dsimp only at hSw); go_simp; all_goals with_reducible rfl)
                try simp only [Act.put, lA, l0, lS]
                refine wpAnyH_ready (rs := [1]) (by kernel_rfl) (by simp) ?_
                refine AllReadyH.cons (o := ⟨some 48, .call { callee := Callee.value (.func 54), args := #[.tmp 47], argTypes := #[3] }, 4, "types.go:45", #[⟨0, .data⟩], none⟩) rfl (fun K hK => ?_) AllReadyH.nil
                go_simp
                refine (counts_any b _).mono ?_
                rintro e' W2x ⟨rfl, rfl⟩
                have hW2x := hIW
                go_wp2_with fail
                refine hK.out _ _ (hSc.out _ hW2x) (fun hHeld => ?_)
                clear hK K
                try simp only [Act.put, lA, l0, lS]
                refine tkH (i := 2) (oi := ⟨some 49, .unOp .not 4 (.tmp 48), 4, "types.go:45", #[⟨1, .data⟩], none⟩) (v := ?vv21) ?hy21 ?_
                case hy21 => (intro w hSw; (try dsimp only at hSw); go_simp; all_goals with_reducible rfl)
                try simp only [Act.put, lA, l0, lS]
                refine tkH (i := 3) (oi := ⟨some 50, .move (.tmp 49), 4, "types.go:45", #[⟨2, .data⟩, ⟨1, .chain⟩], none⟩) (v := ?vv22) ?hy22 ?_
                case hy22 => (intro w hSw; (try dsimp only at hSw); go_simp; all_goals with_reducible rfl)
                try simp only [Act.put, lA, l0, lS]
                refine tkH (i := 4) (oi := ⟨some 51, .fieldAddr 78 (.tmp 1) 0, 0, "types.go:45", #[⟨3, .guard⟩], some (3, true)⟩) (v := ?vv23) ?hy23 ?_
                case hy23 => (intro w hSw; (try dsimp only at hSw); go_simp; all_goals with_reducible rfl)
                try simp only [Act.put, lA, l0, lS]
                refine tkH (i := 5) (oi := ⟨some 52, .load 58 (.tmp 51), 58, "types.go:45", #[⟨4, .data⟩, ⟨3, .guard⟩], some (3, true)⟩) (v := ?vv24) ?hy24 ?_
                case hy24 => (intro w hSw; (try dsimp only at hSw); go_simp; all_goals with_reducible rfl)
                try simp only [Act.put, lA, l0, lS]
                refine tkH (i := 6) (oi := ⟨some 53, .nilCheck (.tmp 52), 0, "types.go:45", #[⟨5, .data⟩, ⟨3, .guard⟩], some (3, true)⟩) (v := ?vv25) ?hy25 ?_
                case hy25 => (intro w hSw; (try dsimp only at hSw); go_simp; all_goals with_reducible rfl)
                try simp only [Act.put, lA, l0, lS]
                refine tkH (i := 7) (oi := ⟨some 54, .fieldAddr 69 (.tmp 53) 0, 0, "types.go:45", #[⟨6, .data⟩, ⟨3, .guard⟩], some (3, true)⟩) (v := ?vv26) ?hy26 ?_
                case hy26 => (intro w hSw; (try dsimp only at hSw); go_simp; all_goals with_reducible rfl)
                try simp only [Act.put, lA, l0, lS]
                refine tkH (i := 8) (oi := ⟨some 55, .load 64 (.tmp 54), 64, "types.go:45", #[⟨7, .data⟩, ⟨3, .guard⟩], some (3, true)⟩) (v := ?vv27) ?hy27 ?_
                case hy27 => (intro w hSw; (try dsimp only at hSw); go_simp; all_goals with_reducible rfl)
                try simp only [Act.put, lA, l0, lS]
                refine tkH (i := 9) (oi := ⟨some 56, .fieldAddr 78 (.tmp 1) 1, 0, "types.go:45", #[⟨3, .guard⟩], some (3, true)⟩) (v := ?vv28) ?hy28 ?_
                case hy28 => (intro w hSw; (try dsimp only at hSw); go_simp; all_goals with_reducible rfl)
                try simp only [Act.put, lA, l0, lS]
                refine tkH (i := 10) (oi := ⟨some 57, .fieldAddr 31 (.tmp 56) 2, 0, "types.go:45", #[⟨9, .data⟩, ⟨3, .guard⟩], some (3, true)⟩) (v := ?vv29) ?hy29 ?_
                case hy29 => (intro w hSw; (try dsimp only at hSw); go_simp; all_goals with_reducible rfl)
                try simp only [Act.put, lA, l0, lS]
                refine tkH (i := 11) (oi := ⟨some 58, .load 2 (.tmp 57), 2, "types.go:45", #[⟨10, .data⟩, ⟨3, .guard⟩], some (3, true)⟩) (v := ?vv30) ?hy30 ?_
                case hy30 => (intro w hSw; (try dsimp only at hSw); go_simp; all_goals with_reducible rfl)
                try simp only [Act.put, lA, l0, lS]
                refine wpAnyH_ready (rs := [12]) (by kernel_rfl) (by simp) ?_
                refine AllReadyH.cons (o := ⟨some 59, .call { callee := Callee.value (.func 52), args := #[.tmp 55, .tmp 58], argTypes := #[64, 2] }, 3, "types.go:45", #[⟨8, .data⟩, ⟨11, .data⟩, ⟨3, .chain⟩, ⟨3, .guard⟩], some (3, true)⟩) rfl (fun K hK => ?_) AllReadyH.nil
                refine ite_take (by rfl) ?_
                go_simp
                refine (HS2.out _ hW2x).mono ?_
                rintro e' W2xx ⟨rfl, bX⟩
                have hW2xx : Below V2.heap.size V2 W2xx := hW2x.trans (bX.mono hW2x.size)
                clear bX
                go_wp2_with fail
                refine hK.out _ _ (hSc.out _ hW2xx) (fun hHeld => ?_)
                clear hK K
                try simp only [Act.put, lA, l0, lS]
                refine wpAnyH_ready (rs := [13]) (by kernel_rfl) (by simp) ?_
                refine AllReadyH.cons (o := ⟨some 60, .call { callee := Callee.value (.func 54), args := #[.tmp 59], argTypes := #[3] }, 4, "types.go:45", #[⟨12, .data⟩, ⟨12, .chain⟩, ⟨3, .guard⟩], some (3, true)⟩) rfl (fun K hK => ?_) AllReadyH.nil
                refine ite_take (by rfl) ?_
                go_simp
                refine (counts_any s1 _).mono ?_
                rintro e' W2xxx ⟨rfl, rfl⟩
                have hW2xxx := hW2xx
                go_wp2_with fail
                refine hK.out _ _ (hSc.out _ hW2xxx) (fun hHeld => ?_)
                clear hK K
                try simp only [Act.put, lA, l0, lS]
                refine tkH (i := 14) (oi := ⟨some 61, .pick (.tmp 50) (.tmp 60) (.const (.bool false)), 4, "types.go:45", #[⟨3, .data⟩, ⟨13, .data⟩], none⟩) (v := ?vv31) ?hy31 ?_
                case hy31 => (intro w hSw; (try dsimp only at hSw); go_simp; all_goals with_reducible rfl)
                try simp only [Act.put, lA, l0, lS]
                refine tkH (i := 15) (oi := ⟨some 62, .move (.tmp 61), 4, "types.go:45", #[⟨14, .data⟩, ⟨13, .chain⟩], none⟩) (v := ?vv32) ?hy32 ?_
                case hy32 => (intro w hSw; (try dsimp only at hSw); go_simp; all_goals with_reducible rfl)
                try simp only [Act.put, lA, l0, lS]
                refine wpAnyH_take (i := 16) (oi := ⟨some 63, .load 78 (.tmp 1), 78, "types.go:45", #[⟨15, .guard⟩], some (15, true)⟩) (v := undef) rfl (by kernel_rfl) (by kernel_rfl) (by kernel_rfl) (fun _ _ _ h => h) (Or.inr ⟨by rfl, rfl⟩) (by assumption) ?_
                try simp only [Act.put, lA, l0, lS]
                refine wpAnyH_take (i := 17) (oi := ⟨some 64, .call { callee := Callee.value (.func 55), args := #[.tmp 63], argTypes := #[78] }, 4, "types.go:45", #[⟨16, .data⟩, ⟨15, .chain⟩, ⟨15, .guard⟩], some (15, true)⟩) (v := undef) rfl (by kernel_rfl) (by kernel_rfl) (by kernel_rfl) (fun _ _ _ h => h) (Or.inr ⟨by rfl, rfl⟩) (by assumption) ?_
                try simp only [Act.put, lA, l0, lS]
                refine tkH (i := 18) (oi := ⟨some 65, .pick (.tmp 62) (.tmp 64) (.const (.bool false)), 4, "types.go:45", #[⟨15, .data⟩, ⟨17, .data⟩], none⟩) (v := ?vv33) ?hy33 ?_
                case hy33 => (intro w hSw; (try dsimp only at hSw); go_simp; all_goals with_reducible rfl)
                try simp only [Act.put, lA, l0, lS]
                refine tkH (i := 19) (oi := ⟨some 46, .assign (.tmp 65), 4, "types.go:45", #[⟨18, .data⟩, ⟨17, .chain⟩], none⟩) (v := ?vv34) ?hy34 ?_
                case hy34 => (intro w hSw; (try dsimp only at hSw); go_simp; all_goals with_reducible rfl)
                try simp only [Act.put, lA, l0, lS]
                refine wpAnyH_done (by kernel_rfl) ?_ _
                have HB3 : Hid (Below V2.heap.size V2 W2xxx) := hW2xxx
                clear hHeld hW2xxx
                have HQ : Hid (R = (k1.block e, 0)) := by show _ = _; rw [HX.out, if_neg (by first | (simp [x1]; done) | (simp [x1, x2]; done))]
                obtain ⟨⟨j0, j1, j2, j3, j4, j5, j6, j7, j8, j9, j10, j11, j12, j13, j14⟩, _⟩ := hSc.out W2xxx HB3.out
                go_wp2_with fail
                go_at_call 56
                refine (HBb0.out _ A1 HA.out.2 (HL2.out.1.below HB3.out)).mono ?_
                rintro e' V9 ⟨rfl, h9⟩
                have HL9 : Hid (LJ w0 V9 A1 (k1.block e) (m + 2)) := h9
                clear h9
                go_wp2_with fail
                go_ret
                exact ⟨by rw [HQ.out]; rfl, A1, HA.out.1, by first | exact HA.out.2 | exact ⟨HA.out.2 _, HA.out.2 _⟩, by rw [HQ.out]; exact HL9.out.more (by omega)⟩
            · as_aux_lemma =>
                have hIW : Below V2.heap.size V2 V2.drew := (Below.refl _ _).drew
                refine wp_region_held_drew (S := (fun V => (V.cell? ⟨b0, 0, none⟩ = some (.pointer (some ⟨A.g, 0, none⟩)) ∧ V.cell? ⟨b0, 1, none⟩ = some (.int .i64 ty) ∧ V.cell? ⟨b0, 2, none⟩ = some (.int .i64 fl) ∧ V.cell? ⟨b0, 3, none⟩ = some (.int .i64 st) ∧ V.cell? ⟨b0, 4, none⟩ = some (.string da) ∧ V.cell? ⟨b0, 5, none⟩ = some (.int .i64 pa) ∧ V.cell? ⟨b0, 6, none⟩ = some (.int .i64 de) ∧ V.cell? ⟨b0, 7, none⟩ = some (.bool ex) ∧ V.cell? ⟨b0, 8, none⟩ = some (.int .i64 wt) ∧ V.cell? ⟨b0, 9, none⟩ = some (.int .i64 co) ∧ V.cell? ⟨b0, 10, none⟩ = some (.int .i64 la) ∧ V.cell? ⟨b0, 11, none⟩ = some p ∧ V.cell? ⟨b0, 12, none⟩ = some (.bool false) ∧ V.cell? ⟨b0, 13, none⟩ = some (.pointer (some ⟨wa, 0, none⟩)) ∧ V.cell? ⟨b0, 14, none⟩ = some (.pointer (some ⟨bk, 0, none⟩))) ∧ V.cell? ⟨A.g, 0, none⟩ = some (.pointer (some ⟨A1.p, 0, none⟩)))) (by kernel_rfl) (hSc.out _ hIW) (fun hHeld => ?_)
                generalize hWg : World.drew _ = W2 at hIW hHeld ⊢
                clear hWg
                refine tkH (i := 0) (oi := ⟨some 47, .move (.tmp 3), 3, "types.go:45", #[], none⟩) (v := ?vv35) ?hy35 ?_
                case hy35 => (intro w hSw; (try dsimp only at hSw); go_simp; all_goals with_reducible rfl)
                try simp only [Act.put, lA, l0, lS]
                refine wpAnyH_ready (rs := [1]) (by kernel_rfl) (by simp) ?_
                refine AllReadyH.cons (o := ⟨some 48, .call { callee := Callee.value (.func 54), args := #[.tmp 47], argTypes := #[3] }, 4, "types.go:45", #[⟨0, .data⟩], none⟩) rfl (fun K hK => ?_) AllReadyH.nil
                go_simp
                refine (counts_any b _).mono ?_
                rintro e' W2x ⟨rfl, rfl⟩
                have hW2x := hIW
                go_wp2_with fail
                refine hK.out _ _ (hSc.out _ hW2x) (fun hHeld => ?_)
                clear hK K
                try simp only [Act.put, lA, l0, lS]
                refine tkH (i := 2) (oi := ⟨some 49, .unOp .not 4 (.tmp 48), 4, "types.go:45", #[⟨1, .data⟩], none⟩) (v := ?vv36) ?hy36 ?_
                case hy36 => (intro w hSw; (try dsimp only at hSw); go_simp; all_goals with_reducible rfl)
                try simp only [Act.put, lA, l0, lS]
                refine tkH (i := 3) (oi := ⟨some 50, .move (.tmp 49), 4, "types.go:45", #[⟨2, .data⟩, ⟨1, .chain⟩], none⟩) (v := ?vv37) ?hy37 ?_
                case hy37 => (intro w hSw; (try dsimp only at hSw); go_simp; all_goals with_reducible rfl)
                try simp only [Act.put, lA, l0, lS]
                refine tkH (i := 4) (oi := ⟨some 51, .fieldAddr 78 (.tmp 1) 0, 0, "types.go:45", #[⟨3, .guard⟩], some (3, true)⟩) (v := ?vv38) ?hy38 ?_
                case hy38 => (intro w hSw; (try dsimp only at hSw); go_simp; all_goals with_reducible rfl)
                try simp only [Act.put, lA, l0, lS]
                refine tkH (i := 5) (oi := ⟨some 52, .load 58 (.tmp 51), 58, "types.go:45", #[⟨4, .data⟩, ⟨3, .guard⟩], some (3, true)⟩) (v := ?vv39) ?hy39 ?_
                case hy39 => (intro w hSw; (try dsimp only at hSw); go_simp; all_goals with_reducible rfl)
                try simp only [Act.put, lA, l0, lS]
                refine tkH (i := 6) (oi := ⟨some 53, .nilCheck (.tmp 52), 0, "types.go:45", #[⟨5, .data⟩, ⟨3, .guard⟩], some (3, true)⟩) (v := ?vv40) ?hy40 ?_
                case hy40 => (intro w hSw; (try dsimp only at hSw); go_simp; all_goals with_reducible rfl)
                try simp only [Act.put, lA, l0, lS]
                refine tkH (i := 7) (oi := ⟨some 54, .fieldAddr 69 (.tmp 53) 0, 0, "types.go:45", #[⟨6, .data⟩, ⟨3, .guard⟩], some (3, true)⟩) (v := ?vv41) ?hy41 ?_
                case hy41 => (intro w hSw; (try dsimp only at hSw); go_simp; all_goals with_reducible rfl)
                try simp only [Act.put, lA, l0, lS]
                refine tkH (i := 8) (oi := ⟨some 55, .load 64 (.tmp 54), 64, "types.go:45", #[⟨7, .data⟩, ⟨3, .guard⟩], some (3, true)⟩) (v := ?vv42) ?hy42 ?_
                case hy42 => (intro w hSw; (try dsimp only at hSw); go_simp; all_goals with_reducible rfl)
                try simp only [Act.put, lA, l0, lS]
                refine tkH (i := 9) (oi := ⟨some 56, .fieldAddr 78 (.tmp 1) 1, 0, "types.go:45", #[⟨3, .guard⟩], some (3, true)⟩) (v := ?vv43) ?hy43 ?_
                case hy43 => (intro w hSw; (try dsimp only at hSw); go_simp; all_goals with_reducible rfl)
                try simp only [Act.put, lA, l0, lS]
                refine tkH (i := 10) (oi := ⟨some 57, .fieldAddr 31 (.tmp 56) 2, 0, "types.go:45", #[⟨9, .data⟩, ⟨3, .guard⟩], some (3, true)⟩) (v := ?vv44) ?hy44 ?_
                case hy44 => (intro w hSw; (try dsimp only at hSw); go_simp; all_goals with_reducible rfl)
                try simp only [Act.put, lA, l0, lS]
                refine tkH (i := 11) (oi := ⟨some 58, .load 2 (.tmp 57), 2, "types.go:45", #[⟨10, .data⟩, ⟨3, .guard⟩], some (3, true)⟩) (v := ?vv45) ?hy45 ?_
                case hy45 => (intro w hSw; (try dsimp only at hSw); go_simp; all_goals with_reducible rfl)
                try simp only [Act.put, lA, l0, lS]
                refine wpAnyH_ready (rs := [12]) (by kernel_rfl) (by simp) ?_
                refine AllReadyH.cons (o := ⟨some 59, .call { callee := Callee.value (.func 52), args := #[.tmp 55, .tmp 58], argTypes := #[64, 2] }, 3, "types.go:45", #[⟨8, .data⟩, ⟨11, .data⟩, ⟨3, .chain⟩, ⟨3, .guard⟩], some (3, true)⟩) rfl (fun K hK => ?_) AllReadyH.nil
                refine ite_take (by rfl) ?_
                go_simp
                refine (HS2.out _ hW2x).mono ?_
                rintro e' W2xx ⟨rfl, bX⟩
                have hW2xx : Below V2.heap.size V2 W2xx := hW2x.trans (bX.mono hW2x.size)
                clear bX
                go_wp2_with fail
                refine hK.out _ _ (hSc.out _ hW2xx) (fun hHeld => ?_)
                clear hK K
                try simp only [Act.put, lA, l0, lS]
                refine wpAnyH_ready (rs := [13]) (by kernel_rfl) (by simp) ?_
                refine AllReadyH.cons (o := ⟨some 60, .call { callee := Callee.value (.func 54), args := #[.tmp 59], argTypes := #[3] }, 4, "types.go:45", #[⟨12, .data⟩, ⟨12, .chain⟩, ⟨3, .guard⟩], some (3, true)⟩) rfl (fun K hK => ?_) AllReadyH.nil
                refine ite_take (by rfl) ?_
                go_simp
                refine (counts_any s1 _).mono ?_
                rintro e' W2xxx ⟨rfl, rfl⟩
                have hW2xxx := hW2xx
                go_wp2_with fail
                refine hK.out _ _ (hSc.out _ hW2xxx) (fun hHeld => ?_)
                clear hK K
                try simp only [Act.put, lA, l0, lS]
                refine tkH (i := 14) (oi := ⟨some 61, .pick (.tmp 50) (.tmp 60) (.const (.bool false)), 4, "types.go:45", #[⟨3, .data⟩, ⟨13, .data⟩], none⟩) (v := ?vv46) ?hy46 ?_
                case hy46 => (intro w hSw; (try dsimp only at hSw); go_simp; all_goals with_reducible rfl)
                try simp only [Act.put, lA, l0, lS]
                refine tkH (i := 15) (oi := ⟨some 62, .move (.tmp 61), 4, "types.go:45", #[⟨14, .data⟩, ⟨13, .chain⟩], none⟩) (v := ?vv47) ?hy47 ?_
                case hy47 => (intro w hSw; (try dsimp only at hSw); go_simp; all_goals with_reducible rfl)
                try simp only [Act.put, lA, l0, lS]
                refine tkH (i := 16) (oi := ⟨some 63, .load 78 (.tmp 1), 78, "types.go:45", #[⟨15, .guard⟩], some (15, true)⟩) (v := ?vv48) ?hy48 ?_
                case hy48 => (intro w hSw; (try dsimp only at hSw); go_simp; all_goals with_reducible rfl)
                try simp only [Act.put, lA, l0, lS]
                refine wpAnyH_ready (rs := [17]) (by kernel_rfl) (by simp) ?_
                refine AllReadyH.cons (o := ⟨some 64, .call { callee := Callee.value (.func 55), args := #[.tmp 63], argTypes := #[78] }, 4, "types.go:45", #[⟨16, .data⟩, ⟨15, .chain⟩, ⟨15, .guard⟩], some (15, true)⟩) rfl (fun K hK => ?_) AllReadyH.nil
                refine ite_take (by rfl) ?_
                go_simp
                refine (HCr.out _ hW2xxx).mono ?_
                rintro e' W2xxxx ⟨rfl, bX⟩
                have hW2xxxx : Below V2.heap.size V2 W2xxxx := hW2xxx.trans (bX.mono hW2xxx.size)
                clear bX
                go_wp2_with fail
                refine hK.out _ _ (hSc.out _ hW2xxxx) (fun hHeld => ?_)
                clear hK K
                try simp only [Act.put, lA, l0, lS]
                refine tkH (i := 18) (oi := ⟨some 65, .pick (.tmp 62) (.tmp 64) (.const (.bool false)), 4, "types.go:45", #[⟨15, .data⟩, ⟨17, .data⟩], none⟩) (v := ?vv49) ?hy49 ?_
                case hy49 => (intro w hSw; (try dsimp only at hSw); go_simp; all_goals with_reducible rfl)
                try simp only [Act.put, lA, l0, lS]
                refine tkH (i := 19) (oi := ⟨some 46, .assign (.tmp 65), 4, "types.go:45", #[⟨18, .data⟩, ⟨17, .chain⟩], none⟩) (v := ?vv50) ?hy50 ?_
                case hy50 => (intro w hSw; (try dsimp only at hSw); go_simp; all_goals with_reducible rfl)
                try simp only [Act.put, lA, l0, lS]
                refine wpAnyH_done (by kernel_rfl) ?_ _
                have HB3 : Hid (Below V2.heap.size V2 W2xxxx) := hW2xxxx
                clear hHeld hW2xxxx
                cases cr
                · have HQ : Hid (R = (k1.block e, 0)) := by show _ = _; rw [HX.out, if_neg (by simp)]
                  obtain ⟨⟨j0, j1, j2, j3, j4, j5, j6, j7, j8, j9, j10, j11, j12, j13, j14⟩, _⟩ := hSc.out W2xxxx HB3.out
                  go_wp2_with fail
                  go_at_call 56
                  refine (HBb0.out _ A1 HA.out.2 (HL2.out.1.below HB3.out)).mono ?_
                  rintro e' V9 ⟨rfl, h9⟩
                  have HL9 : Hid (LJ w0 V9 A1 (k1.block e) (m + 2)) := h9
                  clear h9
                  go_wp2_with fail
                  go_ret
                  exact ⟨by rw [HQ.out]; rfl, A1, HA.out.1, by first | exact HA.out.2 | exact ⟨HA.out.2 _, HA.out.2 _⟩, by rw [HQ.out]; exact HL9.out.more (by omega)⟩
                · have HQ : Hid (R = (k1, 7)) := by show _ = _; rw [HX.out, if_pos (by simp [x1, x2])]
                  go_wp2_with fail
                  go_ret
                  exact ⟨by rw [HQ.out]; rfl, A1, HA.out.1, by first | exact HA.out.2 | exact ⟨HA.out.2 _, HA.out.2 _⟩, by rw [HQ.out]; exact (HL2.out.1.below HB3.out).more (by omega)⟩
          · as_aux_lemma =>
              have hIW : Below V2.heap.size V2 V2.drew := (Below.refl _ _).drew
              refine wp_region_held_drew (S := (fun V => (V.cell? ⟨b0, 0, none⟩ = some (.pointer (some ⟨A.g, 0, none⟩)) ∧ V.cell? ⟨b0, 1, none⟩ = some (.int .i64 ty) ∧ V.cell? ⟨b0, 2, none⟩ = some (.int .i64 fl) ∧ V.cell? ⟨b0, 3, none⟩ = some (.int .i64 st) ∧ V.cell? ⟨b0, 4, none⟩ = some (.string da) ∧ V.cell? ⟨b0, 5, none⟩ = some (.int .i64 pa) ∧ V.cell? ⟨b0, 6, none⟩ = some (.int .i64 de) ∧ V.cell? ⟨b0, 7, none⟩ = some (.bool ex) ∧ V.cell? ⟨b0, 8, none⟩ = some (.int .i64 wt) ∧ V.cell? ⟨b0, 9, none⟩ = some (.int .i64 co) ∧ V.cell? ⟨b0, 10, none⟩ = some (.int .i64 la) ∧ V.cell? ⟨b0, 11, none⟩ = some p ∧ V.cell? ⟨b0, 12, none⟩ = some (.bool false) ∧ V.cell? ⟨b0, 13, none⟩ = some (.pointer (some ⟨wa, 0, none⟩)) ∧ V.cell? ⟨b0, 14, none⟩ = some (.pointer (some ⟨bk, 0, none⟩))) ∧ V.cell? ⟨A.g, 0, none⟩ = some (.pointer (some ⟨A1.p, 0, none⟩)))) (by kernel_rfl) (hSc.out _ hIW) (fun hHeld => ?_)
              generalize hWg : World.drew _ = W2 at hIW hHeld ⊢
              clear hWg
              refine tkH (i := 0) (oi := ⟨some 47, .move (.tmp 3), 3, "types.go:45", #[], none⟩) (v := ?vv51) ?hy51 ?_
              case hy51 => (intro w hSw; (try dsimp only at hSw); go_simp; all_goals with_reducible rfl)
              try simp only [Act.put, lA, l0, lS]
              refine wpAnyH_ready (rs := [1]) (by kernel_rfl) (by simp) ?_
              refine AllReadyH.cons (o := ⟨some 48, .call { callee := Callee.value (.func 54), args := #[.tmp 47], argTypes := #[3] }, 4, "types.go:45", #[⟨0, .data⟩], none⟩) rfl (fun K hK => ?_) AllReadyH.nil
              go_simp
              refine (counts_any b _).mono ?_
              rintro e' W2x ⟨rfl, rfl⟩
              have hW2x := hIW
              go_wp2_with fail
              refine hK.out _ _ (hSc.out _ hW2x) (fun hHeld => ?_)
              clear hK K
              try simp only [Act.put, lA, l0, lS]
              refine tkH (i := 2) (oi := ⟨some 49, .unOp .not 4 (.tmp 48), 4, "types.go:45", #[⟨1, .data⟩], none⟩) (v := ?vv52) ?hy52 ?_
              case hy52 => (intro w hSw; (try dsimp only at hSw); go_simp; all_goals with_reducible rfl)
              try simp only [Act.put, lA, l0, lS]
              refine tkH (i := 3) (oi := ⟨some 50, .move (.tmp 49), 4, "types.go:45", #[⟨2, .data⟩, ⟨1, .chain⟩], none⟩) (v := ?vv53) ?hy53 ?_
              case hy53 => (intro w hSw; (try dsimp only at hSw); go_simp; all_goals with_reducible rfl)
              try simp only [Act.put, lA, l0, lS]
              refine wpAnyH_take (i := 4) (oi := ⟨some 51, .fieldAddr 78 (.tmp 1) 0, 0, "types.go:45", #[⟨3, .guard⟩], some (3, true)⟩) (v := undef) rfl (by kernel_rfl) (by kernel_rfl) (by kernel_rfl) (fun _ _ _ h => h) (Or.inr ⟨by rfl, rfl⟩) (by assumption) ?_
              try simp only [Act.put, lA, l0, lS]
              refine wpAnyH_take (i := 5) (oi := ⟨some 52, .load 58 (.tmp 51), 58, "types.go:45", #[⟨4, .data⟩, ⟨3, .guard⟩], some (3, true)⟩) (v := undef) rfl (by kernel_rfl) (by kernel_rfl) (by kernel_rfl) (fun _ _ _ h => h) (Or.inr ⟨by rfl, rfl⟩) (by assumption) ?_
              try simp only [Act.put, lA, l0, lS]
              refine wpAnyH_take (i := 6) (oi := ⟨some 53, .nilCheck (.tmp 52), 0, "types.go:45", #[⟨5, .data⟩, ⟨3, .guard⟩], some (3, true)⟩) (v := undef) rfl (by kernel_rfl) (by kernel_rfl) (by kernel_rfl) (fun _ _ _ h => h) (Or.inr ⟨by rfl, rfl⟩) (by assumption) ?_
              try simp only [Act.put, lA, l0, lS]
              refine wpAnyH_take (i := 7) (oi := ⟨some 54, .fieldAddr 69 (.tmp 53) 0, 0, "types.go:45", #[⟨6, .data⟩, ⟨3, .guard⟩], some (3, true)⟩) (v := undef) rfl (by kernel_rfl) (by kernel_rfl) (by kernel_rfl) (fun _ _ _ h => h) (Or.inr ⟨by rfl, rfl⟩) (by assumption) ?_
              try simp only [Act.put, lA, l0, lS]
              refine wpAnyH_take (i := 8) (oi := ⟨some 55, .load 64 (.tmp 54), 64, "types.go:45", #[⟨7, .data⟩, ⟨3, .guard⟩], some (3, true)⟩) (v := undef) rfl (by kernel_rfl) (by kernel_rfl) (by kernel_rfl) (fun _ _ _ h => h) (Or.inr ⟨by rfl, rfl⟩) (by assumption) ?_
              try simp only [Act.put, lA, l0, lS]
              refine wpAnyH_take (i := 9) (oi := ⟨some 56, .fieldAddr 78 (.tmp 1) 1, 0, "types.go:45", #[⟨3, .guard⟩], some (3, true)⟩) (v := undef) rfl (by kernel_rfl) (by kernel_rfl) (by kernel_rfl) (fun _ _ _ h => h) (Or.inr ⟨by rfl, rfl⟩) (by assumption) ?_
              try simp only [Act.put, lA, l0, lS]
              refine wpAnyH_take (i := 10) (oi := ⟨some 57, .fieldAddr 31 (.tmp 56) 2, 0, "types.go:45", #[⟨9, .data⟩, ⟨3, .guard⟩], some (3, true)⟩) (v := undef) rfl (by kernel_rfl) (by kernel_rfl) (by kernel_rfl) (fun _ _ _ h => h) (Or.inr ⟨by rfl, rfl⟩) (by assumption) ?_
              try simp only [Act.put, lA, l0, lS]
              refine wpAnyH_take (i := 11) (oi := ⟨some 58, .load 2 (.tmp 57), 2, "types.go:45", #[⟨10, .data⟩, ⟨3, .guard⟩], some (3, true)⟩) (v := undef) rfl (by kernel_rfl) (by kernel_rfl) (by kernel_rfl) (fun _ _ _ h => h) (Or.inr ⟨by rfl, rfl⟩) (by assumption) ?_
              try simp only [Act.put, lA, l0, lS]
              refine wpAnyH_take (i := 12) (oi := ⟨some 59, .call { callee := Callee.value (.func 52), args := #[.tmp 55, .tmp 58], argTypes := #[64, 2] }, 3, "types.go:45", #[⟨8, .data⟩, ⟨11, .data⟩, ⟨3, .chain⟩, ⟨3, .guard⟩], some (3, true)⟩) (v := undef) rfl (by kernel_rfl) (by kernel_rfl) (by kernel_rfl) (fun _ _ _ h => h) (Or.inr ⟨by rfl, rfl⟩) (by assumption) ?_
              try simp only [Act.put, lA, l0, lS]
              refine wpAnyH_take (i := 13) (oi := ⟨some 60, .call { callee := Callee.value (.func 54), args := #[.tmp 59], argTypes := #[3] }, 4, "types.go:45", #[⟨12, .data⟩, ⟨12, .chain⟩, ⟨3, .guard⟩], some (3, true)⟩) (v := undef) rfl (by kernel_rfl) (by kernel_rfl) (by kernel_rfl) (fun _ _ _ h => h) (Or.inr ⟨by rfl, rfl⟩) (by assumption) ?_
              try simp only [Act.put, lA, l0, lS]
              refine tkH (i := 14) (oi := ⟨some 61, .pick (.tmp 50) (.tmp 60) (.const (.bool false)), 4, "types.go:45", #[⟨3, .data⟩, ⟨13, .data⟩], none⟩) (v := ?vv54) ?hy54 ?_
              case hy54 => (intro w hSw; (try dsimp only at hSw); go_simp; all_goals with_reducible rfl)
              try simp only [Act.put, lA, l0, lS]
              refine tkH (i := 15) (oi := ⟨some 62, .move (.tmp 61), 4, "types.go:45", #[⟨14, .data⟩, ⟨13, .chain⟩], none⟩) (v := ?vv55) ?hy55 ?_
              case hy55 => (intro w hSw; (try dsimp only at hSw); go_simp; all_goals with_reducible rfl)
              try simp only [Act.put, lA, l0, lS]
              refine wpAnyH_take (i := 16) (oi := ⟨some 63, .load 78 (.tmp 1), 78, "types.go:45", #[⟨15, .guard⟩], some (15, true)⟩) (v := undef) rfl (by kernel_rfl) (by kernel_rfl) (by kernel_rfl) (fun _ _ _ h => h) (Or.inr ⟨by rfl, rfl⟩) (by assumption) ?_
              try simp only [Act.put, lA, l0, lS]
              refine wpAnyH_take (i := 17) (oi := ⟨some 64, .call { callee := Callee.value (.func 55), args := #[.tmp 63], argTypes := #[78] }, 4, "types.go:45", #[⟨16, .data⟩, ⟨15, .chain⟩, ⟨15, .guard⟩], some (15, true)⟩) (v := undef) rfl (by kernel_rfl) (by kernel_rfl) (by kernel_rfl) (fun _ _ _ h => h) (Or.inr ⟨by rfl, rfl⟩) (by assumption) ?_
              try simp only [Act.put, lA, l0, lS]
              refine tkH (i := 18) (oi := ⟨some 65, .pick (.tmp 62) (.tmp 64) (.const (.bool false)), 4, "types.go:45", #[⟨15, .data⟩, ⟨17, .data⟩], none⟩) (v := ?vv56) ?hy56 ?_
              case hy56 => (intro w hSw; (try dsimp only at hSw); go_simp; all_goals with_reducible rfl)
              try simp only [Act.put, lA, l0, lS]
              refine tkH (i := 19) (oi := ⟨some 46, .assign (.tmp 65), 4, "types.go:45", #[⟨18, .data⟩, ⟨17, .chain⟩], none⟩) (v := ?vv57) ?hy57 ?_
              case hy57 => (intro w hSw; (try dsimp only at hSw); go_simp; all_goals with_reducible rfl)
              try simp only [Act.put, lA, l0, lS]
              refine wpAnyH_done (by kernel_rfl) ?_ _
              have HB3 : Hid (Below V2.heap.size V2 W2x) := hW2x
              clear hHeld hW2x
              have HQ : Hid (R = (k1.block e, 0)) := by show _ = _; rw [HX.out, if_neg (by first | (simp [x1]; done) | (simp [x1, x2]; done))]
              obtain ⟨⟨j0, j1, j2, j3, j4, j5, j6, j7, j8, j9, j10, j11, j12, j13, j14⟩, _⟩ := hSc.out W2x HB3.out
              go_wp2_with fail
              go_at_call 56
              refine (HBb0.out _ A1 HA.out.2 (HL2.out.1.below HB3.out)).mono ?_
              rintro e' V9 ⟨rfl, h9⟩
              have HL9 : Hid (LJ w0 V9 A1 (k1.block e) (m + 2)) := h9
              clear h9
              go_wp2_with fail
              go_ret
              exact ⟨by rw [HQ.out]; rfl, A1, HA.out.1, by first | exact HA.out.2 | exact ⟨HA.out.2 _, HA.out.2 _⟩, by rw [HQ.out]; exact HL9.out.more (by omega)⟩
        · cases ga
          · have HX : Hid (R = if (!ct b && ct s1 && cr) = true then (k1, 7) else (k1.block e, 0)) := by show _ = _; rw [HR.out, if_neg (by simp), if_neg (by first | (simp; done) | (simp [zb]; done))]
            go_upto_region 7 with fail
            clear y0 y12 yg yw
            cases x1 : ct b
            · cases x2 : ct s1
              · as_aux_lemma =>
                  have hIW : Below V2.heap.size V2 V2.drew := (Below.refl _ _).drew
                  refine wp_region_held_drew (S := (fun V => (V.cell? ⟨b0, 0, none⟩ = some (.pointer (some ⟨A.g, 0, none⟩)) ∧ V.cell? ⟨b0, 1, none⟩ = some (.int .i64 ty) ∧ V.cell? ⟨b0, 2, none⟩ = some (.int .i64 fl) ∧ V.cell? ⟨b0, 3, none⟩ = some (.int .i64 st) ∧ V.cell? ⟨b0, 4, none⟩ = some (.string da) ∧ V.cell? ⟨b0, 5, none⟩ = some (.int .i64 pa) ∧ V.cell? ⟨b0, 6, none⟩ = some (.int .i64 de) ∧ V.cell? ⟨b0, 7, none⟩ = some (.bool ex) ∧ V.cell? ⟨b0, 8, none⟩ = some (.int .i64 wt) ∧ V.cell? ⟨b0, 9, none⟩ = some (.int .i64 co) ∧ V.cell? ⟨b0, 10, none⟩ = some (.int .i64 la) ∧ V.cell? ⟨b0, 11, none⟩ = some p ∧ V.cell? ⟨b0, 12, none⟩ = some (.bool true) ∧ V.cell? ⟨b0, 13, none⟩ = some (.pointer (some ⟨wa, 0, none⟩)) ∧ V.cell? ⟨b0, 14, none⟩ = some (.pointer (some ⟨bk, 0, none⟩))) ∧ V.cell? ⟨A.g, 0, none⟩ = some (.pointer (some ⟨A1.p, 0, none⟩)))) (by kernel_rfl) (hSc.out _ hIW) (fun hHeld => ?_)
                  generalize hWg : World.drew _ = W2 at hIW hHeld ⊢
                  clear hWg
                  refine tkH (i := 0) (oi := ⟨some 47, .move (.tmp 3), 3, "types.go:45", #[], none⟩) (v := ?vv58) ?hy58 ?_
                  case hy58 => (intro w hSw; (try dsimp only at hSw); go_simp; all_goals with_reducible rfl)
                  try simp only [Act.put, lA, l0, lS]
                  refine wpAnyH_ready (rs := [1]) (by kernel_rfl) (by simp) ?_
                  refine AllReadyH.cons (o := ⟨some 48, .call { callee := Callee.value (.func 54), args := #[.tmp 47], argTypes := #[3] }, 4, "types.go:45", #[⟨0, .data⟩], none⟩) rfl (fun K hK => ?_) AllReadyH.nil
                  go_simp
                  refine (counts_any b _).mono ?_
                  rintro e' W2x ⟨rfl, rfl⟩
                  have hW2x := hIW
                  go_wp2_with fail
                  refine hK.out _ _ (hSc.out _ hW2x) (fun hHeld => ?_)
                  clear hK K
                  try simp only [Act.put, lA, l0, lS]
                  refine tkH (i := 2) (oi := ⟨some 49, .unOp .not 4 (.tmp 48), 4, "types.go:45", #[⟨1, .data⟩], none⟩) (v := ?vv59) ?hy59 ?_
                  case hy59 => (intro w hSw; (try dsimp only at hSw); go_simp; all_goals with_reducible rfl)
                  try simp only [Act.put, lA, l0, lS]
                  refine tkH (i := 3) (oi := ⟨some 50, .move (.tmp 49), 4, "types.go:45", #[⟨2, .data⟩, ⟨1, .chain⟩], none⟩) (v := ?vv60) ?hy60 ?_
                  case hy60 => (intro w hSw; (try dsimp only at hSw); go_simp; all_goals with_reducible rfl)
                  try simp only [Act.put, lA, l0, lS]
                  refine tkH (i := 4) (oi := ⟨some 51, .fieldAddr 78 (.tmp 1) 0, 0, "types.go:45", #[⟨3, .guard⟩], some (3, true)⟩) (v := ?vv61) ?hy61 ?_
                  case hy61 => (intro w hSw; (try dsimp only at hSw); go_simp; all_goals with_reducible rfl)
                  try simp only [Act.put, lA, l0, lS]
                  refine tkH (i := 5) (oi := ⟨some 52, .load 58 (.tmp 51), 58, "types.go:45", #[⟨4, .data⟩, ⟨3, .guard⟩], some (3, true)⟩) (v := ?vv62) ?hy62 ?_
                  case hy62 => (intro w hSw; (try dsimp only at hSw); go_simp; all_goals with_reducible rfl)
                  try simp only [Act.put, lA, l0, lS]
                  refine tkH (i := 6) (oi := ⟨some 53, .nilCheck (.tmp 52), 0, "types.go:45", #[⟨5, .data⟩, ⟨3, .guard⟩], some (3, true)⟩) (v := ?vv63) ?hy63 ?_
                  case hy63 => (intro w hSw; (try dsimp only at hSw); go_simp; all_goals with_reducible rfl)
                  try simp only [Act.put, lA, l0, lS]
                  refine tkH (i := 7) (oi := ⟨some 54, .fieldAddr 69 (.tmp 53) 0, 0, "types.go:45", #[⟨6, .data⟩, ⟨3, .guard⟩], some (3, true)⟩) (v := ?vv64) ?hy64 ?_
                  case hy64 => (intro w hSw; (try dsimp only at hSw); go_simp; all_goals with_reducible rfl)
                  try simp only [Act.put, lA, l0, lS]
                  refine tkH (i := 8) (oi := ⟨some 55, .load 64 (.tmp 54), 64, "types.go:45", #[⟨7, .data⟩, ⟨3, .guard⟩], some (3, true)⟩) (v := ?vv65) ?hy65 ?_
                  case hy65 => (intro w hSw; (try dsimp only at hSw); go_simp; all_goals with_reducible rfl)
                  try simp only [Act.put, lA, l0, lS]
                  refine tkH (i := 9) (oi := ⟨some 56, .fieldAddr 78 (.tmp 1) 1, 0, "types.go:45", #[⟨3, .guard⟩], some (3, true)⟩) (v := ?vv66) ?hy66 ?_
                  case hy66 => (intro w hSw; (try dsimp only at hSw); go_simp; all_goals with_reducible rfl)
                  try simp only [Act.put, lA, l0, lS]
                  refine tkH (i := 10) (oi := ⟨some 57, .fieldAddr 31 (.tmp 56) 2, 0, "types.go:45", #[⟨9, .data⟩, ⟨3, .guard⟩], some (3, true)⟩) (v := ?vv67) ?hy67 ?_
                  case hy67 => (intro w hSw; (try dsimp only at hSw); go_simp; all_goals with_reducible rfl)
                  try simp only [Act.put, lA, l0, lS]
                  refine tkH (i := 11) (oi := ⟨some 58, .load 2 (.tmp 57), 2, "types.go:45", #[⟨10, .data⟩, ⟨3, .guard⟩], some (3, true)⟩) (v := ?vv68) ?hy68 ?_
                  case hy68 => (intro w hSw; (try dsimp only at hSw); go_simp; all_goals with_reducible rfl)
                  try simp only [Act.put, lA, l0, lS]
                  refine wpAnyH_ready (rs := [12]) (by kernel_rfl) (by simp) ?_
                  refine AllReadyH.cons (o := ⟨some 59, .call { callee := Callee.value (.func 52), args := #[.tmp 55, .tmp 58], argTypes := #[64, 2] }, 3, "types.go:45", #[⟨8, .data⟩, ⟨11, .data⟩, ⟨3, .chain⟩, ⟨3, .guard⟩], some (3, true)⟩) rfl (fun K hK => ?_) AllReadyH.nil
                  refine ite_take (by rfl) ?_
                  go_simp
                  refine (HS2.out _ hW2x).mono ?_
                  rintro e' W2xx ⟨rfl, bX⟩
                  have hW2xx : Below V2.heap.size V2 W2xx := hW2x.trans (bX.mono hW2x.size)
                  clear bX
                  go_wp2_with fail
                  refine hK.out _ _ (hSc.out _ hW2xx) (fun hHeld => ?_)
                  clear hK K
                  try simp only [Act.put, lA, l0, lS]
                  refine wpAnyH_ready (rs := [13]) (by kernel_rfl) (by simp) ?_
                  refine AllReadyH.cons (o := ⟨some 60, .call { callee := Callee.value (.func 54), args := #[.tmp 59], argTypes := #[3] }, 4, "types.go:45", #[⟨12, .data⟩, ⟨12, .chain⟩, ⟨3, .guard⟩], some (3, true)⟩) rfl (fun K hK => ?_) AllReadyH.nil
                  refine ite_take (by rfl) ?_
                  go_simp
                  refine (counts_any s1 _).mono ?_
                  rintro e' W2xxx ⟨rfl, rfl⟩
                  have hW2xxx := hW2xx
                  go_wp2_with fail
                  refine hK.out _ _ (hSc.out _ hW2xxx) (fun hHeld => ?_)
                  clear hK K
                  try simp only [Act.put, lA, l0, lS]
                  refine tkH (i := 14) (oi := ⟨some 61, .pick (.tmp 50) (.tmp 60) (.const (.bool false)), 4, "types.go:45", #[⟨3, .data⟩, ⟨13, .data⟩], none⟩) (v := ?vv69) ?hy69 ?_
                  case hy69 => (intro w hSw; (try dsimp only at hSw); go_simp; all_goals with_reducible rfl)
                  try simp only [Act.put, lA, l0, lS]
                  refine tkH (i := 15) (oi := ⟨some 62, .move (.tmp 61), 4, "types.go:45", #[⟨14, .data⟩, ⟨13, .chain⟩], none⟩) (v := ?vv70) ?hy70 ?_
                  case hy70 => (intro w hSw; (try dsimp only at hSw); go_simp; all_goals with_reducible rfl)
                  try simp only [Act.put, lA, l0, lS]
                  refine wpAnyH_take (i := 16) (oi := ⟨some 63, .load 78 (.tmp 1), 78, "types.go:45", #[⟨15, .guard⟩], some (15, true)⟩) (v := undef) rfl (by kernel_rfl) (by kernel_rfl) (by kernel_rfl) (fun _ _ _ h => h) (Or.inr ⟨by rfl, rfl⟩) (by assumption) ?_
                  try simp only [Act.put, lA, l0, lS]
                  refine wpAnyH_take (i := 17) (oi := ⟨some 64, .call { callee := Callee.value (.func 55), args := #[.tmp 63], argTypes := #[78] }, 4, "types.go:45", #[⟨16, .data⟩, ⟨15, .chain⟩, ⟨15, .guard⟩], some (15, true)⟩) (v := undef) rfl (by kernel_rfl) (by kernel_rfl) (by kernel_rfl) (fun _ _ _ h => h) (Or.inr ⟨by rfl, rfl⟩) (by assumption) ?_
                  try simp only [Act.put, lA, l0, lS]
                  refine tkH (i := 18) (oi := ⟨some 65, .pick (.tmp 62) (.tmp 64) (.const (.bool false)), 4, "types.go:45", #[⟨15, .data⟩, ⟨17, .data⟩], none⟩) (v := ?vv71) ?hy71 ?_
                  case hy71 => (intro w hSw; (try dsimp only at hSw); go_simp; all_goals with_reducible rfl)
                  try simp only [Act.put, lA, l0, lS]
                  refine tkH (i := 19) (oi := ⟨some 46, .assign (.tmp 65), 4, "types.go:45", #[⟨18, .data⟩, ⟨17, .chain⟩], none⟩) (v := ?vv72) ?hy72 ?_
                  case hy72 => (intro w hSw; (try dsimp only at hSw); go_simp; all_goals with_reducible rfl)
                  try simp only [Act.put, lA, l0, lS]
                  refine wpAnyH_done (by kernel_rfl) ?_ _
                  have HB3 : Hid (Below V2.heap.size V2 W2xxx) := hW2xxx
                  clear hHeld hW2xxx
                  have HQ : Hid (R = (k1.block e, 0)) := by show _ = _; rw [HX.out, if_neg (by first | (simp [x1]; done) | (simp [x1, x2]; done))]
                  obtain ⟨⟨j0, j1, j2, j3, j4, j5, j6, j7, j8, j9, j10, j11, j12, j13, j14⟩, _⟩ := hSc.out W2xxx HB3.out
                  go_wp2_with fail
                  go_at_call 56
                  refine (HBb0.out _ A1 HA.out.2 (HL2.out.1.below HB3.out)).mono ?_
                  rintro e' V9 ⟨rfl, h9⟩
                  have HL9 : Hid (LJ w0 V9 A1 (k1.block e) (m + 2)) := h9
                  clear h9
                  go_wp2_with fail
                  go_ret
                  exact ⟨by rw [HQ.out]; rfl, A1, HA.out.1, by first | exact HA.out.2 | exact ⟨HA.out.2 _, HA.out.2 _⟩, by rw [HQ.out]; exact HL9.out.more (by omega)⟩
              · as_aux_lemma =>
                  have hIW : Below V2.heap.size V2 V2.drew := (Below.refl _ _).drew
                  refine wp_region_held_drew (S := (fun V => (V.cell? ⟨b0, 0, none⟩ = some (.pointer (some ⟨A.g, 0, none⟩)) ∧ V.cell? ⟨b0, 1, none⟩ = some (.int .i64 ty) ∧ V.cell? ⟨b0, 2, none⟩ = some (.int .i64 fl) ∧ V.cell? ⟨b0, 3, none⟩ = some (.int .i64 st) ∧ V.cell? ⟨b0, 4, none⟩ = some (.string da) ∧ V.cell? ⟨b0, 5, none⟩ = some (.int .i64 pa) ∧ V.cell? ⟨b0, 6, none⟩ = some (.int .i64 de) ∧ V.cell? ⟨b0, 7, none⟩ = some (.bool ex) ∧ V.cell? ⟨b0, 8, none⟩ = some (.int .i64 wt) ∧ V.cell? ⟨b0, 9, none⟩ = some (.int .i64 co) ∧ V.cell? ⟨b0, 10, none⟩ = some (.int .i64 la) ∧ V.cell? ⟨b0, 11, none⟩ = some p ∧ V.cell? ⟨b0, 12, none⟩ = some (.bool true) ∧ V.cell? ⟨b0, 13, none⟩ = some (.pointer (some ⟨wa, 0, none⟩)) ∧ V.cell? ⟨b0, 14, none⟩ = some (.pointer (some ⟨bk, 0, none⟩))) ∧ V.cell? ⟨A.g, 0, none⟩ = some (.pointer (some ⟨A1.p, 0, none⟩)))) (by kernel_rfl) (hSc.out _ hIW) (fun hHeld => ?_)
                  generalize hWg : World.drew _ = W2 at hIW hHeld ⊢
                  clear hWg
                  refine tkH (i := 0) (oi := ⟨some 47, .move (.tmp 3), 3, "types.go:45", #[], none⟩) (v := ?vv73) ?hy73 ?_
                  case hy73 => (intro w hSw; (try dsimp only at hSw); go_simp; all_goals with_reducible rfl)
                  try simp only [Act.put, lA, l0, lS]
                  refine wpAnyH_ready (rs := [1]) (by kernel_rfl) (by simp) ?_
                  refine AllReadyH.cons (o := ⟨some 48, .call { callee := Callee.value (.func 54), args := #[.tmp 47], argTypes := #[3] }, 4, "types.go:45", #[⟨0, .data⟩], none⟩) rfl (fun K hK => ?_) AllReadyH.nil
                  go_simp
                  refine (counts_any b _).mono ?_
                  rintro e' W2x ⟨rfl, rfl⟩
                  have hW2x := hIW
                  go_wp2_with fail
                  refine hK.out _ _ (hSc.out _ hW2x) (fun hHeld => ?_)
                  clear hK K
                  try simp only [Act.put, lA, l0, lS]
                  refine tkH (i := 2) (oi := ⟨some 49, .unOp .not 4 (.tmp 48), 4, "types.go:45", #[⟨1, .data⟩], none⟩) (v := ?vv74) ?hy74 ?_
                  case hy74 => (intro w hSw; (try dsimp only at hSw); go_simp; all_goals with_reducible rfl)
                  try simp only [Act.put, lA, l0, lS]
                  refine tkH (i := 3) (oi := ⟨some 50, .move (.tmp 49), 4, "types.go:45", #[⟨2, .data⟩, ⟨1, .chain⟩], none⟩) (v := ?vv75) ?hy75 ?_
                  case hy75 => (intro w hSw; (try dsimp only at hSw); go_simp; all_goals with_reducible rfl)
                  try simp only [Act.put, lA, l0, lS]
                  refine tkH (i := 4) (oi := ⟨some 51, .fieldAddr 78 (.tmp 1) 0, 0, "types.go:45", #[⟨3, .guard⟩], some (3, true)⟩) (v := ?vv76) ?hy76 ?_
                  case hy76 => (intro w hSw; (try dsimp only at hSw); go_simp; all_goals with_reducible rfl)
                  try simp only [Act.put, lA, l0, lS]
                  refine tkH (i := 5) (oi := ⟨some 52, .load 58 (.tmp 51), 58, "types.go:45", #[⟨4, .data⟩, ⟨3, .guard⟩], some (3, true)⟩) (v := ?vv77) ?hy77 ?_
                  case hy77 => (intro w hSw; (try dsimp only at hSw); go_simp; all_goals with_reducible rfl)
                  try simp only [Act.put, lA, l0, lS]
                  refine tkH (i := 6) (oi := ⟨some 53, .nilCheck (.tmp 52), 0, "types.go:45", #[⟨5, .data⟩, ⟨3, .guard⟩], some (3, true)⟩) (v := ?vv78) ?hy78 ?_
                  case hy78 => (intro w hSw; (try dsimp only at hSw); go_simp; all_goals with_reducible rfl)
                  try simp only [Act.put, lA, l0, lS]
                  refine tkH (i := 7) (oi := ⟨some 54, .fieldAddr 69 (.tmp 53) 0, 0, "types.go:45", #[⟨6, .data⟩, ⟨3, .guard⟩], some (3, true)⟩) (v := ?vv79) ?hy79 ?_
                  case hy79 => (intro w hSw; (try dsimp only at hSw); go_simp; all_goals with_reducible rfl)
                  try simp only [Act.put, lA, l0, lS]
                  refine tkH (i := 8) (oi := ⟨some 55, .load 64 (.tmp 54), 64, "types.go:45", #[⟨7, .data⟩, ⟨3, .guard⟩], some (3, true)⟩) (v := ?vv80) ?hy80 ?_
                  case hy80 => (intro w hSw; (try dsimp only at hSw); go_simp; all_goals with_reducible rfl)
                  try simp only [Act.put, lA, l0, lS]
                  refine tkH (i := 9) (oi := ⟨some 56, .fieldAddr 78 (.tmp 1) 1, 0, "types.go:45", #[⟨3, .guard⟩], some (3, true)⟩) (v := ?vv81) ?hy81 ?_
                  case hy81 => (intro w hSw; (try dsimp only at hSw); go_simp; all_goals with_reducible rfl)
                  try simp only [Act.put, lA, l0, lS]
                  refine tkH (i := 10) (oi := ⟨some 57, .fieldAddr 31 (.tmp 56) 2, 0, "types.go:45", #[⟨9, .data⟩, ⟨3, .guard⟩], some (3, true)⟩) (v := ?vv82) ?hy82 ?_
                  case hy82 => (intro w hSw; (try dsimp only at hSw); go_simp; all_goals with_reducible rfl)
                  try simp only [Act.put, lA, l0, lS]
                  refine tkH (i := 11) (oi := ⟨some 58, .load 2 (.tmp 57), 2, "types.go:45", #[⟨10, .data⟩, ⟨3, .guard⟩], some (3, true)⟩) (v := ?vv83) ?hy83 ?_
                  case hy83 => (intro w hSw; (try dsimp only at hSw); go_simp; all_goals with_reducible rfl)
                  try simp only [Act.put, lA, l0, lS]
                  refine wpAnyH_ready (rs := [12]) (by kernel_rfl) (by simp) ?_
                  refine AllReadyH.cons (o := ⟨some 59, .call { callee := Callee.value (.func 52), args := #[.tmp 55, .tmp 58], argTypes := #[64, 2] }, 3, "types.go:45", #[⟨8, .data⟩, ⟨11, .data⟩, ⟨3, .chain⟩, ⟨3, .guard⟩], some (3, true)⟩) rfl (fun K hK => ?_) AllReadyH.nil
                  refine ite_take (by rfl) ?_
                  go_simp
                  refine (HS2.out _ hW2x).mono ?_
                  rintro e' W2xx ⟨rfl, bX⟩
                  have hW2xx : Below V2.heap.size V2 W2xx := hW2x.trans (bX.mono hW2x.size)
                  clear bX
                  go_wp2_with fail
                  refine hK.out _ _ (hSc.out _ hW2xx) (fun hHeld => ?_)
                  clear hK K
                  try simp only [Act.put, lA, l0, lS]
                  refine wpAnyH_ready (rs := [13]) (by kernel_rfl) (by simp) ?_
                  refine AllReadyH.cons (o := ⟨some 60, .call { callee := Callee.value (.func 54), args := #[.tmp 59], argTypes := #[3] }, 4, "types.go:45", #[⟨12, .data⟩, ⟨12, .chain⟩, ⟨3, .guard⟩], some (3, true)⟩) rfl (fun K hK => ?_) AllReadyH.nil
                  refine ite_take (by rfl) ?_
                  go_simp
                  refine (counts_any s1 _).mono ?_
                  rintro e' W2xxx ⟨rfl, rfl⟩
                  have hW2xxx := hW2xx
                  go_wp2_with fail
                  refine hK.out _ _ (hSc.out _ hW2xxx) (fun hHeld => ?_)
                  clear hK K
                  try simp only [Act.put, lA, l0, lS]
                  refine tkH (i := 14) (oi := ⟨some 61, .pick (.tmp 50) (.tmp 60) (.const (.bool false)), 4, "types.go:45", #[⟨3, .data⟩, ⟨13, .data⟩], none⟩) (v := ?vv84) ?hy84 ?_
                  case hy84 => (intro w hSw; (try dsimp only at hSw); go_simp; all_goals with_reducible rfl)
                  try simp only [Act.put, lA, l0, lS]
                  refine tkH (i := 15) (oi := ⟨some 62, .move (.tmp 61), 4, "types.go:45", #[⟨14, .data⟩, ⟨13, .chain⟩], none⟩) (v := ?vv85) ?hy85 ?_
                  case hy85 => (intro w hSw; (try dsimp only at hSw); go_simp; all_goals with_reducible rfl)
                  try simp only [Act.put, lA, l0, lS]
                  refine tkH (i := 16) (oi := ⟨some 63, .load 78 (.tmp 1), 78, "types.go:45", #[⟨15, .guard⟩], some (15, true)⟩) (v := ?vv86) ?hy86 ?_
                  case hy86 => (intro w hSw; (try dsimp only at hSw); go_simp; all_goals with_reducible rfl)
                  try simp only [Act.put, lA, l0, lS]
                  refine wpAnyH_ready (rs := [17]) (by kernel_rfl) (by simp) ?_
                  refine AllReadyH.cons (o := ⟨some 64, .call { callee := Callee.value (.func 55), args := #[.tmp 63], argTypes := #[78] }, 4, "types.go:45", #[⟨16, .data⟩, ⟨15, .chain⟩, ⟨15, .guard⟩], some (15, true)⟩) rfl (fun K hK => ?_) AllReadyH.nil
                  refine ite_take (by rfl) ?_
                  go_simp
                  refine (HCr.out _ hW2xxx).mono ?_
                  rintro e' W2xxxx ⟨rfl, bX⟩
                  have hW2xxxx : Below V2.heap.size V2 W2xxxx := hW2xxx.trans (bX.mono hW2xxx.size)
                  clear bX
                  go_wp2_with fail
                  refine hK.out _ _ (hSc.out _ hW2xxxx) (fun hHeld => ?_)
                  clear hK K
                  try simp only [Act.put, lA, l0, lS]
                  refine tkH (i := 18) (oi := ⟨some 65, .pick (.tmp 62) (.tmp 64) (.const (.bool false)), 4, "types.go:45", #[⟨15, .data⟩, ⟨17, .data⟩], none⟩) (v := ?vv87) ?hy87 ?_
                  case hy87 => (intro w hSw; (try dsimp only at hSw); go_simp; all_goals with_reducible rfl)
                  try simp only [Act.put, lA, l0, lS]
                  refine tkH (i := 19) (oi := ⟨some 46, .assign (.tmp 65), 4, "types.go:45", #[⟨18, .data⟩, ⟨17, .chain⟩], none⟩) (v := ?vv88) ?hy88 ?_
                  case hy88 => (intro w hSw; (try dsimp only at hSw); go_simp; all_goals with_reducible rfl)
                  try simp only [Act.put, lA, l0, lS]
                  refine wpAnyH_done (by kernel_rfl) ?_ _
                  have HB3 : Hid (Below V2.heap.size V2 W2xxxx) := hW2xxxx
                  clear hHeld hW2xxxx
                  cases cr
                  · have HQ : Hid (R = (k1.block e, 0)) := by show _ = _; rw [HX.out, if_neg (by simp)]
                    obtain ⟨⟨j0, j1, j2, j3, j4, j5, j6, j7, j8, j9, j10, j11, j12, j13, j14⟩, _⟩ := hSc.out W2xxxx HB3.out
                    go_wp2_with fail
                    go_at_call 56
                    refine (HBb0.out _ A1 HA.out.2 (HL2.out.1.below HB3.out)).mono ?_
                    rintro e' V9 ⟨rfl, h9⟩
                    have HL9 : Hid (LJ w0 V9 A1 (k1.block e) (m + 2)) := h9
                    clear h9
                    go_wp2_with fail
                    go_ret
                    exact ⟨by rw [HQ.out]; rfl, A1, HA.out.1, by first | exact HA.out.2 | exact ⟨HA.out.2 _, HA.out.2 _⟩, by rw [HQ.out]; exact HL9.out.more (by omega)⟩
                  · have HQ : Hid (R = (k1, 7)) := by show _ = _; rw [HX.out, if_pos (by simp [x1, x2])]
                    go_wp2_with fail
                    go_ret
                    exact ⟨by rw [HQ.out]; rfl, A1, HA.out.1, by first | exact HA.out.2 | exact ⟨HA.out.2 _, HA.out.2 _⟩, by rw [HQ.out]; exact (HL2.out.1.below HB3.out).more (by omega)⟩
            · as_aux_lemma =>
                have hIW : Below V2.heap.size V2 V2.drew := (Below.refl _ _).drew
                refine wp_region_held_drew (S := (fun V => (V.cell? ⟨b0, 0, none⟩ = some (.pointer (some ⟨A.g, 0, none⟩)) ∧ V.cell? ⟨b0, 1, none⟩ = some (.int .i64 ty) ∧ V.cell? ⟨b0, 2, none⟩ = some (.int .i64 fl) ∧ V.cell? ⟨b0, 3, none⟩ = some (.int .i64 st) ∧ V.cell? ⟨b0, 4, none⟩ = some (.string da) ∧ V.cell? ⟨b0, 5, none⟩ = some (.int .i64 pa) ∧ V.cell? ⟨b0, 6, none⟩ = some (.int .i64 de) ∧ V.cell? ⟨b0, 7, none⟩ = some (.bool ex) ∧ V.cell? ⟨b0, 8, none⟩ = some (.int .i64 wt) ∧ V.cell? ⟨b0, 9, none⟩ = some (.int .i64 co) ∧ V.cell? ⟨b0, 10, none⟩ = some (.int .i64 la) ∧ V.cell? ⟨b0, 11, none⟩ = some p ∧ V.cell? ⟨b0, 12, none⟩ = some (.bool true) ∧ V.cell? ⟨b0, 13, none⟩ = some (.pointer (some ⟨wa, 0, none⟩)) ∧ V.cell? ⟨b0, 14, none⟩ = some (.pointer (some ⟨bk, 0, none⟩))) ∧ V.cell? ⟨A.g, 0, none⟩ = some (.pointer (some ⟨A1.p, 0, none⟩)))) (by kernel_rfl) (hSc.out _ hIW) (fun hHeld => ?_)
                generalize hWg : World.drew _ = W2 at hIW hHeld ⊢
                clear hWg
                refine tkH (i := 0) (oi := ⟨some 47, .move (.tmp 3), 3, "types.go:45", #[], none⟩) (v := ?vv89) ?hy89 ?_
                case hy89 => (intro w hSw; (try dsimp only at hSw); go_simp; all_goals with_reducible rfl)
                try simp only [Act.put, lA, l0, lS]
                refine wpAnyH_ready (rs := [1]) (by kernel_rfl) (by simp) ?_
                refine AllReadyH.cons (o := ⟨some 48, .call { callee := Callee.value (.func 54), args := #[.tmp 47], argTypes := #[3] }, 4, "types.go:45", #[⟨0, .data⟩], none⟩) rfl (fun K hK => ?_) AllReadyH.nil
                go_simp
                refine (counts_any b _).mono ?_
                rintro e' W2x ⟨rfl, rfl⟩
                have hW2x := hIW
                go_wp2_with fail
                refine hK.out _ _ (hSc.out _ hW2x) (fun hHeld => ?_)
                clear hK K
                try simp only [Act.put, lA, l0, lS]
                refine tkH (i := 2) (oi := ⟨some 49, .unOp .not 4 (.tmp 48), 4, "types.go:45", #[⟨1, .data⟩], none⟩) (v := ?vv90) ?hy90 ?_
                case hy90 => (intro w hSw; (try dsimp only at hSw); go_simp; all_goals with_reducible rfl)
                try simp only [Act.put, lA, l0, lS]
                refine tkH (i := 3) (oi := ⟨some 50, .move (.tmp 49), 4, "types.go:45", #[⟨2, .data⟩, ⟨1, .chain⟩], none⟩) (v := ?vv91) ?hy91 ?_
                case hy91 => (intro w hSw; (try dsimp only at hSw); go_simp; all_goals with_reducible rfl)
                try simp only [Act.put, lA, l0, lS]
                refine wpAnyH_take (i := 4) (oi := ⟨some 51, .fieldAddr 78 (.tmp 1) 0, 0, "types.go:45", #[⟨3, .guard⟩], some (3, true)⟩) (v := undef) rfl (by kernel_rfl) (by kernel_rfl) (by kernel_rfl) (fun _ _ _ h => h) (Or.inr ⟨by rfl, rfl⟩) (by assumption) ?_
                try simp only [Act.put, lA, l0, lS]
                refine wpAnyH_take (i := 5) (oi := ⟨some 52, .load 58 (.tmp 51), 58, "types.go:45", #[⟨4, .data⟩, ⟨3, .guard⟩], some (3, true)⟩) (v := undef) rfl (by kernel_rfl) (by kernel_rfl) (by kernel_rfl) (fun _ _ _ h => h) (Or.inr ⟨by rfl, rfl⟩) (by assumption) ?_
                try simp only [Act.put, lA, l0, lS]
                refine wpAnyH_take (i := 6) (oi := ⟨some 53, .nilCheck (.tmp 52), 0, "types.go:45", #[⟨5, .data⟩, ⟨3, .guard⟩], some (3, true)⟩) (v := undef) rfl (by kernel_rfl) (by kernel_rfl) (by kernel_rfl) (fun _ _ _ h => h) (Or.inr ⟨by rfl, rfl⟩) (by assumption) ?_
                try simp only [Act.put, lA, l0, lS]
                refine wpAnyH_take (i := 7) (oi := ⟨some 54, .fieldAddr 69 (.tmp 53) 0, 0, "types.go:45", #[⟨6, .data⟩, ⟨3, .guard⟩], some (3, true)⟩) (v := undef) rfl (by kernel_rfl) (by kernel_rfl) (by kernel_rfl) (fun _ _ _ h => h) (Or.inr ⟨by rfl, rfl⟩) (by assumption) ?_
                try simp only [Act.put, lA, l0, lS]
                refine wpAnyH_take (i := 8) (oi := ⟨some 55, .load 64 (.tmp 54), 64, "types.go:45", #[⟨7, .data⟩, ⟨3, .guard⟩], some (3, true)⟩) (v := undef) rfl (by kernel_rfl) (by kernel_rfl) (by kernel_rfl) (fun _ _ _ h => h) (Or.inr ⟨by rfl, rfl⟩) (by assumption) ?_
                try simp only [Act.put, lA, l0, lS]
                refine wpAnyH_take (i := 9) (oi := ⟨some 56, .fieldAddr 78 (.tmp 1) 1, 0, "types.go:45", #[⟨3, .guard⟩], some (3, true)⟩) (v := undef) rfl (by kernel_rfl) (by kernel_rfl) (by kernel_rfl) (fun _ _ _ h => h) (Or.inr ⟨by rfl, rfl⟩) (by assumption) ?_
                try simp only [Act.put, lA, l0, lS]
                refine wpAnyH_take (i := 10) (oi := ⟨some 57, .fieldAddr 31 (.tmp 56) 2, 0, "types.go:45", #[⟨9, .data⟩, ⟨3, .guard⟩], some (3, true)⟩) (v := undef) rfl (by kernel_rfl) (by kernel_rfl) (by kernel_rfl) (fun _ _ _ h => h) (Or.inr ⟨by rfl, rfl⟩) (by assumption) ?_
                try simp only [Act.put, lA, l0, lS]
                refine wpAnyH_take (i := 11) (oi := ⟨some 58, .load 2 (.tmp 57), 2, "types.go:45", #[⟨10, .data⟩, ⟨3, .guard⟩], some (3, true)⟩) (v := undef) rfl (by kernel_rfl) (by kernel_rfl) (by kernel_rfl) (fun _ _ _ h => h) (Or.inr ⟨by rfl, rfl⟩) (by assumption) ?_
                try simp only [Act.put, lA, l0, lS]
                refine wpAnyH_take (i := 12) (oi := ⟨some 59, .call { callee := Callee.value (.func 52), args := #[.tmp 55, .tmp 58], argTypes := #[64, 2] }, 3, "types.go:45", #[⟨8, .data⟩, ⟨11, .data⟩, ⟨3, .chain⟩, ⟨3, .guard⟩], some (3, true)⟩) (v := undef) rfl (by kernel_rfl) (by kernel_rfl) (by kernel_rfl) (fun _ _ _ h => h) (Or.inr ⟨by rfl, rfl⟩) (by assumption) ?_
                try simp only [Act.put, lA, l0, lS]
                refine wpAnyH_take (i := 13) (oi := ⟨some 60, .call { callee := Callee.value (.func 54), args := #[.tmp 59], argTypes := #[3] }, 4, "types.go:45", #[⟨12, .data⟩, ⟨12, .chain⟩, ⟨3, .guard⟩], some (3, true)⟩) (v := undef) rfl (by kernel_rfl) (by kernel_rfl) (by kernel_rfl) (fun _ _ _ h => h) (Or.inr ⟨by rfl, rfl⟩) (by assumption) ?_
                try simp only [Act.put, lA, l0, lS]
                refine tkH (i := 14) (oi := ⟨some 61, .pick (.tmp 50) (.tmp 60) (.const (.bool false)), 4, "types.go:45", #[⟨3, .data⟩, ⟨13, .data⟩], none⟩) (v := ?vv92) ?hy92 ?_
                case hy92 => (intro w hSw; (try dsimp only at hSw); go_simp; all_goals with_reducible rfl)
                try simp only [Act.put, lA, l0, lS]
                refine tkH (i := 15) (oi := ⟨some 62, .move (.tmp 61), 4, "types.go:45", #[⟨14, .data⟩, ⟨13, .chain⟩], none⟩) (v := ?vv93) ?hy93 ?_
                case hy93 => (intro w hSw; (try dsimp only at hSw); go_simp; all_goals with_reducible rfl)
                try simp only [Act.put, lA, l0, lS]
                refine wpAnyH_take (i := 16) (oi := ⟨some 63, .load 78 (.tmp 1), 78, "types.go:45", #[⟨15, .guard⟩], some (15, true)⟩) (v := undef) rfl (by kernel_rfl) (by kernel_rfl) (by kernel_rfl) (fun _ _ _ h => h) (Or.inr ⟨by rfl, rfl⟩) (by assumption) ?_
                try simp only [Act.put, lA, l0, lS]
                refine wpAnyH_take (i := 17) (oi := ⟨some 64, .call { callee := Callee.value (.func 55), args := #[.tmp 63], argTypes := #[78] }, 4, "types.go:45", #[⟨16, .data⟩, ⟨15, .chain⟩, ⟨15, .guard⟩], some (15, true)⟩) (v := undef) rfl (by kernel_rfl) (by kernel_rfl) (by kernel_rfl) (fun _ _ _ h => h) (Or.inr ⟨by rfl, rfl⟩) (by assumption) ?_
                try simp only [Act.put, lA, l0, lS]
                refine tkH (i := 18) (oi := ⟨some 65, .pick (.tmp 62) (.tmp 64) (.const (.bool false)), 4, "types.go:45", #[⟨15, .data⟩, ⟨17, .data⟩], none⟩) (v := ?vv94) ?hy94 ?_
                case hy94 => (intro w hSw; (try dsimp only at hSw); go_simp; all_goals with_reducible rfl)
                try simp only [Act.put, lA, l0, lS]
                refine tkH (i := 19) (oi := ⟨some 46, .assign (.tmp 65), 4, "types.go:45", #[⟨18, .data⟩, ⟨17, .chain⟩], none⟩) (v := ?vv95) ?hy95 ?_
                case hy95 => (intro w hSw; (try dsimp only at hSw); go_simp; all_goals with_reducible rfl)
                try simp only [Act.put, lA, l0, lS]
                refine wpAnyH_done (by kernel_rfl) ?_ _
                have HB3 : Hid (Below V2.heap.size V2 W2x) := hW2x
                clear hHeld hW2x
                have HQ : Hid (R = (k1.block e, 0)) := by show _ = _; rw [HX.out, if_neg (by first | (simp [x1]; done) | (simp [x1, x2]; done))]
                obtain ⟨⟨j0, j1, j2, j3, j4, j5, j6, j7, j8, j9, j10, j11, j12, j13, j14⟩, _⟩ := hSc.out W2x HB3.out
                go_wp2_with fail
                go_at_call 56
                refine (HBb0.out _ A1 HA.out.2 (HL2.out.1.below HB3.out)).mono ?_
                rintro e' V9 ⟨rfl, h9⟩
                have HL9 : Hid (LJ w0 V9 A1 (k1.block e) (m + 2)) := h9
                clear h9
                go_wp2_with fail
                go_ret
                exact ⟨by rw [HQ.out]; rfl, A1, HA.out.1, by first | exact HA.out.2 | exact ⟨HA.out.2 _, HA.out.2 _⟩, by rw [HQ.out]; exact HL9.out.more (by omega)⟩
          · by_cases zb0 : b = 0
            · have HQ : Hid (R = (k1, 1)) := by show _ = _; rw [HR.out, if_neg (by simp), if_pos (by simp [zb0])]
              subst zb0
              go_wp2_with fail
              go_ret
              exact ⟨by rw [HQ.out]; rfl, A1, HA.out.1, by first | exact HA.out.2 | exact ⟨HA.out.2 _, HA.out.2 _⟩, by rw [HQ.out]; exact HL2.out.1.more (by omega)⟩
            · have zb : (b == 0) = false := beq_eq_false_iff_ne.2 zb0
              have HX : Hid (R = if (!ct b && ct s1 && cr) = true then (k1, 7) else (k1.block e, 0)) := by show _ = _; rw [HR.out, if_neg (by simp), if_neg (by first | (simp; done) | (simp [zb]; done))]
              go_upto_region 7 with fail
              clear y0 y12 yg yw
              cases x1 : ct b
              · cases x2 : ct s1
                · as_aux_lemma =>
                    have hIW : Below V2.heap.size V2 V2.drew := (Below.refl _ _).drew
                    refine wp_region_held_drew (S := (fun V => (V.cell? ⟨b0, 0, none⟩ = some (.pointer (some ⟨A.g, 0, none⟩)) ∧ V.cell? ⟨b0, 1, none⟩ = some (.int .i64 ty) ∧ V.cell? ⟨b0, 2, none⟩ = some (.int .i64 fl) ∧ V.cell? ⟨b0, 3, none⟩ = some (.int .i64 st) ∧ V.cell? ⟨b0, 4, none⟩ = some (.string da) ∧ V.cell? ⟨b0, 5, none⟩ = some (.int .i64 pa) ∧ V.cell? ⟨b0, 6, none⟩ = some (.int .i64 de) ∧ V.cell? ⟨b0, 7, none⟩ = some (.bool ex) ∧ V.cell? ⟨b0, 8, none⟩ = some (.int .i64 wt) ∧ V.cell? ⟨b0, 9, none⟩ = some (.int .i64 co) ∧ V.cell? ⟨b0, 10, none⟩ = some (.int .i64 la) ∧ V.cell? ⟨b0, 11, none⟩ = some p ∧ V.cell? ⟨b0, 12, none⟩ = some (.bool true) ∧ V.cell? ⟨b0, 13, none⟩ = some (.pointer (some ⟨wa, 0, none⟩)) ∧ V.cell? ⟨b0, 14, none⟩ = some (.pointer (some ⟨bk, 0, none⟩))) ∧ V.cell? ⟨A.g, 0, none⟩ = some (.pointer (some ⟨A1.p, 0, none⟩)))) (by kernel_rfl) (hSc.out _ hIW) (fun hHeld => ?_)
                    generalize hWg : World.drew _ = W2 at hIW hHeld ⊢
                    clear hWg
                    refine tkH (i := 0) (oi := ⟨some 47, .move (.tmp 3), 3, "types.go:45", #[], none⟩) (v := ?vv96) ?hy96 ?_
                    case hy96 => (intro w hSw; (try dsimp only at hSw); go_simp; all_goals with_reducible rfl)
                    try simp only [Act.put, lA, l0, lS]
                    refine wpAnyH_ready (rs := [1]) (by kernel_rfl) (by simp) ?_
                    refine AllReadyH.cons (o := ⟨some 48, .call { callee := Callee.value (.func 54), args := #[.tmp 47], argTypes := #[3] }, 4, "types.go:45", #[⟨0, .data⟩], none⟩) rfl (fun K hK => ?_) AllReadyH.nil
                    go_simp
                    refine (counts_any b _).mono ?_
                    rintro e' W2x ⟨rfl, rfl⟩
                    have hW2x := hIW
                    go_wp2_with fail
                    refine hK.out _ _ (hSc.out _ hW2x) (fun hHeld => ?_)
                    clear hK K
                    try simp only [Act.put, lA, l0, lS]
                    refine tkH (i := 2) (oi := ⟨some 49, .unOp .not 4 (.tmp 48), 4, "types.go:45", #[⟨1, .data⟩], none⟩) (v := ?vv97) ?hy97 ?_
                    case hy97 => (intro w hSw; (try dsimp only at hSw); go_simp; all_goals with_reducible rfl)
                    try simp only [Act.put, lA, l0, lS]
                    refine tkH (i := 3) (oi := ⟨some 50, .move (.tmp 49), 4, "types.go:45", #[⟨2, .data⟩, ⟨1, .chain⟩], none⟩) (v := ?vv98) ?hy98 ?_
                    case hy98 => (intro w hSw; (try dsimp only at hSw); go_simp; all_goals with_reducible rfl)
                    try simp only [Act.put, lA, l0, lS]
                    refine tkH (i := 4) (oi := ⟨some 51, .fieldAddr 78 (.tmp 1) 0, 0, "types.go:45", #[⟨3, .guard⟩], some (3, true)⟩) (v := ?vv99) ?hy99 ?_
                    case hy99 => (intro w hSw; (try dsimp only at hSw); go_simp; all_goals with_reducible rfl)
                    try simp only [Act.put, lA, l0, lS]
                    refine tkH (i := 5) (oi := ⟨some 52, .load 58 (.tmp 51), 58, "types.go:45", #[⟨4, .data⟩, ⟨3, .guard⟩], some (3, true)⟩) (v := ?vv100) ?hy100 ?_
                    case hy100 => (intro w hSw; (try dsimp only at hSw); go_simp; all_goals with_reducible rfl)
                    try simp only [Act.put, lA, l0, lS]
                    refine tkH (i := 6) (oi := ⟨some 53, .nilCheck (.tmp 52), 0, "types.go:45", #[⟨5, .data⟩, ⟨3, .guard⟩], some (3, true)⟩) (v := ?vv101) ?hy101 ?_
                    case hy101 => (intro w hSw; (try dsimp only at hSw); go_simp; all_goals with_reducible rfl)
                    try simp only [Act.put, lA, l0, lS]
                    refine tkH (i := 7) (oi := ⟨some 54, .fieldAddr 69 (.tmp 53) 0, 0, "types.go:45", #[⟨6, .data⟩, ⟨3, .guard⟩], some (3, true)⟩) (v := ?vv102) ?hy102 ?_
                    case hy102 => (intro w hSw; (try dsimp only at hSw); go_simp; all_goals with_reducible rfl)
                    try simp only [Act.put, lA, l0, lS]
                    refine tkH (i := 8) (oi := ⟨some 55, .load 64 (.tmp 54), 64, "types.go:45", #[⟨7, .data⟩, ⟨3, .guard⟩], some (3, true)⟩) (v := ?vv103) ?hy103 ?_
                    case hy103 => (intro w hSw; (try dsimp only at hSw); go_simp; all_goals with_reducible rfl)
                    try simp only [Act.put, lA, l0, lS]
                    refine tkH (i := 9) (oi := ⟨some 56, .fieldAddr 78 (.tmp 1) 1, 0, "types.go:45", #[⟨3, .guard⟩], some (3, true)⟩) (v := ?vv104) ?hy104 ?_
                    case hy104 => (intro w hSw; (try dsimp only at hSw); go_simp; all_goals with_reducible rfl)
                    try simp only [Act.put, lA, l0, lS]
                    refine tkH (i := 10) (oi := ⟨some 57, .fieldAddr 31 (.tmp 56) 2, 0, "types.go:45", #[⟨9, .data⟩, ⟨3, .guard⟩], some (3, true)⟩) (v := ?vv105) ?hy105 ?_
                    case hy105 => (intro w hSw; (try dsimp only at hSw); go_simp; all_goals with_reducible rfl)
                    try simp only [Act.put, lA, l0, lS]
                    refine tkH (i := 11) (oi := ⟨some 58, .load 2 (.tmp 57), 2, "types.go:45", #[⟨10, .data⟩, ⟨3, .guard⟩], some (3, true)⟩) (v := ?vv106) ?hy106 ?_
                    case hy106 => (intro w hSw; (try dsimp only at hSw); go_simp; all_goals with_reducible rfl)
                    try simp only [Act.put, lA, l0, lS]
                    refine wpAnyH_ready (rs := [12]) (by kernel_rfl) (by simp) ?_
                    refine AllReadyH.cons (o := ⟨some 59, .call { callee := Callee.value (.func 52), args := #[.tmp 55, .tmp 58], argTypes := #[64, 2] }, 3, "types.go:45", #[⟨8, .data⟩, ⟨11, .data⟩, ⟨3, .chain⟩, ⟨3, .guard⟩], some (3, true)⟩) rfl (fun K hK => ?_) AllReadyH.nil
                    refine ite_take (by rfl) ?_
                    go_simp
                    refine (HS2.out _ hW2x).mono ?_
                    rintro e' W2xx ⟨rfl, bX⟩
                    have hW2xx : Below V2.heap.size V2 W2xx := hW2x.trans (bX.mono hW2x.size)
                    clear bX
                    go_wp2_with fail
                    refine hK.out _ _ (hSc.out _ hW2xx) (fun hHeld => ?_)
                    clear hK K
                    try simp only [Act.put, lA, l0, lS]
                    refine wpAnyH_ready (rs := [13]) (by kernel_rfl) (by simp) ?_
                    refine AllReadyH.cons (o := ⟨some 60, .call { callee := Callee.value (.func 54), args := #[.tmp 59], argTypes := #[3] }, 4, "types.go:45", #[⟨12, .data⟩, ⟨12, .chain⟩, ⟨3, .guard⟩], some (3, true)⟩) rfl (fun K hK => ?_) AllReadyH.nil
                    refine ite_take (by rfl) ?_
                    go_simp
                    refine (counts_any s1 _).mono ?_
                    rintro e' W2xxx ⟨rfl, rfl⟩
                    have hW2xxx := hW2xx
                    go_wp2_with fail
                    refine hK.out _ _ (hSc.out _ hW2xxx) (fun hHeld => ?_)
                    clear hK K
                    try simp only [Act.put, lA, l0, lS]
                    refine tkH (i := 14) (oi := ⟨some 61, .pick (.tmp 50) (.tmp 60) (.const (.bool false)), 4, "types.go:45", #[⟨3, .data⟩, ⟨13, .data⟩], none⟩) (v := ?vv107) ?hy107 ?_
                    case hy107 => (intro w hSw; (try dsimp only at hSw); go_simp; all_goals with_reducible rfl)
                    try simp only [Act.put, lA, l0, lS]
                    refine tkH (i := 15) (oi := ⟨some 62, .move (.tmp 61), 4, "types.go:45", #[⟨14, .data⟩, ⟨13, .chain⟩], none⟩) (v := ?vv108) ?hy108 ?_
                    case hy108 => (intro w hSw; (try dsimp only at hSw); go_simp; all_goals with_reducible rfl)
                    try simp only [Act.put, lA, l0, lS]
                    refine wpAnyH_take (i := 16) (oi := ⟨some 63, .load 78 (.tmp 1), 78, "types.go:45", #[⟨15, .guard⟩], some (15, true)⟩) (v := undef) rfl (by kernel_rfl) (by kernel_rfl) (by kernel_rfl) (fun _ _ _ h => h) (Or.inr ⟨by rfl, rfl⟩) (by assumption) ?_
                    try simp only [Act.put, lA, l0, lS]
                    refine wpAnyH_take (i := 17) (oi := ⟨some 64, .call { callee := Callee.value (.func 55), args := #[.tmp 63], argTypes := #[78] }, 4, "types.go:45", #[⟨16, .data⟩, ⟨15, .chain⟩, ⟨15, .guard⟩], some (15, true)⟩) (v := undef) rfl (by kernel_rfl) (by kernel_rfl) (by kernel_rfl) (fun _ _ _ h => h) (Or.inr ⟨by rfl, rfl⟩) (by assumption) ?_
                    try simp only [Act.put, lA, l0, lS]
                    refine tkH (i := 18) (oi := ⟨some 65, .pick (.tmp 62) (.tmp 64) (.const (.bool false)), 4, "types.go:45", #[⟨15, .data⟩, ⟨17, .data⟩], none⟩) (v := ?vv109) ?hy109 ?_
                    case hy109 => (intro w hSw; (try dsimp only at hSw); go_simp; all_goals with_reducible rfl)
                    try simp only [Act.put, lA, l0, lS]
                    refine tkH (i := 19) (oi := ⟨some 46, .assign (.tmp 65), 4, "types.go:45", #[⟨18, .data⟩, ⟨17, .chain⟩], none⟩) (v := ?vv110) ?hy110 ?_
                    case hy110 => (intro w hSw; (try dsimp only at hSw); go_simp; all_goals with_reducible rfl)
                    try simp only [Act.put, lA, l0, lS]
                    refine wpAnyH_done (by kernel_rfl) ?_ _
                    have HB3 : Hid (Below V2.heap.size V2 W2xxx) := hW2xxx
                    clear hHeld hW2xxx
                    have HQ : Hid (R = (k1.block e, 0)) := by show _ = _; rw [HX.out, if_neg (by first | (simp [x1]; done) | (simp [x1, x2]; done))]
                    obtain ⟨⟨j0, j1, j2, j3, j4, j5, j6, j7, j8, j9, j10, j11, j12, j13, j14⟩, _⟩ := hSc.out W2xxx HB3.out
                    go_wp2_with fail
                    go_at_call 56
                    refine (HBb0.out _ A1 HA.out.2 (HL2.out.1.below HB3.out)).mono ?_
                    rintro e' V9 ⟨rfl, h9⟩
                    have HL9 : Hid (LJ w0 V9 A1 (k1.block e) (m + 2)) := h9
                    clear h9
                    go_wp2_with fail
                    go_ret
                    exact ⟨by rw [HQ.out]; rfl, A1, HA.out.1, by first | exact HA.out.2 | exact ⟨HA.out.2 _, HA.out.2 _⟩, by rw [HQ.out]; exact HL9.out.more (by omega)⟩
                · as_aux_lemma =>
                    have hIW : Below V2.heap.size V2 V2.drew := (Below.refl _ _).drew
                    refine wp_region_held_drew (S := (fun V => (V.cell? ⟨b0, 0, none⟩ = some (.pointer (some ⟨A.g, 0, none⟩)) ∧ V.cell? ⟨b0, 1, none⟩ = some (.int .i64 ty) ∧ V.cell? ⟨b0, 2, none⟩ = some (.int .i64 fl) ∧ V.cell? ⟨b0, 3, none⟩ = some (.int .i64 st) ∧ V.cell? ⟨b0, 4, none⟩ = some (.string da) ∧ V.cell? ⟨b0, 5, none⟩ = some (.int .i64 pa) ∧ V.cell? ⟨b0, 6, none⟩ = some (.int .i64 de) ∧ V.cell? ⟨b0, 7, none⟩ = some (.bool ex) ∧ V.cell? ⟨b0, 8, none⟩ = some (.int .i64 wt) ∧ V.cell? ⟨b0, 9, none⟩ = some (.int .i64 co) ∧ V.cell? ⟨b0, 10, none⟩ = some (.int .i64 la) ∧ V.cell? ⟨b0, 11, none⟩ = some p ∧ V.cell? ⟨b0, 12, none⟩ = some (.bool true) ∧ V.cell? ⟨b0, 13, none⟩ = some (.pointer (some ⟨wa, 0, none⟩)) ∧ V.cell? ⟨b0, 14, none⟩ = some (.pointer (some ⟨bk, 0, none⟩))) ∧ V.cell? ⟨A.g, 0, none⟩ = some (.pointer (some ⟨A1.p, 0, none⟩)))) (by kernel_rfl) (hSc.out _ hIW) (fun hHeld => ?_)
                    generalize hWg : World.drew _ = W2 at hIW hHeld ⊢
                    clear hWg
                    refine tkH (i := 0) (oi := ⟨some 47, .move (.tmp 3), 3, "types.go:45", #[], none⟩) (v := ?vv111) ?hy111 ?_
                    case hy111 => (intro w hSw; (try dsimp only at hSw); go_simp; all_goals with_reducible rfl)
                    try simp only [Act.put, lA, l0, lS]
                    refine wpAnyH_ready (rs := [1]) (by kernel_rfl) (by simp) ?_
                    refine AllReadyH.cons (o := ⟨some 48, .call { callee := Callee.value (.func 54), args := #[.tmp 47], argTypes := #[3] }, 4, "types.go:45", #[⟨0, .data⟩], none⟩) rfl (fun K hK => ?_) AllReadyH.nil
                    go_simp
                    refine (counts_any b _).mono ?_
                    rintro e' W2x ⟨rfl, rfl⟩
                    have hW2x := hIW
                    go_wp2_with fail
                    refine hK.out _ _ (hSc.out _ hW2x) (fun hHeld => ?_)
                    clear hK K
                    try simp only [Act.put, lA, l0, lS]
                    refine tkH (i := 2) (oi := ⟨some 49, .unOp .not 4 (.tmp 48), 4, "types.go:45", #[⟨1, .data⟩], none⟩) (v := ?vv112) ?hy112 ?_
                    case hy112 => (intro w hSw; (try dsimp only at hSw); go_simp; all_goals with_reducible rfl)
                    try simp only [Act.put, lA, l0, lS]
                    refine tkH (i := 3) (oi := ⟨some 50, .move (.tmp 49), 4, "types.go:45", #[⟨2, .data⟩, ⟨1, .chain⟩], none⟩) (v := ?vv113) ?hy113 ?_
                    case hy113 => (intro w hSw; (try dsimp only at hSw); go_simp; all_goals with_reducible rfl)
                    try simp only [Act.put, lA, l0, lS]
                    refine tkH (i := 4) (oi := ⟨some 51, .fieldAddr 78 (.tmp 1) 0, 0, "types.go:45", #[⟨3, .guard⟩], some (3, true)⟩) (v := ?vv114) ?hy114 ?_
                    case hy114 => (intro w hSw; (try dsimp only at hSw); go_simp; all_goals with_reducible rfl)
                    try simp only [Act.put, lA, l0, lS]
                    refine tkH (i := 5) (oi := ⟨some 52, .load 58 (.tmp 51), 58, "types.go:45", #[⟨4, .data⟩, ⟨3, .guard⟩], some (3, true)⟩) (v := ?vv115) ?hy115 ?_
                    case hy115 => (intro w hSw; (try dsimp only at hSw); go_simp; all_goals with_reducible rfl)
                    try simp only [Act.put, lA, l0, lS]
                    refine tkH (i := 6) (oi := ⟨some 53, .nilCheck (.tmp 52), 0, "types.go:45", #[⟨5, .data⟩, ⟨3, .guard⟩], some (3, true)⟩) (v := ?vv116) ?hy116 ?_
                    case hy116 => (intro w hSw; (try dsimp only at hSw); go_simp; all_goals with_reducible rfl)
                    try simp only [Act.put, lA, l0, lS]
                    refine tkH (i := 7) (oi := ⟨some 54, .fieldAddr 69 (.tmp 53) 0, 0, "types.go:45", #[⟨6, .data⟩, ⟨3, .guard⟩], some (3, true)⟩) (v := ?vv117) ?hy117 ?_
                    case hy117 => (intro w hSw; (try dsimp only at hSw); go_simp; all_goals with_reducible rfl)
                    try simp only [Act.put, lA, l0, lS]
                    refine tkH (i := 8) (oi := ⟨some 55, .load 64 (.tmp 54), 64, "types.go:45", #[⟨7, .data⟩, ⟨3, .guard⟩], some (3, true)⟩) (v := ?vv118) ?hy118 ?_
                    case hy118 => (intro w hSw; (try dsimp only at hSw); go_simp; all_goals with_reducible rfl)
                    try simp only [Act.put, lA, l0, lS]
                    refine tkH (i := 9) (oi := ⟨some 56, .fieldAddr 78 (.tmp 1) 1, 0, "types.go:45", #[⟨3, .guard⟩], some (3, true)⟩) (v := ?vv119) ?hy119 ?_
                    case hy119 => (intro w hSw; (try dsimp only at hSw); go_simp; all_goals with_reducible rfl)
                    try simp only [Act.put, lA, l0, lS]
                    refine tkH (i := 10) (oi := ⟨some 57, .fieldAddr 31 (.tmp 56) 2, 0, "types.go:45", #[⟨9, .data⟩, ⟨3, .guard⟩], some (3, true)⟩) (v := ?vv120) ?hy120 ?_
                    case hy120 => (intro w hSw; (try dsimp only at hSw); go_simp; all_goals with_reducible rfl)
                    try simp only [Act.put, lA, l0, lS]
                    refine tkH (i := 11) (oi := ⟨some 58, .load 2 (.tmp 57), 2, "types.go:45", #[⟨10, .data⟩, ⟨3, .guard⟩], some (3, true)⟩) (v := ?vv121) ?hy121 ?_
                    case hy121 => (intro w hSw; (try dsimp only at hSw); go_simp; all_goals with_reducible rfl)
                    try simp only [Act.put, lA, l0, lS]
                    refine wpAnyH_ready (rs := [12]) (by kernel_rfl) (by simp) ?_
                    refine AllReadyH.cons (o := ⟨some 59, .call { callee := Callee.value (.func 52), args := #[.tmp 55, .tmp 58], argTypes := #[64, 2] }, 3, "types.go:45", #[⟨8, .data⟩, ⟨11, .data⟩, ⟨3, .chain⟩, ⟨3, .guard⟩], some (3, true)⟩) rfl (fun K hK => ?_) AllReadyH.nil
                    refine ite_take (by rfl) ?_
                    go_simp
                    refine (HS2.out _ hW2x).mono ?_
                    rintro e' W2xx ⟨rfl, bX⟩
                    have hW2xx : Below V2.heap.size V2 W2xx := hW2x.trans (bX.mono hW2x.size)
                    clear bX
                    go_wp2_with fail
                    refine hK.out _ _ (hSc.out _ hW2xx) (fun hHeld => ?_)
                    clear hK K
                    try simp only [Act.put, lA, l0, lS]
                    refine wpAnyH_ready (rs := [13]) (by kernel_rfl) (by simp) ?_
                    refine AllReadyH.cons (o := ⟨some 60, .call { callee := Callee.value (.func 54), args := #[.tmp 59], argTypes := #[3] }, 4, "types.go:45", #[⟨12, .data⟩, ⟨12, .chain⟩, ⟨3, .guard⟩], some (3, true)⟩) rfl (fun K hK => ?_) AllReadyH.nil
                    refine ite_take (by rfl) ?_
                    go_simp
                    refine (counts_any s1 _).mono ?_
                    rintro e' W2xxx ⟨rfl, rfl⟩
                    have hW2xxx := hW2xx
                    go_wp2_with fail
                    refine hK.out _ _ (hSc.out _ hW2xxx) (fun hHeld => ?_)
                    clear hK K
                    try simp only [Act.put, lA, l0, lS]
                    refine tkH (i := 14) (oi := ⟨some 61, .pick (.tmp 50) (.tmp 60) (.const (.bool false)), 4, "types.go:45", #[⟨3, .data⟩, ⟨13, .data⟩], none⟩) (v := ?vv122) ?hy122 ?_
                    case hy122 => (intro w hSw; (try dsimp only at hSw); go_simp; all_goals with_reducible rfl)
                    try simp only [Act.put, lA, l0, lS]
                    refine tkH (i := 15) (oi := ⟨some 62, .move (.tmp 61), 4, "types.go:45", #[⟨14, .data⟩, ⟨13, .chain⟩], none⟩) (v := ?vv123) ?hy123 ?_
                    case hy123 => (intro w hSw; (try dsimp only at hSw); go_simp; all_goals with_reducible rfl)
                    try simp only [Act.put, lA, l0, lS]
                    refine tkH (i := 16) (oi := ⟨some 63, .load 78 (.tmp 1), 78, "types.go:45", #[⟨15, .guard⟩], some (15, true)⟩) (v := ?vv124) ?hy124 ?_
                    case hy124 => (intro w hSw; (try dsimp only at hSw); go_simp; all_goals with_reducible rfl)
                    try simp only [Act.put, lA, l0, lS]
                    refine wpAnyH_ready (rs := [17]) (by kernel_rfl) (by simp) ?_
                    refine AllReadyH.cons (o := ⟨some 64, .call { callee := Callee.value (.func 55), args := #[.tmp 63], argTypes := #[78] }, 4, "types.go:45", #[⟨16, .data⟩, ⟨15, .chain⟩, ⟨15, .guard⟩], some (15, true)⟩) rfl (fun K hK => ?_) AllReadyH.nil
                    refine ite_take (by rfl) ?_
                    go_simp
                    refine (HCr.out _ hW2xxx).mono ?_
                    rintro e' W2xxxx ⟨rfl, bX⟩
                    have hW2xxxx : Below V2.heap.size V2 W2xxxx := hW2xxx.trans (bX.mono hW2xxx.size)
                    clear bX
                    go_wp2_with fail
                    refine hK.out _ _ (hSc.out _ hW2xxxx) (fun hHeld => ?_)
                    clear hK K
                    try simp only [Act.put, lA, l0, lS]
                    refine tkH (i := 18) (oi := ⟨some 65, .pick (.tmp 62) (.tmp 64) (.const (.bool false)), 4, "types.go:45", #[⟨15, .data⟩, ⟨17, .data⟩], none⟩) (v := ?vv125) ?hy125 ?_
                    case hy125 => (intro w hSw; (try dsimp only at hSw); go_simp; all_goals with_reducible rfl)
                    try simp only [Act.put, lA, l0, lS]
                    refine tkH (i := 19) (oi := ⟨some 46, .assign (.tmp 65), 4, "types.go:45", #[⟨18, .data⟩, ⟨17, .chain⟩], none⟩) (v := ?vv126) ?hy126 ?_
                    case hy126 => (intro w hSw; (try dsimp only at hSw); go_simp; all_goals with_reducible rfl)
                    try simp only [Act.put, lA, l0, lS]
                    refine wpAnyH_done (by kernel_rfl) ?_ _
                    have HB3 : Hid (Below V2.heap.size V2 W2xxxx) := hW2xxxx
                    clear hHeld hW2xxxx
                    cases cr
                    · have HQ : Hid (R = (k1.block e, 0)) := by show _ = _; rw [HX.out, if_neg (by simp)]
                      obtain ⟨⟨j0, j1, j2, j3, j4, j5, j6, j7, j8, j9, j10, j11, j12, j13, j14⟩, _⟩ := hSc.out W2xxxx HB3.out
                      go_wp2_with fail
                      go_at_call 56
                      refine (HBb0.out _ A1 HA.out.2 (HL2.out.1.below HB3.out)).mono ?_
                      rintro e' V9 ⟨rfl, h9⟩
                      have HL9 : Hid (LJ w0 V9 A1 (k1.block e) (m + 2)) := h9
                      clear h9
                      go_wp2_with fail
                      go_ret
                      exact ⟨by rw [HQ.out]; rfl, A1, HA.out.1, by first | exact HA.out.2 | exact ⟨HA.out.2 _, HA.out.2 _⟩, by rw [HQ.out]; exact HL9.out.more (by omega)⟩
                    · have HQ : Hid (R = (k1, 7)) := by show _ = _; rw [HX.out, if_pos (by simp [x1, x2])]
                      go_wp2_with fail
                      go_ret
                      exact ⟨by rw [HQ.out]; rfl, A1, HA.out.1, by first | exact HA.out.2 | exact ⟨HA.out.2 _, HA.out.2 _⟩, by rw [HQ.out]; exact (HL2.out.1.below HB3.out).more (by omega)⟩
              · as_aux_lemma =>
                  have hIW : Below V2.heap.size V2 V2.drew := (Below.refl _ _).drew
                  refine wp_region_held_drew (S := (fun V => (V.cell? ⟨b0, 0, none⟩ = some (.pointer (some ⟨A.g, 0, none⟩)) ∧ V.cell? ⟨b0, 1, none⟩ = some (.int .i64 ty) ∧ V.cell? ⟨b0, 2, none⟩ = some (.int .i64 fl) ∧ V.cell? ⟨b0, 3, none⟩ = some (.int .i64 st) ∧ V.cell? ⟨b0, 4, none⟩ = some (.string da) ∧ V.cell? ⟨b0, 5, none⟩ = some (.int .i64 pa) ∧ V.cell? ⟨b0, 6, none⟩ = some (.int .i64 de) ∧ V.cell? ⟨b0, 7, none⟩ = some (.bool ex) ∧ V.cell? ⟨b0, 8, none⟩ = some (.int .i64 wt) ∧ V.cell? ⟨b0, 9, none⟩ = some (.int .i64 co) ∧ V.cell? ⟨b0, 10, none⟩ = some (.int .i64 la) ∧ V.cell? ⟨b0, 11, none⟩ = some p ∧ V.cell? ⟨b0, 12, none⟩ = some (.bool true) ∧ V.cell? ⟨b0, 13, none⟩ = some (.pointer (some ⟨wa, 0, none⟩)) ∧ V.cell? ⟨b0, 14, none⟩ = some (.pointer (some ⟨bk, 0, none⟩))) ∧ V.cell? ⟨A.g, 0, none⟩ = some (.pointer (some ⟨A1.p, 0, none⟩)))) (by kernel_rfl) (hSc.out _ hIW) (fun hHeld => ?_)
                  generalize hWg : World.drew _ = W2 at hIW hHeld ⊢
                  clear hWg
                  refine tkH (i := 0) (oi := ⟨some 47, .move (.tmp 3), 3, "types.go:45", #[], none⟩) (v := ?vv127) ?hy127 ?_
                  case hy127 => (intro w hSw; (try dsimp only at hSw); go_simp; all_goals with_reducible rfl)
                  try simp only [Act.put, lA, l0, lS]
                  refine wpAnyH_ready (rs := [1]) (by kernel_rfl) (by simp) ?_
                  refine AllReadyH.cons (o := ⟨some 48, .call { callee := Callee.value (.func 54), args := #[.tmp 47], argTypes := #[3] }, 4, "types.go:45", #[⟨0, .data⟩], none⟩) rfl (fun K hK => ?_) AllReadyH.nil
                  go_simp
                  refine (counts_any b _).mono ?_
                  rintro e' W2x ⟨rfl, rfl⟩
                  have hW2x := hIW
                  go_wp2_with fail
                  refine hK.out _ _ (hSc.out _ hW2x) (fun hHeld => ?_)
                  clear hK K
                  try simp only [Act.put, lA, l0, lS]
                  refine tkH (i := 2) (oi := ⟨some 49, .unOp .not 4 (.tmp 48), 4, "types.go:45", #[⟨1, .data⟩], none⟩) (v := ?vv128) ?hy128 ?_
                  case hy128 => (intro w hSw; (try dsimp only at hSw); go_simp; all_goals with_reducible rfl)
                  try simp only [Act.put, lA, l0, lS]
                  refine tkH (i := 3) (oi := ⟨some 50, .move (.tmp 49), 4, "types.go:45", #[⟨2, .data⟩, ⟨1, .chain⟩], none⟩) (v := ?vv129) ?hy129 ?_
                  case hy129 => (intro w hSw; (try dsimp only at hSw); go_simp; all_goals with_reducible rfl)
                  try simp only [Act.put, lA, l0, lS]
                  refine wpAnyH_take (i := 4) (oi := ⟨some 51, .fieldAddr 78 (.tmp 1) 0, 0, "types.go:45", #[⟨3, .guard⟩], some (3, true)⟩) (v := undef) rfl (by kernel_rfl) (by kernel_rfl) (by kernel_rfl) (fun _ _ _ h => h) (Or.inr ⟨by rfl, rfl⟩) (by assumption) ?_
                  try simp only [Act.put, lA, l0, lS]
                  refine wpAnyH_take (i := 5) (oi := ⟨some 52, .load 58 (.tmp 51), 58, "types.go:45", #[⟨4, .data⟩, ⟨3, .guard⟩], some (3, true)⟩) (v := undef) rfl (by kernel_rfl) (by kernel_rfl) (by kernel_rfl) (fun _ _ _ h => h) (Or.inr ⟨by rfl, rfl⟩) (by assumption) ?_
                  try simp only [Act.put, lA, l0, lS]
                  refine wpAnyH_take (i := 6) (oi := ⟨some 53, .nilCheck (.tmp 52), 0, "types.go:45", #[⟨5, .data⟩, ⟨3, .guard⟩], some (3, true)⟩) (v := undef) rfl (by kernel_rfl) (by kernel_rfl) (by kernel_rfl) (fun _ _ _ h => h) (Or.inr ⟨by rfl, rfl⟩) (by assumption) ?_
                  try simp only [Act.put, lA, l0, lS]
                  refine wpAnyH_take (i := 7) (oi := ⟨some 54, .fieldAddr 69 (.tmp 53) 0, 0, "types.go:45", #[⟨6, .data⟩, ⟨3, .guard⟩], some (3, true)⟩) (v := undef) rfl (by kernel_rfl) (by kernel_rfl) (by kernel_rfl) (fun _ _ _ h => h) (Or.inr ⟨by rfl, rfl⟩) (by assumption) ?_
                  try simp only [Act.put, lA, l0, lS]
                  refine wpAnyH_take (i := 8) (oi := ⟨some 55, .load 64 (.tmp 54), 64, "types.go:45", #[⟨7, .data⟩, ⟨3, .guard⟩], some (3, true)⟩) (v := undef) rfl (by kernel_rfl) (by kernel_rfl) (by kernel_rfl) (fun _ _ _ h => h) (Or.inr ⟨by rfl, rfl⟩) (by assumption) ?_
                  try simp only [Act.put, lA, l0, lS]
                  refine wpAnyH_take (i := 9) (oi := ⟨some 56, .fieldAddr 78 (.tmp 1) 1, 0, "types.go:45", #[⟨3, .guard⟩], some (3, true)⟩) (v := undef) rfl (by kernel_rfl) (by kernel_rfl) (by kernel_rfl) (fun _ _ _ h => h) (Or.inr ⟨by rfl, rfl⟩) (by assumption) ?_
                  try simp only [Act.put, lA, l0, lS]
                  refine wpAnyH_take (i := 10) (oi := ⟨some 57, .fieldAddr 31 (.tmp 56) 2, 0, "types.go:45", #[⟨9, .data⟩, ⟨3, .guard⟩], some (3, true)⟩) (v := undef) rfl (by kernel_rfl) (by kernel_rfl) (by kernel_rfl) (fun _ _ _ h => h) (Or.inr ⟨by rfl, rfl⟩) (by assumption) ?_
                  try simp only [Act.put, lA, l0, lS]
                  refine wpAnyH_take (i := 11) (oi := ⟨some 58, .load 2 (.tmp 57), 2, "types.go:45", #[⟨10, .data⟩, ⟨3, .guard⟩], some (3, true)⟩) (v := undef) rfl (by kernel_rfl) (by kernel_rfl) (by kernel_rfl) (fun _ _ _ h => h) (Or.inr ⟨by rfl, rfl⟩) (by assumption) ?_
                  try simp only [Act.put, lA, l0, lS]
                  refine wpAnyH_take (i := 12) (oi := ⟨some 59, .call { callee := Callee.value (.func 52), args := #[.tmp 55, .tmp 58], argTypes := #[64, 2] }, 3, "types.go:45", #[⟨8, .data⟩, ⟨11, .data⟩, ⟨3, .chain⟩, ⟨3, .guard⟩], some (3, true)⟩) (v := undef) rfl (by kernel_rfl) (by kernel_rfl) (by kernel_rfl) (fun _ _ _ h => h) (Or.inr ⟨by rfl, rfl⟩) (by assumption) ?_
                  try simp only [Act.put, lA, l0, lS]
                  refine wpAnyH_take (i := 13) (oi := ⟨some 60, .call { callee := Callee.value (.func 54), args := #[.tmp 59], argTypes := #[3] }, 4, "types.go:45", #[⟨12, .data⟩, ⟨12, .chain⟩, ⟨3, .guard⟩], some (3, true)⟩) (v := undef) rfl (by kernel_rfl) (by kernel_rfl) (by kernel_rfl) (fun _ _ _ h => h) (Or.inr ⟨by rfl, rfl⟩) (by assumption) ?_
                  try simp only [Act.put, lA, l0, lS]
                  refine tkH (i := 14) (oi := ⟨some 61, .pick (.tmp 50) (.tmp 60) (.const (.bool false)), 4, "types.go:45", #[⟨3, .data⟩, ⟨13, .data⟩], none⟩) (v := ?vv130) ?hy130 ?_
                  case hy130 => (intro w hSw; (try dsimp only at hSw); go_simp; all_goals with_reducible rfl)
                  try simp only [Act.put, lA, l0, lS]
                  refine tkH (i := 15) (oi := ⟨some 62, .move (.tmp 61), 4, "types.go:45", #[⟨14, .data⟩, ⟨13, .chain⟩], none⟩) (v := ?vv131) ?hy131 ?_
                  case hy131 => (intro w hSw; (try dsimp only at hSw); go_simp; all_goals with_reducible rfl)
                  try simp only [Act.put, lA, l0, lS]
                  refine wpAnyH_take (i := 16) (oi := ⟨some 63, .load 78 (.tmp 1), 78, "types.go:45", #[⟨15, .guard⟩], some (15, true)⟩) (v := undef) rfl (by kernel_rfl) (by kernel_rfl) (by kernel_rfl) (fun _ _ _ h => h) (Or.inr ⟨by rfl, rfl⟩) (by assumption) ?_
                  try simp only [Act.put, lA, l0, lS]
                  refine wpAnyH_take (i := 17) (oi := ⟨some 64, .call { callee := Callee.value (.func 55), args := #[.tmp 63], argTypes := #[78] }, 4, "types.go:45", #[⟨16, .data⟩, ⟨15, .chain⟩, ⟨15, .guard⟩], some (15, true)⟩) (v := undef) rfl (by kernel_rfl) (by kernel_rfl) (by kernel_rfl) (fun _ _ _ h => h) (Or.inr ⟨by rfl, rfl⟩) (by assumption) ?_
                  try simp only [Act.put, lA, l0, lS]
                  refine tkH (i := 18) (oi := ⟨some 65, .pick (.tmp 62) (.tmp 64) (.const (.bool false)), 4, "types.go:45", #[⟨15, .data⟩, ⟨17, .data⟩], none⟩) (v := ?vv132) ?hy132 ?_
                  case hy132 => (intro w hSw; (try dsimp only at hSw); go_simp; all_goals with_reducible rfl)
                  try simp only [Act.put, lA, l0, lS]
                  refine tkH (i := 19) (oi := ⟨some 46, .assign (.tmp 65), 4, "types.go:45", #[⟨18, .data⟩, ⟨17, .chain⟩], none⟩) (v := ?vv133) ?hy133 ?_
                  case hy133 => (intro w hSw; (try dsimp only at hSw); go_simp; all_goals with_reducible rfl)
                  try simp only [Act.put, lA, l0, lS]
                  refine wpAnyH_done (by kernel_rfl) ?_ _
                  have HB3 : Hid (Below V2.heap.size V2 W2x) := hW2x
                  clear hHeld hW2x
                  have HQ : Hid (R = (k1.block e, 0)) := by show _ = _; rw [HX.out, if_neg (by first | (simp [x1]; done) | (simp [x1, x2]; done))]
                  obtain ⟨⟨j0, j1, j2, j3, j4, j5, j6, j7, j8, j9, j10, j11, j12, j13, j14⟩, _⟩ := hSc.out W2x HB3.out
                  go_wp2_with fail
                  go_at_call 56
                  refine (HBb0.out _ A1 HA.out.2 (HL2.out.1.below HB3.out)).mono ?_
                  rintro e' V9 ⟨rfl, h9⟩
                  have HL9 : Hid (LJ w0 V9 A1 (k1.block e) (m + 2)) := h9
                  clear h9
                  go_wp2_with fail
                  go_ret
                  exact ⟨by rw [HQ.out]; rfl, A1, HA.out.1, by first | exact HA.out.2 | exact ⟨HA.out.2 _, HA.out.2 _⟩, by rw [HQ.out]; exact HL9.out.more (by omega)⟩
      · have HQ : Hid (R = (k1, c1)) := by show _ = _; rw [HR.out, if_pos hc]
        have hcb : (c1 == 0) = false := beq_eq_false_iff_ne.2 hc
        go_wp2_with fail
        go_ret
        exact ⟨by rw [HQ.out]; rfl, A1, HA.out.1, by first | exact HA.out.2 | exact ⟨HA.out.2 _, HA.out.2 _⟩, by rw [HQ.out]; exact HL2.out.1.more (by omega)⟩
end Go.Proofs.YtfmljlflnpmceaaGreatDoor
