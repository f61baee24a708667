/- SETTINGS. -/
import Derived.Test.YtfmljlflnpmceaaGreatDoorVa
import Derived.Test.YtfmljlflnpmceaaGreatDoorVzo
namespace Go.Proofs.YtfmljlflnpmceaaGreatDoor
open Go.RowKit
set_option linter.unusedVariables false
set_option linter.unusedSimpArgs false
theorem LJ.send {w0 w : World} {A : LA} {k : Lk} {m : Nat} (h : LJ w0 w A k m) (s : Bool) {lv : Value} {l : List (Int × Int)} (hl : In EP w lv l) : Calls Tryz.prog 62 #[.pointer (some ⟨(A.w s).b, 0, none⟩), lv] w fun e w' => e = .returned (.int .i64 (sendC (k.wy s).cl (k.wy s).ac (k.wy s).wt l)) ∧ ∃ v, LJ w0 w' (A.upd s { A.w s with bv := v }) (k.upd s fun y => { y with wt := sendL (k.wy s).cl (k.wy s).ac (k.wy s).wt l }) m ∧ KpO w w' := by
  refine (send_any w _ _ _ _ _ (h.wi s).bk lv l hl).mono ?_
  rintro e w' ⟨rfl, v, h1, h2, h3⟩
  obtain ⟨a, b, _⟩ := h.book s h1 h2 h3
  refine ⟨rfl, v, ?_, b⟩
  rw [Lk.upd_const] at a ⊢
  exact a
set_option maxRecDepth 100000 in
set_option maxHeartbeats 40000000 in
theorem settings_any (t : Tn) (e : Et) (w0 w : World) (A : LA) (k : Lk) (m : Nat) (h : LJ w0 w A k m) (hv : Lv k) (hf : t.f = e.f) (hs : t.s = e.s) (hg : t.lk = A.g) (hw : t.wa = (A.w t.s).g) (hb : t.bk = (A.w (!t.s)).g) (ha : okW (k.wy t.s).ac) (ht : ∀ x ∈ (k.wy t.s).wt, okW x) (h0 : Std w0) (hp : In EP w0 t.p e.ps) :
    Calls Tryz.prog 44 #[.agg (tnv t)] w fun r w' => r = .returned (.int .i64 (k.settings e).2) ∧ ∃ A', A'.g = A.g ∧ (∀ u, (A'.w u).g = (A.w u).g) ∧ LJ w0 w' A' (k.settings e).1 (m + 3) := by
  have HH : Hid (∀ V, Calls Tryz.prog 38 #[.agg (tnv t), .int .i64 1] V fun e w' => e = .returned (.bool (Fm.hasF t.f.fl 1)) ∧ Below V.heap.size V w') := fun V => has_any t 1 V
  obtain ⟨R, hR⟩ : ∃ R, k.settings e = R := ⟨_, rfl⟩
  obtain ⟨h1, hh1⟩ : ∃ v, Fm.hasF t.f.fl 1 = v := ⟨_, rfl⟩
  obtain ⟨u, hu⟩ : ∃ u, (!t.s) = u := ⟨_, rfl⟩
  obtain ⟨cl, hcl⟩ : ∃ u', (k.wy u).cl = u' := ⟨_, rfl⟩
  obtain ⟨⟨⟨x1, x2, x3, x4, x5, x6⟩, code⟩, hap⟩ : ∃ v, applyS St.dfl e.ps cl = v := ⟨_, rfl⟩
  obtain ⟨sc, hsc⟩ : ∃ v, sendC cl (k.wy u).ac (k.wy u).wt e.ps = v := ⟨_, rfl⟩
  obtain ⟨k2, hk2⟩ : ∃ v, (k.upd u fun y => { y with wt := sendL cl (k.wy u).ac (k.wy u).wt e.ps }) = v := ⟨_, rfl⟩
  have HR : Hid (R = if h1 = true then k.acks t.s else if code ≠ 0 then (k, code) else (k2, if sc = 0 then 0 else 11)) := by
    show _ = _
    rw [← hR]
    unfold Lk.settings Lk.acks
    have e1 : e.has 1 = h1 := by rw [← hh1, hf]; rfl
    simp only
    rw [e1, ← hs, hu, hcl, hap, hsc, hk2]
    rfl
  rw [hR]
  rw [hh1] at HH
  obtain ⟨W1, hW1⟩ : ∃ V, w.alloc (.cells (tnv t) 78) = V := ⟨_, rfl⟩
  obtain ⟨b0, hb'⟩ : ∃ q, w.heap.size = q := ⟨_, rfl⟩
  have b1 : Below w.heap.size w W1 := by rw [← hW1]; exact bel1 _ _
  have hb0 : W1.heap[b0]? = some (.cells (tnv t) 78 (0, 0)) := by rw [← hW1, ← hb', heap_al, if_pos rfl]
  have HL0 : Hid (LJ w0 W1 A k m ∧ W1.heap[b0]? = some (.cells (tnv t) 78 (0, 0))) := ⟨h.below b1, hb0⟩
  have HAk : Hid (∀ V, LJ w0 V A k m → Calls Tryz.prog 60 #[.agg (tnv t)] V fun r w' => r = .returned (.int .i64 (k.acks t.s).2) ∧ ∃ A', A'.g = A.g ∧ (∀ u, (A'.w u).g = (A.w u).g) ∧ LJ w0 w' A' (k.acks t.s).1 (m + 3)) := fun V hV => acks_any t w0 V A k m hV hv hg hw ha ht
  obtain ⟨ka, hka⟩ : ∃ v, k.acks t.s = v := ⟨_, rfl⟩
  rw [hka] at HAk HR
  have HDf0 : Hid (∀ V, LJ w0 V A k m → Calls Tryz.prog 48 #[] V fun e w' => e = .returned (.agg St.dfl.a) ∧ Below V.heap.size V w') := fun V hV => by
    refine (dflt (h0.below hV.bel)).mono ?_
    rintro e w' ⟨rfl, rfl⟩
    exact ⟨rfl, bel1 _ _⟩
  have HAp0 : Hid (∀ V, LJ w0 V A k m → Calls Tryz.prog 61 #[.agg St.dfl.a, t.p, .bool cl] V fun e w' => e = .returned (.tuple #[.agg #[.int .i64 x1, .int .i64 x2, .int .i64 x3, .int .i64 x4, .int .i64 x5, .int .i64 x6], .int .i64 code]) ∧ Below V.heap.size V w') := fun V hV => by
    have := apply_any St.dfl t.p e.ps cl V (hp.below hV.bel)
    rw [hap] at this
    exact this
  obtain ⟨bb, hbb⟩ : ∃ v, (A.w u).b = v := ⟨_, rfl⟩
  have HSn : Hid (∀ V, LJ w0 V A k m → Calls Tryz.prog 62 #[.pointer (some ⟨bb, 0, none⟩), t.p] V fun e w' => e = .returned (.int .i64 sc) ∧ ∃ v, LJ w0 w' (A.upd u { A.w u with bv := v }) k2 m ∧ KpO V w') := fun V hV => by
    have := hV.send u (hp.below hV.bel)
    rw [hbb, hcl, hsc, hk2] at this
    exact this
  have HC6 : Hid (∀ V, LJ w0 V A k m → V.cell? ⟨t.bk, 6, none⟩ = some (.bool cl)) := fun V hV => by
    rw [hb, hu, ← hcl]
    exact (hV.wi u).cells.2.2.2.2.2.2.1
  have HC7 : Hid (∀ V, LJ w0 V A k m → V.cell? ⟨t.bk, 7, none⟩ = some (.pointer (some ⟨bb, 0, none⟩))) := fun V hV => by
    rw [hb, hu, ← hbb]
    exact (hV.wi u).cells.2.2.2.2.2.2.2.1
  have HW : Hid (t.bk = (A.w u).g ∧ (A.w u).b = bb) := ⟨by rw [← hu]; exact hb, hbb⟩
  unfold St.a St.dfl at HDf0 HAp0
  simp only at HDf0 HAp0
  have j0 := cell_blk hb0 0
  have j1 := cell_blk hb0 1
  have j2 := cell_blk hb0 2
  have j3 := cell_blk hb0 3
  have j4 := cell_blk hb0 4
  have j5 := cell_blk hb0 5
  have j6 := cell_blk hb0 6
  have j7 := cell_blk hb0 7
  have j8 := cell_blk hb0 8
  have j9 := cell_blk hb0 9
  have j10 := cell_blk hb0 10
  have j11 := cell_blk hb0 11
  have j12 := cell_blk hb0 12
  have j13 := cell_blk hb0 13
  have j14 := cell_blk hb0 14
  clear h hv hw hb hR b1 hb0 hf hs hh1 hu hcl hap hsc hk2 hka hbb ha ht h0 hp
  obtain ⟨lk, ⟨ty, fl, st, da, pa, de, ex, wt, co, la⟩, p, s, wa, bk⟩ := t
  simp only at hg HR HW HC6 HC7 HSn HAp0
  subst hg
  simp only [tnv] at hW1 HL0 HH HAk j0 j1 j2 j3 j4 j5 j6 j7 j8 j9 j10 j11 j12 j13 j14 ⊢
  simp only [List.getElem?_toArray, List.getElem?_cons_succ, List.getElem?_cons_zero] at j0 j1 j2 j3 j4 j5 j6 j7 j8 j9 j10 j11 j12 j13 j14
  have hSb : Hid (∀ V : World, V.heap[b0]? = some (.cells #[.pointer (some ⟨A.g, 0, none⟩), .int .i64 ty, .int .i64 fl, .int .i64 st, .string da, .int .i64 pa, .int .i64 de, .bool ex, .int .i64 wt, .int .i64 co, .int .i64 la, p, .bool s, .pointer (some ⟨wa, 0, none⟩), .pointer (some ⟨bk, 0, none⟩)] 78 (0, 0)) → V.cell? ⟨b0, 0, none⟩ = some (.pointer (some ⟨A.g, 0, none⟩)) ∧ V.cell? ⟨b0, 1, none⟩ = some (.int .i64 ty) ∧ V.cell? ⟨b0, 2, none⟩ = some (.int .i64 fl) ∧ V.cell? ⟨b0, 3, none⟩ = some (.int .i64 st) ∧ V.cell? ⟨b0, 4, none⟩ = some (.string da) ∧ V.cell? ⟨b0, 5, none⟩ = some (.int .i64 pa) ∧ V.cell? ⟨b0, 6, none⟩ = some (.int .i64 de) ∧ V.cell? ⟨b0, 7, none⟩ = some (.bool ex) ∧ V.cell? ⟨b0, 8, none⟩ = some (.int .i64 wt) ∧ V.cell? ⟨b0, 9, none⟩ = some (.int .i64 co) ∧ V.cell? ⟨b0, 10, none⟩ = some (.int .i64 la) ∧ V.cell? ⟨b0, 11, none⟩ = some p ∧ V.cell? ⟨b0, 12, none⟩ = some (.bool s) ∧ V.cell? ⟨b0, 13, none⟩ = some (.pointer (some ⟨wa, 0, none⟩)) ∧ V.cell? ⟨b0, 14, none⟩ = some (.pointer (some ⟨bk, 0, none⟩))) := fun V h1 => ⟨cell_blk h1 0, cell_blk h1 1, cell_blk h1 2, cell_blk h1 3, cell_blk h1 4, cell_blk h1 5, cell_blk h1 6, cell_blk h1 7, cell_blk h1 8, cell_blk h1 9, cell_blk h1 10, cell_blk h1 11, cell_blk h1 12, cell_blk h1 13, cell_blk h1 14⟩
  go_enter Tryz.func44, Tryz.ntmps44
  go_wp2_with fail
  try rw [hW1]
  try rw [hb']
  clear hW1 hb'
  go_at_call 38
  refine (HH.out _).mono ?_
  rintro e' V1 ⟨rfl, hV1⟩
  have HL1 : Hid (LJ w0 V1 A k m ∧ V1.heap[b0]? = some (.cells #[.pointer (some ⟨A.g, 0, none⟩), .int .i64 ty, .int .i64 fl, .int .i64 st, .string da, .int .i64 pa, .int .i64 de, .bool ex, .int .i64 wt, .int .i64 co, .int .i64 la, p, .bool s, .pointer (some ⟨wa, 0, none⟩), .pointer (some ⟨bk, 0, none⟩)] 78 (0, 0))) := ⟨HL0.out.1.below hV1, (hV1.block _ (heap_lt HL0.out.2)).trans HL0.out.2⟩
  clear j0 j1 j2 j3 j4 j5 j6 j7 j8 j9 j10 j11 j12 j13 j14 HH HL0 hV1
  obtain ⟨j0, j1, j2, j3, j4, j5, j6, j7, j8, j9, j10, j11, j12, j13, j14⟩ := hSb.out _ HL1.out.2
  cases h1
  · have HR2 : Hid (R = if code ≠ 0 then (k, code) else (k2, if sc = 0 then 0 else 11)) := by show _ = _; rw [HR.out, if_neg (by decide)]
    have HDf : Hid (∀ V, Below V1.heap.size V1 V → Calls Tryz.prog 48 #[] V fun e w' => e = .returned (.agg #[.int .i64 4096, .int .i64 1, .int .i64 2147483647, .int .i64 65535, .int .i64 16384, .int .i64 2147483647]) ∧ Below V.heap.size V w') := fun V hV => HDf0.out V (HL1.out.1.below hV)
    have HAp : Hid (∀ V, Below V1.heap.size V1 V → Calls Tryz.prog 61 #[.agg #[.int .i64 4096, .int .i64 1, .int .i64 2147483647, .int .i64 65535, .int .i64 16384, .int .i64 2147483647], p, .bool cl] V fun e w' => e = .returned (.tuple #[.agg #[.int .i64 x1, .int .i64 x2, .int .i64 x3, .int .i64 x4, .int .i64 x5, .int .i64 x6], .int .i64 code]) ∧ Below V.heap.size V w') := fun V hV => HAp0.out V (HL1.out.1.below hV)
    have hS3 : Hid (∀ V, Below V1.heap.size V1 V → (V.cell? ⟨b0, 0, none⟩ = some (.pointer (some ⟨A.g, 0, none⟩)) ∧ V.cell? ⟨b0, 1, none⟩ = some (.int .i64 ty) ∧ V.cell? ⟨b0, 2, none⟩ = some (.int .i64 fl) ∧ V.cell? ⟨b0, 3, none⟩ = some (.int .i64 st) ∧ V.cell? ⟨b0, 4, none⟩ = some (.string da) ∧ V.cell? ⟨b0, 5, none⟩ = some (.int .i64 pa) ∧ V.cell? ⟨b0, 6, none⟩ = some (.int .i64 de) ∧ V.cell? ⟨b0, 7, none⟩ = some (.bool ex) ∧ V.cell? ⟨b0, 8, none⟩ = some (.int .i64 wt) ∧ V.cell? ⟨b0, 9, none⟩ = some (.int .i64 co) ∧ V.cell? ⟨b0, 10, none⟩ = some (.int .i64 la) ∧ V.cell? ⟨b0, 11, none⟩ = some p ∧ V.cell? ⟨b0, 12, none⟩ = some (.bool s) ∧ V.cell? ⟨b0, 13, none⟩ = some (.pointer (some ⟨wa, 0, none⟩)) ∧ V.cell? ⟨b0, 14, none⟩ = some (.pointer (some ⟨bk, 0, none⟩))) ∧ V.cell? ⟨bk, 6, none⟩ = some (.bool cl)) := fun V hV => ⟨hSb.out V ((hV.block _ (heap_lt HL1.out.2)).trans HL1.out.2), HC6.out V (HL1.out.1.below hV)⟩
    clear HR HAk HDf0 HAp0
    go_upto_region 3 with fail
    clear j0 j1 j2 j3 j4 j5 j6 j7 j8 j9 j10 j11 j12 j13 j14
    go_cut [3, 4] from 9 (fun v v' wx => ∃ qv : Nat, v = .pointer (some ⟨qv, 0, none⟩) ∧ v' = .int .i64 code ∧ Below V1.heap.size V1 wx)
    case first =>
      as_aux_lemma =>
        have hIW : Below V1.heap.size V1 V1.drew := (Below.refl _ _).drew
        refine wp_region_held_drew (S := (fun V => (V.cell? ⟨b0, 0, none⟩ = some (.pointer (some ⟨A.g, 0, none⟩)) ∧ V.cell? ⟨b0, 1, none⟩ = some (.int .i64 ty) ∧ V.cell? ⟨b0, 2, none⟩ = some (.int .i64 fl) ∧ V.cell? ⟨b0, 3, none⟩ = some (.int .i64 st) ∧ V.cell? ⟨b0, 4, none⟩ = some (.string da) ∧ V.cell? ⟨b0, 5, none⟩ = some (.int .i64 pa) ∧ V.cell? ⟨b0, 6, none⟩ = some (.int .i64 de) ∧ V.cell? ⟨b0, 7, none⟩ = some (.bool ex) ∧ V.cell? ⟨b0, 8, none⟩ = some (.int .i64 wt) ∧ V.cell? ⟨b0, 9, none⟩ = some (.int .i64 co) ∧ V.cell? ⟨b0, 10, none⟩ = some (.int .i64 la) ∧ V.cell? ⟨b0, 11, none⟩ = some p ∧ V.cell? ⟨b0, 12, none⟩ = some (.bool s) ∧ V.cell? ⟨b0, 13, none⟩ = some (.pointer (some ⟨wa, 0, none⟩)) ∧ V.cell? ⟨b0, 14, none⟩ = some (.pointer (some ⟨bk, 0, none⟩))) ∧ V.cell? ⟨bk, 6, none⟩ = some (.bool cl))) (by kernel_rfl) (hS3.out _ hIW) (fun hHeld => ?_)
        generalize hWg : World.drew _ = W2 at hIW hHeld ⊢
        clear hWg
        refine tkA (i := 1) (oi := ⟨some 11, .fieldAddr 78 (.tmp 1) 1, 0, "types.go:168", #[], none⟩) ?_
        try simp only [Act.put, lA, l0, lS]
        refine tkA (i := 2) (oi := ⟨some 12, .fieldAddr 31 (.tmp 11) 10, 0, "types.go:168", #[⟨1, .data⟩], none⟩) ?_
        try simp only [Act.put, lA, l0, lS]
        refine tkA (i := 3) (oi := ⟨some 13, .load 29 (.tmp 12), 29, "types.go:168", #[⟨2, .data⟩], none⟩) ?_
        try simp only [Act.put, lA, l0, lS]
        refine tkA (i := 4) (oi := ⟨some 14, .fieldAddr 78 (.tmp 1) 4, 0, "types.go:168", #[], none⟩) ?_
        try simp only [Act.put, lA, l0, lS]
        refine tkA (i := 5) (oi := ⟨some 15, .load 66 (.tmp 14), 66, "types.go:168", #[⟨4, .data⟩], none⟩) ?_
        try simp only [Act.put, lA, l0, lS]
        refine tkA (i := 6) (oi := ⟨some 16, .nilCheck (.tmp 15), 0, "types.go:168", #[⟨5, .data⟩], none⟩) ?_
        try simp only [Act.put, lA, l0, lS]
        refine tkA (i := 7) (oi := ⟨some 17, .fieldAddr 76 (.tmp 16) 6, 0, "types.go:168", #[⟨6, .data⟩], none⟩) ?_
        try simp only [Act.put, lA, l0, lS]
        refine tkA (i := 8) (oi := ⟨some 18, .load 4 (.tmp 17), 4, "types.go:168", #[⟨7, .data⟩], none⟩) ?_
        try simp only [Act.put, lA, l0, lS]
        refine wpAnyH_ready (rs := [0, 13]) (by kernel_rfl) (by simp) ?_
        refine AllReadyH.cons (o := ⟨some 10, .call { callee := Callee.value (.func 48), args := #[], argTypes := #[] }, 92, "types.go:168", #[], none⟩) rfl (fun K hK => ?_) ?_
        · go_simp
          refine (HDf.out _ hIW).mono ?_
          rintro e' W2x ⟨rfl, bX⟩
          have hW2x : Below V1.heap.size V1 W2x := hIW.trans (bX.mono hIW.size)
          clear bX
          go_wp2_with fail
          refine hK.out _ _ (hS3.out _ hW2x) (fun hHeld => ?_)
          clear hK K
          try simp only [Act.put, lA, l0, lS]
          refine wpAnyH_ready (rs := [9, 13]) (by kernel_rfl) (by simp) ?_
          refine AllReadyH.cons (o := ⟨some 19, .call { callee := Callee.value (.func 61), args := #[.tmp 10, .tmp 13, .tmp 18], argTypes := #[92, 29, 4] }, 112, "types.go:168", #[⟨0, .data⟩, ⟨3, .data⟩, ⟨8, .data⟩, ⟨0, .chain⟩], none⟩) rfl (fun K hK => ?_) ?_
          · go_simp
            refine (HAp.out _ hW2x).mono ?_
            rintro e' W2xx ⟨rfl, bX⟩
            have hW2xx : Below V1.heap.size V1 W2xx := hW2x.trans (bX.mono hW2x.size)
            clear bX
            go_wp2_with fail
            refine hK.out _ _ (hS3.out _ hW2xx) (fun hHeld => ?_)
            clear hK K
            try simp only [Act.put, lA, l0, lS]
            refine tkA (i := 10) (oi := ⟨some 9, .move (.tmp 19), 112, "types.go:168", #[⟨9, .data⟩], none⟩) ?_
            try simp only [Act.put, lA, l0, lS]
            refine tkA (i := 11) (oi := ⟨some 20, .extract (.tmp 9) 0, 92, "types.go:168", #[⟨10, .data⟩], none⟩) ?_
            try simp only [Act.put, lA, l0, lS]
            refine tkA (i := 12) (oi := ⟨some 21, .extract (.tmp 9) 1, 2, "types.go:168", #[⟨10, .data⟩, { on := 14, ground := Ground.gcOnly Departure.lateStores }], none⟩) ?_
            try simp only [Act.put, lA, l0, lS]
            refine wpAnyH_ready (rs := [13]) (by kernel_rfl) (by simp) ?_
            refine AllReadyH.cons (o := ⟨some 3, .alloc 92, 0, "types.go:168", #[], none⟩) rfl (fun K hK => ?_) AllReadyH.nil
            obtain ⟨W2xxx, hV0⟩ : ∃ V, W2xx.alloc (.cells #[.int .i64 0, .int .i64 0, .int .i64 0, .int .i64 0, .int .i64 0, .int .i64 0] 92) = V := ⟨_, rfl⟩
            obtain ⟨qv, hqv⟩ : ∃ q, W2xx.heap.size = q := ⟨_, rfl⟩
            have hq1 : V1.heap.size ≤ qv := by rw [← hqv]; exact hW2xx.size
            have bX : Below W2xx.heap.size W2xx W2xxx := by rw [← hV0]; exact bel1 _ _
            have hW2xxx : Below V1.heap.size V1 W2xxx := hW2xx.trans (bX.mono hW2xx.size)
            have gW2xxx : W2xxx.heap[qv]? = some (.cells St.zero.a 92 (0, 0)) := by rw [← hV0, ← hqv, heap_al, if_pos rfl]; rfl
            clear bX
            go_simp
            go_wp2_with fail
            try rw [hV0]
            try rw [hqv]
            refine hK.out _ _ (hS3.out _ hW2xxx) (fun hHeld => ?_)
            clear hK K hV0 hqv
            try simp only [Act.put, lA, l0, lS]
            refine wpAnyH_ready (rs := [14]) (by kernel_rfl) (by simp) ?_
            refine AllReadyH.cons (o := ⟨none, .store 92 (.tmp 3) (.tmp 20), 0, "types.go:168", #[⟨13, .data⟩, ⟨11, .data⟩, ⟨9, .chain⟩, ⟨0, .phase⟩, ⟨1, .phase⟩, ⟨2, .phase⟩, ⟨3, .phase⟩, ⟨4, .phase⟩, ⟨5, .phase⟩, ⟨6, .phase⟩, ⟨7, .phase⟩, ⟨8, .phase⟩, ⟨9, .phase⟩, ⟨10, .phase⟩, ⟨11, .phase⟩, { on := 12, ground := Ground.textOnly Departure.lateStores }, ⟨13, .phase⟩], none⟩) rfl (fun K hK => ?_) AllReadyH.nil
            obtain ⟨r0, r1, r2, r3, r4, r5⟩ := c6 gW2xxx
            obtain ⟨f0, f1, f2, f3, f4, f5⟩ := f6 gW2xxx
            obtain ⟨W2xxxx, hV0⟩ : ∃ V, set6 W2xxx qv ⟨x1, x2, x3, x4, x5, x6⟩ = V := ⟨_, rfl⟩
            have hW2xxxx : Below V1.heap.size V1 W2xxxx := by rw [← hV0]; exact hW2xxx.trans ((set6_ks _ _ _).below hW2xxx.size (fun i hi => by omega))
            simp only [set6] at hV0
            simp only [St.zero] at r0 r1 r2 r3 r4 r5
            go_simp
            go_wp2_with fail
            try rw [hV0]
            refine hK.out _ _ (hS3.out _ hW2xxxx) (fun hHeld => ?_)
            clear hK K hV0 r0 r1 r2 r3 r4 r5 f0 f1 f2 f3 f4 f5
            try simp only [Act.put, lA, l0, lS]
            refine tkA (i := 15) (oi := ⟨some 4, .assign (.tmp 21), 2, "types.go:168", #[⟨12, .data⟩, ⟨14, .chain⟩, ⟨0, .phase⟩, ⟨1, .phase⟩, ⟨2, .phase⟩, ⟨3, .phase⟩, ⟨4, .phase⟩, ⟨5, .phase⟩, ⟨6, .phase⟩, ⟨7, .phase⟩, ⟨8, .phase⟩, ⟨9, .phase⟩, ⟨10, .phase⟩, ⟨11, .phase⟩, ⟨12, .phase⟩, ⟨13, .phase⟩, ⟨14, .phase⟩], none⟩) ?_
            try simp only [Act.put, lA, l0, lS]
            refine wpAnyH_done (by kernel_rfl) ?_ _
            have HB2 : Hid (Below V1.heap.size V1 W2xxxx) := hW2xxxx
            clear hHeld hW2xxxx
            go_wp2_with fail
            go_meet
            case rel => exact ⟨qv, rfl, rfl, HB2.out⟩
          refine AllReadyH.cons (o := ⟨some 3, .alloc 92, 0, "types.go:168", #[], none⟩) rfl (fun K hK => ?_) AllReadyH.nil
          obtain ⟨W2xx, hV0⟩ : ∃ V, W2x.alloc (.cells #[.int .i64 0, .int .i64 0, .int .i64 0, .int .i64 0, .int .i64 0, .int .i64 0] 92) = V := ⟨_, rfl⟩
          obtain ⟨qv, hqv⟩ : ∃ q, W2x.heap.size = q := ⟨_, rfl⟩
          have hq1 : V1.heap.size ≤ qv := by rw [← hqv]; exact hW2x.size
          have bX : Below W2x.heap.size W2x W2xx := by rw [← hV0]; exact bel1 _ _
          have hW2xx : Below V1.heap.size V1 W2xx := hW2x.trans (bX.mono hW2x.size)
          have gW2xx : W2xx.heap[qv]? = some (.cells St.zero.a 92 (0, 0)) := by rw [← hV0, ← hqv, heap_al, if_pos rfl]; rfl
          clear bX
          go_simp
          go_wp2_with fail
          try rw [hV0]
          try rw [hqv]
          refine hK.out _ _ (hS3.out _ hW2xx) (fun hHeld => ?_)
          clear hK K hV0 hqv
          try simp only [Act.put, lA, l0, lS]
          refine wpAnyH_ready (rs := [9]) (by kernel_rfl) (by simp) ?_
          refine AllReadyH.cons (o := ⟨some 19, .call { callee := Callee.value (.func 61), args := #[.tmp 10, .tmp 13, .tmp 18], argTypes := #[92, 29, 4] }, 112, "types.go:168", #[⟨0, .data⟩, ⟨3, .data⟩, ⟨8, .data⟩, ⟨0, .chain⟩], none⟩) rfl (fun K hK => ?_) AllReadyH.nil
          go_simp
          refine (HAp.out _ hW2xx).mono ?_
          rintro e' W2xxx ⟨rfl, bX⟩
          have hW2xxx : Below V1.heap.size V1 W2xxx := hW2xx.trans (bX.mono hW2xx.size)
          have gW2xxx := (bX.block _ (heap_lt gW2xx)).trans gW2xx
          clear bX
          go_wp2_with fail
          refine hK.out _ _ (hS3.out _ hW2xxx) (fun hHeld => ?_)
          clear hK K
          try simp only [Act.put, lA, l0, lS]
          refine tkA (i := 10) (oi := ⟨some 9, .move (.tmp 19), 112, "types.go:168", #[⟨9, .data⟩], none⟩) ?_
          try simp only [Act.put, lA, l0, lS]
          refine tkA (i := 11) (oi := ⟨some 20, .extract (.tmp 9) 0, 92, "types.go:168", #[⟨10, .data⟩], none⟩) ?_
          try simp only [Act.put, lA, l0, lS]
          refine tkA (i := 12) (oi := ⟨some 21, .extract (.tmp 9) 1, 2, "types.go:168", #[⟨10, .data⟩, { on := 14, ground := Ground.gcOnly Departure.lateStores }], none⟩) ?_
          try simp only [Act.put, lA, l0, lS]
          refine wpAnyH_ready (rs := [14]) (by kernel_rfl) (by simp) ?_
          refine AllReadyH.cons (o := ⟨none, .store 92 (.tmp 3) (.tmp 20), 0, "types.go:168", #[⟨13, .data⟩, ⟨11, .data⟩, ⟨9, .chain⟩, ⟨0, .phase⟩, ⟨1, .phase⟩, ⟨2, .phase⟩, ⟨3, .phase⟩, ⟨4, .phase⟩, ⟨5, .phase⟩, ⟨6, .phase⟩, ⟨7, .phase⟩, ⟨8, .phase⟩, ⟨9, .phase⟩, ⟨10, .phase⟩, ⟨11, .phase⟩, { on := 12, ground := Ground.textOnly Departure.lateStores }, ⟨13, .phase⟩], none⟩) rfl (fun K hK => ?_) AllReadyH.nil
          obtain ⟨r0, r1, r2, r3, r4, r5⟩ := c6 gW2xxx
          obtain ⟨f0, f1, f2, f3, f4, f5⟩ := f6 gW2xxx
          obtain ⟨W2xxxx, hV0⟩ : ∃ V, set6 W2xxx qv ⟨x1, x2, x3, x4, x5, x6⟩ = V := ⟨_, rfl⟩
          have hW2xxxx : Below V1.heap.size V1 W2xxxx := by rw [← hV0]; exact hW2xxx.trans ((set6_ks _ _ _).below hW2xxx.size (fun i hi => by omega))
          simp only [set6] at hV0
          simp only [St.zero] at r0 r1 r2 r3 r4 r5
          go_simp
          go_wp2_with fail
          try rw [hV0]
          refine hK.out _ _ (hS3.out _ hW2xxxx) (fun hHeld => ?_)
          clear hK K hV0 r0 r1 r2 r3 r4 r5 f0 f1 f2 f3 f4 f5
          try simp only [Act.put, lA, l0, lS]
          refine tkA (i := 15) (oi := ⟨some 4, .assign (.tmp 21), 2, "types.go:168", #[⟨12, .data⟩, ⟨14, .chain⟩, ⟨0, .phase⟩, ⟨1, .phase⟩, ⟨2, .phase⟩, ⟨3, .phase⟩, ⟨4, .phase⟩, ⟨5, .phase⟩, ⟨6, .phase⟩, ⟨7, .phase⟩, ⟨8, .phase⟩, ⟨9, .phase⟩, ⟨10, .phase⟩, ⟨11, .phase⟩, ⟨12, .phase⟩, ⟨13, .phase⟩, ⟨14, .phase⟩], none⟩) ?_
          try simp only [Act.put, lA, l0, lS]
          refine wpAnyH_done (by kernel_rfl) ?_ _
          have HB2 : Hid (Below V1.heap.size V1 W2xxxx) := hW2xxxx
          clear hHeld hW2xxxx
          go_wp2_with fail
          go_meet
          case rel => exact ⟨qv, rfl, rfl, HB2.out⟩
        refine AllReadyH.cons (o := ⟨some 3, .alloc 92, 0, "types.go:168", #[], none⟩) rfl (fun K hK => ?_) AllReadyH.nil
        obtain ⟨W2x, hV0⟩ : ∃ V, W2.alloc (.cells #[.int .i64 0, .int .i64 0, .int .i64 0, .int .i64 0, .int .i64 0, .int .i64 0] 92) = V := ⟨_, rfl⟩
        obtain ⟨qv, hqv⟩ : ∃ q, W2.heap.size = q := ⟨_, rfl⟩
        have hq1 : V1.heap.size ≤ qv := by rw [← hqv]; exact hIW.size
        have bX : Below W2.heap.size W2 W2x := by rw [← hV0]; exact bel1 _ _
        have hW2x : Below V1.heap.size V1 W2x := hIW.trans (bX.mono hIW.size)
        have gW2x : W2x.heap[qv]? = some (.cells St.zero.a 92 (0, 0)) := by rw [← hV0, ← hqv, heap_al, if_pos rfl]; rfl
        clear bX
        go_simp
        go_wp2_with fail
        try rw [hV0]
        try rw [hqv]
        refine hK.out _ _ (hS3.out _ hW2x) (fun hHeld => ?_)
        clear hK K hV0 hqv
        try simp only [Act.put, lA, l0, lS]
        refine wpAnyH_ready (rs := [0]) (by kernel_rfl) (by simp) ?_
        refine AllReadyH.cons (o := ⟨some 10, .call { callee := Callee.value (.func 48), args := #[], argTypes := #[] }, 92, "types.go:168", #[], none⟩) rfl (fun K hK => ?_) AllReadyH.nil
        go_simp
        refine (HDf.out _ hW2x).mono ?_
        rintro e' W2xx ⟨rfl, bX⟩
        have hW2xx : Below V1.heap.size V1 W2xx := hW2x.trans (bX.mono hW2x.size)
        have gW2xx := (bX.block _ (heap_lt gW2x)).trans gW2x
        clear bX
        go_wp2_with fail
        refine hK.out _ _ (hS3.out _ hW2xx) (fun hHeld => ?_)
        clear hK K
        try simp only [Act.put, lA, l0, lS]
        refine wpAnyH_ready (rs := [9]) (by kernel_rfl) (by simp) ?_
        refine AllReadyH.cons (o := ⟨some 19, .call { callee := Callee.value (.func 61), args := #[.tmp 10, .tmp 13, .tmp 18], argTypes := #[92, 29, 4] }, 112, "types.go:168", #[⟨0, .data⟩, ⟨3, .data⟩, ⟨8, .data⟩, ⟨0, .chain⟩], none⟩) rfl (fun K hK => ?_) AllReadyH.nil
        go_simp
        refine (HAp.out _ hW2xx).mono ?_
        rintro e' W2xxx ⟨rfl, bX⟩
        have hW2xxx : Below V1.heap.size V1 W2xxx := hW2xx.trans (bX.mono hW2xx.size)
        have gW2xxx := (bX.block _ (heap_lt gW2xx)).trans gW2xx
        clear bX
        go_wp2_with fail
        refine hK.out _ _ (hS3.out _ hW2xxx) (fun hHeld => ?_)
        clear hK K
        try simp only [Act.put, lA, l0, lS]
        refine tkA (i := 10) (oi := ⟨some 9, .move (.tmp 19), 112, "types.go:168", #[⟨9, .data⟩], none⟩) ?_
        try simp only [Act.put, lA, l0, lS]
        refine tkA (i := 11) (oi := ⟨some 20, .extract (.tmp 9) 0, 92, "types.go:168", #[⟨10, .data⟩], none⟩) ?_
        try simp only [Act.put, lA, l0, lS]
        refine tkA (i := 12) (oi := ⟨some 21, .extract (.tmp 9) 1, 2, "types.go:168", #[⟨10, .data⟩, { on := 14, ground := Ground.gcOnly Departure.lateStores }], none⟩) ?_
        try simp only [Act.put, lA, l0, lS]
        refine wpAnyH_ready (rs := [14]) (by kernel_rfl) (by simp) ?_
        refine AllReadyH.cons (o := ⟨none, .store 92 (.tmp 3) (.tmp 20), 0, "types.go:168", #[⟨13, .data⟩, ⟨11, .data⟩, ⟨9, .chain⟩, ⟨0, .phase⟩, ⟨1, .phase⟩, ⟨2, .phase⟩, ⟨3, .phase⟩, ⟨4, .phase⟩, ⟨5, .phase⟩, ⟨6, .phase⟩, ⟨7, .phase⟩, ⟨8, .phase⟩, ⟨9, .phase⟩, ⟨10, .phase⟩, ⟨11, .phase⟩, { on := 12, ground := Ground.textOnly Departure.lateStores }, ⟨13, .phase⟩], none⟩) rfl (fun K hK => ?_) AllReadyH.nil
        obtain ⟨r0, r1, r2, r3, r4, r5⟩ := c6 gW2xxx
        obtain ⟨f0, f1, f2, f3, f4, f5⟩ := f6 gW2xxx
        obtain ⟨W2xxxx, hV0⟩ : ∃ V, set6 W2xxx qv ⟨x1, x2, x3, x4, x5, x6⟩ = V := ⟨_, rfl⟩
        have hW2xxxx : Below V1.heap.size V1 W2xxxx := by rw [← hV0]; exact hW2xxx.trans ((set6_ks _ _ _).below hW2xxx.size (fun i hi => by omega))
        simp only [set6] at hV0
        simp only [St.zero] at r0 r1 r2 r3 r4 r5
        go_simp
        go_wp2_with fail
        try rw [hV0]
        refine hK.out _ _ (hS3.out _ hW2xxxx) (fun hHeld => ?_)
        clear hK K hV0 r0 r1 r2 r3 r4 r5 f0 f1 f2 f3 f4 f5
        try simp only [Act.put, lA, l0, lS]
        refine tkA (i := 15) (oi := ⟨some 4, .assign (.tmp 21), 2, "types.go:168", #[⟨12, .data⟩, ⟨14, .chain⟩, ⟨0, .phase⟩, ⟨1, .phase⟩, ⟨2, .phase⟩, ⟨3, .phase⟩, ⟨4, .phase⟩, ⟨5, .phase⟩, ⟨6, .phase⟩, ⟨7, .phase⟩, ⟨8, .phase⟩, ⟨9, .phase⟩, ⟨10, .phase⟩, ⟨11, .phase⟩, ⟨12, .phase⟩, ⟨13, .phase⟩, ⟨14, .phase⟩], none⟩) ?_
        try simp only [Act.put, lA, l0, lS]
        refine wpAnyH_done (by kernel_rfl) ?_ _
        have HB2 : Hid (Below V1.heap.size V1 W2xxxx) := hW2xxxx
        clear hHeld hW2xxxx
        go_wp2_with fail
        go_meet
        case rel => exact ⟨qv, rfl, rfl, HB2.out⟩
    case rest =>
      obtain ⟨qv, rfl, rfl, hbw⟩ := hcut
      have HL2 : Hid (LJ w0 wc A k m ∧ wc.heap[b0]? = some (.cells #[.pointer (some ⟨A.g, 0, none⟩), .int .i64 ty, .int .i64 fl, .int .i64 st, .string da, .int .i64 pa, .int .i64 de, .bool ex, .int .i64 wt, .int .i64 co, .int .i64 la, p, .bool s, .pointer (some ⟨wa, 0, none⟩), .pointer (some ⟨bk, 0, none⟩)] 78 (0, 0))) := ⟨HL1.out.1.below hbw, (hbw.block _ (heap_lt HL1.out.2)).trans HL1.out.2⟩
      clear hbw HL1 HDf HAp hS3
      generalize wc = V2 at HL2 ⊢
      by_cases hc : code = 0
      · subst hc
        have HX : Hid (R = (k2, if sc = 0 then 0 else 11)) := by show _ = _; rw [HR2.out, if_neg (by simp)]
        go_upto_region 6 with fail
        have hIW : LJ w0 V2.drew A k m ∧ V2.drew.heap[b0]? = some (.cells #[.pointer (some ⟨A.g, 0, none⟩), .int .i64 ty, .int .i64 fl, .int .i64 st, .string da, .int .i64 pa, .int .i64 de, .bool ex, .int .i64 wt, .int .i64 co, .int .i64 la, p, .bool s, .pointer (some ⟨wa, 0, none⟩), .pointer (some ⟨bk, 0, none⟩)] 78 (0, 0)) := ⟨HL2.out.1.dr, HL2.out.2⟩
        refine wp_region_held_drew (S := (fun V => (V.cell? ⟨b0, 0, none⟩ = some (.pointer (some ⟨A.g, 0, none⟩)) ∧ V.cell? ⟨b0, 1, none⟩ = some (.int .i64 ty) ∧ V.cell? ⟨b0, 2, none⟩ = some (.int .i64 fl) ∧ V.cell? ⟨b0, 3, none⟩ = some (.int .i64 st) ∧ V.cell? ⟨b0, 4, none⟩ = some (.string da) ∧ V.cell? ⟨b0, 5, none⟩ = some (.int .i64 pa) ∧ V.cell? ⟨b0, 6, none⟩ = some (.int .i64 de) ∧ V.cell? ⟨b0, 7, none⟩ = some (.bool ex) ∧ V.cell? ⟨b0, 8, none⟩ = some (.int .i64 wt) ∧ V.cell? ⟨b0, 9, none⟩ = some (.int .i64 co) ∧ V.cell? ⟨b0, 10, none⟩ = some (.int .i64 la) ∧ V.cell? ⟨b0, 11, none⟩ = some p ∧ V.cell? ⟨b0, 12, none⟩ = some (.bool s) ∧ V.cell? ⟨b0, 13, none⟩ = some (.pointer (some ⟨wa, 0, none⟩)) ∧ V.cell? ⟨b0, 14, none⟩ = some (.pointer (some ⟨bk, 0, none⟩))) ∧ V.cell? ⟨bk, 7, none⟩ = some (.pointer (some ⟨bb, 0, none⟩)))) (by kernel_rfl) ⟨hSb.out _ hIW.2, HC7.out _ hIW.1⟩ (fun hHeld => ?_)
        generalize hWg : World.drew _ = W2 at hIW hHeld ⊢
        clear hWg
        refine tkA (i := 0) (oi := ⟨some 25, .fieldAddr 78 (.tmp 1) 4, 0, "types.go:171", #[], none⟩) ?_
        try simp only [Act.put, lA, l0, lS]
        refine tkA (i := 1) (oi := ⟨some 26, .load 66 (.tmp 25), 66, "types.go:171", #[⟨0, .data⟩], none⟩) ?_
        try simp only [Act.put, lA, l0, lS]
        refine tkA (i := 2) (oi := ⟨some 27, .nilCheck (.tmp 26), 0, "types.go:171", #[⟨1, .data⟩], none⟩) ?_
        try simp only [Act.put, lA, l0, lS]
        refine tkA (i := 3) (oi := ⟨some 28, .fieldAddr 76 (.tmp 27) 7, 0, "types.go:171", #[⟨2, .data⟩], none⟩) ?_
        try simp only [Act.put, lA, l0, lS]
        refine tkA (i := 4) (oi := ⟨some 29, .load 72 (.tmp 28), 72, "types.go:171", #[⟨3, .data⟩], none⟩) ?_
        try simp only [Act.put, lA, l0, lS]
        refine tkA (i := 5) (oi := ⟨some 30, .fieldAddr 78 (.tmp 1) 1, 0, "types.go:171", #[], none⟩) ?_
        try simp only [Act.put, lA, l0, lS]
        refine tkA (i := 6) (oi := ⟨some 31, .fieldAddr 31 (.tmp 30) 10, 0, "types.go:171", #[⟨5, .data⟩], none⟩) ?_
        try simp only [Act.put, lA, l0, lS]
        refine tkA (i := 7) (oi := ⟨some 32, .load 29 (.tmp 31), 29, "types.go:171", #[⟨6, .data⟩], none⟩) ?_
        try simp only [Act.put, lA, l0, lS]
        refine wpAnyH_ready (rs := [8]) (by kernel_rfl) (by simp) ?_
        refine AllReadyH.cons (o := ⟨some 33, .call { callee := Callee.value (.func 62), args := #[.tmp 29, .tmp 32], argTypes := #[72, 29] }, 88, "types.go:171", #[⟨4, .data⟩, ⟨7, .data⟩], none⟩) rfl (fun K hK => ?_) AllReadyH.nil
        go_simp
        refine (HSn.out _ hIW.1).mono ?_
        rintro e' W2x ⟨rfl, v, z1, z2⟩
        have hW2x := z2 _ _ _ _ hIW.2 ot78
        have HE : Hid (LJ w0 W2x (A.upd u { A.w u with bv := v }) k2 m) := z1
        have hc7 : W2x.cell? ⟨bk, 7, none⟩ = some (.pointer (some ⟨bb, 0, none⟩)) := by
          have := (z1.wi u).cells.2.2.2.2.2.2.2.1
          simp only [LA.upd, if_true] at this
          rw [HW.out.1, ← HW.out.2]
          exact this
        clear z1 z2
        go_wp2_with fail
        refine hK.out _ _ ⟨hSb.out _ hW2x, hc7⟩ (fun hHeld => ?_)
        clear hK K hc7
        try simp only [Act.put, lA, l0, lS]
        refine tkA (i := 9) (oi := ⟨some 34, .binOp .neq 88 (.tmp 33) (.const (.int IntKind.i64 0)) 88, 4, "types.go:171", #[⟨8, .data⟩], none⟩) ?_
        try simp only [Act.put, lA, l0, lS]
        refine wpAnyH_done (by kernel_rfl) ?_ _
        clear hHeld hW2x
        by_cases hsc : sc = 0
        · subst hsc
          have HQ : Hid (R = (k2, 0)) := by show _ = _; rw [HX.out]; rfl
          go_wp2_with fail
          go_ret
          exact ⟨by rw [HQ.out]; rfl, A.upd u { A.w u with bv := v }, rfl, (by first | exact fun u' => LA.upd_gb A u v u' | exact ⟨LA.upd_gb A u v _, LA.upd_gb A u v _⟩), by rw [HQ.out]; exact HE.out.more (by omega)⟩
        · have HQ : Hid (R = (k2, 11)) := by show _ = _; rw [HX.out, if_neg hsc]
          have hscb : (sc == 0) = false := beq_eq_false_iff_ne.2 hsc
          go_wp2_with fail
          go_ret
          exact ⟨by rw [HQ.out]; rfl, A.upd u { A.w u with bv := v }, rfl, (by first | exact fun u' => LA.upd_gb A u v u' | exact ⟨LA.upd_gb A u v _, LA.upd_gb A u v _⟩), by rw [HQ.out]; exact HE.out.more (by omega)⟩
      · have HQ : Hid (R = (k, code)) := by show _ = _; rw [HR2.out, if_pos hc]
        have hcb : (code == 0) = false := beq_eq_false_iff_ne.2 hc
        go_wp2_with fail
        go_ret
        exact ⟨by rw [HQ.out]; rfl, A, rfl, (by first | exact fun u => rfl | exact ⟨rfl, rfl⟩), by rw [HQ.out]; exact HL2.out.1.more (by omega)⟩
  · have HQ : Hid (R = ka) := by show _ = _; rw [HR.out, if_pos rfl]
    go_wp2_with fail
    go_at_call 60
    refine (HAk.out _ HL1.out.1).mono ?_
    rintro e' V2 ⟨rfl, A1, a1, a2, a3⟩
    have HE := hid (And.intro a1 (And.intro a2 a3))
    clear a1 a2 a3
    go_wp2_with fail
    go_ret
    exact ⟨by rw [HQ.out]; rfl, A1, HE.out.1, (by first | exact HE.out.2.1 | exact ⟨HE.out.2.1 _, HE.out.2.1 _⟩), by rw [HQ.out]; exact HE.out.2.2⟩
end Go.Proofs.YtfmljlflnpmceaaGreatDoor
