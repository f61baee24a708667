import Derived.Test.YtfmljlflnpmceaaGreatDoorVa
import Derived.Test.YtfmljlflnpmceaaGreatDoorVzl
/- PING. -/
namespace Go.Proofs.YtfmljlflnpmceaaGreatDoor
open Go.RowKit
set_option linter.unusedVariables false
set_option linter.unusedSimpArgs false
def pongR (k : Lk) (u : Bool) (d : ByteArray) : List ByteArray → Lk × Int
  | [] => (k, 1)
  | p :: r => if p = d then (k.upd u fun y => { y with pg := r }, 0) else (k, 1)
theorem Gr.cut {w : World} {u v : Value} (h : ∀ j, v.ownBlock = some j → u.ownBlock = some j) : Gr w w u v := ⟨rfl, rfl, rfl, Nat.le_refl _, fun _ _ _ => rfl, fun k hk => .inl (h k hk)⟩
set_option maxRecDepth 100000 in
set_option maxHeartbeats 40000000 in
theorem ping_any (t : Tn) (e : Et) (w0 w : World) (A : LA) (k : Lk) (m : Nat) (h : LJ w0 w A k m) (hf : t.f = e.f) (hs : t.s = e.s) (hg : t.lk = A.g) (hw : t.wa = (A.w t.s).g) (hb : t.bk = (A.w (!t.s)).g) (hlen : (k.wy t.s).pg.length ≤ 1099511627776) :
    Calls Tryz.prog 45 #[.agg (tnv t)] w fun r w' => r = .returned (.int .i64 (k.ping e).2) ∧ ∃ A', A'.g = A.g ∧ (∀ u, (A'.w u).g = (A.w u).g) ∧ LJ w0 w' A' (k.ping e).1 (m + 3) := by
  have HH : Hid (∀ V, Calls Tryz.prog 38 #[.agg (tnv t), .int .i64 1] V fun e w' => e = .returned (.bool (Fm.hasF t.f.fl 1)) ∧ Below V.heap.size V w') := fun V => has_any t 1 V
  obtain ⟨R, hR⟩ : ∃ R, k.ping e = R := ⟨_, rfl⟩
  obtain ⟨h1, hh1⟩ : ∃ v, Fm.hasF t.f.fl 1 = v := ⟨_, rfl⟩
  obtain ⟨u, hu⟩ : ∃ u, (!t.s) = u := ⟨_, rfl⟩
  obtain ⟨L, hL⟩ : ∃ L, (k.wy u).pg = L := ⟨_, rfl⟩
  have HR : Hid (R = if h1 = false then (k.upd t.s fun y => { y with pg := y.pg ++ [t.f.data] }, 0) else pongR k u t.f.data L) := by
    show _ = _
    rw [← hR]
    unfold Lk.ping
    rw [← hf, ← hs, hu, hL]
    have e1 : e.has 1 = h1 := by rw [← hh1, hf]; rfl
    rw [e1]
    cases L <;> rfl
  rw [hR]
  rw [hh1] at HH
  obtain ⟨W1, hW1⟩ : ∃ V, w.alloc (.cells (tnv t) 78) = V := ⟨_, rfl⟩
  obtain ⟨b0, hb'⟩ : ∃ q, w.heap.size = q := ⟨_, rfl⟩
  have b1 : Below w.heap.size w W1 := by rw [← hW1]; exact bel1 _ _
  have hb0 : W1.heap[b0]? = some (.cells (tnv t) 78 (0, 0)) := by rw [← hW1, ← hb', heap_al, if_pos rfl]
  have HL0 : Hid (LJ w0 W1 A k m ∧ W1.heap[b0]? = some (.cells (tnv t) 78 (0, 0))) := ⟨h.below b1, hb0⟩
  have HW : Hid (t.wa = (A.w t.s).g ∧ t.bk = (A.w u).g ∧ (k.wy u).pg = L) := ⟨hw, by rw [← hu]; exact hb, hL⟩
  have HNe : Hid (b0 ≠ t.wa) := by show _ ≠ _; rw [hw]; exact ty_ne hb0 (HL0.out.1.wi t.s).blk (by decide)
  have HNb : Hid (b0 ≠ t.bk) := by show _ ≠ _; rw [hb]; exact ty_ne hb0 (HL0.out.1.wi (!t.s)).blk (by decide)
  have j0 := cell_blk hb0 0
  have j1 := cell_blk hb0 1
  have j2 := cell_blk hb0 2
  have j3 := cell_blk hb0 3
  have j4 := cell_blk hb0 4
  have j5 := cell_blk hb0 5
  have j6 := cell_blk hb0 6
  have j7 := cell_blk hb0 7
  have j8 := cell_blk hb0 8
  have j9 := cell_blk hb0 9
  have j10 := cell_blk hb0 10
  have j11 := cell_blk hb0 11
  have j12 := cell_blk hb0 12
  have j13 := cell_blk hb0 13
  have j14 := cell_blk hb0 14
  clear h hw hb hR b1 hb0 hf hs hh1 hu hL
  obtain ⟨lk, ⟨ty, fl, st, da, pa, de, ex, wt, co, la⟩, p, s, wa, bk⟩ := t
  simp only at hg HR HW hlen HNe HNb
  subst hg
  simp only [tnv] at hW1 HL0 HH j0 j1 j2 j3 j4 j5 j6 j7 j8 j9 j10 j11 j12 j13 j14 ⊢
  simp only [List.getElem?_toArray, List.getElem?_cons_succ, List.getElem?_cons_zero] at j0 j1 j2 j3 j4 j5 j6 j7 j8 j9 j10 j11 j12 j13 j14
  have hSb : Hid (∀ V : World, V.heap[b0]? = some (.cells #[.pointer (some ⟨A.g, 0, none⟩), .int .i64 ty, .int .i64 fl, .int .i64 st, .string da, .int .i64 pa, .int .i64 de, .bool ex, .int .i64 wt, .int .i64 co, .int .i64 la, p, .bool s, .pointer (some ⟨wa, 0, none⟩), .pointer (some ⟨bk, 0, none⟩)] 78 (0, 0)) → V.cell? ⟨b0, 0, none⟩ = some (.pointer (some ⟨A.g, 0, none⟩)) ∧ V.cell? ⟨b0, 1, none⟩ = some (.int .i64 ty) ∧ V.cell? ⟨b0, 2, none⟩ = some (.int .i64 fl) ∧ V.cell? ⟨b0, 3, none⟩ = some (.int .i64 st) ∧ V.cell? ⟨b0, 4, none⟩ = some (.string da) ∧ V.cell? ⟨b0, 5, none⟩ = some (.int .i64 pa) ∧ V.cell? ⟨b0, 6, none⟩ = some (.int .i64 de) ∧ V.cell? ⟨b0, 7, none⟩ = some (.bool ex) ∧ V.cell? ⟨b0, 8, none⟩ = some (.int .i64 wt) ∧ V.cell? ⟨b0, 9, none⟩ = some (.int .i64 co) ∧ V.cell? ⟨b0, 10, none⟩ = some (.int .i64 la) ∧ V.cell? ⟨b0, 11, none⟩ = some p ∧ V.cell? ⟨b0, 12, none⟩ = some (.bool s) ∧ V.cell? ⟨b0, 13, none⟩ = some (.pointer (some ⟨wa, 0, none⟩)) ∧ V.cell? ⟨b0, 14, none⟩ = some (.pointer (some ⟨bk, 0, none⟩))) := fun V h1 => ⟨cell_blk h1 0, cell_blk h1 1, cell_blk h1 2, cell_blk h1 3, cell_blk h1 4, cell_blk h1 5, cell_blk h1 6, cell_blk h1 7, cell_blk h1 8, cell_blk h1 9, cell_blk h1 10, cell_blk h1 11, cell_blk h1 12, cell_blk h1 13, cell_blk h1 14⟩
  go_enter Tryz.func45, Tryz.ntmps45
  go_wp2_with fail
  try rw [hW1]
  try rw [hb']
  clear hW1 hb'
  go_at_call 38
  refine (HH.out _).mono ?_
  rintro e' V1 ⟨rfl, hV1⟩
  have HL1 : Hid (LJ w0 V1 A k m ∧ V1.heap[b0]? = some (.cells #[.pointer (some ⟨A.g, 0, none⟩), .int .i64 ty, .int .i64 fl, .int .i64 st, .string da, .int .i64 pa, .int .i64 de, .bool ex, .int .i64 wt, .int .i64 co, .int .i64 la, p, .bool s, .pointer (some ⟨wa, 0, none⟩), .pointer (some ⟨bk, 0, none⟩)] 78 (0, 0))) := ⟨HL0.out.1.below hV1, (hV1.block _ (heap_lt HL0.out.2)).trans HL0.out.2⟩
  clear j0 j1 j2 j3 j4 j5 j6 j7 j8 j9 j10 j11 j12 j13 j14 HH HL0 hV1
  cases h1
  · have HQ : Hid (R = (k.upd s fun y => { y with pg := y.pg ++ [da] }, 0)) := by show _ = _; rw [HR.out, if_pos rfl]
    clear HR
    obtain ⟨base, cap, hpv, hp1, hp2⟩ := (HL1.out.1.wi s).pg.slice
    obtain ⟨ln, hln⟩ : ∃ n, (k.wy s).pg.length = n := ⟨_, rfl⟩
    rw [hln] at hpv
    have HLn : Hid ((k.wy s).pg.length ≤ 1099511627776 ∧ (k.wy s).pg.length = ln ∧ (A.w s).pv = .slice base ln cap) := ⟨hlen, hln, hpv⟩
    have hSc : Hid (∀ V, LJ w0 V A k m → V.heap[b0]? = some (.cells #[.pointer (some ⟨A.g, 0, none⟩), .int .i64 ty, .int .i64 fl, .int .i64 st, .string da, .int .i64 pa, .int .i64 de, .bool ex, .int .i64 wt, .int .i64 co, .int .i64 la, p, .bool s, .pointer (some ⟨wa, 0, none⟩), .pointer (some ⟨bk, 0, none⟩)] 78 (0, 0)) → (V.cell? ⟨b0, 0, none⟩ = some (.pointer (some ⟨A.g, 0, none⟩)) ∧ V.cell? ⟨b0, 1, none⟩ = some (.int .i64 ty) ∧ V.cell? ⟨b0, 2, none⟩ = some (.int .i64 fl) ∧ V.cell? ⟨b0, 3, none⟩ = some (.int .i64 st) ∧ V.cell? ⟨b0, 4, none⟩ = some (.string da) ∧ V.cell? ⟨b0, 5, none⟩ = some (.int .i64 pa) ∧ V.cell? ⟨b0, 6, none⟩ = some (.int .i64 de) ∧ V.cell? ⟨b0, 7, none⟩ = some (.bool ex) ∧ V.cell? ⟨b0, 8, none⟩ = some (.int .i64 wt) ∧ V.cell? ⟨b0, 9, none⟩ = some (.int .i64 co) ∧ V.cell? ⟨b0, 10, none⟩ = some (.int .i64 la) ∧ V.cell? ⟨b0, 11, none⟩ = some p ∧ V.cell? ⟨b0, 12, none⟩ = some (.bool s) ∧ V.cell? ⟨b0, 13, none⟩ = some (.pointer (some ⟨wa, 0, none⟩)) ∧ V.cell? ⟨b0, 14, none⟩ = some (.pointer (some ⟨bk, 0, none⟩))) ∧ V.cell? ⟨wa, 4, none⟩ = some (.slice base ln cap)) := fun V hV hbz => ⟨hSb.out V hbz, by rw [HW.out.1, ← HLn.out.2.2]; exact (hV.wi s).cells.2.2.2.2.1⟩
    clear hpv hp1 hp2 hln hlen
    obtain ⟨j0, j1, j2, j3, j4, j5, j6, j7, j8, j9, j10, j11, j12, j13, j14⟩ := hSb.out _ HL1.out.2
    go_upto_region 2 with fail
    clear j0 j1 j2 j3 j4 j5 j6 j7 j8 j9 j10 j11 j12 j13 j14
    have hIW : LJ w0 V1.drew A k m ∧ V1.drew.heap[b0]? = some (.cells #[.pointer (some ⟨A.g, 0, none⟩), .int .i64 ty, .int .i64 fl, .int .i64 st, .string da, .int .i64 pa, .int .i64 de, .bool ex, .int .i64 wt, .int .i64 co, .int .i64 la, p, .bool s, .pointer (some ⟨wa, 0, none⟩), .pointer (some ⟨bk, 0, none⟩)] 78 (0, 0)) := ⟨HL1.out.1.dr, HL1.out.2⟩
    refine wp_region_held_drew (S := (fun V => V.cell? ⟨b0, 0, none⟩ = some (.pointer (some ⟨A.g, 0, none⟩)) ∧ V.cell? ⟨b0, 1, none⟩ = some (.int .i64 ty) ∧ V.cell? ⟨b0, 2, none⟩ = some (.int .i64 fl) ∧ V.cell? ⟨b0, 3, none⟩ = some (.int .i64 st) ∧ V.cell? ⟨b0, 4, none⟩ = some (.string da) ∧ V.cell? ⟨b0, 5, none⟩ = some (.int .i64 pa) ∧ V.cell? ⟨b0, 6, none⟩ = some (.int .i64 de) ∧ V.cell? ⟨b0, 7, none⟩ = some (.bool ex) ∧ V.cell? ⟨b0, 8, none⟩ = some (.int .i64 wt) ∧ V.cell? ⟨b0, 9, none⟩ = some (.int .i64 co) ∧ V.cell? ⟨b0, 10, none⟩ = some (.int .i64 la) ∧ V.cell? ⟨b0, 11, none⟩ = some p ∧ V.cell? ⟨b0, 12, none⟩ = some (.bool s) ∧ V.cell? ⟨b0, 13, none⟩ = some (.pointer (some ⟨wa, 0, none⟩)) ∧ V.cell? ⟨b0, 14, none⟩ = some (.pointer (some ⟨bk, 0, none⟩)))) (by kernel_rfl) (hSb.out _ hIW.2) (fun hHeld => ?_)
    generalize hWg : World.drew _ = W2 at hIW hHeld ⊢
    clear hWg
    refine tkA (i := 0) (oi := ⟨some 7, .fieldAddr 78 (.tmp 1) 3, 0, "types.go:201", #[], none⟩) ?_
    try simp only [Act.put, lA, l0, lS]
    refine tkA (i := 1) (oi := ⟨some 8, .load 66 (.tmp 7), 66, "types.go:201", #[⟨0, .data⟩], none⟩) ?_
    try simp only [Act.put, lA, l0, lS]
    refine tkA (i := 2) (oi := ⟨some 9, .fieldAddr 78 (.tmp 1) 3, 0, "types.go:201", #[], none⟩) ?_
    try simp only [Act.put, lA, l0, lS]
    refine tkA (i := 3) (oi := ⟨some 10, .load 66 (.tmp 9), 66, "types.go:201", #[⟨2, .data⟩], none⟩) ?_
    try simp only [Act.put, lA, l0, lS]
    refine tkA (i := 4) (oi := ⟨some 11, .nilCheck (.tmp 10), 0, "types.go:201", #[⟨3, .data⟩], none⟩) ?_
    try simp only [Act.put, lA, l0, lS]
    refine tkA (i := 5) (oi := ⟨some 12, .fieldAddr 76 (.tmp 11) 4, 0, "types.go:201", #[⟨4, .data⟩], none⟩) ?_
    try simp only [Act.put, lA, l0, lS]
    refine tkA (i := 7) (oi := ⟨some 14, .fieldAddr 78 (.tmp 1) 1, 0, "types.go:201", #[], none⟩) ?_
    try simp only [Act.put, lA, l0, lS]
    refine tkA (i := 8) (oi := ⟨some 15, .fieldAddr 31 (.tmp 14) 3, 0, "types.go:201", #[⟨7, .data⟩], none⟩) ?_
    try simp only [Act.put, lA, l0, lS]
    refine tkA (i := 9) (oi := ⟨some 16, .load 9 (.tmp 15), 9, "types.go:201", #[⟨8, .data⟩], none⟩) ?_
    try simp only [Act.put, lA, l0, lS]
    refine wpAnyH_ready (rs := [6, 10]) (by kernel_rfl) (by simp) ?_
    refine AllReadyH.cons (o := ⟨some 13, .load 70 (.tmp 12), 70, "types.go:201", #[⟨5, .data⟩], none⟩) rfl (fun K hK => ?_) ?_
    · have cz := (hSc.out _ hIW.1 hIW.2).2
      go_simp
      go_wp2_with fail
      refine hK.out _ _ (hSb.out _ hIW.2) (fun hHeld => ?_)
      clear hK K cz
      try simp only [Act.put, lA, l0, lS]
      refine wpAnyH_ready (rs := [10]) (by kernel_rfl) (by simp) ?_
      refine AllReadyH.cons (o := ⟨some 17, .buildSlice 70 1 #[(0, .tmp 16)], 70, "types.go:201", #[⟨9, .data⟩], none⟩) rfl (fun K hK => ?_) AllReadyH.nil
      obtain ⟨W2xx, hV0⟩ : ∃ V, W2.alloc (.cells #[ss da] 9) = V := ⟨_, rfl⟩
      obtain ⟨qv, hqv⟩ : ∃ q, W2.heap.size = q := ⟨_, rfl⟩
      have bX : Below W2.heap.size W2 W2xx := by rw [← hV0]; exact bel1 _ _
      have hW2xx : LJ w0 W2xx A k m ∧ W2xx.heap[b0]? = some (.cells #[.pointer (some ⟨A.g, 0, none⟩), .int .i64 ty, .int .i64 fl, .int .i64 st, .string da, .int .i64 pa, .int .i64 de, .bool ex, .int .i64 wt, .int .i64 co, .int .i64 la, p, .bool s, .pointer (some ⟨wa, 0, none⟩), .pointer (some ⟨bk, 0, none⟩)] 78 (0, 0)) := ⟨hIW.1.below bX, (bX.block _ (heap_lt hIW.2)).trans hIW.2⟩
      have gW2xx : W2xx.heap[qv]? = some (.cells #[ss da] 9 (0, 0)) := by rw [← hV0, ← hqv, heap_al, if_pos rfl]
      clear bX
      go_simp
      go_wp2_with fail
      try rw [hV0]
      try rw [hqv]
      refine hK.out _ _ (hSb.out _ hW2xx.2) (fun hHeld => ?_)
      clear hK K hV0 hqv
      try simp only [Act.put, lA, l0, lS]
      refine wpAnyH_ready (rs := [11]) (by kernel_rfl) (by simp) ?_
      refine AllReadyH.cons (o := ⟨some 18, .call { callee := Callee.builtin Builtin.append, args := #[.tmp 13, .tmp 17], argTypes := #[70, 70] }, 70, "types.go:201", #[⟨6, .data⟩, ⟨10, .data⟩], none⟩) rfl (fun K hK => ?_) AllReadyH.nil
      obtain ⟨b, cc, W2xxx, hrun, hws, hgr⟩ := wsr_push _ _ _ (hW2xx.1.wi s).pg da qv gW2xx HLn.out.1
      rw [HLn.out.2.2, HLn.out.2.1] at hrun
      have hPu := hW2xx.1.push s hgr hws
      have hW2xxx : W2xxx.heap[b0]? = some (.cells #[.pointer (some ⟨A.g, 0, none⟩), .int .i64 ty, .int .i64 fl, .int .i64 st, .string da, .int .i64 pa, .int .i64 de, .bool ex, .int .i64 wt, .int .i64 co, .int .i64 la, p, .bool s, .pointer (some ⟨wa, 0, none⟩), .pointer (some ⟨bk, 0, none⟩)] 78 (0, 0)) := hPu.1.2.2 _ _ _ _ hW2xx.2 ot78
      have cW2xxx := hPu.1.1
      have fW2xxx := hPu.1.2.1
      have zW2xxx := hid hPu.2
      rw [← HW.out.1, HLn.out.2.2] at cW2xxx
      rw [← HW.out.1] at fW2xxx
      rw [← HW.out.1, HLn.out.2.1] at zW2xxx
      clear hPu hgr hws
      refine step_append_run rfl (.tmp 13) (.tmp 17) 70 70 rfl hrun rfl rfl ?_
      refine hK.out _ _ (hSb.out _ hW2xxx) (fun hHeld => ?_)
      clear hK K hrun
      try simp only [Act.put, lA, l0, lS]
      refine tkA (i := 12) (oi := ⟨some 19, .nilCheck (.tmp 8), 0, "types.go:201", #[⟨1, .data⟩, ⟨0, .phase⟩, ⟨1, .phase⟩, ⟨2, .phase⟩, ⟨3, .phase⟩, ⟨4, .phase⟩, ⟨5, .phase⟩, ⟨6, .phase⟩, ⟨7, .phase⟩, ⟨8, .phase⟩, ⟨9, .phase⟩, ⟨10, .phase⟩, ⟨11, .phase⟩], none⟩) ?_
      try simp only [Act.put, lA, l0, lS]
      refine tkA (i := 13) (oi := ⟨some 20, .fieldAddr 76 (.tmp 19) 4, 0, "types.go:201", #[⟨12, .data⟩, ⟨0, .phase⟩, ⟨1, .phase⟩, ⟨2, .phase⟩, ⟨3, .phase⟩, ⟨4, .phase⟩, ⟨5, .phase⟩, ⟨6, .phase⟩, ⟨7, .phase⟩, ⟨8, .phase⟩, ⟨9, .phase⟩, ⟨10, .phase⟩, ⟨11, .phase⟩], none⟩) ?_
      try simp only [Act.put, lA, l0, lS]
      refine wpAnyH_ready (rs := [14]) (by kernel_rfl) (by simp) ?_
      refine AllReadyH.cons (o := ⟨none, .store 70 (.tmp 20) (.tmp 18), 0, "types.go:201", #[⟨13, .data⟩, ⟨11, .data⟩, ⟨11, .chain⟩, ⟨0, .phase⟩, ⟨1, .phase⟩, ⟨2, .phase⟩, ⟨3, .phase⟩, ⟨4, .phase⟩, ⟨5, .phase⟩, ⟨6, .phase⟩, ⟨7, .phase⟩, ⟨8, .phase⟩, ⟨9, .phase⟩, ⟨10, .phase⟩, ⟨11, .phase⟩], none⟩) rfl (fun K hK => ?_) AllReadyH.nil
      obtain ⟨W2xxxx, hV0⟩ : ∃ V, W2xxx.setCell ⟨wa, 4, none⟩ (.slice b (ln + 1) cc) = V := ⟨_, rfl⟩
      have hW2xxxx : W2xxxx.heap[b0]? = some (.cells #[.pointer (some ⟨A.g, 0, none⟩), .int .i64 ty, .int .i64 fl, .int .i64 st, .string da, .int .i64 pa, .int .i64 de, .bool ex, .int .i64 wt, .int .i64 co, .int .i64 la, p, .bool s, .pointer (some ⟨wa, 0, none⟩), .pointer (some ⟨bk, 0, none⟩)] 78 (0, 0)) := by rw [← hV0]; exact (setCell_other _ _ _ _ _ HNe.out).trans hW2xxx
      have HZ : Hid (LJ w0 W2xxxx (A.upd s { A.w s with pv := .slice b (ln + 1) cc }) (k.upd s fun y => { y with pg := (k.wy s).pg ++ [da] }) m) := by rw [← hV0]; exact zW2xxx.out
      have fz := fW2xxx
      have cz := cW2xxx
      go_simp
      go_wp2_with fail
      try rw [hV0]
      refine hK.out _ _ (hSb.out _ hW2xxxx) (fun hHeld => ?_)
      clear hK K hV0 fz cz
      try simp only [Act.put, lA, l0, lS]
      refine wpAnyH_done (by kernel_rfl) ?_ _
      clear hHeld
      go_wp2_with fail
      go_ret
      exact ⟨by rw [HQ.out]; rfl, A.upd s { A.w s with pv := .slice b (ln + 1) cc }, rfl, (by first | exact fun u => LA.upd_g A s _ u | exact ⟨LA.upd_g A s _ _, LA.upd_g A s _ _⟩), by rw [HQ.out, Lk.upd_const]; have := HZ.out; rw [Lk.upd_const] at this; exact this.more (by omega)⟩
    refine AllReadyH.cons (o := ⟨some 17, .buildSlice 70 1 #[(0, .tmp 16)], 70, "types.go:201", #[⟨9, .data⟩], none⟩) rfl (fun K hK => ?_) AllReadyH.nil
    obtain ⟨W2x, hV0⟩ : ∃ V, W2.alloc (.cells #[ss da] 9) = V := ⟨_, rfl⟩
    obtain ⟨qv, hqv⟩ : ∃ q, W2.heap.size = q := ⟨_, rfl⟩
    have bX : Below W2.heap.size W2 W2x := by rw [← hV0]; exact bel1 _ _
    have hW2x : LJ w0 W2x A k m ∧ W2x.heap[b0]? = some (.cells #[.pointer (some ⟨A.g, 0, none⟩), .int .i64 ty, .int .i64 fl, .int .i64 st, .string da, .int .i64 pa, .int .i64 de, .bool ex, .int .i64 wt, .int .i64 co, .int .i64 la, p, .bool s, .pointer (some ⟨wa, 0, none⟩), .pointer (some ⟨bk, 0, none⟩)] 78 (0, 0)) := ⟨hIW.1.below bX, (bX.block _ (heap_lt hIW.2)).trans hIW.2⟩
    have gW2x : W2x.heap[qv]? = some (.cells #[ss da] 9 (0, 0)) := by rw [← hV0, ← hqv, heap_al, if_pos rfl]
    clear bX
    go_simp
    go_wp2_with fail
    try rw [hV0]
    try rw [hqv]
    refine hK.out _ _ (hSb.out _ hW2x.2) (fun hHeld => ?_)
    clear hK K hV0 hqv
    try simp only [Act.put, lA, l0, lS]
    refine wpAnyH_ready (rs := [6]) (by kernel_rfl) (by simp) ?_
    refine AllReadyH.cons (o := ⟨some 13, .load 70 (.tmp 12), 70, "types.go:201", #[⟨5, .data⟩], none⟩) rfl (fun K hK => ?_) AllReadyH.nil
    have cz := (hSc.out _ hW2x.1 hW2x.2).2
    go_simp
    go_wp2_with fail
    refine hK.out _ _ (hSb.out _ hW2x.2) (fun hHeld => ?_)
    clear hK K cz
    try simp only [Act.put, lA, l0, lS]
    refine wpAnyH_ready (rs := [11]) (by kernel_rfl) (by simp) ?_
    refine AllReadyH.cons (o := ⟨some 18, .call { callee := Callee.builtin Builtin.append, args := #[.tmp 13, .tmp 17], argTypes := #[70, 70] }, 70, "types.go:201", #[⟨6, .data⟩, ⟨10, .data⟩], none⟩) rfl (fun K hK => ?_) AllReadyH.nil
    obtain ⟨b, cc, W2xxx, hrun, hws, hgr⟩ := wsr_push _ _ _ (hW2x.1.wi s).pg da qv gW2x HLn.out.1
    rw [HLn.out.2.2, HLn.out.2.1] at hrun
    have hPu := hW2x.1.push s hgr hws
    have hW2xxx : W2xxx.heap[b0]? = some (.cells #[.pointer (some ⟨A.g, 0, none⟩), .int .i64 ty, .int .i64 fl, .int .i64 st, .string da, .int .i64 pa, .int .i64 de, .bool ex, .int .i64 wt, .int .i64 co, .int .i64 la, p, .bool s, .pointer (some ⟨wa, 0, none⟩), .pointer (some ⟨bk, 0, none⟩)] 78 (0, 0)) := hPu.1.2.2 _ _ _ _ hW2x.2 ot78
    have cW2xxx := hPu.1.1
    have fW2xxx := hPu.1.2.1
    have zW2xxx := hid hPu.2
    rw [← HW.out.1, HLn.out.2.2] at cW2xxx
    rw [← HW.out.1] at fW2xxx
    rw [← HW.out.1, HLn.out.2.1] at zW2xxx
    clear hPu hgr hws
    refine step_append_run rfl (.tmp 13) (.tmp 17) 70 70 rfl hrun rfl rfl ?_
    refine hK.out _ _ (hSb.out _ hW2xxx) (fun hHeld => ?_)
    clear hK K hrun
    try simp only [Act.put, lA, l0, lS]
    refine tkA (i := 12) (oi := ⟨some 19, .nilCheck (.tmp 8), 0, "types.go:201", #[⟨1, .data⟩, ⟨0, .phase⟩, ⟨1, .phase⟩, ⟨2, .phase⟩, ⟨3, .phase⟩, ⟨4, .phase⟩, ⟨5, .phase⟩, ⟨6, .phase⟩, ⟨7, .phase⟩, ⟨8, .phase⟩, ⟨9, .phase⟩, ⟨10, .phase⟩, ⟨11, .phase⟩], none⟩) ?_
    try simp only [Act.put, lA, l0, lS]
    refine tkA (i := 13) (oi := ⟨some 20, .fieldAddr 76 (.tmp 19) 4, 0, "types.go:201", #[⟨12, .data⟩, ⟨0, .phase⟩, ⟨1, .phase⟩, ⟨2, .phase⟩, ⟨3, .phase⟩, ⟨4, .phase⟩, ⟨5, .phase⟩, ⟨6, .phase⟩, ⟨7, .phase⟩, ⟨8, .phase⟩, ⟨9, .phase⟩, ⟨10, .phase⟩, ⟨11, .phase⟩], none⟩) ?_
    try simp only [Act.put, lA, l0, lS]
    refine wpAnyH_ready (rs := [14]) (by kernel_rfl) (by simp) ?_
    refine AllReadyH.cons (o := ⟨none, .store 70 (.tmp 20) (.tmp 18), 0, "types.go:201", #[⟨13, .data⟩, ⟨11, .data⟩, ⟨11, .chain⟩, ⟨0, .phase⟩, ⟨1, .phase⟩, ⟨2, .phase⟩, ⟨3, .phase⟩, ⟨4, .phase⟩, ⟨5, .phase⟩, ⟨6, .phase⟩, ⟨7, .phase⟩, ⟨8, .phase⟩, ⟨9, .phase⟩, ⟨10, .phase⟩, ⟨11, .phase⟩], none⟩) rfl (fun K hK => ?_) AllReadyH.nil
    obtain ⟨W2xxxx, hV0⟩ : ∃ V, W2xxx.setCell ⟨wa, 4, none⟩ (.slice b (ln + 1) cc) = V := ⟨_, rfl⟩
    have hW2xxxx : W2xxxx.heap[b0]? = some (.cells #[.pointer (some ⟨A.g, 0, none⟩), .int .i64 ty, .int .i64 fl, .int .i64 st, .string da, .int .i64 pa, .int .i64 de, .bool ex, .int .i64 wt, .int .i64 co, .int .i64 la, p, .bool s, .pointer (some ⟨wa, 0, none⟩), .pointer (some ⟨bk, 0, none⟩)] 78 (0, 0)) := by rw [← hV0]; exact (setCell_other _ _ _ _ _ HNe.out).trans hW2xxx
    have HZ : Hid (LJ w0 W2xxxx (A.upd s { A.w s with pv := .slice b (ln + 1) cc }) (k.upd s fun y => { y with pg := (k.wy s).pg ++ [da] }) m) := by rw [← hV0]; exact zW2xxx.out
    have fz := fW2xxx
    have cz := cW2xxx
    go_simp
    go_wp2_with fail
    try rw [hV0]
    refine hK.out _ _ (hSb.out _ hW2xxxx) (fun hHeld => ?_)
    clear hK K hV0 fz cz
    try simp only [Act.put, lA, l0, lS]
    refine wpAnyH_done (by kernel_rfl) ?_ _
    clear hHeld
    go_wp2_with fail
    go_ret
    exact ⟨by rw [HQ.out]; rfl, A.upd s { A.w s with pv := .slice b (ln + 1) cc }, rfl, (by first | exact fun u => LA.upd_g A s _ u | exact ⟨LA.upd_g A s _ _, LA.upd_g A s _ _⟩), by rw [HQ.out, Lk.upd_const]; have := HZ.out; rw [Lk.upd_const] at this; exact this.more (by omega)⟩
  · have HX : Hid (R = pongR k u da L) := by show _ = _; rw [HR.out, if_neg (by decide)]
    have c4 : V1.cell? ⟨bk, 4, none⟩ = some (A.w u).pv := by rw [HW.out.2.1]; exact (HL1.out.1.wi u).cells.2.2.2.2.1
    clear HR hlen HNe
    cases L with
    | nil =>
      have HQ : Hid (R = (k, 1)) := HX.out
      obtain ⟨base, cap, hpv, hp1, hp2⟩ := (HL1.out.1.wi u).pg.slice
      rw [HW.out.2.2, List.length_nil] at hpv
      rw [hpv] at c4
      have HL2 := HL1
      clear hpv hp1 hp2 HL1
      generalize V1 = V2 at HL2 c4 ⊢
      obtain ⟨j0, j1, j2, j3, j4, j5, j6, j7, j8, j9, j10, j11, j12, j13, j14⟩ := hSb.out _ HL2.out.2
      go_upto_region 5 with fail
      clear j0 j1 j2 j3 j4 j5 j6 j7 j8 j9 j10 j11 j12 j13 j14 c4
      have hIW : LJ w0 V2.drew A k m ∧ V2.drew.heap[b0]? = some (.cells #[.pointer (some ⟨A.g, 0, none⟩), .int .i64 ty, .int .i64 fl, .int .i64 st, .string da, .int .i64 pa, .int .i64 de, .bool ex, .int .i64 wt, .int .i64 co, .int .i64 la, p, .bool s, .pointer (some ⟨wa, 0, none⟩), .pointer (some ⟨bk, 0, none⟩)] 78 (0, 0)) := ⟨HL2.out.1.dr, HL2.out.2⟩
      refine wp_region_held_drew (S := (fun V => V.cell? ⟨b0, 0, none⟩ = some (.pointer (some ⟨A.g, 0, none⟩)) ∧ V.cell? ⟨b0, 1, none⟩ = some (.int .i64 ty) ∧ V.cell? ⟨b0, 2, none⟩ = some (.int .i64 fl) ∧ V.cell? ⟨b0, 3, none⟩ = some (.int .i64 st) ∧ V.cell? ⟨b0, 4, none⟩ = some (.string da) ∧ V.cell? ⟨b0, 5, none⟩ = some (.int .i64 pa) ∧ V.cell? ⟨b0, 6, none⟩ = some (.int .i64 de) ∧ V.cell? ⟨b0, 7, none⟩ = some (.bool ex) ∧ V.cell? ⟨b0, 8, none⟩ = some (.int .i64 wt) ∧ V.cell? ⟨b0, 9, none⟩ = some (.int .i64 co) ∧ V.cell? ⟨b0, 10, none⟩ = some (.int .i64 la) ∧ V.cell? ⟨b0, 11, none⟩ = some p ∧ V.cell? ⟨b0, 12, none⟩ = some (.bool s) ∧ V.cell? ⟨b0, 13, none⟩ = some (.pointer (some ⟨wa, 0, none⟩)) ∧ V.cell? ⟨b0, 14, none⟩ = some (.pointer (some ⟨bk, 0, none⟩)))) (by kernel_rfl) (hSb.out _ hIW.2) (fun hHeld => ?_)
      generalize hWg : World.drew _ = W2 at hIW hHeld ⊢
      clear hWg
      refine tkA (i := 0) (oi := ⟨some 26, .move (.tmp 3), 70, "types.go:205", #[], none⟩) ?_
      try simp only [Act.put, lA, l0, lS]
      refine tkA (i := 1) (oi := ⟨some 27, .call { callee := Callee.builtin Builtin.len, args := #[.tmp 26], argTypes := #[70] }, 3, "types.go:205", #[⟨0, .data⟩], none⟩) ?_
      try simp only [Act.put, lA, l0, lS]
      refine tkA (i := 2) (oi := ⟨some 28, .binOp .eql 3 (.tmp 27) (.const (.int IntKind.i64 0)) 3, 4, "types.go:205", #[⟨1, .data⟩], none⟩) ?_
      try simp only [Act.put, lA, l0, lS]
      refine tkA (i := 3) (oi := ⟨some 29, .move (.tmp 28), 4, "types.go:205", #[⟨2, .data⟩], none⟩) ?_
      try simp only [Act.put, lA, l0, lS]
      refine wpAnyH_take (i := 4) (oi := ⟨some 30, .move (.tmp 3), 70, "types.go:205", #[⟨3, .guard⟩], some (3, false)⟩) (v := undef) rfl (by kernel_rfl) (by kernel_rfl) (by kernel_rfl) (fun _ _ _ h => h) (Or.inr ⟨by rfl, rfl⟩) (by assumption) ?_
      try simp only [Act.put, lA, l0, lS]
      refine wpAnyH_take (i := 5) (oi := ⟨some 31, .indexAddr 70 (.tmp 30) (.const (.int IntKind.i64 0)), 0, "types.go:205", #[⟨4, .data⟩, ⟨3, .guard⟩], some (3, false)⟩) (v := undef) rfl (by kernel_rfl) (by kernel_rfl) (by kernel_rfl) (fun _ _ _ h => h) (Or.inr ⟨by rfl, rfl⟩) (by assumption) ?_
      try simp only [Act.put, lA, l0, lS]
      refine wpAnyH_take (i := 6) (oi := ⟨some 32, .load 9 (.tmp 31), 9, "types.go:205", #[⟨5, .data⟩, ⟨3, .guard⟩], some (3, false)⟩) (v := undef) rfl (by kernel_rfl) (by kernel_rfl) (by kernel_rfl) (fun _ _ _ h => h) (Or.inr ⟨by rfl, rfl⟩) (by assumption) ?_
      try simp only [Act.put, lA, l0, lS]
      refine wpAnyH_take (i := 7) (oi := ⟨some 33, .fieldAddr 78 (.tmp 1) 1, 0, "types.go:205", #[⟨3, .guard⟩], some (3, false)⟩) (v := undef) rfl (by kernel_rfl) (by kernel_rfl) (by kernel_rfl) (fun _ _ _ h => h) (Or.inr ⟨by rfl, rfl⟩) (by assumption) ?_
      try simp only [Act.put, lA, l0, lS]
      refine wpAnyH_take (i := 8) (oi := ⟨some 34, .fieldAddr 31 (.tmp 33) 3, 0, "types.go:205", #[⟨7, .data⟩, ⟨3, .guard⟩], some (3, false)⟩) (v := undef) rfl (by kernel_rfl) (by kernel_rfl) (by kernel_rfl) (fun _ _ _ h => h) (Or.inr ⟨by rfl, rfl⟩) (by assumption) ?_
      try simp only [Act.put, lA, l0, lS]
      refine wpAnyH_take (i := 9) (oi := ⟨some 35, .load 9 (.tmp 34), 9, "types.go:205", #[⟨8, .data⟩, ⟨3, .guard⟩], some (3, false)⟩) (v := undef) rfl (by kernel_rfl) (by kernel_rfl) (by kernel_rfl) (fun _ _ _ h => h) (Or.inr ⟨by rfl, rfl⟩) (by assumption) ?_
      try simp only [Act.put, lA, l0, lS]
      refine wpAnyH_take (i := 10) (oi := ⟨some 36, .binOp .neq 9 (.tmp 32) (.tmp 35) 9, 4, "types.go:205", #[⟨6, .data⟩, ⟨9, .data⟩, ⟨3, .guard⟩], some (3, false)⟩) (v := undef) rfl (by kernel_rfl) (by kernel_rfl) (by kernel_rfl) (fun _ _ _ h => h) (Or.inr ⟨by rfl, rfl⟩) (by assumption) ?_
      try simp only [Act.put, lA, l0, lS]
      refine tkA (i := 11) (oi := ⟨some 37, .pick (.tmp 29) (.const (.bool true)) (.tmp 36), 4, "types.go:205", #[⟨3, .data⟩, ⟨10, .data⟩], none⟩) ?_
      try simp only [Act.put, lA, l0, lS]
      refine wpAnyH_done (by kernel_rfl) ?_ _
      have HE := hid hIW.1
      clear hHeld hIW
      go_wp2_with fail
      go_ret
      exact ⟨by rw [HQ.out]; rfl, A, rfl, (by first | exact fun u => rfl | exact ⟨rfl, rfl⟩), by rw [HQ.out]; exact HE.out.more (by omega)⟩
    | cons x r =>
      have hws := (HL1.out.1.wi u).pg
      rw [HW.out.2.2] at hws
      obtain ⟨g, off, cap, hpv, hc1, hc2, hcell, hgl, hf1, hf2⟩ := hws.first
      obtain ⟨rl, hrl⟩ : ∃ n, r.length = n := ⟨_, rfl⟩
      rw [hrl] at hpv hc1
      rw [hpv] at c4
      have HF : Hid ((A.w u).pv = .slice (some ⟨g, off, none⟩) (rl + 1) cap ∧ ∀ V, LJ w0 V A k m → (cap = 1 → WSr V (.slice (some ⟨g, off, none⟩) 0 0) r) ∧ (cap ≠ 1 → WSr V (.slice (some ⟨g, off + 1, none⟩) rl (cap - 1)) r)) := ⟨hpv, fun V hV => by
        have h2 := (hV.wi u).pg
        rw [HW.out.2.2] at h2
        obtain ⟨g', off', cap', hpv', _, _, _, _, z1, z2⟩ := h2.first
        rw [hpv, hrl] at hpv'
        injection hpv' with e1 e2 e3
        injection e1 with e1
        injection e1 with e4 e5
        subst e3 e4 e5
        refine ⟨fun e => ?_, fun e => ?_⟩
        · have := z1 e
          have hr0 : rl = 0 := by omega
          rw [hrl, hr0, e] at this
          exact this
        · have := z2 e
          rw [hrl] at this
          exact this⟩
      have hSf : Hid (∀ V, LJ w0 V A k m → V.heap[b0]? = some (.cells #[.pointer (some ⟨A.g, 0, none⟩), .int .i64 ty, .int .i64 fl, .int .i64 st, .string da, .int .i64 pa, .int .i64 de, .bool ex, .int .i64 wt, .int .i64 co, .int .i64 la, p, .bool s, .pointer (some ⟨wa, 0, none⟩), .pointer (some ⟨bk, 0, none⟩)] 78 (0, 0)) → (V.cell? ⟨b0, 0, none⟩ = some (.pointer (some ⟨A.g, 0, none⟩)) ∧ V.cell? ⟨b0, 1, none⟩ = some (.int .i64 ty) ∧ V.cell? ⟨b0, 2, none⟩ = some (.int .i64 fl) ∧ V.cell? ⟨b0, 3, none⟩ = some (.int .i64 st) ∧ V.cell? ⟨b0, 4, none⟩ = some (.string da) ∧ V.cell? ⟨b0, 5, none⟩ = some (.int .i64 pa) ∧ V.cell? ⟨b0, 6, none⟩ = some (.int .i64 de) ∧ V.cell? ⟨b0, 7, none⟩ = some (.bool ex) ∧ V.cell? ⟨b0, 8, none⟩ = some (.int .i64 wt) ∧ V.cell? ⟨b0, 9, none⟩ = some (.int .i64 co) ∧ V.cell? ⟨b0, 10, none⟩ = some (.int .i64 la) ∧ V.cell? ⟨b0, 11, none⟩ = some p ∧ V.cell? ⟨b0, 12, none⟩ = some (.bool s) ∧ V.cell? ⟨b0, 13, none⟩ = some (.pointer (some ⟨wa, 0, none⟩)) ∧ V.cell? ⟨b0, 14, none⟩ = some (.pointer (some ⟨bk, 0, none⟩))) ∧ V.cell? ⟨g, off, none⟩ = some (.string x)) := fun V hV hbz => ⟨hSb.out V hbz, by
        have h2 := (hV.wi u).pg
        rw [HW.out.2.2] at h2
        obtain ⟨g', off', cap', hpv', _, _, z0, _⟩ := h2.first
        rw [hpv, hrl] at hpv'
        injection hpv' with e1 e2 e3
        injection e1 with e1
        injection e1 with e4 e5
        subst e3 e4 e5
        exact z0⟩
      have HL2 := HL1
      clear hpv HL1 hws hf1 hf2 hrl hcell hgl
      generalize V1 = V2 at HL2 c4 ⊢
      obtain ⟨j0, j1, j2, j3, j4, j5, j6, j7, j8, j9, j10, j11, j12, j13, j14⟩ := hSb.out _ HL2.out.2
      go_upto_region 5 with fail
      clear j0 j1 j2 j3 j4 j5 j6 j7 j8 j9 j10 j11 j12 j13 j14 c4
      have hIW : LJ w0 V2.drew A k m ∧ V2.drew.heap[b0]? = some (.cells #[.pointer (some ⟨A.g, 0, none⟩), .int .i64 ty, .int .i64 fl, .int .i64 st, .string da, .int .i64 pa, .int .i64 de, .bool ex, .int .i64 wt, .int .i64 co, .int .i64 la, p, .bool s, .pointer (some ⟨wa, 0, none⟩), .pointer (some ⟨bk, 0, none⟩)] 78 (0, 0)) := ⟨HL2.out.1.dr, HL2.out.2⟩
      refine wp_region_held_drew (S := (fun V => (V.cell? ⟨b0, 0, none⟩ = some (.pointer (some ⟨A.g, 0, none⟩)) ∧ V.cell? ⟨b0, 1, none⟩ = some (.int .i64 ty) ∧ V.cell? ⟨b0, 2, none⟩ = some (.int .i64 fl) ∧ V.cell? ⟨b0, 3, none⟩ = some (.int .i64 st) ∧ V.cell? ⟨b0, 4, none⟩ = some (.string da) ∧ V.cell? ⟨b0, 5, none⟩ = some (.int .i64 pa) ∧ V.cell? ⟨b0, 6, none⟩ = some (.int .i64 de) ∧ V.cell? ⟨b0, 7, none⟩ = some (.bool ex) ∧ V.cell? ⟨b0, 8, none⟩ = some (.int .i64 wt) ∧ V.cell? ⟨b0, 9, none⟩ = some (.int .i64 co) ∧ V.cell? ⟨b0, 10, none⟩ = some (.int .i64 la) ∧ V.cell? ⟨b0, 11, none⟩ = some p ∧ V.cell? ⟨b0, 12, none⟩ = some (.bool s) ∧ V.cell? ⟨b0, 13, none⟩ = some (.pointer (some ⟨wa, 0, none⟩)) ∧ V.cell? ⟨b0, 14, none⟩ = some (.pointer (some ⟨bk, 0, none⟩))) ∧ V.cell? ⟨g, off, none⟩ = some (.string x))) (by kernel_rfl) (hSf.out _ hIW.1 hIW.2) (fun hHeld => ?_)
      generalize hWg : World.drew _ = W2 at hIW hHeld ⊢
      clear hWg
      refine tkA (i := 0) (oi := ⟨some 26, .move (.tmp 3), 70, "types.go:205", #[], none⟩) ?_
      try simp only [Act.put, lA, l0, lS]
      refine tkA (i := 1) (oi := ⟨some 27, .call { callee := Callee.builtin Builtin.len, args := #[.tmp 26], argTypes := #[70] }, 3, "types.go:205", #[⟨0, .data⟩], none⟩) ?_
      try simp only [Act.put, lA, l0, lS]
      refine tkA (i := 2) (oi := ⟨some 28, .binOp .eql 3 (.tmp 27) (.const (.int IntKind.i64 0)) 3, 4, "types.go:205", #[⟨1, .data⟩], none⟩) ?_
      try simp only [Act.put, lA, l0, lS]
      refine tkA (i := 3) (oi := ⟨some 29, .move (.tmp 28), 4, "types.go:205", #[⟨2, .data⟩], none⟩) ?_
      try simp only [Act.put, lA, l0, lS]
      refine tkA (i := 4) (oi := ⟨some 30, .move (.tmp 3), 70, "types.go:205", #[⟨3, .guard⟩], some (3, false)⟩) ?_
      try simp only [Act.put, lA, l0, lS]
      refine tkA (i := 5) (oi := ⟨some 31, .indexAddr 70 (.tmp 30) (.const (.int IntKind.i64 0)), 0, "types.go:205", #[⟨4, .data⟩, ⟨3, .guard⟩], some (3, false)⟩) ?_
      try simp only [Act.put, lA, l0, lS]
      refine tkA (i := 6) (oi := ⟨some 32, .load 9 (.tmp 31), 9, "types.go:205", #[⟨5, .data⟩, ⟨3, .guard⟩], some (3, false)⟩) ?_
      try simp only [Act.put, lA, l0, lS]
      refine tkA (i := 7) (oi := ⟨some 33, .fieldAddr 78 (.tmp 1) 1, 0, "types.go:205", #[⟨3, .guard⟩], some (3, false)⟩) ?_
      try simp only [Act.put, lA, l0, lS]
      refine tkA (i := 8) (oi := ⟨some 34, .fieldAddr 31 (.tmp 33) 3, 0, "types.go:205", #[⟨7, .data⟩, ⟨3, .guard⟩], some (3, false)⟩) ?_
      try simp only [Act.put, lA, l0, lS]
      refine tkA (i := 9) (oi := ⟨some 35, .load 9 (.tmp 34), 9, "types.go:205", #[⟨8, .data⟩, ⟨3, .guard⟩], some (3, false)⟩) ?_
      try simp only [Act.put, lA, l0, lS]
      refine tkA (i := 10) (oi := ⟨some 36, .binOp .neq 9 (.tmp 32) (.tmp 35) 9, 4, "types.go:205", #[⟨6, .data⟩, ⟨9, .data⟩, ⟨3, .guard⟩], some (3, false)⟩) ?_
      try simp only [Act.put, lA, l0, lS]
      refine tkA (i := 11) (oi := ⟨some 37, .pick (.tmp 29) (.const (.bool true)) (.tmp 36), 4, "types.go:205", #[⟨3, .data⟩, ⟨10, .data⟩], none⟩) ?_
      try simp only [Act.put, lA, l0, lS]
      refine wpAnyH_done (by kernel_rfl) ?_ _
      have HE := hid hIW
      clear hHeld hIW
      have hz0 : ((rl : Int) + 1 == 0) = false := beq_eq_false_iff_ne.2 (by omega)
      generalize W2 = HH0 at HE ⊢
      by_cases hx : x = da
      · have HQ : Hid (R = (k.upd u fun y => { y with pg := r }, 0)) := by show _ = _; rw [HX.out]; exact if_pos hx
        have hx' := hx.symm
        subst hx'
        have hxb : (da.toList == da.toList) = true := by simp
        simp only [hz0, hxb, Bool.false_or, Bool.not_true, Bool.not_false]
        by_cases hcap : cap = 1
        · subst hcap
          have hrl : rl = 0 := by omega
          subst hrl
          obtain ⟨vz, hvz⟩ : ∃ v : Value, .slice (some ⟨g, off, none⟩) 0 0 = v := ⟨_, rfl⟩
          have HVV := hid hvz
          have HV : Hid ((∀ V, LJ w0 V A k m → WSr V vz r) ∧ ∀ j, vz.ownBlock = some j → (A.w u).pv.ownBlock = some j) := ⟨fun V hV => by rw [← hvz]; exact (HF.out.2 V hV).1 rfl, fun j hj => by rw [← hvz] at hj; rw [HF.out.1]; exact hj⟩
          clear hvz
          go_upto_region 7 with fail
          have hIW : LJ w0 HH0.drew A k m ∧ HH0.drew.heap[b0]? = some (.cells #[.pointer (some ⟨A.g, 0, none⟩), .int .i64 ty, .int .i64 fl, .int .i64 st, .string da, .int .i64 pa, .int .i64 de, .bool ex, .int .i64 wt, .int .i64 co, .int .i64 la, p, .bool s, .pointer (some ⟨wa, 0, none⟩), .pointer (some ⟨bk, 0, none⟩)] 78 (0, 0)) := ⟨HE.out.1.dr, HE.out.2⟩
          refine wp_region_held_drew (S := (fun V => V.cell? ⟨b0, 0, none⟩ = some (.pointer (some ⟨A.g, 0, none⟩)) ∧ V.cell? ⟨b0, 1, none⟩ = some (.int .i64 ty) ∧ V.cell? ⟨b0, 2, none⟩ = some (.int .i64 fl) ∧ V.cell? ⟨b0, 3, none⟩ = some (.int .i64 st) ∧ V.cell? ⟨b0, 4, none⟩ = some (.string da) ∧ V.cell? ⟨b0, 5, none⟩ = some (.int .i64 pa) ∧ V.cell? ⟨b0, 6, none⟩ = some (.int .i64 de) ∧ V.cell? ⟨b0, 7, none⟩ = some (.bool ex) ∧ V.cell? ⟨b0, 8, none⟩ = some (.int .i64 wt) ∧ V.cell? ⟨b0, 9, none⟩ = some (.int .i64 co) ∧ V.cell? ⟨b0, 10, none⟩ = some (.int .i64 la) ∧ V.cell? ⟨b0, 11, none⟩ = some p ∧ V.cell? ⟨b0, 12, none⟩ = some (.bool s) ∧ V.cell? ⟨b0, 13, none⟩ = some (.pointer (some ⟨wa, 0, none⟩)) ∧ V.cell? ⟨b0, 14, none⟩ = some (.pointer (some ⟨bk, 0, none⟩)))) (by kernel_rfl) (hSb.out _ hIW.2) (fun hHeld => ?_)
          generalize hWg : World.drew _ = W3 at hIW hHeld ⊢
          clear hWg
          refine tkA (i := 0) (oi := ⟨some 38, .fieldAddr 78 (.tmp 1) 4, 0, "types.go:208", #[], none⟩) ?_
          try simp only [Act.put, lA, l0, lS]
          refine tkA (i := 1) (oi := ⟨some 39, .load 66 (.tmp 38), 66, "types.go:208", #[⟨0, .data⟩], none⟩) ?_
          try simp only [Act.put, lA, l0, lS]
          refine tkA (i := 2) (oi := ⟨some 40, .move (.tmp 3), 70, "types.go:208", #[], none⟩) ?_
          try simp only [Act.put, lA, l0, lS]
          refine tkA (i := 3) (oi := ⟨some 41, .slice 70 (.tmp 40) (some (.const (.int IntKind.i64 1))) none none, 70, "types.go:208", #[⟨2, .data⟩], none⟩) ?_
          try simp only [Act.put, lA, l0, lS]
          refine tkA (i := 4) (oi := ⟨some 42, .nilCheck (.tmp 39), 0, "types.go:208", #[⟨1, .data⟩, ⟨0, .phase⟩, ⟨1, .phase⟩, ⟨2, .phase⟩, ⟨3, .phase⟩], none⟩) ?_
          try simp only [Act.put, lA, l0, lS]
          refine tkA (i := 5) (oi := ⟨some 43, .fieldAddr 76 (.tmp 42) 4, 0, "types.go:208", #[⟨4, .data⟩, ⟨0, .phase⟩, ⟨1, .phase⟩, ⟨2, .phase⟩, ⟨3, .phase⟩], none⟩) ?_
          try simp only [Act.put, lA, l0, lS]
          refine wpAnyH_ready (rs := [6]) (by kernel_rfl) (by simp) ?_
          refine AllReadyH.cons (o := ⟨none, .store 70 (.tmp 43) (.tmp 41), 0, "types.go:208", #[⟨5, .data⟩, ⟨3, .data⟩, ⟨0, .phase⟩, ⟨1, .phase⟩, ⟨2, .phase⟩, ⟨3, .phase⟩], none⟩) rfl (fun K hK => ?_) AllReadyH.nil
          obtain ⟨W3x, hV0⟩ : ∃ V, W3.setCell ⟨bk, 4, none⟩ vz = V := ⟨_, rfl⟩
          have hW3x : W3x.heap[b0]? = some (.cells #[.pointer (some ⟨A.g, 0, none⟩), .int .i64 ty, .int .i64 fl, .int .i64 st, .string da, .int .i64 pa, .int .i64 de, .bool ex, .int .i64 wt, .int .i64 co, .int .i64 la, p, .bool s, .pointer (some ⟨wa, 0, none⟩), .pointer (some ⟨bk, 0, none⟩)] 78 (0, 0)) := by rw [← hV0]; exact (setCell_other _ _ _ _ _ HNb.out).trans hIW.2
          have HZ : Hid (LJ w0 W3x (A.upd u { A.w u with pv := vz }) (k.upd u fun y => { y with pg := r }) m) := by rw [← hV0, HW.out.2.1]; exact (hIW.1.push u (Gr.cut HV.out.2) (HV.out.1 _ hIW.1)).2
          have cz : W3.cell? ⟨bk, 4, none⟩ = some (A.w u).pv := by rw [HW.out.2.1]; exact (hIW.1.wi u).cells.2.2.2.2.1
          have fz : W3.frozen? ⟨bk, 4, none⟩ = false := by rw [HW.out.2.1]; exact frozen_blk (hIW.1.wi u).blk 4
          have HVz := hid HVV.out
          go_simp
          go_wp2_with fail
          try rw [HVV.out]
          try rw [hV0]
          refine hK.out _ _ (hSb.out _ hW3x) (fun hHeld => ?_)
          clear hK K hV0 fz cz HVz
          try simp only [Act.put, lA, l0, lS]
          refine wpAnyH_done (by kernel_rfl) ?_ _
          clear hHeld
          go_wp2_with fail
          go_ret
          exact ⟨by rw [HQ.out]; rfl, A.upd u { A.w u with pv := vz }, rfl, (by first | exact fun u' => LA.upd_g A u _ u' | exact ⟨LA.upd_g A u _ _, LA.upd_g A u _ _⟩), by rw [HQ.out]; exact HZ.out.more (by omega)⟩
        · obtain ⟨c2, rfl⟩ : ∃ c2, cap = c2 + 2 := ⟨cap - 2, by omega⟩
          have h1r : (1 : Int) ≤ (rl : Int) + 1 := by omega
          obtain ⟨vz, hvz⟩ : ∃ v : Value, .slice (some ⟨g, off + 1, none⟩) rl (c2 + 1) = v := ⟨_, rfl⟩
          have HVV := hid hvz
          have HV : Hid ((∀ V, LJ w0 V A k m → WSr V vz r) ∧ ∀ j, vz.ownBlock = some j → (A.w u).pv.ownBlock = some j) := ⟨fun V hV => by rw [← hvz]; exact (HF.out.2 V hV).2 hcap, fun j hj => by rw [← hvz] at hj; rw [HF.out.1]; exact hj⟩
          clear hvz
          go_upto_region 7 with fail
          have hIW : LJ w0 HH0.drew A k m ∧ HH0.drew.heap[b0]? = some (.cells #[.pointer (some ⟨A.g, 0, none⟩), .int .i64 ty, .int .i64 fl, .int .i64 st, .string da, .int .i64 pa, .int .i64 de, .bool ex, .int .i64 wt, .int .i64 co, .int .i64 la, p, .bool s, .pointer (some ⟨wa, 0, none⟩), .pointer (some ⟨bk, 0, none⟩)] 78 (0, 0)) := ⟨HE.out.1.dr, HE.out.2⟩
          refine wp_region_held_drew (S := (fun V => V.cell? ⟨b0, 0, none⟩ = some (.pointer (some ⟨A.g, 0, none⟩)) ∧ V.cell? ⟨b0, 1, none⟩ = some (.int .i64 ty) ∧ V.cell? ⟨b0, 2, none⟩ = some (.int .i64 fl) ∧ V.cell? ⟨b0, 3, none⟩ = some (.int .i64 st) ∧ V.cell? ⟨b0, 4, none⟩ = some (.string da) ∧ V.cell? ⟨b0, 5, none⟩ = some (.int .i64 pa) ∧ V.cell? ⟨b0, 6, none⟩ = some (.int .i64 de) ∧ V.cell? ⟨b0, 7, none⟩ = some (.bool ex) ∧ V.cell? ⟨b0, 8, none⟩ = some (.int .i64 wt) ∧ V.cell? ⟨b0, 9, none⟩ = some (.int .i64 co) ∧ V.cell? ⟨b0, 10, none⟩ = some (.int .i64 la) ∧ V.cell? ⟨b0, 11, none⟩ = some p ∧ V.cell? ⟨b0, 12, none⟩ = some (.bool s) ∧ V.cell? ⟨b0, 13, none⟩ = some (.pointer (some ⟨wa, 0, none⟩)) ∧ V.cell? ⟨b0, 14, none⟩ = some (.pointer (some ⟨bk, 0, none⟩)))) (by kernel_rfl) (hSb.out _ hIW.2) (fun hHeld => ?_)
          generalize hWg : World.drew _ = W3 at hIW hHeld ⊢
          clear hWg
          refine tkA (i := 0) (oi := ⟨some 38, .fieldAddr 78 (.tmp 1) 4, 0, "types.go:208", #[], none⟩) ?_
          try simp only [Act.put, lA, l0, lS]
          refine tkA (i := 1) (oi := ⟨some 39, .load 66 (.tmp 38), 66, "types.go:208", #[⟨0, .data⟩], none⟩) ?_
          try simp only [Act.put, lA, l0, lS]
          refine tkA (i := 2) (oi := ⟨some 40, .move (.tmp 3), 70, "types.go:208", #[], none⟩) ?_
          try simp only [Act.put, lA, l0, lS]
          refine tkA (i := 3) (oi := ⟨some 41, .slice 70 (.tmp 40) (some (.const (.int IntKind.i64 1))) none none, 70, "types.go:208", #[⟨2, .data⟩], none⟩) ?_
          try simp only [Act.put, lA, l0, lS]
          refine tkA (i := 4) (oi := ⟨some 42, .nilCheck (.tmp 39), 0, "types.go:208", #[⟨1, .data⟩, ⟨0, .phase⟩, ⟨1, .phase⟩, ⟨2, .phase⟩, ⟨3, .phase⟩], none⟩) ?_
          try simp only [Act.put, lA, l0, lS]
          refine tkA (i := 5) (oi := ⟨some 43, .fieldAddr 76 (.tmp 42) 4, 0, "types.go:208", #[⟨4, .data⟩, ⟨0, .phase⟩, ⟨1, .phase⟩, ⟨2, .phase⟩, ⟨3, .phase⟩], none⟩) ?_
          try simp only [Act.put, lA, l0, lS]
          refine wpAnyH_ready (rs := [6]) (by kernel_rfl) (by simp) ?_
          refine AllReadyH.cons (o := ⟨none, .store 70 (.tmp 43) (.tmp 41), 0, "types.go:208", #[⟨5, .data⟩, ⟨3, .data⟩, ⟨0, .phase⟩, ⟨1, .phase⟩, ⟨2, .phase⟩, ⟨3, .phase⟩], none⟩) rfl (fun K hK => ?_) AllReadyH.nil
          obtain ⟨W3x, hV0⟩ : ∃ V, W3.setCell ⟨bk, 4, none⟩ vz = V := ⟨_, rfl⟩
          have hW3x : W3x.heap[b0]? = some (.cells #[.pointer (some ⟨A.g, 0, none⟩), .int .i64 ty, .int .i64 fl, .int .i64 st, .string da, .int .i64 pa, .int .i64 de, .bool ex, .int .i64 wt, .int .i64 co, .int .i64 la, p, .bool s, .pointer (some ⟨wa, 0, none⟩), .pointer (some ⟨bk, 0, none⟩)] 78 (0, 0)) := by rw [← hV0]; exact (setCell_other _ _ _ _ _ HNb.out).trans hIW.2
          have HZ : Hid (LJ w0 W3x (A.upd u { A.w u with pv := vz }) (k.upd u fun y => { y with pg := r }) m) := by rw [← hV0, HW.out.2.1]; exact (hIW.1.push u (Gr.cut HV.out.2) (HV.out.1 _ hIW.1)).2
          have cz : W3.cell? ⟨bk, 4, none⟩ = some (A.w u).pv := by rw [HW.out.2.1]; exact (hIW.1.wi u).cells.2.2.2.2.1
          have fz : W3.frozen? ⟨bk, 4, none⟩ = false := by rw [HW.out.2.1]; exact frozen_blk (hIW.1.wi u).blk 4
          have HVz := hid HVV.out
          go_simp
          go_wp2_with fail
          try rw [HVV.out]
          try rw [hV0]
          refine hK.out _ _ (hSb.out _ hW3x) (fun hHeld => ?_)
          clear hK K hV0 fz cz HVz
          try simp only [Act.put, lA, l0, lS]
          refine wpAnyH_done (by kernel_rfl) ?_ _
          clear hHeld
          go_wp2_with fail
          go_ret
          exact ⟨by rw [HQ.out]; rfl, A.upd u { A.w u with pv := vz }, rfl, (by first | exact fun u' => LA.upd_g A u _ u' | exact ⟨LA.upd_g A u _ _, LA.upd_g A u _ _⟩), by rw [HQ.out]; exact HZ.out.more (by omega)⟩
      · have HQ : Hid (R = (k, 1)) := by show _ = _; rw [HX.out]; exact if_neg hx
        have hxb : (x.toList == da.toList) = false := beq_eq_false_iff_ne.2 fun h => hx (ByteArray.ext (Array.ext' (by simpa [ByteArray.toList_eq] using h)))
        simp only [hz0, hxb, Bool.false_or, Bool.not_true, Bool.not_false]
        go_wp2_with fail
        go_ret
        exact ⟨by rw [HQ.out]; rfl, A, rfl, (by first | exact fun u => rfl | exact ⟨rfl, rfl⟩), by rw [HQ.out]; exact HE.out.1.more (by omega)⟩
end Go.Proofs.YtfmljlflnpmceaaGreatDoor
/- The windows of all streams move. -/
namespace Go.Proofs.YtfmljlflnpmceaaGreatDoor
open Go.RowKit
set_option linter.unusedVariables false
set_option linter.unusedSimpArgs false
theorem In.num {w : World} {v : Value} {l : List Int} (h : In EI w v l) (k : Nat) (hk : k < l.length) : ∃ B off cap, v = .slice (some ⟨B, off, none⟩) l.length cap ∧ B < w.heap.size ∧ w.cell? ⟨B, off + k, none⟩ = some (.int .i64 l[k]) := by
  obtain ⟨B, off, cap, h1, h2, h3⟩ := h.get okI k hk
  refine ⟨B, off, cap, h1, h2, ?_⟩
  have := h3 0 _ rfl
  simpa [EI] using this
theorem ot2 : Ot 2 := by unfold Ot; decide
theorem R.kept {w w' : World} {v : Value} {l : List Int} (h : R EI w v l) (hk : KpO w w') : R EI w' v l := h.stays fun j hj hl => by
  obtain ⟨c, hc⟩ := h.ty j hj
  exact (hk _ _ _ _ hc ot2).trans hc.symm
def Lk.rws (k : Lk) (s : Bool) (L : Mp) : Lk := k.upd s fun y => { y with rw := L }
theorem Lk.rws_self (k : Lk) (s : Bool) : k.rws s (k.wy s).rw = k := by
  obtain ⟨T, wy⟩ := k
  unfold Lk.rws Lk.upd
  congr 1
  funext t
  by_cases e : t = s <;> simp [e]
theorem Lk.rws_wy (k : Lk) (s : Bool) (L : Mp) : ((k.rws s L).wy s).rw = L := by simp [Lk.rws, Lk.upd]
theorem LJ.shiftR {w0 w : World} {A : LA} {k : Lk} {m : Nat} (s : Bool) {L : Mp} (h : LJ w0 w A (k.rws s L) m) (id n : Int) {kk : Nat} (hq : (A.w s).q id = some kk) : Calls Tryz.prog 82 #[.pointer (some ⟨kk, 0, none⟩), .int .i64 n] w fun e w' => e = .returned (.int .i64 (sfC ((look L id).getD 0) n)) ∧ LJ w0 w' A (k.rws s (putm L id (sfN ((look L id).getD 0) n))) m ∧ KpO w w' := by
  have := h.shiftS s id n hq
  rw [Lk.rws_wy] at this
  refine this.mono ?_
  rintro e w' ⟨rfl, h1, h2⟩
  refine ⟨rfl, ?_, h2⟩
  have e : ((k.rws s L).upd s fun y => { y with rw := putm y.rw id (sfN ((look L id).getD 0) n) }) = k.rws s (putm L id (sfN ((look L id).getD 0) n)) := by
    unfold Lk.rws
    rw [Lk.upd_upd]
  rw [← e]
  exact h1
theorem shiftL_cons (L : Mp) (n id : Int) (r : List Int) : shiftL L n (id :: r) = if sfC ((look L id).getD 0) n = 0 then shiftL (putm L id (sfN ((look L id).getD 0) n)) n r else (putm L id (sfN ((look L id).getD 0) n), sfC ((look L id).getD 0) n) := rfl
theorem live_mem {T : Tb} (h : T.Ok) {id : Int} (hm : id ∈ T.live) : I64 id ∧ ∃ v, look T.L id = some v := by
  obtain ⟨v, hv, _⟩ := (mem_keys h.srt _ id).1 hm
  have := h.look_range hv
  exact ⟨by unfold I64; omega, v, hv⟩
/-- the state of the walk through the streams -/
def ShJ (w0 W : World) (A : LA) (k : Lk) (m : Nat) (s : Bool) (n : Int) (b0 : Nat) (c : Array Value) (v : Value) (ids : List Int) (i : Nat) : Prop :=
  ∃ L, shiftL (k.wy s).rw n ids = shiftL L n (ids.drop i) ∧ Srt L ∧ (∀ id ∈ ids, (look L id).isSome = true) ∧ LJ w0 W A (k.rws s L) m ∧ R EI W v ids ∧ W.heap[b0]? = some (.cells c 78 (0, 0))
set_option maxRecDepth 100000 in
set_option maxHeartbeats 40000000 in
theorem shiftW_any (t : Tn) (n : Int) (w0 w : World) (A : LA) (k : Lk) (m : Nat) (h : LJ w0 w A k m) (hv : Lv k) (hg : t.lk = A.g) (hw : t.wa = (A.w t.s).g) :
    Calls Tryz.prog 78 #[.agg (tnv t), .int .i64 n] w fun r w' => r = .returned (.int .i64 (if n = 0 then 0 else (shiftL (k.wy t.s).rw n k.T.live).2)) ∧ LJ w0 w' A (if n = 0 then k else k.rws t.s (shiftL (k.wy t.s).rw n k.T.live).1) m := by
  obtain ⟨Q, hQ⟩ : ∃ Q, shiftL (k.wy t.s).rw n k.T.live = Q := ⟨_, rfl⟩
  obtain ⟨ids, hids⟩ : ∃ l, k.T.live = l := ⟨_, rfl⟩
  have HI : Hid (∀ id ∈ ids, I64 id ∧ (look (k.wy t.s).rw id).isSome = true) := fun id hm => by
    rw [← hids] at hm
    obtain ⟨h1, v, h2⟩ := live_mem h.ti.ok hm
    exact ⟨h1, hv t.s id v h2⟩
  have HQ : Hid (shiftL (k.wy t.s).rw n ids = Q ∧ Srt (k.wy t.s).rw) := ⟨by rw [← hids]; exact hQ, (h.wi t.s).srt⟩
  rw [hQ]
  obtain ⟨W1, hW1⟩ : ∃ V, w.alloc (.cells (tnv t) 78) = V := ⟨_, rfl⟩
  obtain ⟨b0, hb'⟩ : ∃ q, w.heap.size = q := ⟨_, rfl⟩
  have b1 : Below w.heap.size w W1 := by rw [← hW1]; exact bel1 _ _
  have hb0 : W1.heap[b0]? = some (.cells (tnv t) 78 (0, 0)) := by rw [← hW1, ← hb', heap_al, if_pos rfl]
  have HL0 : Hid (LJ w0 W1 A k m ∧ W1.heap[b0]? = some (.cells (tnv t) 78 (0, 0))) := ⟨h.below b1, hb0⟩
  have HLv : Hid (∀ V, LJ w0 V A k m → Calls Tryz.prog 111 #[.pointer (some ⟨A.p, 0, none⟩)] V fun e w' => ∃ v, e = .returned v ∧ R EI w' v ids ∧ Below V.heap.size V w') := fun V hV => by
    refine (live_any V A.p A.mb k.T hV.ti).mono ?_
    rintro e w' ⟨v, rfl, h1, _, h2⟩
    exact ⟨v, rfl, by rw [← hids]; exact h1, h2⟩
  have yg : W1.cell? ⟨t.lk, 0, none⟩ = some (.pointer (some ⟨A.p, 0, none⟩)) := by rw [hg]; exact HL0.out.1.cell0
  have HW : Hid (t.wa = (A.w t.s).g) := hw
  have j0 := cell_blk hb0 0
  have j1 := cell_blk hb0 1
  have j2 := cell_blk hb0 2
  have j3 := cell_blk hb0 3
  have j4 := cell_blk hb0 4
  have j5 := cell_blk hb0 5
  have j6 := cell_blk hb0 6
  have j7 := cell_blk hb0 7
  have j8 := cell_blk hb0 8
  have j9 := cell_blk hb0 9
  have j10 := cell_blk hb0 10
  have j11 := cell_blk hb0 11
  have j12 := cell_blk hb0 12
  have j13 := cell_blk hb0 13
  have j14 := cell_blk hb0 14
  clear h hv hw b1 hb0 hQ hids
  obtain ⟨lk, ⟨ty, fl, st, da, pa, de, ex, wt, co, la⟩, p, s, wa, bk⟩ := t
  simp only at hg HI HQ HW yg
  subst hg
  simp only [tnv] at hW1 HL0 j0 j1 j2 j3 j4 j5 j6 j7 j8 j9 j10 j11 j12 j13 j14 ⊢
  simp only [List.getElem?_toArray, List.getElem?_cons_succ, List.getElem?_cons_zero] at j0 j1 j2 j3 j4 j5 j6 j7 j8 j9 j10 j11 j12 j13 j14
  have hSb : Hid (∀ V : World, V.heap[b0]? = some (.cells #[.pointer (some ⟨A.g, 0, none⟩), .int .i64 ty, .int .i64 fl, .int .i64 st, .string da, .int .i64 pa, .int .i64 de, .bool ex, .int .i64 wt, .int .i64 co, .int .i64 la, p, .bool s, .pointer (some ⟨wa, 0, none⟩), .pointer (some ⟨bk, 0, none⟩)] 78 (0, 0)) → V.cell? ⟨b0, 0, none⟩ = some (.pointer (some ⟨A.g, 0, none⟩)) ∧ V.cell? ⟨b0, 1, none⟩ = some (.int .i64 ty) ∧ V.cell? ⟨b0, 2, none⟩ = some (.int .i64 fl) ∧ V.cell? ⟨b0, 3, none⟩ = some (.int .i64 st) ∧ V.cell? ⟨b0, 4, none⟩ = some (.string da) ∧ V.cell? ⟨b0, 5, none⟩ = some (.int .i64 pa) ∧ V.cell? ⟨b0, 6, none⟩ = some (.int .i64 de) ∧ V.cell? ⟨b0, 7, none⟩ = some (.bool ex) ∧ V.cell? ⟨b0, 8, none⟩ = some (.int .i64 wt) ∧ V.cell? ⟨b0, 9, none⟩ = some (.int .i64 co) ∧ V.cell? ⟨b0, 10, none⟩ = some (.int .i64 la) ∧ V.cell? ⟨b0, 11, none⟩ = some p ∧ V.cell? ⟨b0, 12, none⟩ = some (.bool s) ∧ V.cell? ⟨b0, 13, none⟩ = some (.pointer (some ⟨wa, 0, none⟩)) ∧ V.cell? ⟨b0, 14, none⟩ = some (.pointer (some ⟨bk, 0, none⟩))) := fun V h1 => ⟨cell_blk h1 0, cell_blk h1 1, cell_blk h1 2, cell_blk h1 3, cell_blk h1 4, cell_blk h1 5, cell_blk h1 6, cell_blk h1 7, cell_blk h1 8, cell_blk h1 9, cell_blk h1 10, cell_blk h1 11, cell_blk h1 12, cell_blk h1 13, cell_blk h1 14⟩
  by_cases hn0 : n = 0
  · subst hn0
    simp only [if_true]
    go_enter Tryz.func78, Tryz.ntmps78
    go_wp2_with fail
    try rw [hW1]
    try rw [hb']
    clear hW1 hb'
    go_wp2_with fail
    go_ret
    exact ⟨rfl, HL0.out.1⟩
  have hnb : (n == 0) = false := beq_eq_false_iff_ne.2 hn0
  simp only [hn0, if_false]
  go_enter Tryz.func78, Tryz.ntmps78
  go_wp2_with fail
  try rw [hW1]
  try rw [hb']
  clear hW1 hb'
  go_at_call 111
  refine (HLv.out _ HL0.out.1).mono ?_
  rintro e' V1 ⟨v, rfl, hR, hB⟩
  obtain ⟨vb, vc, hvs, hc1, hc2⟩ := hR.slice
  obtain ⟨z, hz⟩ : ∃ z, ids.length = z := ⟨_, rfl⟩
  have HZ : Hid (ids.length = z) := hz
  rw [hz] at hvs hc1
  subst hvs
  have HS0 : Hid (ShJ w0 V1 A k m s n b0 #[.pointer (some ⟨A.g, 0, none⟩), .int .i64 ty, .int .i64 fl, .int .i64 st, .string da, .int .i64 pa, .int .i64 de, .bool ex, .int .i64 wt, .int .i64 co, .int .i64 la, p, .bool s, .pointer (some ⟨wa, 0, none⟩), .pointer (some ⟨bk, 0, none⟩)] (.slice vb z vc) ids 0) := ⟨(k.wy s).rw, by simp, HQ.out.2, fun id hm => (HI.out id hm).2, by rw [Lk.rws_self]; exact HL0.out.1.below hB, hR, (hB.block _ (heap_lt HL0.out.2)).trans HL0.out.2⟩
  clear j0 j1 j2 j3 j4 j5 j6 j7 j8 j9 j10 j11 j12 j13 j14 hR hB hz yg HL0 HLv
  go_wp2_with fail
  go_loopw [17] (fun i wr => ∃ j : Nat, j ≤ z ∧ i = .int .i64 (j : Int) ∧ Hid (ShJ w0 wr A k m s n b0 #[.pointer (some ⟨A.g, 0, none⟩), .int .i64 ty, .int .i64 fl, .int .i64 st, .string da, .int .i64 pa, .int .i64 de, .bool ex, .int .i64 wt, .int .i64 co, .int .i64 la, p, .bool s, .pointer (some ⟨wa, 0, none⟩), .pointer (some ⟨bk, 0, none⟩)] (.slice vb z vc) ids j)) (fun i _ => z - (intOf i).toNat)
  case atStart => exact ⟨0, Nat.zero_le _, rfl, HS0.out⟩
  case round =>
    obtain ⟨j, hj, rfl, HP⟩ := hrel
    obtain ⟨L, h1, h2, h3, h4, h5, h6⟩ := HP.out
    have hlen := HZ.out
    by_cases hlt : j < z
    · obtain ⟨B, off, cap, hvb, hBl, d1⟩ := h5.isIn.num j (by omega)
      injection hvb with e1 e2 e3
      subst e1
      clear e2 e3
      obtain ⟨id, hid'⟩ : ∃ x, ids[j]'(by omega) = x := ⟨_, rfl⟩
      rw [hid'] at d1
      have hmem : id ∈ ids := by rw [← hid']; exact List.getElem_mem _
      have hlki := h3 id hmem
      have hdrop : ids.drop j = id :: ids.drop (j + 1) := by rw [← hid']; exact List.drop_eq_getElem_cons (by omega)
      rw [hdrop, shiftL_cons] at h1
      obtain ⟨kk, hkk⟩ := h4.at_q s (by rw [Lk.rws_wy]; exact hlki)
      have hlook := h4.lookS s (HI.out id hmem).1 hkk
      obtain ⟨wv, hwv⟩ : ∃ v, (A.w s).wb = v := ⟨_, rfl⟩
      have c9 : wr.cell? ⟨wa, 9, none⟩ = some (.map (some wv)) := by rw [HW.out, ← hwv]; exact (h4.wi s).cells.2.2.2.2.2.2.2.2.2.1
      rw [hwv] at hlook
      obtain ⟨cd, hcd⟩ : ∃ v, sfC ((look L id).getD 0) n = v := ⟨_, rfl⟩
      obtain ⟨L2, hL2⟩ : ∃ v, putm L id (sfN ((look L id).getD 0) n) = v := ⟨_, rfl⟩
      have HSh : Hid (Calls Tryz.prog 82 #[.pointer (some ⟨kk, 0, none⟩), .int .i64 n] wr fun e w' => e = .returned (.int .i64 cd) ∧ LJ w0 w' A (k.rws s L2) m ∧ KpO wr w') := by
        have := LJ.shiftR s h4 id n hkk
        rw [hcd, hL2] at this
        exact this
      rw [hcd, hL2] at h1
      have HX : Hid (Q = if cd = 0 then shiftL L2 n (ids.drop (j + 1)) else (L2, cd)) := by show _ = _; rw [← HQ.out.1]; exact h1
      have HK : Hid (R EI wr (.slice (some ⟨B, off, none⟩) z vc) ids ∧ wr.heap[b0]? = some (.cells #[.pointer (some ⟨A.g, 0, none⟩), .int .i64 ty, .int .i64 fl, .int .i64 st, .string da, .int .i64 pa, .int .i64 de, .bool ex, .int .i64 wt, .int .i64 co, .int .i64 la, p, .bool s, .pointer (some ⟨wa, 0, none⟩), .pointer (some ⟨bk, 0, none⟩)] 78 (0, 0)) ∧ Srt L2 ∧ (∀ i ∈ ids, (look L2 i).isSome = true) ∧ shiftL (k.wy s).rw n ids = if cd = 0 then shiftL L2 n (ids.drop (j + 1)) else (L2, cd)) := ⟨h5, h6, by rw [← hL2]; exact h2.putm _ _, fun i hi => by
        rw [← hL2, look_putm h2]
        split
        · rfl
        · exact h3 i hi, h1⟩
      obtain ⟨j0, j1, j2, j3, j4, j5, j6, j7, j8, j9, j10, j11, j12, j13, j14⟩ := hSb.out _ h6
      have hlti : (j : Int) < (z : Int) := by omega
      clear h1 h2 h3 h4 h5 h6 HP hlen hid' hmem hlki hdrop hkk hwv hcd hL2
      go_wp2_with fail
      go_at_call 82
      refine HSh.out.mono ?_
      rintro e' V2 ⟨rfl, x1, x2⟩
      have HL2 : Hid (LJ w0 V2 A (k.rws s L2) m) := x1
      have HN : Hid (cd = 0 → ShJ w0 V2 A k m s n b0 #[.pointer (some ⟨A.g, 0, none⟩), .int .i64 ty, .int .i64 fl, .int .i64 st, .string da, .int .i64 pa, .int .i64 de, .bool ex, .int .i64 wt, .int .i64 co, .int .i64 la, p, .bool s, .pointer (some ⟨wa, 0, none⟩), .pointer (some ⟨bk, 0, none⟩)] (.slice (some ⟨B, off, none⟩) z vc) ids (j + 1)) := fun hc => ⟨L2, by rw [HK.out.2.2.2.2, if_pos hc], HK.out.2.2.1, HK.out.2.2.2.1, x1, HK.out.1.kept x2, x2 _ _ _ _ HK.out.2.1 ot78⟩
      clear x1 x2 j0 j1 j2 j3 j4 j5 j6 j7 j8 j9 j10 j11 j12 j13 j14 HSh HK hlook c9 d1
      by_cases hc : cd = 0
      · subst hc
        have hjw : wrap64 ((j : Int) + 1) = ((j + 1 : Nat) : Int) := by unfold wrap64; omega
        go_wp2_with fail
        go_roundw
        case rel => exact ⟨j + 1, by omega, by first | rfl | (rw [hjw]) | simp, HN.out (by first | rfl | trivial)⟩
        case measure => simp [intOf]; omega
      · have hcb : (cd == 0) = false := beq_eq_false_iff_ne.2 hc
        have HQ2 : Hid (Q = (L2, cd)) := by show _ = _; rw [HX.out, if_neg hc]
        go_wp2_with fail
        go_ret
        exact ⟨by rw [HQ2.out]; rfl, by rw [HQ2.out]; exact HL2.out⟩
    · have hnlt : ¬ (j : Int) < (z : Int) := by omega
      have HQ2 : Hid (Q = (L, 0)) := by
        show _ = _
        rw [← HQ.out.1, h1, List.drop_eq_nil_of_le (by omega)]
        rfl
      have HL2 : Hid (LJ w0 wr A (k.rws s L) m) := h4
      clear h1 h2 h3 h4 h5 h6 HP hlen
      go_wp2_with fail
      go_ret
      exact ⟨by rw [HQ2.out]; rfl, by rw [HQ2.out]; exact HL2.out⟩
end Go.Proofs.YtfmljlflnpmceaaGreatDoor
/- SETTINGS are acknowledged. -/
namespace Go.Proofs.YtfmljlflnpmceaaGreatDoor
open Go.RowKit
set_option linter.unusedVariables false
set_option linter.unusedSimpArgs false
variable {w0 w w' : World} {A : LA} {k : Lk} {m : Nat}
theorem LJ.book (h : LJ w0 w A k m) (s : Bool) {v : Value} {x : St} {T : List St} (hB : Bk w' (A.w s).b (k.wy s).cl x v T) (hk : Ks (Own (A.w s).b (A.w s).bv) w w') (hv : ∀ j, v.ownBlock = some j → (A.w s).bv.ownBlock = some j ∨ w.heap.size ≤ j) :
    LJ w0 w' (A.upd s { A.w s with bv := v }) (k.upd s fun y => { y with ac := x, wt := T }) m ∧ KpO w w' ∧ Ks (WB (A.w s)) w w' := by
  have hi := h.wi s
  have hno : ∀ {j : Nat} {cc : Array Value} {t : TypeId} {fz : Nat × Nat}, w.heap[j]? = some (.cells cc t fz) → t ≠ 101 → t ≠ 92 → ¬ Own (A.w s).b (A.w s).bv j := fun hb h1 h2 e => e.elim (fun e => ty_ne hb hi.bk.blk h1 e) fun e => by
    obtain ⟨c, hc⟩ := bk_row_ty hi.bk e
    exact ty_ne hb hc h2 rfl
  have c : ∀ {j : Nat} {cc : Array Value} {t : TypeId} {fz : Nat × Nat}, w.heap[j]? = some (.cells cc t fz) → t ≠ 101 → t ≠ 92 → w'.heap[j]? = w.heap[j]? := fun hb h1 h2 => hk.block _ (heap_lt hb) (hno hb h1 h2)
  have mp : ∀ {b : Nat} {g : Int → Option Value}, MV w b m g → MV w' b m g := fun hm => hm.stays (hk.block _ hm.lt fun e => e.elim (fun e => hm.ne hi.bk.blk e.symm) fun e => by
    obtain ⟨c, hc⟩ := bk_row_ty hi.bk e
    exact hm.ne hc rfl)
  have hx : WI w' { A.w s with bv := v } { k.wy s with ac := x, wt := T } m := {
    blk := (c hi.blk (by decide) (by decide)).trans hi.blk
    pg := hi.pg.same fun j hj => by
      obtain ⟨_, cc, hc⟩ := hi.pg.lt j hj
      exact c hc (by decide) (by decide)
    rs := mp hi.rs
    bk := hB
    rm := (c hi.rm (by decide) (by decide)).trans hi.rm
    rmB := hi.rmB
    rw := mp hi.rw
    rq := hi.rq
    rd := fun j q hq => by
      obtain ⟨n, h1, h2, h3⟩ := hi.rd j q hq
      exact ⟨n, h1, (c h2 (by decide) (by decide)).trans h2, h3⟩
    inj := hi.inj
    nr := hi.nr
    srt := hi.srt
    ne := hi.ne }
  have hks : Ks (WB (A.w s)) w w' := hk.mono fun i _ e => e.elim (fun e => .inr (.inr (.inr (.inl e)))) fun e => .inr (.inr (.inr (.inr (.inl e))))
  have h4 := h.way (s := s) hx rfl hks (fun j hj => by
    rcases hj with e | e | e | e | e | e | e | e
    · exact .inl (.inl e)
    · exact .inl (.inr (.inl e))
    · exact .inl (.inr (.inr (.inl e)))
    · exact .inl (.inr (.inr (.inr (.inl e))))
    · exact (hv j e).imp (fun e => .inr (.inr (.inr (.inr (.inl e))))) id
    · exact .inl (.inr (.inr (.inr (.inr (.inr (.inl e))))))
    · exact .inl (.inr (.inr (.inr (.inr (.inr (.inr (.inl e)))))))
    · exact .inl (.inr (.inr (.inr (.inr (.inr (.inr (.inr e))))))))
  refine ⟨?_, fun j cc t fz hj ht => (c hj ht.2.2.2.1 ht.2.2.2.2.1).trans hj, hks⟩
  rw [Lk.upd_const]
  exact h4
theorem LA.upd_gb (A : LA) (s : Bool) (v : Value) (u : Bool) : ((A.upd s { A.w s with bv := v }).w u).g = (A.w u).g := by
  unfold LA.upd
  by_cases e : u = s <;> simp [e]
def Lk.acks (k : Lk) (s : Bool) : Lk × Int :=
  match (k.wy s).wt with
  | [] => (k, 1)
  | x :: T =>
    let b := (k.wy s).ac
    let k1 := k.upd s fun w => { w with ac := x, wt := T }
    if x.win - b.win = 0 then (k1, 0)
    else
      let r := shiftL (k.wy s).rw (x.win - b.win) k.T.live
      (k1.upd s fun w => { w with rw := r.1 }, r.2)
def okW (x : St) : Prop := 0 ≤ x.win ∧ x.win ≤ 2147483647
theorem set6_new (V : World) (x : St) : Below V.heap.size V (V.alloc (.cells x.a 92)) ∧ (V.alloc (.cells x.a 92)).heap[V.heap.size]? = some (.cells x.a 92 (0, 0)) := ⟨bel1 _ _, by rw [heap_al, if_pos rfl]⟩
set_option maxRecDepth 100000 in
set_option maxHeartbeats 40000000 in
theorem acks_any (t : Tn) (w0 w : World) (A : LA) (k : Lk) (m : Nat) (h : LJ w0 w A k m) (hv : Lv k) (hg : t.lk = A.g) (hw : t.wa = (A.w t.s).g) (ha : okW (k.wy t.s).ac) (ht : ∀ x ∈ (k.wy t.s).wt, okW x) :
    Calls Tryz.prog 60 #[.agg (tnv t)] w fun r w' => r = .returned (.int .i64 (k.acks t.s).2) ∧ ∃ A', A'.g = A.g ∧ (∀ u, (A'.w u).g = (A.w u).g) ∧ LJ w0 w' A' (k.acks t.s).1 (m + 3) := by
  obtain ⟨R, hR⟩ : ∃ R, k.acks t.s = R := ⟨_, rfl⟩
  obtain ⟨⟨q1, q2, q3, q4, q5, q6⟩, hac⟩ : ∃ q : St, (k.wy t.s).ac = q := ⟨_, rfl⟩
  rw [hR]
  obtain ⟨W1, hW1⟩ : ∃ V, w.alloc (.cells (tnv t) 78) = V := ⟨_, rfl⟩
  obtain ⟨b0, hb'⟩ : ∃ q, w.heap.size = q := ⟨_, rfl⟩
  have b1 : Below w.heap.size w W1 := by rw [← hW1]; exact bel1 _ _
  have hb0 : W1.heap[b0]? = some (.cells (tnv t) 78 (0, 0)) := by rw [← hW1, ← hb', heap_al, if_pos rfl]
  have HL0 : Hid (LJ w0 W1 A k m ∧ W1.heap[b0]? = some (.cells (tnv t) 78 (0, 0))) := ⟨h.below b1, hb0⟩
  have HAc : Hid (∀ V, LJ w0 V A k m → Calls Tryz.prog 37 #[.pointer (some ⟨(A.w t.s).b, 0, none⟩)] V fun e w' => e = .returned (.agg #[.int .i64 q1, .int .i64 q2, .int .i64 q3, .int .i64 q4, .int .i64 q5, .int .i64 q6]) ∧ Below V.heap.size V w') := fun V hV => by
    have := acked_any V _ _ _ _ _ (hV.wi t.s).bk
    rw [hac] at this
    exact this
  have HC7 : Hid (∀ V, LJ w0 V A k m → V.cell? ⟨t.wa, 7, none⟩ = some (.pointer (some ⟨(A.w t.s).b, 0, none⟩)) ∧ t.wa < V.heap.size) := fun V hV => by
    rw [hw]
    exact ⟨(hV.wi t.s).cells.2.2.2.2.2.2.2.1, heap_lt (hV.wi t.s).blk⟩
  have c7 := (HC7.out _ HL0.out.1).1
  have HW : Hid (t.wa = (A.w t.s).g ∧ Lv k ∧ k.acks t.s = R ∧ (k.wy t.s).ac = ⟨q1, q2, q3, q4, q5, q6⟩ ∧ okW ⟨q1, q2, q3, q4, q5, q6⟩ ∧ ∀ x ∈ (k.wy t.s).wt, okW x) := ⟨hw, hv, hR, hac, by rw [← hac]; exact ha, ht⟩
  have HSf : Hid (∀ (n : Int) (V : World) (A1 : LA) (k1 : Lk), LJ w0 V A1 k1 m → Lv k1 → A1.g = A.g → (A1.w t.s).g = (A.w t.s).g → Calls Tryz.prog 78 #[.agg (tnv t), .int .i64 n] V fun r w' => r = .returned (.int .i64 (if n = 0 then 0 else (shiftL (k1.wy t.s).rw n k1.T.live).2)) ∧ LJ w0 w' A1 (if n = 0 then k1 else k1.rws t.s (shiftL (k1.wy t.s).rw n k1.T.live).1) m) := fun n V A1 k1 hV hv1 g1 g2 => shiftW_any t n w0 V A1 k1 m hV hv1 (hg.trans g1.symm) (hw.trans g2.symm)
  have j0 := cell_blk hb0 0
  have j1 := cell_blk hb0 1
  have j2 := cell_blk hb0 2
  have j3 := cell_blk hb0 3
  have j4 := cell_blk hb0 4
  have j5 := cell_blk hb0 5
  have j6 := cell_blk hb0 6
  have j7 := cell_blk hb0 7
  have j8 := cell_blk hb0 8
  have j9 := cell_blk hb0 9
  have j10 := cell_blk hb0 10
  have j11 := cell_blk hb0 11
  have j12 := cell_blk hb0 12
  have j13 := cell_blk hb0 13
  have j14 := cell_blk hb0 14
  clear h hv hw hR hac b1 hb0 ha ht
  obtain ⟨lk, ⟨ty, fl, st, da, pa, de, ex, wt, co, la⟩, p, s, wa, bk⟩ := t
  simp only at hg HW HC7 c7 HAc HSf
  subst hg
  simp only [tnv] at hW1 HL0 HSf j0 j1 j2 j3 j4 j5 j6 j7 j8 j9 j10 j11 j12 j13 j14 ⊢
  simp only [List.getElem?_toArray, List.getElem?_cons_succ, List.getElem?_cons_zero] at j0 j1 j2 j3 j4 j5 j6 j7 j8 j9 j10 j11 j12 j13 j14
  have hSb : Hid (∀ V : World, V.heap[b0]? = some (.cells #[.pointer (some ⟨A.g, 0, none⟩), .int .i64 ty, .int .i64 fl, .int .i64 st, .string da, .int .i64 pa, .int .i64 de, .bool ex, .int .i64 wt, .int .i64 co, .int .i64 la, p, .bool s, .pointer (some ⟨wa, 0, none⟩), .pointer (some ⟨bk, 0, none⟩)] 78 (0, 0)) → V.cell? ⟨b0, 0, none⟩ = some (.pointer (some ⟨A.g, 0, none⟩)) ∧ V.cell? ⟨b0, 1, none⟩ = some (.int .i64 ty) ∧ V.cell? ⟨b0, 2, none⟩ = some (.int .i64 fl) ∧ V.cell? ⟨b0, 3, none⟩ = some (.int .i64 st) ∧ V.cell? ⟨b0, 4, none⟩ = some (.string da) ∧ V.cell? ⟨b0, 5, none⟩ = some (.int .i64 pa) ∧ V.cell? ⟨b0, 6, none⟩ = some (.int .i64 de) ∧ V.cell? ⟨b0, 7, none⟩ = some (.bool ex) ∧ V.cell? ⟨b0, 8, none⟩ = some (.int .i64 wt) ∧ V.cell? ⟨b0, 9, none⟩ = some (.int .i64 co) ∧ V.cell? ⟨b0, 10, none⟩ = some (.int .i64 la) ∧ V.cell? ⟨b0, 11, none⟩ = some p ∧ V.cell? ⟨b0, 12, none⟩ = some (.bool s) ∧ V.cell? ⟨b0, 13, none⟩ = some (.pointer (some ⟨wa, 0, none⟩)) ∧ V.cell? ⟨b0, 14, none⟩ = some (.pointer (some ⟨bk, 0, none⟩))) := fun V h1 => ⟨cell_blk h1 0, cell_blk h1 1, cell_blk h1 2, cell_blk h1 3, cell_blk h1 4, cell_blk h1 5, cell_blk h1 6, cell_blk h1 7, cell_blk h1 8, cell_blk h1 9, cell_blk h1 10, cell_blk h1 11, cell_blk h1 12, cell_blk h1 13, cell_blk h1 14⟩
  obtain ⟨bb, hbb⟩ : ∃ v, (A.w s).b = v := ⟨_, rfl⟩
  rw [hbb] at HC7 c7 HAc
  go_enter Tryz.func60, Tryz.ntmps60
  go_wp2_with fail
  try rw [hW1]
  try rw [hb']
  clear hW1 hb'
  go_at_call 37
  refine (HAc.out _ HL0.out.1).mono ?_
  rintro e' V1 ⟨rfl, hV1⟩
  have HL1 : Hid (LJ w0 V1 A k m ∧ V1.heap[b0]? = some (.cells #[.pointer (some ⟨A.g, 0, none⟩), .int .i64 ty, .int .i64 fl, .int .i64 st, .string da, .int .i64 pa, .int .i64 de, .bool ex, .int .i64 wt, .int .i64 co, .int .i64 la, p, .bool s, .pointer (some ⟨wa, 0, none⟩), .pointer (some ⟨bk, 0, none⟩)] 78 (0, 0))) := ⟨HL0.out.1.below hV1, (hV1.block _ (heap_lt HL0.out.2)).trans HL0.out.2⟩
  obtain ⟨V2, hV2⟩ : ∃ V, V1.alloc (.cells (St.mk q1 q2 q3 q4 q5 q6).a 92) = V := ⟨_, rfl⟩
  obtain ⟨b1, hb1⟩ : ∃ v, V1.heap.size = v := ⟨_, rfl⟩
  have hn := set6_new V1 ⟨q1, q2, q3, q4, q5, q6⟩
  rw [hV2] at hn
  have HL2 : Hid (LJ w0 V2 A k m ∧ V2.heap[b0]? = some (.cells #[.pointer (some ⟨A.g, 0, none⟩), .int .i64 ty, .int .i64 fl, .int .i64 st, .string da, .int .i64 pa, .int .i64 de, .bool ex, .int .i64 wt, .int .i64 co, .int .i64 la, p, .bool s, .pointer (some ⟨wa, 0, none⟩), .pointer (some ⟨bk, 0, none⟩)] 78 (0, 0)) ∧ V2.heap[b1]? = some (.cells (St.mk q1 q2 q3 q4 q5 q6).a 92 (0, 0)) ∧ ∀ j, LB A j → j ≠ b1) := ⟨HL1.out.1.below hn.1, (hn.1.block _ (heap_lt HL1.out.2)).trans HL1.out.2, by rw [← hb1]; exact hn.2, fun j hj => by have := HL1.out.1.lt hj; omega⟩
  clear HL0 hV1 HAc hn j0 j1 j2 j3 j4 j5 j6 j7 j8 j9 j10 j11 j12 j13 j14 c7
  simp only [St.a] at hV2
  obtain ⟨j0, j1, j2, j3, j4, j5, j6, j7, j8, j9, j10, j11, j12, j13, j14⟩ := hSb.out _ HL1.out.2
  have hltb : b1 < V1.heap.size + 1 := by omega
  obtain ⟨c7, lw⟩ := HC7.out _ HL2.out.1
  go_upto_region 2 with fail
  try rw [hb1]
  try rw [hV2]
  clear hV2 j0 j1 j2 j3 j4 j5 j6 j7 j8 j9 j10 j11 j12 j13 j14 hltb hb1 HL1
  obtain ⟨j0, j1, j2, j3, j4, j5, j6, j7, j8, j9, j10, j11, j12, j13, j14⟩ := hSb.out _ HL2.out.2.1
  cases hwt : (k.wy s).wt with
  | nil =>
    have HQ : Hid (R = (k, 1)) := by
      show _ = _
      rw [← HW.out.2.2.1]
      unfold Lk.acks
      rw [hwt]
    have HCk : Hid (Calls Tryz.prog 77 #[.pointer (some ⟨bb, 0, none⟩)] V2 fun e w' => e = .returned (.tuple #[.agg St.zero.a, .bool false]) ∧ Below V2.heap.size V2 w') := by
      have hB := (HL2.out.1.wi s).bk
      rw [hwt, hbb] at hB
      exact ack_none V2 _ _ _ _ hB
    simp only [St.a, St.zero] at HCk
    clear hwt
    go_wp2_with fail
    go_at_call 77
    refine HCk.out.mono ?_
    rintro e' V3 ⟨rfl, hV3⟩
    have HL3 : Hid (LJ w0 V3 A k m) := HL2.out.1.below hV3
    clear hV3 j0 j1 j2 j3 j4 j5 j6 j7 j8 j9 j10 j11 j12 j13 j14 c7 lw
    go_upto_region 3 with fail
    go_wp2_with fail
    go_ret
    exact ⟨by rw [HQ.out]; rfl, A, rfl, (by first | exact fun u => rfl | exact ⟨rfl, rfl⟩), by rw [HQ.out]; exact (HL3.out.below (bel1 _ _)).more (by omega)⟩
  | cons x T =>
    obtain ⟨x1, x2, x3, x4, x5, x6⟩ := x
    obtain ⟨n, hn0⟩ : ∃ n, x4 - q4 = n := ⟨_, rfl⟩
    obtain ⟨k1, hk1⟩ : ∃ v, (k.upd s fun w => { w with ac := ⟨x1, x2, x3, x4, x5, x6⟩, wt := T }) = v := ⟨_, rfl⟩
    have hlv1 : Lv k1 := by rw [← hk1]; exact HW.out.2.1.upd s _ (fun y => rfl)
    have hk1T : k1.T = k.T := by rw [← hk1]; rfl
    have hk1r : (k1.wy s).rw = (k.wy s).rw := by rw [← hk1]; simp [Lk.upd]
    obtain ⟨cz, hcz⟩ : ∃ v, (if n = 0 then (0 : Int) else (shiftL (k1.wy s).rw n k1.T.live).2) = v := ⟨_, rfl⟩
    obtain ⟨kz, hkz⟩ : ∃ v, (if n = 0 then k1 else k1.rws s (shiftL (k1.wy s).rw n k1.T.live).1) = v := ⟨_, rfl⟩
    have HCZ : Hid ((if n = 0 then (0 : Int) else (shiftL (k1.wy s).rw n k1.T.live).2) = cz ∧ (if n = 0 then k1 else k1.rws s (shiftL (k1.wy s).rw n k1.T.live).1) = kz) := ⟨hcz, hkz⟩
    have HQ : Hid (R = (kz, cz)) := by
      show _ = _
      rw [← hcz, ← hkz]
      rw [← HW.out.2.2.1, hk1T, hk1r]
      unfold Lk.acks
      rw [hwt]
      simp only
      rw [HW.out.2.2.2.1]
      simp only
      rw [hn0, hk1]
      by_cases e : n = 0
      · rw [if_pos e, if_pos e, if_pos e]
      · rw [if_neg e, if_neg e, if_neg e]
        rfl
    have hok4 : okW ⟨x1, x2, x3, x4, x5, x6⟩ := HW.out.2.2.2.2.2 _ (by rw [hwt]; exact List.mem_cons_self)
    have hokq := HW.out.2.2.2.2.1
    have hwn : wrap64 (x4 - q4) = n := by
      unfold okW at hok4 hokq
      simp only at hok4 hokq
      rw [hn0]; unfold wrap64; omega
    have HCk : Hid (Calls Tryz.prog 77 #[.pointer (some ⟨bb, 0, none⟩)] V2 fun e w' => e = .returned (.tuple #[.agg (St.mk x1 x2 x3 x4 x5 x6).a, .bool true]) ∧ ∃ v, LJ w0 w' (A.upd s { A.w s with bv := v }) k1 m ∧ w'.heap[b0]? = some (.cells #[.pointer (some ⟨A.g, 0, none⟩), .int .i64 ty, .int .i64 fl, .int .i64 st, .string da, .int .i64 pa, .int .i64 de, .bool ex, .int .i64 wt, .int .i64 co, .int .i64 la, p, .bool s, .pointer (some ⟨wa, 0, none⟩), .pointer (some ⟨bk, 0, none⟩)] 78 (0, 0)) ∧ w'.heap[b1]? = some (.cells (St.mk q1 q2 q3 q4 q5 q6).a 92 (0, 0))) := by
      have hB := (HL2.out.1.wi s).bk
      rw [hwt] at hB
      rw [← hbb]
      refine (ack_some V2 _ _ _ _ _ _ hB).mono ?_
      rintro e w' ⟨rfl, v, z1, z2, z3⟩
      obtain ⟨y1, y2, y3⟩ := HL2.out.1.book s z1 z2 (fun j hj => .inl (by rw [← z3]; exact hj))
      rw [hk1] at y1
      exact ⟨rfl, v, y1, y2 _ _ _ _ HL2.out.2.1 ot78, (y3.block _ (heap_lt HL2.out.2.2.1) fun e => HL2.out.2.2.2 _ (.inr (.inr (.inr ⟨s, e⟩))) rfl).trans HL2.out.2.2.1⟩
    have HV1 : Hid (Lv k1) := hlv1
    simp only [St.a] at HCk
    clear hwt hok4 hokq hlv1 hk1T hk1r hk1 hn0 hcz hkz
    go_wp2_with fail
    go_at_call 77
    refine HCk.out.mono ?_
    rintro e' V3 ⟨rfl, v, z1, z2, z3⟩
    obtain ⟨V4, hV4⟩ : ∃ V, V3.alloc (.cells (St.mk x1 x2 x3 x4 x5 x6).a 92) = V := ⟨_, rfl⟩
    obtain ⟨b2, hb2⟩ : ∃ v, V3.heap.size = v := ⟨_, rfl⟩
    have hn := set6_new V3 ⟨x1, x2, x3, x4, x5, x6⟩
    rw [hV4] at hn
    have HL4 : Hid (LJ w0 V4 (A.upd s { A.w s with bv := v }) k1 m ∧ V4.heap[b0]? = some (.cells #[.pointer (some ⟨A.g, 0, none⟩), .int .i64 ty, .int .i64 fl, .int .i64 st, .string da, .int .i64 pa, .int .i64 de, .bool ex, .int .i64 wt, .int .i64 co, .int .i64 la, p, .bool s, .pointer (some ⟨wa, 0, none⟩), .pointer (some ⟨bk, 0, none⟩)] 78 (0, 0))) := ⟨z1.below hn.1, (hn.1.block _ (heap_lt z2)).trans z2⟩
    have g1 : V4.heap[b1]? = some (.cells #[.int .i64 q1, .int .i64 q2, .int .i64 q3, .int .i64 q4, .int .i64 q5, .int .i64 q6] 92 (0, 0)) := (hn.1.block _ (heap_lt z3)).trans z3
    have g2 : V4.heap[b2]? = some (.cells (St.mk x1 x2 x3 x4 x5 x6).a 92 (0, 0)) := by rw [← hb2]; exact hn.2
    have e1 : V4.cell? ⟨b1, 3, none⟩ = some (.int .i64 q4) := cell_blk g1 3
    have e2 : V4.cell? ⟨b2, 3, none⟩ = some (.int .i64 x4) := cell_blk g2 3
    clear hn z1 z2 z3 j0 j1 j2 j3 j4 j5 j6 j7 j8 j9 j10 j11 j12 j13 j14 c7 lw g1 g2 HCk
    simp only [St.a] at hV4
    have hltb : b2 < V3.heap.size + 1 := by omega
    go_upto_region 3 with fail
    try rw [hb2]
    try rw [hV4]
    clear hV4 hb2 hltb
    obtain ⟨j0, j1, j2, j3, j4, j5, j6, j7, j8, j9, j10, j11, j12, j13, j14⟩ := hSb.out _ HL4.out.2
    go_wp2_with fail
    go_at_call 78
    have hsf := HSf.out n _ _ _ HL4.out.1 HV1.out rfl (LA.upd_gb A s v s)
    rw [HCZ.out.1, HCZ.out.2] at hsf
    refine hsf.mono ?_
    rintro e' V5 ⟨rfl, z⟩
    have HL5 := hid z
    clear z hsf
    go_wp2_with fail
    go_ret
    exact ⟨by rw [HQ.out]; rfl, A.upd s { A.w s with bv := v }, rfl, (by first | exact fun u => LA.upd_gb A s v u | exact ⟨LA.upd_gb A s v _, LA.upd_gb A s v _⟩), by rw [HQ.out]; exact HL5.out.more (by omega)⟩
end Go.Proofs.YtfmljlflnpmceaaGreatDoor
