/- The law's stores. -/
import Derived.Test.YtfponcdhaefkdaaDoorGc
import Derived.Deep.RegionHeld3
namespace Go.Proofs.YtfponcdhaefkdaaDoor
open Go.RowKit
set_option linter.unusedVariables false
set_option linter.unusedSimpArgs false
set_option maxHeartbeats 40000000 in
set_option maxRecDepth 100000 in
theorem stores_any (w0 W : World) (b g : Nat) (c : Ca) (y : SV) (L : List En) (z : SV) (B : List Kn) (h : Ci w0 W b g c y L z B c.ck) (o : Os) (ho : Oi w0 o) (i : Int) (hi : ∀ x ∈ B, x.st < i) (hp : B.Pairwise fun a b => a.st < b.st) (hme : c.me ≤ 64 ∧ c.mb ≤ 4096) :
    Calls Tryd.prog 19 #[.pointer (some ⟨b, 0, none⟩), .agg (opv o), .int .i64 i] W fun e W' => e = .returned (.bool true) ∧ ∃ (y' : SV) (L' : List En) (z' : SV) (B' : List Kn), Ci w0 W' b g (hr c o.tk) y' L' z' B' (hr c o.tk).ck ∧ (∀ x ∈ B', x.st ≤ i) ∧ B'.Pairwise fun a b => a.st < b.st := by
  obtain ⟨W1, hW1⟩ : ∃ V, W.alloc (.cells (opv o) 60) = V := ⟨_, rfl⟩
  obtain ⟨o0, ho0⟩ : ∃ k, W.heap.size = k := ⟨_, rfl⟩
  have hb1 : Below W.heap.size W W1 := by rw [← hW1]; exact bel1 _ _
  have hC1 : Cl w0 W1 b g c y L z B c.ck o0 o := ⟨h.below hb1, ⟨by rw [← hW1, ← ho0, heap_al, if_pos rfl], by decide⟩⟩
  obtain ⟨n1, hn1⟩ : ∃ n, max c.ck o.tk = n := ⟨_, rfl⟩
  have HC1 : Hid (Cl w0 W1 b g c y L z B c.ck o0 o) := hC1
  have HB64 : Hid (B.length ≤ 64) := by have := h.cx.ok.len; have := h.cx.ok.me; have := h.rl.len; show _ ≤ _; omega
  have hn1' : (hr c o.tk).ck = n1 := hn1
  have HN1 : Hid ((hr c o.tk).ck = n1 ∧ n1 ≤ 9223372036854775807) := ⟨hn1', by have := h.cx.ok.ck; have := ho.tk; omega⟩
  have HOi : Hid (Oi w0 o) := ho
  have HSt : Hid ((∀ x ∈ B, x.st < i) ∧ B.Pairwise fun a b => a.st < b.st) := ⟨hi, hp⟩
  obtain ⟨z1, z2, z3⟩ := z
  have hzl : z2 = B.length := by obtain ⟨_, _, e, _⟩ := h.bk.row.slice; simp only [sv] at e; injection e
  subst hzl
  obtain ⟨z2, hz2⟩ : ∃ n, B.length = n := ⟨_, rfl⟩
  have HZl : Hid (B.length = z2) := hz2
  rw [hz2] at HC1
  have HTot : Hid (totK B ≤ 4096) := by have h1 := h.rl.tot; have h2 := h.cx.ok.tot; show _ ≤ _; omega
  have HRl : Hid (Rl L B ∧ ∀ k ∈ B, 0 ≤ k.ar ∧ k.ar ≤ n1) := ⟨h.rl, fun k hk => by
    have h1 := h.rl.ar h.cx.ok k hk
    exact ⟨h1.1, by omega⟩⟩
  rw [hn1']
  obtain ⟨⟨x0, x1, x2, x3, x4, x5, x6, x7, x8, x9, x10, x11, x12⟩, e6, f6⟩ : Cells60 W1 o0 o ∧ W1.cell? ⟨b, 6, none⟩ = some (.int .i64 c.ck) ∧ W1.frozen? ⟨b, 6, none⟩ = false := ⟨cells60 hC1.bx.blk, hC1.ci.bk.cells.2.2.2.2.2.2.1, hC1.ci.bk.cells.2.2.2.2.2.2.2 6⟩
  have lb := heap_lt hC1.ci.bk.blk
  clear h ho hb1 hC1 hn1' hi hp hz2
  obtain ⟨kd, tw, ⟨m, s, a, p, ⟨y1, y2, y3⟩, qb⟩, rn, ⟨r1, r2, r3⟩, rb, st, tk, Q, fr⟩ := o
  simp only [sv, opv] at hW1 x0 x1 x2 x3 x4 x5 x6 x7 x8 x9 x10 x11 x12 hn1 HC1 HOi HN1 ⊢
  go_enter Tryd.func19, Tryd.ntmps19
  go_upto_region 1 with fail
  try rw [hW1]
  try rw [ho0]
  clear hW1 ho0
  go_region
  all_goals
    go_upto_region 2 with fail
    obtain ⟨W2, hW2⟩ : ∃ V, (W1.setCell ⟨b, 6, none⟩ (.int .i64 n1)).drew = V := ⟨_, rfl⟩
    have HC3 : Hid (Cl w0 W2 b g c y L (z1, z2, z3) B n1 o0 (⟨kd, tw, ⟨m, s, a, p, (y1, y2, y3), qb⟩, rn, (r1, r2, r3), rb, st, tk, Q, fr⟩ : Os)) := by rw [← hW2]; exact (HC1.out.setNow n1).below (Below.refl _ _).drew
    rw [hW2]
    clear hW2 HC1 x0 x1 x2 x3 x4 x5 x6 x7 x8 x9 x10 x11 x12 e6 f6 lb hn1
    have lb := heap_lt HC3.out.ci.bk.blk
    obtain ⟨x0, x1, x2, x3, x4, x5, x6, x7, x8, x9, x10, x11, x12⟩ := cells60 HC3.out.bx.blk
    simp only [sv] at x6 x9
    obtain ⟨r0, hr0⟩ : ∃ k, W2.heap.size = k := ⟨_, rfl⟩
    obtain ⟨W3, hW3⟩ : ∃ V, W2.alloc (.cells #[.int .i64 rn, .slice r1 r2 r3, .string rb] 26) = V := ⟨_, rfl⟩
    have b3 : Below W2.heap.size W2 W3 := by rw [← hW3]; exact bel1 _ _
    have HC4 : Hid (Cl w0 W3 b g c y L (z1, z2, z3) B n1 o0 (⟨kd, tw, ⟨m, s, a, p, (y1, y2, y3), qb⟩, rn, (r1, r2, r3), rb, st, tk, Q, fr⟩ : Os)) := HC3.out.below b3
    have HR0 : Hid (W3.heap[r0]? = some (.cells #[.int .i64 rn, .slice r1 r2 r3, .string rb] 26 (0, 0))) := by show _ = _; rw [← hW3, ← hr0, heap_al, if_pos rfl]
    have HW0 : Hid (w0.heap.size ≤ r0) := by rw [← hr0]; exact HC3.out.ci.bel.size
    clear b3
    go_upto_region 3 with fail
    try rw [hW3]
    try rw [hr0]
    clear hW3 hr0 x0 x1 x2 x3 x4 x5 x6 x7 x8 x9 x10 x11 x12 HC3 lb
    obtain ⟨x0, x1, x2, x3, x4, x5, x6, x7, x8, x9, x10, x11, x12⟩ := cells60 HC4.out.bx.blk
    simp only [sv] at x6 x9
    clear x0 x1 x2 x3 x4 x5 x6 x7 x8 x10 x11 x12
    obtain ⟨v1, v3, W4, hrun, hRr, hG⟩ := app okFd W3 (.slice none 0 0) [] (R.nil EFd W3) (.slice r1 r2 r3) fr (HOi.out.ir.below HC4.out.ci.bel) (by have : fr.length ≤ 1099511627776 := HOi.out.az.zR; simp only [EFd, List.length_nil]; omega)
    have el : ([] : List Fd).length + fr.length = fr.length := by simp
    rw [el] at hrun hRr hG
    obtain ⟨v2, hv2⟩ : ∃ v, fr.length = v := ⟨_, rfl⟩
    rw [hv2] at hrun hRr hG
    have bG := hG.fresh
    have hR0 : W4.heap[r0]? = some (.cells #[.int .i64 rn, .slice r1 r2 r3, .string rb] 26 (0, 0)) := (bG.block _ (heap_lt HR0.out)).trans HR0.out
    have HC5 : Hid (Cl w0 W4 b g c y L (z1, z2, z3) B n1 o0 (⟨kd, tw, ⟨m, s, a, p, (y1, y2, y3), qb⟩, rn, (r1, r2, r3), rb, st, tk, Q, fr⟩ : Os)) := HC4.out.below bG
    have HRr : Hid (R EFd W4 (.slice v1 v2 v3) fr ∧ W4.heap[r0]? = some (.cells #[.int .i64 rn, .slice r1 r2 r3, .string rb] 26 (0, 0))) := ⟨by have := hRr; simpa using this, hR0⟩
    have p1 := cell_blk hR0 1
    have q1 := frozen_blk hR0 1
    simp only [List.getElem?_toArray, List.getElem?_cons_succ, List.getElem?_cons_zero] at p1
    replace hrun : Hid _ := hrun
    clear hRr hG el hv2 bG hR0 HC4 HR0
    go_upto_region 4 with (at_builtin; refine Lib.wpList_append_run _ rfl _ _ _ _ rfl _ _ rfl rfl _ _ hrun.out ?_)
    obtain ⟨W5, hW5⟩ : ∃ V, W4.setCell ⟨r0, 1, none⟩ (.slice v1 v2 v3) = V := ⟨_, rfl⟩
    have HC6 : Hid (Cl w0 W5 b g c y L (z1, z2, z3) B n1 o0 (⟨kd, tw, ⟨m, s, a, p, (y1, y2, y3), qb⟩, rn, (r1, r2, r3), rb, st, tk, Q, fr⟩ : Os) ∧ W5.heap[r0]? = some (.cells #[.int .i64 rn, .slice v1 v2 v3, .string rb] 26 (0, 0)) ∧ R EFd W5 (.slice v1 v2 v3) fr) := by
      have h1 := HC5.out.cm.box HRr.out.2 (by decide) HW0.out 1 (.slice v1 v2 v3)
      rw [hW5] at h1
      refine ⟨⟨h1.ci HC5.out.ci.rl, h1.bx⟩, by rw [← hW5, setCell_block _ _ _ _ _ _ _ HRr.out.2]; rfl, HRr.out.1.stays fun k hk _ => ?_⟩
      obtain ⟨cc, hc⟩ := HRr.out.1.ty k hk
      rw [← hW5]
      exact setCell_other _ _ _ _ _ (ty_ne hc HRr.out.2 (show (51 : TypeId) ≠ 26 by decide))
    try rw [hW5]
    clear hW5 HC5 HRr p1 q1 x9 hrun
    have HS4c : Hid (∀ (V : World) (cc : Ca) (yy : SV) (LL : List En), Cj w0 V b g cc yy LL (z1, z2, z3) B n1 o0 (⟨kd, tw, ⟨m, s, a, p, (y1, y2, y3), qb⟩, rn, (r1, r2, r3), rb, st, tk, Q, fr⟩ : Os) → V.heap[r0]? = some (.cells #[.int .i64 rn, .slice v1 v2 v3, .string rb] 26 (0, 0)) → V.cell? ⟨b, 0, none⟩ = some (.pointer (some ⟨g, 0, none⟩)) ∧ V.cell? ⟨o0, 12, none⟩ = some (.int .i64 tk) ∧ V.cell? ⟨o0, 2, none⟩ = some (.string m) ∧ V.cell? ⟨o0, 3, none⟩ = some (.string s) ∧ V.cell? ⟨o0, 4, none⟩ = some (.string a) ∧ V.cell? ⟨o0, 5, none⟩ = some (.string p) ∧ V.cell? ⟨o0, 6, none⟩ = some (.slice y1 y2 y3) ∧ V.cell? ⟨o0, 7, none⟩ = some (.string qb) ∧ V.cell? ⟨r0, 0, none⟩ = some (.int .i64 rn) ∧ V.cell? ⟨r0, 1, none⟩ = some (.slice v1 v2 v3) ∧ V.cell? ⟨r0, 2, none⟩ = some (.string rb)) := fun V cc yy LL hV hr => by
      have h1 := hV.bk.cells
      have h2 := cells60 hV.bx.blk
      exact ⟨h1.1, h2.2.2.2.2.2.2.2.2.2.2.2.2, h2.2.2.1, h2.2.2.2.1, h2.2.2.2.2.1, h2.2.2.2.2.2.1, h2.2.2.2.2.2.2.1, h2.2.2.2.2.2.2.2.1, cell_blk hr 0, cell_blk hr 1, cell_blk hr 2⟩
    have hS4 : Hid (∀ V, Below W5.heap.size W5 V → V.cell? ⟨b, 0, none⟩ = some (.pointer (some ⟨g, 0, none⟩)) ∧ V.cell? ⟨o0, 12, none⟩ = some (.int .i64 tk) ∧ V.cell? ⟨o0, 2, none⟩ = some (.string m) ∧ V.cell? ⟨o0, 3, none⟩ = some (.string s) ∧ V.cell? ⟨o0, 4, none⟩ = some (.string a) ∧ V.cell? ⟨o0, 5, none⟩ = some (.string p) ∧ V.cell? ⟨o0, 6, none⟩ = some (.slice y1 y2 y3) ∧ V.cell? ⟨o0, 7, none⟩ = some (.string qb) ∧ V.cell? ⟨r0, 0, none⟩ = some (.int .i64 rn) ∧ V.cell? ⟨r0, 1, none⟩ = some (.slice v1 v2 v3) ∧ V.cell? ⟨r0, 2, none⟩ = some (.string rb)) := fun V hV => HS4c.out V _ _ _ (HC6.out.1.below hV).cm ((hV.block _ (heap_lt HC6.out.2.1)).trans HC6.out.2.1)
    have HSt4 : Hid (∀ V, Below W5.heap.size W5 V → Calls Tryd.prog 11 #[.pointer (some ⟨g, 0, none⟩), .agg #[.string m, .string s, .string a, .string p, .slice y1 y2 y3, .string qb], .agg #[.int .i64 rn, .slice v1 v2 v3, .string rb], .int .i64 i, .int .i64 tk] V fun r w' => srP w0 w' b g (hr c tk) L (z1, z2, z3) B n1 o0 (⟨kd, tw, ⟨m, s, a, p, (y1, y2, y3), qb⟩, rn, (r1, r2, r3), rb, st, tk, Q, fr⟩ : Os) r0 (v1, v2, v3) i r) := fun V hV =>
      (HC6.out.1.below hV).store (rv := (v1, v2, v3)) HOi.out ((hV.block _ (heap_lt HC6.out.2.1)).trans HC6.out.2.1) (HC6.out.2.2.below hV) i
    have hIW : Below W5.heap.size W5 W5.drew := (Below.refl _ _).drew
    refine wp_region_held_drew (S := (fun V => V.cell? ⟨b, 0, none⟩ = some (.pointer (some ⟨g, 0, none⟩)) ∧ V.cell? ⟨o0, 12, none⟩ = some (.int .i64 tk) ∧ V.cell? ⟨o0, 2, none⟩ = some (.string m) ∧ V.cell? ⟨o0, 3, none⟩ = some (.string s) ∧ V.cell? ⟨o0, 4, none⟩ = some (.string a) ∧ V.cell? ⟨o0, 5, none⟩ = some (.string p) ∧ V.cell? ⟨o0, 6, none⟩ = some (.slice y1 y2 y3) ∧ V.cell? ⟨o0, 7, none⟩ = some (.string qb) ∧ V.cell? ⟨r0, 0, none⟩ = some (.int .i64 rn) ∧ V.cell? ⟨r0, 1, none⟩ = some (.slice v1 v2 v3) ∧ V.cell? ⟨r0, 2, none⟩ = some (.string rb))) (by kernel_rfl) (hS4.out _ hIW) (fun hHeld => ?_)
    generalize hWg : World.drew _ = W6 at hIW hHeld ⊢
    clear hWg HC6
    refine wpAnyH_take (i := 0) (oi := { dst := some 35, op := Op.move (Operand.tmp 0), type := 55, pos := "outright.go:99", after := #[], guard := none }) (v := ?vv1) rfl (by kernel_rfl) (by kernel_rfl) (by kernel_rfl) (fun _ _ _ h => h) (Or.inl ⟨by rfl, ?hy1⟩) (by assumption) ?_
    case hy1 => (intro w hSw; (try dsimp only at hSw); go_simp; all_goals with_reducible rfl)
    try simp only [Act.put, List.setIfInBounds_toArray, List.set_cons_zero, List.set_cons_succ]
    refine wpAnyH_take (i := 1) (oi := { dst := some 36, op := Op.nilCheck (Operand.tmp 35), type := 0, pos := "outright.go:99", after := #[{ on := 0, ground := Ground.data }], guard := none }) (v := ?vv2) rfl (by kernel_rfl) (by kernel_rfl) (by kernel_rfl) (fun _ _ _ h => h) (Or.inl ⟨by rfl, ?hy2⟩) (by assumption) ?_
    case hy2 => (intro w hSw; (try dsimp only at hSw); go_simp; all_goals with_reducible rfl)
    try simp only [Act.put, List.setIfInBounds_toArray, List.set_cons_zero, List.set_cons_succ]
    refine wpAnyH_take (i := 2) (oi := { dst := some 37, op := Op.fieldAddr 58 (Operand.tmp 36) 0, type := 0, pos := "outright.go:99", after := #[{ on := 1, ground := Ground.data }], guard := none }) (v := ?vv3) rfl (by kernel_rfl) (by kernel_rfl) (by kernel_rfl) (fun _ _ _ h => h) (Or.inl ⟨by rfl, ?hy3⟩) (by assumption) ?_
    case hy3 => (intro w hSw; (try dsimp only at hSw); go_simp; all_goals with_reducible rfl)
    try simp only [Act.put, List.setIfInBounds_toArray, List.set_cons_zero, List.set_cons_succ]
    refine wpAnyH_take (i := 3) (oi := { dst := some 38, op := Op.load 30 (Operand.tmp 37), type := 30, pos := "outright.go:99", after := #[{ on := 2, ground := Ground.data }], guard := none }) (v := ?vv4) rfl (by kernel_rfl) (by kernel_rfl) (by kernel_rfl) (fun _ _ _ h => h) (Or.inl ⟨by rfl, ?hy4⟩) (by assumption) ?_
    case hy4 => (intro w hSw; (try dsimp only at hSw); go_simp; all_goals with_reducible rfl)
    try simp only [Act.put, List.setIfInBounds_toArray, List.set_cons_zero, List.set_cons_succ]
    refine wpAnyH_take (i := 4) (oi := { dst := some 39, op := Op.fieldAddr 60 (Operand.tmp 4) 2, type := 0, pos := "outright.go:99", after := #[], guard := none }) (v := ?vv5) rfl (by kernel_rfl) (by kernel_rfl) (by kernel_rfl) (fun _ _ _ h => h) (Or.inl ⟨by rfl, ?hy5⟩) (by assumption) ?_
    case hy5 => (intro w hSw; (try dsimp only at hSw); go_simp; all_goals with_reducible rfl)
    try simp only [Act.put, List.setIfInBounds_toArray, List.set_cons_zero, List.set_cons_succ]
    refine wpAnyH_take (i := 5) (oi := { dst := some 40, op := Op.load 24 (Operand.tmp 39), type := 24, pos := "outright.go:99", after := #[{ on := 4, ground := Ground.data }], guard := none }) (v := ?vv6) rfl (by kernel_rfl) (by kernel_rfl) (by kernel_rfl) (fun _ _ _ h => h) (Or.inl ⟨by rfl, ?hy6⟩) (by assumption) ?_
    case hy6 => (intro w hSw; (try dsimp only at hSw); go_simp; all_goals with_reducible rfl)
    try simp only [Act.put, List.setIfInBounds_toArray, List.set_cons_zero, List.set_cons_succ]
    refine wpAnyH_take (i := 6) (oi := { dst := some 41, op := Op.load 26 (Operand.tmp 7), type := 26, pos := "outright.go:99", after := #[], guard := none }) (v := ?vv7) rfl (by kernel_rfl) (by kernel_rfl) (by kernel_rfl) (fun _ _ _ h => h) (Or.inl ⟨by rfl, ?hy7⟩) (by assumption) ?_
    case hy7 => (intro w hSw; (try dsimp only at hSw); go_simp; all_goals with_reducible rfl)
    try simp only [Act.put, List.setIfInBounds_toArray, List.set_cons_zero, List.set_cons_succ]
    refine wpAnyH_take (i := 7) (oi := { dst := some 42, op := Op.move (Operand.tmp 2), type := 2, pos := "outright.go:99", after := #[], guard := none }) (v := ?vv8) rfl (by kernel_rfl) (by kernel_rfl) (by kernel_rfl) (fun _ _ _ h => h) (Or.inl ⟨by rfl, ?hy8⟩) (by assumption) ?_
    case hy8 => (intro w hSw; (try dsimp only at hSw); go_simp; all_goals with_reducible rfl)
    try simp only [Act.put, List.setIfInBounds_toArray, List.set_cons_zero, List.set_cons_succ]
    refine wpAnyH_take (i := 8) (oi := { dst := some 43, op := Op.fieldAddr 60 (Operand.tmp 4) 5, type := 0, pos := "outright.go:99", after := #[], guard := none }) (v := ?vv9) rfl (by kernel_rfl) (by kernel_rfl) (by kernel_rfl) (fun _ _ _ h => h) (Or.inl ⟨by rfl, ?hy9⟩) (by assumption) ?_
    case hy9 => (intro w hSw; (try dsimp only at hSw); go_simp; all_goals with_reducible rfl)
    try simp only [Act.put, List.setIfInBounds_toArray, List.set_cons_zero, List.set_cons_succ]
    refine wpAnyH_take (i := 9) (oi := { dst := some 44, op := Op.load 2 (Operand.tmp 43), type := 2, pos := "outright.go:99", after := #[{ on := 8, ground := Ground.data }], guard := none }) (v := ?vv10) rfl (by kernel_rfl) (by kernel_rfl) (by kernel_rfl) (fun _ _ _ h => h) (Or.inl ⟨by rfl, ?hy10⟩) (by assumption) ?_
    case hy10 => (intro w hSw; (try dsimp only at hSw); go_simp; all_goals with_reducible rfl)
    try simp only [Act.put, List.setIfInBounds_toArray, List.set_cons_zero, List.set_cons_succ]
    refine wpAnyH_ready (rs := [10]) (by kernel_rfl) (by simp) ?_
    refine AllReadyH.cons (o := { dst := some 45, op := Op.call { callee := Callee.value (Operand.func 11), args := #[Operand.tmp 38, Operand.tmp 40, Operand.tmp 41, Operand.tmp 42, Operand.tmp 44], argTypes := #[30, 24, 26, 2, 2] }, type := 40, pos := "outright.go:99", after := #[{ on := 3, ground := Ground.data }, { on := 5, ground := Ground.data }, { on := 6, ground := Ground.data }, { on := 7, ground := Ground.data }, { on := 9, ground := Ground.data }], guard := none }) rfl (fun K hK => ?_) AllReadyH.nil
    go_simp
    refine (HSt4.out _ hIW).mono ?_
    rintro e' W6x ⟨ok, ⟨g1, g2, g3⟩, n, D, y', L', rfl, hCs, hSp, hok, hL0, hL1⟩
    have HCs : Hid (Cs w0 W6x b g (hr c tk) y' L' (z1, z2, z3) B n1 o0 (⟨kd, tw, ⟨m, s, a, p, (y1, y2, y3), qb⟩, rn, (r1, r2, r3), rb, st, tk, Q, fr⟩ : Os) r0 (v1, v2, v3) (g1, g2, g3) D) := hCs
    have HSp : Hid (Sp (hr c tk) L B ok n D (rb.size + szL fr) ∧ ok = !noB (hr c tk) rb fr ∧ (ok = false → L' = L.drop n) ∧ (ok = true → ∃ e, L' = L.drop n ++ [e] ∧ Ee e (⟨m, s, a, p, (y1, y2, y3), qb⟩ : Rq) Q rn rb fr i n1)) := ⟨hSp, hok, hL0, fun e => by have := hL1 e; rw [HN1.out.1] at this; exact this⟩
    clear hCs hSp hok hL0 hL1
    simp only [sv]
    go_wp2_with fail
    refine hK.out _ _ (HS4c.out _ _ _ _ HCs.out.m HCs.out.rb) (fun hHeld => ?_)
    clear hK K
    try simp only [Act.put, List.setIfInBounds_toArray, List.set_cons_zero, List.set_cons_succ]
    refine wpAnyH_take (i := 11) (oi := { dst := some 34, op := Op.move (Operand.tmp 45), type := 40, pos := "outright.go:99", after := #[{ on := 10, ground := Ground.data }], guard := none }) (v := ?vv11) rfl (by kernel_rfl) (by kernel_rfl) (by kernel_rfl) (fun _ _ _ h => h) (Or.inl ⟨by rfl, ?hy11⟩) (by assumption) ?_
    case hy11 => (intro w hSw; (try dsimp only at hSw); go_simp; all_goals with_reducible rfl)
    try simp only [Act.put, List.setIfInBounds_toArray, List.set_cons_zero, List.set_cons_succ]
    refine wpAnyH_take (i := 12) (oi := { dst := some 46, op := Op.extract (Operand.tmp 34) 0, type := 4, pos := "outright.go:99", after := #[{ on := 11, ground := Ground.data }], guard := none }) (v := ?vv12) rfl (by kernel_rfl) (by kernel_rfl) (by kernel_rfl) (fun _ _ _ h => h) (Or.inl ⟨by rfl, ?hy12⟩) (by assumption) ?_
    case hy12 => (intro w hSw; (try dsimp only at hSw); go_simp; all_goals with_reducible rfl)
    try simp only [Act.put, List.setIfInBounds_toArray, List.set_cons_zero, List.set_cons_succ]
    refine wpAnyH_take (i := 13) (oi := { dst := some 47, op := Op.extract (Operand.tmp 34) 1, type := 38, pos := "outright.go:99", after := #[{ on := 11, ground := Ground.data }, { on := 14, ground := Ground.gcOnly Departure.lateStores }], guard := none }) (v := ?vv13) rfl (by kernel_rfl) (by kernel_rfl) (by kernel_rfl) (fun _ _ _ h => h) (Or.inl ⟨by rfl, ?hy13⟩) (by assumption) ?_
    case hy13 => (intro w hSw; (try dsimp only at hSw); go_simp; all_goals with_reducible rfl)
    try simp only [Act.put, List.setIfInBounds_toArray, List.set_cons_zero, List.set_cons_succ]
    refine wpAnyH_take (i := 14) (oi := { dst := some 8, op := Op.assign (Operand.tmp 46), type := 4, pos := "outright.go:99", after := #[{ on := 12, ground := Ground.data }, { on := 10, ground := Ground.chain }, { on := 0, ground := Ground.phase }, { on := 1, ground := Ground.phase }, { on := 2, ground := Ground.phase }, { on := 3, ground := Ground.phase }, { on := 4, ground := Ground.phase }, { on := 5, ground := Ground.phase }, { on := 6, ground := Ground.phase }, { on := 7, ground := Ground.phase }, { on := 8, ground := Ground.phase }, { on := 9, ground := Ground.phase }, { on := 10, ground := Ground.phase }, { on := 11, ground := Ground.phase }, { on := 12, ground := Ground.phase }, { on := 13, ground := Ground.textOnly Departure.lateStores }], guard := none }) (v := ?vv14) rfl (by kernel_rfl) (by kernel_rfl) (by kernel_rfl) (fun _ _ _ h => h) (Or.inl ⟨by rfl, ?hy14⟩) (by assumption) ?_
    case hy14 => (intro w hSw; (try dsimp only at hSw); go_simp; all_goals with_reducible rfl)
    try simp only [Act.put, List.setIfInBounds_toArray, List.set_cons_zero, List.set_cons_succ]
    refine wpAnyH_take (i := 15) (oi := { dst := some 9, op := Op.assign (Operand.tmp 47), type := 38, pos := "outright.go:99", after := #[{ on := 13, ground := Ground.data }, { on := 14, ground := Ground.chain }, { on := 0, ground := Ground.phase }, { on := 1, ground := Ground.phase }, { on := 2, ground := Ground.phase }, { on := 3, ground := Ground.phase }, { on := 4, ground := Ground.phase }, { on := 5, ground := Ground.phase }, { on := 6, ground := Ground.phase }, { on := 7, ground := Ground.phase }, { on := 8, ground := Ground.phase }, { on := 9, ground := Ground.phase }, { on := 10, ground := Ground.phase }, { on := 11, ground := Ground.phase }, { on := 12, ground := Ground.phase }, { on := 13, ground := Ground.phase }, { on := 14, ground := Ground.phase }], guard := none }) (v := ?vv15) rfl (by kernel_rfl) (by kernel_rfl) (by kernel_rfl) (fun _ _ _ h => h) (Or.inl ⟨by rfl, ?hy15⟩) (by assumption) ?_
    case hy15 => (intro w hSw; (try dsimp only at hSw); go_simp; all_goals with_reducible rfl)
    try simp only [Act.put, List.setIfInBounds_toArray, List.set_cons_zero, List.set_cons_succ]
    refine wpAnyH_done (by kernel_rfl) ?_ _
    clear hHeld hS4 HSt4 hIW HS4c
    obtain ⟨gB, hgB⟩ : ∃ V, W6x = V := ⟨_, rfl⟩
    subst hgB
    have hgn : g2 = n := by
      have h1 := slice_len (show In EI W6x (.slice g1 g2 g3) D from HCs.out.gn.isIn)
      have h2 := HSp.out.1.nl
      rw [h1.1, HSp.out.1.Ds, List.length_map, List.length_take]
      omega
    subst hgn
    obtain ⟨gm1, gm2, gm3⟩ := slice_len (show In EI W6x (.slice g1 g2 g3) D from HCs.out.gn.isIn)
    rw [← gm1] at gm2
    obtain ⟨zm1, zm2, zm3⟩ := slice_len (show In EK W6x (.slice z1 z2 z3) B from HCs.out.m.bk.row.isIn)
    rw [← zm1] at zm2
    have HGl : Hid (g2 = D.length ∧ g2 ≤ z2) := ⟨gm1, by have := HSp.out.1.nl; omega⟩
    clear gm1 zm1
    obtain ⟨c0, c1, c2, c3, c4, c5, c6, cf⟩ := HCs.out.m.bk.cells
    simp only [sv] at c5
    replace c3 : W6x.cell? ⟨b, 3, none⟩ = some (.int .i64 c.lf) := c3
    have lb := heap_lt HCs.out.m.bk.blk
    clear c0 c1 c2 c4 cf hHeld
    obtain ⟨ls, hls⟩ : ∃ l, lstN (hr c tk) B g2 = l := ⟨_, rfl⟩
    have HLs : Hid (lstN (hr c tk) B g2 = ls) := hls
    clear hls
    go_upto_if 55 with fail
    go_cut [11, 12] from 17 (fun lv kv wx => lv = .int .i64 (ls : Int) ∧ Hid (Cs w0 wx b g (hr c tk) y' L' (z1, z2, z3) B n1 o0 (⟨kd, tw, ⟨m, s, a, p, (y1, y2, y3), qb⟩, rn, (r1, r2, r3), rb, st, tk, Q, fr⟩ : Os) r0 (v1, v2, v3) (g1, g2, g3) D))
    case first =>
      as_aux_lemma =>
        by_cases hg0 : g2 = 0
        · have l0 : ¬ (0 : Int) < (g2 : Int) := by omega
          have HE : Hid (ls = 0) := by show _ = _; rw [← HLs.out]; unfold lstN; rw [dif_neg (by omega)]
          clear hg0
          go_wp2_with fail
          go_meet
          case rel => exact ⟨by first | (rw [HE.out]; done) | (rw [HE.out]; rfl), HCs.out⟩
        · obtain ⟨j, hj⟩ : ∃ j, g2 = j + 1 := ⟨g2 - 1, by omega⟩
          have l0 : (0 : Int) < (g2 : Int) := by omega
          have q0 : (g2 : Int) - 1 = (j : Int) := by omega
          have q1 : (j : Int) < (g2 : Int) := by omega
          have q2 : (j : Int) < (z2 : Int) := by have := HGl.out.2; omega
          have q3 : 0 ≤ (j : Int) := by omega
          have q4 : ¬ (j : Int) < 0 := by omega
          have hjB : j < B.length := by have := HGl.out.2; have := HZl.out; omega
          obtain ⟨x, hx⟩ : ∃ x, B[j] = x := ⟨_, rfl⟩
          have hxm : x ∈ B := by rw [← hx]; exact List.getElem_mem _
          have hDj : D[j]? = some x.st := by
            rw [HSp.out.1.Ds, List.getElem?_map, List.getElem?_take, if_pos (by omega), List.getElem?_eq_getElem hjB, hx]; rfl
          have hjD : j < D.length := by have := HGl.out.1; omega
          rw [List.getElem?_eq_getElem hjD] at hDj
          obtain ⟨Bg, gof, gcap, e, hcg⟩ := HCs.out.gn.isIn.int j hjD
          simp only [sv] at e
          injection e with e1 e2 e3
          clear e2 e3
          subst e1
          have cg := hcg W6x (Below.refl _ _)
          rw [Option.some.inj hDj] at cg
          have hpl : plK B x.st = (j : Int) := plK_some hjB (by rw [hx]) (fun j' hj' hlt => by
            have := List.pairwise_iff_getElem.1 HSt.out.2 j' j hj' hjB hlt
            rw [hx] at this
            omega)
          have HPl : Hid (∀ V, Below W6x.heap.size W6x V → Calls Tryd.prog 43 #[.slice z1 z2 z3, .int .i64 x.st] V fun e w' => e = .returned (.int .i64 (j : Int)) ∧ w' = V) := fun V hV => by
            have := place_any (z1, z2, z3) B x.st V (HCs.out.m.bk.below hV).row.isIn
            rw [hpl] at this
            exact this
          obtain ⟨Bj, off, cap, e, hc⟩ := HCs.out.m.bk.row.isIn.kn j hjB
          simp only [sv] at e
          rw [HZl.out] at e
          injection e with e1 e2 e3
          clear e2
          subst e1 e3
          rw [hx] at hc
          obtain ⟨d0, d1, d2, d3, d4, d5, d6, d7, d8, d9, d10⟩ := hc W6x (Below.refl _ _)
          obtain ⟨d, hd⟩ : ∃ d : Int, n1 - x.ar = d := ⟨_, rfl⟩
          have hxa := HRl.out.2 x hxm
          have hn1 := HN1.out.2
          have hd1 : -9223372036854775808 ≤ d := by omega
          have hd2 : d ≤ 9223372036854775807 := by omega
          have HSz : Hid (∀ V, Below W6x.heap.size W6x V → Calls Tryd.prog 44 #[.agg (rsv x.rn (sv x.ry) x.rb)] V fun e w' => e = .returned (.int .i64 (ksz x : Int)) ∧ Below V.heap.size V w') := fun V hV => size44_any x.rn x.ry x.rb x.fr V ((HCs.out.m.bk.below hV).fl x hxm).2.isIn (by
            have h1 := HRl.out.1.tot
            have h2 := totK_take (L := B) hjB
            have h3 := totK_le B (j + 1)
            have h4 := HTot.out
            rw [hx] at h2
            unfold ksz at h2
            omega)
          have HLv : Hid ((d ≤ c.lf → ls = ksz x) ∧ (¬ d ≤ c.lf → ls = 0)) := by
            have hh : 0 < g2 ∧ g2 - 1 < B.length := ⟨by omega, by omega⟩
            have hxx : B[g2 - 1]'hh.2 = x := by
              rw [← hx]
              congr 1
              omega
            refine ⟨fun hle => ?_, fun hle => ?_⟩
            · rw [← HLs.out]; unfold lstN; rw [dif_pos hh, hxx, HN1.out.1, hd, if_neg (by show ¬ c.lf < d; omega)]
            · rw [← HLs.out]; unfold lstN; rw [dif_pos hh, hxx, HN1.out.1, hd, if_pos (by show c.lf < d; omega)]
          obtain ⟨xs, hxs⟩ : ∃ s, x.st = s := ⟨_, rfl⟩
          obtain ⟨xa, hxa'⟩ : ∃ s, x.ar = s := ⟨_, rfl⟩
          obtain ⟨xk, hxk⟩ : ∃ s, ksz x = s := ⟨_, rfl⟩
          rw [hxs] at cg HPl
          rw [hxa'] at d1 hd
          rw [hxk] at HSz HLv
          obtain ⟨krn, hkrn⟩ : ∃ s, x.rn = s := ⟨_, rfl⟩
          obtain ⟨⟨kr1, kr2, kr3⟩, hkr⟩ : ∃ s, x.ry = s := ⟨_, rfl⟩
          obtain ⟨krb, hkrb⟩ : ∃ s, x.rb = s := ⟨_, rfl⟩
          rw [hkrn, hkr, hkrb] at HSz
          rw [hkrn] at d8
          rw [hkr] at d9
          rw [hkrb] at d10
          simp only [sv, rsv] at d9 HSz
          clear hx hxm hDj hjD hcg hpl hc d0 d2 d3 d4 d5 d6 d7 hxa hn1 hxs hxa' hxk hkrn hkr hkrb hj
          by_cases hdl : d ≤ c.lf
          · have HV : Hid (ls = xk) := HLv.out.1 hdl
            have hdb : decide (d ≤ c.lf) = true := decide_eq_true hdl
            clear HLv
            go_wp2_with fail
            go_quiet (first | (go_at_call 43; exact Calls.quiet_of_same (HPl.out _ (below_drewN (Below.refl _ _) _))))
            go_wp2_with fail
            go_quiet (fail)
            go_wp2_with fail
            go_at_call 44
            refine (HSz.out _ (below_drewN (Below.refl _ _) _)).mono ?_
            rintro e V ⟨rfl, bV⟩
            have HE : Hid (Cs w0 V b g (hr c tk) y' L' (some ⟨Bj, off, none⟩, z2, z3) B n1 o0 (⟨kd, tw, ⟨m, s, a, p, (y1, y2, y3), qb⟩, rn, (r1, r2, r3), rb, st, tk, Q, fr⟩ : Os) r0 (v1, v2, v3) (some ⟨Bg, gof, none⟩, g2, g3) D) := HCs.out.below ((below_drewN (Below.refl _ _) _).trans bV)
            clear bV HSz HPl
            go_wp2_with fail
            go_meet
            case rel => exact ⟨by first | (rw [HV.out]; done) | (rw [HV.out]; rfl), HE.out⟩
          · have HV : Hid (ls = 0) := HLv.out.2 hdl
            have hdb : decide (d ≤ c.lf) = false := decide_eq_false hdl
            have hdc : c.lf < d := by omega
            clear HLv
            go_wp2_with fail
            go_quiet (first | (go_at_call 43; exact Calls.quiet_of_same (HPl.out _ (below_drewN (Below.refl _ _) _))))
            go_wp2_with fail
            go_quiet (fail)
            go_wp2_with fail
            go_meet
            case rel => exact ⟨by first | (rw [HV.out]; done) | (rw [HV.out]; rfl), HCs.out.below (below_drewN (below_drewN (Below.refl _ _) _) _)⟩
    case rest =>
      obtain ⟨rfl, hC11⟩ := hcut
      clear HCs c3 c5 c6 lb
      have lb := heap_lt hC11.out.m.bk.blk
      have HWn : Hid (Calls Tryd.prog 21 #[.pointer (some ⟨b, 0, none⟩), .slice g1 g2 g3, .bool ok] wc fun e W' => e = .returned (.bool true) ∧ ∃ z', Wn wc W' b g (hr c tk).me (hr c tk).mb (hr c tk).lf (z1, z2, z3) z' (B.drop g2) n1 (g1, g2, g3) D) :=
        went_any wc b g _ _ _ (z1, z2, z3) B n1 hC11.out.m.bk (g1, g2, g3) g2 HSp.out.1.nl D HSp.out.1.Ds hC11.out.gn ok (by have := HB64.out; omega) HRl.out.2 HN1.out.2 (fun k hk => by have := HSp.out.1.late k hk; rw [HN1.out.1] at this; exact this) (fun k hk => by have := HSp.out.1.rest k hk; rw [HN1.out.1] at this; exact this)
      go_wp2_with fail
      go_at_call 21
      refine HWn.out.mono ?_
      rintro e V11 ⟨rfl, ⟨k1, k2, k3⟩, hWn⟩
      have HC12 : Hid (Cs w0 V11 b g (hr c tk) y' L' (k1, k2, k3) (B.drop g2) n1 o0 (⟨kd, tw, ⟨m, s, a, p, (y1, y2, y3), qb⟩, rn, (r1, r2, r3), rb, st, tk, Q, fr⟩ : Os) r0 (v1, v2, v3) (g1, g2, g3) D) := hC11.out.went hWn
      have hk2 : k2 = z2 - g2 := by
        have h1 := slice_len (show In EK V11 (.slice k1 k2 k3) (B.drop g2) from HC12.out.m.bk.row.isIn)
        rw [h1.1, List.length_drop, HZl.out]
      have HK2 : Hid (k2 = (B.drop g2).length ∧ k2 = z2 - g2) := ⟨(slice_len (show In EK V11 (.slice k1 k2 k3) (B.drop g2) from HC12.out.m.bk.row.isIn)).1, hk2⟩
      have q5 : (k2 : Int) + (g2 : Int) = (z2 : Int) := by have := HGl.out.2; omega
      have k64 : k2 ≤ 64 := by have := HB64.out; have := HZl.out; omega
      obtain ⟨c0, c1, c2, c3, c4, c5, c6, cf⟩ := HC12.out.m.bk.cells
      simp only [sv] at c5
      clear hWn HWn hC11 c0 c1 c2 c3 c4 c6 cf lb
      have lb := heap_lt HC12.out.m.bk.blk
      have g64 : g2 ≤ 64 := by have := HB64.out; have := HZl.out; have := HGl.out.2; omega
      clear hk2
      go_upto_region 13 with fail
      clear q5
      obtain ⟨x0, x1, x2, x3, x4, x5, x6, x7, x8, x9, x10, x11, x12⟩ := cells60 HC12.out.m.bx.blk
      simp only [sv] at x9
      have zv : ∀ v ∈ vsL fr varyS, v.size ≤ 140737488355328 := fun v hv => by
        unfold vsL at hv
        obtain ⟨f, hf, e⟩ := List.mem_filterMap.1 hv
        split at e
        · injection e with e; rw [← e]; exact (HOi.out.az.zRf f hf).2
        · cases e
      have hnl : fr.length ≤ 1099511627776 := HOi.out.az.zR
      have HNm : Hid (Calls Tryd.prog 7 #[.agg #[.int .i64 rn, .slice r1 r2 r3, .string rb]] V11 fun e w' => NmPost (vsL fr varyS) V11 e w') := names_any rn (r1, r2, r3) rb fr V11 (HOi.out.ir.below HC12.out.m.bel) (by omega) zv HOi.out.az.zN
      obtain ⟨sB, hsB⟩ : ∃ B, decide (0 < cnt (allP (vsL fr varyS)) starS) = B := ⟨_, rfl⟩
      have HsB : Hid (decide (0 < cnt (allP (vsL fr varyS)) starS) = sB ∧ starB fr = sB) := ⟨hsB, hsB⟩
      clear x0 x1 x2 x3 x4 x5 x6 x7 x11 x12 hnl hsB
      go_wp2_with fail
      go_at_call 7
      refine HNm.out.mono ?_
      rintro e V13 ⟨⟨t1, t2, t3⟩, rfl, b13, _, _⟩
      have HC13 : Hid (Cs w0 V13 b g (hr c tk) y' L' (k1, k2, k3) (B.drop g2) n1 o0 (⟨kd, tw, ⟨m, s, a, p, (y1, y2, y3), qb⟩, rn, (r1, r2, r3), rb, st, tk, Q, fr⟩ : Os) r0 (v1, v2, v3) (g1, g2, g3) D) := HC12.out.below b13
      rw [HsB.out.1]
      simp only [sv]
      have HZv : Hid (∀ v ∈ vsL fr varyS, v.size ≤ 140737488355328) := zv
      clear b13 HC12 HNm c5 x8 x9 x10 zv
      go_upto_region 14 with fail
      obtain ⟨c0, c1, c2, c3, c4, c5, c6, cf⟩ := HC13.out.m.bk.cells
      replace c1 : V13.cell? ⟨b, 1, none⟩ = some (.int .i64 c.me) := c1
      replace c2 : V13.cell? ⟨b, 2, none⟩ = some (.int .i64 c.mb) := c2
      have HMe : Hid (0 ≤ c.me) := HC13.out.m.cx.ok.me.1
      have lb13 := heap_lt HC13.out.m.bk.blk
      obtain ⟨zs, hzs⟩ : ∃ z, rb.size + szL fr = z := ⟨_, rfl⟩
      have HZs : Hid (rb.size + szL fr = zs ∧ zs ≤ 1152921504606846976) := ⟨hzs, by have : rb.size + szL fr ≤ 1152921504606846976 := HOi.out.az.zS; omega⟩
      have hzm : zs ≤ 1152921504606846976 := HZs.out.2
      have HOk0 : Hid (ok = !(sB || (decide (c.me = 0) || decide (c.mb < (zs : Int))))) := by
        have h1 := HSp.out.2.1
        unfold noB at h1
        rw [HsB.out.2, hzs] at h1
        exact h1
      clear c0 c3 c4 c5 c6 cf hzs lb
      go_cut [15] from 17 (fun v wx => v = .bool ok ∧ Hid (Cs w0 wx b g (hr c tk) y' L' (k1, k2, k3) (B.drop g2) n1 o0 (⟨kd, tw, ⟨m, s, a, p, (y1, y2, y3), qb⟩, rn, (r1, r2, r3), rb, st, tk, Q, fr⟩ : Os) r0 (v1, v2, v3) (g1, g2, g3) D))
      case first =>
        as_aux_lemma =>
          cases sB
          · by_cases hm0 : 0 < c.me
            · have HOk : Hid (ok = decide ((zs : Int) ≤ c.mb)) := by
                show _ = _
                rw [HOk0.out, decide_eq_false (by omega)]
                simp only [Bool.false_or]
                rw [Bool.eq_iff_iff]
                simp
              have HSz : Hid (∀ V, Below V13.heap.size V13 V → Calls Tryd.prog 44 #[.agg #[.int .i64 rn, .slice r1 r2 r3, .string rb]] V fun e w' => e = .returned (.int .i64 (zs : Int)) ∧ Below V.heap.size V w') := fun V hV => by
                have := size44_any rn (r1, r2, r3) rb fr V (HOi.out.ir.below (HC13.out.below hV).m.bel) (by rw [HZs.out.1]; omega)
                rw [HZs.out.1] at this
                exact this
              have hS14 : Hid (∀ V, Below V13.heap.size V13 V → V.cell? ⟨b, 1, none⟩ = some (.int .i64 c.me) ∧ V.cell? ⟨b, 2, none⟩ = some (.int .i64 c.mb) ∧ V.cell? ⟨o0, 8, none⟩ = some (.int .i64 rn) ∧ V.cell? ⟨o0, 9, none⟩ = some (.slice r1 r2 r3) ∧ V.cell? ⟨o0, 10, none⟩ = some (.string rb)) := fun V hV => by
                have h1 := (HC13.out.below hV).m.bk.cells
                have h2 := cells60 (HC13.out.below hV).m.bx.blk
                exact ⟨h1.2.1, h1.2.2.1, h2.2.2.2.2.2.2.2.2.1, h2.2.2.2.2.2.2.2.2.2.1, h2.2.2.2.2.2.2.2.2.2.2.1⟩
              clear HOk0 c1 c2
              have hIW : Below V13.heap.size V13 V13.drew := (Below.refl _ _).drew
              refine wp_region_held_drew (S := (fun V => V.cell? ⟨b, 1, none⟩ = some (.int .i64 c.me) ∧ V.cell? ⟨b, 2, none⟩ = some (.int .i64 c.mb) ∧ V.cell? ⟨o0, 8, none⟩ = some (.int .i64 rn) ∧ V.cell? ⟨o0, 9, none⟩ = some (.slice r1 r2 r3) ∧ V.cell? ⟨o0, 10, none⟩ = some (.string rb))) (by kernel_rfl) (hS14.out _ hIW) (fun hHeld => ?_)
              generalize hWg : World.drew _ = W14 at hIW hHeld ⊢
              clear hWg
              refine wpAnyH_take (i := 0) (oi := { dst := some 122, op := Op.move (Operand.tmp 14), type := 4, pos := "outright.go:112", after := #[], guard := none }) (v := ?vv16) rfl (by kernel_rfl) (by kernel_rfl) (by kernel_rfl) (fun _ _ _ h => h) (Or.inl ⟨by rfl, ?hy16⟩) (by assumption) ?_
              case hy16 => (intro w hSw; (try dsimp only at hSw); go_simp; all_goals with_reducible rfl)
              try simp only [Act.put, List.setIfInBounds_toArray, List.set_cons_zero, List.set_cons_succ]
              refine wpAnyH_take (i := 1) (oi := { dst := some 123, op := Op.unOp UnOp.not 4 (Operand.tmp 122), type := 4, pos := "outright.go:112", after := #[{ on := 0, ground := Ground.data }], guard := none }) (v := ?vv17) rfl (by kernel_rfl) (by kernel_rfl) (by kernel_rfl) (fun _ _ _ h => h) (Or.inl ⟨by rfl, ?hy17⟩) (by assumption) ?_
              case hy17 => (intro w hSw; (try dsimp only at hSw); go_simp; all_goals with_reducible rfl)
              try simp only [Act.put, List.setIfInBounds_toArray, List.set_cons_zero, List.set_cons_succ]
              refine wpAnyH_take (i := 2) (oi := { dst := some 124, op := Op.move (Operand.tmp 123), type := 4, pos := "outright.go:112", after := #[{ on := 1, ground := Ground.data }], guard := none }) (v := ?vv18) rfl (by kernel_rfl) (by kernel_rfl) (by kernel_rfl) (fun _ _ _ h => h) (Or.inl ⟨by rfl, ?hy18⟩) (by assumption) ?_
              case hy18 => (intro w hSw; (try dsimp only at hSw); go_simp; all_goals with_reducible rfl)
              try simp only [Act.put, List.setIfInBounds_toArray, List.set_cons_zero, List.set_cons_succ]
              refine wpAnyH_take (i := 3) (oi := { dst := some 125, op := Op.move (Operand.tmp 0), type := 55, pos := "outright.go:112", after := #[{ on := 2, ground := Ground.guard }], guard := some (2, true) }) (v := ?vv19) rfl (by kernel_rfl) (by kernel_rfl) (by kernel_rfl) (fun _ _ _ h => h) (Or.inl ⟨by rfl, ?hy19⟩) (by assumption) ?_
              case hy19 => (intro w hSw; (try dsimp only at hSw); go_simp; all_goals with_reducible rfl)
              try simp only [Act.put, List.setIfInBounds_toArray, List.set_cons_zero, List.set_cons_succ]
              refine wpAnyH_take (i := 4) (oi := { dst := some 126, op := Op.nilCheck (Operand.tmp 125), type := 0, pos := "outright.go:112", after := #[{ on := 3, ground := Ground.data }, { on := 2, ground := Ground.guard }], guard := some (2, true) }) (v := ?vv20) rfl (by kernel_rfl) (by kernel_rfl) (by kernel_rfl) (fun _ _ _ h => h) (Or.inl ⟨by rfl, ?hy20⟩) (by assumption) ?_
              case hy20 => (intro w hSw; (try dsimp only at hSw); go_simp; all_goals with_reducible rfl)
              try simp only [Act.put, List.setIfInBounds_toArray, List.set_cons_zero, List.set_cons_succ]
              refine wpAnyH_take (i := 5) (oi := { dst := some 127, op := Op.fieldAddr 58 (Operand.tmp 126) 1, type := 0, pos := "outright.go:112", after := #[{ on := 4, ground := Ground.data }, { on := 2, ground := Ground.guard }], guard := some (2, true) }) (v := ?vv21) rfl (by kernel_rfl) (by kernel_rfl) (by kernel_rfl) (fun _ _ _ h => h) (Or.inl ⟨by rfl, ?hy21⟩) (by assumption) ?_
              case hy21 => (intro w hSw; (try dsimp only at hSw); go_simp; all_goals with_reducible rfl)
              try simp only [Act.put, List.setIfInBounds_toArray, List.set_cons_zero, List.set_cons_succ]
              refine wpAnyH_take (i := 6) (oi := { dst := some 128, op := Op.fieldAddr 36 (Operand.tmp 127) 0, type := 0, pos := "outright.go:112", after := #[{ on := 5, ground := Ground.data }, { on := 2, ground := Ground.guard }], guard := some (2, true) }) (v := ?vv22) rfl (by kernel_rfl) (by kernel_rfl) (by kernel_rfl) (fun _ _ _ h => h) (Or.inl ⟨by rfl, ?hy22⟩) (by assumption) ?_
              case hy22 => (intro w hSw; (try dsimp only at hSw); go_simp; all_goals with_reducible rfl)
              try simp only [Act.put, List.setIfInBounds_toArray, List.set_cons_zero, List.set_cons_succ]
              refine wpAnyH_take (i := 7) (oi := { dst := some 129, op := Op.load 2 (Operand.tmp 128), type := 2, pos := "outright.go:112", after := #[{ on := 6, ground := Ground.data }, { on := 2, ground := Ground.guard }], guard := some (2, true) }) (v := ?vv23) rfl (by kernel_rfl) (by kernel_rfl) (by kernel_rfl) (fun _ _ _ h => h) (Or.inl ⟨by rfl, ?hy23⟩) (by assumption) ?_
              case hy23 => (intro w hSw; (try dsimp only at hSw); go_simp; all_goals with_reducible rfl)
              try simp only [Act.put, List.setIfInBounds_toArray, List.set_cons_zero, List.set_cons_succ]
              refine wpAnyH_take (i := 8) (oi := { dst := some 130, op := Op.binOp BinOp.gtr 2 (Operand.tmp 129) (Operand.const (Value.int IntKind.i64 0)) 2, type := 4, pos := "outright.go:112", after := #[{ on := 7, ground := Ground.data }, { on := 2, ground := Ground.guard }], guard := some (2, true) }) (v := ?vv24) rfl (by kernel_rfl) (by kernel_rfl) (by kernel_rfl) (fun _ _ _ h => h) (Or.inl ⟨by rfl, ?hy24⟩) (by assumption) ?_
              case hy24 => (intro w hSw; (try dsimp only at hSw); go_simp; all_goals with_reducible rfl)
              try simp only [Act.put, List.setIfInBounds_toArray, List.set_cons_zero, List.set_cons_succ]
              refine wpAnyH_take (i := 9) (oi := { dst := some 131, op := Op.pick (Operand.tmp 124) (Operand.tmp 130) (Operand.const (Value.bool false)), type := 4, pos := "outright.go:112", after := #[{ on := 2, ground := Ground.data }, { on := 8, ground := Ground.data }], guard := none }) (v := ?vv25) rfl (by kernel_rfl) (by kernel_rfl) (by kernel_rfl) (fun _ _ _ h => h) (Or.inl ⟨by rfl, ?hy25⟩) (by assumption) ?_
              case hy25 => (intro w hSw; (try dsimp only at hSw); go_simp; all_goals with_reducible rfl)
              try simp only [Act.put, List.setIfInBounds_toArray, List.set_cons_zero, List.set_cons_succ]
              refine wpAnyH_take (i := 10) (oi := { dst := some 132, op := Op.move (Operand.tmp 131), type := 4, pos := "outright.go:112", after := #[{ on := 9, ground := Ground.data }, { on := 2, ground := Ground.chain }], guard := none }) (v := ?vv26) rfl (by kernel_rfl) (by kernel_rfl) (by kernel_rfl) (fun _ _ _ h => h) (Or.inl ⟨by rfl, ?hy26⟩) (by assumption) ?_
              case hy26 => (intro w hSw; (try dsimp only at hSw); go_simp; all_goals with_reducible rfl)
              try simp only [Act.put, List.setIfInBounds_toArray, List.set_cons_zero, List.set_cons_succ]
              refine wpAnyH_take (i := 11) (oi := { dst := some 133, op := Op.fieldAddr 60 (Operand.tmp 4) 3, type := 0, pos := "outright.go:112", after := #[{ on := 10, ground := Ground.guard }], guard := some (10, true) }) (v := ?vv27) rfl (by kernel_rfl) (by kernel_rfl) (by kernel_rfl) (fun _ _ _ h => h) (Or.inl ⟨by rfl, ?hy27⟩) (by assumption) ?_
              case hy27 => (intro w hSw; (try dsimp only at hSw); go_simp; all_goals with_reducible rfl)
              try simp only [Act.put, List.setIfInBounds_toArray, List.set_cons_zero, List.set_cons_succ]
              refine wpAnyH_take (i := 12) (oi := { dst := some 134, op := Op.load 26 (Operand.tmp 133), type := 26, pos := "outright.go:112", after := #[{ on := 11, ground := Ground.data }, { on := 10, ground := Ground.guard }], guard := some (10, true) }) (v := ?vv28) rfl (by kernel_rfl) (by kernel_rfl) (by kernel_rfl) (fun _ _ _ h => h) (Or.inl ⟨by rfl, ?hy28⟩) (by assumption) ?_
              case hy28 => (intro w hSw; (try dsimp only at hSw); go_simp; all_goals with_reducible rfl)
              try simp only [Act.put, List.setIfInBounds_toArray, List.set_cons_zero, List.set_cons_succ]
              refine wpAnyH_take (i := 14) (oi := { dst := some 136, op := Op.move (Operand.tmp 0), type := 55, pos := "outright.go:112", after := #[{ on := 10, ground := Ground.guard }], guard := some (10, true) }) (v := ?vv29) rfl (by kernel_rfl) (by kernel_rfl) (by kernel_rfl) (fun _ _ _ h => h) (Or.inl ⟨by rfl, ?hy29⟩) (by assumption) ?_
              case hy29 => (intro w hSw; (try dsimp only at hSw); go_simp; all_goals with_reducible rfl)
              try simp only [Act.put, List.setIfInBounds_toArray, List.set_cons_zero, List.set_cons_succ]
              refine wpAnyH_take (i := 15) (oi := { dst := some 137, op := Op.nilCheck (Operand.tmp 136), type := 0, pos := "outright.go:112", after := #[{ on := 14, ground := Ground.data }, { on := 10, ground := Ground.guard }], guard := some (10, true) }) (v := ?vv30) rfl (by kernel_rfl) (by kernel_rfl) (by kernel_rfl) (fun _ _ _ h => h) (Or.inl ⟨by rfl, ?hy30⟩) (by assumption) ?_
              case hy30 => (intro w hSw; (try dsimp only at hSw); go_simp; all_goals with_reducible rfl)
              try simp only [Act.put, List.setIfInBounds_toArray, List.set_cons_zero, List.set_cons_succ]
              refine wpAnyH_take (i := 16) (oi := { dst := some 138, op := Op.fieldAddr 58 (Operand.tmp 137) 1, type := 0, pos := "outright.go:112", after := #[{ on := 15, ground := Ground.data }, { on := 10, ground := Ground.guard }], guard := some (10, true) }) (v := ?vv31) rfl (by kernel_rfl) (by kernel_rfl) (by kernel_rfl) (fun _ _ _ h => h) (Or.inl ⟨by rfl, ?hy31⟩) (by assumption) ?_
              case hy31 => (intro w hSw; (try dsimp only at hSw); go_simp; all_goals with_reducible rfl)
              try simp only [Act.put, List.setIfInBounds_toArray, List.set_cons_zero, List.set_cons_succ]
              refine wpAnyH_take (i := 17) (oi := { dst := some 139, op := Op.fieldAddr 36 (Operand.tmp 138) 1, type := 0, pos := "outright.go:112", after := #[{ on := 16, ground := Ground.data }, { on := 10, ground := Ground.guard }], guard := some (10, true) }) (v := ?vv32) rfl (by kernel_rfl) (by kernel_rfl) (by kernel_rfl) (fun _ _ _ h => h) (Or.inl ⟨by rfl, ?hy32⟩) (by assumption) ?_
              case hy32 => (intro w hSw; (try dsimp only at hSw); go_simp; all_goals with_reducible rfl)
              try simp only [Act.put, List.setIfInBounds_toArray, List.set_cons_zero, List.set_cons_succ]
              refine wpAnyH_take (i := 18) (oi := { dst := some 140, op := Op.load 2 (Operand.tmp 139), type := 2, pos := "outright.go:112", after := #[{ on := 17, ground := Ground.data }, { on := 10, ground := Ground.guard }], guard := some (10, true) }) (v := ?vv33) rfl (by kernel_rfl) (by kernel_rfl) (by kernel_rfl) (fun _ _ _ h => h) (Or.inl ⟨by rfl, ?hy33⟩) (by assumption) ?_
              case hy33 => (intro w hSw; (try dsimp only at hSw); go_simp; all_goals with_reducible rfl)
              try simp only [Act.put, List.setIfInBounds_toArray, List.set_cons_zero, List.set_cons_succ]
              refine wpAnyH_ready (rs := [13]) (by kernel_rfl) (by simp) ?_
              refine AllReadyH.cons (o := { dst := some 135, op := Op.call { callee := Callee.value (Operand.func 44), args := #[Operand.tmp 134], argTypes := #[26] }, type := 2, pos := "outright.go:112", after := #[{ on := 12, ground := Ground.data }, { on := 10, ground := Ground.chain }, { on := 10, ground := Ground.guard }], guard := some (10, true) }) rfl (fun K hK => ?_) AllReadyH.nil
              refine ite_take (by rfl) ?_
              go_simp
              refine (HSz.out _ hIW).mono ?_
              rintro e' W14x ⟨rfl, bX⟩
              have hW14x : Below V13.heap.size V13 W14x := hIW.trans (bX.mono hIW.size)
              clear bX
              go_wp2_with fail
              refine hK.out _ _ (hS14.out _ hW14x) (fun hHeld => ?_)
              clear hK K
              try simp only [Act.put, List.setIfInBounds_toArray, List.set_cons_zero, List.set_cons_succ]
              refine wpAnyH_take (i := 19) (oi := { dst := some 141, op := Op.binOp BinOp.leq 2 (Operand.tmp 135) (Operand.tmp 140) 2, type := 4, pos := "outright.go:112", after := #[{ on := 13, ground := Ground.data }, { on := 18, ground := Ground.data }, { on := 10, ground := Ground.guard }], guard := some (10, true) }) (v := ?vv34) rfl (by kernel_rfl) (by kernel_rfl) (by kernel_rfl) (fun _ _ _ h => h) (Or.inl ⟨by rfl, ?hy34⟩) (by assumption) ?_
              case hy34 => (intro w hSw; (try dsimp only at hSw); go_simp; all_goals with_reducible rfl)
              try simp only [Act.put, List.setIfInBounds_toArray, List.set_cons_zero, List.set_cons_succ]
              refine wpAnyH_take (i := 20) (oi := { dst := some 142, op := Op.pick (Operand.tmp 132) (Operand.tmp 141) (Operand.const (Value.bool false)), type := 4, pos := "outright.go:112", after := #[{ on := 10, ground := Ground.data }, { on := 19, ground := Ground.data }], guard := none }) (v := ?vv35) rfl (by kernel_rfl) (by kernel_rfl) (by kernel_rfl) (fun _ _ _ h => h) (Or.inl ⟨by rfl, ?hy35⟩) (by assumption) ?_
              case hy35 => (intro w hSw; (try dsimp only at hSw); go_simp; all_goals with_reducible rfl)
              try simp only [Act.put, List.setIfInBounds_toArray, List.set_cons_zero, List.set_cons_succ]
              refine wpAnyH_take (i := 21) (oi := { dst := some 15, op := Op.assign (Operand.tmp 142), type := 4, pos := "outright.go:112", after := #[{ on := 20, ground := Ground.data }, { on := 13, ground := Ground.chain }, { on := 0, ground := Ground.phase }, { on := 1, ground := Ground.phase }, { on := 2, ground := Ground.phase }, { on := 3, ground := Ground.phase }, { on := 4, ground := Ground.phase }, { on := 5, ground := Ground.phase }, { on := 6, ground := Ground.phase }, { on := 7, ground := Ground.phase }, { on := 8, ground := Ground.phase }, { on := 9, ground := Ground.phase }, { on := 10, ground := Ground.phase }, { on := 11, ground := Ground.phase }, { on := 12, ground := Ground.phase }, { on := 13, ground := Ground.phase }, { on := 14, ground := Ground.phase }, { on := 15, ground := Ground.phase }, { on := 16, ground := Ground.phase }, { on := 17, ground := Ground.phase }, { on := 18, ground := Ground.phase }, { on := 19, ground := Ground.phase }, { on := 20, ground := Ground.phase }], guard := none }) (v := ?vv36) rfl (by kernel_rfl) (by kernel_rfl) (by kernel_rfl) (fun _ _ _ h => h) (Or.inl ⟨by rfl, ?hy36⟩) (by assumption) ?_
              case hy36 => (intro w hSw; (try dsimp only at hSw); go_simp; all_goals with_reducible rfl)
              try simp only [Act.put, List.setIfInBounds_toArray, List.set_cons_zero, List.set_cons_succ]
              refine wpAnyH_done (by kernel_rfl) ?_ _
              have HE : Hid (Cs w0 W14x b g (hr c tk) y' L' (k1, k2, k3) (B.drop g2) n1 o0 (⟨kd, tw, ⟨m, s, a, p, (y1, y2, y3), qb⟩, rn, (r1, r2, r3), rb, st, tk, Q, fr⟩ : Os) r0 (v1, v2, v3) (g1, g2, g3) D) := HC13.out.below hW14x
              clear hS14 hHeld
              go_wp2_with fail
              go_meet
              case rel => exact ⟨by rw [HOk.out], HE.out⟩
            · have HOk : Hid (ok = false) := by
                have := HMe.out
                show _ = _
                rw [HOk0.out, decide_eq_true (by omega)]
                simp
              have hmb : decide (0 < c.me) = false := decide_eq_false hm0
              clear HOk0
              go_quiet (fail)
              go_wp2_with fail
              go_meet
              case rel => exact ⟨by rw [HOk.out], HC13.out.below (below_drewN (Below.refl _ _) _)⟩
          · have HOk : Hid (ok = false) := by show _ = _; rw [HOk0.out]; simp
            clear HOk0
            go_quiet (fail)
            go_wp2_with fail
            go_meet
            case rel => exact ⟨by rw [HOk.out], HC13.out.below (below_drewN (Below.refl _ _) _)⟩
      case rest =>
        obtain ⟨rfl, hC15⟩ := hcut
        clear HC13 c1 c2 lb13
        have HC15 : Hid (Cs w0 wc b g (hr c tk) y' L' (k1, k2, k3) (B.drop g2) n1 o0 (⟨kd, tw, ⟨m, s, a, p, (y1, y2, y3), qb⟩, rn, (r1, r2, r3), rb, st, tk, Q, fr⟩ : Os) r0 (v1, v2, v3) (g1, g2, g3) D) := hC15.out
        clear hC15
        obtain ⟨c0, c1, c2, c3, c4, c5, c6, cf⟩ := HC15.out.m.bk.cells
        replace c1 : wc.cell? ⟨b, 1, none⟩ = some (.int .i64 c.me) := c1
        replace c2 : wc.cell? ⟨b, 2, none⟩ = some (.int .i64 c.mb) := c2
        simp only [sv] at c5
        clear c0 c3 c4 c6 cf
        have lb := heap_lt HC15.out.m.bk.blk
        cases ok
        · have ls0 : ls = 0 := by rw [← HLs.out]; exact HSp.out.1.ls0
          have HE : Hid (Ci w0 wc b g (hr c tk) y' L' (k1, k2, k3) (B.drop g2) n1) := HC15.out.m.ci (by rw [HSp.out.2.2.1 rfl]; exact HRl.out.1.drop g2)
          have HF : Hid ((∀ x ∈ B.drop g2, x.st ≤ i) ∧ (B.drop g2).Pairwise fun a b => a.st < b.st) := ⟨fun x hx => by have := HSt.out.1 x ((List.drop_sublist _ _).subset hx); omega, HSt.out.2.sublist (List.drop_sublist _ _)⟩
          subst ls0
          go_wp2_with fail
          go_quiet (fail)
          go_wp2_with fail
          go_ret
          exact ⟨rfl, y', L', (k1, k2, k3), B.drop g2, HE.out.below (below_drewN (Below.refl _ _) _), HF.out⟩
        · go_upto_region 17 with fail
          go_cut [177] from 17 (fun v wx => v = .bool false ∧ Hid (Cs w0 wx b g (hr c tk) y' L' (k1, k2, k3) (B.drop g2) n1 o0 (⟨kd, tw, ⟨m, s, a, p, (y1, y2, y3), qb⟩, rn, (r1, r2, r3), rb, st, tk, Q, fr⟩ : Os) r0 (v1, v2, v3) (g1, g2, g3) D))
          case first =>
            as_aux_lemma =>
              by_cases hl0 : 0 < ls
              · have hl0' : (0 : Int) < (ls : Int) := by omega
                by_cases hk2 : (k2 : Int) + 2 ≤ c.me
                · obtain ⟨kk, hkk⟩ : ∃ q : Nat, k2 + 2 = q := ⟨_, rfl⟩
                  have q0 : (k2 : Int) + 2 = (kk : Int) := by omega
                  rw [q0] at hk2
                  have hkt : decide ((kk : Int) ≤ c.me) = true := decide_eq_true hk2
                  have hk66 : IntKind.i64.wrap (kk : Int) = (kk : Int) := wraps_i64_63 _ (by omega) (by omega)
                  obtain ⟨tt, htt⟩ : ∃ t, totK (B.drop g2) = t := ⟨_, rfl⟩
                  have hts : tt ≤ 4096 := by
                    have h1 := HTot.out
                    have h2 : totK B = totK (B.take g2) + totK (B.drop g2) := by
                      unfold totK
                      rw [← List.sum_append, ← List.map_append, List.take_append_drop]
                    omega
                  have hlz : ls ≤ 4096 := by
                    rw [← HLs.out]
                    unfold lstN
                    split
                    · rename_i hh
                      split
                      · omega
                      · have h1 := HTot.out
                        have h2 := totK_take (L := B) hh.2
                        have h3 := totK_le B (g2 - 1 + 1)
                        omega
                    · omega
                  have HBy : Hid (∀ V, Below wc.heap.size wc V → Calls Tryd.prog 23 #[.pointer (some ⟨b, 0, none⟩)] V fun e w' => e = .returned (.int .i64 (tt : Int)) ∧ Below V.heap.size V w') := fun V hV => by
                    have := bytesK_any V b g _ _ _ _ (B.drop g2) n1 (HC15.out.below hV).m.bk (by omega)
                    rw [htt] at this
                    exact this
                  have HSz : Hid (∀ V, Below wc.heap.size wc V → Calls Tryd.prog 44 #[.agg #[.int .i64 rn, .slice r1 r2 r3, .string rb]] V fun e w' => e = .returned (.int .i64 (zs : Int)) ∧ Below V.heap.size V w') := fun V hV => by
                    have := size44_any rn (r1, r2, r3) rb fr V (HOi.out.ir.below (HC15.out.below hV).m.bel) (by rw [HZs.out.1]; omega)
                    rw [HZs.out.1] at this
                    exact this
                  obtain ⟨s1, hs1⟩ : ∃ s, tt + ls = s := ⟨_, rfl⟩
                  obtain ⟨s2, hs2⟩ : ∃ s, s1 + zs = s := ⟨_, rfl⟩
                  have q1 : (tt : Int) + (ls : Int) = (s1 : Int) := by omega
                  have q2 : (s1 : Int) + (zs : Int) = (s2 : Int) := by omega
                  have q3 : s1 ≤ 8192 := by omega
                  have q4 : s2 ≤ 1152921504606855168 := by omega
                  have hw1 : IntKind.i64.wrap (s1 : Int) = (s1 : Int) := wraps_i64_63 _ (by omega) (by omega)
                  have hw2 : IntKind.i64.wrap (s2 : Int) = (s2 : Int) := wraps_i64_63 _ (by omega) (by omega)
                  have hno : ¬ (s2 : Int) ≤ c.mb := fun hle => by
                    have hp := HSp.out.1.room
                    rw [HLs.out, htt, HZs.out.1] at hp
                    refine hp hl0 ⟨?_, ?_⟩
                    · show ((B.length - g2 : Nat) : Int) + 2 ≤ c.me
                      have := HK2.out.2
                      have := HZl.out
                      omega
                    · show ((tt + ls + zs : Nat) : Int) ≤ c.mb
                      omega
                  have hno2 : decide ((s2 : Int) ≤ c.mb) = false := decide_eq_false hno
                  have hS17 : Hid (∀ V, Below wc.heap.size wc V → V.cell? ⟨b, 5, none⟩ = some (.slice k1 k2 k3) ∧ V.cell? ⟨b, 1, none⟩ = some (.int .i64 c.me) ∧ V.cell? ⟨b, 2, none⟩ = some (.int .i64 c.mb) ∧ V.cell? ⟨o0, 8, none⟩ = some (.int .i64 rn) ∧ V.cell? ⟨o0, 9, none⟩ = some (.slice r1 r2 r3) ∧ V.cell? ⟨o0, 10, none⟩ = some (.string rb)) := fun V hV => by
                    have h1 := (HC15.out.below hV).m.bk.cells
                    have h2 := cells60 (HC15.out.below hV).m.bx.blk
                    exact ⟨h1.2.2.2.2.2.1, h1.2.1, h1.2.2.1, h2.2.2.2.2.2.2.2.2.1, h2.2.2.2.2.2.2.2.2.2.1, h2.2.2.2.2.2.2.2.2.2.2.1⟩
                  clear htt hs1 hs2 hts hlz hkk c1 c2 c5
                  have hIW : Below wc.heap.size wc wc.drew := (Below.refl _ _).drew
                  refine wp_region_held_drew (S := (fun V => V.cell? ⟨b, 5, none⟩ = some (.slice k1 k2 k3) ∧ V.cell? ⟨b, 1, none⟩ = some (.int .i64 c.me) ∧ V.cell? ⟨b, 2, none⟩ = some (.int .i64 c.mb) ∧ V.cell? ⟨o0, 8, none⟩ = some (.int .i64 rn) ∧ V.cell? ⟨o0, 9, none⟩ = some (.slice r1 r2 r3) ∧ V.cell? ⟨o0, 10, none⟩ = some (.string rb))) (by kernel_rfl) (hS17.out _ hIW) (fun hHeld => ?_)
                  generalize hWg : World.drew _ = W17 at hIW hHeld ⊢
                  clear hWg
                  refine wpAnyH_take (i := 0) (oi := { dst := some 146, op := Op.move (Operand.tmp 11), type := 2, pos := "outright.go:116", after := #[], guard := none }) (v := ?vv37) rfl (by kernel_rfl) (by kernel_rfl) (by kernel_rfl) (fun _ _ _ h => h) (Or.inl ⟨by rfl, ?hy37⟩) (by assumption) ?_
                  case hy37 => (intro w hSw; (try dsimp only at hSw); go_simp; all_goals with_reducible rfl)
                  try simp only [Act.put, List.setIfInBounds_toArray, List.set_cons_zero, List.set_cons_succ]
                  refine wpAnyH_take (i := 1) (oi := { dst := some 147, op := Op.binOp BinOp.gtr 2 (Operand.tmp 146) (Operand.const (Value.int IntKind.i64 0)) 2, type := 4, pos := "outright.go:116", after := #[{ on := 0, ground := Ground.data }], guard := none }) (v := ?vv38) rfl (by kernel_rfl) (by kernel_rfl) (by kernel_rfl) (fun _ _ _ h => h) (Or.inl ⟨by rfl, ?hy38⟩) (by assumption) ?_
                  case hy38 => (intro w hSw; (try dsimp only at hSw); go_simp; all_goals with_reducible rfl)
                  try simp only [Act.put, List.setIfInBounds_toArray, List.set_cons_zero, List.set_cons_succ]
                  refine wpAnyH_take (i := 2) (oi := { dst := some 148, op := Op.move (Operand.tmp 147), type := 4, pos := "outright.go:116", after := #[{ on := 1, ground := Ground.data }], guard := none }) (v := ?vv39) rfl (by kernel_rfl) (by kernel_rfl) (by kernel_rfl) (fun _ _ _ h => h) (Or.inl ⟨by rfl, ?hy39⟩) (by assumption) ?_
                  case hy39 => (intro w hSw; (try dsimp only at hSw); go_simp; all_goals with_reducible rfl)
                  try simp only [Act.put, List.setIfInBounds_toArray, List.set_cons_zero, List.set_cons_succ]
                  refine wpAnyH_take (i := 3) (oi := { dst := some 149, op := Op.move (Operand.tmp 0), type := 55, pos := "outright.go:116", after := #[{ on := 2, ground := Ground.guard }], guard := some (2, true) }) (v := ?vv40) rfl (by kernel_rfl) (by kernel_rfl) (by kernel_rfl) (fun _ _ _ h => h) (Or.inl ⟨by rfl, ?hy40⟩) (by assumption) ?_
                  case hy40 => (intro w hSw; (try dsimp only at hSw); go_simp; all_goals with_reducible rfl)
                  try simp only [Act.put, List.setIfInBounds_toArray, List.set_cons_zero, List.set_cons_succ]
                  refine wpAnyH_take (i := 4) (oi := { dst := some 150, op := Op.nilCheck (Operand.tmp 149), type := 0, pos := "outright.go:116", after := #[{ on := 3, ground := Ground.data }, { on := 2, ground := Ground.guard }], guard := some (2, true) }) (v := ?vv41) rfl (by kernel_rfl) (by kernel_rfl) (by kernel_rfl) (fun _ _ _ h => h) (Or.inl ⟨by rfl, ?hy41⟩) (by assumption) ?_
                  case hy41 => (intro w hSw; (try dsimp only at hSw); go_simp; all_goals with_reducible rfl)
                  try simp only [Act.put, List.setIfInBounds_toArray, List.set_cons_zero, List.set_cons_succ]
                  refine wpAnyH_take (i := 5) (oi := { dst := some 151, op := Op.fieldAddr 58 (Operand.tmp 150) 2, type := 0, pos := "outright.go:116", after := #[{ on := 4, ground := Ground.data }, { on := 2, ground := Ground.guard }], guard := some (2, true) }) (v := ?vv42) rfl (by kernel_rfl) (by kernel_rfl) (by kernel_rfl) (fun _ _ _ h => h) (Or.inl ⟨by rfl, ?hy42⟩) (by assumption) ?_
                  case hy42 => (intro w hSw; (try dsimp only at hSw); go_simp; all_goals with_reducible rfl)
                  try simp only [Act.put, List.setIfInBounds_toArray, List.set_cons_zero, List.set_cons_succ]
                  refine wpAnyH_take (i := 6) (oi := { dst := some 152, op := Op.load 56 (Operand.tmp 151), type := 56, pos := "outright.go:116", after := #[{ on := 5, ground := Ground.data }, { on := 2, ground := Ground.guard }], guard := some (2, true) }) (v := ?vv43) rfl (by kernel_rfl) (by kernel_rfl) (by kernel_rfl) (fun _ _ _ h => h) (Or.inl ⟨by rfl, ?hy43⟩) (by assumption) ?_
                  case hy43 => (intro w hSw; (try dsimp only at hSw); go_simp; all_goals with_reducible rfl)
                  try simp only [Act.put, List.setIfInBounds_toArray, List.set_cons_zero, List.set_cons_succ]
                  refine wpAnyH_take (i := 7) (oi := { dst := some 153, op := Op.call { callee := Callee.builtin Builtin.len, args := #[Operand.tmp 152], argTypes := #[56] }, type := 3, pos := "outright.go:116", after := #[{ on := 6, ground := Ground.data }, { on := 2, ground := Ground.guard }], guard := some (2, true) }) (v := ?vv44) rfl (by kernel_rfl) (by kernel_rfl) (by kernel_rfl) (fun _ _ _ h => h) (Or.inl ⟨by rfl, ?hy44⟩) (by assumption) ?_
                  case hy44 => (intro w hSw; (try dsimp only at hSw); go_simp; all_goals with_reducible rfl)
                  try simp only [Act.put, List.setIfInBounds_toArray, List.set_cons_zero, List.set_cons_succ]
                  refine wpAnyH_take (i := 8) (oi := { dst := some 154, op := Op.binOp BinOp.add 2 (Operand.tmp 153) (Operand.const (Value.int IntKind.i64 2)) 2, type := 2, pos := "outright.go:116", after := #[{ on := 7, ground := Ground.data }, { on := 2, ground := Ground.guard }], guard := some (2, true) }) (v := ?vv45) rfl (by kernel_rfl) (by kernel_rfl) (by kernel_rfl) (fun _ _ _ h => h) (Or.inl ⟨by rfl, ?hy45⟩) (by assumption) ?_
                  case hy45 => (intro w hSw; (try dsimp only at hSw); go_simp; all_goals with_reducible rfl)
                  try simp only [Act.put, List.setIfInBounds_toArray, List.set_cons_zero, List.set_cons_succ]
                  refine wpAnyH_take (i := 9) (oi := { dst := some 155, op := Op.move (Operand.tmp 0), type := 55, pos := "outright.go:116", after := #[{ on := 2, ground := Ground.guard }], guard := some (2, true) }) (v := ?vv46) rfl (by kernel_rfl) (by kernel_rfl) (by kernel_rfl) (fun _ _ _ h => h) (Or.inl ⟨by rfl, ?hy46⟩) (by assumption) ?_
                  case hy46 => (intro w hSw; (try dsimp only at hSw); go_simp; all_goals with_reducible rfl)
                  try simp only [Act.put, List.setIfInBounds_toArray, List.set_cons_zero, List.set_cons_succ]
                  refine wpAnyH_take (i := 10) (oi := { dst := some 156, op := Op.nilCheck (Operand.tmp 155), type := 0, pos := "outright.go:116", after := #[{ on := 9, ground := Ground.data }, { on := 2, ground := Ground.guard }], guard := some (2, true) }) (v := ?vv47) rfl (by kernel_rfl) (by kernel_rfl) (by kernel_rfl) (fun _ _ _ h => h) (Or.inl ⟨by rfl, ?hy47⟩) (by assumption) ?_
                  case hy47 => (intro w hSw; (try dsimp only at hSw); go_simp; all_goals with_reducible rfl)
                  try simp only [Act.put, List.setIfInBounds_toArray, List.set_cons_zero, List.set_cons_succ]
                  refine wpAnyH_take (i := 11) (oi := { dst := some 157, op := Op.fieldAddr 58 (Operand.tmp 156) 1, type := 0, pos := "outright.go:116", after := #[{ on := 10, ground := Ground.data }, { on := 2, ground := Ground.guard }], guard := some (2, true) }) (v := ?vv48) rfl (by kernel_rfl) (by kernel_rfl) (by kernel_rfl) (fun _ _ _ h => h) (Or.inl ⟨by rfl, ?hy48⟩) (by assumption) ?_
                  case hy48 => (intro w hSw; (try dsimp only at hSw); go_simp; all_goals with_reducible rfl)
                  try simp only [Act.put, List.setIfInBounds_toArray, List.set_cons_zero, List.set_cons_succ]
                  refine wpAnyH_take (i := 12) (oi := { dst := some 158, op := Op.fieldAddr 36 (Operand.tmp 157) 0, type := 0, pos := "outright.go:116", after := #[{ on := 11, ground := Ground.data }, { on := 2, ground := Ground.guard }], guard := some (2, true) }) (v := ?vv49) rfl (by kernel_rfl) (by kernel_rfl) (by kernel_rfl) (fun _ _ _ h => h) (Or.inl ⟨by rfl, ?hy49⟩) (by assumption) ?_
                  case hy49 => (intro w hSw; (try dsimp only at hSw); go_simp; all_goals with_reducible rfl)
                  try simp only [Act.put, List.setIfInBounds_toArray, List.set_cons_zero, List.set_cons_succ]
                  refine wpAnyH_take (i := 13) (oi := { dst := some 159, op := Op.load 2 (Operand.tmp 158), type := 2, pos := "outright.go:116", after := #[{ on := 12, ground := Ground.data }, { on := 2, ground := Ground.guard }], guard := some (2, true) }) (v := ?vv50) rfl (by kernel_rfl) (by kernel_rfl) (by kernel_rfl) (fun _ _ _ h => h) (Or.inl ⟨by rfl, ?hy50⟩) (by assumption) ?_
                  case hy50 => (intro w hSw; (try dsimp only at hSw); go_simp; all_goals with_reducible rfl)
                  try simp only [Act.put, List.setIfInBounds_toArray, List.set_cons_zero, List.set_cons_succ]
                  refine wpAnyH_take (i := 14) (oi := { dst := some 160, op := Op.binOp BinOp.leq 2 (Operand.tmp 154) (Operand.tmp 159) 2, type := 4, pos := "outright.go:116", after := #[{ on := 8, ground := Ground.data }, { on := 13, ground := Ground.data }, { on := 2, ground := Ground.guard }], guard := some (2, true) }) (v := ?vv51) rfl (by kernel_rfl) (by kernel_rfl) (by kernel_rfl) (fun _ _ _ h => h) (Or.inl ⟨by rfl, ?hy51⟩) (by assumption) ?_
                  case hy51 => (intro w hSw; (try dsimp only at hSw); go_simp; all_goals with_reducible rfl)
                  try simp only [Act.put, List.setIfInBounds_toArray, List.set_cons_zero, List.set_cons_succ]
                  refine wpAnyH_take (i := 15) (oi := { dst := some 161, op := Op.pick (Operand.tmp 148) (Operand.tmp 160) (Operand.const (Value.bool false)), type := 4, pos := "outright.go:116", after := #[{ on := 2, ground := Ground.data }, { on := 14, ground := Ground.data }], guard := none }) (v := ?vv52) rfl (by kernel_rfl) (by kernel_rfl) (by kernel_rfl) (fun _ _ _ h => h) (Or.inl ⟨by rfl, ?hy52⟩) (by assumption) ?_
                  case hy52 => (intro w hSw; (try dsimp only at hSw); go_simp; all_goals with_reducible rfl)
                  try simp only [Act.put, List.setIfInBounds_toArray, List.set_cons_zero, List.set_cons_succ]
                  refine wpAnyH_take (i := 16) (oi := { dst := some 162, op := Op.move (Operand.tmp 161), type := 4, pos := "outright.go:116", after := #[{ on := 15, ground := Ground.data }, { on := 2, ground := Ground.chain }], guard := none }) (v := ?vv53) rfl (by kernel_rfl) (by kernel_rfl) (by kernel_rfl) (fun _ _ _ h => h) (Or.inl ⟨by rfl, ?hy53⟩) (by assumption) ?_
                  case hy53 => (intro w hSw; (try dsimp only at hSw); go_simp; all_goals with_reducible rfl)
                  try simp only [Act.put, List.setIfInBounds_toArray, List.set_cons_zero, List.set_cons_succ]
                  refine wpAnyH_take (i := 17) (oi := { dst := some 163, op := Op.move (Operand.tmp 0), type := 55, pos := "outright.go:116", after := #[{ on := 16, ground := Ground.guard }], guard := some (16, true) }) (v := ?vv54) rfl (by kernel_rfl) (by kernel_rfl) (by kernel_rfl) (fun _ _ _ h => h) (Or.inl ⟨by rfl, ?hy54⟩) (by assumption) ?_
                  case hy54 => (intro w hSw; (try dsimp only at hSw); go_simp; all_goals with_reducible rfl)
                  try simp only [Act.put, List.setIfInBounds_toArray, List.set_cons_zero, List.set_cons_succ]
                  refine wpAnyH_take (i := 19) (oi := { dst := some 165, op := Op.move (Operand.tmp 11), type := 2, pos := "outright.go:116", after := #[{ on := 16, ground := Ground.guard }], guard := some (16, true) }) (v := ?vv55) rfl (by kernel_rfl) (by kernel_rfl) (by kernel_rfl) (fun _ _ _ h => h) (Or.inl ⟨by rfl, ?hy55⟩) (by assumption) ?_
                  case hy55 => (intro w hSw; (try dsimp only at hSw); go_simp; all_goals with_reducible rfl)
                  try simp only [Act.put, List.setIfInBounds_toArray, List.set_cons_zero, List.set_cons_succ]
                  refine wpAnyH_take (i := 21) (oi := { dst := some 167, op := Op.fieldAddr 60 (Operand.tmp 4) 3, type := 0, pos := "outright.go:116", after := #[{ on := 16, ground := Ground.guard }], guard := some (16, true) }) (v := ?vv56) rfl (by kernel_rfl) (by kernel_rfl) (by kernel_rfl) (fun _ _ _ h => h) (Or.inl ⟨by rfl, ?hy56⟩) (by assumption) ?_
                  case hy56 => (intro w hSw; (try dsimp only at hSw); go_simp; all_goals with_reducible rfl)
                  try simp only [Act.put, List.setIfInBounds_toArray, List.set_cons_zero, List.set_cons_succ]
                  refine wpAnyH_take (i := 22) (oi := { dst := some 168, op := Op.load 26 (Operand.tmp 167), type := 26, pos := "outright.go:116", after := #[{ on := 21, ground := Ground.data }, { on := 16, ground := Ground.guard }], guard := some (16, true) }) (v := ?vv57) rfl (by kernel_rfl) (by kernel_rfl) (by kernel_rfl) (fun _ _ _ h => h) (Or.inl ⟨by rfl, ?hy57⟩) (by assumption) ?_
                  case hy57 => (intro w hSw; (try dsimp only at hSw); go_simp; all_goals with_reducible rfl)
                  try simp only [Act.put, List.setIfInBounds_toArray, List.set_cons_zero, List.set_cons_succ]
                  refine wpAnyH_take (i := 25) (oi := { dst := some 171, op := Op.move (Operand.tmp 0), type := 55, pos := "outright.go:116", after := #[{ on := 16, ground := Ground.guard }], guard := some (16, true) }) (v := ?vv58) rfl (by kernel_rfl) (by kernel_rfl) (by kernel_rfl) (fun _ _ _ h => h) (Or.inl ⟨by rfl, ?hy58⟩) (by assumption) ?_
                  case hy58 => (intro w hSw; (try dsimp only at hSw); go_simp; all_goals with_reducible rfl)
                  try simp only [Act.put, List.setIfInBounds_toArray, List.set_cons_zero, List.set_cons_succ]
                  refine wpAnyH_take (i := 26) (oi := { dst := some 172, op := Op.nilCheck (Operand.tmp 171), type := 0, pos := "outright.go:116", after := #[{ on := 25, ground := Ground.data }, { on := 16, ground := Ground.guard }], guard := some (16, true) }) (v := ?vv59) rfl (by kernel_rfl) (by kernel_rfl) (by kernel_rfl) (fun _ _ _ h => h) (Or.inl ⟨by rfl, ?hy59⟩) (by assumption) ?_
                  case hy59 => (intro w hSw; (try dsimp only at hSw); go_simp; all_goals with_reducible rfl)
                  try simp only [Act.put, List.setIfInBounds_toArray, List.set_cons_zero, List.set_cons_succ]
                  refine wpAnyH_take (i := 27) (oi := { dst := some 173, op := Op.fieldAddr 58 (Operand.tmp 172) 1, type := 0, pos := "outright.go:116", after := #[{ on := 26, ground := Ground.data }, { on := 16, ground := Ground.guard }], guard := some (16, true) }) (v := ?vv60) rfl (by kernel_rfl) (by kernel_rfl) (by kernel_rfl) (fun _ _ _ h => h) (Or.inl ⟨by rfl, ?hy60⟩) (by assumption) ?_
                  case hy60 => (intro w hSw; (try dsimp only at hSw); go_simp; all_goals with_reducible rfl)
                  try simp only [Act.put, List.setIfInBounds_toArray, List.set_cons_zero, List.set_cons_succ]
                  refine wpAnyH_take (i := 28) (oi := { dst := some 174, op := Op.fieldAddr 36 (Operand.tmp 173) 1, type := 0, pos := "outright.go:116", after := #[{ on := 27, ground := Ground.data }, { on := 16, ground := Ground.guard }], guard := some (16, true) }) (v := ?vv61) rfl (by kernel_rfl) (by kernel_rfl) (by kernel_rfl) (fun _ _ _ h => h) (Or.inl ⟨by rfl, ?hy61⟩) (by assumption) ?_
                  case hy61 => (intro w hSw; (try dsimp only at hSw); go_simp; all_goals with_reducible rfl)
                  try simp only [Act.put, List.setIfInBounds_toArray, List.set_cons_zero, List.set_cons_succ]
                  refine wpAnyH_take (i := 29) (oi := { dst := some 175, op := Op.load 2 (Operand.tmp 174), type := 2, pos := "outright.go:116", after := #[{ on := 28, ground := Ground.data }, { on := 16, ground := Ground.guard }], guard := some (16, true) }) (v := ?vv62) rfl (by kernel_rfl) (by kernel_rfl) (by kernel_rfl) (fun _ _ _ h => h) (Or.inl ⟨by rfl, ?hy62⟩) (by assumption) ?_
                  case hy62 => (intro w hSw; (try dsimp only at hSw); go_simp; all_goals with_reducible rfl)
                  try simp only [Act.put, List.setIfInBounds_toArray, List.set_cons_zero, List.set_cons_succ]
                  refine wpAnyH_ready (rs := [18]) (by kernel_rfl) (by simp) ?_
                  refine AllReadyH.cons (o := { dst := some 164, op := Op.call { callee := Callee.value (Operand.func 23), args := #[Operand.tmp 163], argTypes := #[55] }, type := 2, pos := "outright.go:116", after := #[{ on := 17, ground := Ground.data }, { on := 16, ground := Ground.chain }, { on := 16, ground := Ground.guard }], guard := some (16, true) }) rfl (fun K hK => ?_) AllReadyH.nil
                  refine ite_take (by rfl) ?_
                  go_simp
                  refine (HBy.out _ hIW).mono ?_
                  rintro e' W17x ⟨rfl, bX⟩
                  have hW17x : Below wc.heap.size wc W17x := hIW.trans (bX.mono hIW.size)
                  clear bX
                  go_wp2_with fail
                  refine hK.out _ _ (hS17.out _ hW17x) (fun hHeld => ?_)
                  clear hK K
                  try simp only [Act.put, List.setIfInBounds_toArray, List.set_cons_zero, List.set_cons_succ]
                  refine wpAnyH_take (i := 20) (oi := { dst := some 166, op := Op.binOp BinOp.add 2 (Operand.tmp 164) (Operand.tmp 165) 2, type := 2, pos := "outright.go:116", after := #[{ on := 18, ground := Ground.data }, { on := 19, ground := Ground.data }, { on := 16, ground := Ground.guard }], guard := some (16, true) }) (v := ?vv63) rfl (by kernel_rfl) (by kernel_rfl) (by kernel_rfl) (fun _ _ _ h => h) (Or.inl ⟨by rfl, ?hy63⟩) (by assumption) ?_
                  case hy63 => (intro w hSw; (try dsimp only at hSw); go_simp; all_goals with_reducible rfl)
                  try simp only [Act.put, List.setIfInBounds_toArray, List.set_cons_zero, List.set_cons_succ]
                  refine wpAnyH_ready (rs := [23]) (by kernel_rfl) (by simp) ?_
                  refine AllReadyH.cons (o := { dst := some 169, op := Op.call { callee := Callee.value (Operand.func 44), args := #[Operand.tmp 168], argTypes := #[26] }, type := 2, pos := "outright.go:116", after := #[{ on := 22, ground := Ground.data }, { on := 18, ground := Ground.chain }, { on := 16, ground := Ground.guard }], guard := some (16, true) }) rfl (fun K hK => ?_) AllReadyH.nil
                  refine ite_take (by rfl) ?_
                  go_simp
                  refine (HSz.out _ hW17x).mono ?_
                  rintro e' W17xx ⟨rfl, bX⟩
                  have hW17xx : Below wc.heap.size wc W17xx := hW17x.trans (bX.mono hW17x.size)
                  clear bX
                  go_wp2_with fail
                  refine hK.out _ _ (hS17.out _ hW17xx) (fun hHeld => ?_)
                  clear hK K
                  try simp only [Act.put, List.setIfInBounds_toArray, List.set_cons_zero, List.set_cons_succ]
                  refine wpAnyH_take (i := 24) (oi := { dst := some 170, op := Op.binOp BinOp.add 2 (Operand.tmp 166) (Operand.tmp 169) 2, type := 2, pos := "outright.go:116", after := #[{ on := 20, ground := Ground.data }, { on := 23, ground := Ground.data }, { on := 16, ground := Ground.guard }], guard := some (16, true) }) (v := ?vv64) rfl (by kernel_rfl) (by kernel_rfl) (by kernel_rfl) (fun _ _ _ h => h) (Or.inl ⟨by rfl, ?hy64⟩) (by assumption) ?_
                  case hy64 => (intro w hSw; (try dsimp only at hSw); go_simp; all_goals with_reducible rfl)
                  try simp only [Act.put, List.setIfInBounds_toArray, List.set_cons_zero, List.set_cons_succ]
                  refine wpAnyH_take (i := 30) (oi := { dst := some 176, op := Op.binOp BinOp.leq 2 (Operand.tmp 170) (Operand.tmp 175) 2, type := 4, pos := "outright.go:116", after := #[{ on := 24, ground := Ground.data }, { on := 29, ground := Ground.data }, { on := 16, ground := Ground.guard }], guard := some (16, true) }) (v := ?vv65) rfl (by kernel_rfl) (by kernel_rfl) (by kernel_rfl) (fun _ _ _ h => h) (Or.inl ⟨by rfl, ?hy65⟩) (by assumption) ?_
                  case hy65 => (intro w hSw; (try dsimp only at hSw); go_simp; all_goals with_reducible rfl)
                  try simp only [Act.put, List.setIfInBounds_toArray, List.set_cons_zero, List.set_cons_succ]
                  refine wpAnyH_take (i := 31) (oi := { dst := some 177, op := Op.pick (Operand.tmp 162) (Operand.tmp 176) (Operand.const (Value.bool false)), type := 4, pos := "outright.go:116", after := #[{ on := 16, ground := Ground.data }, { on := 30, ground := Ground.data }], guard := none }) (v := ?vv66) rfl (by kernel_rfl) (by kernel_rfl) (by kernel_rfl) (fun _ _ _ h => h) (Or.inl ⟨by rfl, ?hy66⟩) (by assumption) ?_
                  case hy66 => (intro w hSw; (try dsimp only at hSw); go_simp; all_goals with_reducible rfl)
                  try simp only [Act.put, List.setIfInBounds_toArray, List.set_cons_zero, List.set_cons_succ]
                  refine wpAnyH_done (by kernel_rfl) ?_ _
                  have HE : Hid (Cs w0 W17xx b g (hr c tk) y' L' (k1, k2, k3) (B.drop g2) n1 o0 (⟨kd, tw, ⟨m, s, a, p, (y1, y2, y3), qb⟩, rn, (r1, r2, r3), rb, st, tk, Q, fr⟩ : Os) r0 (v1, v2, v3) (g1, g2, g3) D) := HC15.out.below hW17xx
                  clear hS17 hHeld
                  go_wp2_with fail
                  go_meet
                  case rel => exact ⟨by first | rfl | (rw [hno2]), HE.out⟩
                · obtain ⟨kk, hkk⟩ : ∃ q : Nat, k2 + 2 = q := ⟨_, rfl⟩
                  have q0 : (k2 : Int) + 2 = (kk : Int) := by omega
                  rw [q0] at hk2
                  have hkb : decide ((kk : Int) ≤ c.me) = false := decide_eq_false hk2
                  clear hkk
                  go_quiet (fail)
                  go_wp2_with fail
                  go_meet
                  case rel => exact ⟨rfl, HC15.out.below (below_drewN (Below.refl _ _) _)⟩
              · have ls0 : ls = 0 := by omega
                subst ls0
                go_quiet (fail)
                go_wp2_with fail
                go_meet
                case rel => exact ⟨rfl, HC15.out.below (below_drewN (Below.refl _ _) _)⟩
          case rest =>
            obtain ⟨rfl, hC17⟩ := hcut
            clear HC15 c1 c2 c5 lb
            have HC17 : Hid (Cs w0 wc b g (hr c tk) y' L' (k1, k2, k3) (B.drop g2) n1 o0 (⟨kd, tw, ⟨m, s, a, p, (y1, y2, y3), qb⟩, rn, (r1, r2, r3), rb, st, tk, Q, fr⟩ : Os) r0 (v1, v2, v3) (g1, g2, g3) D) := hC17.out
            clear hC17
            have HW1 : Hid (w0.heap.size ≤ wc.heap.size) := HC17.out.m.bel.size
            have hst : starB fr = false := by
              have h1 := HSp.out.2.1
              unfold noB at h1
              cases hs : starB fr with
              | false => rfl
              | true => rw [hs] at h1; simp at h1
            have HKz : Hid (∀ u1 u2 u3, Kz (⟨i, n1, ⟨m, s, a, p, (u1, u2, u3), qb⟩, rn, (v1, v2, v3), rb, Q, fr⟩ : Kn)) := fun u1 u2 u3 => ⟨HOi.out.az.zQ, HOi.out.az.zR, HZv.out, HOi.out.az.zN, hst⟩
            have HRl2 : Hid (∀ u1 u2 u3, Rl L' (B.drop g2 ++ [(⟨i, n1, ⟨m, s, a, p, (u1, u2, u3), qb⟩, rn, (v1, v2, v3), rb, Q, fr⟩ : Kn)])) := fun u1 u2 u3 => by
              obtain ⟨e, he, hE⟩ := HSp.out.2.2.2 rfl
              rw [he]
              exact (HRl.out.1.drop g2).app ⟨⟨hE.st, hE.ar, hE.rn, hE.rb, hE.rf, hE.sz, hE.hd, hE.fq, hE.nm⟩, HKz.out u1 u2 u3⟩
            have HF0 : Hid (∀ u1 u2 u3, (∀ x ∈ B.drop g2 ++ [(⟨i, n1, ⟨m, s, a, p, (u1, u2, u3), qb⟩, rn, (v1, v2, v3), rb, Q, fr⟩ : Kn)], x.st ≤ i) ∧ (B.drop g2 ++ [(⟨i, n1, ⟨m, s, a, p, (u1, u2, u3), qb⟩, rn, (v1, v2, v3), rb, Q, fr⟩ : Kn)]).Pairwise fun a b => a.st < b.st) := fun u1 u2 u3 => by
              refine ⟨fun x hx => ?_, List.pairwise_append.2 ⟨HSt.out.2.sublist (List.drop_sublist _ _), List.pairwise_singleton _ _, fun x hx y hy => ?_⟩⟩
              · rcases List.mem_append.1 hx with hx | hx
                · have := HSt.out.1 x ((List.drop_sublist _ _).subset hx); omega
                · rw [List.mem_singleton.1 hx]
                  exact Int.le_refl _
              · rw [List.mem_singleton.1 hy]
                exact HSt.out.1 x ((List.drop_sublist _ _).subset hx)
            clear hst HKz
            obtain ⟨x0, x1, x2, x3, x4, x5, x6, x7, x8, x9, x10, x11, x12⟩ := cells60 HC17.out.m.bx.blk
            simp only [sv] at x6
            clear x0 x1 x8 x9 x10 x11 x12
            obtain ⟨q0, hq0⟩ : ∃ k, wc.heap.size = k := ⟨_, rfl⟩
            obtain ⟨V20, hV20⟩ : ∃ V, wc.alloc (.cells #[.string m, .string s, .string a, .string p, .slice y1 y2 y3, .string qb] 24) = V := ⟨_, rfl⟩
            have b20 : Below wc.heap.size wc V20 := by rw [← hV20]; exact bel1 _ _
            have HC20 : Hid (Cs w0 V20 b g (hr c tk) y' L' (k1, k2, k3) (B.drop g2) n1 o0 (⟨kd, tw, ⟨m, s, a, p, (y1, y2, y3), qb⟩, rn, (r1, r2, r3), rb, st, tk, Q, fr⟩ : Os) r0 (v1, v2, v3) (g1, g2, g3) D) := HC17.out.below b20
            have HQ0 : Hid (V20.heap[q0]? = some (.cells #[.string m, .string s, .string a, .string p, .slice y1 y2 y3, .string qb] 24 (0, 0)) ∧ w0.heap.size ≤ q0) := ⟨by rw [← hV20, ← hq0, heap_al, if_pos rfl], by rw [← hq0]; exact HW1.out⟩
            clear b20
            go_upto_region 21 with fail
            try rw [hV20]
            try rw [hq0]
            clear hV20 hq0 x2 x3 x4 x5 x6 x7 HC17
            obtain ⟨x0, x1, x2, x3, x4, x5, x6, x7, x8, x9, x10, x11, x12⟩ := cells60 HC20.out.m.bx.blk
            simp only [sv] at x6
            clear x0 x1 x2 x3 x4 x5 x7 x8 x9 x10 x11 x12
            obtain ⟨u1, u3, V21, hrun, hRq, hG⟩ := app okFd V20 (.slice none 0 0) [] (R.nil EFd V20) (.slice y1 y2 y3) Q (HOi.out.iq.below HC20.out.m.bel) (by have : Q.length ≤ 1099511627776 := HOi.out.az.zQ; simp only [EFd, List.length_nil]; omega)
            have el : ([] : List Fd).length + Q.length = Q.length := by simp
            rw [el] at hrun hRq hG
            obtain ⟨u2, hu2⟩ : ∃ v, Q.length = v := ⟨_, rfl⟩
            rw [hu2] at hrun hRq hG
            have bG := hG.fresh
            have hQ0 : V21.heap[q0]? = some (.cells #[.string m, .string s, .string a, .string p, .slice y1 y2 y3, .string qb] 24 (0, 0)) := (bG.block _ (heap_lt HQ0.out.1)).trans HQ0.out.1
            obtain ⟨V22, hV22⟩ : ∃ V, V21.setCell ⟨q0, 4, none⟩ (.slice u1 u2 u3) = V := ⟨_, rfl⟩
            have HC22 : Hid (Cs w0 V22 b g (hr c tk) y' L' (k1, k2, k3) (B.drop g2) n1 o0 (⟨kd, tw, ⟨m, s, a, p, (y1, y2, y3), qb⟩, rn, (r1, r2, r3), rb, st, tk, Q, fr⟩ : Os) r0 (v1, v2, v3) (g1, g2, g3) D ∧ V22.heap[q0]? = some (.cells #[.string m, .string s, .string a, .string p, .slice u1 u2 u3, .string qb] 24 (0, 0)) ∧ R EFd V22 (.slice u1 u2 u3) Q) := by
              have h1 := (HC20.out.below bG).box hQ0 (by decide) HQ0.out.2 (by decide) 4 (.slice u1 u2 u3)
              rw [hV22] at h1
              have hRq' : R EFd V21 (.slice u1 u2 u3) Q := by simpa using hRq
              refine ⟨h1, by rw [← hV22, setCell_block _ _ _ _ _ _ _ hQ0]; rfl, hRq'.stays fun k hk _ => ?_⟩
              obtain ⟨cc, hc⟩ := hRq'.ty k hk
              rw [← hV22]
              exact setCell_other _ _ _ _ _ (ty_ne hc hQ0 (show (51 : TypeId) ≠ 24 by decide))
            have p4 := cell_blk hQ0 4
            have f4 := frozen_blk hQ0 4
            simp only [List.getElem?_toArray, List.getElem?_cons_succ, List.getElem?_cons_zero] at p4
            replace hrun : Hid _ := hrun
            have HRl2 : Hid (Rl L' (B.drop g2 ++ [(⟨i, n1, ⟨m, s, a, p, (u1, u2, u3), qb⟩, rn, (v1, v2, v3), rb, Q, fr⟩ : Kn)])) := HRl2.out u1 u2 u3
            have HF : Hid ((∀ x ∈ B.drop g2 ++ [(⟨i, n1, ⟨m, s, a, p, (u1, u2, u3), qb⟩, rn, (v1, v2, v3), rb, Q, fr⟩ : Kn)], x.st ≤ i) ∧ (B.drop g2 ++ [(⟨i, n1, ⟨m, s, a, p, (u1, u2, u3), qb⟩, rn, (v1, v2, v3), rb, Q, fr⟩ : Kn)]).Pairwise fun a b => a.st < b.st) := HF0.out u1 u2 u3
            have hS22 : Hid (∀ V, Below V22.heap.size V22 V → V.cell? ⟨b, 6, none⟩ = some (.int .i64 n1) ∧ V.cell? ⟨q0, 0, none⟩ = some (.string m) ∧ V.cell? ⟨q0, 1, none⟩ = some (.string s) ∧ V.cell? ⟨q0, 2, none⟩ = some (.string a) ∧ V.cell? ⟨q0, 3, none⟩ = some (.string p) ∧ V.cell? ⟨q0, 4, none⟩ = some (.slice u1 u2 u3) ∧ V.cell? ⟨q0, 5, none⟩ = some (.string qb) ∧ V.cell? ⟨r0, 0, none⟩ = some (.int .i64 rn) ∧ V.cell? ⟨r0, 1, none⟩ = some (.slice v1 v2 v3) ∧ V.cell? ⟨r0, 2, none⟩ = some (.string rb)) := fun V hV => by
              have h1 := (HC22.out.1.below hV).m.bk.cells
              have h2 := (hV.block _ (heap_lt HC22.out.2.1)).trans HC22.out.2.1
              have h3 := (HC22.out.1.below hV).rb
              exact ⟨h1.2.2.2.2.2.2.1, cell_blk h2 0, cell_blk h2 1, cell_blk h2 2, cell_blk h2 3, cell_blk h2 4, cell_blk h2 5, cell_blk h3 0, cell_blk h3 1, cell_blk h3 2⟩
            clear hRq hG el hu2 bG hQ0 HC20 HQ0
            go_upto_region 22 with (at_builtin; refine Lib.wpList_append_run _ rfl _ _ _ _ rfl _ _ rfl rfl _ _ hrun.out ?_)
            try rw [hV22]
            clear hV22 hrun p4 f4 x6
            have lb := heap_lt HC22.out.1.m.bk.blk
            have hIW : Below V22.heap.size V22 V22.drew := (Below.refl _ _).drew
            refine wp_region_held_drew (S := (fun V => V.cell? ⟨b, 6, none⟩ = some (.int .i64 n1) ∧ V.cell? ⟨q0, 0, none⟩ = some (.string m) ∧ V.cell? ⟨q0, 1, none⟩ = some (.string s) ∧ V.cell? ⟨q0, 2, none⟩ = some (.string a) ∧ V.cell? ⟨q0, 3, none⟩ = some (.string p) ∧ V.cell? ⟨q0, 4, none⟩ = some (.slice u1 u2 u3) ∧ V.cell? ⟨q0, 5, none⟩ = some (.string qb) ∧ V.cell? ⟨r0, 0, none⟩ = some (.int .i64 rn) ∧ V.cell? ⟨r0, 1, none⟩ = some (.slice v1 v2 v3) ∧ V.cell? ⟨r0, 2, none⟩ = some (.string rb))) (by kernel_rfl) (hS22.out _ hIW) (fun hHeld => ?_)
            generalize hWg : World.drew _ = W22 at hIW hHeld ⊢
            clear hWg
            refine wpAnyH_take (i := 0) (oi := { dst := some 186, op := Op.move (Operand.tmp 0), type := 55, pos := "outright.go:122", after := #[], guard := none }) (v := ?vv67) rfl (by kernel_rfl) (by kernel_rfl) (by kernel_rfl) (fun _ _ _ h => h) (Or.inl ⟨by rfl, ?hy67⟩) (by assumption) ?_
            case hy67 => (intro w hSw; (try dsimp only at hSw); go_simp; all_goals with_reducible rfl)
            try simp only [Act.put, List.setIfInBounds_toArray, List.set_cons_zero, List.set_cons_succ]
            refine wpAnyH_take (i := 1) (oi := { dst := some 187, op := Op.move (Operand.tmp 0), type := 55, pos := "outright.go:122", after := #[], guard := none }) (v := ?vv68) rfl (by kernel_rfl) (by kernel_rfl) (by kernel_rfl) (fun _ _ _ h => h) (Or.inl ⟨by rfl, ?hy68⟩) (by assumption) ?_
            case hy68 => (intro w hSw; (try dsimp only at hSw); go_simp; all_goals with_reducible rfl)
            try simp only [Act.put, List.setIfInBounds_toArray, List.set_cons_zero, List.set_cons_succ]
            refine wpAnyH_take (i := 2) (oi := { dst := some 188, op := Op.nilCheck (Operand.tmp 187), type := 0, pos := "outright.go:122", after := #[{ on := 1, ground := Ground.data }], guard := none }) (v := ?vv69) rfl (by kernel_rfl) (by kernel_rfl) (by kernel_rfl) (fun _ _ _ h => h) (Or.inl ⟨by rfl, ?hy69⟩) (by assumption) ?_
            case hy69 => (intro w hSw; (try dsimp only at hSw); go_simp; all_goals with_reducible rfl)
            try simp only [Act.put, List.setIfInBounds_toArray, List.set_cons_zero, List.set_cons_succ]
            refine wpAnyH_take (i := 3) (oi := { dst := some 189, op := Op.fieldAddr 58 (Operand.tmp 188) 2, type := 0, pos := "outright.go:122", after := #[{ on := 2, ground := Ground.data }], guard := none }) (v := ?vv70) rfl (by kernel_rfl) (by kernel_rfl) (by kernel_rfl) (fun _ _ _ h => h) (Or.inl ⟨by rfl, ?hy70⟩) (by assumption) ?_
            case hy70 => (intro w hSw; (try dsimp only at hSw); go_simp; all_goals with_reducible rfl)
            try simp only [Act.put, List.setIfInBounds_toArray, List.set_cons_zero, List.set_cons_succ]
            refine wpAnyH_take (i := 5) (oi := { dst := some 191, op := Op.move (Operand.tmp 2), type := 2, pos := "outright.go:122", after := #[], guard := none }) (v := ?vv71) rfl (by kernel_rfl) (by kernel_rfl) (by kernel_rfl) (fun _ _ _ h => h) (Or.inl ⟨by rfl, ?hy71⟩) (by assumption) ?_
            case hy71 => (intro w hSw; (try dsimp only at hSw); go_simp; all_goals with_reducible rfl)
            try simp only [Act.put, List.setIfInBounds_toArray, List.set_cons_zero, List.set_cons_succ]
            refine wpAnyH_take (i := 6) (oi := { dst := some 192, op := Op.move (Operand.tmp 0), type := 55, pos := "outright.go:122", after := #[], guard := none }) (v := ?vv72) rfl (by kernel_rfl) (by kernel_rfl) (by kernel_rfl) (fun _ _ _ h => h) (Or.inl ⟨by rfl, ?hy72⟩) (by assumption) ?_
            case hy72 => (intro w hSw; (try dsimp only at hSw); go_simp; all_goals with_reducible rfl)
            try simp only [Act.put, List.setIfInBounds_toArray, List.set_cons_zero, List.set_cons_succ]
            refine wpAnyH_take (i := 7) (oi := { dst := some 193, op := Op.nilCheck (Operand.tmp 192), type := 0, pos := "outright.go:122", after := #[{ on := 6, ground := Ground.data }], guard := none }) (v := ?vv73) rfl (by kernel_rfl) (by kernel_rfl) (by kernel_rfl) (fun _ _ _ h => h) (Or.inl ⟨by rfl, ?hy73⟩) (by assumption) ?_
            case hy73 => (intro w hSw; (try dsimp only at hSw); go_simp; all_goals with_reducible rfl)
            try simp only [Act.put, List.setIfInBounds_toArray, List.set_cons_zero, List.set_cons_succ]
            refine wpAnyH_take (i := 8) (oi := { dst := some 194, op := Op.fieldAddr 58 (Operand.tmp 193) 3, type := 0, pos := "outright.go:122", after := #[{ on := 7, ground := Ground.data }], guard := none }) (v := ?vv74) rfl (by kernel_rfl) (by kernel_rfl) (by kernel_rfl) (fun _ _ _ h => h) (Or.inl ⟨by rfl, ?hy74⟩) (by assumption) ?_
            case hy74 => (intro w hSw; (try dsimp only at hSw); go_simp; all_goals with_reducible rfl)
            try simp only [Act.put, List.setIfInBounds_toArray, List.set_cons_zero, List.set_cons_succ]
            refine wpAnyH_take (i := 9) (oi := { dst := some 195, op := Op.load 2 (Operand.tmp 194), type := 2, pos := "outright.go:122", after := #[{ on := 8, ground := Ground.data }], guard := none }) (v := ?vv75) rfl (by kernel_rfl) (by kernel_rfl) (by kernel_rfl) (fun _ _ _ h => h) (Or.inl ⟨by rfl, ?hy75⟩) (by assumption) ?_
            case hy75 => (intro w hSw; (try dsimp only at hSw); go_simp; all_goals with_reducible rfl)
            try simp only [Act.put, List.setIfInBounds_toArray, List.set_cons_zero, List.set_cons_succ]
            refine wpAnyH_take (i := 10) (oi := { dst := some 196, op := Op.load 24 (Operand.tmp 16), type := 24, pos := "outright.go:122", after := #[], guard := none }) (v := ?vv76) rfl (by kernel_rfl) (by kernel_rfl) (by kernel_rfl) (fun _ _ _ h => h) (Or.inl ⟨by rfl, ?hy76⟩) (by assumption) ?_
            case hy76 => (intro w hSw; (try dsimp only at hSw); go_simp; all_goals with_reducible rfl)
            try simp only [Act.put, List.setIfInBounds_toArray, List.set_cons_zero, List.set_cons_succ]
            refine wpAnyH_take (i := 11) (oi := { dst := some 197, op := Op.load 26 (Operand.tmp 7), type := 26, pos := "outright.go:122", after := #[], guard := none }) (v := ?vv77) rfl (by kernel_rfl) (by kernel_rfl) (by kernel_rfl) (fun _ _ _ h => h) (Or.inl ⟨by rfl, ?hy77⟩) (by assumption) ?_
            case hy77 => (intro w hSw; (try dsimp only at hSw); go_simp; all_goals with_reducible rfl)
            try simp only [Act.put, List.setIfInBounds_toArray, List.set_cons_zero, List.set_cons_succ]
            refine wpAnyH_take (i := 12) (oi := { dst := some 198, op := Op.build 95 #[(0, Operand.tmp 191), (1, Operand.tmp 195), (2, Operand.tmp 196), (3, Operand.tmp 197)], type := 95, pos := "outright.go:122", after := #[{ on := 5, ground := Ground.data }, { on := 9, ground := Ground.data }, { on := 10, ground := Ground.data }, { on := 11, ground := Ground.data }], guard := none }) (v := ?vv78) rfl (by kernel_rfl) (by kernel_rfl) (by kernel_rfl) (fun _ _ _ h => h) (Or.inl ⟨by rfl, ?hy78⟩) (by assumption) ?_
            case hy78 => (intro w hSw; (try dsimp only at hSw); go_simp; all_goals with_reducible rfl)
            try simp only [Act.put, List.setIfInBounds_toArray, List.set_cons_zero, List.set_cons_succ]
            refine wpAnyH_ready (rs := [4, 13]) (by kernel_rfl) (by simp) ?_
            refine AllReadyH.cons (o := { dst := some 190, op := Op.load 56 (Operand.tmp 189), type := 56, pos := "outright.go:122", after := #[{ on := 3, ground := Ground.data }], guard := none }) rfl (fun K hK => ?_) ?_
            · have pc : W22.cell? ⟨b, 5, none⟩ = some (.slice k1 k2 k3) := (HC22.out.1.below hIW).m.bk.cells.2.2.2.2.2.1
              go_simp
              go_wp2_with fail
              refine hK.out _ _ (hS22.out _ hIW) (fun hHeld => ?_)
              clear hK K pc
              try simp only [Act.put, List.setIfInBounds_toArray, List.set_cons_zero, List.set_cons_succ]
              refine wpAnyH_ready (rs := [13]) (by kernel_rfl) (by simp) ?_
              refine AllReadyH.cons (o := { dst := some 199, op := Op.buildSlice 56 1 #[(0, Operand.tmp 198)], type := 56, pos := "outright.go:122", after := #[{ on := 12, ground := Ground.data }], guard := none }) rfl (fun K hK => ?_) AllReadyH.nil
              obtain ⟨q8, hq8⟩ : ∃ q, W22.heap.size = q := ⟨_, rfl⟩
              obtain ⟨W22xx, hV0⟩ : ∃ V, W22.alloc (.cells #[.int .i64 i, .int .i64 n1, .string m, .string s, .string a, .string p, .slice u1 u2 u3, .string qb, .int .i64 rn, .slice v1 v2 v3, .string rb] 95) = V := ⟨_, rfl⟩
              have b0x : Below W22.heap.size W22 W22xx := by rw [← hV0]; exact bel1 _ _
              have hW22xx : Below V22.heap.size V22 W22xx := hIW.trans (b0x.mono hIW.size)
              have HI8 : Hid (In EK W22xx (.slice (some ⟨q8, 0, none⟩) 1 1) [(⟨i, n1, ⟨m, s, a, p, (u1, u2, u3), qb⟩, rn, (v1, v2, v3), rb, Q, fr⟩ : Kn)]) := by rw [← hV0, ← hq8]; exact in_one (E := EK) _ _ (⟨i, n1, ⟨m, s, a, p, (u1, u2, u3), qb⟩, rn, (v1, v2, v3), rb, Q, fr⟩ : Kn) #[.int .i64 i, .int .i64 n1, .string m, .string s, .string a, .string p, .slice u1 u2 u3, .string qb, .int .i64 rn, .slice v1 v2 v3, .string rb] 95 (0, 0) (by rw [heap_al, if_pos rfl]) rfl
              clear b0x
              go_simp
              go_wp2_with fail
              try rw [hV0]
              try rw [hq8]
              refine hK.out _ _ (hS22.out _ hW22xx) (fun hHeld => ?_)
              clear hK K hV0 hq8
              try simp only [Act.put, List.setIfInBounds_toArray, List.set_cons_zero, List.set_cons_succ]
              refine wpAnyH_ready (rs := [14]) (by kernel_rfl) (by simp) ?_
              refine AllReadyH.cons (o := { dst := some 200, op := Op.call { callee := Callee.builtin Builtin.append, args := #[Operand.tmp 190, Operand.tmp 199], argTypes := #[56, 56] }, type := 56, pos := "outright.go:122", after := #[{ on := 4, ground := Ground.data }, { on := 13, ground := Ground.data }], guard := none }) rfl (fun K hK => ?_) AllReadyH.nil
              have hXV := HC22.out.1.below hW22xx
              obtain ⟨b2, c2, w2, hrun, hR2, hG2⟩ := app okK W22xx (.slice k1 k2 k3) (B.drop g2) hXV.m.bk.row (.slice (some ⟨q8, 0, none⟩) 1 1) [(⟨i, n1, ⟨m, s, a, p, (u1, u2, u3), qb⟩, rn, (v1, v2, v3), rb, Q, fr⟩ : Kn)] HI8.out (by have := HK2.out.1; simp only [EK, List.length_singleton]; omega)
              have el : (B.drop g2).length + [(⟨i, n1, ⟨m, s, a, p, (u1, u2, u3), qb⟩, rn, (v1, v2, v3), rb, Q, fr⟩ : Kn)].length = k2 + 1 := by rw [← HK2.out.1]; rfl
              rw [el] at hrun hR2 hG2
              have HP : Hid (Ci w0 (w2.setCell ⟨b, 5, none⟩ (.slice b2 (k2 + 1) c2)) b g (hr c tk) y' L' (b2, k2 + 1, c2) (B.drop g2 ++ [(⟨i, n1, ⟨m, s, a, p, (u1, u2, u3), qb⟩, rn, (v1, v2, v3), rb, Q, fr⟩ : Kn)]) n1) := hXV.push (z2 := (b2, k2 + 1, c2)) (⟨i, n1, ⟨m, s, a, p, (u1, u2, u3), qb⟩, rn, (v1, v2, v3), rb, Q, fr⟩ : Kn) (HC22.out.2.2.below hW22xx) hXV.rr hR2 hG2 HRl2.out
              have hown : ∀ (k : Nat) (cc : Array Value) (t : TypeId) (fz : Nat × Nat), W22xx.heap[k]? = some (.cells cc t fz) → t ≠ 95 → w2.heap[k]? = W22xx.heap[k]? := fun k cc t fz hk ht => hG2.block k (heap_lt hk) fun e => by
                obtain ⟨cd, hd⟩ := hXV.m.bk.row.ty k e
                exact ty_ne hk hd ht rfl
              have hq2 := ((hW22xx.block _ (heap_lt HC22.out.2.1)).trans HC22.out.2.1)
              have HBlk : Hid (w2.heap[b]? = some (.cells (bkv g (hr c tk).me (hr c tk).mb (hr c tk).lf (k1, k2, k3) n1) 58 (0, 0)) ∧ w2.heap[q0]? = some (.cells #[.string m, .string s, .string a, .string p, .slice u1 u2 u3, .string qb] 24 (0, 0)) ∧ w2.heap[r0]? = some (.cells #[.int .i64 rn, .slice v1 v2 v3, .string rb] 26 (0, 0))) := ⟨(hown _ _ _ _ hXV.m.bk.blk (by decide)).trans hXV.m.bk.blk, (hown _ _ _ _ hq2 (by decide)).trans hq2, (hown _ _ _ _ hXV.rb (by decide)).trans hXV.rb⟩
              have HSn : Hid ((fun V => V.cell? ⟨b, 6, none⟩ = some (.int .i64 n1) ∧ V.cell? ⟨q0, 0, none⟩ = some (.string m) ∧ V.cell? ⟨q0, 1, none⟩ = some (.string s) ∧ V.cell? ⟨q0, 2, none⟩ = some (.string a) ∧ V.cell? ⟨q0, 3, none⟩ = some (.string p) ∧ V.cell? ⟨q0, 4, none⟩ = some (.slice u1 u2 u3) ∧ V.cell? ⟨q0, 5, none⟩ = some (.string qb) ∧ V.cell? ⟨r0, 0, none⟩ = some (.int .i64 rn) ∧ V.cell? ⟨r0, 1, none⟩ = some (.slice v1 v2 v3) ∧ V.cell? ⟨r0, 2, none⟩ = some (.string rb)) w2) := ⟨cell_blk HBlk.out.1 6, cell_blk HBlk.out.2.1 0, cell_blk HBlk.out.2.1 1, cell_blk HBlk.out.2.1 2, cell_blk HBlk.out.2.1 3, cell_blk HBlk.out.2.1 4, cell_blk HBlk.out.2.1 5, cell_blk HBlk.out.2.2 0, cell_blk HBlk.out.2.2 1, cell_blk HBlk.out.2.2 2⟩
              clear hown hXV hR2 hG2 el hq2
              refine step_append_run rfl (.tmp 190) (.tmp 199) 56 56 rfl hrun (by first | rfl | simp [Act.eval, Act.put]) (by first | rfl | simp [Act.eval, Act.put]) ?_
              refine hK.out _ _ HSn.out (fun hHeld => ?_)
              clear hK K hrun
              try simp only [Act.put, List.setIfInBounds_toArray, List.set_cons_zero, List.set_cons_succ]
              refine wpAnyH_take (i := 15) (oi := { dst := some 201, op := Op.nilCheck (Operand.tmp 186), type := 0, pos := "outright.go:122", after := #[{ on := 0, ground := Ground.data }, { on := 0, ground := Ground.phase }, { on := 1, ground := Ground.phase }, { on := 2, ground := Ground.phase }, { on := 3, ground := Ground.phase }, { on := 4, ground := Ground.phase }, { on := 5, ground := Ground.phase }, { on := 6, ground := Ground.phase }, { on := 7, ground := Ground.phase }, { on := 8, ground := Ground.phase }, { on := 9, ground := Ground.phase }, { on := 10, ground := Ground.phase }, { on := 11, ground := Ground.phase }, { on := 12, ground := Ground.phase }, { on := 13, ground := Ground.phase }, { on := 14, ground := Ground.phase }], guard := none }) (v := ?vv79) rfl (by kernel_rfl) (by kernel_rfl) (by kernel_rfl) (fun _ _ _ h => h) (Or.inl ⟨by rfl, ?hy79⟩) (by assumption) ?_
              case hy79 => (intro w hSw; (try dsimp only at hSw); go_simp; all_goals with_reducible rfl)
              try simp only [Act.put, List.setIfInBounds_toArray, List.set_cons_zero, List.set_cons_succ]
              refine wpAnyH_take (i := 16) (oi := { dst := some 202, op := Op.fieldAddr 58 (Operand.tmp 201) 2, type := 0, pos := "outright.go:122", after := #[{ on := 15, ground := Ground.data }, { on := 0, ground := Ground.phase }, { on := 1, ground := Ground.phase }, { on := 2, ground := Ground.phase }, { on := 3, ground := Ground.phase }, { on := 4, ground := Ground.phase }, { on := 5, ground := Ground.phase }, { on := 6, ground := Ground.phase }, { on := 7, ground := Ground.phase }, { on := 8, ground := Ground.phase }, { on := 9, ground := Ground.phase }, { on := 10, ground := Ground.phase }, { on := 11, ground := Ground.phase }, { on := 12, ground := Ground.phase }, { on := 13, ground := Ground.phase }, { on := 14, ground := Ground.phase }], guard := none }) (v := ?vv80) rfl (by kernel_rfl) (by kernel_rfl) (by kernel_rfl) (fun _ _ _ h => h) (Or.inl ⟨by rfl, ?hy80⟩) (by assumption) ?_
              case hy80 => (intro w hSw; (try dsimp only at hSw); go_simp; all_goals with_reducible rfl)
              try simp only [Act.put, List.setIfInBounds_toArray, List.set_cons_zero, List.set_cons_succ]
              refine wpAnyH_ready (rs := [17]) (by kernel_rfl) (by simp) ?_
              refine AllReadyH.cons (o := { dst := none, op := Op.store 56 (Operand.tmp 202) (Operand.tmp 200), type := 0, pos := "outright.go:122", after := #[{ on := 16, ground := Ground.data }, { on := 14, ground := Ground.data }, { on := 14, ground := Ground.chain }, { on := 0, ground := Ground.phase }, { on := 1, ground := Ground.phase }, { on := 2, ground := Ground.phase }, { on := 3, ground := Ground.phase }, { on := 4, ground := Ground.phase }, { on := 5, ground := Ground.phase }, { on := 6, ground := Ground.phase }, { on := 7, ground := Ground.phase }, { on := 8, ground := Ground.phase }, { on := 9, ground := Ground.phase }, { on := 10, ground := Ground.phase }, { on := 11, ground := Ground.phase }, { on := 12, ground := Ground.phase }, { on := 13, ground := Ground.phase }, { on := 14, ground := Ground.phase }], guard := none }) rfl (fun K hK => ?_) AllReadyH.nil
              obtain ⟨E8, hE8⟩ : ∃ E, w2.setCell ⟨b, 5, none⟩ (.slice b2 (k2 + 1) c2) = E := ⟨_, rfl⟩
              have hP1 := HP.out
              rw [hE8] at hP1
              have HSe : Hid ((fun V => V.cell? ⟨b, 6, none⟩ = some (.int .i64 n1) ∧ V.cell? ⟨q0, 0, none⟩ = some (.string m) ∧ V.cell? ⟨q0, 1, none⟩ = some (.string s) ∧ V.cell? ⟨q0, 2, none⟩ = some (.string a) ∧ V.cell? ⟨q0, 3, none⟩ = some (.string p) ∧ V.cell? ⟨q0, 4, none⟩ = some (.slice u1 u2 u3) ∧ V.cell? ⟨q0, 5, none⟩ = some (.string qb) ∧ V.cell? ⟨r0, 0, none⟩ = some (.int .i64 rn) ∧ V.cell? ⟨r0, 1, none⟩ = some (.slice v1 v2 v3) ∧ V.cell? ⟨r0, 2, none⟩ = some (.string rb)) E8) := by
                have e1 : E8.heap[q0]? = w2.heap[q0]? := by rw [← hE8]; exact setCell_other _ _ _ _ _ (ty_ne HBlk.out.2.1 HBlk.out.1 (by decide))
                have e2 : E8.heap[r0]? = w2.heap[r0]? := by rw [← hE8]; exact setCell_other _ _ _ _ _ (ty_ne HBlk.out.2.2 HBlk.out.1 (by decide))
                have h1 := e1.trans HBlk.out.2.1
                have h2 := e2.trans HBlk.out.2.2
                exact ⟨hP1.bk.cells.2.2.2.2.2.2.1, cell_blk h1 0, cell_blk h1 1, cell_blk h1 2, cell_blk h1 3, cell_blk h1 4, cell_blk h1 5, cell_blk h2 0, cell_blk h2 1, cell_blk h2 2⟩
              have HE : Hid (Ci w0 E8 b g (hr c tk) y' L' (b2, k2 + 1, c2) (B.drop g2 ++ [(⟨i, n1, ⟨m, s, a, p, (u1, u2, u3), qb⟩, rn, (v1, v2, v3), rb, Q, fr⟩ : Kn)]) n1) := hP1
              have po := cell_blk HBlk.out.1 5
              have pz := frozen_blk HBlk.out.1 5
              simp only [bkv, List.getElem?_toArray, List.getElem?_cons_succ, List.getElem?_cons_zero, sv] at po
              clear HP hP1
              go_simp
              go_wp2_with fail
              try rw [hE8]
              refine hK.out _ _ HSe.out (fun hHeld => ?_)
              clear hK K po pz hE8 HSn
              try simp only [Act.put, List.setIfInBounds_toArray, List.set_cons_zero, List.set_cons_succ]
              refine wpAnyH_done (by kernel_rfl) ?_ _
              clear hHeld hS22
              go_wp2_with fail
              go_ret
              exact ⟨rfl, y', L', (b2, k2 + 1, c2), _, HE.out, HF.out⟩
            refine AllReadyH.cons (o := { dst := some 199, op := Op.buildSlice 56 1 #[(0, Operand.tmp 198)], type := 56, pos := "outright.go:122", after := #[{ on := 12, ground := Ground.data }], guard := none }) rfl (fun K hK => ?_) AllReadyH.nil
            obtain ⟨q8, hq8⟩ : ∃ q, W22.heap.size = q := ⟨_, rfl⟩
            obtain ⟨W22x, hV0⟩ : ∃ V, W22.alloc (.cells #[.int .i64 i, .int .i64 n1, .string m, .string s, .string a, .string p, .slice u1 u2 u3, .string qb, .int .i64 rn, .slice v1 v2 v3, .string rb] 95) = V := ⟨_, rfl⟩
            have b0x : Below W22.heap.size W22 W22x := by rw [← hV0]; exact bel1 _ _
            have hW22x : Below V22.heap.size V22 W22x := hIW.trans (b0x.mono hIW.size)
            have HI8 : Hid (In EK W22x (.slice (some ⟨q8, 0, none⟩) 1 1) [(⟨i, n1, ⟨m, s, a, p, (u1, u2, u3), qb⟩, rn, (v1, v2, v3), rb, Q, fr⟩ : Kn)]) := by rw [← hV0, ← hq8]; exact in_one (E := EK) _ _ (⟨i, n1, ⟨m, s, a, p, (u1, u2, u3), qb⟩, rn, (v1, v2, v3), rb, Q, fr⟩ : Kn) #[.int .i64 i, .int .i64 n1, .string m, .string s, .string a, .string p, .slice u1 u2 u3, .string qb, .int .i64 rn, .slice v1 v2 v3, .string rb] 95 (0, 0) (by rw [heap_al, if_pos rfl]) rfl
            clear b0x
            go_simp
            go_wp2_with fail
            try rw [hV0]
            try rw [hq8]
            refine hK.out _ _ (hS22.out _ hW22x) (fun hHeld => ?_)
            clear hK K hV0 hq8
            try simp only [Act.put, List.setIfInBounds_toArray, List.set_cons_zero, List.set_cons_succ]
            refine wpAnyH_ready (rs := [4]) (by kernel_rfl) (by simp) ?_
            refine AllReadyH.cons (o := { dst := some 190, op := Op.load 56 (Operand.tmp 189), type := 56, pos := "outright.go:122", after := #[{ on := 3, ground := Ground.data }], guard := none }) rfl (fun K hK => ?_) AllReadyH.nil
            have pc : W22x.cell? ⟨b, 5, none⟩ = some (.slice k1 k2 k3) := (HC22.out.1.below hW22x).m.bk.cells.2.2.2.2.2.1
            go_simp
            go_wp2_with fail
            refine hK.out _ _ (hS22.out _ hW22x) (fun hHeld => ?_)
            clear hK K pc
            try simp only [Act.put, List.setIfInBounds_toArray, List.set_cons_zero, List.set_cons_succ]
            refine wpAnyH_ready (rs := [14]) (by kernel_rfl) (by simp) ?_
            refine AllReadyH.cons (o := { dst := some 200, op := Op.call { callee := Callee.builtin Builtin.append, args := #[Operand.tmp 190, Operand.tmp 199], argTypes := #[56, 56] }, type := 56, pos := "outright.go:122", after := #[{ on := 4, ground := Ground.data }, { on := 13, ground := Ground.data }], guard := none }) rfl (fun K hK => ?_) AllReadyH.nil
            have hXV := HC22.out.1.below hW22x
            obtain ⟨b2, c2, w2, hrun, hR2, hG2⟩ := app okK W22x (.slice k1 k2 k3) (B.drop g2) hXV.m.bk.row (.slice (some ⟨q8, 0, none⟩) 1 1) [(⟨i, n1, ⟨m, s, a, p, (u1, u2, u3), qb⟩, rn, (v1, v2, v3), rb, Q, fr⟩ : Kn)] HI8.out (by have := HK2.out.1; simp only [EK, List.length_singleton]; omega)
            have el : (B.drop g2).length + [(⟨i, n1, ⟨m, s, a, p, (u1, u2, u3), qb⟩, rn, (v1, v2, v3), rb, Q, fr⟩ : Kn)].length = k2 + 1 := by rw [← HK2.out.1]; rfl
            rw [el] at hrun hR2 hG2
            have HP : Hid (Ci w0 (w2.setCell ⟨b, 5, none⟩ (.slice b2 (k2 + 1) c2)) b g (hr c tk) y' L' (b2, k2 + 1, c2) (B.drop g2 ++ [(⟨i, n1, ⟨m, s, a, p, (u1, u2, u3), qb⟩, rn, (v1, v2, v3), rb, Q, fr⟩ : Kn)]) n1) := hXV.push (z2 := (b2, k2 + 1, c2)) (⟨i, n1, ⟨m, s, a, p, (u1, u2, u3), qb⟩, rn, (v1, v2, v3), rb, Q, fr⟩ : Kn) (HC22.out.2.2.below hW22x) hXV.rr hR2 hG2 HRl2.out
            have hown : ∀ (k : Nat) (cc : Array Value) (t : TypeId) (fz : Nat × Nat), W22x.heap[k]? = some (.cells cc t fz) → t ≠ 95 → w2.heap[k]? = W22x.heap[k]? := fun k cc t fz hk ht => hG2.block k (heap_lt hk) fun e => by
              obtain ⟨cd, hd⟩ := hXV.m.bk.row.ty k e
              exact ty_ne hk hd ht rfl
            have hq2 := ((hW22x.block _ (heap_lt HC22.out.2.1)).trans HC22.out.2.1)
            have HBlk : Hid (w2.heap[b]? = some (.cells (bkv g (hr c tk).me (hr c tk).mb (hr c tk).lf (k1, k2, k3) n1) 58 (0, 0)) ∧ w2.heap[q0]? = some (.cells #[.string m, .string s, .string a, .string p, .slice u1 u2 u3, .string qb] 24 (0, 0)) ∧ w2.heap[r0]? = some (.cells #[.int .i64 rn, .slice v1 v2 v3, .string rb] 26 (0, 0))) := ⟨(hown _ _ _ _ hXV.m.bk.blk (by decide)).trans hXV.m.bk.blk, (hown _ _ _ _ hq2 (by decide)).trans hq2, (hown _ _ _ _ hXV.rb (by decide)).trans hXV.rb⟩
            have HSn : Hid ((fun V => V.cell? ⟨b, 6, none⟩ = some (.int .i64 n1) ∧ V.cell? ⟨q0, 0, none⟩ = some (.string m) ∧ V.cell? ⟨q0, 1, none⟩ = some (.string s) ∧ V.cell? ⟨q0, 2, none⟩ = some (.string a) ∧ V.cell? ⟨q0, 3, none⟩ = some (.string p) ∧ V.cell? ⟨q0, 4, none⟩ = some (.slice u1 u2 u3) ∧ V.cell? ⟨q0, 5, none⟩ = some (.string qb) ∧ V.cell? ⟨r0, 0, none⟩ = some (.int .i64 rn) ∧ V.cell? ⟨r0, 1, none⟩ = some (.slice v1 v2 v3) ∧ V.cell? ⟨r0, 2, none⟩ = some (.string rb)) w2) := ⟨cell_blk HBlk.out.1 6, cell_blk HBlk.out.2.1 0, cell_blk HBlk.out.2.1 1, cell_blk HBlk.out.2.1 2, cell_blk HBlk.out.2.1 3, cell_blk HBlk.out.2.1 4, cell_blk HBlk.out.2.1 5, cell_blk HBlk.out.2.2 0, cell_blk HBlk.out.2.2 1, cell_blk HBlk.out.2.2 2⟩
            clear hown hXV hR2 hG2 el hq2
            refine step_append_run rfl (.tmp 190) (.tmp 199) 56 56 rfl hrun (by first | rfl | simp [Act.eval, Act.put]) (by first | rfl | simp [Act.eval, Act.put]) ?_
            refine hK.out _ _ HSn.out (fun hHeld => ?_)
            clear hK K hrun
            try simp only [Act.put, List.setIfInBounds_toArray, List.set_cons_zero, List.set_cons_succ]
            refine wpAnyH_take (i := 15) (oi := { dst := some 201, op := Op.nilCheck (Operand.tmp 186), type := 0, pos := "outright.go:122", after := #[{ on := 0, ground := Ground.data }, { on := 0, ground := Ground.phase }, { on := 1, ground := Ground.phase }, { on := 2, ground := Ground.phase }, { on := 3, ground := Ground.phase }, { on := 4, ground := Ground.phase }, { on := 5, ground := Ground.phase }, { on := 6, ground := Ground.phase }, { on := 7, ground := Ground.phase }, { on := 8, ground := Ground.phase }, { on := 9, ground := Ground.phase }, { on := 10, ground := Ground.phase }, { on := 11, ground := Ground.phase }, { on := 12, ground := Ground.phase }, { on := 13, ground := Ground.phase }, { on := 14, ground := Ground.phase }], guard := none }) (v := ?vv81) rfl (by kernel_rfl) (by kernel_rfl) (by kernel_rfl) (fun _ _ _ h => h) (Or.inl ⟨by rfl, ?hy81⟩) (by assumption) ?_
            case hy81 => (intro w hSw; (try dsimp only at hSw); go_simp; all_goals with_reducible rfl)
            try simp only [Act.put, List.setIfInBounds_toArray, List.set_cons_zero, List.set_cons_succ]
            refine wpAnyH_take (i := 16) (oi := { dst := some 202, op := Op.fieldAddr 58 (Operand.tmp 201) 2, type := 0, pos := "outright.go:122", after := #[{ on := 15, ground := Ground.data }, { on := 0, ground := Ground.phase }, { on := 1, ground := Ground.phase }, { on := 2, ground := Ground.phase }, { on := 3, ground := Ground.phase }, { on := 4, ground := Ground.phase }, { on := 5, ground := Ground.phase }, { on := 6, ground := Ground.phase }, { on := 7, ground := Ground.phase }, { on := 8, ground := Ground.phase }, { on := 9, ground := Ground.phase }, { on := 10, ground := Ground.phase }, { on := 11, ground := Ground.phase }, { on := 12, ground := Ground.phase }, { on := 13, ground := Ground.phase }, { on := 14, ground := Ground.phase }], guard := none }) (v := ?vv82) rfl (by kernel_rfl) (by kernel_rfl) (by kernel_rfl) (fun _ _ _ h => h) (Or.inl ⟨by rfl, ?hy82⟩) (by assumption) ?_
            case hy82 => (intro w hSw; (try dsimp only at hSw); go_simp; all_goals with_reducible rfl)
            try simp only [Act.put, List.setIfInBounds_toArray, List.set_cons_zero, List.set_cons_succ]
            refine wpAnyH_ready (rs := [17]) (by kernel_rfl) (by simp) ?_
            refine AllReadyH.cons (o := { dst := none, op := Op.store 56 (Operand.tmp 202) (Operand.tmp 200), type := 0, pos := "outright.go:122", after := #[{ on := 16, ground := Ground.data }, { on := 14, ground := Ground.data }, { on := 14, ground := Ground.chain }, { on := 0, ground := Ground.phase }, { on := 1, ground := Ground.phase }, { on := 2, ground := Ground.phase }, { on := 3, ground := Ground.phase }, { on := 4, ground := Ground.phase }, { on := 5, ground := Ground.phase }, { on := 6, ground := Ground.phase }, { on := 7, ground := Ground.phase }, { on := 8, ground := Ground.phase }, { on := 9, ground := Ground.phase }, { on := 10, ground := Ground.phase }, { on := 11, ground := Ground.phase }, { on := 12, ground := Ground.phase }, { on := 13, ground := Ground.phase }, { on := 14, ground := Ground.phase }], guard := none }) rfl (fun K hK => ?_) AllReadyH.nil
            obtain ⟨E8, hE8⟩ : ∃ E, w2.setCell ⟨b, 5, none⟩ (.slice b2 (k2 + 1) c2) = E := ⟨_, rfl⟩
            have hP1 := HP.out
            rw [hE8] at hP1
            have HSe : Hid ((fun V => V.cell? ⟨b, 6, none⟩ = some (.int .i64 n1) ∧ V.cell? ⟨q0, 0, none⟩ = some (.string m) ∧ V.cell? ⟨q0, 1, none⟩ = some (.string s) ∧ V.cell? ⟨q0, 2, none⟩ = some (.string a) ∧ V.cell? ⟨q0, 3, none⟩ = some (.string p) ∧ V.cell? ⟨q0, 4, none⟩ = some (.slice u1 u2 u3) ∧ V.cell? ⟨q0, 5, none⟩ = some (.string qb) ∧ V.cell? ⟨r0, 0, none⟩ = some (.int .i64 rn) ∧ V.cell? ⟨r0, 1, none⟩ = some (.slice v1 v2 v3) ∧ V.cell? ⟨r0, 2, none⟩ = some (.string rb)) E8) := by
              have e1 : E8.heap[q0]? = w2.heap[q0]? := by rw [← hE8]; exact setCell_other _ _ _ _ _ (ty_ne HBlk.out.2.1 HBlk.out.1 (by decide))
              have e2 : E8.heap[r0]? = w2.heap[r0]? := by rw [← hE8]; exact setCell_other _ _ _ _ _ (ty_ne HBlk.out.2.2 HBlk.out.1 (by decide))
              have h1 := e1.trans HBlk.out.2.1
              have h2 := e2.trans HBlk.out.2.2
              exact ⟨hP1.bk.cells.2.2.2.2.2.2.1, cell_blk h1 0, cell_blk h1 1, cell_blk h1 2, cell_blk h1 3, cell_blk h1 4, cell_blk h1 5, cell_blk h2 0, cell_blk h2 1, cell_blk h2 2⟩
            have HE : Hid (Ci w0 E8 b g (hr c tk) y' L' (b2, k2 + 1, c2) (B.drop g2 ++ [(⟨i, n1, ⟨m, s, a, p, (u1, u2, u3), qb⟩, rn, (v1, v2, v3), rb, Q, fr⟩ : Kn)]) n1) := hP1
            have po := cell_blk HBlk.out.1 5
            have pz := frozen_blk HBlk.out.1 5
            simp only [bkv, List.getElem?_toArray, List.getElem?_cons_succ, List.getElem?_cons_zero, sv] at po
            clear HP hP1
            go_simp
            go_wp2_with fail
            try rw [hE8]
            refine hK.out _ _ HSe.out (fun hHeld => ?_)
            clear hK K po pz hE8 HSn
            try simp only [Act.put, List.setIfInBounds_toArray, List.set_cons_zero, List.set_cons_succ]
            refine wpAnyH_done (by kernel_rfl) ?_ _
            clear hHeld hS22
            go_wp2_with fail
            go_ret
            exact ⟨rfl, y', L', (b2, k2 + 1, c2), _, HE.out, HF.out⟩
end Go.Proofs.YtfponcdhaefkdaaDoor
