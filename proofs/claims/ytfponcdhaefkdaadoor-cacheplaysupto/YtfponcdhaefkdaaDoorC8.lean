/- copiedField. -/
import Derived.Test.YtfponcdhaefkdaaDoorC7
namespace Go.Proofs.YtfponcdhaefkdaaDoor
open Go.RowKit
set_option linter.unusedVariables false
set_option linter.unusedSimpArgs false
theorem cut_rest {P G : Prop} (h1 : Hid P → G) (h2 : P) : G := h1 h2
def fz (f : Fd) : Prop := f.n.size ≤ 281474976710656 ∧ f.v.size ≤ 281474976710656
set_option maxHeartbeats 8000000 in
set_option maxRecDepth 100000 in
theorem copiedField_any (f : Fd) (w : World) (hz : fz f) : Calls Tryd.prog 67 #[.agg (fdv f)] w fun e w' => e = .returned (.agg #[.string f.n, .string f.v, .bool f.nv]) ∧ Below w.heap.size w w' := by
  have HZ : Hid (f.n.size ≤ 281474976710656 ∧ f.v.size ≤ 281474976710656) := hz
  unfold fdv
  obtain ⟨B, hB⟩ : ∃ B, (w.alloc (.cells #[.string f.n, .string f.v, .bool f.nv] 51)).alloc (.cells #[.string ⟨#[]⟩, .string ⟨#[]⟩, .bool false] 51) = B := ⟨_, rfl⟩
  obtain ⟨q, hq⟩ : ∃ q, w.heap.size = q := ⟨_, rfl⟩
  obtain ⟨r, hr⟩ : ∃ r, q + 1 = r := ⟨_, rfl⟩
  have HQ : Hid (B.heap[q]? = some (.cells #[.string f.n, .string f.v, .bool f.nv] 51 (0, 0))) := by show _ = _; rw [← hB, ← hq, heap_al, if_neg (by simp), heap_al, if_pos rfl]
  have HR : Hid (B.heap[r]? = some (.cells #[.string ⟨#[]⟩, .string ⟨#[]⟩, .bool false] 51 (0, 0))) := by show _ = _; rw [← hB, ← hr, ← hq]; exact fresh2 _ _ _
  have HB : Hid (Below w.heap.size w B) := by rw [← hB]; exact bel2 _ _ _
  have HQR : Hid (q ≠ r) := by show _ ≠ _; omega
  have HRw : Hid (w.heap.size ≤ r) := by show _ ≤ _; omega
  have hS : Hid (∀ V, Below B.heap.size B V → V.cell? ⟨q, 0, none⟩ = some (.string f.n) ∧ V.cell? ⟨q, 1, none⟩ = some (.string f.v) ∧ V.cell? ⟨q, 2, none⟩ = some (.bool f.nv)) := fun V hV => by
    have h := (hV.block q (heap_lt HQ.out)).trans HQ.out
    exact ⟨cell_blk h 0, cell_blk h 1, cell_blk h 2⟩
  clear hz
  go_enter Tryd.func67, Tryd.ntmps67
  go_upto_region 1 with fail
  try rw [hB]
  try rw [hq]
  try rw [hr]
  clear hB hq hr
  have hIW : Below B.heap.size B B.drew := (Below.refl _ _).drew
  refine wp_region_held_drew (S := (fun V => V.cell? ⟨q, 0, none⟩ = some (.string f.n) ∧ V.cell? ⟨q, 1, none⟩ = some (.string f.v) ∧ V.cell? ⟨q, 2, none⟩ = some (.bool f.nv))) (by kernel_rfl) (hS.out _ hIW) (fun hHeld => ?_)
  generalize hWg : World.drew _ = W at hIW hHeld ⊢
  clear hWg
  refine wpAnyH_take (i := 0) (oi := { dst := some 3, op := Op.fieldAddr 51 (Operand.tmp 1) 0, type := 0, pos := "cache.go:165", after := #[], guard := none }) (v := ?vv1) rfl (by kernel_rfl) (by kernel_rfl) (by kernel_rfl) (fun _ _ _ h => h) (Or.inl ⟨by rfl, ?hy1⟩) (by assumption) ?_
  case hy1 => (intro w hSw; (try dsimp only at hSw); go_simp; all_goals with_reducible rfl)
  try simp only [Act.put, List.setIfInBounds_toArray, List.set_cons_zero, List.set_cons_succ]
  refine wpAnyH_take (i := 1) (oi := { dst := some 4, op := Op.load 9 (Operand.tmp 3), type := 9, pos := "cache.go:165", after := #[{ on := 0, ground := Ground.data }], guard := none }) (v := ?vv2) rfl (by kernel_rfl) (by kernel_rfl) (by kernel_rfl) (fun _ _ _ h => h) (Or.inl ⟨by rfl, ?hy2⟩) (by assumption) ?_
  case hy2 => (intro w hSw; (try dsimp only at hSw); go_simp; all_goals with_reducible rfl)
  try simp only [Act.put, List.setIfInBounds_toArray, List.set_cons_zero, List.set_cons_succ]
  refine wpAnyH_take (i := 3) (oi := { dst := some 6, op := Op.fieldAddr 51 (Operand.tmp 1) 1, type := 0, pos := "cache.go:165", after := #[], guard := none }) (v := ?vv3) rfl (by kernel_rfl) (by kernel_rfl) (by kernel_rfl) (fun _ _ _ h => h) (Or.inl ⟨by rfl, ?hy3⟩) (by assumption) ?_
  case hy3 => (intro w hSw; (try dsimp only at hSw); go_simp; all_goals with_reducible rfl)
  try simp only [Act.put, List.setIfInBounds_toArray, List.set_cons_zero, List.set_cons_succ]
  refine wpAnyH_take (i := 4) (oi := { dst := some 7, op := Op.load 9 (Operand.tmp 6), type := 9, pos := "cache.go:165", after := #[{ on := 3, ground := Ground.data }], guard := none }) (v := ?vv4) rfl (by kernel_rfl) (by kernel_rfl) (by kernel_rfl) (fun _ _ _ h => h) (Or.inl ⟨by rfl, ?hy4⟩) (by assumption) ?_
  case hy4 => (intro w hSw; (try dsimp only at hSw); go_simp; all_goals with_reducible rfl)
  try simp only [Act.put, List.setIfInBounds_toArray, List.set_cons_zero, List.set_cons_succ]
  refine wpAnyH_take (i := 6) (oi := { dst := some 9, op := Op.fieldAddr 51 (Operand.tmp 1) 2, type := 0, pos := "cache.go:165", after := #[], guard := none }) (v := ?vv5) rfl (by kernel_rfl) (by kernel_rfl) (by kernel_rfl) (fun _ _ _ h => h) (Or.inl ⟨by rfl, ?hy5⟩) (by assumption) ?_
  case hy5 => (intro w hSw; (try dsimp only at hSw); go_simp; all_goals with_reducible rfl)
  try simp only [Act.put, List.setIfInBounds_toArray, List.set_cons_zero, List.set_cons_succ]
  refine wpAnyH_take (i := 7) (oi := { dst := some 10, op := Op.load 4 (Operand.tmp 9), type := 4, pos := "cache.go:165", after := #[{ on := 6, ground := Ground.data }], guard := none }) (v := ?vv6) rfl (by kernel_rfl) (by kernel_rfl) (by kernel_rfl) (fun _ _ _ h => h) (Or.inl ⟨by rfl, ?hy6⟩) (by assumption) ?_
  case hy6 => (intro w hSw; (try dsimp only at hSw); go_simp; all_goals with_reducible rfl)
  try simp only [Act.put, List.setIfInBounds_toArray, List.set_cons_zero, List.set_cons_succ]
  refine wpAnyH_ready (rs := [2]) (by kernel_rfl) (by simp) ?_
  refine AllReadyH.cons (o := { dst := some 5, op := Op.call { callee := Callee.value (Operand.func 65), args := #[Operand.tmp 4], argTypes := #[9] }, type := 9, pos := "cache.go:165", after := #[{ on := 1, ground := Ground.data }], guard := none }) rfl (fun K hK => ?_) AllReadyH.nil
  go_simp
  refine (sclone_any f.n _ HZ.out.1).mono ?_
  rintro e' Wx ⟨rfl, bX⟩
  have hWx : Below B.heap.size B Wx := hIW.trans (bX.mono hIW.size)
  clear bX
  go_wp2_with fail
  refine hK.out _ _ (hS.out _ hWx) (fun hHeld => ?_)
  clear hK K
  try simp only [Act.put, List.setIfInBounds_toArray, List.set_cons_zero, List.set_cons_succ]
  refine wpAnyH_ready (rs := [5]) (by kernel_rfl) (by simp) ?_
  refine AllReadyH.cons (o := { dst := some 8, op := Op.call { callee := Callee.value (Operand.func 65), args := #[Operand.tmp 7], argTypes := #[9] }, type := 9, pos := "cache.go:165", after := #[{ on := 4, ground := Ground.data }, { on := 2, ground := Ground.chain }], guard := none }) rfl (fun K hK => ?_) AllReadyH.nil
  go_simp
  refine (sclone_any f.v _ HZ.out.2).mono ?_
  rintro e' Wxx ⟨rfl, bX⟩
  have hWxx : Below B.heap.size B Wxx := hWx.trans (bX.mono hWx.size)
  clear bX
  go_wp2_with fail
  refine hK.out _ _ (hS.out _ hWxx) (fun hHeld => ?_)
  clear hK K
  try simp only [Act.put, List.setIfInBounds_toArray, List.set_cons_zero, List.set_cons_succ]
  refine wpAnyH_take (i := 8) (oi := { dst := some 11, op := Op.build 51 #[(0, Operand.tmp 5), (1, Operand.tmp 8), (2, Operand.tmp 10)], type := 51, pos := "cache.go:165", after := #[{ on := 2, ground := Ground.data }, { on := 5, ground := Ground.data }, { on := 7, ground := Ground.data }], guard := none }) (v := ?vv7) rfl (by kernel_rfl) (by kernel_rfl) (by kernel_rfl) (fun _ _ _ h => h) (Or.inl ⟨by rfl, ?hy7⟩) (by assumption) ?_
  case hy7 => (intro w hSw; (try dsimp only at hSw); go_simp; all_goals with_reducible rfl)
  try simp only [Act.put, List.setIfInBounds_toArray, List.set_cons_zero, List.set_cons_succ]
  refine wpAnyH_ready (rs := [9]) (by kernel_rfl) (by simp) ?_
  refine AllReadyH.cons (o := { dst := none, op := Op.store 51 (Operand.tmp 2) (Operand.tmp 11), type := 0, pos := "cache.go:165", after := #[{ on := 8, ground := Ground.data }, { on := 5, ground := Ground.chain }, { on := 0, ground := Ground.phase }, { on := 1, ground := Ground.phase }, { on := 2, ground := Ground.phase }, { on := 3, ground := Ground.phase }, { on := 4, ground := Ground.phase }, { on := 5, ground := Ground.phase }, { on := 6, ground := Ground.phase }, { on := 7, ground := Ground.phase }, { on := 8, ground := Ground.phase }], guard := none }) rfl (fun K hK => ?_) AllReadyH.nil
  have hr2 : Wxx.heap[r]? = some (.cells #[.string ⟨#[]⟩, .string ⟨#[]⟩, .bool false] 51 (0, 0)) := (hWxx.block r (heap_lt HR.out)).trans HR.out
  have p0 := cell_blk hr2 0
  have p1 := cell_blk hr2 1
  have p2 := cell_blk hr2 2
  have z0 := frozen_blk hr2 0
  have z1 := frozen_blk hr2 1
  have z2 := frozen_blk hr2 2
  simp only [List.getElem?_toArray, List.getElem?_cons_succ, List.getElem?_cons_zero] at p0 p1 p2
  obtain ⟨E, hE⟩ : ∃ E, ((Wxx.setCell ⟨r, 0, none⟩ (.string f.n)).setCell ⟨r, 1, none⟩ (.string f.v)).setCell ⟨r, 2, none⟩ (.bool f.nv) = E := ⟨_, rfl⟩
  have HEb : Hid (E.heap[r]? = some (.cells #[.string f.n, .string f.v, .bool f.nv] 51 (0, 0))) := by
    show _ = _
    rw [← hE, setCell_block _ _ _ _ _ _ _ (setCell_block _ _ _ _ _ _ _ (setCell_block _ _ _ _ _ _ _ hr2))]
    rfl
  have HEq : Hid (E.heap[q]? = Wxx.heap[q]?) := by
    show _ = _
    rw [← hE, setCell_other _ _ _ _ _ HQR.out, setCell_other _ _ _ _ _ HQR.out, setCell_other _ _ _ _ _ HQR.out]
  have HSn : Hid ((fun V => V.cell? ⟨q, 0, none⟩ = some (.string f.n) ∧ V.cell? ⟨q, 1, none⟩ = some (.string f.v) ∧ V.cell? ⟨q, 2, none⟩ = some (.bool f.nv)) E) := by
    have hq := hS.out _ hWxx
    refine ⟨?_, ?_, ?_⟩
    · have := hq.1; unfold World.cell? at this ⊢; rw [HEq.out]; exact this
    · have := hq.2.1; unfold World.cell? at this ⊢; rw [HEq.out]; exact this
    · have := hq.2.2; unfold World.cell? at this ⊢; rw [HEq.out]; exact this
  have HBe : Hid (Below w.heap.size w E) := by
    rw [← hE]
    exact (((HB.out.trans (hWxx.mono HB.out.size)).setCell (p := ⟨r, 0, none⟩) HRw.out _).setCell (p := ⟨r, 1, none⟩) HRw.out _).setCell (p := ⟨r, 2, none⟩) HRw.out _
  clear hr2 HEq
  go_simp
  go_wp2_with fail
  try rw [hE]
  refine hK.out _ _ HSn.out (fun hHeld => ?_)
  clear hK K
  try simp only [Act.put, List.setIfInBounds_toArray, List.set_cons_zero, List.set_cons_succ]
  refine wpAnyH_done (by kernel_rfl) ?_ _
  go_wp2_with fail
  refine bodyPost_ret (results_cell_row (p := 2) (ty := 51) rfl _ _ r 51 _ (0, 0) _ rfl HEb.out Tryd.underlying51 rfl (by kernel_rfl)) rfl ?_
  exact ⟨rfl, HBe.out⟩
end Go.Proofs.YtfponcdhaefkdaaDoor
