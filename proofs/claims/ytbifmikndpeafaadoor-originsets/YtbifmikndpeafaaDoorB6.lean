/- copied. -/
import Derived.Test.YtbifmikndpeafaaDoorB3
namespace Go.Proofs.YtbifmikndpeafaaDoor
open Go.RowKit
set_option linter.unusedVariables false
set_option linter.unusedSimpArgs false
/-- both texts are not too long -/
def oz (o : Og) : Prop := o.s.size ≤ 140737488355328 ∧ o.h.size ≤ 140737488355328
set_option maxHeartbeats 4000000 in
set_option maxRecDepth 100000 in
theorem copied_any (o : Og) (w : World) (hz : oz o) : Calls Tryd.prog 28 #[.agg (ogv o)] w fun e w' => e = .returned (.agg (ogv o)) ∧ Below w.heap.size w w' := by
  have HZ1 : Hid (o.s.size ≤ 281474976710656) := Nat.le_trans hz.1 (by decide)
  have HZ2 : Hid (o.h.size ≤ 281474976710656) := Nat.le_trans hz.2 (by decide)
  unfold ogv
  clear hz
  obtain ⟨n, hn'⟩ : ∃ n, n = w.heap.size := ⟨_, rfl⟩
  have hn : Hid (n = w.heap.size) := hn'
  obtain ⟨W0, hW0⟩ : ∃ W0, W0 = (w.alloc (.cells #[.string o.s, .string o.h, .int .i64 o.p] 23)).alloc (.cells #[.string ⟨#[]⟩, .string ⟨#[]⟩, .int .i64 0] 23) := ⟨_, rfl⟩
  have hsz : Hid (W0.heap.size = n + 2) := by show _ = _; rw [hW0, size_al, size_al, hn']
  have hD0 : Hid (OB W0 (n + 1) og0) := by show OB _ _ _; unfold OB; rw [hW0, hn']; exact fresh2 _ _ _
  have hF0 : OB W0 n o := by unfold OB; rw [hW0, hn', heap_al, if_neg (by simp), heap_al, if_pos rfl]; rfl
  have hB0 : Hid (Below n w W0) := by rw [hW0, hn']; exact bel2 _ _ _
  have hCell : Hid (∀ V, Below W0.heap.size W0 V → V.cell? ⟨n, 0, none⟩ = some (.string o.s) ∧ V.cell? ⟨n, 1, none⟩ = some (.string o.h) ∧ V.cell? ⟨n, 2, none⟩ = some (.int .i64 o.p)) := fun V hV => ⟨(hF0.below hV).cells.c0, (hF0.below hV).cells.c1, (hF0.below hV).cells.c2⟩
  clear hF0
  go_enter Tryd.func28, Tryd.ntmps28
  go_wp2_with fail
  rw [← hW0]
  try rw [size_al]
  rw [← hn']
  clear hW0 hn'

  have hIW : Below W0.heap.size W0 W0.drew := (Below.refl _ _).drew
  refine wp_region_held_drew (S := (fun V => V.cell? ⟨n, 0, none⟩ = some (.string o.s) ∧ V.cell? ⟨n, 1, none⟩ = some (.string o.h) ∧ V.cell? ⟨n, 2, none⟩ = some (.int .i64 o.p))) (by kernel_rfl) (hCell.out _ hIW) (fun hHeld => ?_)
  generalize hWg : World.drew _ = W at hIW hHeld ⊢
  clear hWg
  refine wpAnyH_take (i := 0) (oi := { dst := some 3, op := Op.fieldAddr 23 (Operand.tmp 1) 0, type := 0, pos := "set.go:51", after := #[], guard := none }) (v := ?vv1) rfl (by kernel_rfl) (by kernel_rfl) (by kernel_rfl) (fun _ _ _ h => h) (Or.inl ⟨by rfl, ?hy1⟩) (by assumption) ?_
  case hy1 => (intro w hSw; (try dsimp only at hSw); go_simp; all_goals with_reducible rfl)
  try simp only [Act.put, List.setIfInBounds_toArray, List.set_cons_zero, List.set_cons_succ]
  refine wpAnyH_take (i := 1) (oi := { dst := some 4, op := Op.load 9 (Operand.tmp 3), type := 9, pos := "set.go:51", after := #[{ on := 0, ground := Ground.data }], guard := none }) (v := ?vv2) rfl (by kernel_rfl) (by kernel_rfl) (by kernel_rfl) (fun _ _ _ h => h) (Or.inl ⟨by rfl, ?hy2⟩) (by assumption) ?_
  case hy2 => (intro w hSw; (try dsimp only at hSw); go_simp; all_goals with_reducible rfl)
  try simp only [Act.put, List.setIfInBounds_toArray, List.set_cons_zero, List.set_cons_succ]
  refine wpAnyH_take (i := 3) (oi := { dst := some 6, op := Op.fieldAddr 23 (Operand.tmp 1) 1, type := 0, pos := "set.go:51", after := #[], guard := none }) (v := ?vv3) rfl (by kernel_rfl) (by kernel_rfl) (by kernel_rfl) (fun _ _ _ h => h) (Or.inl ⟨by rfl, ?hy3⟩) (by assumption) ?_
  case hy3 => (intro w hSw; (try dsimp only at hSw); go_simp; all_goals with_reducible rfl)
  try simp only [Act.put, List.setIfInBounds_toArray, List.set_cons_zero, List.set_cons_succ]
  refine wpAnyH_take (i := 4) (oi := { dst := some 7, op := Op.load 9 (Operand.tmp 6), type := 9, pos := "set.go:51", after := #[{ on := 3, ground := Ground.data }], guard := none }) (v := ?vv4) rfl (by kernel_rfl) (by kernel_rfl) (by kernel_rfl) (fun _ _ _ h => h) (Or.inl ⟨by rfl, ?hy4⟩) (by assumption) ?_
  case hy4 => (intro w hSw; (try dsimp only at hSw); go_simp; all_goals with_reducible rfl)
  try simp only [Act.put, List.setIfInBounds_toArray, List.set_cons_zero, List.set_cons_succ]
  refine wpAnyH_take (i := 6) (oi := { dst := some 9, op := Op.fieldAddr 23 (Operand.tmp 1) 2, type := 0, pos := "set.go:51", after := #[], guard := none }) (v := ?vv5) rfl (by kernel_rfl) (by kernel_rfl) (by kernel_rfl) (fun _ _ _ h => h) (Or.inl ⟨by rfl, ?hy5⟩) (by assumption) ?_
  case hy5 => (intro w hSw; (try dsimp only at hSw); go_simp; all_goals with_reducible rfl)
  try simp only [Act.put, List.setIfInBounds_toArray, List.set_cons_zero, List.set_cons_succ]
  refine wpAnyH_take (i := 7) (oi := { dst := some 10, op := Op.load 3 (Operand.tmp 9), type := 3, pos := "set.go:51", after := #[{ on := 6, ground := Ground.data }], guard := none }) (v := ?vv6) rfl (by kernel_rfl) (by kernel_rfl) (by kernel_rfl) (fun _ _ _ h => h) (Or.inl ⟨by rfl, ?hy6⟩) (by assumption) ?_
  case hy6 => (intro w hSw; (try dsimp only at hSw); go_simp; all_goals with_reducible rfl)
  try simp only [Act.put, List.setIfInBounds_toArray, List.set_cons_zero, List.set_cons_succ]
  refine wpAnyH_ready (rs := [2]) (by kernel_rfl) (by simp) ?_
  refine AllReadyH.cons (o := { dst := some 5, op := Op.call { callee := Callee.value (Operand.func 38), args := #[Operand.tmp 4], argTypes := #[9] }, type := 9, pos := "set.go:51", after := #[{ on := 1, ground := Ground.data }], guard := none }) rfl (fun K hK => ?_) AllReadyH.nil
  go_simp
  refine (sclone_any o.s _ HZ1.out).mono ?_
  rintro e' Wx ⟨rfl, bX⟩
  have hWx : Below W0.heap.size W0 Wx := hIW.trans (bX.mono hIW.size)
  clear bX
  go_wp2_with fail
  refine hK.out _ _ (hCell.out _ hWx) (fun hHeld => ?_)
  clear hK K
  try simp only [Act.put, List.setIfInBounds_toArray, List.set_cons_zero, List.set_cons_succ]
  refine wpAnyH_ready (rs := [5]) (by kernel_rfl) (by simp) ?_
  refine AllReadyH.cons (o := { dst := some 8, op := Op.call { callee := Callee.value (Operand.func 38), args := #[Operand.tmp 7], argTypes := #[9] }, type := 9, pos := "set.go:51", after := #[{ on := 4, ground := Ground.data }, { on := 2, ground := Ground.chain }], guard := none }) rfl (fun K hK => ?_) AllReadyH.nil
  go_simp
  refine (sclone_any o.h _ HZ2.out).mono ?_
  rintro e' Wxx ⟨rfl, bX⟩
  have hWxx : Below W0.heap.size W0 Wxx := hWx.trans (bX.mono hWx.size)
  clear bX
  go_wp2_with fail
  refine hK.out _ _ (hCell.out _ hWxx) (fun hHeld => ?_)
  clear hK K
  try simp only [Act.put, List.setIfInBounds_toArray, List.set_cons_zero, List.set_cons_succ]
  refine wpAnyH_take (i := 8) (oi := { dst := some 11, op := Op.build 23 #[(0, Operand.tmp 5), (1, Operand.tmp 8), (2, Operand.tmp 10)], type := 23, pos := "set.go:51", after := #[{ on := 2, ground := Ground.data }, { on := 5, ground := Ground.data }, { on := 7, ground := Ground.data }], guard := none }) (v := ?vv7) rfl (by kernel_rfl) (by kernel_rfl) (by kernel_rfl) (fun _ _ _ h => h) (Or.inl ⟨by rfl, ?hy7⟩) (by assumption) ?_
  case hy7 => (intro w hSw; (try dsimp only at hSw); go_simp; all_goals with_reducible rfl)
  try simp only [Act.put, List.setIfInBounds_toArray, List.set_cons_zero, List.set_cons_succ]
  refine wpAnyH_ready (rs := [9]) (by kernel_rfl) (by simp) ?_
  refine AllReadyH.cons (o := { dst := none, op := Op.store 23 (Operand.tmp 2) (Operand.tmp 11), type := 0, pos := "set.go:51", after := #[{ on := 8, ground := Ground.data }, { on := 5, ground := Ground.chain }, { on := 0, ground := Ground.phase }, { on := 1, ground := Ground.phase }, { on := 2, ground := Ground.phase }, { on := 3, ground := Ground.phase }, { on := 4, ground := Ground.phase }, { on := 5, ground := Ground.phase }, { on := 6, ground := Ground.phase }, { on := 7, ground := Ground.phase }, { on := 8, ground := Ground.phase }], guard := none }) rfl (fun K hK => ?_) AllReadyH.nil
  have hg : OB Wxx (n + 1) og0 := hD0.out.below hWxx
  obtain ⟨f0, f1, f2, f3, f4, f5⟩ := hg.cells
  simp only [og0] at f0 f1 f2
  have HSn : Hid ((fun V => V.cell? ⟨n, 0, none⟩ = some (.string o.s) ∧ V.cell? ⟨n, 1, none⟩ = some (.string o.h) ∧ V.cell? ⟨n, 2, none⟩ = some (.int .i64 o.p)) (setO Wxx (n + 1) o)) := by
    have hq := hCell.out _ hWxx
    have hoth : (setO Wxx (n + 1) o).heap[n]? = Wxx.heap[n]? := setO_other _ (by omega)
    refine ⟨?_, ?_, ?_⟩
    · have := hq.1; unfold World.cell? at this ⊢; rw [hoth]; exact this
    · have := hq.2.1; unfold World.cell? at this ⊢; rw [hoth]; exact this
    · have := hq.2.2; unfold World.cell? at this ⊢; rw [hoth]; exact this
  have HG : Hid (OB (setO Wxx (n + 1) o) (n + 1) o) := hg.set o
  have HB : Hid (Below n w (setO Wxx (n + 1) o)) := (hB0.out.trans (hWxx.mono (by rw [hsz.out]; omega))).trans (setO_below _ (by omega))
  clear hg
  unfold setO at HSn HG HB
  go_simp
  go_wp2_with fail
  refine hK.out _ _ HSn.out (fun hHeld => ?_)
  clear hK K
  try simp only [Act.put, List.setIfInBounds_toArray, List.set_cons_zero, List.set_cons_succ]
  refine wpAnyH_done (by kernel_rfl) ?_ _
  go_wp2_with fail
  refine bodyPost_ret (results_cell_row (p := 2) (ty := 23) rfl _ _ (n + 1) 23 _ (0, 0) _ rfl HG.out Tryd.underlying23 rfl (by kernel_rfl)) rfl ⟨rfl, ?_⟩
  have := HB.out
  rw [hn.out] at this ⊢
  exact this
end Go.Proofs.YtbifmikndpeafaaDoor
