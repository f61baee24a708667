/- lacksRoom. -/
import Derived.Test.YtfponcdhaefkdaaDoorVc
namespace Go.Proofs.YtfponcdhaefkdaaDoor
open Go.RowKit
set_option linter.unusedVariables false
set_option linter.unusedSimpArgs false
/-- is there no room for one more of this size? -/
def lkB (c : Ca) (L : List En) (z : Nat) : Bool := decide (c.me ≤ (L.length : Int)) || decide (c.mb < (totL L : Int) + (z : Int))
set_option maxHeartbeats 8000000 in
set_option maxRecDepth 100000 in
theorem lacksRoom_any (w : World) (g : Nat) (c : Ca) (y : SV) (L : List En) (h : Cx w g c y L) (z : Nat) (hz : z ≤ 4611686018427387904) :
    Calls Tryd.prog 37 #[.pointer (some ⟨g, 0, none⟩), .int .i64 (z : Int)] w fun r w' => r = .returned (.bool (lkB c L z)) ∧ Below w.heap.size w w' := by
  have HBy : Hid (∀ V, Below w.heap.size w V → Calls Tryd.prog 22 #[.pointer (some ⟨g, 0, none⟩)] V fun e w' => e = .returned (.int .i64 (totL L : Int)) ∧ Below V.heap.size V w') := fun V hV => bytes_any V g c y L (h.below hV)
  obtain ⟨yb, yl, yc⟩ := y
  have hyl : yl = L.length := by obtain ⟨_, _, e, _⟩ := h.row.slice; simp only [sv] at e; injection e
  obtain ⟨n, hn⟩ : ∃ n, L.length = n := ⟨_, rfl⟩
  rw [hn] at hyl
  subst hyl
  have hS : Hid (∀ V, Below w.heap.size w V → V.cell? ⟨g, 0, none⟩ = some (.int .i64 c.me) ∧ V.cell? ⟨g, 1, none⟩ = some (.int .i64 c.mb) ∧ V.cell? ⟨g, 4, none⟩ = some (.slice yb yl yc)) := fun V hV => ⟨(h.below hV).cells.1, (h.below hV).cells.2.1, (h.below hV).cells.2.2.2.2.1⟩
  have HT : Hid (totL L ≤ 1152921504606846976) := by have := h.ok.tot; have := h.ok.mb; show _ ≤ _; omega
  by_cases h1 : c.me ≤ (yl : Int)
  · have HE : Hid (lkB c L z = true) := by show _ = _; unfold lkB; rw [hn, decide_eq_true h1]; rfl
    clear h hn HBy
    go_enter Tryd.func37, Tryd.ntmps37
    go_upto_region 1 with fail
    have hIW : Below w.heap.size w w.drew := (Below.refl _ _).drew
    refine wp_region_held_drew (S := (fun V => V.cell? ⟨g, 0, none⟩ = some (.int .i64 c.me) ∧ V.cell? ⟨g, 1, none⟩ = some (.int .i64 c.mb) ∧ V.cell? ⟨g, 4, none⟩ = some (.slice yb yl yc))) (by kernel_rfl) (hS.out _ hIW) (fun hHeld => ?_)
    generalize hWg : World.drew _ = W at hIW hHeld ⊢
    clear hWg
    refine wpAnyH_take (i := 0) (oi := { dst := some 5, op := Op.move (Operand.tmp 0), type := 30, pos := "cache.go:130", after := #[], guard := none }) (v := ?vv1) rfl (by kernel_rfl) (by kernel_rfl) (by kernel_rfl) (fun _ _ _ h => h) (Or.inl ⟨by rfl, ?hy1⟩) (by assumption) ?_
    case hy1 => (intro w hSw; (try dsimp only at hSw); go_simp; all_goals with_reducible rfl)
    try simp only [Act.put, List.setIfInBounds_toArray, List.set_cons_zero, List.set_cons_succ]
    refine wpAnyH_take (i := 1) (oi := { dst := some 6, op := Op.nilCheck (Operand.tmp 5), type := 0, pos := "cache.go:130", after := #[{ on := 0, ground := Ground.data }], guard := none }) (v := ?vv2) rfl (by kernel_rfl) (by kernel_rfl) (by kernel_rfl) (fun _ _ _ h => h) (Or.inl ⟨by rfl, ?hy2⟩) (by assumption) ?_
    case hy2 => (intro w hSw; (try dsimp only at hSw); go_simp; all_goals with_reducible rfl)
    try simp only [Act.put, List.setIfInBounds_toArray, List.set_cons_zero, List.set_cons_succ]
    refine wpAnyH_take (i := 2) (oi := { dst := some 7, op := Op.fieldAddr 83 (Operand.tmp 6) 4, type := 0, pos := "cache.go:130", after := #[{ on := 1, ground := Ground.data }], guard := none }) (v := ?vv3) rfl (by kernel_rfl) (by kernel_rfl) (by kernel_rfl) (fun _ _ _ h => h) (Or.inl ⟨by rfl, ?hy3⟩) (by assumption) ?_
    case hy3 => (intro w hSw; (try dsimp only at hSw); go_simp; all_goals with_reducible rfl)
    try simp only [Act.put, List.setIfInBounds_toArray, List.set_cons_zero, List.set_cons_succ]
    refine wpAnyH_take (i := 3) (oi := { dst := some 8, op := Op.load 81 (Operand.tmp 7), type := 81, pos := "cache.go:130", after := #[{ on := 2, ground := Ground.data }], guard := none }) (v := ?vv4) rfl (by kernel_rfl) (by kernel_rfl) (by kernel_rfl) (fun _ _ _ h => h) (Or.inl ⟨by rfl, ?hy4⟩) (by assumption) ?_
    case hy4 => (intro w hSw; (try dsimp only at hSw); go_simp; all_goals with_reducible rfl)
    try simp only [Act.put, List.setIfInBounds_toArray, List.set_cons_zero, List.set_cons_succ]
    refine wpAnyH_take (i := 4) (oi := { dst := some 9, op := Op.call { callee := Callee.builtin Builtin.len, args := #[Operand.tmp 8], argTypes := #[81] }, type := 3, pos := "cache.go:130", after := #[{ on := 3, ground := Ground.data }], guard := none }) (v := ?vv5) rfl (by kernel_rfl) (by kernel_rfl) (by kernel_rfl) (fun _ _ _ h => h) (Or.inl ⟨by rfl, ?hy5⟩) (by assumption) ?_
    case hy5 => (intro w hSw; (try dsimp only at hSw); go_simp; all_goals with_reducible rfl)
    try simp only [Act.put, List.setIfInBounds_toArray, List.set_cons_zero, List.set_cons_succ]
    refine wpAnyH_take (i := 5) (oi := { dst := some 10, op := Op.move (Operand.tmp 0), type := 30, pos := "cache.go:130", after := #[], guard := none }) (v := ?vv6) rfl (by kernel_rfl) (by kernel_rfl) (by kernel_rfl) (fun _ _ _ h => h) (Or.inl ⟨by rfl, ?hy6⟩) (by assumption) ?_
    case hy6 => (intro w hSw; (try dsimp only at hSw); go_simp; all_goals with_reducible rfl)
    try simp only [Act.put, List.setIfInBounds_toArray, List.set_cons_zero, List.set_cons_succ]
    refine wpAnyH_take (i := 6) (oi := { dst := some 11, op := Op.nilCheck (Operand.tmp 10), type := 0, pos := "cache.go:130", after := #[{ on := 5, ground := Ground.data }], guard := none }) (v := ?vv7) rfl (by kernel_rfl) (by kernel_rfl) (by kernel_rfl) (fun _ _ _ h => h) (Or.inl ⟨by rfl, ?hy7⟩) (by assumption) ?_
    case hy7 => (intro w hSw; (try dsimp only at hSw); go_simp; all_goals with_reducible rfl)
    try simp only [Act.put, List.setIfInBounds_toArray, List.set_cons_zero, List.set_cons_succ]
    refine wpAnyH_take (i := 7) (oi := { dst := some 12, op := Op.fieldAddr 83 (Operand.tmp 11) 0, type := 0, pos := "cache.go:130", after := #[{ on := 6, ground := Ground.data }], guard := none }) (v := ?vv8) rfl (by kernel_rfl) (by kernel_rfl) (by kernel_rfl) (fun _ _ _ h => h) (Or.inl ⟨by rfl, ?hy8⟩) (by assumption) ?_
    case hy8 => (intro w hSw; (try dsimp only at hSw); go_simp; all_goals with_reducible rfl)
    try simp only [Act.put, List.setIfInBounds_toArray, List.set_cons_zero, List.set_cons_succ]
    refine wpAnyH_take (i := 8) (oi := { dst := some 13, op := Op.load 2 (Operand.tmp 12), type := 2, pos := "cache.go:130", after := #[{ on := 7, ground := Ground.data }], guard := none }) (v := ?vv9) rfl (by kernel_rfl) (by kernel_rfl) (by kernel_rfl) (fun _ _ _ h => h) (Or.inl ⟨by rfl, ?hy9⟩) (by assumption) ?_
    case hy9 => (intro w hSw; (try dsimp only at hSw); go_simp; all_goals with_reducible rfl)
    try simp only [Act.put, List.setIfInBounds_toArray, List.set_cons_zero, List.set_cons_succ]
    refine wpAnyH_take (i := 9) (oi := { dst := some 14, op := Op.binOp BinOp.geq 2 (Operand.tmp 9) (Operand.tmp 13) 2, type := 4, pos := "cache.go:130", after := #[{ on := 4, ground := Ground.data }, { on := 8, ground := Ground.data }], guard := none }) (v := ?vv10) rfl (by kernel_rfl) (by kernel_rfl) (by kernel_rfl) (fun _ _ _ h => h) (Or.inl ⟨by rfl, ?hy10⟩) (by assumption) ?_
    case hy10 => (intro w hSw; (try dsimp only at hSw); go_simp; all_goals with_reducible rfl)
    try simp only [Act.put, List.setIfInBounds_toArray, List.set_cons_zero, List.set_cons_succ]
    refine wpAnyH_take (i := 10) (oi := { dst := some 15, op := Op.move (Operand.tmp 14), type := 4, pos := "cache.go:130", after := #[{ on := 9, ground := Ground.data }], guard := none }) (v := ?vv11) rfl (by kernel_rfl) (by kernel_rfl) (by kernel_rfl) (fun _ _ _ h => h) (Or.inl ⟨by rfl, ?hy11⟩) (by assumption) ?_
    case hy11 => (intro w hSw; (try dsimp only at hSw); go_simp; all_goals with_reducible rfl)
    try simp only [Act.put, List.setIfInBounds_toArray, List.set_cons_zero, List.set_cons_succ]
    refine wpAnyH_take (i := 11) (oi := { dst := some 16, op := Op.move (Operand.tmp 0), type := 30, pos := "cache.go:130", after := #[{ on := 10, ground := Ground.guard }], guard := some (10, false) }) (v := undef) rfl (by kernel_rfl) (by kernel_rfl) (by kernel_rfl) (fun _ _ _ h => h) (Or.inr ⟨by rfl, rfl⟩) (by assumption) ?_
    try simp only [Act.put, List.setIfInBounds_toArray, List.set_cons_zero, List.set_cons_succ]
    refine wpAnyH_take (i := 12) (oi := { dst := some 17, op := Op.call { callee := Callee.value (Operand.func 22), args := #[Operand.tmp 16], argTypes := #[30] }, type := 2, pos := "cache.go:130", after := #[{ on := 11, ground := Ground.data }, { on := 10, ground := Ground.chain }, { on := 10, ground := Ground.guard }], guard := some (10, false) }) (v := undef) rfl (by kernel_rfl) (by kernel_rfl) (by kernel_rfl) (fun _ _ _ h => h) (Or.inr ⟨by rfl, rfl⟩) (by assumption) ?_
    try simp only [Act.put, List.setIfInBounds_toArray, List.set_cons_zero, List.set_cons_succ]
    refine wpAnyH_take (i := 13) (oi := { dst := some 18, op := Op.move (Operand.tmp 1), type := 2, pos := "cache.go:130", after := #[{ on := 10, ground := Ground.guard }], guard := some (10, false) }) (v := undef) rfl (by kernel_rfl) (by kernel_rfl) (by kernel_rfl) (fun _ _ _ h => h) (Or.inr ⟨by rfl, rfl⟩) (by assumption) ?_
    try simp only [Act.put, List.setIfInBounds_toArray, List.set_cons_zero, List.set_cons_succ]
    refine wpAnyH_take (i := 14) (oi := { dst := some 19, op := Op.binOp BinOp.add 2 (Operand.tmp 17) (Operand.tmp 18) 2, type := 2, pos := "cache.go:130", after := #[{ on := 12, ground := Ground.data }, { on := 13, ground := Ground.data }, { on := 10, ground := Ground.guard }], guard := some (10, false) }) (v := undef) rfl (by kernel_rfl) (by kernel_rfl) (by kernel_rfl) (fun _ _ _ h => h) (Or.inr ⟨by rfl, rfl⟩) (by assumption) ?_
    try simp only [Act.put, List.setIfInBounds_toArray, List.set_cons_zero, List.set_cons_succ]
    refine wpAnyH_take (i := 15) (oi := { dst := some 20, op := Op.move (Operand.tmp 0), type := 30, pos := "cache.go:130", after := #[{ on := 10, ground := Ground.guard }], guard := some (10, false) }) (v := undef) rfl (by kernel_rfl) (by kernel_rfl) (by kernel_rfl) (fun _ _ _ h => h) (Or.inr ⟨by rfl, rfl⟩) (by assumption) ?_
    try simp only [Act.put, List.setIfInBounds_toArray, List.set_cons_zero, List.set_cons_succ]
    refine wpAnyH_take (i := 16) (oi := { dst := some 21, op := Op.nilCheck (Operand.tmp 20), type := 0, pos := "cache.go:130", after := #[{ on := 15, ground := Ground.data }, { on := 10, ground := Ground.guard }], guard := some (10, false) }) (v := undef) rfl (by kernel_rfl) (by kernel_rfl) (by kernel_rfl) (fun _ _ _ h => h) (Or.inr ⟨by rfl, rfl⟩) (by assumption) ?_
    try simp only [Act.put, List.setIfInBounds_toArray, List.set_cons_zero, List.set_cons_succ]
    refine wpAnyH_take (i := 17) (oi := { dst := some 22, op := Op.fieldAddr 83 (Operand.tmp 21) 1, type := 0, pos := "cache.go:130", after := #[{ on := 16, ground := Ground.data }, { on := 10, ground := Ground.guard }], guard := some (10, false) }) (v := undef) rfl (by kernel_rfl) (by kernel_rfl) (by kernel_rfl) (fun _ _ _ h => h) (Or.inr ⟨by rfl, rfl⟩) (by assumption) ?_
    try simp only [Act.put, List.setIfInBounds_toArray, List.set_cons_zero, List.set_cons_succ]
    refine wpAnyH_take (i := 18) (oi := { dst := some 23, op := Op.load 2 (Operand.tmp 22), type := 2, pos := "cache.go:130", after := #[{ on := 17, ground := Ground.data }, { on := 10, ground := Ground.guard }], guard := some (10, false) }) (v := undef) rfl (by kernel_rfl) (by kernel_rfl) (by kernel_rfl) (fun _ _ _ h => h) (Or.inr ⟨by rfl, rfl⟩) (by assumption) ?_
    try simp only [Act.put, List.setIfInBounds_toArray, List.set_cons_zero, List.set_cons_succ]
    refine wpAnyH_take (i := 19) (oi := { dst := some 24, op := Op.binOp BinOp.gtr 2 (Operand.tmp 19) (Operand.tmp 23) 2, type := 4, pos := "cache.go:130", after := #[{ on := 14, ground := Ground.data }, { on := 18, ground := Ground.data }, { on := 10, ground := Ground.guard }], guard := some (10, false) }) (v := undef) rfl (by kernel_rfl) (by kernel_rfl) (by kernel_rfl) (fun _ _ _ h => h) (Or.inr ⟨by rfl, rfl⟩) (by assumption) ?_
    try simp only [Act.put, List.setIfInBounds_toArray, List.set_cons_zero, List.set_cons_succ]
    refine wpAnyH_take (i := 20) (oi := { dst := some 25, op := Op.pick (Operand.tmp 15) (Operand.const (Value.bool true)) (Operand.tmp 24), type := 4, pos := "cache.go:130", after := #[{ on := 10, ground := Ground.data }, { on := 19, ground := Ground.data }], guard := none }) (v := ?vv12) rfl (by kernel_rfl) (by kernel_rfl) (by kernel_rfl) (fun _ _ _ h => h) (Or.inl ⟨by rfl, ?hy12⟩) (by assumption) ?_
    case hy12 => (intro w hSw; (try dsimp only at hSw); go_simp; all_goals with_reducible rfl)
    try simp only [Act.put, List.setIfInBounds_toArray, List.set_cons_zero, List.set_cons_succ]
    refine wpAnyH_take (i := 21) (oi := { dst := some 4, op := Op.assign (Operand.tmp 25), type := 4, pos := "cache.go:130", after := #[{ on := 20, ground := Ground.data }, { on := 12, ground := Ground.chain }, { on := 0, ground := Ground.phase }, { on := 1, ground := Ground.phase }, { on := 2, ground := Ground.phase }, { on := 3, ground := Ground.phase }, { on := 4, ground := Ground.phase }, { on := 5, ground := Ground.phase }, { on := 6, ground := Ground.phase }, { on := 7, ground := Ground.phase }, { on := 8, ground := Ground.phase }, { on := 9, ground := Ground.phase }, { on := 10, ground := Ground.phase }, { on := 11, ground := Ground.phase }, { on := 12, ground := Ground.phase }, { on := 13, ground := Ground.phase }, { on := 14, ground := Ground.phase }, { on := 15, ground := Ground.phase }, { on := 16, ground := Ground.phase }, { on := 17, ground := Ground.phase }, { on := 18, ground := Ground.phase }, { on := 19, ground := Ground.phase }, { on := 20, ground := Ground.phase }], guard := none }) (v := ?vv13) rfl (by kernel_rfl) (by kernel_rfl) (by kernel_rfl) (fun _ _ _ h => h) (Or.inl ⟨by rfl, ?hy13⟩) (by assumption) ?_
    case hy13 => (intro w hSw; (try dsimp only at hSw); go_simp; all_goals with_reducible rfl)
    try simp only [Act.put, List.setIfInBounds_toArray, List.set_cons_zero, List.set_cons_succ]
    refine wpAnyH_done (by kernel_rfl) ?_ _
    have HF : Hid (Below w.heap.size w _) := hIW
    clear hHeld hIW
    go_wp2_with fail
    go_ret
    refine ⟨?_, HF.out⟩
    rw [HE.out]
    rfl
  · obtain ⟨T, hT⟩ : ∃ T, totL L = T := ⟨_, rfl⟩
    rw [hT] at HBy HT
    obtain ⟨s, hs⟩ : ∃ s : Nat, T + z = s := ⟨_, rfl⟩
    have q1 : (T : Int) + (z : Int) = (s : Int) := by omega
    have q2 : s ≤ 9223372036854775807 := by have := HT.out; omega
    have q3 : IntKind.i64.wrap (s : Int) = (s : Int) := by rw [IntKind.wrap_i64]; omega
    have HE : Hid (lkB c L z = decide (c.mb < (s : Int))) := by show _ = _; unfold lkB; rw [hn, decide_eq_false h1, hT, q1]; rfl
    have h2 : ¬ c.me ≤ (yl : Int) := h1
    clear h hn hT hs hz h1
    have h1 : decide (c.me ≤ (yl : Int)) = false := decide_eq_false h2
    go_enter Tryd.func37, Tryd.ntmps37
    go_upto_region 1 with fail
    have hIW : Below w.heap.size w w.drew := (Below.refl _ _).drew
    refine wp_region_held_drew (S := (fun V => V.cell? ⟨g, 0, none⟩ = some (.int .i64 c.me) ∧ V.cell? ⟨g, 1, none⟩ = some (.int .i64 c.mb) ∧ V.cell? ⟨g, 4, none⟩ = some (.slice yb yl yc))) (by kernel_rfl) (hS.out _ hIW) (fun hHeld => ?_)
    generalize hWg : World.drew _ = W at hIW hHeld ⊢
    clear hWg
    refine wpAnyH_take (i := 0) (oi := { dst := some 5, op := Op.move (Operand.tmp 0), type := 30, pos := "cache.go:130", after := #[], guard := none }) (v := ?vv14) rfl (by kernel_rfl) (by kernel_rfl) (by kernel_rfl) (fun _ _ _ h => h) (Or.inl ⟨by rfl, ?hy14⟩) (by assumption) ?_
    case hy14 => (intro w hSw; (try dsimp only at hSw); go_simp; all_goals with_reducible rfl)
    try simp only [Act.put, List.setIfInBounds_toArray, List.set_cons_zero, List.set_cons_succ]
    refine wpAnyH_take (i := 1) (oi := { dst := some 6, op := Op.nilCheck (Operand.tmp 5), type := 0, pos := "cache.go:130", after := #[{ on := 0, ground := Ground.data }], guard := none }) (v := ?vv15) rfl (by kernel_rfl) (by kernel_rfl) (by kernel_rfl) (fun _ _ _ h => h) (Or.inl ⟨by rfl, ?hy15⟩) (by assumption) ?_
    case hy15 => (intro w hSw; (try dsimp only at hSw); go_simp; all_goals with_reducible rfl)
    try simp only [Act.put, List.setIfInBounds_toArray, List.set_cons_zero, List.set_cons_succ]
    refine wpAnyH_take (i := 2) (oi := { dst := some 7, op := Op.fieldAddr 83 (Operand.tmp 6) 4, type := 0, pos := "cache.go:130", after := #[{ on := 1, ground := Ground.data }], guard := none }) (v := ?vv16) rfl (by kernel_rfl) (by kernel_rfl) (by kernel_rfl) (fun _ _ _ h => h) (Or.inl ⟨by rfl, ?hy16⟩) (by assumption) ?_
    case hy16 => (intro w hSw; (try dsimp only at hSw); go_simp; all_goals with_reducible rfl)
    try simp only [Act.put, List.setIfInBounds_toArray, List.set_cons_zero, List.set_cons_succ]
    refine wpAnyH_take (i := 3) (oi := { dst := some 8, op := Op.load 81 (Operand.tmp 7), type := 81, pos := "cache.go:130", after := #[{ on := 2, ground := Ground.data }], guard := none }) (v := ?vv17) rfl (by kernel_rfl) (by kernel_rfl) (by kernel_rfl) (fun _ _ _ h => h) (Or.inl ⟨by rfl, ?hy17⟩) (by assumption) ?_
    case hy17 => (intro w hSw; (try dsimp only at hSw); go_simp; all_goals with_reducible rfl)
    try simp only [Act.put, List.setIfInBounds_toArray, List.set_cons_zero, List.set_cons_succ]
    refine wpAnyH_take (i := 4) (oi := { dst := some 9, op := Op.call { callee := Callee.builtin Builtin.len, args := #[Operand.tmp 8], argTypes := #[81] }, type := 3, pos := "cache.go:130", after := #[{ on := 3, ground := Ground.data }], guard := none }) (v := ?vv18) rfl (by kernel_rfl) (by kernel_rfl) (by kernel_rfl) (fun _ _ _ h => h) (Or.inl ⟨by rfl, ?hy18⟩) (by assumption) ?_
    case hy18 => (intro w hSw; (try dsimp only at hSw); go_simp; all_goals with_reducible rfl)
    try simp only [Act.put, List.setIfInBounds_toArray, List.set_cons_zero, List.set_cons_succ]
    refine wpAnyH_take (i := 5) (oi := { dst := some 10, op := Op.move (Operand.tmp 0), type := 30, pos := "cache.go:130", after := #[], guard := none }) (v := ?vv19) rfl (by kernel_rfl) (by kernel_rfl) (by kernel_rfl) (fun _ _ _ h => h) (Or.inl ⟨by rfl, ?hy19⟩) (by assumption) ?_
    case hy19 => (intro w hSw; (try dsimp only at hSw); go_simp; all_goals with_reducible rfl)
    try simp only [Act.put, List.setIfInBounds_toArray, List.set_cons_zero, List.set_cons_succ]
    refine wpAnyH_take (i := 6) (oi := { dst := some 11, op := Op.nilCheck (Operand.tmp 10), type := 0, pos := "cache.go:130", after := #[{ on := 5, ground := Ground.data }], guard := none }) (v := ?vv20) rfl (by kernel_rfl) (by kernel_rfl) (by kernel_rfl) (fun _ _ _ h => h) (Or.inl ⟨by rfl, ?hy20⟩) (by assumption) ?_
    case hy20 => (intro w hSw; (try dsimp only at hSw); go_simp; all_goals with_reducible rfl)
    try simp only [Act.put, List.setIfInBounds_toArray, List.set_cons_zero, List.set_cons_succ]
    refine wpAnyH_take (i := 7) (oi := { dst := some 12, op := Op.fieldAddr 83 (Operand.tmp 11) 0, type := 0, pos := "cache.go:130", after := #[{ on := 6, ground := Ground.data }], guard := none }) (v := ?vv21) rfl (by kernel_rfl) (by kernel_rfl) (by kernel_rfl) (fun _ _ _ h => h) (Or.inl ⟨by rfl, ?hy21⟩) (by assumption) ?_
    case hy21 => (intro w hSw; (try dsimp only at hSw); go_simp; all_goals with_reducible rfl)
    try simp only [Act.put, List.setIfInBounds_toArray, List.set_cons_zero, List.set_cons_succ]
    refine wpAnyH_take (i := 8) (oi := { dst := some 13, op := Op.load 2 (Operand.tmp 12), type := 2, pos := "cache.go:130", after := #[{ on := 7, ground := Ground.data }], guard := none }) (v := ?vv22) rfl (by kernel_rfl) (by kernel_rfl) (by kernel_rfl) (fun _ _ _ h => h) (Or.inl ⟨by rfl, ?hy22⟩) (by assumption) ?_
    case hy22 => (intro w hSw; (try dsimp only at hSw); go_simp; all_goals with_reducible rfl)
    try simp only [Act.put, List.setIfInBounds_toArray, List.set_cons_zero, List.set_cons_succ]
    refine wpAnyH_take (i := 9) (oi := { dst := some 14, op := Op.binOp BinOp.geq 2 (Operand.tmp 9) (Operand.tmp 13) 2, type := 4, pos := "cache.go:130", after := #[{ on := 4, ground := Ground.data }, { on := 8, ground := Ground.data }], guard := none }) (v := ?vv23) rfl (by kernel_rfl) (by kernel_rfl) (by kernel_rfl) (fun _ _ _ h => h) (Or.inl ⟨by rfl, ?hy23⟩) (by assumption) ?_
    case hy23 => (intro w hSw; (try dsimp only at hSw); go_simp; all_goals with_reducible rfl)
    try simp only [Act.put, List.setIfInBounds_toArray, List.set_cons_zero, List.set_cons_succ]
    refine wpAnyH_take (i := 10) (oi := { dst := some 15, op := Op.move (Operand.tmp 14), type := 4, pos := "cache.go:130", after := #[{ on := 9, ground := Ground.data }], guard := none }) (v := ?vv24) rfl (by kernel_rfl) (by kernel_rfl) (by kernel_rfl) (fun _ _ _ h => h) (Or.inl ⟨by rfl, ?hy24⟩) (by assumption) ?_
    case hy24 => (intro w hSw; (try dsimp only at hSw); go_simp; all_goals with_reducible rfl)
    try simp only [Act.put, List.setIfInBounds_toArray, List.set_cons_zero, List.set_cons_succ]
    refine wpAnyH_take (i := 11) (oi := { dst := some 16, op := Op.move (Operand.tmp 0), type := 30, pos := "cache.go:130", after := #[{ on := 10, ground := Ground.guard }], guard := some (10, false) }) (v := ?vv25) rfl (by kernel_rfl) (by kernel_rfl) (by kernel_rfl) (fun _ _ _ h => h) (Or.inl ⟨by rfl, ?hy25⟩) (by assumption) ?_
    case hy25 => (intro w hSw; (try dsimp only at hSw); go_simp; all_goals with_reducible rfl)
    try simp only [Act.put, List.setIfInBounds_toArray, List.set_cons_zero, List.set_cons_succ]
    refine wpAnyH_take (i := 13) (oi := { dst := some 18, op := Op.move (Operand.tmp 1), type := 2, pos := "cache.go:130", after := #[{ on := 10, ground := Ground.guard }], guard := some (10, false) }) (v := ?vv26) rfl (by kernel_rfl) (by kernel_rfl) (by kernel_rfl) (fun _ _ _ h => h) (Or.inl ⟨by rfl, ?hy26⟩) (by assumption) ?_
    case hy26 => (intro w hSw; (try dsimp only at hSw); go_simp; all_goals with_reducible rfl)
    try simp only [Act.put, List.setIfInBounds_toArray, List.set_cons_zero, List.set_cons_succ]
    refine wpAnyH_take (i := 15) (oi := { dst := some 20, op := Op.move (Operand.tmp 0), type := 30, pos := "cache.go:130", after := #[{ on := 10, ground := Ground.guard }], guard := some (10, false) }) (v := ?vv27) rfl (by kernel_rfl) (by kernel_rfl) (by kernel_rfl) (fun _ _ _ h => h) (Or.inl ⟨by rfl, ?hy27⟩) (by assumption) ?_
    case hy27 => (intro w hSw; (try dsimp only at hSw); go_simp; all_goals with_reducible rfl)
    try simp only [Act.put, List.setIfInBounds_toArray, List.set_cons_zero, List.set_cons_succ]
    refine wpAnyH_take (i := 16) (oi := { dst := some 21, op := Op.nilCheck (Operand.tmp 20), type := 0, pos := "cache.go:130", after := #[{ on := 15, ground := Ground.data }, { on := 10, ground := Ground.guard }], guard := some (10, false) }) (v := ?vv28) rfl (by kernel_rfl) (by kernel_rfl) (by kernel_rfl) (fun _ _ _ h => h) (Or.inl ⟨by rfl, ?hy28⟩) (by assumption) ?_
    case hy28 => (intro w hSw; (try dsimp only at hSw); go_simp; all_goals with_reducible rfl)
    try simp only [Act.put, List.setIfInBounds_toArray, List.set_cons_zero, List.set_cons_succ]
    refine wpAnyH_take (i := 17) (oi := { dst := some 22, op := Op.fieldAddr 83 (Operand.tmp 21) 1, type := 0, pos := "cache.go:130", after := #[{ on := 16, ground := Ground.data }, { on := 10, ground := Ground.guard }], guard := some (10, false) }) (v := ?vv29) rfl (by kernel_rfl) (by kernel_rfl) (by kernel_rfl) (fun _ _ _ h => h) (Or.inl ⟨by rfl, ?hy29⟩) (by assumption) ?_
    case hy29 => (intro w hSw; (try dsimp only at hSw); go_simp; all_goals with_reducible rfl)
    try simp only [Act.put, List.setIfInBounds_toArray, List.set_cons_zero, List.set_cons_succ]
    refine wpAnyH_take (i := 18) (oi := { dst := some 23, op := Op.load 2 (Operand.tmp 22), type := 2, pos := "cache.go:130", after := #[{ on := 17, ground := Ground.data }, { on := 10, ground := Ground.guard }], guard := some (10, false) }) (v := ?vv30) rfl (by kernel_rfl) (by kernel_rfl) (by kernel_rfl) (fun _ _ _ h => h) (Or.inl ⟨by rfl, ?hy30⟩) (by assumption) ?_
    case hy30 => (intro w hSw; (try dsimp only at hSw); go_simp; all_goals with_reducible rfl)
    try simp only [Act.put, List.setIfInBounds_toArray, List.set_cons_zero, List.set_cons_succ]
    refine wpAnyH_ready (rs := [12]) (by kernel_rfl) (by simp) ?_
    refine AllReadyH.cons (o := { dst := some 17, op := Op.call { callee := Callee.value (Operand.func 22), args := #[Operand.tmp 16], argTypes := #[30] }, type := 2, pos := "cache.go:130", after := #[{ on := 11, ground := Ground.data }, { on := 10, ground := Ground.chain }, { on := 10, ground := Ground.guard }], guard := some (10, false) }) rfl (fun K hK => ?_) AllReadyH.nil
    go_simp
    refine (HBy.out _ hIW).mono ?_
    rintro e' Wx ⟨rfl, bX⟩
    have hWx : Below w.heap.size w Wx := hIW.trans (bX.mono hIW.size)
    clear bX
    go_wp2_with fail
    refine hK.out _ _ (hS.out _ hWx) (fun hHeld => ?_)
    clear hK K
    try simp only [Act.put, List.setIfInBounds_toArray, List.set_cons_zero, List.set_cons_succ]
    refine wpAnyH_take (i := 14) (oi := { dst := some 19, op := Op.binOp BinOp.add 2 (Operand.tmp 17) (Operand.tmp 18) 2, type := 2, pos := "cache.go:130", after := #[{ on := 12, ground := Ground.data }, { on := 13, ground := Ground.data }, { on := 10, ground := Ground.guard }], guard := some (10, false) }) (v := ?vv31) rfl (by kernel_rfl) (by kernel_rfl) (by kernel_rfl) (fun _ _ _ h => h) (Or.inl ⟨by rfl, ?hy31⟩) (by assumption) ?_
    case hy31 => (intro w hSw; (try dsimp only at hSw); go_simp; all_goals with_reducible rfl)
    try simp only [Act.put, List.setIfInBounds_toArray, List.set_cons_zero, List.set_cons_succ]
    refine wpAnyH_take (i := 19) (oi := { dst := some 24, op := Op.binOp BinOp.gtr 2 (Operand.tmp 19) (Operand.tmp 23) 2, type := 4, pos := "cache.go:130", after := #[{ on := 14, ground := Ground.data }, { on := 18, ground := Ground.data }, { on := 10, ground := Ground.guard }], guard := some (10, false) }) (v := ?vv32) rfl (by kernel_rfl) (by kernel_rfl) (by kernel_rfl) (fun _ _ _ h => h) (Or.inl ⟨by rfl, ?hy32⟩) (by assumption) ?_
    case hy32 => (intro w hSw; (try dsimp only at hSw); go_simp; all_goals with_reducible rfl)
    try simp only [Act.put, List.setIfInBounds_toArray, List.set_cons_zero, List.set_cons_succ]
    refine wpAnyH_take (i := 20) (oi := { dst := some 25, op := Op.pick (Operand.tmp 15) (Operand.const (Value.bool true)) (Operand.tmp 24), type := 4, pos := "cache.go:130", after := #[{ on := 10, ground := Ground.data }, { on := 19, ground := Ground.data }], guard := none }) (v := ?vv33) rfl (by kernel_rfl) (by kernel_rfl) (by kernel_rfl) (fun _ _ _ h => h) (Or.inl ⟨by rfl, ?hy33⟩) (by assumption) ?_
    case hy33 => (intro w hSw; (try dsimp only at hSw); go_simp; all_goals with_reducible rfl)
    try simp only [Act.put, List.setIfInBounds_toArray, List.set_cons_zero, List.set_cons_succ]
    refine wpAnyH_take (i := 21) (oi := { dst := some 4, op := Op.assign (Operand.tmp 25), type := 4, pos := "cache.go:130", after := #[{ on := 20, ground := Ground.data }, { on := 12, ground := Ground.chain }, { on := 0, ground := Ground.phase }, { on := 1, ground := Ground.phase }, { on := 2, ground := Ground.phase }, { on := 3, ground := Ground.phase }, { on := 4, ground := Ground.phase }, { on := 5, ground := Ground.phase }, { on := 6, ground := Ground.phase }, { on := 7, ground := Ground.phase }, { on := 8, ground := Ground.phase }, { on := 9, ground := Ground.phase }, { on := 10, ground := Ground.phase }, { on := 11, ground := Ground.phase }, { on := 12, ground := Ground.phase }, { on := 13, ground := Ground.phase }, { on := 14, ground := Ground.phase }, { on := 15, ground := Ground.phase }, { on := 16, ground := Ground.phase }, { on := 17, ground := Ground.phase }, { on := 18, ground := Ground.phase }, { on := 19, ground := Ground.phase }, { on := 20, ground := Ground.phase }], guard := none }) (v := ?vv34) rfl (by kernel_rfl) (by kernel_rfl) (by kernel_rfl) (fun _ _ _ h => h) (Or.inl ⟨by rfl, ?hy34⟩) (by assumption) ?_
    case hy34 => (intro w hSw; (try dsimp only at hSw); go_simp; all_goals with_reducible rfl)
    try simp only [Act.put, List.setIfInBounds_toArray, List.set_cons_zero, List.set_cons_succ]
    refine wpAnyH_done (by kernel_rfl) ?_ _
    have HF : Hid (Below w.heap.size w _) := hWx
    clear hHeld hWx
    go_wp2_with fail
    go_ret
    refine ⟨?_, HF.out⟩
    rw [HE.out]
    rfl
end Go.Proofs.YtfponcdhaefkdaaDoor
