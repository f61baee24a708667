/- without. -/
import Derived.Test.YtcgfgjhhmbfmdaaDoorH3
import Derived.Deep.RegionHeld3
namespace Go.Proofs.YtcgfgjhhmbfmdaaDoor
open Go.RowKit Go.Maps
set_option linter.unusedVariables false
set_option linter.unusedSimpArgs false

theorem without_rows (B off c : Nat) (l : List Fd) (i : Nat) (W : World) (hI : In EFd W (.slice (some ⟨B, off, none⟩) l.length c) l) (hi : i + 1 ≤ l.length) (hlen : l.length * 40 ≤ 140737488355328) (U : Option Addr) (hU : In EFd W (.slice U (l.length - (i + 1)) (c - (i + 1))) (l.drop (i + 1))) :
    ∃ b1 c1 w1 b2 c2 w2, Hid ((Builtin.append_ #[24, 24] 24 #[.slice none 0 0, .slice (some ⟨B, off, none⟩) i c]).run Tryd.prog W = .ok (.slice b1 i c1) w1) ∧ Hid ((Builtin.append_ #[24, 24] 24 #[.slice b1 i c1, .slice U (l.length - (i + 1)) (c - (i + 1))]).run Tryd.prog w1 = .ok (.slice b2 (l.length - 1) c2) w2) ∧ Hid (FdPost (l.take i ++ l.drop (i + 1)) W (.returned (.slice b2 (l.length - 1) c2)) w2) := by
  have htk := In.take hI i (by omega)
  have l2 : (l.take i).length = i := by rw [List.length_take]; omega
  obtain ⟨b1, c1, w1, g1, g2, g3⟩ := app okFd W (.slice none 0 0) [] (R.nil _ _) _ _ htk (by simp only [EFd, List.length_nil]; omega)
  simp only [List.length_nil, Nat.zero_add, List.nil_append] at g1 g2 g3
  rw [l2] at g1 g2 g3
  have ld : (l.drop (i + 1)).length = l.length - (i + 1) := List.length_drop
  obtain ⟨b3, c3, w3, p1, p2, p3⟩ := app okFd _ _ _ g2 _ _ (hU.below g3.fresh) (by simp only [EFd]; omega)
  have le : (l.take i).length + (l.drop (i + 1)).length = l.length - 1 := by rw [l2, ld]; omega
  rw [le] at p1 p2 p3
  refine ⟨b1, c1, w1, b3, c3, w3, g1, p1, (b3, l.length - 1, c3), rfl, g3.fresh.trans (p3.belowB g3.size g3.new), p2, fun k hk => ?_⟩
  rcases p3.own k hk with e | e
  · exact g3.new k e
  · exact Nat.le_trans g3.size e
set_option maxHeartbeats 8000000 in
set_option maxRecDepth 100000 in
theorem without_any (B off c n : Nat) (l : List Fd) (i : Nat) (w : World) (hI : In EFd w (.slice (some ⟨B, off, none⟩) n c) l) (hi : i ≤ 3) (h4 : 4 ≤ l.length) (hlen : l.length * 40 ≤ 140737488355328) :
    Calls Tryd.prog 24 #[.slice (some ⟨B, off, none⟩) n c, .int .i64 (i : Int)] w fun e w' => FdPost (l.take i ++ l.drop (i + 1)) w e w' := by
  obtain ⟨en, hcap1, hcap2⟩ := slice_len hI
  have HN : Hid (n = l.length) := en
  have hId : In EFd (w.drew) (.slice (some ⟨B, off, none⟩) l.length c) l := by rw [en] at hI; exact hI.below (show Below w.heap.size w w.drew from ⟨rfl, rfl, rfl, Nat.le_refl _, fun _ _ => rfl⟩)
  obtain ⟨hd1, hd2⟩ := In.drop okFd hId (i + 1) (by omega)
  have key : Hid (∃ U, U = (if c = i + 1 then some (⟨B, off, none⟩ : Addr) else some ⟨B, off + (i + 1) * 3, none⟩) ∧ ∃ b1 c1 w1 b2 c2 w2, Hid ((Builtin.append_ #[24, 24] 24 #[.slice none 0 0, .slice (some ⟨B, off, none⟩) i c]).run Tryd.prog w.drew = .ok (.slice b1 i c1) w1) ∧ Hid ((Builtin.append_ #[24, 24] 24 #[.slice b1 i c1, .slice U (n - (i + 1)) (c - (i + 1))]).run Tryd.prog w1 = .ok (.slice b2 (l.length - 1) c2) w2) ∧ Hid (FdPost (l.take i ++ l.drop (i + 1)) w (.returned (.slice b2 (l.length - 1) c2)) w2)) := by
    rw [en]
    refine ⟨_, rfl, ?_⟩
    have hU : In EFd (w.drew) (.slice (if c = i + 1 then some (⟨B, off, none⟩ : Addr) else some ⟨B, off + (i + 1) * 3, none⟩) (l.length - (i + 1)) (c - (i + 1))) (l.drop (i + 1)) := by
      by_cases hc : c = i + 1
      · rw [if_pos hc]; exact hd2 hc
      · rw [if_neg hc]; exact hd1 hc
    obtain ⟨b1, c1, w1, b2, c2, w2, g1, g2, ⟨y, e1, e2, e3, e4⟩⟩ := without_rows B off c l i _ hId (by omega) hlen _ hU
    exact ⟨b1, c1, w1, b2, c2, w2, g1, g2, y, e1, ⟨e2.os, e2.tape, e2.output, e2.size, e2.block⟩, e3, e4⟩
  have hn4 : 4 ≤ n := by omega
  have hnc : n ≤ c := by omega
  have a3 : (n : Int) ≤ (c : Int) := by omega
  clear hI hId hd1 hd2 en hcap1
  obtain rfl | rfl | rfl | rfl : i = 0 ∨ i = 1 ∨ i = 2 ∨ i = 3 := by omega
  · obtain ⟨U, hU, b1, c1, w1, b2, c2, w2, g1, g2, HF⟩ := key.out
    clear key
    simp only [Nat.zero_mul, Nat.one_mul, Nat.zero_add, Nat.reduceSub, Nat.reduceMul, Nat.reduceAdd, Nat.sub_zero] at g1 g2 hU
    have hU' : (if c = 1 then some (⟨B, off, none⟩ : Addr) else some ⟨B, off + 3, none⟩) = U := hU.symm
    have a1 : (1 : Int) ≤ (n : Int) := by omega
    have a2 : (0 : Int) ≤ (c : Int) := by omega
    have a4 : (1 : Int) ≤ (c : Int) := by omega
    clear hU
    have hw : IntKind.i64.wrap 1 = 1 := by decide
    have hwt : (1 : Int).toNat = 1 := rfl
    go_enter Tryd.func24, Tryd.ntmps24
    go_wp2_with fail
    refine wp_region_held_drew (S := (fun _ => True)) (by kernel_rfl) trivial (fun hHeld => ?_)
    refine wpAnyH_take (i := 0) (oi := { dst := some 6, op := Op.move (Operand.tmp 5), type := 24, pos := "outright.go:113", after := #[], guard := none }) (v := ?vv1) rfl (by kernel_rfl) (by kernel_rfl) (by kernel_rfl) (fun _ _ _ h => h) (Or.inl ⟨by rfl, ?hy1⟩) (by assumption) ?_
    case hy1 => (intro w hSw; (try dsimp only at hSw); go_simp; all_goals with_reducible rfl)
    try simp only [Act.put, List.setIfInBounds_toArray, List.set_cons_zero, List.set_cons_succ]
    refine wpAnyH_take (i := 1) (oi := { dst := some 7, op := Op.move (Operand.tmp 0), type := 24, pos := "outright.go:113", after := #[], guard := none }) (v := ?vv2) rfl (by kernel_rfl) (by kernel_rfl) (by kernel_rfl) (fun _ _ _ h => h) (Or.inl ⟨by rfl, ?hy2⟩) (by assumption) ?_
    case hy2 => (intro w hSw; (try dsimp only at hSw); go_simp; all_goals with_reducible rfl)
    try simp only [Act.put, List.setIfInBounds_toArray, List.set_cons_zero, List.set_cons_succ]
    refine wpAnyH_take (i := 2) (oi := { dst := some 8, op := Op.move (Operand.tmp 1), type := 3, pos := "outright.go:113", after := #[], guard := none }) (v := ?vv3) rfl (by kernel_rfl) (by kernel_rfl) (by kernel_rfl) (fun _ _ _ h => h) (Or.inl ⟨by rfl, ?hy3⟩) (by assumption) ?_
    case hy3 => (intro w hSw; (try dsimp only at hSw); go_simp; all_goals with_reducible rfl)
    try simp only [Act.put, List.setIfInBounds_toArray, List.set_cons_zero, List.set_cons_succ]
    refine wpAnyH_take (i := 3) (oi := { dst := some 9, op := Op.slice 24 (Operand.tmp 7) none (some (Operand.tmp 8)) none, type := 24, pos := "outright.go:113", after := #[{ on := 1, ground := Ground.data }, { on := 2, ground := Ground.data }], guard := none }) (v := ?vv4) rfl (by kernel_rfl) (by kernel_rfl) (by kernel_rfl) (fun _ _ _ h => h) (Or.inl ⟨by rfl, ?hy4⟩) (by assumption) ?_
    case hy4 => (intro w hSw; (try dsimp only at hSw); go_simp; all_goals with_reducible rfl)
    try simp only [Act.put, List.setIfInBounds_toArray, List.set_cons_zero, List.set_cons_succ]
    refine wpAnyH_take (i := 5) (oi := { dst := some 11, op := Op.move (Operand.tmp 0), type := 24, pos := "outright.go:113", after := #[], guard := none }) (v := ?vv5) rfl (by kernel_rfl) (by kernel_rfl) (by kernel_rfl) (fun _ _ _ h => h) (Or.inl ⟨by rfl, ?hy5⟩) (by assumption) ?_
    case hy5 => (intro w hSw; (try dsimp only at hSw); go_simp; all_goals with_reducible rfl)
    try simp only [Act.put, List.setIfInBounds_toArray, List.set_cons_zero, List.set_cons_succ]
    refine wpAnyH_take (i := 6) (oi := { dst := some 12, op := Op.move (Operand.tmp 1), type := 3, pos := "outright.go:113", after := #[], guard := none }) (v := ?vv6) rfl (by kernel_rfl) (by kernel_rfl) (by kernel_rfl) (fun _ _ _ h => h) (Or.inl ⟨by rfl, ?hy6⟩) (by assumption) ?_
    case hy6 => (intro w hSw; (try dsimp only at hSw); go_simp; all_goals with_reducible rfl)
    try simp only [Act.put, List.setIfInBounds_toArray, List.set_cons_zero, List.set_cons_succ]
    refine wpAnyH_take (i := 7) (oi := { dst := some 13, op := Op.binOp BinOp.add 3 (Operand.tmp 12) (Operand.const (Value.int IntKind.i64 1)) 3, type := 3, pos := "outright.go:113", after := #[{ on := 6, ground := Ground.data }], guard := none }) (v := ?vv7) rfl (by kernel_rfl) (by kernel_rfl) (by kernel_rfl) (fun _ _ _ h => h) (Or.inl ⟨by rfl, ?hy7⟩) (by assumption) ?_
    case hy7 => (intro w hSw; (try dsimp only at hSw); go_simp; all_goals with_reducible rfl)
    try simp only [Act.put, List.setIfInBounds_toArray, List.set_cons_zero, List.set_cons_succ]
    refine wpAnyH_take (i := 8) (oi := { dst := some 14, op := Op.slice 24 (Operand.tmp 11) (some (Operand.tmp 13)) none none, type := 24, pos := "outright.go:113", after := #[{ on := 5, ground := Ground.data }, { on := 7, ground := Ground.data }], guard := none }) (v := ?vv8) rfl (by kernel_rfl) (by kernel_rfl) (by kernel_rfl) (fun _ _ _ h => h) (Or.inl ⟨by rfl, ?hy8⟩) (by assumption) ?_
    case hy8 => (intro w hSw; (try dsimp only at hSw); go_simp; all_goals with_reducible rfl)
    try simp only [Act.put, List.setIfInBounds_toArray, List.set_cons_zero, List.set_cons_succ]
    refine wpAnyH_ready (rs := [4]) (by kernel_rfl) (by simp) ?_
    refine AllReadyH.cons (o := { dst := some 10, op := Op.call { callee := Callee.builtin Builtin.append, args := #[Operand.tmp 6, Operand.tmp 9], argTypes := #[24, 24] }, type := 24, pos := "outright.go:113", after := #[{ on := 0, ground := Ground.data }, { on := 3, ground := Ground.data }], guard := none }) rfl (fun K hK => ?_) AllReadyH.nil
    refine step_append_run rfl (.tmp 6) (.tmp 9) 24 24 rfl g1.out (by first | rfl | simp [Act.eval, Act.put]) (by first | rfl | simp [Act.eval, Act.put, hU']) ?_
    refine hK.out _ _ trivial (fun hHeld => ?_)
    clear hK K
    try simp only [Act.put, List.setIfInBounds_toArray, List.set_cons_zero, List.set_cons_succ]
    refine wpAnyH_ready (rs := [9]) (by kernel_rfl) (by simp) ?_
    refine AllReadyH.cons (o := { dst := some 15, op := Op.call { callee := Callee.builtin Builtin.append, args := #[Operand.tmp 10, Operand.tmp 14], argTypes := #[24, 24] }, type := 24, pos := "outright.go:113", after := #[{ on := 4, ground := Ground.data }, { on := 8, ground := Ground.data }, { on := 4, ground := Ground.chain }], guard := none }) rfl (fun K hK => ?_) AllReadyH.nil
    refine step_append_run rfl (.tmp 10) (.tmp 14) 24 24 rfl g2.out (by first | rfl | simp [Act.eval, Act.put]) (by first | rfl | simp [Act.eval, Act.put, hU']) ?_
    refine hK.out _ _ trivial (fun hHeld => ?_)
    clear hK K
    try simp only [Act.put, List.setIfInBounds_toArray, List.set_cons_zero, List.set_cons_succ]
    refine wpAnyH_take (i := 10) (oi := { dst := some 4, op := Op.assign (Operand.tmp 15), type := 24, pos := "outright.go:113", after := #[{ on := 9, ground := Ground.data }, { on := 9, ground := Ground.chain }, { on := 0, ground := Ground.phase }, { on := 1, ground := Ground.phase }, { on := 2, ground := Ground.phase }, { on := 3, ground := Ground.phase }, { on := 4, ground := Ground.phase }, { on := 5, ground := Ground.phase }, { on := 6, ground := Ground.phase }, { on := 7, ground := Ground.phase }, { on := 8, ground := Ground.phase }, { on := 9, ground := Ground.phase }], guard := none }) (v := ?vv9) rfl (by kernel_rfl) (by kernel_rfl) (by kernel_rfl) (fun _ _ _ h => h) (Or.inl ⟨by rfl, ?hy9⟩) (by assumption) ?_
    case hy9 => (intro w hSw; (try dsimp only at hSw); go_simp; all_goals with_reducible rfl)
    try simp only [Act.put, List.setIfInBounds_toArray, List.set_cons_zero, List.set_cons_succ]
    refine wpAnyH_done (by kernel_rfl) ?_ _
    go_wp2_with fail
    go_ret
    exact HF.out
  · obtain ⟨U, hU, b1, c1, w1, b2, c2, w2, g1, g2, HF⟩ := key.out
    clear key
    simp only [Nat.zero_mul, Nat.one_mul, Nat.zero_add, Nat.reduceSub, Nat.reduceMul, Nat.reduceAdd, Nat.sub_zero] at g1 g2 hU
    have hU' : (if c = 2 then some (⟨B, off, none⟩ : Addr) else some ⟨B, off + 6, none⟩) = U := hU.symm
    have a1 : (2 : Int) ≤ (n : Int) := by omega
    have a2 : (1 : Int) ≤ (c : Int) := by omega
    have a4 : (2 : Int) ≤ (c : Int) := by omega
    clear hU
    have hw : IntKind.i64.wrap 2 = 2 := by decide
    have hwt : (2 : Int).toNat = 2 := rfl
    go_enter Tryd.func24, Tryd.ntmps24
    go_wp2_with fail
    refine wp_region_held_drew (S := (fun _ => True)) (by kernel_rfl) trivial (fun hHeld => ?_)
    refine wpAnyH_take (i := 0) (oi := { dst := some 6, op := Op.move (Operand.tmp 5), type := 24, pos := "outright.go:113", after := #[], guard := none }) (v := ?vv10) rfl (by kernel_rfl) (by kernel_rfl) (by kernel_rfl) (fun _ _ _ h => h) (Or.inl ⟨by rfl, ?hy10⟩) (by assumption) ?_
    case hy10 => (intro w hSw; (try dsimp only at hSw); go_simp; all_goals with_reducible rfl)
    try simp only [Act.put, List.setIfInBounds_toArray, List.set_cons_zero, List.set_cons_succ]
    refine wpAnyH_take (i := 1) (oi := { dst := some 7, op := Op.move (Operand.tmp 0), type := 24, pos := "outright.go:113", after := #[], guard := none }) (v := ?vv11) rfl (by kernel_rfl) (by kernel_rfl) (by kernel_rfl) (fun _ _ _ h => h) (Or.inl ⟨by rfl, ?hy11⟩) (by assumption) ?_
    case hy11 => (intro w hSw; (try dsimp only at hSw); go_simp; all_goals with_reducible rfl)
    try simp only [Act.put, List.setIfInBounds_toArray, List.set_cons_zero, List.set_cons_succ]
    refine wpAnyH_take (i := 2) (oi := { dst := some 8, op := Op.move (Operand.tmp 1), type := 3, pos := "outright.go:113", after := #[], guard := none }) (v := ?vv12) rfl (by kernel_rfl) (by kernel_rfl) (by kernel_rfl) (fun _ _ _ h => h) (Or.inl ⟨by rfl, ?hy12⟩) (by assumption) ?_
    case hy12 => (intro w hSw; (try dsimp only at hSw); go_simp; all_goals with_reducible rfl)
    try simp only [Act.put, List.setIfInBounds_toArray, List.set_cons_zero, List.set_cons_succ]
    refine wpAnyH_take (i := 3) (oi := { dst := some 9, op := Op.slice 24 (Operand.tmp 7) none (some (Operand.tmp 8)) none, type := 24, pos := "outright.go:113", after := #[{ on := 1, ground := Ground.data }, { on := 2, ground := Ground.data }], guard := none }) (v := ?vv13) rfl (by kernel_rfl) (by kernel_rfl) (by kernel_rfl) (fun _ _ _ h => h) (Or.inl ⟨by rfl, ?hy13⟩) (by assumption) ?_
    case hy13 => (intro w hSw; (try dsimp only at hSw); go_simp; all_goals with_reducible rfl)
    try simp only [Act.put, List.setIfInBounds_toArray, List.set_cons_zero, List.set_cons_succ]
    refine wpAnyH_take (i := 5) (oi := { dst := some 11, op := Op.move (Operand.tmp 0), type := 24, pos := "outright.go:113", after := #[], guard := none }) (v := ?vv14) rfl (by kernel_rfl) (by kernel_rfl) (by kernel_rfl) (fun _ _ _ h => h) (Or.inl ⟨by rfl, ?hy14⟩) (by assumption) ?_
    case hy14 => (intro w hSw; (try dsimp only at hSw); go_simp; all_goals with_reducible rfl)
    try simp only [Act.put, List.setIfInBounds_toArray, List.set_cons_zero, List.set_cons_succ]
    refine wpAnyH_take (i := 6) (oi := { dst := some 12, op := Op.move (Operand.tmp 1), type := 3, pos := "outright.go:113", after := #[], guard := none }) (v := ?vv15) rfl (by kernel_rfl) (by kernel_rfl) (by kernel_rfl) (fun _ _ _ h => h) (Or.inl ⟨by rfl, ?hy15⟩) (by assumption) ?_
    case hy15 => (intro w hSw; (try dsimp only at hSw); go_simp; all_goals with_reducible rfl)
    try simp only [Act.put, List.setIfInBounds_toArray, List.set_cons_zero, List.set_cons_succ]
    refine wpAnyH_take (i := 7) (oi := { dst := some 13, op := Op.binOp BinOp.add 3 (Operand.tmp 12) (Operand.const (Value.int IntKind.i64 1)) 3, type := 3, pos := "outright.go:113", after := #[{ on := 6, ground := Ground.data }], guard := none }) (v := ?vv16) rfl (by kernel_rfl) (by kernel_rfl) (by kernel_rfl) (fun _ _ _ h => h) (Or.inl ⟨by rfl, ?hy16⟩) (by assumption) ?_
    case hy16 => (intro w hSw; (try dsimp only at hSw); go_simp; all_goals with_reducible rfl)
    try simp only [Act.put, List.setIfInBounds_toArray, List.set_cons_zero, List.set_cons_succ]
    refine wpAnyH_take (i := 8) (oi := { dst := some 14, op := Op.slice 24 (Operand.tmp 11) (some (Operand.tmp 13)) none none, type := 24, pos := "outright.go:113", after := #[{ on := 5, ground := Ground.data }, { on := 7, ground := Ground.data }], guard := none }) (v := ?vv17) rfl (by kernel_rfl) (by kernel_rfl) (by kernel_rfl) (fun _ _ _ h => h) (Or.inl ⟨by rfl, ?hy17⟩) (by assumption) ?_
    case hy17 => (intro w hSw; (try dsimp only at hSw); go_simp; all_goals with_reducible rfl)
    try simp only [Act.put, List.setIfInBounds_toArray, List.set_cons_zero, List.set_cons_succ]
    refine wpAnyH_ready (rs := [4]) (by kernel_rfl) (by simp) ?_
    refine AllReadyH.cons (o := { dst := some 10, op := Op.call { callee := Callee.builtin Builtin.append, args := #[Operand.tmp 6, Operand.tmp 9], argTypes := #[24, 24] }, type := 24, pos := "outright.go:113", after := #[{ on := 0, ground := Ground.data }, { on := 3, ground := Ground.data }], guard := none }) rfl (fun K hK => ?_) AllReadyH.nil
    refine step_append_run rfl (.tmp 6) (.tmp 9) 24 24 rfl g1.out (by first | rfl | simp [Act.eval, Act.put]) (by first | rfl | simp [Act.eval, Act.put, hU']) ?_
    refine hK.out _ _ trivial (fun hHeld => ?_)
    clear hK K
    try simp only [Act.put, List.setIfInBounds_toArray, List.set_cons_zero, List.set_cons_succ]
    refine wpAnyH_ready (rs := [9]) (by kernel_rfl) (by simp) ?_
    refine AllReadyH.cons (o := { dst := some 15, op := Op.call { callee := Callee.builtin Builtin.append, args := #[Operand.tmp 10, Operand.tmp 14], argTypes := #[24, 24] }, type := 24, pos := "outright.go:113", after := #[{ on := 4, ground := Ground.data }, { on := 8, ground := Ground.data }, { on := 4, ground := Ground.chain }], guard := none }) rfl (fun K hK => ?_) AllReadyH.nil
    refine step_append_run rfl (.tmp 10) (.tmp 14) 24 24 rfl g2.out (by first | rfl | simp [Act.eval, Act.put]) (by first | rfl | simp [Act.eval, Act.put, hU']) ?_
    refine hK.out _ _ trivial (fun hHeld => ?_)
    clear hK K
    try simp only [Act.put, List.setIfInBounds_toArray, List.set_cons_zero, List.set_cons_succ]
    refine wpAnyH_take (i := 10) (oi := { dst := some 4, op := Op.assign (Operand.tmp 15), type := 24, pos := "outright.go:113", after := #[{ on := 9, ground := Ground.data }, { on := 9, ground := Ground.chain }, { on := 0, ground := Ground.phase }, { on := 1, ground := Ground.phase }, { on := 2, ground := Ground.phase }, { on := 3, ground := Ground.phase }, { on := 4, ground := Ground.phase }, { on := 5, ground := Ground.phase }, { on := 6, ground := Ground.phase }, { on := 7, ground := Ground.phase }, { on := 8, ground := Ground.phase }, { on := 9, ground := Ground.phase }], guard := none }) (v := ?vv18) rfl (by kernel_rfl) (by kernel_rfl) (by kernel_rfl) (fun _ _ _ h => h) (Or.inl ⟨by rfl, ?hy18⟩) (by assumption) ?_
    case hy18 => (intro w hSw; (try dsimp only at hSw); go_simp; all_goals with_reducible rfl)
    try simp only [Act.put, List.setIfInBounds_toArray, List.set_cons_zero, List.set_cons_succ]
    refine wpAnyH_done (by kernel_rfl) ?_ _
    go_wp2_with fail
    go_ret
    exact HF.out
  · obtain ⟨U, hU, b1, c1, w1, b2, c2, w2, g1, g2, HF⟩ := key.out
    clear key
    simp only [Nat.zero_mul, Nat.one_mul, Nat.zero_add, Nat.reduceSub, Nat.reduceMul, Nat.reduceAdd, Nat.sub_zero] at g1 g2 hU
    have hU' : (if c = 3 then some (⟨B, off, none⟩ : Addr) else some ⟨B, off + 9, none⟩) = U := hU.symm
    have a1 : (3 : Int) ≤ (n : Int) := by omega
    have a2 : (2 : Int) ≤ (c : Int) := by omega
    have a4 : (3 : Int) ≤ (c : Int) := by omega
    clear hU
    have hw : IntKind.i64.wrap 3 = 3 := by decide
    have hwt : (3 : Int).toNat = 3 := rfl
    go_enter Tryd.func24, Tryd.ntmps24
    go_wp2_with fail
    refine wp_region_held_drew (S := (fun _ => True)) (by kernel_rfl) trivial (fun hHeld => ?_)
    refine wpAnyH_take (i := 0) (oi := { dst := some 6, op := Op.move (Operand.tmp 5), type := 24, pos := "outright.go:113", after := #[], guard := none }) (v := ?vv19) rfl (by kernel_rfl) (by kernel_rfl) (by kernel_rfl) (fun _ _ _ h => h) (Or.inl ⟨by rfl, ?hy19⟩) (by assumption) ?_
    case hy19 => (intro w hSw; (try dsimp only at hSw); go_simp; all_goals with_reducible rfl)
    try simp only [Act.put, List.setIfInBounds_toArray, List.set_cons_zero, List.set_cons_succ]
    refine wpAnyH_take (i := 1) (oi := { dst := some 7, op := Op.move (Operand.tmp 0), type := 24, pos := "outright.go:113", after := #[], guard := none }) (v := ?vv20) rfl (by kernel_rfl) (by kernel_rfl) (by kernel_rfl) (fun _ _ _ h => h) (Or.inl ⟨by rfl, ?hy20⟩) (by assumption) ?_
    case hy20 => (intro w hSw; (try dsimp only at hSw); go_simp; all_goals with_reducible rfl)
    try simp only [Act.put, List.setIfInBounds_toArray, List.set_cons_zero, List.set_cons_succ]
    refine wpAnyH_take (i := 2) (oi := { dst := some 8, op := Op.move (Operand.tmp 1), type := 3, pos := "outright.go:113", after := #[], guard := none }) (v := ?vv21) rfl (by kernel_rfl) (by kernel_rfl) (by kernel_rfl) (fun _ _ _ h => h) (Or.inl ⟨by rfl, ?hy21⟩) (by assumption) ?_
    case hy21 => (intro w hSw; (try dsimp only at hSw); go_simp; all_goals with_reducible rfl)
    try simp only [Act.put, List.setIfInBounds_toArray, List.set_cons_zero, List.set_cons_succ]
    refine wpAnyH_take (i := 3) (oi := { dst := some 9, op := Op.slice 24 (Operand.tmp 7) none (some (Operand.tmp 8)) none, type := 24, pos := "outright.go:113", after := #[{ on := 1, ground := Ground.data }, { on := 2, ground := Ground.data }], guard := none }) (v := ?vv22) rfl (by kernel_rfl) (by kernel_rfl) (by kernel_rfl) (fun _ _ _ h => h) (Or.inl ⟨by rfl, ?hy22⟩) (by assumption) ?_
    case hy22 => (intro w hSw; (try dsimp only at hSw); go_simp; all_goals with_reducible rfl)
    try simp only [Act.put, List.setIfInBounds_toArray, List.set_cons_zero, List.set_cons_succ]
    refine wpAnyH_take (i := 5) (oi := { dst := some 11, op := Op.move (Operand.tmp 0), type := 24, pos := "outright.go:113", after := #[], guard := none }) (v := ?vv23) rfl (by kernel_rfl) (by kernel_rfl) (by kernel_rfl) (fun _ _ _ h => h) (Or.inl ⟨by rfl, ?hy23⟩) (by assumption) ?_
    case hy23 => (intro w hSw; (try dsimp only at hSw); go_simp; all_goals with_reducible rfl)
    try simp only [Act.put, List.setIfInBounds_toArray, List.set_cons_zero, List.set_cons_succ]
    refine wpAnyH_take (i := 6) (oi := { dst := some 12, op := Op.move (Operand.tmp 1), type := 3, pos := "outright.go:113", after := #[], guard := none }) (v := ?vv24) rfl (by kernel_rfl) (by kernel_rfl) (by kernel_rfl) (fun _ _ _ h => h) (Or.inl ⟨by rfl, ?hy24⟩) (by assumption) ?_
    case hy24 => (intro w hSw; (try dsimp only at hSw); go_simp; all_goals with_reducible rfl)
    try simp only [Act.put, List.setIfInBounds_toArray, List.set_cons_zero, List.set_cons_succ]
    refine wpAnyH_take (i := 7) (oi := { dst := some 13, op := Op.binOp BinOp.add 3 (Operand.tmp 12) (Operand.const (Value.int IntKind.i64 1)) 3, type := 3, pos := "outright.go:113", after := #[{ on := 6, ground := Ground.data }], guard := none }) (v := ?vv25) rfl (by kernel_rfl) (by kernel_rfl) (by kernel_rfl) (fun _ _ _ h => h) (Or.inl ⟨by rfl, ?hy25⟩) (by assumption) ?_
    case hy25 => (intro w hSw; (try dsimp only at hSw); go_simp; all_goals with_reducible rfl)
    try simp only [Act.put, List.setIfInBounds_toArray, List.set_cons_zero, List.set_cons_succ]
    refine wpAnyH_take (i := 8) (oi := { dst := some 14, op := Op.slice 24 (Operand.tmp 11) (some (Operand.tmp 13)) none none, type := 24, pos := "outright.go:113", after := #[{ on := 5, ground := Ground.data }, { on := 7, ground := Ground.data }], guard := none }) (v := ?vv26) rfl (by kernel_rfl) (by kernel_rfl) (by kernel_rfl) (fun _ _ _ h => h) (Or.inl ⟨by rfl, ?hy26⟩) (by assumption) ?_
    case hy26 => (intro w hSw; (try dsimp only at hSw); go_simp; all_goals with_reducible rfl)
    try simp only [Act.put, List.setIfInBounds_toArray, List.set_cons_zero, List.set_cons_succ]
    refine wpAnyH_ready (rs := [4]) (by kernel_rfl) (by simp) ?_
    refine AllReadyH.cons (o := { dst := some 10, op := Op.call { callee := Callee.builtin Builtin.append, args := #[Operand.tmp 6, Operand.tmp 9], argTypes := #[24, 24] }, type := 24, pos := "outright.go:113", after := #[{ on := 0, ground := Ground.data }, { on := 3, ground := Ground.data }], guard := none }) rfl (fun K hK => ?_) AllReadyH.nil
    refine step_append_run rfl (.tmp 6) (.tmp 9) 24 24 rfl g1.out (by first | rfl | simp [Act.eval, Act.put]) (by first | rfl | simp [Act.eval, Act.put, hU']) ?_
    refine hK.out _ _ trivial (fun hHeld => ?_)
    clear hK K
    try simp only [Act.put, List.setIfInBounds_toArray, List.set_cons_zero, List.set_cons_succ]
    refine wpAnyH_ready (rs := [9]) (by kernel_rfl) (by simp) ?_
    refine AllReadyH.cons (o := { dst := some 15, op := Op.call { callee := Callee.builtin Builtin.append, args := #[Operand.tmp 10, Operand.tmp 14], argTypes := #[24, 24] }, type := 24, pos := "outright.go:113", after := #[{ on := 4, ground := Ground.data }, { on := 8, ground := Ground.data }, { on := 4, ground := Ground.chain }], guard := none }) rfl (fun K hK => ?_) AllReadyH.nil
    refine step_append_run rfl (.tmp 10) (.tmp 14) 24 24 rfl g2.out (by first | rfl | simp [Act.eval, Act.put]) (by first | rfl | simp [Act.eval, Act.put, hU']) ?_
    refine hK.out _ _ trivial (fun hHeld => ?_)
    clear hK K
    try simp only [Act.put, List.setIfInBounds_toArray, List.set_cons_zero, List.set_cons_succ]
    refine wpAnyH_take (i := 10) (oi := { dst := some 4, op := Op.assign (Operand.tmp 15), type := 24, pos := "outright.go:113", after := #[{ on := 9, ground := Ground.data }, { on := 9, ground := Ground.chain }, { on := 0, ground := Ground.phase }, { on := 1, ground := Ground.phase }, { on := 2, ground := Ground.phase }, { on := 3, ground := Ground.phase }, { on := 4, ground := Ground.phase }, { on := 5, ground := Ground.phase }, { on := 6, ground := Ground.phase }, { on := 7, ground := Ground.phase }, { on := 8, ground := Ground.phase }, { on := 9, ground := Ground.phase }], guard := none }) (v := ?vv27) rfl (by kernel_rfl) (by kernel_rfl) (by kernel_rfl) (fun _ _ _ h => h) (Or.inl ⟨by rfl, ?hy27⟩) (by assumption) ?_
    case hy27 => (intro w hSw; (try dsimp only at hSw); go_simp; all_goals with_reducible rfl)
    try simp only [Act.put, List.setIfInBounds_toArray, List.set_cons_zero, List.set_cons_succ]
    refine wpAnyH_done (by kernel_rfl) ?_ _
    go_wp2_with fail
    go_ret
    exact HF.out
  · obtain ⟨U, hU, b1, c1, w1, b2, c2, w2, g1, g2, HF⟩ := key.out
    clear key
    simp only [Nat.zero_mul, Nat.one_mul, Nat.zero_add, Nat.reduceSub, Nat.reduceMul, Nat.reduceAdd, Nat.sub_zero] at g1 g2 hU
    have hU' : (if c = 4 then some (⟨B, off, none⟩ : Addr) else some ⟨B, off + 12, none⟩) = U := hU.symm
    have a1 : (4 : Int) ≤ (n : Int) := by omega
    have a2 : (3 : Int) ≤ (c : Int) := by omega
    have a4 : (4 : Int) ≤ (c : Int) := by omega
    clear hU
    have hw : IntKind.i64.wrap 4 = 4 := by decide
    have hwt : (4 : Int).toNat = 4 := rfl
    go_enter Tryd.func24, Tryd.ntmps24
    go_wp2_with fail
    refine wp_region_held_drew (S := (fun _ => True)) (by kernel_rfl) trivial (fun hHeld => ?_)
    refine wpAnyH_take (i := 0) (oi := { dst := some 6, op := Op.move (Operand.tmp 5), type := 24, pos := "outright.go:113", after := #[], guard := none }) (v := ?vv28) rfl (by kernel_rfl) (by kernel_rfl) (by kernel_rfl) (fun _ _ _ h => h) (Or.inl ⟨by rfl, ?hy28⟩) (by assumption) ?_
    case hy28 => (intro w hSw; (try dsimp only at hSw); go_simp; all_goals with_reducible rfl)
    try simp only [Act.put, List.setIfInBounds_toArray, List.set_cons_zero, List.set_cons_succ]
    refine wpAnyH_take (i := 1) (oi := { dst := some 7, op := Op.move (Operand.tmp 0), type := 24, pos := "outright.go:113", after := #[], guard := none }) (v := ?vv29) rfl (by kernel_rfl) (by kernel_rfl) (by kernel_rfl) (fun _ _ _ h => h) (Or.inl ⟨by rfl, ?hy29⟩) (by assumption) ?_
    case hy29 => (intro w hSw; (try dsimp only at hSw); go_simp; all_goals with_reducible rfl)
    try simp only [Act.put, List.setIfInBounds_toArray, List.set_cons_zero, List.set_cons_succ]
    refine wpAnyH_take (i := 2) (oi := { dst := some 8, op := Op.move (Operand.tmp 1), type := 3, pos := "outright.go:113", after := #[], guard := none }) (v := ?vv30) rfl (by kernel_rfl) (by kernel_rfl) (by kernel_rfl) (fun _ _ _ h => h) (Or.inl ⟨by rfl, ?hy30⟩) (by assumption) ?_
    case hy30 => (intro w hSw; (try dsimp only at hSw); go_simp; all_goals with_reducible rfl)
    try simp only [Act.put, List.setIfInBounds_toArray, List.set_cons_zero, List.set_cons_succ]
    refine wpAnyH_take (i := 3) (oi := { dst := some 9, op := Op.slice 24 (Operand.tmp 7) none (some (Operand.tmp 8)) none, type := 24, pos := "outright.go:113", after := #[{ on := 1, ground := Ground.data }, { on := 2, ground := Ground.data }], guard := none }) (v := ?vv31) rfl (by kernel_rfl) (by kernel_rfl) (by kernel_rfl) (fun _ _ _ h => h) (Or.inl ⟨by rfl, ?hy31⟩) (by assumption) ?_
    case hy31 => (intro w hSw; (try dsimp only at hSw); go_simp; all_goals with_reducible rfl)
    try simp only [Act.put, List.setIfInBounds_toArray, List.set_cons_zero, List.set_cons_succ]
    refine wpAnyH_take (i := 5) (oi := { dst := some 11, op := Op.move (Operand.tmp 0), type := 24, pos := "outright.go:113", after := #[], guard := none }) (v := ?vv32) rfl (by kernel_rfl) (by kernel_rfl) (by kernel_rfl) (fun _ _ _ h => h) (Or.inl ⟨by rfl, ?hy32⟩) (by assumption) ?_
    case hy32 => (intro w hSw; (try dsimp only at hSw); go_simp; all_goals with_reducible rfl)
    try simp only [Act.put, List.setIfInBounds_toArray, List.set_cons_zero, List.set_cons_succ]
    refine wpAnyH_take (i := 6) (oi := { dst := some 12, op := Op.move (Operand.tmp 1), type := 3, pos := "outright.go:113", after := #[], guard := none }) (v := ?vv33) rfl (by kernel_rfl) (by kernel_rfl) (by kernel_rfl) (fun _ _ _ h => h) (Or.inl ⟨by rfl, ?hy33⟩) (by assumption) ?_
    case hy33 => (intro w hSw; (try dsimp only at hSw); go_simp; all_goals with_reducible rfl)
    try simp only [Act.put, List.setIfInBounds_toArray, List.set_cons_zero, List.set_cons_succ]
    refine wpAnyH_take (i := 7) (oi := { dst := some 13, op := Op.binOp BinOp.add 3 (Operand.tmp 12) (Operand.const (Value.int IntKind.i64 1)) 3, type := 3, pos := "outright.go:113", after := #[{ on := 6, ground := Ground.data }], guard := none }) (v := ?vv34) rfl (by kernel_rfl) (by kernel_rfl) (by kernel_rfl) (fun _ _ _ h => h) (Or.inl ⟨by rfl, ?hy34⟩) (by assumption) ?_
    case hy34 => (intro w hSw; (try dsimp only at hSw); go_simp; all_goals with_reducible rfl)
    try simp only [Act.put, List.setIfInBounds_toArray, List.set_cons_zero, List.set_cons_succ]
    refine wpAnyH_take (i := 8) (oi := { dst := some 14, op := Op.slice 24 (Operand.tmp 11) (some (Operand.tmp 13)) none none, type := 24, pos := "outright.go:113", after := #[{ on := 5, ground := Ground.data }, { on := 7, ground := Ground.data }], guard := none }) (v := ?vv35) rfl (by kernel_rfl) (by kernel_rfl) (by kernel_rfl) (fun _ _ _ h => h) (Or.inl ⟨by rfl, ?hy35⟩) (by assumption) ?_
    case hy35 => (intro w hSw; (try dsimp only at hSw); go_simp; all_goals with_reducible rfl)
    try simp only [Act.put, List.setIfInBounds_toArray, List.set_cons_zero, List.set_cons_succ]
    refine wpAnyH_ready (rs := [4]) (by kernel_rfl) (by simp) ?_
    refine AllReadyH.cons (o := { dst := some 10, op := Op.call { callee := Callee.builtin Builtin.append, args := #[Operand.tmp 6, Operand.tmp 9], argTypes := #[24, 24] }, type := 24, pos := "outright.go:113", after := #[{ on := 0, ground := Ground.data }, { on := 3, ground := Ground.data }], guard := none }) rfl (fun K hK => ?_) AllReadyH.nil
    refine step_append_run rfl (.tmp 6) (.tmp 9) 24 24 rfl g1.out (by first | rfl | simp [Act.eval, Act.put]) (by first | rfl | simp [Act.eval, Act.put, hU']) ?_
    refine hK.out _ _ trivial (fun hHeld => ?_)
    clear hK K
    try simp only [Act.put, List.setIfInBounds_toArray, List.set_cons_zero, List.set_cons_succ]
    refine wpAnyH_ready (rs := [9]) (by kernel_rfl) (by simp) ?_
    refine AllReadyH.cons (o := { dst := some 15, op := Op.call { callee := Callee.builtin Builtin.append, args := #[Operand.tmp 10, Operand.tmp 14], argTypes := #[24, 24] }, type := 24, pos := "outright.go:113", after := #[{ on := 4, ground := Ground.data }, { on := 8, ground := Ground.data }, { on := 4, ground := Ground.chain }], guard := none }) rfl (fun K hK => ?_) AllReadyH.nil
    refine step_append_run rfl (.tmp 10) (.tmp 14) 24 24 rfl g2.out (by first | rfl | simp [Act.eval, Act.put]) (by first | rfl | simp [Act.eval, Act.put, hU']) ?_
    refine hK.out _ _ trivial (fun hHeld => ?_)
    clear hK K
    try simp only [Act.put, List.setIfInBounds_toArray, List.set_cons_zero, List.set_cons_succ]
    refine wpAnyH_take (i := 10) (oi := { dst := some 4, op := Op.assign (Operand.tmp 15), type := 24, pos := "outright.go:113", after := #[{ on := 9, ground := Ground.data }, { on := 9, ground := Ground.chain }, { on := 0, ground := Ground.phase }, { on := 1, ground := Ground.phase }, { on := 2, ground := Ground.phase }, { on := 3, ground := Ground.phase }, { on := 4, ground := Ground.phase }, { on := 5, ground := Ground.phase }, { on := 6, ground := Ground.phase }, { on := 7, ground := Ground.phase }, { on := 8, ground := Ground.phase }, { on := 9, ground := Ground.phase }], guard := none }) (v := ?vv36) rfl (by kernel_rfl) (by kernel_rfl) (by kernel_rfl) (fun _ _ _ h => h) (Or.inl ⟨by rfl, ?hy36⟩) (by assumption) ?_
    case hy36 => (intro w hSw; (try dsimp only at hSw); go_simp; all_goals with_reducible rfl)
    try simp only [Act.put, List.setIfInBounds_toArray, List.set_cons_zero, List.set_cons_succ]
    refine wpAnyH_done (by kernel_rfl) ?_ _
    go_wp2_with fail
    go_ret
    exact HF.out
end Go.Proofs.YtcgfgjhhmbfmdaaDoor
