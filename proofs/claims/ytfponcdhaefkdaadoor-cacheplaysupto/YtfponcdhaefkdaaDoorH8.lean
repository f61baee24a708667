/- The law's lent and kept. -/
import Derived.Test.YtfponcdhaefkdaaDoorH1
import Derived.Test.YtfponcdhaefkdaaDoorVh
import Derived.Test.YtfponcdhaefkdaaDoorVd
namespace Go.Proofs.YtfponcdhaefkdaaDoor
open Go.RowKit
set_option linter.unusedVariables false
set_option linter.unusedSimpArgs false
set_option maxHeartbeats 4000000 in
set_option maxRecDepth 100000 in
theorem lent_any (y : SV) (l : List Fd) (mk : Fd) (mt : TypeId) (w : World) (hI : In EFd w (sv y) l) (hl : l.length ≤ 1099511627776) (hM : w.heap[0]? = some (.cells (fdv mk) mt (0, 0))) :
    Calls Tryd.prog 48 #[sv y] w fun e w' => ∃ (base : Option Addr) (cap : Nat), e = .returned (.slice base l.length cap) ∧ R EFd w' (.slice base (l.length + 1) cap) (l ++ [mk]) ∧ (∀ k, (Value.slice base (l.length + 1) cap).ownBlock = some k → w.heap.size ≤ k) ∧ Below w.heap.size w w' := by
  obtain ⟨b1, c1, w1, hrun1, hR1, hG1⟩ := app okFd w (.slice none 0 0) [] (R.nil EFd w) (sv y) l hI (by simp only [EFd, List.length_nil]; omega)
  have el : ([] : List Fd).length + l.length = l.length := by simp
  rw [el] at hrun1 hR1 hG1
  have hR1' : R EFd w1 (.slice b1 l.length c1) l := by simpa using hR1
  have hM1 : w1.heap[0]? = some (.cells (fdv mk) mt (0, 0)) := (hG1.fresh.block 0 (heap_lt hM)).trans hM
  have b2 := bel1 w1 (.cells (fdv mk) 51)
  obtain ⟨b3, c3, w3, hrun3, hR3, hG3⟩ := app okFd (w1.alloc (.cells (fdv mk) 51)) (.slice b1 l.length c1) l (hR1'.below b2) (.slice (some ⟨w1.heap.size, 0, none⟩) 1 1) [mk] (in_one (E := EFd) _ _ mk (fdv mk) 51 (0, 0) (by rw [heap_al, if_pos rfl]) rfl) (by simp only [EFd, List.length_singleton]; omega)
  have el3 : l.length + [mk].length = l.length + 1 := rfl
  rw [el3] at hrun3 hR3 hG3
  have hGb : Gr w (w1.alloc (.cells (fdv mk) 51)) (.slice none 0 0) (.slice b1 l.length c1) := hG1.trans (Gr.below b2 _)
  have hG := hGb.trans hG3
  obtain ⟨_, _, eS, hS1, hS2⟩ := hR3.slice
  rw [List.length_append, List.length_singleton] at eS hS1
  injection eS with eS1 eS2 eS3
  subst eS3
  clear eS1 eS2
  obtain ⟨N, hN⟩ : ∃ N, l.length = N := ⟨_, rfl⟩
  obtain ⟨N1, hN1⟩ : ∃ N1, N + 1 = N1 := ⟨_, rfl⟩
  rw [hN] at hrun1 hrun3 hR3 hG hS1 ⊢
  rw [hN1] at hrun3 hR3 hG hS1 ⊢
  obtain ⟨yb, yn, yc⟩ := y
  have hyn : yn = N := by
    obtain ⟨_, _, e, _⟩ := hI.slice
    simp only [sv] at e
    injection e with _ e
    rw [e, hN]
  subst hyn
  have HE : Hid (R EFd w3 (.slice b3 N1 c3) (l ++ [mk]) ∧ (∀ k, (Value.slice b3 N1 c3).ownBlock = some k → w.heap.size ≤ k) ∧ Below w.heap.size w w3) := ⟨hR3, hG.new, hG.fresh⟩
  have m0 := cell_blk hM1 0
  have m1 := cell_blk hM1 1
  have m2 := cell_blk hM1 2
  have a1 : (yn : Int) ≤ (N1 : Int) := by omega
  have a2 : (yn : Int) ≤ (c3 : Int) := by omega
  have a3 : (N1 : Int) ≤ (c3 : Int) := by omega
  have lm := heap_lt hM1
  obtain ⟨mn, mv, mb⟩ := mk
  simp only [fdv, List.getElem?_toArray, List.getElem?_cons_succ, List.getElem?_cons_zero] at m0 m1 m2 hrun3
  simp only [sv] at hrun1 ⊢
  replace hrun1 : Hid _ := hrun1
  replace hrun3 : Hid _ := hrun3
  clear hI hR1 hR1' hG1 hM hM1 b2 hGb hG hG3 hR3 el el3 hl hN hN1
  go_enter Tryd.func48, Tryd.ntmps48
  go_wp2_with first | (at_builtin; refine Lib.wpList_append_run _ rfl _ _ _ _ rfl _ _ rfl rfl _ _ hrun1.out ?_) | (at_builtin; refine Lib.wpList_append_run _ rfl _ _ _ _ rfl _ _ rfl rfl _ _ hrun3.out ?_)
  go_ret
  exact ⟨b3, c3, rfl, HE.out⟩
set_option maxHeartbeats 8000000 in
set_option maxRecDepth 100000 in
theorem kept_any (base : Option Addr) (N cap : Nat) (y : SV) (l : List Fd) (mk : Fd) (mt : TypeId) (w : World) (hN : l.length = N) (hV : R EFd w (.slice base (N + 1) cap) (l ++ [mk])) (hI : In EFd w (sv y) l) (hl : l.length ≤ 1099511627776) (hM : w.heap[0]? = some (.cells (fdv mk) mt (0, 0))) :
    Calls Tryd.prog 53 #[.slice base N cap, sv y] w fun e w' => e = .returned (.bool true) ∧ Below w.heap.size w w' := by
  have hIn : In EFd w (.slice base (N + 1) cap) (l ++ [mk]) := hV.isIn
  obtain ⟨Bj, off, cap', e, hc⟩ := hIn.fd N (by simp [hN])
  injection e with e1 e2 e3
  clear e2 e3
  subst e1
  have hNl : (l ++ [mk])[N]'(by simp [hN]) = mk := by subst hN; simp
  rw [hNl] at hc
  obtain ⟨q1, q2, q3⟩ := slice_len hIn
  have hfr : In EFd w (.slice (some ⟨Bj, off, none⟩) N cap) l := by
    have h1 : R EFd w (.slice (some ⟨Bj, off, none⟩) (l.length + [mk].length) cap) (l ++ [mk]) := by rw [hN]; exact hV
    have h2 : In EFd w (.slice (some ⟨Bj, off, none⟩) l.length cap) l := by
      rcases hIn with ⟨h, _⟩ | ⟨a', c', e, z2, z3, z4⟩
      · cases h
      · injection e with e1 e2 e3
        injection e1 with e1
        subst e1 e3
        refine .inr ⟨_, cap, rfl, by rw [List.length_append] at z2; omega, z3, fun j u hu => z4 j u ?_⟩
        rw [El.cs_append, List.getElem?_append_left (List.getElem?_eq_some_iff.1 hu).1]
        exact hu
    rw [hN] at h2
    exact h2
  have HSf : Hid (∀ V, Below w.heap.size w V → Calls Tryd.prog 42 #[.slice (some ⟨Bj, off, none⟩) N cap, sv y] V fun e w' => e = .returned (.bool true) ∧ Below V.heap.size V w') := fun V hb => sameFields_eq (some ⟨Bj, off, none⟩, N, cap) y l V (hfr.below hb) (hI.below hb)
  obtain ⟨yb, yn, yc⟩ := y
  have hyn : yn = N := by
    obtain ⟨_, _, e, _⟩ := hI.slice
    simp only [sv] at e
    injection e with _ e
    rw [e, hN]
  subst hyn
  obtain ⟨mn, mv, mb⟩ := mk
  have hS2 : Hid (∀ V, Below w.heap.size w V → V.cell? ⟨Bj, off + yn * 3, none⟩ = some (.string mn) ∧ V.cell? ⟨Bj, off + yn * 3 + 1, none⟩ = some (.string mv) ∧ V.cell? ⟨Bj, off + yn * 3 + 2, none⟩ = some (.bool mb) ∧ V.cell? ⟨0, 0, none⟩ = some (.string mn) ∧ V.cell? ⟨0, 1, none⟩ = some (.string mv) ∧ V.cell? ⟨0, 2, none⟩ = some (.bool mb)) := fun V hb => by
    have h1 := hc V hb
    have h2 := (hb.block 0 (heap_lt hM)).trans hM
    exact ⟨h1.1, h1.2.1, h1.2.2, cell_blk h2 0, cell_blk h2 1, cell_blk h2 2⟩
  obtain ⟨N1, hN1⟩ : ∃ k, yn + 1 = k := ⟨_, rfl⟩
  have a0 : (yn : Int) + 1 = (N1 : Int) := by omega
  have hcap : N1 ≤ cap := by rw [List.length_append, hN, List.length_singleton] at q2; omega
  have a1 : (N1 : Int) ≤ (cap : Int) := by omega
  have a2 : (yn : Int) < (N1 : Int) := by omega
  have aw : N1 ≤ 9223372036854775807 := by omega
  have a3 : (yn : Int) ≤ (cap : Int) := by omega
  have lm := heap_lt hM
  simp only [sv] at HSf ⊢
  clear hV hIn hfr hI hM hc hNl q1 hN1 hN hl
  go_enter Tryd.func53, Tryd.ntmps53
  go_upto_region 2 with fail
  have hIW : Below w.heap.size w w.drew := (Below.refl _ _).drew
  refine wp_region_held_drew (S := (fun V => V.cell? ⟨Bj, off + yn * 3, none⟩ = some (.string mn) ∧ V.cell? ⟨Bj, off + yn * 3 + 1, none⟩ = some (.string mv) ∧ V.cell? ⟨Bj, off + yn * 3 + 2, none⟩ = some (.bool mb) ∧ V.cell? ⟨0, 0, none⟩ = some (.string mn) ∧ V.cell? ⟨0, 1, none⟩ = some (.string mv) ∧ V.cell? ⟨0, 2, none⟩ = some (.bool mb))) (by kernel_rfl) (hS2.out _ hIW) (fun hHeld => ?_)
  generalize hWg : World.drew _ = W2 at hIW hHeld ⊢
  clear hWg
  refine wpAnyH_take (i := 0) (oi := { dst := some 11, op := Op.move (Operand.tmp 0), type := 22, pos := "law.go:51", after := #[], guard := none }) (v := ?vv1) rfl (by kernel_rfl) (by kernel_rfl) (by kernel_rfl) (fun _ _ _ h => h) (Or.inl ⟨by rfl, ?hy1⟩) (by assumption) ?_
  case hy1 => (intro w hSw; (try dsimp only at hSw); go_simp; all_goals with_reducible rfl)
  try simp only [Act.put, List.setIfInBounds_toArray, List.set_cons_zero, List.set_cons_succ]
  refine wpAnyH_take (i := 1) (oi := { dst := some 12, op := Op.move (Operand.tmp 1), type := 22, pos := "law.go:51", after := #[], guard := none }) (v := ?vv2) rfl (by kernel_rfl) (by kernel_rfl) (by kernel_rfl) (fun _ _ _ h => h) (Or.inl ⟨by rfl, ?hy2⟩) (by assumption) ?_
  case hy2 => (intro w hSw; (try dsimp only at hSw); go_simp; all_goals with_reducible rfl)
  try simp only [Act.put, List.setIfInBounds_toArray, List.set_cons_zero, List.set_cons_succ]
  refine wpAnyH_ready (rs := [2]) (by kernel_rfl) (by simp) ?_
  refine AllReadyH.cons (o := { dst := some 13, op := Op.call { callee := Callee.value (Operand.func 42), args := #[Operand.tmp 11, Operand.tmp 12], argTypes := #[22, 22] }, type := 4, pos := "law.go:51", after := #[{ on := 0, ground := Ground.data }, { on := 1, ground := Ground.data }], guard := none }) rfl (fun K hK => ?_) AllReadyH.nil
  go_simp
  refine (HSf.out _ hIW).mono ?_
  rintro e' W2x ⟨rfl, bX⟩
  have hW2x : Below w.heap.size w W2x := hIW.trans (bX.mono hIW.size)
  clear bX
  go_wp2_with fail
  refine hK.out _ _ (hS2.out _ hW2x) (fun hHeld => ?_)
  clear hK K
  try simp only [Act.put, List.setIfInBounds_toArray, List.set_cons_zero, List.set_cons_succ]
  refine wpAnyH_take (i := 3) (oi := { dst := some 14, op := Op.move (Operand.tmp 13), type := 4, pos := "law.go:51", after := #[{ on := 2, ground := Ground.data }, { on := 2, ground := Ground.chain }], guard := none }) (v := ?vv3) rfl (by kernel_rfl) (by kernel_rfl) (by kernel_rfl) (fun _ _ _ h => h) (Or.inl ⟨by rfl, ?hy3⟩) (by assumption) ?_
  case hy3 => (intro w hSw; (try dsimp only at hSw); go_simp; all_goals with_reducible rfl)
  try simp only [Act.put, List.setIfInBounds_toArray, List.set_cons_zero, List.set_cons_succ]
  refine wpAnyH_take (i := 4) (oi := { dst := some 15, op := Op.move (Operand.tmp 5), type := 22, pos := "law.go:51", after := #[{ on := 3, ground := Ground.guard }], guard := some (3, true) }) (v := ?vv4) rfl (by kernel_rfl) (by kernel_rfl) (by kernel_rfl) (fun _ _ _ h => h) (Or.inl ⟨by rfl, ?hy4⟩) (by assumption) ?_
  case hy4 => (intro w hSw; (try dsimp only at hSw); go_simp; all_goals with_reducible rfl)
  try simp only [Act.put, List.setIfInBounds_toArray, List.set_cons_zero, List.set_cons_succ]
  refine wpAnyH_take (i := 5) (oi := { dst := some 16, op := Op.move (Operand.tmp 1), type := 22, pos := "law.go:51", after := #[{ on := 3, ground := Ground.guard }], guard := some (3, true) }) (v := ?vv5) rfl (by kernel_rfl) (by kernel_rfl) (by kernel_rfl) (fun _ _ _ h => h) (Or.inl ⟨by rfl, ?hy5⟩) (by assumption) ?_
  case hy5 => (intro w hSw; (try dsimp only at hSw); go_simp; all_goals with_reducible rfl)
  try simp only [Act.put, List.setIfInBounds_toArray, List.set_cons_zero, List.set_cons_succ]
  refine wpAnyH_take (i := 6) (oi := { dst := some 17, op := Op.call { callee := Callee.builtin Builtin.len, args := #[Operand.tmp 16], argTypes := #[22] }, type := 3, pos := "law.go:51", after := #[{ on := 5, ground := Ground.data }, { on := 3, ground := Ground.guard }], guard := some (3, true) }) (v := ?vv6) rfl (by kernel_rfl) (by kernel_rfl) (by kernel_rfl) (fun _ _ _ h => h) (Or.inl ⟨by rfl, ?hy6⟩) (by assumption) ?_
  case hy6 => (intro w hSw; (try dsimp only at hSw); go_simp; all_goals with_reducible rfl)
  try simp only [Act.put, List.setIfInBounds_toArray, List.set_cons_zero, List.set_cons_succ]
  refine wpAnyH_take (i := 7) (oi := { dst := some 18, op := Op.indexAddr 22 (Operand.tmp 15) (Operand.tmp 17), type := 0, pos := "law.go:51", after := #[{ on := 4, ground := Ground.data }, { on := 6, ground := Ground.data }, { on := 3, ground := Ground.guard }], guard := some (3, true) }) (v := ?vv7) rfl (by kernel_rfl) (by kernel_rfl) (by kernel_rfl) (fun _ _ _ h => h) (Or.inl ⟨by rfl, ?hy7⟩) (by assumption) ?_
  case hy7 => (intro w hSw; (try dsimp only at hSw); go_simp; all_goals with_reducible rfl)
  try simp only [Act.put, List.setIfInBounds_toArray, List.set_cons_zero, List.set_cons_succ]
  refine wpAnyH_take (i := 8) (oi := { dst := some 19, op := Op.load 51 (Operand.tmp 18), type := 51, pos := "law.go:51", after := #[{ on := 7, ground := Ground.data }, { on := 3, ground := Ground.guard }], guard := some (3, true) }) (v := ?vv8) rfl (by kernel_rfl) (by kernel_rfl) (by kernel_rfl) (fun _ _ _ h => h) (Or.inl ⟨by rfl, ?hy8⟩) (by assumption) ?_
  case hy8 => (intro w hSw; (try dsimp only at hSw); go_simp; all_goals with_reducible rfl)
  try simp only [Act.put, List.setIfInBounds_toArray, List.set_cons_zero, List.set_cons_succ]
  refine wpAnyH_take (i := 9) (oi := { dst := some 20, op := Op.load 51 (Operand.global 0), type := 51, pos := "law.go:51", after := #[{ on := 3, ground := Ground.guard }], guard := some (3, true) }) (v := ?vv9) rfl (by kernel_rfl) (by kernel_rfl) (by kernel_rfl) (fun _ _ _ h => h) (Or.inl ⟨by rfl, ?hy9⟩) (by assumption) ?_
  case hy9 => (intro w hSw; (try dsimp only at hSw); go_simp; all_goals with_reducible rfl)
  try simp only [Act.put, List.setIfInBounds_toArray, List.set_cons_zero, List.set_cons_succ]
  refine wpAnyH_take (i := 10) (oi := { dst := some 21, op := Op.binOp BinOp.eql 51 (Operand.tmp 19) (Operand.tmp 20) 51, type := 4, pos := "law.go:51", after := #[{ on := 8, ground := Ground.data }, { on := 9, ground := Ground.data }, { on := 3, ground := Ground.guard }], guard := some (3, true) }) (v := ?vv10) rfl (by kernel_rfl) (by kernel_rfl) (by kernel_rfl) (fun _ _ _ h => h) (Or.inl ⟨by rfl, ?hy10⟩) (by assumption) ?_
  case hy10 => (intro w hSw; (try dsimp only at hSw); go_simp; all_goals with_reducible rfl)
  try simp only [Act.put, List.setIfInBounds_toArray, List.set_cons_zero, List.set_cons_succ]
  refine wpAnyH_take (i := 11) (oi := { dst := some 22, op := Op.pick (Operand.tmp 14) (Operand.tmp 21) (Operand.const (Value.bool false)), type := 4, pos := "law.go:51", after := #[{ on := 3, ground := Ground.data }, { on := 10, ground := Ground.data }], guard := none }) (v := ?vv11) rfl (by kernel_rfl) (by kernel_rfl) (by kernel_rfl) (fun _ _ _ h => h) (Or.inl ⟨by rfl, ?hy11⟩) (by assumption) ?_
  case hy11 => (intro w hSw; (try dsimp only at hSw); go_simp; all_goals with_reducible rfl)
  try simp only [Act.put, List.setIfInBounds_toArray, List.set_cons_zero, List.set_cons_succ]
  refine wpAnyH_take (i := 12) (oi := { dst := some 4, op := Op.assign (Operand.tmp 22), type := 4, pos := "law.go:51", after := #[{ on := 11, ground := Ground.data }, { on := 3, ground := Ground.chain }, { on := 0, ground := Ground.phase }, { on := 1, ground := Ground.phase }, { on := 2, ground := Ground.phase }, { on := 3, ground := Ground.phase }, { on := 4, ground := Ground.phase }, { on := 5, ground := Ground.phase }, { on := 6, ground := Ground.phase }, { on := 7, ground := Ground.phase }, { on := 8, ground := Ground.phase }, { on := 9, ground := Ground.phase }, { on := 10, ground := Ground.phase }, { on := 11, ground := Ground.phase }], guard := none }) (v := ?vv12) rfl (by kernel_rfl) (by kernel_rfl) (by kernel_rfl) (fun _ _ _ h => h) (Or.inl ⟨by rfl, ?hy12⟩) (by assumption) ?_
  case hy12 => (intro w hSw; (try dsimp only at hSw); go_simp; all_goals with_reducible rfl)
  try simp only [Act.put, List.setIfInBounds_toArray, List.set_cons_zero, List.set_cons_succ]
  refine wpAnyH_done (by kernel_rfl) ?_ _
  have HE : Hid (Below w.heap.size w W2x) := hW2x
  go_wp2_with fail
  go_ret
  exact ⟨by first | rfl | simp, HE.out⟩
end Go.Proofs.YtfponcdhaefkdaaDoor
