/- told, walked. -/
import Derived.Test.YtaaocgppniflcaaR1
import Derived.Deep.CutRange
import Derived.Deep.RegionHeld3
namespace Go.Proofs.Ytaaocgppniflcaa
open Go.RowKit Go.Maps
set_option linter.unusedVariables false
set_option linter.unusedSimpArgs false

set_option maxRecDepth 100000 in
set_option maxHeartbeats 20000000 in
theorem told_any (w : World) (p b : Nat) (T : Tb) (q : Nat) (v : Value) (l : List O1) (vi : Value) (I : List Int) (h : TI w p b T) (hr : RT w q T.cl v l) (ha : Rl T l) (hi : R EI w vi I) (h64 : ∀ z ∈ I, I64 z) (hlen : l.length * 24 ≤ 140737488355328) :
    Calls Try.prog 28 #[.pointer (some ⟨p, 0, none⟩), .pointer (some ⟨q, 0, none⟩), vi] w fun e w' => e = .returned (.bool true) ∧ Below w.heap.size w w' := by
  have hlo := h.ok.lo
  have hS1 : Hid (∀ z, I64 z → ∀ W, Below w.heap.size w W → Calls Try.prog 14 #[.pointer (some ⟨p, 0, none⟩), .int .i64 z] W fun e w' => e = .returned (.int .i64 (T.st z)) ∧ Below W.heap.size W w') := fun z hz W hb => state_any W p b T z (h.below hb) hz
  have hS2 : Hid (∀ z W, Below w.heap.size w W → Calls Try.prog 24 #[.pointer (some ⟨q, 0, none⟩), .int .i64 z] W fun e w' => e = .returned (.int .i64 (T.st z)) ∧ Below W.heap.size W w') := fun z W hb => by
    refine (rstate_any W q T.cl v l z (hr.below hb)).mono ?_
    rintro e w' ⟨rfl, rfl⟩
    rw [ha.st h.ok]
    exact ⟨rfl, Below.refl _ _⟩
  have hC1 : Hid (∀ z, I64 z → ∀ W, Below w.heap.size w W → Calls Try.prog 21 #[.pointer (some ⟨p, 0, none⟩), .int .i64 z] W fun e w' => e = .returned (.bool (T.cut z)) ∧ Below W.heap.size W w') := fun z hz W hb => by
    refine (cut_any W p b T z (h.below hb) hz).mono ?_
    rintro e w' ⟨rfl, rfl⟩
    exact ⟨rfl, Below.refl _ _⟩
  have hC2 : Hid (∀ z W, Below w.heap.size w W → Calls Try.prog 26 #[.pointer (some ⟨q, 0, none⟩), .int .i64 z] W fun e w' => e = .returned (.bool (T.cut z)) ∧ Below W.heap.size W w') := fun z W hb => by
    refine (rcut_any W q T.cl v l z (hr.below hb)).mono ?_
    rintro e w' ⟨rfl, rfl⟩
    rw [ha.cut]
    exact ⟨rfl, Below.refl _ _⟩
  have hN1 : Hid (∀ W, Below w.heap.size w W → Calls Try.prog 17 #[.pointer (some ⟨p, 0, none⟩)] W fun e w' => e = .returned (.tuple #[.int .i64 T.next.1, .bool T.next.2]) ∧ w' = W) := fun W hb => next_any W p b T (h.below hb)
  have hN2 : Hid (∀ W, Below w.heap.size w W → Calls Try.prog 45 #[.pointer (some ⟨q, 0, none⟩)] W fun e w' => e = .returned (.tuple #[.int .i64 T.next.1, .bool T.next.2]) ∧ w' = W) := fun W hb => by
    have e : rlast T.cl l true = T.lo := ha.last true
    have := rnext_any W q T.cl v l (hr.below hb) (by rw [e]; exact hlo)
    rw [ha.next h.ok] at this
    exact this
  have hL1 : Hid (∀ W, Below w.heap.size w W → Calls Try.prog 11 #[.pointer (some ⟨p, 0, none⟩)] W fun e w' => ∃ ob on oc, e = .returned (.slice ob on oc) ∧ Hid (R EI w' (.slice ob on oc) T.live ∧ Below W.heap.size W w')) := fun W hb => by
    refine (live_any W p b T (h.below hb)).mono ?_
    rintro e w' ⟨o, rfl, hR, _, hB⟩
    obtain ⟨ob, oc, rfl, _⟩ := hR.slice
    exact ⟨ob, _, oc, rfl, hR, hB⟩
  have hL2 : Hid (∀ W, Below w.heap.size w W → Calls Try.prog 27 #[.pointer (some ⟨q, 0, none⟩)] W fun e w' => ∃ ob on oc, e = .returned (.slice ob on oc) ∧ Hid (R EI w' (.slice ob on oc) T.live ∧ Below W.heap.size W w')) := fun W hb => by
    refine (rlive_any W q T.cl v l (hr.below hb) hlen).mono ?_
    rintro e w' ⟨o, rfl, hR, hB⟩
    rw [ha.live h.ok] at hR
    obtain ⟨ob, oc, rfl, _⟩ := hR.slice
    exact ⟨ob, _, oc, rfl, hR, hB⟩
  have hK1 : Hid (∀ x W, Below w.heap.size w W → Calls Try.prog 18 #[.pointer (some ⟨p, 0, none⟩), .bool x] W fun e w' => e = .returned (.int .i64 (T.count x)) ∧ Below W.heap.size W w') := fun x W hb => count_any W p b T x (h.below hb)
  have hK2 : Hid (∀ x W, Below w.heap.size w W → Calls Try.prog 25 #[.pointer (some ⟨q, 0, none⟩), .bool x] W fun e w' => e = .returned (.int .i64 (T.count x)) ∧ w' = W) := fun x W hb => by
    have := rcount_any W q T.cl v l x (hr.below hb)
    rw [ha.count h.ok] at this
    exact this
  have hZ1 : Hid (∀ x W, Below w.heap.size w W → Calls Try.prog 13 #[.pointer (some ⟨p, 0, none⟩), .bool x] W fun e w' => e = .returned (.int .i64 (T.last x)) ∧ w' = W) := fun x W hb => last_any W p b T x (h.below hb)
  have hZ2 : Hid (∀ x W, Below w.heap.size w W → Calls Try.prog 46 #[.pointer (some ⟨q, 0, none⟩), .bool x] W fun e w' => e = .returned (.int .i64 (T.last x)) ∧ w' = W) := fun x W hb => by
    have := rlast_any W q T.cl v l x (hr.below hb)
    rw [ha.last] at this
    exact this
  have HI : Hid (R EI w vi I) := hi
  have H64 : Hid (∀ z ∈ I, I64 z) := h64
  obtain ⟨ib, ic, rfl, hi1, hi2⟩ := hi.slice
  generalize T.next.1 = n1 at hN1 hN2
  generalize T.next.2 = n2 at hN1 hN2
  generalize T.live = lv at hL1 hL2
  generalize T.count = kt at hK1 hK2
  generalize T.last = lt at hZ1 hZ2
  generalize T.st = ss at hS1 hS2
  generalize T.cut = cc at hC1 hC2
  clear h hr ha h64 hlen hlo
  go_enter Try.func28, Try.ntmps28
  go_wp2_with fail
  go_loopw [7] (fun iv wr => ∃ i : Nat, iv = .int .i64 (i : Int) ∧ i ≤ I.length ∧ Hid (Below w.heap.size w wr)) (fun iv _ => I.length - (intOf iv).toNat)
  case atStart => exact ⟨0, rfl, Nat.zero_le _, Below.refl _ _⟩
  case round =>
    obtain ⟨i, rfl, hiI, hIB⟩ := hrel
    by_cases hlt : i < I.length
    · have hlt' : (i : Int) < (I.length : Int) := by omega
      obtain ⟨g, ic', e1, lg, hcell⟩ := ri_get HI.out i hlt
      injection e1 with e1 e2 e3
      subst e1
      subst e3
      try clear e2
      obtain ⟨z, hz⟩ : ∃ z, I[i] = z := ⟨_, rfl⟩
      rw [hz] at hcell
      have hz64 : I64 z := by rw [← hz]; exact H64.out _ (List.getElem_mem hlt)
      replace hS1 : Hid _ := hS1.out z hz64
      replace hS2 : Hid _ := hS2.out z
      replace hC1 : Hid _ := hC1.out z hz64
      replace hC2 : Hid _ := hC2.out z
      generalize ss z = s at hS1 hS2
      generalize cc z = u at hC1 hC2
      have hfull : Hid (∀ W, Below w.heap.size w W → (fun W : World => W.cell? ⟨g, i, none⟩ = some (.int .i64 z)) W) := fun W hb => (hb.cell (p := ⟨g, i, none⟩) lg).trans hcell
      clear hz hz64 hcell lg
      go_upto_region 4 with fail
      go_cut [46] from 13 to 46 (fun x wx => x = .bool false ∧ Hid (Below w.heap.size w wx))
      case first =>
        have hIW : Hid (Below w.heap.size w wr.drew) := hIB.out.drew
        refine wp_region_held_drew (S := (fun W : World => W.cell? ⟨g, i, none⟩ = some (.int .i64 z))) (by kernel_rfl) (hfull.out _ hIW.out) (fun hHeld => ?_)
        generalize hWg : World.drew _ = W at hIW hHeld ⊢
        clear hWg hIB
        refine wpAnyH_take (i := 0) (oi := { dst := some 19, op := Op.move (Operand.tmp 0), type := 23, pos := "law.go:57", after := #[], guard := none }) (v := ?vv1) rfl (by kernel_rfl) (by kernel_rfl) (by kernel_rfl) (fun _ _ _ h => h) (Or.inl ⟨by rfl, ?hy1⟩) (by assumption) ?_
        case hy1 => (intro w hSw; (try dsimp only at hSw); go_simp; all_goals with_reducible rfl)
        try simp only [Act.put, List.setIfInBounds_toArray, List.set_cons_zero, List.set_cons_succ]
        refine wpAnyH_take (i := 1) (oi := { dst := some 20, op := Op.move (Operand.tmp 2), type := 30, pos := "law.go:57", after := #[], guard := none }) (v := ?vv2) rfl (by kernel_rfl) (by kernel_rfl) (by kernel_rfl) (fun _ _ _ h => h) (Or.inl ⟨by rfl, ?hy2⟩) (by assumption) ?_
        case hy2 => (intro w hSw; (try dsimp only at hSw); go_simp; all_goals with_reducible rfl)
        try simp only [Act.put, List.setIfInBounds_toArray, List.set_cons_zero, List.set_cons_succ]
        refine wpAnyH_take (i := 2) (oi := { dst := some 21, op := Op.move (Operand.tmp 7), type := 3, pos := "law.go:57", after := #[], guard := none }) (v := ?vv3) rfl (by kernel_rfl) (by kernel_rfl) (by kernel_rfl) (fun _ _ _ h => h) (Or.inl ⟨by rfl, ?hy3⟩) (by assumption) ?_
        case hy3 => (intro w hSw; (try dsimp only at hSw); go_simp; all_goals with_reducible rfl)
        try simp only [Act.put, List.setIfInBounds_toArray, List.set_cons_zero, List.set_cons_succ]
        refine wpAnyH_take (i := 3) (oi := { dst := some 22, op := Op.indexAddr 30 (Operand.tmp 20) (Operand.tmp 21), type := 0, pos := "law.go:57", after := #[{ on := 1, ground := Ground.data }, { on := 2, ground := Ground.data }], guard := none }) (v := ?vv4) rfl (by kernel_rfl) (by kernel_rfl) (by kernel_rfl) (fun _ _ _ h => h) (Or.inl ⟨by rfl, ?hy4⟩) (by assumption) ?_
        case hy4 => (intro w hSw; (try dsimp only at hSw); go_simp; all_goals with_reducible rfl)
        try simp only [Act.put, List.setIfInBounds_toArray, List.set_cons_zero, List.set_cons_succ]
        refine wpAnyH_take (i := 4) (oi := { dst := some 23, op := Op.load 2 (Operand.tmp 22), type := 2, pos := "law.go:57", after := #[{ on := 3, ground := Ground.data }], guard := none }) (v := ?vv5) rfl (by kernel_rfl) (by kernel_rfl) (by kernel_rfl) (fun _ _ _ h => h) (Or.inl ⟨by rfl, ?hy5⟩) (by assumption) ?_
        case hy5 => (intro w hSw; (try dsimp only at hSw); go_simp; all_goals with_reducible rfl)
        try simp only [Act.put, List.setIfInBounds_toArray, List.set_cons_zero, List.set_cons_succ]
        refine wpAnyH_take (i := 6) (oi := { dst := some 25, op := Op.move (Operand.tmp 1), type := 53, pos := "law.go:57", after := #[], guard := none }) (v := ?vv6) rfl (by kernel_rfl) (by kernel_rfl) (by kernel_rfl) (fun _ _ _ h => h) (Or.inl ⟨by rfl, ?hy6⟩) (by assumption) ?_
        case hy6 => (intro w hSw; (try dsimp only at hSw); go_simp; all_goals with_reducible rfl)
        try simp only [Act.put, List.setIfInBounds_toArray, List.set_cons_zero, List.set_cons_succ]
        refine wpAnyH_take (i := 7) (oi := { dst := some 26, op := Op.move (Operand.tmp 2), type := 30, pos := "law.go:57", after := #[], guard := none }) (v := ?vv7) rfl (by kernel_rfl) (by kernel_rfl) (by kernel_rfl) (fun _ _ _ h => h) (Or.inl ⟨by rfl, ?hy7⟩) (by assumption) ?_
        case hy7 => (intro w hSw; (try dsimp only at hSw); go_simp; all_goals with_reducible rfl)
        try simp only [Act.put, List.setIfInBounds_toArray, List.set_cons_zero, List.set_cons_succ]
        refine wpAnyH_take (i := 8) (oi := { dst := some 27, op := Op.move (Operand.tmp 7), type := 3, pos := "law.go:57", after := #[], guard := none }) (v := ?vv8) rfl (by kernel_rfl) (by kernel_rfl) (by kernel_rfl) (fun _ _ _ h => h) (Or.inl ⟨by rfl, ?hy8⟩) (by assumption) ?_
        case hy8 => (intro w hSw; (try dsimp only at hSw); go_simp; all_goals with_reducible rfl)
        try simp only [Act.put, List.setIfInBounds_toArray, List.set_cons_zero, List.set_cons_succ]
        refine wpAnyH_take (i := 9) (oi := { dst := some 28, op := Op.indexAddr 30 (Operand.tmp 26) (Operand.tmp 27), type := 0, pos := "law.go:57", after := #[{ on := 7, ground := Ground.data }, { on := 8, ground := Ground.data }], guard := none }) (v := ?vv9) rfl (by kernel_rfl) (by kernel_rfl) (by kernel_rfl) (fun _ _ _ h => h) (Or.inl ⟨by rfl, ?hy9⟩) (by assumption) ?_
        case hy9 => (intro w hSw; (try dsimp only at hSw); go_simp; all_goals with_reducible rfl)
        try simp only [Act.put, List.setIfInBounds_toArray, List.set_cons_zero, List.set_cons_succ]
        refine wpAnyH_take (i := 10) (oi := { dst := some 29, op := Op.load 2 (Operand.tmp 28), type := 2, pos := "law.go:57", after := #[{ on := 9, ground := Ground.data }], guard := none }) (v := ?vv10) rfl (by kernel_rfl) (by kernel_rfl) (by kernel_rfl) (fun _ _ _ h => h) (Or.inl ⟨by rfl, ?hy10⟩) (by assumption) ?_
        case hy10 => (intro w hSw; (try dsimp only at hSw); go_simp; all_goals with_reducible rfl)
        try simp only [Act.put, List.setIfInBounds_toArray, List.set_cons_zero, List.set_cons_succ]
        refine wpAnyH_ready (rs := [5]) (by kernel_rfl) (by simp) ?_
        refine AllReadyH.cons (o := { dst := some 24, op := Op.call { callee := Callee.value (Operand.func 14), args := #[Operand.tmp 19, Operand.tmp 23], argTypes := #[23, 2] }, type := 3, pos := "law.go:57", after := #[{ on := 0, ground := Ground.data }, { on := 4, ground := Ground.data }], guard := none }) rfl (fun K hK => ?_) AllReadyH.nil
        go_simp
        refine (hS1.out W hIW.out).mono ?_
        rintro e' Wx ⟨rfl, hB⟩
        have hIWx : Hid (Below w.heap.size w Wx) := hIW.out.trans (hB.mono hIW.out.size)
        clear hB
        go_wp2_with fail
        refine hK.out _ _ (hfull.out Wx hIWx.out) (fun hHeld => ?_)
        clear hK K hIW
        try simp only [Act.put, List.setIfInBounds_toArray, List.set_cons_zero, List.set_cons_succ]
        refine wpAnyH_ready (rs := [11]) (by kernel_rfl) (by simp) ?_
        refine AllReadyH.cons (o := { dst := some 30, op := Op.call { callee := Callee.value (Operand.func 24), args := #[Operand.tmp 25, Operand.tmp 29], argTypes := #[53, 2] }, type := 3, pos := "law.go:57", after := #[{ on := 6, ground := Ground.data }, { on := 10, ground := Ground.data }, { on := 5, ground := Ground.chain }], guard := none }) rfl (fun K hK => ?_) AllReadyH.nil
        go_simp
        refine (hS2.out Wx hIWx.out).mono ?_
        rintro e' Wxx ⟨rfl, hB⟩
        have hIWxx : Hid (Below w.heap.size w Wxx) := hIWx.out.trans (hB.mono hIWx.out.size)
        clear hB
        go_wp2_with fail
        refine hK.out _ _ (hfull.out Wxx hIWxx.out) (fun hHeld => ?_)
        clear hK K hIWx
        try simp only [Act.put, List.setIfInBounds_toArray, List.set_cons_zero, List.set_cons_succ]
        refine wpAnyH_take (i := 12) (oi := { dst := some 31, op := Op.binOp BinOp.neq 3 (Operand.tmp 24) (Operand.tmp 30) 3, type := 4, pos := "law.go:57", after := #[{ on := 5, ground := Ground.data }, { on := 11, ground := Ground.data }], guard := none }) (v := ?vv11) rfl (by kernel_rfl) (by kernel_rfl) (by kernel_rfl) (fun _ _ _ h => h) (Or.inl ⟨by rfl, ?hy11⟩) (by assumption) ?_
        case hy11 => (intro w hSw; (try dsimp only at hSw); go_simp; all_goals with_reducible rfl)
        try simp only [Act.put, List.setIfInBounds_toArray, List.set_cons_zero, List.set_cons_succ]
        refine wpAnyH_take (i := 13) (oi := { dst := some 32, op := Op.move (Operand.tmp 31), type := 4, pos := "law.go:57", after := #[{ on := 12, ground := Ground.data }, { on := 11, ground := Ground.chain }], guard := none }) (v := ?vv12) rfl (by kernel_rfl) (by kernel_rfl) (by kernel_rfl) (fun _ _ _ h => h) (Or.inl ⟨by rfl, ?hy12⟩) (by assumption) ?_
        case hy12 => (intro w hSw; (try dsimp only at hSw); go_simp; all_goals with_reducible rfl)
        try simp only [Act.put, List.setIfInBounds_toArray, List.set_cons_zero, List.set_cons_succ]
        refine wpAnyH_take (i := 14) (oi := { dst := some 33, op := Op.move (Operand.tmp 0), type := 23, pos := "law.go:57", after := #[{ on := 13, ground := Ground.guard }], guard := some (13, false) }) (v := ?vv13) rfl (by kernel_rfl) (by kernel_rfl) (by kernel_rfl) (fun _ _ _ h => h) (Or.inl ⟨by rfl, ?hy13⟩) (by assumption) ?_
        case hy13 => (intro w hSw; (try dsimp only at hSw); go_simp; all_goals with_reducible rfl)
        try simp only [Act.put, List.setIfInBounds_toArray, List.set_cons_zero, List.set_cons_succ]
        refine wpAnyH_take (i := 15) (oi := { dst := some 34, op := Op.move (Operand.tmp 2), type := 30, pos := "law.go:57", after := #[{ on := 13, ground := Ground.guard }], guard := some (13, false) }) (v := ?vv14) rfl (by kernel_rfl) (by kernel_rfl) (by kernel_rfl) (fun _ _ _ h => h) (Or.inl ⟨by rfl, ?hy14⟩) (by assumption) ?_
        case hy14 => (intro w hSw; (try dsimp only at hSw); go_simp; all_goals with_reducible rfl)
        try simp only [Act.put, List.setIfInBounds_toArray, List.set_cons_zero, List.set_cons_succ]
        refine wpAnyH_take (i := 16) (oi := { dst := some 35, op := Op.move (Operand.tmp 7), type := 3, pos := "law.go:57", after := #[{ on := 13, ground := Ground.guard }], guard := some (13, false) }) (v := ?vv15) rfl (by kernel_rfl) (by kernel_rfl) (by kernel_rfl) (fun _ _ _ h => h) (Or.inl ⟨by rfl, ?hy15⟩) (by assumption) ?_
        case hy15 => (intro w hSw; (try dsimp only at hSw); go_simp; all_goals with_reducible rfl)
        try simp only [Act.put, List.setIfInBounds_toArray, List.set_cons_zero, List.set_cons_succ]
        refine wpAnyH_take (i := 17) (oi := { dst := some 36, op := Op.indexAddr 30 (Operand.tmp 34) (Operand.tmp 35), type := 0, pos := "law.go:57", after := #[{ on := 15, ground := Ground.data }, { on := 16, ground := Ground.data }, { on := 13, ground := Ground.guard }], guard := some (13, false) }) (v := ?vv16) rfl (by kernel_rfl) (by kernel_rfl) (by kernel_rfl) (fun _ _ _ h => h) (Or.inl ⟨by rfl, ?hy16⟩) (by assumption) ?_
        case hy16 => (intro w hSw; (try dsimp only at hSw); go_simp; all_goals with_reducible rfl)
        try simp only [Act.put, List.setIfInBounds_toArray, List.set_cons_zero, List.set_cons_succ]
        refine wpAnyH_take (i := 18) (oi := { dst := some 37, op := Op.load 2 (Operand.tmp 36), type := 2, pos := "law.go:57", after := #[{ on := 17, ground := Ground.data }, { on := 13, ground := Ground.guard }], guard := some (13, false) }) (v := ?vv17) rfl (by kernel_rfl) (by kernel_rfl) (by kernel_rfl) (fun _ _ _ h => h) (Or.inl ⟨by rfl, ?hy17⟩) (by assumption) ?_
        case hy17 => (intro w hSw; (try dsimp only at hSw); go_simp; all_goals with_reducible rfl)
        try simp only [Act.put, List.setIfInBounds_toArray, List.set_cons_zero, List.set_cons_succ]
        refine wpAnyH_take (i := 20) (oi := { dst := some 39, op := Op.move (Operand.tmp 1), type := 53, pos := "law.go:57", after := #[{ on := 13, ground := Ground.guard }], guard := some (13, false) }) (v := ?vv18) rfl (by kernel_rfl) (by kernel_rfl) (by kernel_rfl) (fun _ _ _ h => h) (Or.inl ⟨by rfl, ?hy18⟩) (by assumption) ?_
        case hy18 => (intro w hSw; (try dsimp only at hSw); go_simp; all_goals with_reducible rfl)
        try simp only [Act.put, List.setIfInBounds_toArray, List.set_cons_zero, List.set_cons_succ]
        refine wpAnyH_take (i := 21) (oi := { dst := some 40, op := Op.move (Operand.tmp 2), type := 30, pos := "law.go:57", after := #[{ on := 13, ground := Ground.guard }], guard := some (13, false) }) (v := ?vv19) rfl (by kernel_rfl) (by kernel_rfl) (by kernel_rfl) (fun _ _ _ h => h) (Or.inl ⟨by rfl, ?hy19⟩) (by assumption) ?_
        case hy19 => (intro w hSw; (try dsimp only at hSw); go_simp; all_goals with_reducible rfl)
        try simp only [Act.put, List.setIfInBounds_toArray, List.set_cons_zero, List.set_cons_succ]
        refine wpAnyH_take (i := 22) (oi := { dst := some 41, op := Op.move (Operand.tmp 7), type := 3, pos := "law.go:57", after := #[{ on := 13, ground := Ground.guard }], guard := some (13, false) }) (v := ?vv20) rfl (by kernel_rfl) (by kernel_rfl) (by kernel_rfl) (fun _ _ _ h => h) (Or.inl ⟨by rfl, ?hy20⟩) (by assumption) ?_
        case hy20 => (intro w hSw; (try dsimp only at hSw); go_simp; all_goals with_reducible rfl)
        try simp only [Act.put, List.setIfInBounds_toArray, List.set_cons_zero, List.set_cons_succ]
        refine wpAnyH_take (i := 23) (oi := { dst := some 42, op := Op.indexAddr 30 (Operand.tmp 40) (Operand.tmp 41), type := 0, pos := "law.go:57", after := #[{ on := 21, ground := Ground.data }, { on := 22, ground := Ground.data }, { on := 13, ground := Ground.guard }], guard := some (13, false) }) (v := ?vv21) rfl (by kernel_rfl) (by kernel_rfl) (by kernel_rfl) (fun _ _ _ h => h) (Or.inl ⟨by rfl, ?hy21⟩) (by assumption) ?_
        case hy21 => (intro w hSw; (try dsimp only at hSw); go_simp; all_goals with_reducible rfl)
        try simp only [Act.put, List.setIfInBounds_toArray, List.set_cons_zero, List.set_cons_succ]
        refine wpAnyH_take (i := 24) (oi := { dst := some 43, op := Op.load 2 (Operand.tmp 42), type := 2, pos := "law.go:57", after := #[{ on := 23, ground := Ground.data }, { on := 13, ground := Ground.guard }], guard := some (13, false) }) (v := ?vv22) rfl (by kernel_rfl) (by kernel_rfl) (by kernel_rfl) (fun _ _ _ h => h) (Or.inl ⟨by rfl, ?hy22⟩) (by assumption) ?_
        case hy22 => (intro w hSw; (try dsimp only at hSw); go_simp; all_goals with_reducible rfl)
        try simp only [Act.put, List.setIfInBounds_toArray, List.set_cons_zero, List.set_cons_succ]
        refine wpAnyH_ready (rs := [19]) (by kernel_rfl) (by simp) ?_
        refine AllReadyH.cons (o := { dst := some 38, op := Op.call { callee := Callee.value (Operand.func 21), args := #[Operand.tmp 33, Operand.tmp 37], argTypes := #[23, 2] }, type := 4, pos := "law.go:57", after := #[{ on := 14, ground := Ground.data }, { on := 18, ground := Ground.data }, { on := 13, ground := Ground.chain }, { on := 13, ground := Ground.guard }], guard := some (13, false) }) rfl (fun K hK => ?_) AllReadyH.nil
        go_simp
        refine (hC1.out Wxx hIWxx.out).mono ?_
        rintro e' Wxxx ⟨rfl, hB⟩
        have hIWxxx : Hid (Below w.heap.size w Wxxx) := hIWxx.out.trans (hB.mono hIWxx.out.size)
        clear hB
        go_wp2_with fail
        refine hK.out _ _ (hfull.out Wxxx hIWxxx.out) (fun hHeld => ?_)
        clear hK K hIWxx
        try simp only [Act.put, List.setIfInBounds_toArray, List.set_cons_zero, List.set_cons_succ]
        refine wpAnyH_ready (rs := [25]) (by kernel_rfl) (by simp) ?_
        refine AllReadyH.cons (o := { dst := some 44, op := Op.call { callee := Callee.value (Operand.func 26), args := #[Operand.tmp 39, Operand.tmp 43], argTypes := #[53, 2] }, type := 4, pos := "law.go:57", after := #[{ on := 20, ground := Ground.data }, { on := 24, ground := Ground.data }, { on := 19, ground := Ground.chain }, { on := 13, ground := Ground.guard }], guard := some (13, false) }) rfl (fun K hK => ?_) AllReadyH.nil
        go_simp
        refine (hC2.out Wxxx hIWxxx.out).mono ?_
        rintro e' Wxxxx ⟨rfl, hB⟩
        have hIWxxxx : Hid (Below w.heap.size w Wxxxx) := hIWxxx.out.trans (hB.mono hIWxxx.out.size)
        clear hB
        go_wp2_with fail
        refine hK.out _ _ (hfull.out Wxxxx hIWxxxx.out) (fun hHeld => ?_)
        clear hK K hIWxxx
        try simp only [Act.put, List.setIfInBounds_toArray, List.set_cons_zero, List.set_cons_succ]
        refine wpAnyH_take (i := 26) (oi := { dst := some 45, op := Op.binOp BinOp.neq 4 (Operand.tmp 38) (Operand.tmp 44) 4, type := 4, pos := "law.go:57", after := #[{ on := 19, ground := Ground.data }, { on := 25, ground := Ground.data }, { on := 13, ground := Ground.guard }], guard := some (13, false) }) (v := ?vv23) rfl (by kernel_rfl) (by kernel_rfl) (by kernel_rfl) (fun _ _ _ h => h) (Or.inl ⟨by rfl, ?hy23⟩) (by assumption) ?_
        case hy23 => (intro w hSw; (try dsimp only at hSw); go_simp; all_goals with_reducible rfl)
        try simp only [Act.put, List.setIfInBounds_toArray, List.set_cons_zero, List.set_cons_succ]
        refine wpAnyH_take (i := 27) (oi := { dst := some 46, op := Op.pick (Operand.tmp 32) (Operand.const (Value.bool true)) (Operand.tmp 45), type := 4, pos := "law.go:57", after := #[{ on := 13, ground := Ground.data }, { on := 26, ground := Ground.data }], guard := none }) (v := ?vv24) rfl (by kernel_rfl) (by kernel_rfl) (by kernel_rfl) (fun _ _ _ h => h) (Or.inl ⟨by rfl, ?hy24⟩) (by assumption) ?_
        case hy24 => (intro w hSw; (try dsimp only at hSw); go_simp; all_goals with_reducible rfl)
        try simp only [Act.put, List.setIfInBounds_toArray, List.set_cons_zero, List.set_cons_succ]
        refine wpAnyH_done (by kernel_rfl) ?_ _
        clear hHeld
        go_wp2_with fail
        go_meet
        exact ⟨rfl, hIWxxxx.out⟩
      case rest =>
        obtain ⟨rfl, hB⟩ := hcut
        go_wp2_with fail
        go_roundw
        case rel => exact ⟨i + 1, by simp, by omega, hB.out⟩
        case measure => simp [intOf]; omega
    · obtain rfl : i = I.length := by omega
      have hge : ¬ ((I.length : Int) < (I.length : Int)) := by omega
      clear hlt hS1 hS2 hC1 hC2
      go_wp2_with fail
      go_at_call 17
      refine (hN1.out _ hIB.out).mono ?_
      rintro e w1 ⟨rfl, rfl⟩
      go_wp2_with fail
      go_at_call 45
      refine (hN2.out _ hIB.out).mono ?_
      rintro e w1 ⟨rfl, rfl⟩
      go_wp2_with fail
      go_at_call 11
      refine (hL1.out _ hIB.out).mono ?_
      rintro e w1 ⟨ob, on, oc, rfl, h1⟩
      have B1 : Hid (Below w.heap.size w w1) := hIB.out.trans (h1.out.2.mono hIB.out.size)
      have R1 : Hid (R EI w1 (.slice ob on oc) lv) := h1.out.1
      clear h1
      go_wp2_with fail
      go_at_call 18
      refine (hK1.out true _ B1.out).mono ?_
      rintro e w2 ⟨rfl, hb⟩
      have B2 : Hid (Below w.heap.size w w2) := B1.out.trans (hb.mono B1.out.size)
      have R2 : Hid (R EI w2 (.slice ob on oc) lv) := R.below R1.out hb
      clear hb R1 B1
      go_wp2_with fail
      go_at_call 25
      refine (hK2.out true _ B2.out).mono ?_
      rintro e w3 ⟨rfl, rfl⟩
      go_wp2_with fail
      go_at_call 18
      refine (hK1.out false _ B2.out).mono ?_
      rintro e w4 ⟨rfl, hb⟩
      have B4 : Hid (Below w.heap.size w w4) := B2.out.trans (hb.mono B2.out.size)
      have R4 : Hid (R EI w4 (.slice ob on oc) lv) := R.below R2.out hb
      clear hb R2 B2
      go_wp2_with fail
      go_at_call 25
      refine (hK2.out false _ B4.out).mono ?_
      rintro e w5 ⟨rfl, rfl⟩
      go_wp2_with fail
      go_at_call 13
      refine (hZ1.out true _ B4.out).mono ?_
      rintro e w5 ⟨rfl, rfl⟩
      go_wp2_with fail
      go_at_call 46
      refine (hZ2.out true _ B4.out).mono ?_
      rintro e w5 ⟨rfl, rfl⟩
      go_wp2_with fail
      go_at_call 13
      refine (hZ1.out false _ B4.out).mono ?_
      rintro e w5 ⟨rfl, rfl⟩
      go_wp2_with fail
      go_at_call 46
      refine (hZ2.out false _ B4.out).mono ?_
      rintro e w5 ⟨rfl, rfl⟩
      go_wp2_with fail
      go_at_call 27
      refine (hL2.out _ B4.out).mono ?_
      rintro e w6 ⟨ob2, on2, oc2, rfl, h1⟩
      have B6 : Hid (Below w.heap.size w w6) := B4.out.trans (h1.out.2.mono B4.out.size)
      have R6 : Hid (R EI w6 (.slice ob on oc) lv) := R.below R4.out h1.out.2
      have R6b : Hid (R EI w6 (.slice ob2 on2 oc2) lv) := h1.out.1
      clear h1
      go_wp2_with fail
      go_at_call 12
      refine (sameInts_eq w6 _ _ lv R6.out.isIn R6b.out.isIn).mono ?_
      rintro e w7 ⟨rfl, hb⟩
      have B7 : Hid (Below w.heap.size w w7) := B6.out.trans (hb.mono B6.out.size)
      clear hb
      go_wp2_with fail
      go_ret
      exact ⟨rfl, B7.out⟩
end Go.Proofs.Ytaaocgppniflcaa
