/- site: areChoices, the rest. -/
import Derived.Test.YtcadlpmopplkeaaDoorBq
import Derived.Deep.RegionHeld3
namespace Go.Proofs.YtcadlpmopplkeaaDoor
open Go.RowKit
open Go.Shelf
set_option linter.unusedVariables false
set_option linter.unusedSimpArgs false

theorem good_all {l : List Ch} (h : ∀ j, j < l.length → goodAt l j = true) : (List.range l.length).all (goodAt l) = true := List.all_eq_true.2 fun j hj => h j (List.mem_range.1 hj)
theorem good_not {l : List Ch} {k : Nat} (hk : k < l.length) (h : goodAt l k = false) : (List.range l.length).all (goodAt l) = false := by
  cases e : (List.range l.length).all (goodAt l)
  · rfl
  · have := List.all_eq_true.1 e k (List.mem_range.2 hk)
    rw [h] at this
    cases this

set_option maxHeartbeats 8000000 in
set_option maxRecDepth 100000 in
theorem areChoices_many (x : SV) (l : List Ch) (vary : ByteArray) (w : World) (hI : In ECh w (sv x) l) (h : 1 ≤ l.length ∧ l.length ≤ 8) (hv : noVary vary = false) :
    Calls Tryd.prog 54 #[sv x, .string vary] w fun e w' => e = .returned (.bool (chB l vary)) ∧ Below w.heap.size w w' := by
  have HI : Hid (In ECh w (sv x) l) := hI
  obtain ⟨b, c, e, m1, m2⟩ := hI.slice
  have hbd : Hid (∀ s W, Calls Tryd.prog 70 #[.string s] W fun e w' => e = .returned (.bool (bdB s)) ∧ w' = W) := isBody_any
  obtain ⟨sb, sl, sc⟩ := x
  simp only [sv] at e HI ⊢
  injection e with e1 e2 e3
  subst e1 e2 e3
  have hc : chB l vary = (nmB vary && (List.range l.length).all (goodAt l)) := by
    unfold chB
    rw [if_neg (by rw [hv]; simp)]
    simp [h.1, h.2]
  rw [hc]
  have a1 : ¬ (l.length : Int) < 1 := by omega
  have a2 : ¬ 8 < (l.length : Int) := by omega
  have g1 : vary.toList.isEmpty = false := by
    unfold noVary at hv
    exact (Bool.or_eq_false_iff.1 hv).1
  have g2 : (vary.toList == [42]) = false := by
    unfold noVary at hv
    exact (Bool.or_eq_false_iff.1 hv).2
  have hN : Hid (Calls Tryd.prog 71 #[.string vary] w fun e w' => e = .returned (.bool (nmB vary)) ∧ Below w.heap.size w w') := name_any vary w
  have H8 : Hid (l.length ≤ 8) := h.2
  clear hc hI hv h
  cases hn : nmB vary
  · rw [hn] at hN
    clear hn
    go_enter Tryd.func54, Tryd.ntmps54
    go_wp2_with fail
    go_at_call 71
    refine hN.out.mono ?_
    rintro e w1 ⟨rfl, hb1⟩
    go_wp2_with fail
    go_ret
    exact ⟨rfl, hb1⟩
  · rw [Bool.true_and]
    rw [hn] at hN
    clear hn
    go_enter Tryd.func54, Tryd.ntmps54
    go_wp2_with fail
    go_at_call 71
    refine hN.out.mono ?_
    rintro e w1 ⟨rfl, hb1⟩
    have HB1 : Hid (Below w.heap.size w w1) := hb1
    clear hb1 hN
    go_wp2_with fail
    go_loopw [5, 6, 42] (fun _ _ kv wr => ∃ k : Nat, kv = .int .i64 (k : Int) ∧ k ≤ l.length ∧ Hid (∀ j, j < k → goodAt l j = true) ∧ Hid (Below w.heap.size w wr)) (fun _ _ kv _ => l.length - (intOf kv).toNat)
    case atStart => exact ⟨0, rfl, by omega, fun j h => absurd h (by omega), HB1.out⟩
    case round =>
      obtain ⟨k, rfl, hk, hno, hb⟩ := hrel
      by_cases hlt : k < l.length
      · obtain ⟨Bk, off, cap, e, hc⟩ := HI.out.ch k hlt
        injection e with e1 e2 e3
        clear e2 e3
        subst e1
        obtain ⟨c0, c1⟩ := hc wr hb.out
        obtain ⟨y, hy⟩ : ∃ y, l[k] = y := ⟨_, rfl⟩
        rw [hy] at c0 c1
        have HG : Hid (goodAt l k = (valB y.v && bdB y.b && decide (plI (l.take k) y.v < 0))) := by
          show _ = _
          unfold goodAt
          rw [List.getElem?_eq_getElem hlt, hy]
        have hb0 : Below w.heap.size w (wr.alloc (.cells #[.string y.v, .string y.b] 29)) := hb.out.trans ((bel1 _ _).mono hb.out.size)
        have hF0 : (wr.alloc (.cells #[.string y.v, .string y.b] 29)).heap[wr.heap.size]? = some (.cells #[.string y.v, .string y.b] 29 (0, 0)) := by rw [heap_al, if_pos rfl]
        have hCell : Hid (∀ W, Below (wr.alloc (.cells #[.string y.v, .string y.b] 29)).heap.size (wr.alloc (.cells #[.string y.v, .string y.b] 29)) W → W.cell? ⟨wr.heap.size, 0, none⟩ = some (.string y.v) ∧ W.cell? ⟨wr.heap.size, 1, none⟩ = some (.string y.b)) := fun W hW => ⟨cell_blk ((hW.block _ (heap_lt hF0)).trans hF0) 0, cell_blk ((hW.block _ (heap_lt hF0)).trans hF0) 1⟩
        have hV : Hid (∀ W, Below (wr.alloc (.cells #[.string y.v, .string y.b] 29)).heap.size (wr.alloc (.cells #[.string y.v, .string y.b] 29)) W → Calls Tryd.prog 72 #[.string y.v] W fun e w' => e = .returned (.bool (valB y.v)) ∧ Hid (Below (wr.alloc (.cells #[.string y.v, .string y.b] 29)).heap.size (wr.alloc (.cells #[.string y.v, .string y.b] 29)) w')) := fun W hW => (value_any y.v W).mono fun e w' ⟨q1, q2⟩ => ⟨q1, hW.trans (q2.mono hW.size)⟩
        have hP : Hid (∀ W, Below (wr.alloc (.cells #[.string y.v, .string y.b] 29)).heap.size (wr.alloc (.cells #[.string y.v, .string y.b] 29)) W → Calls Tryd.prog 73 #[.slice (some ⟨Bk, off, none⟩) k sc, .string y.v] W fun e w' => e = .returned (.int .i64 (plI (l.take k) y.v)) ∧ Hid (Below (wr.alloc (.cells #[.string y.v, .string y.b] 29)).heap.size (wr.alloc (.cells #[.string y.v, .string y.b] 29)) w')) := fun W hW => (placeOf_any (some ⟨Bk, off, none⟩, k, sc) (l.take k) y.v W ((HI.out.take k hk).below (hb0.trans (hW.mono hb0.size)))).mono fun e w' ⟨q1, q2⟩ => ⟨q1, hW.trans (q2.mono hW.size)⟩
        have HBW : Hid (∀ W, Below (wr.alloc (.cells #[.string y.v, .string y.b] 29)).heap.size (wr.alloc (.cells #[.string y.v, .string y.b] 29)) W → Below w.heap.size w W) := fun W hW => hb0.trans (hW.mono hb0.size)
        have hlt' : (k : Int) < (l.length : Int) := by omega
        have hks : (k : Int) ≤ (sc : Int) := by omega
        clear hc hy hF0 hb0
        cases hA : valB y.v
        · rw [hA] at hV HG
          have HF : Hid ((List.range l.length).all (goodAt l) = false) := good_not hlt (by rw [HG.out]; rfl)
          clear hA HG hP hbd
          go_upto_region 12 with fail
          have hIW : Below (wr.alloc (.cells #[.string y.v, .string y.b] 29)).heap.size (wr.alloc (.cells #[.string y.v, .string y.b] 29)) ((wr.alloc (.cells #[.string y.v, .string y.b] 29)).drew) := (Below.refl _ _).drew
          refine wp_region_held_drew (S := (fun W => W.cell? ⟨wr.heap.size, 0, none⟩ = some (.string y.v) ∧ W.cell? ⟨wr.heap.size, 1, none⟩ = some (.string y.b))) (by kernel_rfl) (hCell.out _ hIW) (fun hHeld => ?_)
          generalize hWg : World.drew _ = W at hIW hHeld ⊢
          clear hWg
          refine wpAnyH_take (i := 0) (oi := { dst := some 47, op := Op.fieldAddr 29 (Operand.tmp 6) 0, type := 0, pos := "page.go:59", after := #[], guard := none }) (v := ?vv1) rfl (by kernel_rfl) (by kernel_rfl) (by kernel_rfl) (fun _ _ _ h => h) (Or.inl ⟨by rfl, ?hy1⟩) (by assumption) ?_
          case hy1 => (intro w hSw; (try dsimp only at hSw); go_simp; all_goals with_reducible rfl)
          try simp only [Act.put, List.setIfInBounds_toArray, List.set_cons_zero, List.set_cons_succ]
          refine wpAnyH_take (i := 1) (oi := { dst := some 48, op := Op.load 9 (Operand.tmp 47), type := 9, pos := "page.go:59", after := #[{ on := 0, ground := Ground.data }], guard := none }) (v := ?vv2) rfl (by kernel_rfl) (by kernel_rfl) (by kernel_rfl) (fun _ _ _ h => h) (Or.inl ⟨by rfl, ?hy2⟩) (by assumption) ?_
          case hy2 => (intro w hSw; (try dsimp only at hSw); go_simp; all_goals with_reducible rfl)
          try simp only [Act.put, List.setIfInBounds_toArray, List.set_cons_zero, List.set_cons_succ]
          refine wpAnyH_ready (rs := [2]) (by kernel_rfl) (by simp) ?_
          refine AllReadyH.cons (o := { dst := some 49, op := Op.call { callee := Callee.value (Operand.func 72), args := #[Operand.tmp 48], argTypes := #[9] }, type := 4, pos := "page.go:59", after := #[{ on := 1, ground := Ground.data }], guard := none }) rfl (fun K hK => ?_) AllReadyH.nil
          go_simp
          refine (hV.out _ hIW).mono ?_
          rintro e' Wa ⟨rfl, hA0⟩
          have hIWa : Below (wr.alloc (.cells #[.string y.v, .string y.b] 29)).heap.size (wr.alloc (.cells #[.string y.v, .string y.b] 29)) Wa := hA0.out
          go_wp2_with fail
          refine hK.out _ _ (hCell.out _ hIWa) (fun hHeld => ?_)
          clear hK K hA0 hIW
          try simp only [Act.put, List.setIfInBounds_toArray, List.set_cons_zero, List.set_cons_succ]
          refine wpAnyH_take (i := 3) (oi := { dst := some 50, op := Op.unOp UnOp.not 4 (Operand.tmp 49), type := 4, pos := "page.go:59", after := #[{ on := 2, ground := Ground.data }], guard := none }) (v := ?vv3) rfl (by kernel_rfl) (by kernel_rfl) (by kernel_rfl) (fun _ _ _ h => h) (Or.inl ⟨by rfl, ?hy3⟩) (by assumption) ?_
          case hy3 => (intro w hSw; (try dsimp only at hSw); go_simp; all_goals with_reducible rfl)
          try simp only [Act.put, List.setIfInBounds_toArray, List.set_cons_zero, List.set_cons_succ]
          refine wpAnyH_take (i := 4) (oi := { dst := some 51, op := Op.move (Operand.tmp 50), type := 4, pos := "page.go:59", after := #[{ on := 3, ground := Ground.data }, { on := 2, ground := Ground.chain }], guard := none }) (v := ?vv4) rfl (by kernel_rfl) (by kernel_rfl) (by kernel_rfl) (fun _ _ _ h => h) (Or.inl ⟨by rfl, ?hy4⟩) (by assumption) ?_
          case hy4 => (intro w hSw; (try dsimp only at hSw); go_simp; all_goals with_reducible rfl)
          try simp only [Act.put, List.setIfInBounds_toArray, List.set_cons_zero, List.set_cons_succ]
          refine wpAnyH_take (i := 5) (oi := { dst := some 52, op := Op.fieldAddr 29 (Operand.tmp 6) 1, type := 0, pos := "page.go:59", after := #[{ on := 4, ground := Ground.guard }], guard := some (4, false) }) (v := undef) rfl (by kernel_rfl) (by kernel_rfl) (by kernel_rfl) (fun _ _ _ h => h) (Or.inr ⟨by rfl, rfl⟩) (by assumption) ?_
          try simp only [Act.put, List.setIfInBounds_toArray, List.set_cons_zero, List.set_cons_succ]
          refine wpAnyH_take (i := 6) (oi := { dst := some 53, op := Op.load 9 (Operand.tmp 52), type := 9, pos := "page.go:59", after := #[{ on := 5, ground := Ground.data }, { on := 4, ground := Ground.guard }], guard := some (4, false) }) (v := undef) rfl (by kernel_rfl) (by kernel_rfl) (by kernel_rfl) (fun _ _ _ h => h) (Or.inr ⟨by rfl, rfl⟩) (by assumption) ?_
          try simp only [Act.put, List.setIfInBounds_toArray, List.set_cons_zero, List.set_cons_succ]
          refine wpAnyH_take (i := 7) (oi := { dst := some 54, op := Op.call { callee := Callee.value (Operand.func 70), args := #[Operand.tmp 53], argTypes := #[9] }, type := 4, pos := "page.go:59", after := #[{ on := 6, ground := Ground.data }, { on := 4, ground := Ground.chain }, { on := 4, ground := Ground.guard }], guard := some (4, false) }) (v := undef) rfl (by kernel_rfl) (by kernel_rfl) (by kernel_rfl) (fun _ _ _ h => h) (Or.inr ⟨by rfl, rfl⟩) (by assumption) ?_
          try simp only [Act.put, List.setIfInBounds_toArray, List.set_cons_zero, List.set_cons_succ]
          refine wpAnyH_take (i := 8) (oi := { dst := some 55, op := Op.unOp UnOp.not 4 (Operand.tmp 54), type := 4, pos := "page.go:59", after := #[{ on := 7, ground := Ground.data }, { on := 4, ground := Ground.guard }], guard := some (4, false) }) (v := undef) rfl (by kernel_rfl) (by kernel_rfl) (by kernel_rfl) (fun _ _ _ h => h) (Or.inr ⟨by rfl, rfl⟩) (by assumption) ?_
          try simp only [Act.put, List.setIfInBounds_toArray, List.set_cons_zero, List.set_cons_succ]
          refine wpAnyH_take (i := 9) (oi := { dst := some 56, op := Op.pick (Operand.tmp 51) (Operand.const (Value.bool true)) (Operand.tmp 55), type := 4, pos := "page.go:59", after := #[{ on := 4, ground := Ground.data }, { on := 8, ground := Ground.data }], guard := none }) (v := ?vv5) rfl (by kernel_rfl) (by kernel_rfl) (by kernel_rfl) (fun _ _ _ h => h) (Or.inl ⟨by rfl, ?hy5⟩) (by assumption) ?_
          case hy5 => (intro w hSw; (try dsimp only at hSw); go_simp; all_goals with_reducible rfl)
          try simp only [Act.put, List.setIfInBounds_toArray, List.set_cons_zero, List.set_cons_succ]
          refine wpAnyH_take (i := 10) (oi := { dst := some 57, op := Op.move (Operand.tmp 56), type := 4, pos := "page.go:59", after := #[{ on := 9, ground := Ground.data }, { on := 7, ground := Ground.chain }], guard := none }) (v := ?vv6) rfl (by kernel_rfl) (by kernel_rfl) (by kernel_rfl) (fun _ _ _ h => h) (Or.inl ⟨by rfl, ?hy6⟩) (by assumption) ?_
          case hy6 => (intro w hSw; (try dsimp only at hSw); go_simp; all_goals with_reducible rfl)
          try simp only [Act.put, List.setIfInBounds_toArray, List.set_cons_zero, List.set_cons_succ]
          refine wpAnyH_take (i := 11) (oi := { dst := some 58, op := Op.move (Operand.tmp 0), type := 24, pos := "page.go:59", after := #[{ on := 10, ground := Ground.guard }], guard := some (10, false) }) (v := undef) rfl (by kernel_rfl) (by kernel_rfl) (by kernel_rfl) (fun _ _ _ h => h) (Or.inr ⟨by rfl, rfl⟩) (by assumption) ?_
          try simp only [Act.put, List.setIfInBounds_toArray, List.set_cons_zero, List.set_cons_succ]
          refine wpAnyH_take (i := 12) (oi := { dst := some 59, op := Op.move (Operand.tmp 5), type := 3, pos := "page.go:59", after := #[{ on := 10, ground := Ground.guard }], guard := some (10, false) }) (v := undef) rfl (by kernel_rfl) (by kernel_rfl) (by kernel_rfl) (fun _ _ _ h => h) (Or.inr ⟨by rfl, rfl⟩) (by assumption) ?_
          try simp only [Act.put, List.setIfInBounds_toArray, List.set_cons_zero, List.set_cons_succ]
          refine wpAnyH_take (i := 13) (oi := { dst := some 60, op := Op.slice 24 (Operand.tmp 58) none (some (Operand.tmp 59)) none, type := 24, pos := "page.go:59", after := #[{ on := 11, ground := Ground.data }, { on := 12, ground := Ground.data }, { on := 10, ground := Ground.guard }], guard := some (10, false) }) (v := undef) rfl (by kernel_rfl) (by kernel_rfl) (by kernel_rfl) (fun _ _ _ h => h) (Or.inr ⟨by rfl, rfl⟩) (by assumption) ?_
          try simp only [Act.put, List.setIfInBounds_toArray, List.set_cons_zero, List.set_cons_succ]
          refine wpAnyH_take (i := 14) (oi := { dst := some 61, op := Op.fieldAddr 29 (Operand.tmp 6) 0, type := 0, pos := "page.go:59", after := #[{ on := 10, ground := Ground.guard }], guard := some (10, false) }) (v := undef) rfl (by kernel_rfl) (by kernel_rfl) (by kernel_rfl) (fun _ _ _ h => h) (Or.inr ⟨by rfl, rfl⟩) (by assumption) ?_
          try simp only [Act.put, List.setIfInBounds_toArray, List.set_cons_zero, List.set_cons_succ]
          refine wpAnyH_take (i := 15) (oi := { dst := some 62, op := Op.load 9 (Operand.tmp 61), type := 9, pos := "page.go:59", after := #[{ on := 14, ground := Ground.data }, { on := 10, ground := Ground.guard }], guard := some (10, false) }) (v := undef) rfl (by kernel_rfl) (by kernel_rfl) (by kernel_rfl) (fun _ _ _ h => h) (Or.inr ⟨by rfl, rfl⟩) (by assumption) ?_
          try simp only [Act.put, List.setIfInBounds_toArray, List.set_cons_zero, List.set_cons_succ]
          refine wpAnyH_take (i := 16) (oi := { dst := some 63, op := Op.call { callee := Callee.value (Operand.func 73), args := #[Operand.tmp 60, Operand.tmp 62], argTypes := #[24, 9] }, type := 3, pos := "page.go:59", after := #[{ on := 13, ground := Ground.data }, { on := 15, ground := Ground.data }, { on := 10, ground := Ground.chain }, { on := 10, ground := Ground.guard }], guard := some (10, false) }) (v := undef) rfl (by kernel_rfl) (by kernel_rfl) (by kernel_rfl) (fun _ _ _ h => h) (Or.inr ⟨by rfl, rfl⟩) (by assumption) ?_
          try simp only [Act.put, List.setIfInBounds_toArray, List.set_cons_zero, List.set_cons_succ]
          refine wpAnyH_take (i := 17) (oi := { dst := some 64, op := Op.binOp BinOp.geq 3 (Operand.tmp 63) (Operand.const (Value.int IntKind.i64 0)) 3, type := 4, pos := "page.go:59", after := #[{ on := 16, ground := Ground.data }, { on := 10, ground := Ground.guard }], guard := some (10, false) }) (v := undef) rfl (by kernel_rfl) (by kernel_rfl) (by kernel_rfl) (fun _ _ _ h => h) (Or.inr ⟨by rfl, rfl⟩) (by assumption) ?_
          try simp only [Act.put, List.setIfInBounds_toArray, List.set_cons_zero, List.set_cons_succ]
          refine wpAnyH_take (i := 18) (oi := { dst := some 65, op := Op.pick (Operand.tmp 57) (Operand.const (Value.bool true)) (Operand.tmp 64), type := 4, pos := "page.go:59", after := #[{ on := 10, ground := Ground.data }, { on := 17, ground := Ground.data }], guard := none }) (v := ?vv7) rfl (by kernel_rfl) (by kernel_rfl) (by kernel_rfl) (fun _ _ _ h => h) (Or.inl ⟨by rfl, ?hy7⟩) (by assumption) ?_
          case hy7 => (intro w hSw; (try dsimp only at hSw); go_simp; all_goals with_reducible rfl)
          try simp only [Act.put, List.setIfInBounds_toArray, List.set_cons_zero, List.set_cons_succ]
          refine wpAnyH_done (by kernel_rfl) ?_ _
          go_wp2_with fail
          go_ret
          exact ⟨by rw [HF.out]; rfl, HBW.out _ hIWa⟩
        · rw [hA] at hV HG
          clear hA
          cases hB : bdB y.b
          · rw [hB] at HG
            have hBb : Hid (bdB y.b = false) := hB
            have HF : Hid ((List.range l.length).all (goodAt l) = false) := good_not hlt (by rw [HG.out]; rfl)
            clear hB HG hP
            go_upto_region 12 with fail
            have hIW : Below (wr.alloc (.cells #[.string y.v, .string y.b] 29)).heap.size (wr.alloc (.cells #[.string y.v, .string y.b] 29)) ((wr.alloc (.cells #[.string y.v, .string y.b] 29)).drew) := (Below.refl _ _).drew
            refine wp_region_held_drew (S := (fun W => W.cell? ⟨wr.heap.size, 0, none⟩ = some (.string y.v) ∧ W.cell? ⟨wr.heap.size, 1, none⟩ = some (.string y.b))) (by kernel_rfl) (hCell.out _ hIW) (fun hHeld => ?_)
            generalize hWg : World.drew _ = W at hIW hHeld ⊢
            clear hWg
            refine wpAnyH_take (i := 0) (oi := { dst := some 47, op := Op.fieldAddr 29 (Operand.tmp 6) 0, type := 0, pos := "page.go:59", after := #[], guard := none }) (v := ?vv8) rfl (by kernel_rfl) (by kernel_rfl) (by kernel_rfl) (fun _ _ _ h => h) (Or.inl ⟨by rfl, ?hy8⟩) (by assumption) ?_
            case hy8 => (intro w hSw; (try dsimp only at hSw); go_simp; all_goals with_reducible rfl)
            try simp only [Act.put, List.setIfInBounds_toArray, List.set_cons_zero, List.set_cons_succ]
            refine wpAnyH_take (i := 1) (oi := { dst := some 48, op := Op.load 9 (Operand.tmp 47), type := 9, pos := "page.go:59", after := #[{ on := 0, ground := Ground.data }], guard := none }) (v := ?vv9) rfl (by kernel_rfl) (by kernel_rfl) (by kernel_rfl) (fun _ _ _ h => h) (Or.inl ⟨by rfl, ?hy9⟩) (by assumption) ?_
            case hy9 => (intro w hSw; (try dsimp only at hSw); go_simp; all_goals with_reducible rfl)
            try simp only [Act.put, List.setIfInBounds_toArray, List.set_cons_zero, List.set_cons_succ]
            refine wpAnyH_ready (rs := [2]) (by kernel_rfl) (by simp) ?_
            refine AllReadyH.cons (o := { dst := some 49, op := Op.call { callee := Callee.value (Operand.func 72), args := #[Operand.tmp 48], argTypes := #[9] }, type := 4, pos := "page.go:59", after := #[{ on := 1, ground := Ground.data }], guard := none }) rfl (fun K hK => ?_) AllReadyH.nil
            go_simp
            refine (hV.out _ hIW).mono ?_
            rintro e' Wa ⟨rfl, hA0⟩
            have hIWa : Below (wr.alloc (.cells #[.string y.v, .string y.b] 29)).heap.size (wr.alloc (.cells #[.string y.v, .string y.b] 29)) Wa := hA0.out
            go_wp2_with fail
            refine hK.out _ _ (hCell.out _ hIWa) (fun hHeld => ?_)
            clear hK K hA0 hIW
            try simp only [Act.put, List.setIfInBounds_toArray, List.set_cons_zero, List.set_cons_succ]
            refine wpAnyH_take (i := 3) (oi := { dst := some 50, op := Op.unOp UnOp.not 4 (Operand.tmp 49), type := 4, pos := "page.go:59", after := #[{ on := 2, ground := Ground.data }], guard := none }) (v := ?vv10) rfl (by kernel_rfl) (by kernel_rfl) (by kernel_rfl) (fun _ _ _ h => h) (Or.inl ⟨by rfl, ?hy10⟩) (by assumption) ?_
            case hy10 => (intro w hSw; (try dsimp only at hSw); go_simp; all_goals with_reducible rfl)
            try simp only [Act.put, List.setIfInBounds_toArray, List.set_cons_zero, List.set_cons_succ]
            refine wpAnyH_take (i := 4) (oi := { dst := some 51, op := Op.move (Operand.tmp 50), type := 4, pos := "page.go:59", after := #[{ on := 3, ground := Ground.data }, { on := 2, ground := Ground.chain }], guard := none }) (v := ?vv11) rfl (by kernel_rfl) (by kernel_rfl) (by kernel_rfl) (fun _ _ _ h => h) (Or.inl ⟨by rfl, ?hy11⟩) (by assumption) ?_
            case hy11 => (intro w hSw; (try dsimp only at hSw); go_simp; all_goals with_reducible rfl)
            try simp only [Act.put, List.setIfInBounds_toArray, List.set_cons_zero, List.set_cons_succ]
            refine wpAnyH_take (i := 5) (oi := { dst := some 52, op := Op.fieldAddr 29 (Operand.tmp 6) 1, type := 0, pos := "page.go:59", after := #[{ on := 4, ground := Ground.guard }], guard := some (4, false) }) (v := ?vv12) rfl (by kernel_rfl) (by kernel_rfl) (by kernel_rfl) (fun _ _ _ h => h) (Or.inl ⟨by rfl, ?hy12⟩) (by assumption) ?_
            case hy12 => (intro w hSw; (try dsimp only at hSw); go_simp; all_goals with_reducible rfl)
            try simp only [Act.put, List.setIfInBounds_toArray, List.set_cons_zero, List.set_cons_succ]
            refine wpAnyH_take (i := 6) (oi := { dst := some 53, op := Op.load 9 (Operand.tmp 52), type := 9, pos := "page.go:59", after := #[{ on := 5, ground := Ground.data }, { on := 4, ground := Ground.guard }], guard := some (4, false) }) (v := ?vv13) rfl (by kernel_rfl) (by kernel_rfl) (by kernel_rfl) (fun _ _ _ h => h) (Or.inl ⟨by rfl, ?hy13⟩) (by assumption) ?_
            case hy13 => (intro w hSw; (try dsimp only at hSw); go_simp; all_goals with_reducible rfl)
            try simp only [Act.put, List.setIfInBounds_toArray, List.set_cons_zero, List.set_cons_succ]
            refine wpAnyH_ready (rs := [7]) (by kernel_rfl) (by simp) ?_
            refine AllReadyH.cons (o := { dst := some 54, op := Op.call { callee := Callee.value (Operand.func 70), args := #[Operand.tmp 53], argTypes := #[9] }, type := 4, pos := "page.go:59", after := #[{ on := 6, ground := Ground.data }, { on := 4, ground := Ground.chain }, { on := 4, ground := Ground.guard }], guard := some (4, false) }) rfl (fun K hK => ?_) AllReadyH.nil
            go_simp
            refine (hbd.out _ _).mono ?_
            rintro e' Wb ⟨rfl, hwb⟩
            rw [hwb]
            clear hwb
            rw [hBb.out]
            go_wp2_with fail
            refine hK.out _ _ (hCell.out _ hIWa) (fun hHeld => ?_)
            clear hK K
            try simp only [Act.put, List.setIfInBounds_toArray, List.set_cons_zero, List.set_cons_succ]
            refine wpAnyH_take (i := 8) (oi := { dst := some 55, op := Op.unOp UnOp.not 4 (Operand.tmp 54), type := 4, pos := "page.go:59", after := #[{ on := 7, ground := Ground.data }, { on := 4, ground := Ground.guard }], guard := some (4, false) }) (v := ?vv14) rfl (by kernel_rfl) (by kernel_rfl) (by kernel_rfl) (fun _ _ _ h => h) (Or.inl ⟨by rfl, ?hy14⟩) (by assumption) ?_
            case hy14 => (intro w hSw; (try dsimp only at hSw); go_simp; all_goals with_reducible rfl)
            try simp only [Act.put, List.setIfInBounds_toArray, List.set_cons_zero, List.set_cons_succ]
            refine wpAnyH_take (i := 9) (oi := { dst := some 56, op := Op.pick (Operand.tmp 51) (Operand.const (Value.bool true)) (Operand.tmp 55), type := 4, pos := "page.go:59", after := #[{ on := 4, ground := Ground.data }, { on := 8, ground := Ground.data }], guard := none }) (v := ?vv15) rfl (by kernel_rfl) (by kernel_rfl) (by kernel_rfl) (fun _ _ _ h => h) (Or.inl ⟨by rfl, ?hy15⟩) (by assumption) ?_
            case hy15 => (intro w hSw; (try dsimp only at hSw); go_simp; all_goals with_reducible rfl)
            try simp only [Act.put, List.setIfInBounds_toArray, List.set_cons_zero, List.set_cons_succ]
            refine wpAnyH_take (i := 10) (oi := { dst := some 57, op := Op.move (Operand.tmp 56), type := 4, pos := "page.go:59", after := #[{ on := 9, ground := Ground.data }, { on := 7, ground := Ground.chain }], guard := none }) (v := ?vv16) rfl (by kernel_rfl) (by kernel_rfl) (by kernel_rfl) (fun _ _ _ h => h) (Or.inl ⟨by rfl, ?hy16⟩) (by assumption) ?_
            case hy16 => (intro w hSw; (try dsimp only at hSw); go_simp; all_goals with_reducible rfl)
            try simp only [Act.put, List.setIfInBounds_toArray, List.set_cons_zero, List.set_cons_succ]
            refine wpAnyH_take (i := 11) (oi := { dst := some 58, op := Op.move (Operand.tmp 0), type := 24, pos := "page.go:59", after := #[{ on := 10, ground := Ground.guard }], guard := some (10, false) }) (v := undef) rfl (by kernel_rfl) (by kernel_rfl) (by kernel_rfl) (fun _ _ _ h => h) (Or.inr ⟨by rfl, rfl⟩) (by assumption) ?_
            try simp only [Act.put, List.setIfInBounds_toArray, List.set_cons_zero, List.set_cons_succ]
            refine wpAnyH_take (i := 12) (oi := { dst := some 59, op := Op.move (Operand.tmp 5), type := 3, pos := "page.go:59", after := #[{ on := 10, ground := Ground.guard }], guard := some (10, false) }) (v := undef) rfl (by kernel_rfl) (by kernel_rfl) (by kernel_rfl) (fun _ _ _ h => h) (Or.inr ⟨by rfl, rfl⟩) (by assumption) ?_
            try simp only [Act.put, List.setIfInBounds_toArray, List.set_cons_zero, List.set_cons_succ]
            refine wpAnyH_take (i := 13) (oi := { dst := some 60, op := Op.slice 24 (Operand.tmp 58) none (some (Operand.tmp 59)) none, type := 24, pos := "page.go:59", after := #[{ on := 11, ground := Ground.data }, { on := 12, ground := Ground.data }, { on := 10, ground := Ground.guard }], guard := some (10, false) }) (v := undef) rfl (by kernel_rfl) (by kernel_rfl) (by kernel_rfl) (fun _ _ _ h => h) (Or.inr ⟨by rfl, rfl⟩) (by assumption) ?_
            try simp only [Act.put, List.setIfInBounds_toArray, List.set_cons_zero, List.set_cons_succ]
            refine wpAnyH_take (i := 14) (oi := { dst := some 61, op := Op.fieldAddr 29 (Operand.tmp 6) 0, type := 0, pos := "page.go:59", after := #[{ on := 10, ground := Ground.guard }], guard := some (10, false) }) (v := undef) rfl (by kernel_rfl) (by kernel_rfl) (by kernel_rfl) (fun _ _ _ h => h) (Or.inr ⟨by rfl, rfl⟩) (by assumption) ?_
            try simp only [Act.put, List.setIfInBounds_toArray, List.set_cons_zero, List.set_cons_succ]
            refine wpAnyH_take (i := 15) (oi := { dst := some 62, op := Op.load 9 (Operand.tmp 61), type := 9, pos := "page.go:59", after := #[{ on := 14, ground := Ground.data }, { on := 10, ground := Ground.guard }], guard := some (10, false) }) (v := undef) rfl (by kernel_rfl) (by kernel_rfl) (by kernel_rfl) (fun _ _ _ h => h) (Or.inr ⟨by rfl, rfl⟩) (by assumption) ?_
            try simp only [Act.put, List.setIfInBounds_toArray, List.set_cons_zero, List.set_cons_succ]
            refine wpAnyH_take (i := 16) (oi := { dst := some 63, op := Op.call { callee := Callee.value (Operand.func 73), args := #[Operand.tmp 60, Operand.tmp 62], argTypes := #[24, 9] }, type := 3, pos := "page.go:59", after := #[{ on := 13, ground := Ground.data }, { on := 15, ground := Ground.data }, { on := 10, ground := Ground.chain }, { on := 10, ground := Ground.guard }], guard := some (10, false) }) (v := undef) rfl (by kernel_rfl) (by kernel_rfl) (by kernel_rfl) (fun _ _ _ h => h) (Or.inr ⟨by rfl, rfl⟩) (by assumption) ?_
            try simp only [Act.put, List.setIfInBounds_toArray, List.set_cons_zero, List.set_cons_succ]
            refine wpAnyH_take (i := 17) (oi := { dst := some 64, op := Op.binOp BinOp.geq 3 (Operand.tmp 63) (Operand.const (Value.int IntKind.i64 0)) 3, type := 4, pos := "page.go:59", after := #[{ on := 16, ground := Ground.data }, { on := 10, ground := Ground.guard }], guard := some (10, false) }) (v := undef) rfl (by kernel_rfl) (by kernel_rfl) (by kernel_rfl) (fun _ _ _ h => h) (Or.inr ⟨by rfl, rfl⟩) (by assumption) ?_
            try simp only [Act.put, List.setIfInBounds_toArray, List.set_cons_zero, List.set_cons_succ]
            refine wpAnyH_take (i := 18) (oi := { dst := some 65, op := Op.pick (Operand.tmp 57) (Operand.const (Value.bool true)) (Operand.tmp 64), type := 4, pos := "page.go:59", after := #[{ on := 10, ground := Ground.data }, { on := 17, ground := Ground.data }], guard := none }) (v := ?vv17) rfl (by kernel_rfl) (by kernel_rfl) (by kernel_rfl) (fun _ _ _ h => h) (Or.inl ⟨by rfl, ?hy17⟩) (by assumption) ?_
            case hy17 => (intro w hSw; (try dsimp only at hSw); go_simp; all_goals with_reducible rfl)
            try simp only [Act.put, List.setIfInBounds_toArray, List.set_cons_zero, List.set_cons_succ]
            refine wpAnyH_done (by kernel_rfl) ?_ _
            go_wp2_with fail
            go_ret
            exact ⟨by rw [HF.out]; rfl, HBW.out _ hIWa⟩
          · rw [hB] at HG
            have hBb : Hid (bdB y.b = true) := hB
            clear hB
            obtain ⟨pl, hpl⟩ : ∃ pl, plI (l.take k) y.v = pl := ⟨_, rfl⟩
            rw [hpl] at HG hP
            clear hpl
            by_cases hp : 0 ≤ pl
            · have HF : Hid ((List.range l.length).all (goodAt l) = false) := good_not hlt (by rw [HG.out]; simp; omega)
              clear HG
              go_upto_region 12 with fail
              have hIW : Below (wr.alloc (.cells #[.string y.v, .string y.b] 29)).heap.size (wr.alloc (.cells #[.string y.v, .string y.b] 29)) ((wr.alloc (.cells #[.string y.v, .string y.b] 29)).drew) := (Below.refl _ _).drew
              refine wp_region_held_drew (S := (fun W => W.cell? ⟨wr.heap.size, 0, none⟩ = some (.string y.v) ∧ W.cell? ⟨wr.heap.size, 1, none⟩ = some (.string y.b))) (by kernel_rfl) (hCell.out _ hIW) (fun hHeld => ?_)
              generalize hWg : World.drew _ = W at hIW hHeld ⊢
              clear hWg
              refine wpAnyH_take (i := 0) (oi := { dst := some 47, op := Op.fieldAddr 29 (Operand.tmp 6) 0, type := 0, pos := "page.go:59", after := #[], guard := none }) (v := ?vv18) rfl (by kernel_rfl) (by kernel_rfl) (by kernel_rfl) (fun _ _ _ h => h) (Or.inl ⟨by rfl, ?hy18⟩) (by assumption) ?_
              case hy18 => (intro w hSw; (try dsimp only at hSw); go_simp; all_goals with_reducible rfl)
              try simp only [Act.put, List.setIfInBounds_toArray, List.set_cons_zero, List.set_cons_succ]
              refine wpAnyH_take (i := 1) (oi := { dst := some 48, op := Op.load 9 (Operand.tmp 47), type := 9, pos := "page.go:59", after := #[{ on := 0, ground := Ground.data }], guard := none }) (v := ?vv19) rfl (by kernel_rfl) (by kernel_rfl) (by kernel_rfl) (fun _ _ _ h => h) (Or.inl ⟨by rfl, ?hy19⟩) (by assumption) ?_
              case hy19 => (intro w hSw; (try dsimp only at hSw); go_simp; all_goals with_reducible rfl)
              try simp only [Act.put, List.setIfInBounds_toArray, List.set_cons_zero, List.set_cons_succ]
              refine wpAnyH_ready (rs := [2]) (by kernel_rfl) (by simp) ?_
              refine AllReadyH.cons (o := { dst := some 49, op := Op.call { callee := Callee.value (Operand.func 72), args := #[Operand.tmp 48], argTypes := #[9] }, type := 4, pos := "page.go:59", after := #[{ on := 1, ground := Ground.data }], guard := none }) rfl (fun K hK => ?_) AllReadyH.nil
              go_simp
              refine (hV.out _ hIW).mono ?_
              rintro e' Wa ⟨rfl, hA0⟩
              have hIWa : Below (wr.alloc (.cells #[.string y.v, .string y.b] 29)).heap.size (wr.alloc (.cells #[.string y.v, .string y.b] 29)) Wa := hA0.out
              go_wp2_with fail
              refine hK.out _ _ (hCell.out _ hIWa) (fun hHeld => ?_)
              clear hK K hA0 hIW
              try simp only [Act.put, List.setIfInBounds_toArray, List.set_cons_zero, List.set_cons_succ]
              refine wpAnyH_take (i := 3) (oi := { dst := some 50, op := Op.unOp UnOp.not 4 (Operand.tmp 49), type := 4, pos := "page.go:59", after := #[{ on := 2, ground := Ground.data }], guard := none }) (v := ?vv20) rfl (by kernel_rfl) (by kernel_rfl) (by kernel_rfl) (fun _ _ _ h => h) (Or.inl ⟨by rfl, ?hy20⟩) (by assumption) ?_
              case hy20 => (intro w hSw; (try dsimp only at hSw); go_simp; all_goals with_reducible rfl)
              try simp only [Act.put, List.setIfInBounds_toArray, List.set_cons_zero, List.set_cons_succ]
              refine wpAnyH_take (i := 4) (oi := { dst := some 51, op := Op.move (Operand.tmp 50), type := 4, pos := "page.go:59", after := #[{ on := 3, ground := Ground.data }, { on := 2, ground := Ground.chain }], guard := none }) (v := ?vv21) rfl (by kernel_rfl) (by kernel_rfl) (by kernel_rfl) (fun _ _ _ h => h) (Or.inl ⟨by rfl, ?hy21⟩) (by assumption) ?_
              case hy21 => (intro w hSw; (try dsimp only at hSw); go_simp; all_goals with_reducible rfl)
              try simp only [Act.put, List.setIfInBounds_toArray, List.set_cons_zero, List.set_cons_succ]
              refine wpAnyH_take (i := 5) (oi := { dst := some 52, op := Op.fieldAddr 29 (Operand.tmp 6) 1, type := 0, pos := "page.go:59", after := #[{ on := 4, ground := Ground.guard }], guard := some (4, false) }) (v := ?vv22) rfl (by kernel_rfl) (by kernel_rfl) (by kernel_rfl) (fun _ _ _ h => h) (Or.inl ⟨by rfl, ?hy22⟩) (by assumption) ?_
              case hy22 => (intro w hSw; (try dsimp only at hSw); go_simp; all_goals with_reducible rfl)
              try simp only [Act.put, List.setIfInBounds_toArray, List.set_cons_zero, List.set_cons_succ]
              refine wpAnyH_take (i := 6) (oi := { dst := some 53, op := Op.load 9 (Operand.tmp 52), type := 9, pos := "page.go:59", after := #[{ on := 5, ground := Ground.data }, { on := 4, ground := Ground.guard }], guard := some (4, false) }) (v := ?vv23) rfl (by kernel_rfl) (by kernel_rfl) (by kernel_rfl) (fun _ _ _ h => h) (Or.inl ⟨by rfl, ?hy23⟩) (by assumption) ?_
              case hy23 => (intro w hSw; (try dsimp only at hSw); go_simp; all_goals with_reducible rfl)
              try simp only [Act.put, List.setIfInBounds_toArray, List.set_cons_zero, List.set_cons_succ]
              refine wpAnyH_ready (rs := [7]) (by kernel_rfl) (by simp) ?_
              refine AllReadyH.cons (o := { dst := some 54, op := Op.call { callee := Callee.value (Operand.func 70), args := #[Operand.tmp 53], argTypes := #[9] }, type := 4, pos := "page.go:59", after := #[{ on := 6, ground := Ground.data }, { on := 4, ground := Ground.chain }, { on := 4, ground := Ground.guard }], guard := some (4, false) }) rfl (fun K hK => ?_) AllReadyH.nil
              go_simp
              refine (hbd.out _ _).mono ?_
              rintro e' Wb ⟨rfl, hwb⟩
              rw [hwb]
              clear hwb
              rw [hBb.out]
              go_wp2_with fail
              refine hK.out _ _ (hCell.out _ hIWa) (fun hHeld => ?_)
              clear hK K
              try simp only [Act.put, List.setIfInBounds_toArray, List.set_cons_zero, List.set_cons_succ]
              refine wpAnyH_take (i := 8) (oi := { dst := some 55, op := Op.unOp UnOp.not 4 (Operand.tmp 54), type := 4, pos := "page.go:59", after := #[{ on := 7, ground := Ground.data }, { on := 4, ground := Ground.guard }], guard := some (4, false) }) (v := ?vv24) rfl (by kernel_rfl) (by kernel_rfl) (by kernel_rfl) (fun _ _ _ h => h) (Or.inl ⟨by rfl, ?hy24⟩) (by assumption) ?_
              case hy24 => (intro w hSw; (try dsimp only at hSw); go_simp; all_goals with_reducible rfl)
              try simp only [Act.put, List.setIfInBounds_toArray, List.set_cons_zero, List.set_cons_succ]
              refine wpAnyH_take (i := 9) (oi := { dst := some 56, op := Op.pick (Operand.tmp 51) (Operand.const (Value.bool true)) (Operand.tmp 55), type := 4, pos := "page.go:59", after := #[{ on := 4, ground := Ground.data }, { on := 8, ground := Ground.data }], guard := none }) (v := ?vv25) rfl (by kernel_rfl) (by kernel_rfl) (by kernel_rfl) (fun _ _ _ h => h) (Or.inl ⟨by rfl, ?hy25⟩) (by assumption) ?_
              case hy25 => (intro w hSw; (try dsimp only at hSw); go_simp; all_goals with_reducible rfl)
              try simp only [Act.put, List.setIfInBounds_toArray, List.set_cons_zero, List.set_cons_succ]
              refine wpAnyH_take (i := 10) (oi := { dst := some 57, op := Op.move (Operand.tmp 56), type := 4, pos := "page.go:59", after := #[{ on := 9, ground := Ground.data }, { on := 7, ground := Ground.chain }], guard := none }) (v := ?vv26) rfl (by kernel_rfl) (by kernel_rfl) (by kernel_rfl) (fun _ _ _ h => h) (Or.inl ⟨by rfl, ?hy26⟩) (by assumption) ?_
              case hy26 => (intro w hSw; (try dsimp only at hSw); go_simp; all_goals with_reducible rfl)
              try simp only [Act.put, List.setIfInBounds_toArray, List.set_cons_zero, List.set_cons_succ]
              refine wpAnyH_take (i := 11) (oi := { dst := some 58, op := Op.move (Operand.tmp 0), type := 24, pos := "page.go:59", after := #[{ on := 10, ground := Ground.guard }], guard := some (10, false) }) (v := ?vv27) rfl (by kernel_rfl) (by kernel_rfl) (by kernel_rfl) (fun _ _ _ h => h) (Or.inl ⟨by rfl, ?hy27⟩) (by assumption) ?_
              case hy27 => (intro w hSw; (try dsimp only at hSw); go_simp; all_goals with_reducible rfl)
              try simp only [Act.put, List.setIfInBounds_toArray, List.set_cons_zero, List.set_cons_succ]
              refine wpAnyH_take (i := 12) (oi := { dst := some 59, op := Op.move (Operand.tmp 5), type := 3, pos := "page.go:59", after := #[{ on := 10, ground := Ground.guard }], guard := some (10, false) }) (v := ?vv28) rfl (by kernel_rfl) (by kernel_rfl) (by kernel_rfl) (fun _ _ _ h => h) (Or.inl ⟨by rfl, ?hy28⟩) (by assumption) ?_
              case hy28 => (intro w hSw; (try dsimp only at hSw); go_simp; all_goals with_reducible rfl)
              try simp only [Act.put, List.setIfInBounds_toArray, List.set_cons_zero, List.set_cons_succ]
              refine wpAnyH_take (i := 13) (oi := { dst := some 60, op := Op.slice 24 (Operand.tmp 58) none (some (Operand.tmp 59)) none, type := 24, pos := "page.go:59", after := #[{ on := 11, ground := Ground.data }, { on := 12, ground := Ground.data }, { on := 10, ground := Ground.guard }], guard := some (10, false) }) (v := ?vv29) rfl (by kernel_rfl) (by kernel_rfl) (by kernel_rfl) (fun _ _ _ h => h) (Or.inl ⟨by rfl, ?hy29⟩) (by assumption) ?_
              case hy29 => (intro w hSw; (try dsimp only at hSw); go_simp; all_goals with_reducible rfl)
              try simp only [Act.put, List.setIfInBounds_toArray, List.set_cons_zero, List.set_cons_succ]
              refine wpAnyH_take (i := 14) (oi := { dst := some 61, op := Op.fieldAddr 29 (Operand.tmp 6) 0, type := 0, pos := "page.go:59", after := #[{ on := 10, ground := Ground.guard }], guard := some (10, false) }) (v := ?vv30) rfl (by kernel_rfl) (by kernel_rfl) (by kernel_rfl) (fun _ _ _ h => h) (Or.inl ⟨by rfl, ?hy30⟩) (by assumption) ?_
              case hy30 => (intro w hSw; (try dsimp only at hSw); go_simp; all_goals with_reducible rfl)
              try simp only [Act.put, List.setIfInBounds_toArray, List.set_cons_zero, List.set_cons_succ]
              refine wpAnyH_take (i := 15) (oi := { dst := some 62, op := Op.load 9 (Operand.tmp 61), type := 9, pos := "page.go:59", after := #[{ on := 14, ground := Ground.data }, { on := 10, ground := Ground.guard }], guard := some (10, false) }) (v := ?vv31) rfl (by kernel_rfl) (by kernel_rfl) (by kernel_rfl) (fun _ _ _ h => h) (Or.inl ⟨by rfl, ?hy31⟩) (by assumption) ?_
              case hy31 => (intro w hSw; (try dsimp only at hSw); go_simp; all_goals with_reducible rfl)
              try simp only [Act.put, List.setIfInBounds_toArray, List.set_cons_zero, List.set_cons_succ]
              refine wpAnyH_ready (rs := [16]) (by kernel_rfl) (by simp) ?_
              refine AllReadyH.cons (o := { dst := some 63, op := Op.call { callee := Callee.value (Operand.func 73), args := #[Operand.tmp 60, Operand.tmp 62], argTypes := #[24, 9] }, type := 3, pos := "page.go:59", after := #[{ on := 13, ground := Ground.data }, { on := 15, ground := Ground.data }, { on := 10, ground := Ground.chain }, { on := 10, ground := Ground.guard }], guard := some (10, false) }) rfl (fun K hK => ?_) AllReadyH.nil
              go_simp
              refine (hP.out _ hIWa).mono ?_
              rintro e' Wc ⟨rfl, hC0⟩
              have hIWc : Below (wr.alloc (.cells #[.string y.v, .string y.b] 29)).heap.size (wr.alloc (.cells #[.string y.v, .string y.b] 29)) Wc := hC0.out
              go_wp2_with fail
              refine hK.out _ _ (hCell.out _ hIWc) (fun hHeld => ?_)
              clear hK K hC0
              try simp only [Act.put, List.setIfInBounds_toArray, List.set_cons_zero, List.set_cons_succ]
              refine wpAnyH_take (i := 17) (oi := { dst := some 64, op := Op.binOp BinOp.geq 3 (Operand.tmp 63) (Operand.const (Value.int IntKind.i64 0)) 3, type := 4, pos := "page.go:59", after := #[{ on := 16, ground := Ground.data }, { on := 10, ground := Ground.guard }], guard := some (10, false) }) (v := ?vv32) rfl (by kernel_rfl) (by kernel_rfl) (by kernel_rfl) (fun _ _ _ h => h) (Or.inl ⟨by rfl, ?hy32⟩) (by assumption) ?_
              case hy32 => (intro w hSw; (try dsimp only at hSw); go_simp; all_goals with_reducible rfl)
              try simp only [Act.put, List.setIfInBounds_toArray, List.set_cons_zero, List.set_cons_succ]
              refine wpAnyH_take (i := 18) (oi := { dst := some 65, op := Op.pick (Operand.tmp 57) (Operand.const (Value.bool true)) (Operand.tmp 64), type := 4, pos := "page.go:59", after := #[{ on := 10, ground := Ground.data }, { on := 17, ground := Ground.data }], guard := none }) (v := ?vv33) rfl (by kernel_rfl) (by kernel_rfl) (by kernel_rfl) (fun _ _ _ h => h) (Or.inl ⟨by rfl, ?hy33⟩) (by assumption) ?_
              case hy33 => (intro w hSw; (try dsimp only at hSw); go_simp; all_goals with_reducible rfl)
              try simp only [Act.put, List.setIfInBounds_toArray, List.set_cons_zero, List.set_cons_succ]
              refine wpAnyH_done (by kernel_rfl) ?_ _
              go_wp2_with fail
              go_ret
              exact ⟨by rw [HF.out]; rfl, HBW.out _ hIWc⟩
            · have HF : Hid (goodAt l k = true) := by show _ = _; rw [HG.out]; simp; omega
              clear HG
              go_upto_region 12 with fail
              have hIW : Below (wr.alloc (.cells #[.string y.v, .string y.b] 29)).heap.size (wr.alloc (.cells #[.string y.v, .string y.b] 29)) ((wr.alloc (.cells #[.string y.v, .string y.b] 29)).drew) := (Below.refl _ _).drew
              refine wp_region_held_drew (S := (fun W => W.cell? ⟨wr.heap.size, 0, none⟩ = some (.string y.v) ∧ W.cell? ⟨wr.heap.size, 1, none⟩ = some (.string y.b))) (by kernel_rfl) (hCell.out _ hIW) (fun hHeld => ?_)
              generalize hWg : World.drew _ = W at hIW hHeld ⊢
              clear hWg
              refine wpAnyH_take (i := 0) (oi := { dst := some 47, op := Op.fieldAddr 29 (Operand.tmp 6) 0, type := 0, pos := "page.go:59", after := #[], guard := none }) (v := ?vv34) rfl (by kernel_rfl) (by kernel_rfl) (by kernel_rfl) (fun _ _ _ h => h) (Or.inl ⟨by rfl, ?hy34⟩) (by assumption) ?_
              case hy34 => (intro w hSw; (try dsimp only at hSw); go_simp; all_goals with_reducible rfl)
              try simp only [Act.put, List.setIfInBounds_toArray, List.set_cons_zero, List.set_cons_succ]
              refine wpAnyH_take (i := 1) (oi := { dst := some 48, op := Op.load 9 (Operand.tmp 47), type := 9, pos := "page.go:59", after := #[{ on := 0, ground := Ground.data }], guard := none }) (v := ?vv35) rfl (by kernel_rfl) (by kernel_rfl) (by kernel_rfl) (fun _ _ _ h => h) (Or.inl ⟨by rfl, ?hy35⟩) (by assumption) ?_
              case hy35 => (intro w hSw; (try dsimp only at hSw); go_simp; all_goals with_reducible rfl)
              try simp only [Act.put, List.setIfInBounds_toArray, List.set_cons_zero, List.set_cons_succ]
              refine wpAnyH_ready (rs := [2]) (by kernel_rfl) (by simp) ?_
              refine AllReadyH.cons (o := { dst := some 49, op := Op.call { callee := Callee.value (Operand.func 72), args := #[Operand.tmp 48], argTypes := #[9] }, type := 4, pos := "page.go:59", after := #[{ on := 1, ground := Ground.data }], guard := none }) rfl (fun K hK => ?_) AllReadyH.nil
              go_simp
              refine (hV.out _ hIW).mono ?_
              rintro e' Wa ⟨rfl, hA0⟩
              have hIWa : Below (wr.alloc (.cells #[.string y.v, .string y.b] 29)).heap.size (wr.alloc (.cells #[.string y.v, .string y.b] 29)) Wa := hA0.out
              go_wp2_with fail
              refine hK.out _ _ (hCell.out _ hIWa) (fun hHeld => ?_)
              clear hK K hA0 hIW
              try simp only [Act.put, List.setIfInBounds_toArray, List.set_cons_zero, List.set_cons_succ]
              refine wpAnyH_take (i := 3) (oi := { dst := some 50, op := Op.unOp UnOp.not 4 (Operand.tmp 49), type := 4, pos := "page.go:59", after := #[{ on := 2, ground := Ground.data }], guard := none }) (v := ?vv36) rfl (by kernel_rfl) (by kernel_rfl) (by kernel_rfl) (fun _ _ _ h => h) (Or.inl ⟨by rfl, ?hy36⟩) (by assumption) ?_
              case hy36 => (intro w hSw; (try dsimp only at hSw); go_simp; all_goals with_reducible rfl)
              try simp only [Act.put, List.setIfInBounds_toArray, List.set_cons_zero, List.set_cons_succ]
              refine wpAnyH_take (i := 4) (oi := { dst := some 51, op := Op.move (Operand.tmp 50), type := 4, pos := "page.go:59", after := #[{ on := 3, ground := Ground.data }, { on := 2, ground := Ground.chain }], guard := none }) (v := ?vv37) rfl (by kernel_rfl) (by kernel_rfl) (by kernel_rfl) (fun _ _ _ h => h) (Or.inl ⟨by rfl, ?hy37⟩) (by assumption) ?_
              case hy37 => (intro w hSw; (try dsimp only at hSw); go_simp; all_goals with_reducible rfl)
              try simp only [Act.put, List.setIfInBounds_toArray, List.set_cons_zero, List.set_cons_succ]
              refine wpAnyH_take (i := 5) (oi := { dst := some 52, op := Op.fieldAddr 29 (Operand.tmp 6) 1, type := 0, pos := "page.go:59", after := #[{ on := 4, ground := Ground.guard }], guard := some (4, false) }) (v := ?vv38) rfl (by kernel_rfl) (by kernel_rfl) (by kernel_rfl) (fun _ _ _ h => h) (Or.inl ⟨by rfl, ?hy38⟩) (by assumption) ?_
              case hy38 => (intro w hSw; (try dsimp only at hSw); go_simp; all_goals with_reducible rfl)
              try simp only [Act.put, List.setIfInBounds_toArray, List.set_cons_zero, List.set_cons_succ]
              refine wpAnyH_take (i := 6) (oi := { dst := some 53, op := Op.load 9 (Operand.tmp 52), type := 9, pos := "page.go:59", after := #[{ on := 5, ground := Ground.data }, { on := 4, ground := Ground.guard }], guard := some (4, false) }) (v := ?vv39) rfl (by kernel_rfl) (by kernel_rfl) (by kernel_rfl) (fun _ _ _ h => h) (Or.inl ⟨by rfl, ?hy39⟩) (by assumption) ?_
              case hy39 => (intro w hSw; (try dsimp only at hSw); go_simp; all_goals with_reducible rfl)
              try simp only [Act.put, List.setIfInBounds_toArray, List.set_cons_zero, List.set_cons_succ]
              refine wpAnyH_ready (rs := [7]) (by kernel_rfl) (by simp) ?_
              refine AllReadyH.cons (o := { dst := some 54, op := Op.call { callee := Callee.value (Operand.func 70), args := #[Operand.tmp 53], argTypes := #[9] }, type := 4, pos := "page.go:59", after := #[{ on := 6, ground := Ground.data }, { on := 4, ground := Ground.chain }, { on := 4, ground := Ground.guard }], guard := some (4, false) }) rfl (fun K hK => ?_) AllReadyH.nil
              go_simp
              refine (hbd.out _ _).mono ?_
              rintro e' Wb ⟨rfl, hwb⟩
              rw [hwb]
              clear hwb
              rw [hBb.out]
              go_wp2_with fail
              refine hK.out _ _ (hCell.out _ hIWa) (fun hHeld => ?_)
              clear hK K
              try simp only [Act.put, List.setIfInBounds_toArray, List.set_cons_zero, List.set_cons_succ]
              refine wpAnyH_take (i := 8) (oi := { dst := some 55, op := Op.unOp UnOp.not 4 (Operand.tmp 54), type := 4, pos := "page.go:59", after := #[{ on := 7, ground := Ground.data }, { on := 4, ground := Ground.guard }], guard := some (4, false) }) (v := ?vv40) rfl (by kernel_rfl) (by kernel_rfl) (by kernel_rfl) (fun _ _ _ h => h) (Or.inl ⟨by rfl, ?hy40⟩) (by assumption) ?_
              case hy40 => (intro w hSw; (try dsimp only at hSw); go_simp; all_goals with_reducible rfl)
              try simp only [Act.put, List.setIfInBounds_toArray, List.set_cons_zero, List.set_cons_succ]
              refine wpAnyH_take (i := 9) (oi := { dst := some 56, op := Op.pick (Operand.tmp 51) (Operand.const (Value.bool true)) (Operand.tmp 55), type := 4, pos := "page.go:59", after := #[{ on := 4, ground := Ground.data }, { on := 8, ground := Ground.data }], guard := none }) (v := ?vv41) rfl (by kernel_rfl) (by kernel_rfl) (by kernel_rfl) (fun _ _ _ h => h) (Or.inl ⟨by rfl, ?hy41⟩) (by assumption) ?_
              case hy41 => (intro w hSw; (try dsimp only at hSw); go_simp; all_goals with_reducible rfl)
              try simp only [Act.put, List.setIfInBounds_toArray, List.set_cons_zero, List.set_cons_succ]
              refine wpAnyH_take (i := 10) (oi := { dst := some 57, op := Op.move (Operand.tmp 56), type := 4, pos := "page.go:59", after := #[{ on := 9, ground := Ground.data }, { on := 7, ground := Ground.chain }], guard := none }) (v := ?vv42) rfl (by kernel_rfl) (by kernel_rfl) (by kernel_rfl) (fun _ _ _ h => h) (Or.inl ⟨by rfl, ?hy42⟩) (by assumption) ?_
              case hy42 => (intro w hSw; (try dsimp only at hSw); go_simp; all_goals with_reducible rfl)
              try simp only [Act.put, List.setIfInBounds_toArray, List.set_cons_zero, List.set_cons_succ]
              refine wpAnyH_take (i := 11) (oi := { dst := some 58, op := Op.move (Operand.tmp 0), type := 24, pos := "page.go:59", after := #[{ on := 10, ground := Ground.guard }], guard := some (10, false) }) (v := ?vv43) rfl (by kernel_rfl) (by kernel_rfl) (by kernel_rfl) (fun _ _ _ h => h) (Or.inl ⟨by rfl, ?hy43⟩) (by assumption) ?_
              case hy43 => (intro w hSw; (try dsimp only at hSw); go_simp; all_goals with_reducible rfl)
              try simp only [Act.put, List.setIfInBounds_toArray, List.set_cons_zero, List.set_cons_succ]
              refine wpAnyH_take (i := 12) (oi := { dst := some 59, op := Op.move (Operand.tmp 5), type := 3, pos := "page.go:59", after := #[{ on := 10, ground := Ground.guard }], guard := some (10, false) }) (v := ?vv44) rfl (by kernel_rfl) (by kernel_rfl) (by kernel_rfl) (fun _ _ _ h => h) (Or.inl ⟨by rfl, ?hy44⟩) (by assumption) ?_
              case hy44 => (intro w hSw; (try dsimp only at hSw); go_simp; all_goals with_reducible rfl)
              try simp only [Act.put, List.setIfInBounds_toArray, List.set_cons_zero, List.set_cons_succ]
              refine wpAnyH_take (i := 13) (oi := { dst := some 60, op := Op.slice 24 (Operand.tmp 58) none (some (Operand.tmp 59)) none, type := 24, pos := "page.go:59", after := #[{ on := 11, ground := Ground.data }, { on := 12, ground := Ground.data }, { on := 10, ground := Ground.guard }], guard := some (10, false) }) (v := ?vv45) rfl (by kernel_rfl) (by kernel_rfl) (by kernel_rfl) (fun _ _ _ h => h) (Or.inl ⟨by rfl, ?hy45⟩) (by assumption) ?_
              case hy45 => (intro w hSw; (try dsimp only at hSw); go_simp; all_goals with_reducible rfl)
              try simp only [Act.put, List.setIfInBounds_toArray, List.set_cons_zero, List.set_cons_succ]
              refine wpAnyH_take (i := 14) (oi := { dst := some 61, op := Op.fieldAddr 29 (Operand.tmp 6) 0, type := 0, pos := "page.go:59", after := #[{ on := 10, ground := Ground.guard }], guard := some (10, false) }) (v := ?vv46) rfl (by kernel_rfl) (by kernel_rfl) (by kernel_rfl) (fun _ _ _ h => h) (Or.inl ⟨by rfl, ?hy46⟩) (by assumption) ?_
              case hy46 => (intro w hSw; (try dsimp only at hSw); go_simp; all_goals with_reducible rfl)
              try simp only [Act.put, List.setIfInBounds_toArray, List.set_cons_zero, List.set_cons_succ]
              refine wpAnyH_take (i := 15) (oi := { dst := some 62, op := Op.load 9 (Operand.tmp 61), type := 9, pos := "page.go:59", after := #[{ on := 14, ground := Ground.data }, { on := 10, ground := Ground.guard }], guard := some (10, false) }) (v := ?vv47) rfl (by kernel_rfl) (by kernel_rfl) (by kernel_rfl) (fun _ _ _ h => h) (Or.inl ⟨by rfl, ?hy47⟩) (by assumption) ?_
              case hy47 => (intro w hSw; (try dsimp only at hSw); go_simp; all_goals with_reducible rfl)
              try simp only [Act.put, List.setIfInBounds_toArray, List.set_cons_zero, List.set_cons_succ]
              refine wpAnyH_ready (rs := [16]) (by kernel_rfl) (by simp) ?_
              refine AllReadyH.cons (o := { dst := some 63, op := Op.call { callee := Callee.value (Operand.func 73), args := #[Operand.tmp 60, Operand.tmp 62], argTypes := #[24, 9] }, type := 3, pos := "page.go:59", after := #[{ on := 13, ground := Ground.data }, { on := 15, ground := Ground.data }, { on := 10, ground := Ground.chain }, { on := 10, ground := Ground.guard }], guard := some (10, false) }) rfl (fun K hK => ?_) AllReadyH.nil
              go_simp
              refine (hP.out _ hIWa).mono ?_
              rintro e' Wc ⟨rfl, hC0⟩
              have hIWc : Below (wr.alloc (.cells #[.string y.v, .string y.b] 29)).heap.size (wr.alloc (.cells #[.string y.v, .string y.b] 29)) Wc := hC0.out
              go_wp2_with fail
              refine hK.out _ _ (hCell.out _ hIWc) (fun hHeld => ?_)
              clear hK K hC0
              try simp only [Act.put, List.setIfInBounds_toArray, List.set_cons_zero, List.set_cons_succ]
              refine wpAnyH_take (i := 17) (oi := { dst := some 64, op := Op.binOp BinOp.geq 3 (Operand.tmp 63) (Operand.const (Value.int IntKind.i64 0)) 3, type := 4, pos := "page.go:59", after := #[{ on := 16, ground := Ground.data }, { on := 10, ground := Ground.guard }], guard := some (10, false) }) (v := ?vv48) rfl (by kernel_rfl) (by kernel_rfl) (by kernel_rfl) (fun _ _ _ h => h) (Or.inl ⟨by rfl, ?hy48⟩) (by assumption) ?_
              case hy48 => (intro w hSw; (try dsimp only at hSw); go_simp; all_goals with_reducible rfl)
              try simp only [Act.put, List.setIfInBounds_toArray, List.set_cons_zero, List.set_cons_succ]
              refine wpAnyH_take (i := 18) (oi := { dst := some 65, op := Op.pick (Operand.tmp 57) (Operand.const (Value.bool true)) (Operand.tmp 64), type := 4, pos := "page.go:59", after := #[{ on := 10, ground := Ground.data }, { on := 17, ground := Ground.data }], guard := none }) (v := ?vv49) rfl (by kernel_rfl) (by kernel_rfl) (by kernel_rfl) (fun _ _ _ h => h) (Or.inl ⟨by rfl, ?hy49⟩) (by assumption) ?_
              case hy49 => (intro w hSw; (try dsimp only at hSw); go_simp; all_goals with_reducible rfl)
              try simp only [Act.put, List.setIfInBounds_toArray, List.set_cons_zero, List.set_cons_succ]
              refine wpAnyH_done (by kernel_rfl) ?_ _
              go_wp2_with fail
              go_roundw
              case rel =>
                refine ⟨k + 1, by simp, by omega, fun j h => ?_, HBW.out _ hIWc⟩
                by_cases hjk : j = k
                · subst hjk
                  exact HF.out
                · exact hno.out j (by omega)
              case measure => simp [intOf]; omega
      · have hlt' : ¬ (k : Int) < (l.length : Int) := by omega
        go_wp2_with fail
        go_ret
        exact ⟨by rw [good_all fun j hj => hno.out j (by omega)]; rfl, hb.out⟩

end Go.Proofs.YtcadlpmopplkeaaDoor
