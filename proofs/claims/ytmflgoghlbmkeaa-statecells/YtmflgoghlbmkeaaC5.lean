/- StateCells. -/
import Derived.Test.YtmflgoghlbmkeaaC4
import Derived.Deep.CutRange
namespace Go.Proofs.Ytmflgoghlbmkeaa
open Go.RowKit
set_option linter.unusedVariables false
set_option linter.unusedSimpArgs false

theorem cells_fact (y kd n v c p x d : Int) (h1 : nx y false kd = (n, v, c)) (h2 : nx y true kd = (p, x, d)) :
    ((0 ≤ y ∧ y ≤ 6) ∧ 1 ≤ kd ∧ kd ≤ 8 → (v = 0 ∨ (v = 4 ∧ n = y)) ∧ (x = 0 ∨ ((x = 1 ∨ x = 2 ∨ x = 3) ∧ p = y))) ∧ (¬ ((0 ≤ y ∧ y ≤ 6) ∧ 1 ≤ kd ∧ kd ≤ 8) → v = 4 ∧ y = n ∧ x = 4 ∧ p = n) := by
  refine ⟨fun hr => ?_, fun hr => ?_⟩
  · obtain ⟨hs, hk⟩ := hr
    rcases states hs with rfl | rfl | rfl | rfl | rfl | rfl | rfl <;> rcases kinds hk with rfl | rfl | rfl | rfl | rfl | rfl | rfl | rfl <;>
      (injection h1 with a1 a2
       injection a2 with a2 a3
       injection h2 with b1 b2
       injection b2 with b2 b3
       subst a1 a2 a3 b1 b2 b3
       simp)
  · rw [nx_out (by omega)] at h1 h2
    injection h1 with a1 a2
    injection a2 with a2 a3
    injection h2 with b1 b2
    injection b2 with b2 b3
    subst a1 a2 a3 b1 b2 b3
    exact ⟨rfl, rfl, rfl, rfl⟩

theorem bset1 {w W : World} {g i : Nat} {x : Value} (h : Below w.heap.size w W) (hg : w.heap.size ≤ g) : Below w.heap.size w (W.setCell ⟨g, i, none⟩ x) :=
  h.trans ⟨rfl, rfl, rfl, by simp [World.setCell], fun i hi => setCell_other _ _ _ _ _ (by omega)⟩

set_option maxRecDepth 100000 in
set_option maxHeartbeats 16000000 in
theorem cells_walk (s kind : Int) (w : World) :
    Calls Try.prog 5 #[.int .i64 s, .int .i64 kind] w fun e w' => e = .returned (.bool true) ∧ Below w.heap.size w w' := by
  go_enter Try.func5, Try.ntmps5
  go_wp2_with fail
  refine (head_any w).mono ?_
  rintro e w0 ⟨rfl, hB0⟩
  go_wp2_with fail
  go_loopw [5] (fun i wr => ∃ k : Nat, k ≤ 8 ∧ i = .int .i64 (k : Int) ∧ Below w.heap.size w wr) (fun i _ => 8 - (intOf i).toNat)
  case atStart => exact ⟨0, Nat.zero_le _, rfl, hB0⟩
  case round =>
    obtain ⟨k, hk, rfl, hB⟩ := hrel
    clear hB0
    by_cases hlt : k < 8
    · have hlti : (k : Int) < 8 := by omega
      go_upto_if 28 with fail
      go_cut [6] from 22 to 161 (fun a wx => ∃ y, a = .int .i64 y ∧ wx = wr)
      case first =>
        by_cases h7 : (k : Int) = 7
        · go_wp2_with fail
          go_meet
          exact ⟨_, rfl, rfl⟩
        · have e7 : ((k : Int) == 7) = false := beq_eq_false_iff_ne.2 h7
          go_wp2_with fail
          go_meet
          exact ⟨_, rfl, rfl⟩
      case rest =>
        obtain ⟨y, rfl, rfl⟩ := hcut
        go_wp2_with fail
        go_loopw [7] (fun i wr => ∃ j : Nat, j ≤ 11 ∧ i = .int .i64 (j : Int) ∧ Below w.heap.size w wr) (fun i _ => 11 - (intOf i).toNat)
        case atStart => exact ⟨0, Nat.zero_le _, rfl, hB⟩
        case round =>
          obtain ⟨j, hj, rfl, hB1⟩ := hrel
          clear hB
          by_cases hjt : j ≤ 10
          · have hjti : (j : Int) ≤ 10 := by omega
            have hs1 := hB1.size
            go_upto_if 37 with fail
            go_cut [] from 30 to 161 (fun wx => ∃ kd, wx.heap[wr.heap.size]? = some (.cells #[.bool false, .int .i64 kd] 25) ∧ Below w.heap.size w wx)
            case first =>
              by_cases h10 : (j : Int) = 10
              · go_wp2_with fail
                go_meet
                exact ⟨_, heap_alloc_new _ _, balloc hB1 _⟩
              · have e10 : ((j : Int) == 10) = false := beq_eq_false_iff_ne.2 h10
                go_wp2_with fail
                go_meet
                exact ⟨_, heap_alloc_new _ _, balloc hB1 _⟩
            case rest =>
              obtain ⟨kd, hg, hB2⟩ := hcut
              obtain ⟨n, v, c, hx1⟩ : ∃ n v c, nx y false kd = (n, v, c) := ⟨_, _, _, rfl⟩
              obtain ⟨p, x, d, hx2⟩ : ∃ n v c, nx y true kd = (n, v, c) := ⟨_, _, _, rfl⟩
              have HF : Hid (_ ∧ _) := cells_fact y kd n v c p x d hx1 hx2
              have HX1 : Hid (nx y false kd = (n, v, c)) := hx1
              have HX2 : Hid (nx y true kd = (p, x, d)) := hx2
              clear hx1 hx2
              have c0 := cell_blk hg 0
              have c1 := cell_blk hg 1
              simp at c0 c1
              go_wp2_with fail
              refine (next_eq y false kd n v c HX1.out _).mono ?_
              rintro e w2 ⟨rfl, k2⟩
              replace hg := (k2.block wr.heap.size (heap_lt hg)).trans hg
              replace hB2 := bstep hB2 k2
              clear k2 c0 c1
              have c1 := cell_blk hg 1
              simp at c1
              go_wp2_with fail
              refine (rx_eq y false kd n v c HX1.out _).mono ?_
              rintro e w3 ⟨rfl, k3⟩
              replace hg := (k3.block wr.heap.size (heap_lt hg)).trans hg
              replace hB2 := bstep hB2 k3
              clear k3 c1 HX1
              have ol : wr.heap.size < w3.heap.size := heap_lt hg
              have c0 := cell_blk hg 0
              have f0 := frozen_blk hg 0
              simp at c0
              have hs3 : (w3.setCell ⟨wr.heap.size, 0, none⟩ (.bool true)).heap.size = w3.heap.size := by simp [World.setCell]
              have hg3 : (w3.setCell ⟨wr.heap.size, 0, none⟩ (.bool true)).heap[wr.heap.size]? = some (.cells #[.bool true, .int .i64 kd] 25) := setCell_block _ _ 0 (.bool true) _ _ _ hg
              have hg4 : ((w3.setCell ⟨wr.heap.size, 0, none⟩ (.bool true)).alloc (.cells #[.int .i64 v, .int .i64 c] 31)).heap[wr.heap.size]? = some (.cells #[.bool true, .int .i64 kd] 25) := (heap_al _ _ _).trans ((if_neg (by omega)).trans hg3)
              have hr4 : ((w3.setCell ⟨wr.heap.size, 0, none⟩ (.bool true)).alloc (.cells #[.int .i64 v, .int .i64 c] 31)).heap[w3.heap.size]? = some (.cells #[.int .i64 v, .int .i64 c] 31) := (heap_al _ _ _).trans (if_pos hs3.symm)
              have hB4 : Below w.heap.size w ((w3.setCell ⟨wr.heap.size, 0, none⟩ (.bool true)).alloc (.cells #[.int .i64 v, .int .i64 c] 31)) := balloc (bset1 hB2 (by omega)) _
              have a0 := cell_blk hg3 0
              have a1 := cell_blk hg3 1
              have a2 := cell_blk hg4 0
              have a3 := cell_blk hg4 1
              simp only [List.getElem?_toArray, List.getElem?_cons_zero, List.getElem?_cons_succ] at a0 a1 a2 a3
              clear hg hB2 hg3 hs3
              go_wp2_with fail
              refine (next_eq y true kd p x d HX2.out _).mono ?_
              rintro e w5 ⟨rfl, k5⟩
              replace hg4 := (k5.block wr.heap.size (heap_lt hg4)).trans hg4
              replace hr4 := (k5.block w3.heap.size (heap_lt hr4)).trans hr4
              replace hB4 := bstep hB4 k5
              clear k5 c0 f0 a0 a1 a2 a3
              have a1 := cell_blk hg4 1
              simp at a1
              go_wp2_with fail
              refine (rx_eq y true kd p x d HX2.out _).mono ?_
              rintro e w6 ⟨rfl, k6⟩
              replace hg4 := (k6.block wr.heap.size (heap_lt hg4)).trans hg4
              replace hr4 := (k6.block w3.heap.size (heap_lt hr4)).trans hr4
              replace hB4 := bstep hB4 k6
              clear k6 a1 HX2
              have b0 := cell_blk hr4 0
              have b1 := cell_blk hr4 1
              have a1 := cell_blk hg4 1
              simp at b0 b1 a1
              have l1 := heap_lt hg4
              have l2 := heap_lt hr4
              have hB7 : Below w.heap.size w (w6.alloc (.cells #[.int .i64 x, .int .i64 d] 31)) := balloc hB4 _
              clear hg4 hr4 hB4 ol
              by_cases hr : (0 ≤ y ∧ y ≤ 6) ∧ 1 ≤ kd ∧ kd ≤ 8
              · obtain ⟨⟨r1, r2⟩, r3, r4⟩ := hr
                obtain ⟨hv, hx⟩ := HF.out.1 ⟨⟨r1, r2⟩, r3, r4⟩
                clear HF
                rcases hv with rfl | ⟨rfl, rfl⟩
                · rcases hx with rfl | ⟨rfl | rfl | rfl, rfl⟩
                  all_goals
                    go_wp2_with fail
                    go_roundw
                    case rel => exact ⟨j + 1, by omega, by simp, hB7⟩
                    case measure => simp [intOf]; omega
                · rcases hx with rfl | ⟨rfl | rfl | rfl, rfl⟩
                  all_goals
                    go_wp2_with fail
                    go_roundw
                    case rel => exact ⟨j + 1, by omega, by simp, hB7⟩
                    case measure => simp [intOf]; omega
              · have hr2 : ¬ 0 ≤ y ∨ (0 ≤ y ∧ ¬ y ≤ 6) ∨ (0 ≤ y ∧ y ≤ 6 ∧ ¬ 1 ≤ kd) ∨ (0 ≤ y ∧ y ≤ 6 ∧ 1 ≤ kd ∧ ¬ kd ≤ 8) := by omega
                obtain ⟨rfl, rfl, rfl, rfl⟩ := HF.out.2 hr
                clear HF hr
                rcases hr2 with r1 | ⟨r1, r2⟩ | ⟨r1, r2, r3⟩ | ⟨r1, r2, r3, r4⟩
                all_goals
                  go_wp2_with fail
                  go_roundw
                  case rel => exact ⟨j + 1, by omega, by simp, hB7⟩
                  case measure => simp [intOf]; omega
          · have hjti : ¬ (j : Int) ≤ 10 := by omega
            go_wp2_with fail
            go_roundw
            case rel => exact ⟨k + 1, by omega, by simp, hB1⟩
            case measure => simp [intOf]; omega
    · have hlti : ¬ (k : Int) < 8 := by omega
      go_wp2
      go_ret
      exact ⟨rfl, hB⟩
end Go.Proofs.Ytmflgoghlbmkeaa
