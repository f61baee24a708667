/- within, greatestPush, Valid, with, Default. -/
import Derived.Test.YtfkimdgbkfogcaaDoorS
import Derived.Deep.RegionHeld3
namespace Go.Proofs.YtfkimdgbkfogcaaDoor
open Go.RowKit
set_option linter.unusedVariables false
set_option linter.unusedSimpArgs false

def inB (n a b : Int) : Bool := decide (a ≤ n ∧ n ≤ b)
def pushS (c : Bool) : Int := if c then 1 else 0
/-- What start-up lays is there. -/
def Std (w : World) : Prop := ∃ t, w.heap[0]? = some (.cells St.dfl.a t (0, 0))

set_option maxRecDepth 100000 in
set_option maxHeartbeats 1000000 in
theorem within_any (n a b : Int) (w : World) :
    Calls Tryd.prog 39 #[.int .i64 n, .int .i64 a, .int .i64 b] w fun e w' => e = .returned (.bool (inB n a b)) ∧ w' = w := by
  unfold inB
  by_cases h1 : a ≤ n
  · by_cases h2 : n ≤ b
    · have e : decide (a ≤ n ∧ n ≤ b) = true := by simp [h1, h2]
      rw [e]
      go_enter Tryd.func39, Tryd.ntmps39
      go_wp2
      go_ret
      exact ⟨rfl, rfl⟩
    · have e : decide (a ≤ n ∧ n ≤ b) = false := by simp [h2]
      rw [e]
      go_enter Tryd.func39, Tryd.ntmps39
      go_wp2
      go_ret
      exact ⟨rfl, rfl⟩
  · have e : decide (a ≤ n ∧ n ≤ b) = false := by simp [h1]
    rw [e]
    go_enter Tryd.func39, Tryd.ntmps39
    go_wp2
    go_ret
    exact ⟨rfl, rfl⟩

theorem push_any (c : Bool) (w : World) :
    Calls Tryd.prog 40 #[.bool c] w fun e w' => e = .returned (.int .i64 (pushS c)) ∧ w' = w := by
  cases c
  all_goals
    go_enter Tryd.func40, Tryd.ntmps40
    go_wp2
    go_ret
    exact ⟨rfl, rfl⟩

set_option maxRecDepth 100000 in
set_option maxHeartbeats 1000000 in
theorem default_any (w : World) (t : TypeId) (h : w.heap[0]? = some (.cells St.dfl.a t (0, 0))) :
    Calls Tryd.prog 10 #[] w fun e w' => e = .returned (.agg St.dfl.a) ∧ w' = w.alloc (.cells St.dfl.a 27) := by
  have c := fun i => cell_blk h i
  have c0 := c 0; have c1 := c 1; have c2 := c 2; have c3 := c 3; have c4 := c 4; have c5 := c 5
  simp only [St.a, St.dfl, List.getElem?_toArray, List.getElem?_cons_succ, List.getElem?_cons_zero] at c0 c1 c2 c3 c4 c5
  clear c
  have hw : 0 < w.heap.size := heap_lt h
  have hw1 : 1 ≤ w.heap.size := heap_lt h
  go_enter Tryd.func10, Tryd.ntmps10
  go_wp2
  refine bodyPost_ret (results_cell_row (p := 0) (ty := 27) rfl _ _ w.heap.size 27 St.dfl.a (0, 0) _ rfl ?hr Tryd.underlying27 rfl (by kernel_rfl)) rfl ⟨rfl, ?_⟩
  case hr => exact heap_alloc_new _ _
  rfl

set_option maxRecDepth 100000 in
set_option maxHeartbeats 4000000 in
theorem with_any (s : St) (x y : Int) (w : World) :
    Calls Tryd.prog 35 #[.agg s.a, .agg #[.int .i64 x, .int .i64 y]] w fun e w' => e = .returned (.agg (withS s (x, y)).a) ∧ w' = ((w.alloc (.cells (withS s (x, y)).a 27)).alloc (.cells #[.int .i64 x, .int .i64 y] 46)).alloc (.cells (withS s (x, y)).a 27) := by
  obtain ⟨s1, s2, s3, s4, s5, s6⟩ := s
  unfold St.a withS
  simp only
  rcases (by omega : x = 1 ∨ x = 2 ∨ x = 3 ∨ x = 4 ∨ x = 5 ∨ x = 6 ∨ (x ≠ 1 ∧ x ≠ 2 ∧ x ≠ 3 ∧ x ≠ 4 ∧ x ≠ 5 ∧ x ≠ 6)) with rfl | rfl | rfl | rfl | rfl | rfl | ⟨h1, h2, h3, h4, h5, h6⟩
  · go_enter Tryd.func35, Tryd.ntmps35
    go_wp2
    refine bodyPost_ret (results_cell_row (p := 4) (ty := 27) rfl _ _ (w.heap.size + 2) 27 _ (0, 0) _ rfl ?hr Tryd.underlying27 rfl (by kernel_rfl)) rfl ⟨rfl, ?_⟩
    case hr => exact fresh3 _ _ _ _
    rfl
  · go_enter Tryd.func35, Tryd.ntmps35
    go_wp2
    refine bodyPost_ret (results_cell_row (p := 4) (ty := 27) rfl _ _ (w.heap.size + 2) 27 _ (0, 0) _ rfl ?hr Tryd.underlying27 rfl (by kernel_rfl)) rfl ⟨rfl, ?_⟩
    case hr => exact fresh3 _ _ _ _
    rfl
  · go_enter Tryd.func35, Tryd.ntmps35
    go_wp2
    refine bodyPost_ret (results_cell_row (p := 4) (ty := 27) rfl _ _ (w.heap.size + 2) 27 _ (0, 0) _ rfl ?hr Tryd.underlying27 rfl (by kernel_rfl)) rfl ⟨rfl, ?_⟩
    case hr => exact fresh3 _ _ _ _
    rfl
  · go_enter Tryd.func35, Tryd.ntmps35
    go_wp2
    refine bodyPost_ret (results_cell_row (p := 4) (ty := 27) rfl _ _ (w.heap.size + 2) 27 _ (0, 0) _ rfl ?hr Tryd.underlying27 rfl (by kernel_rfl)) rfl ⟨rfl, ?_⟩
    case hr => exact fresh3 _ _ _ _
    rfl
  · go_enter Tryd.func35, Tryd.ntmps35
    go_wp2
    refine bodyPost_ret (results_cell_row (p := 4) (ty := 27) rfl _ _ (w.heap.size + 2) 27 _ (0, 0) _ rfl ?hr Tryd.underlying27 rfl (by kernel_rfl)) rfl ⟨rfl, ?_⟩
    case hr => exact fresh3 _ _ _ _
    rfl
  · go_enter Tryd.func35, Tryd.ntmps35
    go_wp2
    refine bodyPost_ret (results_cell_row (p := 4) (ty := 27) rfl _ _ (w.heap.size + 2) 27 _ (0, 0) _ rfl ?hr Tryd.underlying27 rfl (by kernel_rfl)) rfl ⟨rfl, ?_⟩
    case hr => exact fresh3 _ _ _ _
    rfl
  · go_enter Tryd.func35, Tryd.ntmps35
    go_wp2
    refine bodyPost_ret (results_cell_row (p := 4) (ty := 27) rfl _ _ (w.heap.size + 2) 27 _ (0, 0) _ rfl ?hr Tryd.underlying27 rfl (by kernel_rfl)) rfl ⟨rfl, ?_⟩
    case hr => exact fresh3 _ _ _ _
    rfl
end Go.Proofs.YtfkimdgbkfogcaaDoor
