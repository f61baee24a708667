/- The document's Next. -/
import Derived.Test.YtaaocgppniflcaaA3
namespace Go.Proofs.Ytaaocgppniflcaa
open Go.RowKit
set_option linter.unusedVariables false
set_option linter.unusedSimpArgs false

/-- what the document's Next answers -/
def RxS (s : Int) (g : Bool) (k s' v c : Int) : Prop := ∀ w, Calls Try.prog 40 #[.int .i64 s, .agg #[.bool g, .int .i64 k]] w fun e w' => e = .returned (.tuple #[.int .i64 s', .agg #[.int .i64 v, .int .i64 c]]) ∧ Below w.heap.size w w'

/-- one of seven texts -/
theorem row_at (W : World) (i : Nat) (t : Array Value) (hi : i < 7 := by decide) (ht : t.size = 7 := by rfl) : (Instr.index 100 (.agg t) (.int .i64 i)).run Try.prog W = .ok (t[i]'(by omega)) W := by
  simp [Instr.index, run_underlying Try.underlying100, asIntOf, go_sem]
  rw [if_pos hi, Array.getElem?_eq_getElem (by omega)]
  rfl
abbrev t20 : Array Value := #[.string ⟨#[51, 52, 66, 66, 49, 66, 66, 46]⟩, .string ⟨#[53, 54, 66, 66, 66, 54, 66, 46]⟩, .string ⟨#[66, 66, 66, 66, 66, 54, 46, 46]⟩, .string ⟨#[46, 52, 46, 52, 66, 54, 46, 46]⟩, .string ⟨#[66, 66, 66, 66, 66, 54, 46, 46]⟩, .string ⟨#[46, 54, 46, 54, 66, 54, 46, 46]⟩, .string ⟨#[66, 66, 66, 66, 66, 66, 66, 46]⟩]
abbrev t21 : Array Value := #[.string ⟨#[51, 53, 80, 80, 50, 80, 80, 46]⟩, .string ⟨#[80, 80, 80, 80, 80, 54, 46, 46]⟩, .string ⟨#[52, 54, 80, 80, 80, 54, 80, 46]⟩, .string ⟨#[46, 53, 46, 53, 80, 54, 46, 46]⟩, .string ⟨#[46, 54, 46, 54, 80, 54, 46, 46]⟩, .string ⟨#[83, 83, 83, 83, 80, 54, 46, 46]⟩, .string ⟨#[67, 67, 67, 67, 80, 105, 105, 105]⟩]
set_option maxRecDepth 100000 in
set_option maxHeartbeats 1000000 in
theorem r20_0 (w : World) : Calls Try.prog 52 #[.int .i64 0] w fun e w' => e = .returned (.string ⟨#[51, 52, 66, 66, 49, 66, 66, 46]⟩) ∧ w' = w := by
  have hr : ∀ W, (Instr.index 100 (.agg #[.string ⟨#[51, 52, 66, 66, 49, 66, 66, 46]⟩, .string ⟨#[53, 54, 66, 66, 66, 54, 66, 46]⟩, .string ⟨#[66, 66, 66, 66, 66, 54, 46, 46]⟩, .string ⟨#[46, 52, 46, 52, 66, 54, 46, 46]⟩, .string ⟨#[66, 66, 66, 66, 66, 54, 46, 46]⟩, .string ⟨#[46, 54, 46, 54, 66, 54, 46, 46]⟩, .string ⟨#[66, 66, 66, 66, 66, 66, 66, 46]⟩]) (.int .i64 0)).run Try.prog W = .ok (.string ⟨#[51, 52, 66, 66, 49, 66, 66, 46]⟩) W := fun W => row_at W 0 t20
  go_enter Try.func52, Try.ntmps52
  go_wp2
  go_ret
  exact ⟨rfl, rfl⟩

set_option maxRecDepth 100000 in
set_option maxHeartbeats 1000000 in
theorem r20_1 (w : World) : Calls Try.prog 52 #[.int .i64 1] w fun e w' => e = .returned (.string ⟨#[53, 54, 66, 66, 66, 54, 66, 46]⟩) ∧ w' = w := by
  have hr : ∀ W, (Instr.index 100 (.agg #[.string ⟨#[51, 52, 66, 66, 49, 66, 66, 46]⟩, .string ⟨#[53, 54, 66, 66, 66, 54, 66, 46]⟩, .string ⟨#[66, 66, 66, 66, 66, 54, 46, 46]⟩, .string ⟨#[46, 52, 46, 52, 66, 54, 46, 46]⟩, .string ⟨#[66, 66, 66, 66, 66, 54, 46, 46]⟩, .string ⟨#[46, 54, 46, 54, 66, 54, 46, 46]⟩, .string ⟨#[66, 66, 66, 66, 66, 66, 66, 46]⟩]) (.int .i64 1)).run Try.prog W = .ok (.string ⟨#[53, 54, 66, 66, 66, 54, 66, 46]⟩) W := fun W => row_at W 1 t20
  go_enter Try.func52, Try.ntmps52
  go_wp2
  go_ret
  exact ⟨rfl, rfl⟩

set_option maxRecDepth 100000 in
set_option maxHeartbeats 1000000 in
theorem r20_2 (w : World) : Calls Try.prog 52 #[.int .i64 2] w fun e w' => e = .returned (.string ⟨#[66, 66, 66, 66, 66, 54, 46, 46]⟩) ∧ w' = w := by
  have hr : ∀ W, (Instr.index 100 (.agg #[.string ⟨#[51, 52, 66, 66, 49, 66, 66, 46]⟩, .string ⟨#[53, 54, 66, 66, 66, 54, 66, 46]⟩, .string ⟨#[66, 66, 66, 66, 66, 54, 46, 46]⟩, .string ⟨#[46, 52, 46, 52, 66, 54, 46, 46]⟩, .string ⟨#[66, 66, 66, 66, 66, 54, 46, 46]⟩, .string ⟨#[46, 54, 46, 54, 66, 54, 46, 46]⟩, .string ⟨#[66, 66, 66, 66, 66, 66, 66, 46]⟩]) (.int .i64 2)).run Try.prog W = .ok (.string ⟨#[66, 66, 66, 66, 66, 54, 46, 46]⟩) W := fun W => row_at W 2 t20
  go_enter Try.func52, Try.ntmps52
  go_wp2
  go_ret
  exact ⟨rfl, rfl⟩

set_option maxRecDepth 100000 in
set_option maxHeartbeats 1000000 in
theorem r20_3 (w : World) : Calls Try.prog 52 #[.int .i64 3] w fun e w' => e = .returned (.string ⟨#[46, 52, 46, 52, 66, 54, 46, 46]⟩) ∧ w' = w := by
  have hr : ∀ W, (Instr.index 100 (.agg #[.string ⟨#[51, 52, 66, 66, 49, 66, 66, 46]⟩, .string ⟨#[53, 54, 66, 66, 66, 54, 66, 46]⟩, .string ⟨#[66, 66, 66, 66, 66, 54, 46, 46]⟩, .string ⟨#[46, 52, 46, 52, 66, 54, 46, 46]⟩, .string ⟨#[66, 66, 66, 66, 66, 54, 46, 46]⟩, .string ⟨#[46, 54, 46, 54, 66, 54, 46, 46]⟩, .string ⟨#[66, 66, 66, 66, 66, 66, 66, 46]⟩]) (.int .i64 3)).run Try.prog W = .ok (.string ⟨#[46, 52, 46, 52, 66, 54, 46, 46]⟩) W := fun W => row_at W 3 t20
  go_enter Try.func52, Try.ntmps52
  go_wp2
  go_ret
  exact ⟨rfl, rfl⟩

set_option maxRecDepth 100000 in
set_option maxHeartbeats 1000000 in
theorem r20_4 (w : World) : Calls Try.prog 52 #[.int .i64 4] w fun e w' => e = .returned (.string ⟨#[66, 66, 66, 66, 66, 54, 46, 46]⟩) ∧ w' = w := by
  have hr : ∀ W, (Instr.index 100 (.agg #[.string ⟨#[51, 52, 66, 66, 49, 66, 66, 46]⟩, .string ⟨#[53, 54, 66, 66, 66, 54, 66, 46]⟩, .string ⟨#[66, 66, 66, 66, 66, 54, 46, 46]⟩, .string ⟨#[46, 52, 46, 52, 66, 54, 46, 46]⟩, .string ⟨#[66, 66, 66, 66, 66, 54, 46, 46]⟩, .string ⟨#[46, 54, 46, 54, 66, 54, 46, 46]⟩, .string ⟨#[66, 66, 66, 66, 66, 66, 66, 46]⟩]) (.int .i64 4)).run Try.prog W = .ok (.string ⟨#[66, 66, 66, 66, 66, 54, 46, 46]⟩) W := fun W => row_at W 4 t20
  go_enter Try.func52, Try.ntmps52
  go_wp2
  go_ret
  exact ⟨rfl, rfl⟩

set_option maxRecDepth 100000 in
set_option maxHeartbeats 1000000 in
theorem r20_5 (w : World) : Calls Try.prog 52 #[.int .i64 5] w fun e w' => e = .returned (.string ⟨#[46, 54, 46, 54, 66, 54, 46, 46]⟩) ∧ w' = w := by
  have hr : ∀ W, (Instr.index 100 (.agg #[.string ⟨#[51, 52, 66, 66, 49, 66, 66, 46]⟩, .string ⟨#[53, 54, 66, 66, 66, 54, 66, 46]⟩, .string ⟨#[66, 66, 66, 66, 66, 54, 46, 46]⟩, .string ⟨#[46, 52, 46, 52, 66, 54, 46, 46]⟩, .string ⟨#[66, 66, 66, 66, 66, 54, 46, 46]⟩, .string ⟨#[46, 54, 46, 54, 66, 54, 46, 46]⟩, .string ⟨#[66, 66, 66, 66, 66, 66, 66, 46]⟩]) (.int .i64 5)).run Try.prog W = .ok (.string ⟨#[46, 54, 46, 54, 66, 54, 46, 46]⟩) W := fun W => row_at W 5 t20
  go_enter Try.func52, Try.ntmps52
  go_wp2
  go_ret
  exact ⟨rfl, rfl⟩

set_option maxRecDepth 100000 in
set_option maxHeartbeats 1000000 in
theorem r20_6 (w : World) : Calls Try.prog 52 #[.int .i64 6] w fun e w' => e = .returned (.string ⟨#[66, 66, 66, 66, 66, 66, 66, 46]⟩) ∧ w' = w := by
  have hr : ∀ W, (Instr.index 100 (.agg #[.string ⟨#[51, 52, 66, 66, 49, 66, 66, 46]⟩, .string ⟨#[53, 54, 66, 66, 66, 54, 66, 46]⟩, .string ⟨#[66, 66, 66, 66, 66, 54, 46, 46]⟩, .string ⟨#[46, 52, 46, 52, 66, 54, 46, 46]⟩, .string ⟨#[66, 66, 66, 66, 66, 54, 46, 46]⟩, .string ⟨#[46, 54, 46, 54, 66, 54, 46, 46]⟩, .string ⟨#[66, 66, 66, 66, 66, 66, 66, 46]⟩]) (.int .i64 6)).run Try.prog W = .ok (.string ⟨#[66, 66, 66, 66, 66, 66, 66, 46]⟩) W := fun W => row_at W 6 t20
  go_enter Try.func52, Try.ntmps52
  go_wp2
  go_ret
  exact ⟨rfl, rfl⟩

set_option maxRecDepth 100000 in
set_option maxHeartbeats 1000000 in
theorem r21_0 (w : World) : Calls Try.prog 53 #[.int .i64 0] w fun e w' => e = .returned (.string ⟨#[51, 53, 80, 80, 50, 80, 80, 46]⟩) ∧ w' = w := by
  have hr : ∀ W, (Instr.index 100 (.agg #[.string ⟨#[51, 53, 80, 80, 50, 80, 80, 46]⟩, .string ⟨#[80, 80, 80, 80, 80, 54, 46, 46]⟩, .string ⟨#[52, 54, 80, 80, 80, 54, 80, 46]⟩, .string ⟨#[46, 53, 46, 53, 80, 54, 46, 46]⟩, .string ⟨#[46, 54, 46, 54, 80, 54, 46, 46]⟩, .string ⟨#[83, 83, 83, 83, 80, 54, 46, 46]⟩, .string ⟨#[67, 67, 67, 67, 80, 105, 105, 105]⟩]) (.int .i64 0)).run Try.prog W = .ok (.string ⟨#[51, 53, 80, 80, 50, 80, 80, 46]⟩) W := fun W => row_at W 0 t21
  go_enter Try.func53, Try.ntmps53
  go_wp2
  go_ret
  exact ⟨rfl, rfl⟩

set_option maxRecDepth 100000 in
set_option maxHeartbeats 1000000 in
theorem r21_1 (w : World) : Calls Try.prog 53 #[.int .i64 1] w fun e w' => e = .returned (.string ⟨#[80, 80, 80, 80, 80, 54, 46, 46]⟩) ∧ w' = w := by
  have hr : ∀ W, (Instr.index 100 (.agg #[.string ⟨#[51, 53, 80, 80, 50, 80, 80, 46]⟩, .string ⟨#[80, 80, 80, 80, 80, 54, 46, 46]⟩, .string ⟨#[52, 54, 80, 80, 80, 54, 80, 46]⟩, .string ⟨#[46, 53, 46, 53, 80, 54, 46, 46]⟩, .string ⟨#[46, 54, 46, 54, 80, 54, 46, 46]⟩, .string ⟨#[83, 83, 83, 83, 80, 54, 46, 46]⟩, .string ⟨#[67, 67, 67, 67, 80, 105, 105, 105]⟩]) (.int .i64 1)).run Try.prog W = .ok (.string ⟨#[80, 80, 80, 80, 80, 54, 46, 46]⟩) W := fun W => row_at W 1 t21
  go_enter Try.func53, Try.ntmps53
  go_wp2
  go_ret
  exact ⟨rfl, rfl⟩

set_option maxRecDepth 100000 in
set_option maxHeartbeats 1000000 in
theorem r21_2 (w : World) : Calls Try.prog 53 #[.int .i64 2] w fun e w' => e = .returned (.string ⟨#[52, 54, 80, 80, 80, 54, 80, 46]⟩) ∧ w' = w := by
  have hr : ∀ W, (Instr.index 100 (.agg #[.string ⟨#[51, 53, 80, 80, 50, 80, 80, 46]⟩, .string ⟨#[80, 80, 80, 80, 80, 54, 46, 46]⟩, .string ⟨#[52, 54, 80, 80, 80, 54, 80, 46]⟩, .string ⟨#[46, 53, 46, 53, 80, 54, 46, 46]⟩, .string ⟨#[46, 54, 46, 54, 80, 54, 46, 46]⟩, .string ⟨#[83, 83, 83, 83, 80, 54, 46, 46]⟩, .string ⟨#[67, 67, 67, 67, 80, 105, 105, 105]⟩]) (.int .i64 2)).run Try.prog W = .ok (.string ⟨#[52, 54, 80, 80, 80, 54, 80, 46]⟩) W := fun W => row_at W 2 t21
  go_enter Try.func53, Try.ntmps53
  go_wp2
  go_ret
  exact ⟨rfl, rfl⟩

set_option maxRecDepth 100000 in
set_option maxHeartbeats 1000000 in
theorem r21_3 (w : World) : Calls Try.prog 53 #[.int .i64 3] w fun e w' => e = .returned (.string ⟨#[46, 53, 46, 53, 80, 54, 46, 46]⟩) ∧ w' = w := by
  have hr : ∀ W, (Instr.index 100 (.agg #[.string ⟨#[51, 53, 80, 80, 50, 80, 80, 46]⟩, .string ⟨#[80, 80, 80, 80, 80, 54, 46, 46]⟩, .string ⟨#[52, 54, 80, 80, 80, 54, 80, 46]⟩, .string ⟨#[46, 53, 46, 53, 80, 54, 46, 46]⟩, .string ⟨#[46, 54, 46, 54, 80, 54, 46, 46]⟩, .string ⟨#[83, 83, 83, 83, 80, 54, 46, 46]⟩, .string ⟨#[67, 67, 67, 67, 80, 105, 105, 105]⟩]) (.int .i64 3)).run Try.prog W = .ok (.string ⟨#[46, 53, 46, 53, 80, 54, 46, 46]⟩) W := fun W => row_at W 3 t21
  go_enter Try.func53, Try.ntmps53
  go_wp2
  go_ret
  exact ⟨rfl, rfl⟩

set_option maxRecDepth 100000 in
set_option maxHeartbeats 1000000 in
theorem r21_4 (w : World) : Calls Try.prog 53 #[.int .i64 4] w fun e w' => e = .returned (.string ⟨#[46, 54, 46, 54, 80, 54, 46, 46]⟩) ∧ w' = w := by
  have hr : ∀ W, (Instr.index 100 (.agg #[.string ⟨#[51, 53, 80, 80, 50, 80, 80, 46]⟩, .string ⟨#[80, 80, 80, 80, 80, 54, 46, 46]⟩, .string ⟨#[52, 54, 80, 80, 80, 54, 80, 46]⟩, .string ⟨#[46, 53, 46, 53, 80, 54, 46, 46]⟩, .string ⟨#[46, 54, 46, 54, 80, 54, 46, 46]⟩, .string ⟨#[83, 83, 83, 83, 80, 54, 46, 46]⟩, .string ⟨#[67, 67, 67, 67, 80, 105, 105, 105]⟩]) (.int .i64 4)).run Try.prog W = .ok (.string ⟨#[46, 54, 46, 54, 80, 54, 46, 46]⟩) W := fun W => row_at W 4 t21
  go_enter Try.func53, Try.ntmps53
  go_wp2
  go_ret
  exact ⟨rfl, rfl⟩

set_option maxRecDepth 100000 in
set_option maxHeartbeats 1000000 in
theorem r21_5 (w : World) : Calls Try.prog 53 #[.int .i64 5] w fun e w' => e = .returned (.string ⟨#[83, 83, 83, 83, 80, 54, 46, 46]⟩) ∧ w' = w := by
  have hr : ∀ W, (Instr.index 100 (.agg #[.string ⟨#[51, 53, 80, 80, 50, 80, 80, 46]⟩, .string ⟨#[80, 80, 80, 80, 80, 54, 46, 46]⟩, .string ⟨#[52, 54, 80, 80, 80, 54, 80, 46]⟩, .string ⟨#[46, 53, 46, 53, 80, 54, 46, 46]⟩, .string ⟨#[46, 54, 46, 54, 80, 54, 46, 46]⟩, .string ⟨#[83, 83, 83, 83, 80, 54, 46, 46]⟩, .string ⟨#[67, 67, 67, 67, 80, 105, 105, 105]⟩]) (.int .i64 5)).run Try.prog W = .ok (.string ⟨#[83, 83, 83, 83, 80, 54, 46, 46]⟩) W := fun W => row_at W 5 t21
  go_enter Try.func53, Try.ntmps53
  go_wp2
  go_ret
  exact ⟨rfl, rfl⟩

set_option maxRecDepth 100000 in
set_option maxHeartbeats 1000000 in
theorem r21_6 (w : World) : Calls Try.prog 53 #[.int .i64 6] w fun e w' => e = .returned (.string ⟨#[67, 67, 67, 67, 80, 105, 105, 105]⟩) ∧ w' = w := by
  have hr : ∀ W, (Instr.index 100 (.agg #[.string ⟨#[51, 53, 80, 80, 50, 80, 80, 46]⟩, .string ⟨#[80, 80, 80, 80, 80, 54, 46, 46]⟩, .string ⟨#[52, 54, 80, 80, 80, 54, 80, 46]⟩, .string ⟨#[46, 53, 46, 53, 80, 54, 46, 46]⟩, .string ⟨#[46, 54, 46, 54, 80, 54, 46, 46]⟩, .string ⟨#[83, 83, 83, 83, 80, 54, 46, 46]⟩, .string ⟨#[67, 67, 67, 67, 80, 105, 105, 105]⟩]) (.int .i64 6)).run Try.prog W = .ok (.string ⟨#[67, 67, 67, 67, 80, 105, 105, 105]⟩) W := fun W => row_at W 6 t21
  go_enter Try.func53, Try.ntmps53
  go_wp2
  go_ret
  exact ⟨rfl, rfl⟩

set_option maxRecDepth 100000 in
set_option maxHeartbeats 1000000 in
theorem rx_slow (s k : Int) (g : Bool) (h : s < 0) : RxS s g k s 4 0 := by
  intro w
  go_enter Try.func40, Try.ntmps40
  go_wp2
  refine bodyPost_ret (results_tc (p := 5) (r := 4) (ty := 55) rfl _ _ (w.heap.size + 1) 55 _ (0, 0) _ rfl (fresh2 _ _ _) Try.underlying55 rfl (by kernel_rfl)) rfl ⟨rfl, bel2 _ _ _⟩

set_option maxRecDepth 100000 in
set_option maxHeartbeats 1000000 in
theorem rx_shigh (s k : Int) (g : Bool) (h0 : ¬ s < 0) (h : 6 < s) : RxS s g k s 4 0 := by
  intro w
  go_enter Try.func40, Try.ntmps40
  go_wp2
  refine bodyPost_ret (results_tc (p := 5) (r := 4) (ty := 55) rfl _ _ (w.heap.size + 1) 55 _ (0, 0) _ rfl (fresh2 _ _ _) Try.underlying55 rfl (by kernel_rfl)) rfl ⟨rfl, bel2 _ _ _⟩

set_option maxRecDepth 100000 in
set_option maxHeartbeats 1000000 in
theorem rx_klow (s k : Int) (g : Bool) (h0 : ¬ s < 0) (h6 : ¬ 6 < s) (h : k < 1) : RxS s g k s 4 0 := by
  intro w
  go_enter Try.func40, Try.ntmps40
  go_wp2
  refine bodyPost_ret (results_tc (p := 5) (r := 4) (ty := 55) rfl _ _ (w.heap.size + 1) 55 _ (0, 0) _ rfl (fresh2 _ _ _) Try.underlying55 rfl (by kernel_rfl)) rfl ⟨rfl, bel2 _ _ _⟩

set_option maxRecDepth 100000 in
set_option maxHeartbeats 1000000 in
theorem rx_khigh (s k : Int) (g : Bool) (h0 : ¬ s < 0) (h6 : ¬ 6 < s) (h1 : ¬ k < 1) (h : 8 < k) : RxS s g k s 4 0 := by
  intro w
  go_enter Try.func40, Try.ntmps40
  go_wp2
  refine bodyPost_ret (results_tc (p := 5) (r := 4) (ty := 55) rfl _ _ (w.heap.size + 1) 55 _ (0, 0) _ rfl (fresh2 _ _ _) Try.underlying55 rfl (by kernel_rfl)) rfl ⟨rfl, bel2 _ _ _⟩

set_option maxRecDepth 100000 in
set_option maxHeartbeats 1000000 in
theorem rx_1_f_0 : RxS 0 false 1 3 0 0 := by
  intro w
  go_enter Try.func40, Try.ntmps40
  go_wp2_with fail
  refine (r20_0 _).mono ?_
  rintro e w1 ⟨rfl, rfl⟩
  go_wp2
  refine bodyPost_ret (results_tc (p := 5) (r := 4) (ty := 55) rfl _ _ (w.heap.size + 1) 55 _ (0, 0) _ rfl (fresh2 _ _ _) Try.underlying55 rfl (by kernel_rfl)) rfl ⟨rfl, bel2 _ _ _⟩

set_option maxRecDepth 100000 in
set_option maxHeartbeats 1000000 in
theorem rx_2_f_0 : RxS 0 false 2 4 0 0 := by
  intro w
  go_enter Try.func40, Try.ntmps40
  go_wp2_with fail
  refine (r20_0 _).mono ?_
  rintro e w1 ⟨rfl, rfl⟩
  go_wp2
  refine bodyPost_ret (results_tc (p := 5) (r := 4) (ty := 55) rfl _ _ (w.heap.size + 1) 55 _ (0, 0) _ rfl (fresh2 _ _ _) Try.underlying55 rfl (by kernel_rfl)) rfl ⟨rfl, bel2 _ _ _⟩

set_option maxRecDepth 100000 in
set_option maxHeartbeats 1000000 in
theorem rx_3_f_0 : RxS 0 false 3 0 4 0 := by
  intro w
  go_enter Try.func40, Try.ntmps40
  go_wp2_with fail
  refine (r20_0 _).mono ?_
  rintro e w1 ⟨rfl, rfl⟩
  go_wp2
  refine bodyPost_ret (results_tc (p := 5) (r := 4) (ty := 55) rfl _ _ (w.heap.size + 1) 55 _ (0, 0) _ rfl (fresh2 _ _ _) Try.underlying55 rfl (by kernel_rfl)) rfl ⟨rfl, bel2 _ _ _⟩

set_option maxRecDepth 100000 in
set_option maxHeartbeats 1000000 in
theorem rx_4_f_0 : RxS 0 false 4 0 4 0 := by
  intro w
  go_enter Try.func40, Try.ntmps40
  go_wp2_with fail
  refine (r20_0 _).mono ?_
  rintro e w1 ⟨rfl, rfl⟩
  go_wp2
  refine bodyPost_ret (results_tc (p := 5) (r := 4) (ty := 55) rfl _ _ (w.heap.size + 1) 55 _ (0, 0) _ rfl (fresh2 _ _ _) Try.underlying55 rfl (by kernel_rfl)) rfl ⟨rfl, bel2 _ _ _⟩

set_option maxRecDepth 100000 in
set_option maxHeartbeats 1000000 in
theorem rx_5_f_0 : RxS 0 false 5 1 0 0 := by
  intro w
  go_enter Try.func40, Try.ntmps40
  go_wp2_with fail
  refine (r20_0 _).mono ?_
  rintro e w1 ⟨rfl, rfl⟩
  go_wp2
  refine bodyPost_ret (results_tc (p := 5) (r := 4) (ty := 55) rfl _ _ (w.heap.size + 1) 55 _ (0, 0) _ rfl (fresh2 _ _ _) Try.underlying55 rfl (by kernel_rfl)) rfl ⟨rfl, bel2 _ _ _⟩

set_option maxRecDepth 100000 in
set_option maxHeartbeats 1000000 in
theorem rx_6_f_0 : RxS 0 false 6 0 4 0 := by
  intro w
  go_enter Try.func40, Try.ntmps40
  go_wp2_with fail
  refine (r20_0 _).mono ?_
  rintro e w1 ⟨rfl, rfl⟩
  go_wp2
  refine bodyPost_ret (results_tc (p := 5) (r := 4) (ty := 55) rfl _ _ (w.heap.size + 1) 55 _ (0, 0) _ rfl (fresh2 _ _ _) Try.underlying55 rfl (by kernel_rfl)) rfl ⟨rfl, bel2 _ _ _⟩

set_option maxRecDepth 100000 in
set_option maxHeartbeats 1000000 in
theorem rx_7_f_0 : RxS 0 false 7 0 4 0 := by
  intro w
  go_enter Try.func40, Try.ntmps40
  go_wp2_with fail
  refine (r20_0 _).mono ?_
  rintro e w1 ⟨rfl, rfl⟩
  go_wp2
  refine bodyPost_ret (results_tc (p := 5) (r := 4) (ty := 55) rfl _ _ (w.heap.size + 1) 55 _ (0, 0) _ rfl (fresh2 _ _ _) Try.underlying55 rfl (by kernel_rfl)) rfl ⟨rfl, bel2 _ _ _⟩

set_option maxRecDepth 100000 in
set_option maxHeartbeats 1000000 in
theorem rx_8_f_0 : RxS 0 false 8 0 0 0 := by
  intro w
  go_enter Try.func40, Try.ntmps40
  go_wp2_with fail
  refine (r20_0 _).mono ?_
  rintro e w1 ⟨rfl, rfl⟩
  go_wp2
  refine bodyPost_ret (results_tc (p := 5) (r := 4) (ty := 55) rfl _ _ (w.heap.size + 1) 55 _ (0, 0) _ rfl (fresh2 _ _ _) Try.underlying55 rfl (by kernel_rfl)) rfl ⟨rfl, bel2 _ _ _⟩

set_option maxRecDepth 100000 in
set_option maxHeartbeats 1000000 in
theorem rx_1_f_1 : RxS 1 false 1 5 0 0 := by
  intro w
  go_enter Try.func40, Try.ntmps40
  go_wp2_with fail
  refine (r20_1 _).mono ?_
  rintro e w1 ⟨rfl, rfl⟩
  go_wp2
  refine bodyPost_ret (results_tc (p := 5) (r := 4) (ty := 55) rfl _ _ (w.heap.size + 1) 55 _ (0, 0) _ rfl (fresh2 _ _ _) Try.underlying55 rfl (by kernel_rfl)) rfl ⟨rfl, bel2 _ _ _⟩

set_option maxRecDepth 100000 in
set_option maxHeartbeats 1000000 in
theorem rx_2_f_1 : RxS 1 false 2 6 0 0 := by
  intro w
  go_enter Try.func40, Try.ntmps40
  go_wp2_with fail
  refine (r20_1 _).mono ?_
  rintro e w1 ⟨rfl, rfl⟩
  go_wp2
  refine bodyPost_ret (results_tc (p := 5) (r := 4) (ty := 55) rfl _ _ (w.heap.size + 1) 55 _ (0, 0) _ rfl (fresh2 _ _ _) Try.underlying55 rfl (by kernel_rfl)) rfl ⟨rfl, bel2 _ _ _⟩

set_option maxRecDepth 100000 in
set_option maxHeartbeats 1000000 in
theorem rx_3_f_1 : RxS 1 false 3 1 4 0 := by
  intro w
  go_enter Try.func40, Try.ntmps40
  go_wp2_with fail
  refine (r20_1 _).mono ?_
  rintro e w1 ⟨rfl, rfl⟩
  go_wp2
  refine bodyPost_ret (results_tc (p := 5) (r := 4) (ty := 55) rfl _ _ (w.heap.size + 1) 55 _ (0, 0) _ rfl (fresh2 _ _ _) Try.underlying55 rfl (by kernel_rfl)) rfl ⟨rfl, bel2 _ _ _⟩

set_option maxRecDepth 100000 in
set_option maxHeartbeats 1000000 in
theorem rx_4_f_1 : RxS 1 false 4 1 4 0 := by
  intro w
  go_enter Try.func40, Try.ntmps40
  go_wp2_with fail
  refine (r20_1 _).mono ?_
  rintro e w1 ⟨rfl, rfl⟩
  go_wp2
  refine bodyPost_ret (results_tc (p := 5) (r := 4) (ty := 55) rfl _ _ (w.heap.size + 1) 55 _ (0, 0) _ rfl (fresh2 _ _ _) Try.underlying55 rfl (by kernel_rfl)) rfl ⟨rfl, bel2 _ _ _⟩

set_option maxRecDepth 100000 in
set_option maxHeartbeats 1000000 in
theorem rx_5_f_1 : RxS 1 false 5 1 4 0 := by
  intro w
  go_enter Try.func40, Try.ntmps40
  go_wp2_with fail
  refine (r20_1 _).mono ?_
  rintro e w1 ⟨rfl, rfl⟩
  go_wp2
  refine bodyPost_ret (results_tc (p := 5) (r := 4) (ty := 55) rfl _ _ (w.heap.size + 1) 55 _ (0, 0) _ rfl (fresh2 _ _ _) Try.underlying55 rfl (by kernel_rfl)) rfl ⟨rfl, bel2 _ _ _⟩

set_option maxRecDepth 100000 in
set_option maxHeartbeats 1000000 in
theorem rx_6_f_1 : RxS 1 false 6 6 0 0 := by
  intro w
  go_enter Try.func40, Try.ntmps40
  go_wp2_with fail
  refine (r20_1 _).mono ?_
  rintro e w1 ⟨rfl, rfl⟩
  go_wp2
  refine bodyPost_ret (results_tc (p := 5) (r := 4) (ty := 55) rfl _ _ (w.heap.size + 1) 55 _ (0, 0) _ rfl (fresh2 _ _ _) Try.underlying55 rfl (by kernel_rfl)) rfl ⟨rfl, bel2 _ _ _⟩

set_option maxRecDepth 100000 in
set_option maxHeartbeats 1000000 in
theorem rx_7_f_1 : RxS 1 false 7 1 4 0 := by
  intro w
  go_enter Try.func40, Try.ntmps40
  go_wp2_with fail
  refine (r20_1 _).mono ?_
  rintro e w1 ⟨rfl, rfl⟩
  go_wp2
  refine bodyPost_ret (results_tc (p := 5) (r := 4) (ty := 55) rfl _ _ (w.heap.size + 1) 55 _ (0, 0) _ rfl (fresh2 _ _ _) Try.underlying55 rfl (by kernel_rfl)) rfl ⟨rfl, bel2 _ _ _⟩

set_option maxRecDepth 100000 in
set_option maxHeartbeats 1000000 in
theorem rx_8_f_1 : RxS 1 false 8 1 0 0 := by
  intro w
  go_enter Try.func40, Try.ntmps40
  go_wp2_with fail
  refine (r20_1 _).mono ?_
  rintro e w1 ⟨rfl, rfl⟩
  go_wp2
  refine bodyPost_ret (results_tc (p := 5) (r := 4) (ty := 55) rfl _ _ (w.heap.size + 1) 55 _ (0, 0) _ rfl (fresh2 _ _ _) Try.underlying55 rfl (by kernel_rfl)) rfl ⟨rfl, bel2 _ _ _⟩

set_option maxRecDepth 100000 in
set_option maxHeartbeats 1000000 in
theorem rx_1_f_2 : RxS 2 false 1 2 4 0 := by
  intro w
  go_enter Try.func40, Try.ntmps40
  go_wp2_with fail
  refine (r20_2 _).mono ?_
  rintro e w1 ⟨rfl, rfl⟩
  go_wp2
  refine bodyPost_ret (results_tc (p := 5) (r := 4) (ty := 55) rfl _ _ (w.heap.size + 1) 55 _ (0, 0) _ rfl (fresh2 _ _ _) Try.underlying55 rfl (by kernel_rfl)) rfl ⟨rfl, bel2 _ _ _⟩

set_option maxRecDepth 100000 in
set_option maxHeartbeats 1000000 in
theorem rx_2_f_2 : RxS 2 false 2 2 4 0 := by
  intro w
  go_enter Try.func40, Try.ntmps40
  go_wp2_with fail
  refine (r20_2 _).mono ?_
  rintro e w1 ⟨rfl, rfl⟩
  go_wp2
  refine bodyPost_ret (results_tc (p := 5) (r := 4) (ty := 55) rfl _ _ (w.heap.size + 1) 55 _ (0, 0) _ rfl (fresh2 _ _ _) Try.underlying55 rfl (by kernel_rfl)) rfl ⟨rfl, bel2 _ _ _⟩

set_option maxRecDepth 100000 in
set_option maxHeartbeats 1000000 in
theorem rx_3_f_2 : RxS 2 false 3 2 4 0 := by
  intro w
  go_enter Try.func40, Try.ntmps40
  go_wp2_with fail
  refine (r20_2 _).mono ?_
  rintro e w1 ⟨rfl, rfl⟩
  go_wp2
  refine bodyPost_ret (results_tc (p := 5) (r := 4) (ty := 55) rfl _ _ (w.heap.size + 1) 55 _ (0, 0) _ rfl (fresh2 _ _ _) Try.underlying55 rfl (by kernel_rfl)) rfl ⟨rfl, bel2 _ _ _⟩

set_option maxRecDepth 100000 in
set_option maxHeartbeats 1000000 in
theorem rx_4_f_2 : RxS 2 false 4 2 4 0 := by
  intro w
  go_enter Try.func40, Try.ntmps40
  go_wp2_with fail
  refine (r20_2 _).mono ?_
  rintro e w1 ⟨rfl, rfl⟩
  go_wp2
  refine bodyPost_ret (results_tc (p := 5) (r := 4) (ty := 55) rfl _ _ (w.heap.size + 1) 55 _ (0, 0) _ rfl (fresh2 _ _ _) Try.underlying55 rfl (by kernel_rfl)) rfl ⟨rfl, bel2 _ _ _⟩

set_option maxRecDepth 100000 in
set_option maxHeartbeats 1000000 in
theorem rx_5_f_2 : RxS 2 false 5 2 4 0 := by
  intro w
  go_enter Try.func40, Try.ntmps40
  go_wp2_with fail
  refine (r20_2 _).mono ?_
  rintro e w1 ⟨rfl, rfl⟩
  go_wp2
  refine bodyPost_ret (results_tc (p := 5) (r := 4) (ty := 55) rfl _ _ (w.heap.size + 1) 55 _ (0, 0) _ rfl (fresh2 _ _ _) Try.underlying55 rfl (by kernel_rfl)) rfl ⟨rfl, bel2 _ _ _⟩

set_option maxRecDepth 100000 in
set_option maxHeartbeats 1000000 in
theorem rx_6_f_2 : RxS 2 false 6 6 0 0 := by
  intro w
  go_enter Try.func40, Try.ntmps40
  go_wp2_with fail
  refine (r20_2 _).mono ?_
  rintro e w1 ⟨rfl, rfl⟩
  go_wp2
  refine bodyPost_ret (results_tc (p := 5) (r := 4) (ty := 55) rfl _ _ (w.heap.size + 1) 55 _ (0, 0) _ rfl (fresh2 _ _ _) Try.underlying55 rfl (by kernel_rfl)) rfl ⟨rfl, bel2 _ _ _⟩

set_option maxRecDepth 100000 in
set_option maxHeartbeats 1000000 in
theorem rx_7_f_2 : RxS 2 false 7 2 0 0 := by
  intro w
  go_enter Try.func40, Try.ntmps40
  go_wp2_with fail
  refine (r20_2 _).mono ?_
  rintro e w1 ⟨rfl, rfl⟩
  go_wp2
  refine bodyPost_ret (results_tc (p := 5) (r := 4) (ty := 55) rfl _ _ (w.heap.size + 1) 55 _ (0, 0) _ rfl (fresh2 _ _ _) Try.underlying55 rfl (by kernel_rfl)) rfl ⟨rfl, bel2 _ _ _⟩

set_option maxRecDepth 100000 in
set_option maxHeartbeats 1000000 in
theorem rx_8_f_2 : RxS 2 false 8 2 0 0 := by
  intro w
  go_enter Try.func40, Try.ntmps40
  go_wp2_with fail
  refine (r20_2 _).mono ?_
  rintro e w1 ⟨rfl, rfl⟩
  go_wp2
  refine bodyPost_ret (results_tc (p := 5) (r := 4) (ty := 55) rfl _ _ (w.heap.size + 1) 55 _ (0, 0) _ rfl (fresh2 _ _ _) Try.underlying55 rfl (by kernel_rfl)) rfl ⟨rfl, bel2 _ _ _⟩

set_option maxRecDepth 100000 in
set_option maxHeartbeats 1000000 in
theorem rx_1_f_3 : RxS 3 false 1 3 0 0 := by
  intro w
  go_enter Try.func40, Try.ntmps40
  go_wp2_with fail
  refine (r20_3 _).mono ?_
  rintro e w1 ⟨rfl, rfl⟩
  go_wp2
  refine bodyPost_ret (results_tc (p := 5) (r := 4) (ty := 55) rfl _ _ (w.heap.size + 1) 55 _ (0, 0) _ rfl (fresh2 _ _ _) Try.underlying55 rfl (by kernel_rfl)) rfl ⟨rfl, bel2 _ _ _⟩

set_option maxRecDepth 100000 in
set_option maxHeartbeats 1000000 in
theorem rx_2_f_3 : RxS 3 false 2 4 0 0 := by
  intro w
  go_enter Try.func40, Try.ntmps40
  go_wp2_with fail
  refine (r20_3 _).mono ?_
  rintro e w1 ⟨rfl, rfl⟩
  go_wp2
  refine bodyPost_ret (results_tc (p := 5) (r := 4) (ty := 55) rfl _ _ (w.heap.size + 1) 55 _ (0, 0) _ rfl (fresh2 _ _ _) Try.underlying55 rfl (by kernel_rfl)) rfl ⟨rfl, bel2 _ _ _⟩

set_option maxRecDepth 100000 in
set_option maxHeartbeats 1000000 in
theorem rx_3_f_3 : RxS 3 false 3 3 0 0 := by
  intro w
  go_enter Try.func40, Try.ntmps40
  go_wp2_with fail
  refine (r20_3 _).mono ?_
  rintro e w1 ⟨rfl, rfl⟩
  go_wp2
  refine bodyPost_ret (results_tc (p := 5) (r := 4) (ty := 55) rfl _ _ (w.heap.size + 1) 55 _ (0, 0) _ rfl (fresh2 _ _ _) Try.underlying55 rfl (by kernel_rfl)) rfl ⟨rfl, bel2 _ _ _⟩

set_option maxRecDepth 100000 in
set_option maxHeartbeats 1000000 in
theorem rx_4_f_3 : RxS 3 false 4 4 0 0 := by
  intro w
  go_enter Try.func40, Try.ntmps40
  go_wp2_with fail
  refine (r20_3 _).mono ?_
  rintro e w1 ⟨rfl, rfl⟩
  go_wp2
  refine bodyPost_ret (results_tc (p := 5) (r := 4) (ty := 55) rfl _ _ (w.heap.size + 1) 55 _ (0, 0) _ rfl (fresh2 _ _ _) Try.underlying55 rfl (by kernel_rfl)) rfl ⟨rfl, bel2 _ _ _⟩

set_option maxRecDepth 100000 in
set_option maxHeartbeats 1000000 in
theorem rx_5_f_3 : RxS 3 false 5 3 4 0 := by
  intro w
  go_enter Try.func40, Try.ntmps40
  go_wp2_with fail
  refine (r20_3 _).mono ?_
  rintro e w1 ⟨rfl, rfl⟩
  go_wp2
  refine bodyPost_ret (results_tc (p := 5) (r := 4) (ty := 55) rfl _ _ (w.heap.size + 1) 55 _ (0, 0) _ rfl (fresh2 _ _ _) Try.underlying55 rfl (by kernel_rfl)) rfl ⟨rfl, bel2 _ _ _⟩

set_option maxRecDepth 100000 in
set_option maxHeartbeats 1000000 in
theorem rx_6_f_3 : RxS 3 false 6 6 0 0 := by
  intro w
  go_enter Try.func40, Try.ntmps40
  go_wp2_with fail
  refine (r20_3 _).mono ?_
  rintro e w1 ⟨rfl, rfl⟩
  go_wp2
  refine bodyPost_ret (results_tc (p := 5) (r := 4) (ty := 55) rfl _ _ (w.heap.size + 1) 55 _ (0, 0) _ rfl (fresh2 _ _ _) Try.underlying55 rfl (by kernel_rfl)) rfl ⟨rfl, bel2 _ _ _⟩

set_option maxRecDepth 100000 in
set_option maxHeartbeats 1000000 in
theorem rx_7_f_3 : RxS 3 false 7 3 0 0 := by
  intro w
  go_enter Try.func40, Try.ntmps40
  go_wp2_with fail
  refine (r20_3 _).mono ?_
  rintro e w1 ⟨rfl, rfl⟩
  go_wp2
  refine bodyPost_ret (results_tc (p := 5) (r := 4) (ty := 55) rfl _ _ (w.heap.size + 1) 55 _ (0, 0) _ rfl (fresh2 _ _ _) Try.underlying55 rfl (by kernel_rfl)) rfl ⟨rfl, bel2 _ _ _⟩

set_option maxRecDepth 100000 in
set_option maxHeartbeats 1000000 in
theorem rx_8_f_3 : RxS 3 false 8 3 0 0 := by
  intro w
  go_enter Try.func40, Try.ntmps40
  go_wp2_with fail
  refine (r20_3 _).mono ?_
  rintro e w1 ⟨rfl, rfl⟩
  go_wp2
  refine bodyPost_ret (results_tc (p := 5) (r := 4) (ty := 55) rfl _ _ (w.heap.size + 1) 55 _ (0, 0) _ rfl (fresh2 _ _ _) Try.underlying55 rfl (by kernel_rfl)) rfl ⟨rfl, bel2 _ _ _⟩

set_option maxRecDepth 100000 in
set_option maxHeartbeats 1000000 in
theorem rx_1_f_4 : RxS 4 false 1 4 4 0 := by
  intro w
  go_enter Try.func40, Try.ntmps40
  go_wp2_with fail
  refine (r20_4 _).mono ?_
  rintro e w1 ⟨rfl, rfl⟩
  go_wp2
  refine bodyPost_ret (results_tc (p := 5) (r := 4) (ty := 55) rfl _ _ (w.heap.size + 1) 55 _ (0, 0) _ rfl (fresh2 _ _ _) Try.underlying55 rfl (by kernel_rfl)) rfl ⟨rfl, bel2 _ _ _⟩

set_option maxRecDepth 100000 in
set_option maxHeartbeats 1000000 in
theorem rx_2_f_4 : RxS 4 false 2 4 4 0 := by
  intro w
  go_enter Try.func40, Try.ntmps40
  go_wp2_with fail
  refine (r20_4 _).mono ?_
  rintro e w1 ⟨rfl, rfl⟩
  go_wp2
  refine bodyPost_ret (results_tc (p := 5) (r := 4) (ty := 55) rfl _ _ (w.heap.size + 1) 55 _ (0, 0) _ rfl (fresh2 _ _ _) Try.underlying55 rfl (by kernel_rfl)) rfl ⟨rfl, bel2 _ _ _⟩

set_option maxRecDepth 100000 in
set_option maxHeartbeats 1000000 in
theorem rx_3_f_4 : RxS 4 false 3 4 4 0 := by
  intro w
  go_enter Try.func40, Try.ntmps40
  go_wp2_with fail
  refine (r20_4 _).mono ?_
  rintro e w1 ⟨rfl, rfl⟩
  go_wp2
  refine bodyPost_ret (results_tc (p := 5) (r := 4) (ty := 55) rfl _ _ (w.heap.size + 1) 55 _ (0, 0) _ rfl (fresh2 _ _ _) Try.underlying55 rfl (by kernel_rfl)) rfl ⟨rfl, bel2 _ _ _⟩

set_option maxRecDepth 100000 in
set_option maxHeartbeats 1000000 in
theorem rx_4_f_4 : RxS 4 false 4 4 4 0 := by
  intro w
  go_enter Try.func40, Try.ntmps40
  go_wp2_with fail
  refine (r20_4 _).mono ?_
  rintro e w1 ⟨rfl, rfl⟩
  go_wp2
  refine bodyPost_ret (results_tc (p := 5) (r := 4) (ty := 55) rfl _ _ (w.heap.size + 1) 55 _ (0, 0) _ rfl (fresh2 _ _ _) Try.underlying55 rfl (by kernel_rfl)) rfl ⟨rfl, bel2 _ _ _⟩

set_option maxRecDepth 100000 in
set_option maxHeartbeats 1000000 in
theorem rx_5_f_4 : RxS 4 false 5 4 4 0 := by
  intro w
  go_enter Try.func40, Try.ntmps40
  go_wp2_with fail
  refine (r20_4 _).mono ?_
  rintro e w1 ⟨rfl, rfl⟩
  go_wp2
  refine bodyPost_ret (results_tc (p := 5) (r := 4) (ty := 55) rfl _ _ (w.heap.size + 1) 55 _ (0, 0) _ rfl (fresh2 _ _ _) Try.underlying55 rfl (by kernel_rfl)) rfl ⟨rfl, bel2 _ _ _⟩

set_option maxRecDepth 100000 in
set_option maxHeartbeats 1000000 in
theorem rx_6_f_4 : RxS 4 false 6 6 0 0 := by
  intro w
  go_enter Try.func40, Try.ntmps40
  go_wp2_with fail
  refine (r20_4 _).mono ?_
  rintro e w1 ⟨rfl, rfl⟩
  go_wp2
  refine bodyPost_ret (results_tc (p := 5) (r := 4) (ty := 55) rfl _ _ (w.heap.size + 1) 55 _ (0, 0) _ rfl (fresh2 _ _ _) Try.underlying55 rfl (by kernel_rfl)) rfl ⟨rfl, bel2 _ _ _⟩

set_option maxRecDepth 100000 in
set_option maxHeartbeats 1000000 in
theorem rx_7_f_4 : RxS 4 false 7 4 0 0 := by
  intro w
  go_enter Try.func40, Try.ntmps40
  go_wp2_with fail
  refine (r20_4 _).mono ?_
  rintro e w1 ⟨rfl, rfl⟩
  go_wp2
  refine bodyPost_ret (results_tc (p := 5) (r := 4) (ty := 55) rfl _ _ (w.heap.size + 1) 55 _ (0, 0) _ rfl (fresh2 _ _ _) Try.underlying55 rfl (by kernel_rfl)) rfl ⟨rfl, bel2 _ _ _⟩

set_option maxRecDepth 100000 in
set_option maxHeartbeats 1000000 in
theorem rx_8_f_4 : RxS 4 false 8 4 0 0 := by
  intro w
  go_enter Try.func40, Try.ntmps40
  go_wp2_with fail
  refine (r20_4 _).mono ?_
  rintro e w1 ⟨rfl, rfl⟩
  go_wp2
  refine bodyPost_ret (results_tc (p := 5) (r := 4) (ty := 55) rfl _ _ (w.heap.size + 1) 55 _ (0, 0) _ rfl (fresh2 _ _ _) Try.underlying55 rfl (by kernel_rfl)) rfl ⟨rfl, bel2 _ _ _⟩

set_option maxRecDepth 100000 in
set_option maxHeartbeats 1000000 in
theorem rx_1_f_5 : RxS 5 false 1 5 0 0 := by
  intro w
  go_enter Try.func40, Try.ntmps40
  go_wp2_with fail
  refine (r20_5 _).mono ?_
  rintro e w1 ⟨rfl, rfl⟩
  go_wp2
  refine bodyPost_ret (results_tc (p := 5) (r := 4) (ty := 55) rfl _ _ (w.heap.size + 1) 55 _ (0, 0) _ rfl (fresh2 _ _ _) Try.underlying55 rfl (by kernel_rfl)) rfl ⟨rfl, bel2 _ _ _⟩

set_option maxRecDepth 100000 in
set_option maxHeartbeats 1000000 in
theorem rx_2_f_5 : RxS 5 false 2 6 0 0 := by
  intro w
  go_enter Try.func40, Try.ntmps40
  go_wp2_with fail
  refine (r20_5 _).mono ?_
  rintro e w1 ⟨rfl, rfl⟩
  go_wp2
  refine bodyPost_ret (results_tc (p := 5) (r := 4) (ty := 55) rfl _ _ (w.heap.size + 1) 55 _ (0, 0) _ rfl (fresh2 _ _ _) Try.underlying55 rfl (by kernel_rfl)) rfl ⟨rfl, bel2 _ _ _⟩

set_option maxRecDepth 100000 in
set_option maxHeartbeats 1000000 in
theorem rx_3_f_5 : RxS 5 false 3 5 0 0 := by
  intro w
  go_enter Try.func40, Try.ntmps40
  go_wp2_with fail
  refine (r20_5 _).mono ?_
  rintro e w1 ⟨rfl, rfl⟩
  go_wp2
  refine bodyPost_ret (results_tc (p := 5) (r := 4) (ty := 55) rfl _ _ (w.heap.size + 1) 55 _ (0, 0) _ rfl (fresh2 _ _ _) Try.underlying55 rfl (by kernel_rfl)) rfl ⟨rfl, bel2 _ _ _⟩

set_option maxRecDepth 100000 in
set_option maxHeartbeats 1000000 in
theorem rx_4_f_5 : RxS 5 false 4 6 0 0 := by
  intro w
  go_enter Try.func40, Try.ntmps40
  go_wp2_with fail
  refine (r20_5 _).mono ?_
  rintro e w1 ⟨rfl, rfl⟩
  go_wp2
  refine bodyPost_ret (results_tc (p := 5) (r := 4) (ty := 55) rfl _ _ (w.heap.size + 1) 55 _ (0, 0) _ rfl (fresh2 _ _ _) Try.underlying55 rfl (by kernel_rfl)) rfl ⟨rfl, bel2 _ _ _⟩

set_option maxRecDepth 100000 in
set_option maxHeartbeats 1000000 in
theorem rx_5_f_5 : RxS 5 false 5 5 4 0 := by
  intro w
  go_enter Try.func40, Try.ntmps40
  go_wp2_with fail
  refine (r20_5 _).mono ?_
  rintro e w1 ⟨rfl, rfl⟩
  go_wp2
  refine bodyPost_ret (results_tc (p := 5) (r := 4) (ty := 55) rfl _ _ (w.heap.size + 1) 55 _ (0, 0) _ rfl (fresh2 _ _ _) Try.underlying55 rfl (by kernel_rfl)) rfl ⟨rfl, bel2 _ _ _⟩

set_option maxRecDepth 100000 in
set_option maxHeartbeats 1000000 in
theorem rx_6_f_5 : RxS 5 false 6 6 0 0 := by
  intro w
  go_enter Try.func40, Try.ntmps40
  go_wp2_with fail
  refine (r20_5 _).mono ?_
  rintro e w1 ⟨rfl, rfl⟩
  go_wp2
  refine bodyPost_ret (results_tc (p := 5) (r := 4) (ty := 55) rfl _ _ (w.heap.size + 1) 55 _ (0, 0) _ rfl (fresh2 _ _ _) Try.underlying55 rfl (by kernel_rfl)) rfl ⟨rfl, bel2 _ _ _⟩

set_option maxRecDepth 100000 in
set_option maxHeartbeats 1000000 in
theorem rx_7_f_5 : RxS 5 false 7 5 0 0 := by
  intro w
  go_enter Try.func40, Try.ntmps40
  go_wp2_with fail
  refine (r20_5 _).mono ?_
  rintro e w1 ⟨rfl, rfl⟩
  go_wp2
  refine bodyPost_ret (results_tc (p := 5) (r := 4) (ty := 55) rfl _ _ (w.heap.size + 1) 55 _ (0, 0) _ rfl (fresh2 _ _ _) Try.underlying55 rfl (by kernel_rfl)) rfl ⟨rfl, bel2 _ _ _⟩

set_option maxRecDepth 100000 in
set_option maxHeartbeats 1000000 in
theorem rx_8_f_5 : RxS 5 false 8 5 0 0 := by
  intro w
  go_enter Try.func40, Try.ntmps40
  go_wp2_with fail
  refine (r20_5 _).mono ?_
  rintro e w1 ⟨rfl, rfl⟩
  go_wp2
  refine bodyPost_ret (results_tc (p := 5) (r := 4) (ty := 55) rfl _ _ (w.heap.size + 1) 55 _ (0, 0) _ rfl (fresh2 _ _ _) Try.underlying55 rfl (by kernel_rfl)) rfl ⟨rfl, bel2 _ _ _⟩

set_option maxRecDepth 100000 in
set_option maxHeartbeats 1000000 in
theorem rx_1_f_6 : RxS 6 false 1 6 4 0 := by
  intro w
  go_enter Try.func40, Try.ntmps40
  go_wp2_with fail
  refine (r20_6 _).mono ?_
  rintro e w1 ⟨rfl, rfl⟩
  go_wp2
  refine bodyPost_ret (results_tc (p := 5) (r := 4) (ty := 55) rfl _ _ (w.heap.size + 1) 55 _ (0, 0) _ rfl (fresh2 _ _ _) Try.underlying55 rfl (by kernel_rfl)) rfl ⟨rfl, bel2 _ _ _⟩

set_option maxRecDepth 100000 in
set_option maxHeartbeats 1000000 in
theorem rx_2_f_6 : RxS 6 false 2 6 4 0 := by
  intro w
  go_enter Try.func40, Try.ntmps40
  go_wp2_with fail
  refine (r20_6 _).mono ?_
  rintro e w1 ⟨rfl, rfl⟩
  go_wp2
  refine bodyPost_ret (results_tc (p := 5) (r := 4) (ty := 55) rfl _ _ (w.heap.size + 1) 55 _ (0, 0) _ rfl (fresh2 _ _ _) Try.underlying55 rfl (by kernel_rfl)) rfl ⟨rfl, bel2 _ _ _⟩

set_option maxRecDepth 100000 in
set_option maxHeartbeats 1000000 in
theorem rx_3_f_6 : RxS 6 false 3 6 4 0 := by
  intro w
  go_enter Try.func40, Try.ntmps40
  go_wp2_with fail
  refine (r20_6 _).mono ?_
  rintro e w1 ⟨rfl, rfl⟩
  go_wp2
  refine bodyPost_ret (results_tc (p := 5) (r := 4) (ty := 55) rfl _ _ (w.heap.size + 1) 55 _ (0, 0) _ rfl (fresh2 _ _ _) Try.underlying55 rfl (by kernel_rfl)) rfl ⟨rfl, bel2 _ _ _⟩

set_option maxRecDepth 100000 in
set_option maxHeartbeats 1000000 in
theorem rx_4_f_6 : RxS 6 false 4 6 4 0 := by
  intro w
  go_enter Try.func40, Try.ntmps40
  go_wp2_with fail
  refine (r20_6 _).mono ?_
  rintro e w1 ⟨rfl, rfl⟩
  go_wp2
  refine bodyPost_ret (results_tc (p := 5) (r := 4) (ty := 55) rfl _ _ (w.heap.size + 1) 55 _ (0, 0) _ rfl (fresh2 _ _ _) Try.underlying55 rfl (by kernel_rfl)) rfl ⟨rfl, bel2 _ _ _⟩

set_option maxRecDepth 100000 in
set_option maxHeartbeats 1000000 in
theorem rx_5_f_6 : RxS 6 false 5 6 4 0 := by
  intro w
  go_enter Try.func40, Try.ntmps40
  go_wp2_with fail
  refine (r20_6 _).mono ?_
  rintro e w1 ⟨rfl, rfl⟩
  go_wp2
  refine bodyPost_ret (results_tc (p := 5) (r := 4) (ty := 55) rfl _ _ (w.heap.size + 1) 55 _ (0, 0) _ rfl (fresh2 _ _ _) Try.underlying55 rfl (by kernel_rfl)) rfl ⟨rfl, bel2 _ _ _⟩

set_option maxRecDepth 100000 in
set_option maxHeartbeats 1000000 in
theorem rx_6_f_6 : RxS 6 false 6 6 4 0 := by
  intro w
  go_enter Try.func40, Try.ntmps40
  go_wp2_with fail
  refine (r20_6 _).mono ?_
  rintro e w1 ⟨rfl, rfl⟩
  go_wp2
  refine bodyPost_ret (results_tc (p := 5) (r := 4) (ty := 55) rfl _ _ (w.heap.size + 1) 55 _ (0, 0) _ rfl (fresh2 _ _ _) Try.underlying55 rfl (by kernel_rfl)) rfl ⟨rfl, bel2 _ _ _⟩

set_option maxRecDepth 100000 in
set_option maxHeartbeats 1000000 in
theorem rx_7_f_6 : RxS 6 false 7 6 4 0 := by
  intro w
  go_enter Try.func40, Try.ntmps40
  go_wp2_with fail
  refine (r20_6 _).mono ?_
  rintro e w1 ⟨rfl, rfl⟩
  go_wp2
  refine bodyPost_ret (results_tc (p := 5) (r := 4) (ty := 55) rfl _ _ (w.heap.size + 1) 55 _ (0, 0) _ rfl (fresh2 _ _ _) Try.underlying55 rfl (by kernel_rfl)) rfl ⟨rfl, bel2 _ _ _⟩

set_option maxRecDepth 100000 in
set_option maxHeartbeats 1000000 in
theorem rx_8_f_6 : RxS 6 false 8 6 0 0 := by
  intro w
  go_enter Try.func40, Try.ntmps40
  go_wp2_with fail
  refine (r20_6 _).mono ?_
  rintro e w1 ⟨rfl, rfl⟩
  go_wp2
  refine bodyPost_ret (results_tc (p := 5) (r := 4) (ty := 55) rfl _ _ (w.heap.size + 1) 55 _ (0, 0) _ rfl (fresh2 _ _ _) Try.underlying55 rfl (by kernel_rfl)) rfl ⟨rfl, bel2 _ _ _⟩

set_option maxRecDepth 100000 in
set_option maxHeartbeats 1000000 in
theorem rx_1_t_0 : RxS 0 true 1 3 0 0 := by
  intro w
  go_enter Try.func40, Try.ntmps40
  go_wp2_with fail
  refine (r20_0 _).mono ?_
  rintro e w1 ⟨rfl, rfl⟩
  go_wp2_with fail
  refine (r21_0 _).mono ?_
  rintro e w1 ⟨rfl, rfl⟩
  go_wp2
  refine bodyPost_ret (results_tc (p := 5) (r := 4) (ty := 55) rfl _ _ (w.heap.size + 1) 55 _ (0, 0) _ rfl (fresh2 _ _ _) Try.underlying55 rfl (by kernel_rfl)) rfl ⟨rfl, bel2 _ _ _⟩

set_option maxRecDepth 100000 in
set_option maxHeartbeats 1000000 in
theorem rx_2_t_0 : RxS 0 true 2 5 0 0 := by
  intro w
  go_enter Try.func40, Try.ntmps40
  go_wp2_with fail
  refine (r20_0 _).mono ?_
  rintro e w1 ⟨rfl, rfl⟩
  go_wp2_with fail
  refine (r21_0 _).mono ?_
  rintro e w1 ⟨rfl, rfl⟩
  go_wp2
  refine bodyPost_ret (results_tc (p := 5) (r := 4) (ty := 55) rfl _ _ (w.heap.size + 1) 55 _ (0, 0) _ rfl (fresh2 _ _ _) Try.underlying55 rfl (by kernel_rfl)) rfl ⟨rfl, bel2 _ _ _⟩

set_option maxRecDepth 100000 in
set_option maxHeartbeats 1000000 in
theorem rx_3_t_0 : RxS 0 true 3 0 3 1 := by
  intro w
  go_enter Try.func40, Try.ntmps40
  go_wp2_with fail
  refine (r20_0 _).mono ?_
  rintro e w1 ⟨rfl, rfl⟩
  go_wp2_with fail
  refine (r21_0 _).mono ?_
  rintro e w1 ⟨rfl, rfl⟩
  go_wp2
  refine bodyPost_ret (results_tc (p := 5) (r := 4) (ty := 55) rfl _ _ (w.heap.size + 1) 55 _ (0, 0) _ rfl (fresh2 _ _ _) Try.underlying55 rfl (by kernel_rfl)) rfl ⟨rfl, bel2 _ _ _⟩

set_option maxRecDepth 100000 in
set_option maxHeartbeats 1000000 in
theorem rx_4_t_0 : RxS 0 true 4 0 3 1 := by
  intro w
  go_enter Try.func40, Try.ntmps40
  go_wp2_with fail
  refine (r20_0 _).mono ?_
  rintro e w1 ⟨rfl, rfl⟩
  go_wp2_with fail
  refine (r21_0 _).mono ?_
  rintro e w1 ⟨rfl, rfl⟩
  go_wp2
  refine bodyPost_ret (results_tc (p := 5) (r := 4) (ty := 55) rfl _ _ (w.heap.size + 1) 55 _ (0, 0) _ rfl (fresh2 _ _ _) Try.underlying55 rfl (by kernel_rfl)) rfl ⟨rfl, bel2 _ _ _⟩

set_option maxRecDepth 100000 in
set_option maxHeartbeats 1000000 in
theorem rx_5_t_0 : RxS 0 true 5 2 0 0 := by
  intro w
  go_enter Try.func40, Try.ntmps40
  go_wp2_with fail
  refine (r20_0 _).mono ?_
  rintro e w1 ⟨rfl, rfl⟩
  go_wp2_with fail
  refine (r21_0 _).mono ?_
  rintro e w1 ⟨rfl, rfl⟩
  go_wp2
  refine bodyPost_ret (results_tc (p := 5) (r := 4) (ty := 55) rfl _ _ (w.heap.size + 1) 55 _ (0, 0) _ rfl (fresh2 _ _ _) Try.underlying55 rfl (by kernel_rfl)) rfl ⟨rfl, bel2 _ _ _⟩

set_option maxRecDepth 100000 in
set_option maxHeartbeats 1000000 in
theorem rx_6_t_0 : RxS 0 true 6 0 3 1 := by
  intro w
  go_enter Try.func40, Try.ntmps40
  go_wp2_with fail
  refine (r20_0 _).mono ?_
  rintro e w1 ⟨rfl, rfl⟩
  go_wp2_with fail
  refine (r21_0 _).mono ?_
  rintro e w1 ⟨rfl, rfl⟩
  go_wp2
  refine bodyPost_ret (results_tc (p := 5) (r := 4) (ty := 55) rfl _ _ (w.heap.size + 1) 55 _ (0, 0) _ rfl (fresh2 _ _ _) Try.underlying55 rfl (by kernel_rfl)) rfl ⟨rfl, bel2 _ _ _⟩

set_option maxRecDepth 100000 in
set_option maxHeartbeats 1000000 in
theorem rx_7_t_0 : RxS 0 true 7 0 3 1 := by
  intro w
  go_enter Try.func40, Try.ntmps40
  go_wp2_with fail
  refine (r20_0 _).mono ?_
  rintro e w1 ⟨rfl, rfl⟩
  go_wp2_with fail
  refine (r21_0 _).mono ?_
  rintro e w1 ⟨rfl, rfl⟩
  go_wp2
  refine bodyPost_ret (results_tc (p := 5) (r := 4) (ty := 55) rfl _ _ (w.heap.size + 1) 55 _ (0, 0) _ rfl (fresh2 _ _ _) Try.underlying55 rfl (by kernel_rfl)) rfl ⟨rfl, bel2 _ _ _⟩

set_option maxRecDepth 100000 in
set_option maxHeartbeats 1000000 in
theorem rx_8_t_0 : RxS 0 true 8 0 0 0 := by
  intro w
  go_enter Try.func40, Try.ntmps40
  go_wp2_with fail
  refine (r20_0 _).mono ?_
  rintro e w1 ⟨rfl, rfl⟩
  go_wp2_with fail
  refine (r21_0 _).mono ?_
  rintro e w1 ⟨rfl, rfl⟩
  go_wp2
  refine bodyPost_ret (results_tc (p := 5) (r := 4) (ty := 55) rfl _ _ (w.heap.size + 1) 55 _ (0, 0) _ rfl (fresh2 _ _ _) Try.underlying55 rfl (by kernel_rfl)) rfl ⟨rfl, bel2 _ _ _⟩

set_option maxRecDepth 100000 in
set_option maxHeartbeats 1000000 in
theorem rx_1_t_1 : RxS 1 true 1 1 3 1 := by
  intro w
  go_enter Try.func40, Try.ntmps40
  go_wp2_with fail
  refine (r20_1 _).mono ?_
  rintro e w1 ⟨rfl, rfl⟩
  go_wp2_with fail
  refine (r21_1 _).mono ?_
  rintro e w1 ⟨rfl, rfl⟩
  go_wp2
  refine bodyPost_ret (results_tc (p := 5) (r := 4) (ty := 55) rfl _ _ (w.heap.size + 1) 55 _ (0, 0) _ rfl (fresh2 _ _ _) Try.underlying55 rfl (by kernel_rfl)) rfl ⟨rfl, bel2 _ _ _⟩

set_option maxRecDepth 100000 in
set_option maxHeartbeats 1000000 in
theorem rx_2_t_1 : RxS 1 true 2 1 3 1 := by
  intro w
  go_enter Try.func40, Try.ntmps40
  go_wp2_with fail
  refine (r20_1 _).mono ?_
  rintro e w1 ⟨rfl, rfl⟩
  go_wp2_with fail
  refine (r21_1 _).mono ?_
  rintro e w1 ⟨rfl, rfl⟩
  go_wp2
  refine bodyPost_ret (results_tc (p := 5) (r := 4) (ty := 55) rfl _ _ (w.heap.size + 1) 55 _ (0, 0) _ rfl (fresh2 _ _ _) Try.underlying55 rfl (by kernel_rfl)) rfl ⟨rfl, bel2 _ _ _⟩

set_option maxRecDepth 100000 in
set_option maxHeartbeats 1000000 in
theorem rx_3_t_1 : RxS 1 true 3 1 3 1 := by
  intro w
  go_enter Try.func40, Try.ntmps40
  go_wp2_with fail
  refine (r20_1 _).mono ?_
  rintro e w1 ⟨rfl, rfl⟩
  go_wp2_with fail
  refine (r21_1 _).mono ?_
  rintro e w1 ⟨rfl, rfl⟩
  go_wp2
  refine bodyPost_ret (results_tc (p := 5) (r := 4) (ty := 55) rfl _ _ (w.heap.size + 1) 55 _ (0, 0) _ rfl (fresh2 _ _ _) Try.underlying55 rfl (by kernel_rfl)) rfl ⟨rfl, bel2 _ _ _⟩

set_option maxRecDepth 100000 in
set_option maxHeartbeats 1000000 in
theorem rx_4_t_1 : RxS 1 true 4 1 3 1 := by
  intro w
  go_enter Try.func40, Try.ntmps40
  go_wp2_with fail
  refine (r20_1 _).mono ?_
  rintro e w1 ⟨rfl, rfl⟩
  go_wp2_with fail
  refine (r21_1 _).mono ?_
  rintro e w1 ⟨rfl, rfl⟩
  go_wp2
  refine bodyPost_ret (results_tc (p := 5) (r := 4) (ty := 55) rfl _ _ (w.heap.size + 1) 55 _ (0, 0) _ rfl (fresh2 _ _ _) Try.underlying55 rfl (by kernel_rfl)) rfl ⟨rfl, bel2 _ _ _⟩

set_option maxRecDepth 100000 in
set_option maxHeartbeats 1000000 in
theorem rx_5_t_1 : RxS 1 true 5 1 3 1 := by
  intro w
  go_enter Try.func40, Try.ntmps40
  go_wp2_with fail
  refine (r20_1 _).mono ?_
  rintro e w1 ⟨rfl, rfl⟩
  go_wp2_with fail
  refine (r21_1 _).mono ?_
  rintro e w1 ⟨rfl, rfl⟩
  go_wp2
  refine bodyPost_ret (results_tc (p := 5) (r := 4) (ty := 55) rfl _ _ (w.heap.size + 1) 55 _ (0, 0) _ rfl (fresh2 _ _ _) Try.underlying55 rfl (by kernel_rfl)) rfl ⟨rfl, bel2 _ _ _⟩

set_option maxRecDepth 100000 in
set_option maxHeartbeats 1000000 in
theorem rx_6_t_1 : RxS 1 true 6 6 0 0 := by
  intro w
  go_enter Try.func40, Try.ntmps40
  go_wp2_with fail
  refine (r20_1 _).mono ?_
  rintro e w1 ⟨rfl, rfl⟩
  go_wp2_with fail
  refine (r21_1 _).mono ?_
  rintro e w1 ⟨rfl, rfl⟩
  go_wp2
  refine bodyPost_ret (results_tc (p := 5) (r := 4) (ty := 55) rfl _ _ (w.heap.size + 1) 55 _ (0, 0) _ rfl (fresh2 _ _ _) Try.underlying55 rfl (by kernel_rfl)) rfl ⟨rfl, bel2 _ _ _⟩

set_option maxRecDepth 100000 in
set_option maxHeartbeats 1000000 in
theorem rx_7_t_1 : RxS 1 true 7 1 0 0 := by
  intro w
  go_enter Try.func40, Try.ntmps40
  go_wp2_with fail
  refine (r20_1 _).mono ?_
  rintro e w1 ⟨rfl, rfl⟩
  go_wp2_with fail
  refine (r21_1 _).mono ?_
  rintro e w1 ⟨rfl, rfl⟩
  go_wp2
  refine bodyPost_ret (results_tc (p := 5) (r := 4) (ty := 55) rfl _ _ (w.heap.size + 1) 55 _ (0, 0) _ rfl (fresh2 _ _ _) Try.underlying55 rfl (by kernel_rfl)) rfl ⟨rfl, bel2 _ _ _⟩

set_option maxRecDepth 100000 in
set_option maxHeartbeats 1000000 in
theorem rx_8_t_1 : RxS 1 true 8 1 0 0 := by
  intro w
  go_enter Try.func40, Try.ntmps40
  go_wp2_with fail
  refine (r20_1 _).mono ?_
  rintro e w1 ⟨rfl, rfl⟩
  go_wp2_with fail
  refine (r21_1 _).mono ?_
  rintro e w1 ⟨rfl, rfl⟩
  go_wp2
  refine bodyPost_ret (results_tc (p := 5) (r := 4) (ty := 55) rfl _ _ (w.heap.size + 1) 55 _ (0, 0) _ rfl (fresh2 _ _ _) Try.underlying55 rfl (by kernel_rfl)) rfl ⟨rfl, bel2 _ _ _⟩

set_option maxRecDepth 100000 in
set_option maxHeartbeats 1000000 in
theorem rx_1_t_2 : RxS 2 true 1 4 0 0 := by
  intro w
  go_enter Try.func40, Try.ntmps40
  go_wp2_with fail
  refine (r20_2 _).mono ?_
  rintro e w1 ⟨rfl, rfl⟩
  go_wp2_with fail
  refine (r21_2 _).mono ?_
  rintro e w1 ⟨rfl, rfl⟩
  go_wp2
  refine bodyPost_ret (results_tc (p := 5) (r := 4) (ty := 55) rfl _ _ (w.heap.size + 1) 55 _ (0, 0) _ rfl (fresh2 _ _ _) Try.underlying55 rfl (by kernel_rfl)) rfl ⟨rfl, bel2 _ _ _⟩

set_option maxRecDepth 100000 in
set_option maxHeartbeats 1000000 in
theorem rx_2_t_2 : RxS 2 true 2 6 0 0 := by
  intro w
  go_enter Try.func40, Try.ntmps40
  go_wp2_with fail
  refine (r20_2 _).mono ?_
  rintro e w1 ⟨rfl, rfl⟩
  go_wp2_with fail
  refine (r21_2 _).mono ?_
  rintro e w1 ⟨rfl, rfl⟩
  go_wp2
  refine bodyPost_ret (results_tc (p := 5) (r := 4) (ty := 55) rfl _ _ (w.heap.size + 1) 55 _ (0, 0) _ rfl (fresh2 _ _ _) Try.underlying55 rfl (by kernel_rfl)) rfl ⟨rfl, bel2 _ _ _⟩

set_option maxRecDepth 100000 in
set_option maxHeartbeats 1000000 in
theorem rx_3_t_2 : RxS 2 true 3 2 3 1 := by
  intro w
  go_enter Try.func40, Try.ntmps40
  go_wp2_with fail
  refine (r20_2 _).mono ?_
  rintro e w1 ⟨rfl, rfl⟩
  go_wp2_with fail
  refine (r21_2 _).mono ?_
  rintro e w1 ⟨rfl, rfl⟩
  go_wp2
  refine bodyPost_ret (results_tc (p := 5) (r := 4) (ty := 55) rfl _ _ (w.heap.size + 1) 55 _ (0, 0) _ rfl (fresh2 _ _ _) Try.underlying55 rfl (by kernel_rfl)) rfl ⟨rfl, bel2 _ _ _⟩

set_option maxRecDepth 100000 in
set_option maxHeartbeats 1000000 in
theorem rx_4_t_2 : RxS 2 true 4 2 3 1 := by
  intro w
  go_enter Try.func40, Try.ntmps40
  go_wp2_with fail
  refine (r20_2 _).mono ?_
  rintro e w1 ⟨rfl, rfl⟩
  go_wp2_with fail
  refine (r21_2 _).mono ?_
  rintro e w1 ⟨rfl, rfl⟩
  go_wp2
  refine bodyPost_ret (results_tc (p := 5) (r := 4) (ty := 55) rfl _ _ (w.heap.size + 1) 55 _ (0, 0) _ rfl (fresh2 _ _ _) Try.underlying55 rfl (by kernel_rfl)) rfl ⟨rfl, bel2 _ _ _⟩

set_option maxRecDepth 100000 in
set_option maxHeartbeats 1000000 in
theorem rx_5_t_2 : RxS 2 true 5 2 3 1 := by
  intro w
  go_enter Try.func40, Try.ntmps40
  go_wp2_with fail
  refine (r20_2 _).mono ?_
  rintro e w1 ⟨rfl, rfl⟩
  go_wp2_with fail
  refine (r21_2 _).mono ?_
  rintro e w1 ⟨rfl, rfl⟩
  go_wp2
  refine bodyPost_ret (results_tc (p := 5) (r := 4) (ty := 55) rfl _ _ (w.heap.size + 1) 55 _ (0, 0) _ rfl (fresh2 _ _ _) Try.underlying55 rfl (by kernel_rfl)) rfl ⟨rfl, bel2 _ _ _⟩

set_option maxRecDepth 100000 in
set_option maxHeartbeats 1000000 in
theorem rx_6_t_2 : RxS 2 true 6 6 0 0 := by
  intro w
  go_enter Try.func40, Try.ntmps40
  go_wp2_with fail
  refine (r20_2 _).mono ?_
  rintro e w1 ⟨rfl, rfl⟩
  go_wp2_with fail
  refine (r21_2 _).mono ?_
  rintro e w1 ⟨rfl, rfl⟩
  go_wp2
  refine bodyPost_ret (results_tc (p := 5) (r := 4) (ty := 55) rfl _ _ (w.heap.size + 1) 55 _ (0, 0) _ rfl (fresh2 _ _ _) Try.underlying55 rfl (by kernel_rfl)) rfl ⟨rfl, bel2 _ _ _⟩

set_option maxRecDepth 100000 in
set_option maxHeartbeats 1000000 in
theorem rx_7_t_2 : RxS 2 true 7 2 3 1 := by
  intro w
  go_enter Try.func40, Try.ntmps40
  go_wp2_with fail
  refine (r20_2 _).mono ?_
  rintro e w1 ⟨rfl, rfl⟩
  go_wp2_with fail
  refine (r21_2 _).mono ?_
  rintro e w1 ⟨rfl, rfl⟩
  go_wp2
  refine bodyPost_ret (results_tc (p := 5) (r := 4) (ty := 55) rfl _ _ (w.heap.size + 1) 55 _ (0, 0) _ rfl (fresh2 _ _ _) Try.underlying55 rfl (by kernel_rfl)) rfl ⟨rfl, bel2 _ _ _⟩

set_option maxRecDepth 100000 in
set_option maxHeartbeats 1000000 in
theorem rx_8_t_2 : RxS 2 true 8 2 0 0 := by
  intro w
  go_enter Try.func40, Try.ntmps40
  go_wp2_with fail
  refine (r20_2 _).mono ?_
  rintro e w1 ⟨rfl, rfl⟩
  go_wp2_with fail
  refine (r21_2 _).mono ?_
  rintro e w1 ⟨rfl, rfl⟩
  go_wp2
  refine bodyPost_ret (results_tc (p := 5) (r := 4) (ty := 55) rfl _ _ (w.heap.size + 1) 55 _ (0, 0) _ rfl (fresh2 _ _ _) Try.underlying55 rfl (by kernel_rfl)) rfl ⟨rfl, bel2 _ _ _⟩

set_option maxRecDepth 100000 in
set_option maxHeartbeats 1000000 in
theorem rx_1_t_3 : RxS 3 true 1 3 0 0 := by
  intro w
  go_enter Try.func40, Try.ntmps40
  go_wp2_with fail
  refine (r20_3 _).mono ?_
  rintro e w1 ⟨rfl, rfl⟩
  go_wp2_with fail
  refine (r21_3 _).mono ?_
  rintro e w1 ⟨rfl, rfl⟩
  go_wp2
  refine bodyPost_ret (results_tc (p := 5) (r := 4) (ty := 55) rfl _ _ (w.heap.size + 1) 55 _ (0, 0) _ rfl (fresh2 _ _ _) Try.underlying55 rfl (by kernel_rfl)) rfl ⟨rfl, bel2 _ _ _⟩

set_option maxRecDepth 100000 in
set_option maxHeartbeats 1000000 in
theorem rx_2_t_3 : RxS 3 true 2 5 0 0 := by
  intro w
  go_enter Try.func40, Try.ntmps40
  go_wp2_with fail
  refine (r20_3 _).mono ?_
  rintro e w1 ⟨rfl, rfl⟩
  go_wp2_with fail
  refine (r21_3 _).mono ?_
  rintro e w1 ⟨rfl, rfl⟩
  go_wp2
  refine bodyPost_ret (results_tc (p := 5) (r := 4) (ty := 55) rfl _ _ (w.heap.size + 1) 55 _ (0, 0) _ rfl (fresh2 _ _ _) Try.underlying55 rfl (by kernel_rfl)) rfl ⟨rfl, bel2 _ _ _⟩

set_option maxRecDepth 100000 in
set_option maxHeartbeats 1000000 in
theorem rx_3_t_3 : RxS 3 true 3 3 0 0 := by
  intro w
  go_enter Try.func40, Try.ntmps40
  go_wp2_with fail
  refine (r20_3 _).mono ?_
  rintro e w1 ⟨rfl, rfl⟩
  go_wp2_with fail
  refine (r21_3 _).mono ?_
  rintro e w1 ⟨rfl, rfl⟩
  go_wp2
  refine bodyPost_ret (results_tc (p := 5) (r := 4) (ty := 55) rfl _ _ (w.heap.size + 1) 55 _ (0, 0) _ rfl (fresh2 _ _ _) Try.underlying55 rfl (by kernel_rfl)) rfl ⟨rfl, bel2 _ _ _⟩

set_option maxRecDepth 100000 in
set_option maxHeartbeats 1000000 in
theorem rx_4_t_3 : RxS 3 true 4 5 0 0 := by
  intro w
  go_enter Try.func40, Try.ntmps40
  go_wp2_with fail
  refine (r20_3 _).mono ?_
  rintro e w1 ⟨rfl, rfl⟩
  go_wp2_with fail
  refine (r21_3 _).mono ?_
  rintro e w1 ⟨rfl, rfl⟩
  go_wp2
  refine bodyPost_ret (results_tc (p := 5) (r := 4) (ty := 55) rfl _ _ (w.heap.size + 1) 55 _ (0, 0) _ rfl (fresh2 _ _ _) Try.underlying55 rfl (by kernel_rfl)) rfl ⟨rfl, bel2 _ _ _⟩

set_option maxRecDepth 100000 in
set_option maxHeartbeats 1000000 in
theorem rx_5_t_3 : RxS 3 true 5 3 3 1 := by
  intro w
  go_enter Try.func40, Try.ntmps40
  go_wp2_with fail
  refine (r20_3 _).mono ?_
  rintro e w1 ⟨rfl, rfl⟩
  go_wp2_with fail
  refine (r21_3 _).mono ?_
  rintro e w1 ⟨rfl, rfl⟩
  go_wp2
  refine bodyPost_ret (results_tc (p := 5) (r := 4) (ty := 55) rfl _ _ (w.heap.size + 1) 55 _ (0, 0) _ rfl (fresh2 _ _ _) Try.underlying55 rfl (by kernel_rfl)) rfl ⟨rfl, bel2 _ _ _⟩

set_option maxRecDepth 100000 in
set_option maxHeartbeats 1000000 in
theorem rx_6_t_3 : RxS 3 true 6 6 0 0 := by
  intro w
  go_enter Try.func40, Try.ntmps40
  go_wp2_with fail
  refine (r20_3 _).mono ?_
  rintro e w1 ⟨rfl, rfl⟩
  go_wp2_with fail
  refine (r21_3 _).mono ?_
  rintro e w1 ⟨rfl, rfl⟩
  go_wp2
  refine bodyPost_ret (results_tc (p := 5) (r := 4) (ty := 55) rfl _ _ (w.heap.size + 1) 55 _ (0, 0) _ rfl (fresh2 _ _ _) Try.underlying55 rfl (by kernel_rfl)) rfl ⟨rfl, bel2 _ _ _⟩

set_option maxRecDepth 100000 in
set_option maxHeartbeats 1000000 in
theorem rx_7_t_3 : RxS 3 true 7 3 0 0 := by
  intro w
  go_enter Try.func40, Try.ntmps40
  go_wp2_with fail
  refine (r20_3 _).mono ?_
  rintro e w1 ⟨rfl, rfl⟩
  go_wp2_with fail
  refine (r21_3 _).mono ?_
  rintro e w1 ⟨rfl, rfl⟩
  go_wp2
  refine bodyPost_ret (results_tc (p := 5) (r := 4) (ty := 55) rfl _ _ (w.heap.size + 1) 55 _ (0, 0) _ rfl (fresh2 _ _ _) Try.underlying55 rfl (by kernel_rfl)) rfl ⟨rfl, bel2 _ _ _⟩

set_option maxRecDepth 100000 in
set_option maxHeartbeats 1000000 in
theorem rx_8_t_3 : RxS 3 true 8 3 0 0 := by
  intro w
  go_enter Try.func40, Try.ntmps40
  go_wp2_with fail
  refine (r20_3 _).mono ?_
  rintro e w1 ⟨rfl, rfl⟩
  go_wp2_with fail
  refine (r21_3 _).mono ?_
  rintro e w1 ⟨rfl, rfl⟩
  go_wp2
  refine bodyPost_ret (results_tc (p := 5) (r := 4) (ty := 55) rfl _ _ (w.heap.size + 1) 55 _ (0, 0) _ rfl (fresh2 _ _ _) Try.underlying55 rfl (by kernel_rfl)) rfl ⟨rfl, bel2 _ _ _⟩

set_option maxRecDepth 100000 in
set_option maxHeartbeats 1000000 in
theorem rx_1_t_4 : RxS 4 true 1 4 0 0 := by
  intro w
  go_enter Try.func40, Try.ntmps40
  go_wp2_with fail
  refine (r20_4 _).mono ?_
  rintro e w1 ⟨rfl, rfl⟩
  go_wp2_with fail
  refine (r21_4 _).mono ?_
  rintro e w1 ⟨rfl, rfl⟩
  go_wp2
  refine bodyPost_ret (results_tc (p := 5) (r := 4) (ty := 55) rfl _ _ (w.heap.size + 1) 55 _ (0, 0) _ rfl (fresh2 _ _ _) Try.underlying55 rfl (by kernel_rfl)) rfl ⟨rfl, bel2 _ _ _⟩

set_option maxRecDepth 100000 in
set_option maxHeartbeats 1000000 in
theorem rx_2_t_4 : RxS 4 true 2 6 0 0 := by
  intro w
  go_enter Try.func40, Try.ntmps40
  go_wp2_with fail
  refine (r20_4 _).mono ?_
  rintro e w1 ⟨rfl, rfl⟩
  go_wp2_with fail
  refine (r21_4 _).mono ?_
  rintro e w1 ⟨rfl, rfl⟩
  go_wp2
  refine bodyPost_ret (results_tc (p := 5) (r := 4) (ty := 55) rfl _ _ (w.heap.size + 1) 55 _ (0, 0) _ rfl (fresh2 _ _ _) Try.underlying55 rfl (by kernel_rfl)) rfl ⟨rfl, bel2 _ _ _⟩

set_option maxRecDepth 100000 in
set_option maxHeartbeats 1000000 in
theorem rx_3_t_4 : RxS 4 true 3 4 0 0 := by
  intro w
  go_enter Try.func40, Try.ntmps40
  go_wp2_with fail
  refine (r20_4 _).mono ?_
  rintro e w1 ⟨rfl, rfl⟩
  go_wp2_with fail
  refine (r21_4 _).mono ?_
  rintro e w1 ⟨rfl, rfl⟩
  go_wp2
  refine bodyPost_ret (results_tc (p := 5) (r := 4) (ty := 55) rfl _ _ (w.heap.size + 1) 55 _ (0, 0) _ rfl (fresh2 _ _ _) Try.underlying55 rfl (by kernel_rfl)) rfl ⟨rfl, bel2 _ _ _⟩

set_option maxRecDepth 100000 in
set_option maxHeartbeats 1000000 in
theorem rx_4_t_4 : RxS 4 true 4 6 0 0 := by
  intro w
  go_enter Try.func40, Try.ntmps40
  go_wp2_with fail
  refine (r20_4 _).mono ?_
  rintro e w1 ⟨rfl, rfl⟩
  go_wp2_with fail
  refine (r21_4 _).mono ?_
  rintro e w1 ⟨rfl, rfl⟩
  go_wp2
  refine bodyPost_ret (results_tc (p := 5) (r := 4) (ty := 55) rfl _ _ (w.heap.size + 1) 55 _ (0, 0) _ rfl (fresh2 _ _ _) Try.underlying55 rfl (by kernel_rfl)) rfl ⟨rfl, bel2 _ _ _⟩

set_option maxRecDepth 100000 in
set_option maxHeartbeats 1000000 in
theorem rx_5_t_4 : RxS 4 true 5 4 3 1 := by
  intro w
  go_enter Try.func40, Try.ntmps40
  go_wp2_with fail
  refine (r20_4 _).mono ?_
  rintro e w1 ⟨rfl, rfl⟩
  go_wp2_with fail
  refine (r21_4 _).mono ?_
  rintro e w1 ⟨rfl, rfl⟩
  go_wp2
  refine bodyPost_ret (results_tc (p := 5) (r := 4) (ty := 55) rfl _ _ (w.heap.size + 1) 55 _ (0, 0) _ rfl (fresh2 _ _ _) Try.underlying55 rfl (by kernel_rfl)) rfl ⟨rfl, bel2 _ _ _⟩

set_option maxRecDepth 100000 in
set_option maxHeartbeats 1000000 in
theorem rx_6_t_4 : RxS 4 true 6 6 0 0 := by
  intro w
  go_enter Try.func40, Try.ntmps40
  go_wp2_with fail
  refine (r20_4 _).mono ?_
  rintro e w1 ⟨rfl, rfl⟩
  go_wp2_with fail
  refine (r21_4 _).mono ?_
  rintro e w1 ⟨rfl, rfl⟩
  go_wp2
  refine bodyPost_ret (results_tc (p := 5) (r := 4) (ty := 55) rfl _ _ (w.heap.size + 1) 55 _ (0, 0) _ rfl (fresh2 _ _ _) Try.underlying55 rfl (by kernel_rfl)) rfl ⟨rfl, bel2 _ _ _⟩

set_option maxRecDepth 100000 in
set_option maxHeartbeats 1000000 in
theorem rx_7_t_4 : RxS 4 true 7 4 0 0 := by
  intro w
  go_enter Try.func40, Try.ntmps40
  go_wp2_with fail
  refine (r20_4 _).mono ?_
  rintro e w1 ⟨rfl, rfl⟩
  go_wp2_with fail
  refine (r21_4 _).mono ?_
  rintro e w1 ⟨rfl, rfl⟩
  go_wp2
  refine bodyPost_ret (results_tc (p := 5) (r := 4) (ty := 55) rfl _ _ (w.heap.size + 1) 55 _ (0, 0) _ rfl (fresh2 _ _ _) Try.underlying55 rfl (by kernel_rfl)) rfl ⟨rfl, bel2 _ _ _⟩

set_option maxRecDepth 100000 in
set_option maxHeartbeats 1000000 in
theorem rx_8_t_4 : RxS 4 true 8 4 0 0 := by
  intro w
  go_enter Try.func40, Try.ntmps40
  go_wp2_with fail
  refine (r20_4 _).mono ?_
  rintro e w1 ⟨rfl, rfl⟩
  go_wp2_with fail
  refine (r21_4 _).mono ?_
  rintro e w1 ⟨rfl, rfl⟩
  go_wp2
  refine bodyPost_ret (results_tc (p := 5) (r := 4) (ty := 55) rfl _ _ (w.heap.size + 1) 55 _ (0, 0) _ rfl (fresh2 _ _ _) Try.underlying55 rfl (by kernel_rfl)) rfl ⟨rfl, bel2 _ _ _⟩

set_option maxRecDepth 100000 in
set_option maxHeartbeats 1000000 in
theorem rx_1_t_5 : RxS 5 true 1 5 2 5 := by
  intro w
  go_enter Try.func40, Try.ntmps40
  go_wp2_with fail
  refine (r20_5 _).mono ?_
  rintro e w1 ⟨rfl, rfl⟩
  go_wp2_with fail
  refine (r21_5 _).mono ?_
  rintro e w1 ⟨rfl, rfl⟩
  go_wp2
  refine bodyPost_ret (results_tc (p := 5) (r := 4) (ty := 55) rfl _ _ (w.heap.size + 1) 55 _ (0, 0) _ rfl (fresh2 _ _ _) Try.underlying55 rfl (by kernel_rfl)) rfl ⟨rfl, bel2 _ _ _⟩

set_option maxRecDepth 100000 in
set_option maxHeartbeats 1000000 in
theorem rx_2_t_5 : RxS 5 true 2 5 2 5 := by
  intro w
  go_enter Try.func40, Try.ntmps40
  go_wp2_with fail
  refine (r20_5 _).mono ?_
  rintro e w1 ⟨rfl, rfl⟩
  go_wp2_with fail
  refine (r21_5 _).mono ?_
  rintro e w1 ⟨rfl, rfl⟩
  go_wp2
  refine bodyPost_ret (results_tc (p := 5) (r := 4) (ty := 55) rfl _ _ (w.heap.size + 1) 55 _ (0, 0) _ rfl (fresh2 _ _ _) Try.underlying55 rfl (by kernel_rfl)) rfl ⟨rfl, bel2 _ _ _⟩

set_option maxRecDepth 100000 in
set_option maxHeartbeats 1000000 in
theorem rx_3_t_5 : RxS 5 true 3 5 2 5 := by
  intro w
  go_enter Try.func40, Try.ntmps40
  go_wp2_with fail
  refine (r20_5 _).mono ?_
  rintro e w1 ⟨rfl, rfl⟩
  go_wp2_with fail
  refine (r21_5 _).mono ?_
  rintro e w1 ⟨rfl, rfl⟩
  go_wp2
  refine bodyPost_ret (results_tc (p := 5) (r := 4) (ty := 55) rfl _ _ (w.heap.size + 1) 55 _ (0, 0) _ rfl (fresh2 _ _ _) Try.underlying55 rfl (by kernel_rfl)) rfl ⟨rfl, bel2 _ _ _⟩

set_option maxRecDepth 100000 in
set_option maxHeartbeats 1000000 in
theorem rx_4_t_5 : RxS 5 true 4 5 2 5 := by
  intro w
  go_enter Try.func40, Try.ntmps40
  go_wp2_with fail
  refine (r20_5 _).mono ?_
  rintro e w1 ⟨rfl, rfl⟩
  go_wp2_with fail
  refine (r21_5 _).mono ?_
  rintro e w1 ⟨rfl, rfl⟩
  go_wp2
  refine bodyPost_ret (results_tc (p := 5) (r := 4) (ty := 55) rfl _ _ (w.heap.size + 1) 55 _ (0, 0) _ rfl (fresh2 _ _ _) Try.underlying55 rfl (by kernel_rfl)) rfl ⟨rfl, bel2 _ _ _⟩

set_option maxRecDepth 100000 in
set_option maxHeartbeats 1000000 in
theorem rx_5_t_5 : RxS 5 true 5 5 3 1 := by
  intro w
  go_enter Try.func40, Try.ntmps40
  go_wp2_with fail
  refine (r20_5 _).mono ?_
  rintro e w1 ⟨rfl, rfl⟩
  go_wp2_with fail
  refine (r21_5 _).mono ?_
  rintro e w1 ⟨rfl, rfl⟩
  go_wp2
  refine bodyPost_ret (results_tc (p := 5) (r := 4) (ty := 55) rfl _ _ (w.heap.size + 1) 55 _ (0, 0) _ rfl (fresh2 _ _ _) Try.underlying55 rfl (by kernel_rfl)) rfl ⟨rfl, bel2 _ _ _⟩

set_option maxRecDepth 100000 in
set_option maxHeartbeats 1000000 in
theorem rx_6_t_5 : RxS 5 true 6 6 0 0 := by
  intro w
  go_enter Try.func40, Try.ntmps40
  go_wp2_with fail
  refine (r20_5 _).mono ?_
  rintro e w1 ⟨rfl, rfl⟩
  go_wp2_with fail
  refine (r21_5 _).mono ?_
  rintro e w1 ⟨rfl, rfl⟩
  go_wp2
  refine bodyPost_ret (results_tc (p := 5) (r := 4) (ty := 55) rfl _ _ (w.heap.size + 1) 55 _ (0, 0) _ rfl (fresh2 _ _ _) Try.underlying55 rfl (by kernel_rfl)) rfl ⟨rfl, bel2 _ _ _⟩

set_option maxRecDepth 100000 in
set_option maxHeartbeats 1000000 in
theorem rx_7_t_5 : RxS 5 true 7 5 0 0 := by
  intro w
  go_enter Try.func40, Try.ntmps40
  go_wp2_with fail
  refine (r20_5 _).mono ?_
  rintro e w1 ⟨rfl, rfl⟩
  go_wp2_with fail
  refine (r21_5 _).mono ?_
  rintro e w1 ⟨rfl, rfl⟩
  go_wp2
  refine bodyPost_ret (results_tc (p := 5) (r := 4) (ty := 55) rfl _ _ (w.heap.size + 1) 55 _ (0, 0) _ rfl (fresh2 _ _ _) Try.underlying55 rfl (by kernel_rfl)) rfl ⟨rfl, bel2 _ _ _⟩

set_option maxRecDepth 100000 in
set_option maxHeartbeats 1000000 in
theorem rx_8_t_5 : RxS 5 true 8 5 0 0 := by
  intro w
  go_enter Try.func40, Try.ntmps40
  go_wp2_with fail
  refine (r20_5 _).mono ?_
  rintro e w1 ⟨rfl, rfl⟩
  go_wp2_with fail
  refine (r21_5 _).mono ?_
  rintro e w1 ⟨rfl, rfl⟩
  go_wp2
  refine bodyPost_ret (results_tc (p := 5) (r := 4) (ty := 55) rfl _ _ (w.heap.size + 1) 55 _ (0, 0) _ rfl (fresh2 _ _ _) Try.underlying55 rfl (by kernel_rfl)) rfl ⟨rfl, bel2 _ _ _⟩

set_option maxRecDepth 100000 in
set_option maxHeartbeats 1000000 in
theorem rx_1_t_6 : RxS 6 true 1 6 3 5 := by
  intro w
  go_enter Try.func40, Try.ntmps40
  go_wp2_with fail
  refine (r20_6 _).mono ?_
  rintro e w1 ⟨rfl, rfl⟩
  go_wp2_with fail
  refine (r21_6 _).mono ?_
  rintro e w1 ⟨rfl, rfl⟩
  go_wp2
  refine bodyPost_ret (results_tc (p := 5) (r := 4) (ty := 55) rfl _ _ (w.heap.size + 1) 55 _ (0, 0) _ rfl (fresh2 _ _ _) Try.underlying55 rfl (by kernel_rfl)) rfl ⟨rfl, bel2 _ _ _⟩

set_option maxRecDepth 100000 in
set_option maxHeartbeats 1000000 in
theorem rx_2_t_6 : RxS 6 true 2 6 3 5 := by
  intro w
  go_enter Try.func40, Try.ntmps40
  go_wp2_with fail
  refine (r20_6 _).mono ?_
  rintro e w1 ⟨rfl, rfl⟩
  go_wp2_with fail
  refine (r21_6 _).mono ?_
  rintro e w1 ⟨rfl, rfl⟩
  go_wp2
  refine bodyPost_ret (results_tc (p := 5) (r := 4) (ty := 55) rfl _ _ (w.heap.size + 1) 55 _ (0, 0) _ rfl (fresh2 _ _ _) Try.underlying55 rfl (by kernel_rfl)) rfl ⟨rfl, bel2 _ _ _⟩

set_option maxRecDepth 100000 in
set_option maxHeartbeats 1000000 in
theorem rx_3_t_6 : RxS 6 true 3 6 3 5 := by
  intro w
  go_enter Try.func40, Try.ntmps40
  go_wp2_with fail
  refine (r20_6 _).mono ?_
  rintro e w1 ⟨rfl, rfl⟩
  go_wp2_with fail
  refine (r21_6 _).mono ?_
  rintro e w1 ⟨rfl, rfl⟩
  go_wp2
  refine bodyPost_ret (results_tc (p := 5) (r := 4) (ty := 55) rfl _ _ (w.heap.size + 1) 55 _ (0, 0) _ rfl (fresh2 _ _ _) Try.underlying55 rfl (by kernel_rfl)) rfl ⟨rfl, bel2 _ _ _⟩

set_option maxRecDepth 100000 in
set_option maxHeartbeats 1000000 in
theorem rx_4_t_6 : RxS 6 true 4 6 3 5 := by
  intro w
  go_enter Try.func40, Try.ntmps40
  go_wp2_with fail
  refine (r20_6 _).mono ?_
  rintro e w1 ⟨rfl, rfl⟩
  go_wp2_with fail
  refine (r21_6 _).mono ?_
  rintro e w1 ⟨rfl, rfl⟩
  go_wp2
  refine bodyPost_ret (results_tc (p := 5) (r := 4) (ty := 55) rfl _ _ (w.heap.size + 1) 55 _ (0, 0) _ rfl (fresh2 _ _ _) Try.underlying55 rfl (by kernel_rfl)) rfl ⟨rfl, bel2 _ _ _⟩

set_option maxRecDepth 100000 in
set_option maxHeartbeats 1000000 in
theorem rx_5_t_6 : RxS 6 true 5 6 3 1 := by
  intro w
  go_enter Try.func40, Try.ntmps40
  go_wp2_with fail
  refine (r20_6 _).mono ?_
  rintro e w1 ⟨rfl, rfl⟩
  go_wp2_with fail
  refine (r21_6 _).mono ?_
  rintro e w1 ⟨rfl, rfl⟩
  go_wp2
  refine bodyPost_ret (results_tc (p := 5) (r := 4) (ty := 55) rfl _ _ (w.heap.size + 1) 55 _ (0, 0) _ rfl (fresh2 _ _ _) Try.underlying55 rfl (by kernel_rfl)) rfl ⟨rfl, bel2 _ _ _⟩

set_option maxRecDepth 100000 in
set_option maxHeartbeats 1000000 in
theorem rx_6_t_6 : RxS 6 true 6 6 1 0 := by
  intro w
  go_enter Try.func40, Try.ntmps40
  go_wp2_with fail
  refine (r20_6 _).mono ?_
  rintro e w1 ⟨rfl, rfl⟩
  go_wp2_with fail
  refine (r21_6 _).mono ?_
  rintro e w1 ⟨rfl, rfl⟩
  go_wp2
  refine bodyPost_ret (results_tc (p := 5) (r := 4) (ty := 55) rfl _ _ (w.heap.size + 1) 55 _ (0, 0) _ rfl (fresh2 _ _ _) Try.underlying55 rfl (by kernel_rfl)) rfl ⟨rfl, bel2 _ _ _⟩

set_option maxRecDepth 100000 in
set_option maxHeartbeats 1000000 in
theorem rx_7_t_6 : RxS 6 true 7 6 1 0 := by
  intro w
  go_enter Try.func40, Try.ntmps40
  go_wp2_with fail
  refine (r20_6 _).mono ?_
  rintro e w1 ⟨rfl, rfl⟩
  go_wp2_with fail
  refine (r21_6 _).mono ?_
  rintro e w1 ⟨rfl, rfl⟩
  go_wp2
  refine bodyPost_ret (results_tc (p := 5) (r := 4) (ty := 55) rfl _ _ (w.heap.size + 1) 55 _ (0, 0) _ rfl (fresh2 _ _ _) Try.underlying55 rfl (by kernel_rfl)) rfl ⟨rfl, bel2 _ _ _⟩

set_option maxRecDepth 100000 in
set_option maxHeartbeats 1000000 in
theorem rx_8_t_6 : RxS 6 true 8 6 1 0 := by
  intro w
  go_enter Try.func40, Try.ntmps40
  go_wp2_with fail
  refine (r20_6 _).mono ?_
  rintro e w1 ⟨rfl, rfl⟩
  go_wp2_with fail
  refine (r21_6 _).mono ?_
  rintro e w1 ⟨rfl, rfl⟩
  go_wp2
  refine bodyPost_ret (results_tc (p := 5) (r := 4) (ty := 55) rfl _ _ (w.heap.size + 1) 55 _ (0, 0) _ rfl (fresh2 _ _ _) Try.underlying55 rfl (by kernel_rfl)) rfl ⟨rfl, bel2 _ _ _⟩

theorem rx_any (s : Int) (g : Bool) (k : Int) : RxS s g k (nx s g k).1 (nx s g k).2.1 (nx s g k).2.2 := by
  by_cases h0 : s < 0
  · rw [nx_out (by omega)]
    exact rx_slow s k g h0
  by_cases h6 : 6 < s
  · rw [nx_out (by omega)]
    exact rx_shigh s k g h0 h6
  by_cases h1 : k < 1
  · rw [nx_out (by omega)]
    exact rx_klow s k g h0 h6 h1
  by_cases h8 : 8 < k
  · rw [nx_out (by omega)]
    exact rx_khigh s k g h0 h6 h1 h8
  have hk : 1 ≤ k ∧ k ≤ 8 := by omega
  have hs : 0 ≤ s ∧ s ≤ 6 := by omega
  clear h0 h6 h1 h8
  cases g
  · rcases kinds hk with rfl | rfl | rfl | rfl | rfl | rfl | rfl | rfl
    · rcases states hs with rfl | rfl | rfl | rfl | rfl | rfl | rfl
      · exact rx_1_f_0
      · exact rx_1_f_1
      · exact rx_1_f_2
      · exact rx_1_f_3
      · exact rx_1_f_4
      · exact rx_1_f_5
      · exact rx_1_f_6
    · rcases states hs with rfl | rfl | rfl | rfl | rfl | rfl | rfl
      · exact rx_2_f_0
      · exact rx_2_f_1
      · exact rx_2_f_2
      · exact rx_2_f_3
      · exact rx_2_f_4
      · exact rx_2_f_5
      · exact rx_2_f_6
    · rcases states hs with rfl | rfl | rfl | rfl | rfl | rfl | rfl
      · exact rx_3_f_0
      · exact rx_3_f_1
      · exact rx_3_f_2
      · exact rx_3_f_3
      · exact rx_3_f_4
      · exact rx_3_f_5
      · exact rx_3_f_6
    · rcases states hs with rfl | rfl | rfl | rfl | rfl | rfl | rfl
      · exact rx_4_f_0
      · exact rx_4_f_1
      · exact rx_4_f_2
      · exact rx_4_f_3
      · exact rx_4_f_4
      · exact rx_4_f_5
      · exact rx_4_f_6
    · rcases states hs with rfl | rfl | rfl | rfl | rfl | rfl | rfl
      · exact rx_5_f_0
      · exact rx_5_f_1
      · exact rx_5_f_2
      · exact rx_5_f_3
      · exact rx_5_f_4
      · exact rx_5_f_5
      · exact rx_5_f_6
    · rcases states hs with rfl | rfl | rfl | rfl | rfl | rfl | rfl
      · exact rx_6_f_0
      · exact rx_6_f_1
      · exact rx_6_f_2
      · exact rx_6_f_3
      · exact rx_6_f_4
      · exact rx_6_f_5
      · exact rx_6_f_6
    · rcases states hs with rfl | rfl | rfl | rfl | rfl | rfl | rfl
      · exact rx_7_f_0
      · exact rx_7_f_1
      · exact rx_7_f_2
      · exact rx_7_f_3
      · exact rx_7_f_4
      · exact rx_7_f_5
      · exact rx_7_f_6
    · rcases states hs with rfl | rfl | rfl | rfl | rfl | rfl | rfl
      · exact rx_8_f_0
      · exact rx_8_f_1
      · exact rx_8_f_2
      · exact rx_8_f_3
      · exact rx_8_f_4
      · exact rx_8_f_5
      · exact rx_8_f_6
  · rcases kinds hk with rfl | rfl | rfl | rfl | rfl | rfl | rfl | rfl
    · rcases states hs with rfl | rfl | rfl | rfl | rfl | rfl | rfl
      · exact rx_1_t_0
      · exact rx_1_t_1
      · exact rx_1_t_2
      · exact rx_1_t_3
      · exact rx_1_t_4
      · exact rx_1_t_5
      · exact rx_1_t_6
    · rcases states hs with rfl | rfl | rfl | rfl | rfl | rfl | rfl
      · exact rx_2_t_0
      · exact rx_2_t_1
      · exact rx_2_t_2
      · exact rx_2_t_3
      · exact rx_2_t_4
      · exact rx_2_t_5
      · exact rx_2_t_6
    · rcases states hs with rfl | rfl | rfl | rfl | rfl | rfl | rfl
      · exact rx_3_t_0
      · exact rx_3_t_1
      · exact rx_3_t_2
      · exact rx_3_t_3
      · exact rx_3_t_4
      · exact rx_3_t_5
      · exact rx_3_t_6
    · rcases states hs with rfl | rfl | rfl | rfl | rfl | rfl | rfl
      · exact rx_4_t_0
      · exact rx_4_t_1
      · exact rx_4_t_2
      · exact rx_4_t_3
      · exact rx_4_t_4
      · exact rx_4_t_5
      · exact rx_4_t_6
    · rcases states hs with rfl | rfl | rfl | rfl | rfl | rfl | rfl
      · exact rx_5_t_0
      · exact rx_5_t_1
      · exact rx_5_t_2
      · exact rx_5_t_3
      · exact rx_5_t_4
      · exact rx_5_t_5
      · exact rx_5_t_6
    · rcases states hs with rfl | rfl | rfl | rfl | rfl | rfl | rfl
      · exact rx_6_t_0
      · exact rx_6_t_1
      · exact rx_6_t_2
      · exact rx_6_t_3
      · exact rx_6_t_4
      · exact rx_6_t_5
      · exact rx_6_t_6
    · rcases states hs with rfl | rfl | rfl | rfl | rfl | rfl | rfl
      · exact rx_7_t_0
      · exact rx_7_t_1
      · exact rx_7_t_2
      · exact rx_7_t_3
      · exact rx_7_t_4
      · exact rx_7_t_5
      · exact rx_7_t_6
    · rcases states hs with rfl | rfl | rfl | rfl | rfl | rfl | rfl
      · exact rx_8_t_0
      · exact rx_8_t_1
      · exact rx_8_t_2
      · exact rx_8_t_3
      · exact rx_8_t_4
      · exact rx_8_t_5
      · exact rx_8_t_6
end Go.Proofs.Ytaaocgppniflcaa
