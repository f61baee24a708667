/- Room: the document's, and the two laws. -/
import Derived.Test.YtoanmjnjpkbmiaaA2
namespace Go.Proofs.Ytoanmjnjpkbmiaa
open Go.RowKit
set_option linter.unusedVariables false
set_option linter.unusedSimpArgs false

set_option maxRecDepth 100000 in
set_option maxHeartbeats 2000000 in
theorem rroom_any (w : World) (a b c d : Int) :
    Calls Try.prog 15 #[.int .i64 a, .int .i64 b, .int .i64 c, .int .i64 d] w fun e w' => e = .returned (.int .i64 (rm a b c d)) ∧ w' = w := by
  have hv : ∀ x, x = rm a b c d → (Ending.returned (Value.int .i64 x)) = .returned (.int .i64 (rm a b c d)) := fun x h => by rw [h]
  go_enter Try.func15, Try.ntmps15
  go_wp2
  all_goals
    go_ret
    refine ⟨hv _ ?_, rfl⟩
    unfold rm
    omega

set_option maxRecDepth 100000 in
set_option maxHeartbeats 2000000 in
theorem rooms_walk (a b c d : Int) (w : World) :
    Calls Try.prog 6 #[.int .i64 a, .int .i64 b, .int .i64 c, .int .i64 d] w fun e w' => e = .returned (.bool true) ∧ Below w.heap.size w w' := by
  go_enter Try.func6, Try.ntmps6
  go_wp2_with fail
  refine (room_any w a b c d).mono ?_
  rintro e w1 ⟨rfl, rfl⟩
  go_wp2_with fail
  refine (first_any w1).mono ?_
  rintro e w2 ⟨rfl, hB⟩
  go_wp2_with fail
  refine (rroom_any w2 a b c d).mono ?_
  rintro e w3 ⟨rfl, rfl⟩
  have hq : (rm a b c d == rm a b c d) = true := by simp
  go_wp2
  go_ret
  exact ⟨rfl, hB⟩

set_option maxRecDepth 100000 in
set_option maxHeartbeats 4000000 in
theorem room_walk (a b c d : Int) (w : World) :
    Calls Try.prog 5 #[.int .i64 a, .int .i64 b, .int .i64 c, .int .i64 d] w fun e w' => e = .returned (.bool true) ∧ Below w.heap.size w w' := by
  obtain ⟨r, hr, hv⟩ : ∃ r, (∀ W, Calls Try.prog 14 #[.int .i64 a, .int .i64 b, .int .i64 c, .int .i64 d] W fun e w' => e = .returned (.int .i64 r) ∧ w' = W) ∧ (True → r = max (min a (min b (min c d))) 0) := ⟨_, fun W => room_any W a b c d, fun _ => rfl⟩
  go_enter Try.func5, Try.ntmps5
  go_wp2_with fail
  refine (first_any w).mono ?_
  rintro e w1 ⟨rfl, hB⟩
  go_wp2_with fail
  refine (hr w1).mono ?_
  rintro e w2 ⟨rfl, rfl⟩
  go_wp2
  all_goals
    go_ret
    have hv := hv trivial
    simp only [beq_iff_eq, beq_eq_false_iff_ne, ne_eq] at *
    refine ⟨?_, hB⟩
    first
      | rfl
      | (exfalso; omega)
      | (simp; omega)
end Go.Proofs.Ytoanmjnjpkbmiaa
