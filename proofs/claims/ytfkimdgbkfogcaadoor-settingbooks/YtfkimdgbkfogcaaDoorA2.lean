/- Valid. -/
import Derived.Test.YtfkimdgbkfogcaaDoorA1
namespace Go.Proofs.YtfkimdgbkfogcaaDoor
open Go.RowKit
set_option linter.unusedVariables false
set_option linter.unusedSimpArgs false

set_option maxRecDepth 100000 in
set_option maxHeartbeats 1000000 in
theorem valid_a (x y : Int) (c : Bool) (w : World) (h1 : inB x 0 65535 = false) :
    Calls Tryd.prog 20 #[.agg #[.int .i64 x, .int .i64 y], .bool c] w fun e w' => e = .returned (.int .i64 1) ∧ Below w.heap.size w w' := by
  go_enter Tryd.func20, Tryd.ntmps20
  go_wp2_with (first | (go_at_call 39; refine (within_any _ _ _ _).mono ?_; rintro e w' ⟨rfl, rfl⟩) | (go_at_call 40; refine (push_any _ _).mono ?_; rintro e w' ⟨rfl, rfl⟩))
  go_ret
  exact ⟨rfl, by first | exact bel1 _ _ | exact (bel1 _ _).drew⟩

set_option maxRecDepth 100000 in
set_option maxHeartbeats 1000000 in
theorem valid_b (x y : Int) (c : Bool) (w : World) (h1 : inB x 0 65535 = true) (h2 : inB y 0 4294967295 = false) :
    Calls Tryd.prog 20 #[.agg #[.int .i64 x, .int .i64 y], .bool c] w fun e w' => e = .returned (.int .i64 1) ∧ Below w.heap.size w w' := by
  go_enter Tryd.func20, Tryd.ntmps20
  go_wp2_with (first | (go_at_call 39; refine (within_any _ _ _ _).mono ?_; rintro e w' ⟨rfl, rfl⟩) | (go_at_call 40; refine (push_any _ _).mono ?_; rintro e w' ⟨rfl, rfl⟩))
  go_ret
  exact ⟨rfl, by first | exact bel1 _ _ | exact (bel1 _ _).drew⟩

set_option maxRecDepth 100000 in
set_option maxHeartbeats 1000000 in
theorem valid_c (x y : Int) (c : Bool) (w : World) (h1 : inB x 0 65535 = true) (h2 : inB y 0 4294967295 = true) (h3 : x = 2) (h4 : pushS c < y) :
    Calls Tryd.prog 20 #[.agg #[.int .i64 x, .int .i64 y], .bool c] w fun e w' => e = .returned (.int .i64 1) ∧ Below w.heap.size w w' := by
  subst h3
  go_enter Tryd.func20, Tryd.ntmps20
  go_wp2_with (first | (go_at_call 39; refine (within_any _ _ _ _).mono ?_; rintro e w' ⟨rfl, rfl⟩) | (go_at_call 40; refine (push_any _ _).mono ?_; rintro e w' ⟨rfl, rfl⟩))
  go_region_law (first | (refine step_value 40 _ _ rfl ?_; go_simp; go_wp2_with (go_at_call 40; refine (push_any _ _).mono ?_; rintro e w' ⟨rfl, rfl⟩)))
  all_goals
    go_wp2_with (first | (go_at_call 39; refine (within_any _ _ _ _).mono ?_; rintro e w' ⟨rfl, rfl⟩) | (go_at_call 40; refine (push_any _ _).mono ?_; rintro e w' ⟨rfl, rfl⟩))
    go_ret
    exact ⟨rfl, by first | exact bel1 _ _ | exact (bel1 _ _).drew⟩

set_option maxRecDepth 100000 in
set_option maxHeartbeats 1000000 in
theorem valid_d (x y : Int) (c : Bool) (w : World) (h1 : inB x 0 65535 = true) (h2 : inB y 0 4294967295 = true) (h3 : x = 2) (h4 : ¬ pushS c < y) :
    Calls Tryd.prog 20 #[.agg #[.int .i64 x, .int .i64 y], .bool c] w fun e w' => e = .returned (.int .i64 0) ∧ Below w.heap.size w w' := by
  subst h3
  go_enter Tryd.func20, Tryd.ntmps20
  go_wp2_with (first | (go_at_call 39; refine (within_any _ _ _ _).mono ?_; rintro e w' ⟨rfl, rfl⟩) | (go_at_call 40; refine (push_any _ _).mono ?_; rintro e w' ⟨rfl, rfl⟩))
  go_region_law (first | (refine step_value 40 _ _ rfl ?_; go_simp; go_wp2_with (go_at_call 40; refine (push_any _ _).mono ?_; rintro e w' ⟨rfl, rfl⟩)))
  all_goals
    go_wp2_with (first | (go_at_call 39; refine (within_any _ _ _ _).mono ?_; rintro e w' ⟨rfl, rfl⟩) | (go_at_call 40; refine (push_any _ _).mono ?_; rintro e w' ⟨rfl, rfl⟩))
    go_ret
    exact ⟨rfl, by first | exact bel1 _ _ | exact (bel1 _ _).drew⟩

set_option maxRecDepth 100000 in
set_option maxHeartbeats 1000000 in
theorem valid_e (x y : Int) (c : Bool) (w : World) (h1 : inB x 0 65535 = true) (h2 : inB y 0 4294967295 = true) (h3 : x = 4) (h4 : 2147483647 < y) :
    Calls Tryd.prog 20 #[.agg #[.int .i64 x, .int .i64 y], .bool c] w fun e w' => e = .returned (.int .i64 3) ∧ Below w.heap.size w w' := by
  subst h3
  go_enter Tryd.func20, Tryd.ntmps20
  go_wp2_with (first | (go_at_call 39; refine (within_any _ _ _ _).mono ?_; rintro e w' ⟨rfl, rfl⟩) | (go_at_call 40; refine (push_any _ _).mono ?_; rintro e w' ⟨rfl, rfl⟩))
  go_region
  all_goals
    go_wp2_with (first | (go_at_call 39; refine (within_any _ _ _ _).mono ?_; rintro e w' ⟨rfl, rfl⟩) | (go_at_call 40; refine (push_any _ _).mono ?_; rintro e w' ⟨rfl, rfl⟩))
    go_ret
    exact ⟨rfl, by first | exact bel1 _ _ | exact (bel1 _ _).drew⟩

set_option maxRecDepth 100000 in
set_option maxHeartbeats 1000000 in
theorem valid_f (x y : Int) (c : Bool) (w : World) (h1 : inB x 0 65535 = true) (h2 : inB y 0 4294967295 = true) (h3 : x = 4) (h4 : ¬ 2147483647 < y) :
    Calls Tryd.prog 20 #[.agg #[.int .i64 x, .int .i64 y], .bool c] w fun e w' => e = .returned (.int .i64 0) ∧ Below w.heap.size w w' := by
  subst h3
  go_enter Tryd.func20, Tryd.ntmps20
  go_wp2_with (first | (go_at_call 39; refine (within_any _ _ _ _).mono ?_; rintro e w' ⟨rfl, rfl⟩) | (go_at_call 40; refine (push_any _ _).mono ?_; rintro e w' ⟨rfl, rfl⟩))
  go_region
  all_goals
    go_wp2_with (first | (go_at_call 39; refine (within_any _ _ _ _).mono ?_; rintro e w' ⟨rfl, rfl⟩) | (go_at_call 40; refine (push_any _ _).mono ?_; rintro e w' ⟨rfl, rfl⟩))
    go_ret
    exact ⟨rfl, by first | exact bel1 _ _ | exact (bel1 _ _).drew⟩

set_option maxRecDepth 100000 in
set_option maxHeartbeats 1000000 in
theorem valid_g (x y : Int) (c : Bool) (w : World) (h1 : inB x 0 65535 = true) (h2 : inB y 0 4294967295 = true) (h3 : x = 5) (h4 : inB y 16384 16777215 = false) :
    Calls Tryd.prog 20 #[.agg #[.int .i64 x, .int .i64 y], .bool c] w fun e w' => e = .returned (.int .i64 1) ∧ Below w.heap.size w w' := by
  subst h3
  go_enter Tryd.func20, Tryd.ntmps20
  go_wp2_with (first | (go_at_call 39; refine (within_any _ _ _ _).mono ?_; rintro e w' ⟨rfl, rfl⟩) | (go_at_call 40; refine (push_any _ _).mono ?_; rintro e w' ⟨rfl, rfl⟩))
  go_region
  all_goals
    go_wp2_with (first | (go_at_call 39; refine (within_any _ _ _ _).mono ?_; rintro e w' ⟨rfl, rfl⟩) | (go_at_call 40; refine (push_any _ _).mono ?_; rintro e w' ⟨rfl, rfl⟩))
    go_ret
    exact ⟨rfl, by first | exact bel1 _ _ | exact (bel1 _ _).drew⟩

set_option maxRecDepth 100000 in
set_option maxHeartbeats 1000000 in
theorem valid_h (x y : Int) (c : Bool) (w : World) (h1 : inB x 0 65535 = true) (h2 : inB y 0 4294967295 = true) (h3 : x = 5) (h4 : inB y 16384 16777215 = true) :
    Calls Tryd.prog 20 #[.agg #[.int .i64 x, .int .i64 y], .bool c] w fun e w' => e = .returned (.int .i64 0) ∧ Below w.heap.size w w' := by
  subst h3
  go_enter Tryd.func20, Tryd.ntmps20
  go_wp2_with (first | (go_at_call 39; refine (within_any _ _ _ _).mono ?_; rintro e w' ⟨rfl, rfl⟩) | (go_at_call 40; refine (push_any _ _).mono ?_; rintro e w' ⟨rfl, rfl⟩))
  go_region
  all_goals
    go_wp2_with (first | (go_at_call 39; refine (within_any _ _ _ _).mono ?_; rintro e w' ⟨rfl, rfl⟩) | (go_at_call 40; refine (push_any _ _).mono ?_; rintro e w' ⟨rfl, rfl⟩))
    go_ret
    exact ⟨rfl, by first | exact bel1 _ _ | exact (bel1 _ _).drew⟩

set_option maxRecDepth 100000 in
set_option maxHeartbeats 1000000 in
theorem valid_i (x y : Int) (c : Bool) (w : World) (h1 : inB x 0 65535 = true) (h2 : inB y 0 4294967295 = true) (h3 : x ≠ 2) (h4 : x ≠ 4) (h5 : x ≠ 5) :
    Calls Tryd.prog 20 #[.agg #[.int .i64 x, .int .i64 y], .bool c] w fun e w' => e = .returned (.int .i64 0) ∧ Below w.heap.size w w' := by
  have b3 : (x == 2) = false := by simpa using h3
  have b4 : (x == 4) = false := by simpa using h4
  have b5 : (x == 5) = false := by simpa using h5
  clear h3 h4 h5
  go_enter Tryd.func20, Tryd.ntmps20
  go_wp2_with (first | (go_at_call 39; refine (within_any _ _ _ _).mono ?_; rintro e w' ⟨rfl, rfl⟩) | (go_at_call 40; refine (push_any _ _).mono ?_; rintro e w' ⟨rfl, rfl⟩))
  go_region
  all_goals
    go_wp2_with (first | (go_at_call 39; refine (within_any _ _ _ _).mono ?_; rintro e w' ⟨rfl, rfl⟩) | (go_at_call 40; refine (push_any _ _).mono ?_; rintro e w' ⟨rfl, rfl⟩))
    go_ret
    exact ⟨rfl, by first | exact bel1 _ _ | exact (bel1 _ _).drew⟩

theorem valid_any (x y : Int) (c : Bool) (w : World) :
    Calls Tryd.prog 20 #[.agg #[.int .i64 x, .int .i64 y], .bool c] w fun e w' => e = .returned (.int .i64 (validS (x, y) c)) ∧ Below w.heap.size w w' := by
  have hp : pushS c = if c = true then 1 else 0 := rfl
  unfold validS
  simp only
  by_cases h1 : 0 ≤ x ∧ x ≤ 65535
  · by_cases h2 : 0 ≤ y ∧ y ≤ 4294967295
    · rw [if_neg (by simp [h1, h2])]
      have e1 : inB x 0 65535 = true := by simp [inB, h1]
      have e2 : inB y 0 4294967295 = true := by simp [inB, h2]
      by_cases h3 : x = 2
      · by_cases h4 : pushS c < y
        · rw [if_pos ⟨h3, by rw [← hp]; exact h4⟩]; exact valid_c x y c w e1 e2 h3 h4
        · rw [if_neg (fun h => h4 (by rw [hp]; exact h.2)), if_neg (fun h => by omega), if_neg (fun h => by omega)]; exact valid_d x y c w e1 e2 h3 h4
      · rw [if_neg (fun h => h3 h.1)]
        by_cases h4 : x = 4
        · by_cases h5 : 2147483647 < y
          · rw [if_pos ⟨h4, h5⟩]; exact valid_e x y c w e1 e2 h4 h5
          · rw [if_neg (fun h => h5 h.2), if_neg (fun h => by omega)]; exact valid_f x y c w e1 e2 h4 h5
        · rw [if_neg (fun h => h4 h.1)]
          by_cases h5 : x = 5
          · by_cases h6 : 16384 ≤ y ∧ y ≤ 16777215
            · rw [if_neg (fun h => h.2 h6)]; exact valid_h x y c w e1 e2 h5 (by simp [inB, h6])
            · rw [if_pos ⟨h5, h6⟩]; exact valid_g x y c w e1 e2 h5 (by simpa [inB] using h6)
          · rw [if_neg (fun h => h5 h.1)]; exact valid_i x y c w e1 e2 h3 h4 h5
    · rw [if_pos (.inr h2)]
      exact valid_b x y c w (by simp [inB, h1]) (by simpa [inB] using h2)
  · rw [if_pos (.inl h1)]
    exact valid_a x y c w (by simpa [inB] using h1)
end Go.Proofs.YtfkimdgbkfogcaaDoor
