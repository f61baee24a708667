/- one. -/
import Derived.Test.YtfkimdgbkfogcaaDoorD1
namespace Go.Proofs.YtfkimdgbkfogcaaDoor
open Go.RowKit
set_option linter.unusedVariables false
set_option linter.unusedSimpArgs false

set_option maxRecDepth 100000 in
set_option maxHeartbeats 2000000 in
theorem one_1h (s1 s2 s3 s4 s5 s6 y : Int) (w : World) (hT : Top w) (h : 2147483647 < y) : Calls Tryd.prog 41 #[.agg #[.int .i64 s1, .int .i64 s2, .int .i64 s3, .int .i64 s4, .int .i64 s5, .int .i64 s6], .agg #[.int .i64 1, .int .i64 y]] w fun e w' => e = .returned (.agg #[.int .i64 2147483647, .int .i64 s2, .int .i64 s3, .int .i64 s4, .int .i64 s5, .int .i64 s6]) ∧ Below w.heap.size w w' := by
  obtain ⟨t, hT⟩ := hT
  have hw : 1 < w.heap.size := heap_lt hT
  have hw0 : 0 < w.heap.size := by omega
  obtain ⟨t0, t1, t2, t3, t4, t5⟩ := c6 hT
  simp only [St.top] at t0 t1 t2 t3 t4 t5
  have h6 := fun a b c d e f W => six_any ⟨a, b, c, d, e, f⟩ W
  have h7 := fun a b c d e f W => rset_any ⟨a, b, c, d, e, f⟩ W
  simp only [St.a] at h6 h7
  clear hT
  go_enter Tryd.func41, Tryd.ntmps41
  go_wp2_with (first | (go_at_call 42; refine (h6 _ _ _ _ _ _ _).mono ?_; rintro e w' ⟨rfl, rfl⟩) | (go_at_call 43; refine (h7 _ _ _ _ _ _ _).mono ?_; rintro e w' ⟨rfl, rfl⟩))
  go_region
  all_goals
    go_wp2_with (first | (go_at_call 43; refine (h7 _ _ _ _ _ _ _).mono ?_; rintro e w' ⟨rfl, rfl⟩))
    go_region
    all_goals
      go_wp2_with (first | (go_at_call 43; refine (h7 _ _ _ _ _ _ _).mono ?_; rintro e w' ⟨rfl, rfl⟩))
      refine bodyPost_ret (results_cell_row (p := 4) (ty := 27) rfl _ _ (w.heap.size + 1 + 1) 27 #[.int .i64 2147483647, .int .i64 s2, .int .i64 s3, .int .i64 s4, .int .i64 s5, .int .i64 s6] (0, 0) _ rfl ?hr Tryd.underlying27 rfl (by kernel_rfl)) rfl ⟨rfl, ?_⟩
      case hr => (simp only [heap_al, heap_dr, size_al, size_dr]; repeat (first | rw [if_pos trivial] | rw [if_pos (by omega)] | rw [if_neg (by omega)]))
      repeat (first | exact Below.refl _ _ | apply Below.drew | (refine Below.alloc ?_ (by first | omega | (simp only [size_al, size_dr]; omega)) _))
set_option maxRecDepth 100000 in
set_option maxHeartbeats 2000000 in
theorem one_1l (s1 s2 s3 s4 s5 s6 y : Int) (w : World) (hT : Top w) (h : ¬ 2147483647 < y) : Calls Tryd.prog 41 #[.agg #[.int .i64 s1, .int .i64 s2, .int .i64 s3, .int .i64 s4, .int .i64 s5, .int .i64 s6], .agg #[.int .i64 1, .int .i64 y]] w fun e w' => e = .returned (.agg #[.int .i64 y, .int .i64 s2, .int .i64 s3, .int .i64 s4, .int .i64 s5, .int .i64 s6]) ∧ Below w.heap.size w w' := by
  obtain ⟨t, hT⟩ := hT
  have hw : 1 < w.heap.size := heap_lt hT
  have hw0 : 0 < w.heap.size := by omega
  obtain ⟨t0, t1, t2, t3, t4, t5⟩ := c6 hT
  simp only [St.top] at t0 t1 t2 t3 t4 t5
  have h6 := fun a b c d e f W => six_any ⟨a, b, c, d, e, f⟩ W
  have h7 := fun a b c d e f W => rset_any ⟨a, b, c, d, e, f⟩ W
  simp only [St.a] at h6 h7
  clear hT
  go_enter Tryd.func41, Tryd.ntmps41
  go_wp2_with (first | (go_at_call 42; refine (h6 _ _ _ _ _ _ _).mono ?_; rintro e w' ⟨rfl, rfl⟩) | (go_at_call 43; refine (h7 _ _ _ _ _ _ _).mono ?_; rintro e w' ⟨rfl, rfl⟩))
  go_region
  all_goals
    go_wp2_with (first | (go_at_call 43; refine (h7 _ _ _ _ _ _ _).mono ?_; rintro e w' ⟨rfl, rfl⟩))
    refine bodyPost_ret (results_cell_row (p := 4) (ty := 27) rfl _ _ (w.heap.size + 1 + 1) 27 #[.int .i64 y, .int .i64 s2, .int .i64 s3, .int .i64 s4, .int .i64 s5, .int .i64 s6] (0, 0) _ rfl ?hr Tryd.underlying27 rfl (by kernel_rfl)) rfl ⟨rfl, ?_⟩
    case hr => (simp only [heap_al, heap_dr, size_al, size_dr]; repeat (first | rw [if_pos trivial] | rw [if_pos (by omega)] | rw [if_neg (by omega)]))
    repeat (first | exact Below.refl _ _ | apply Below.drew | (refine Below.alloc ?_ (by first | omega | (simp only [size_al, size_dr]; omega)) _))
set_option maxRecDepth 100000 in
set_option maxHeartbeats 2000000 in
theorem one_2l (s1 s2 s3 s4 s5 s6 y : Int) (w : World) (hT : Top w) (h : ¬ 1 < y) : Calls Tryd.prog 41 #[.agg #[.int .i64 s1, .int .i64 s2, .int .i64 s3, .int .i64 s4, .int .i64 s5, .int .i64 s6], .agg #[.int .i64 2, .int .i64 y]] w fun e w' => e = .returned (.agg #[.int .i64 s1, .int .i64 y, .int .i64 s3, .int .i64 s4, .int .i64 s5, .int .i64 s6]) ∧ Below w.heap.size w w' := by
  obtain ⟨t, hT⟩ := hT
  have hw : 1 < w.heap.size := heap_lt hT
  have hw0 : 0 < w.heap.size := by omega
  obtain ⟨t0, t1, t2, t3, t4, t5⟩ := c6 hT
  simp only [St.top] at t0 t1 t2 t3 t4 t5
  have h6 := fun a b c d e f W => six_any ⟨a, b, c, d, e, f⟩ W
  have h7 := fun a b c d e f W => rset_any ⟨a, b, c, d, e, f⟩ W
  simp only [St.a] at h6 h7
  clear hT
  go_enter Tryd.func41, Tryd.ntmps41
  go_wp2_with (first | (go_at_call 42; refine (h6 _ _ _ _ _ _ _).mono ?_; rintro e w' ⟨rfl, rfl⟩) | (go_at_call 43; refine (h7 _ _ _ _ _ _ _).mono ?_; rintro e w' ⟨rfl, rfl⟩))
  go_region
  all_goals
    go_wp2_with (first | (go_at_call 43; refine (h7 _ _ _ _ _ _ _).mono ?_; rintro e w' ⟨rfl, rfl⟩))
    refine bodyPost_ret (results_cell_row (p := 4) (ty := 27) rfl _ _ (w.heap.size + 1 + 1) 27 #[.int .i64 s1, .int .i64 y, .int .i64 s3, .int .i64 s4, .int .i64 s5, .int .i64 s6] (0, 0) _ rfl ?hr Tryd.underlying27 rfl (by kernel_rfl)) rfl ⟨rfl, ?_⟩
    case hr => (simp only [heap_al, heap_dr, size_al, size_dr]; repeat (first | rw [if_pos trivial] | rw [if_pos (by omega)] | rw [if_neg (by omega)]))
    repeat (first | exact Below.refl _ _ | apply Below.drew | (refine Below.alloc ?_ (by first | omega | (simp only [size_al, size_dr]; omega)) _))
set_option maxRecDepth 100000 in
set_option maxHeartbeats 2000000 in
theorem one_3h (s1 s2 s3 s4 s5 s6 y : Int) (w : World) (hT : Top w) (h : 2147483647 < y) : Calls Tryd.prog 41 #[.agg #[.int .i64 s1, .int .i64 s2, .int .i64 s3, .int .i64 s4, .int .i64 s5, .int .i64 s6], .agg #[.int .i64 3, .int .i64 y]] w fun e w' => e = .returned (.agg #[.int .i64 s1, .int .i64 s2, .int .i64 2147483647, .int .i64 s4, .int .i64 s5, .int .i64 s6]) ∧ Below w.heap.size w w' := by
  obtain ⟨t, hT⟩ := hT
  have hw : 1 < w.heap.size := heap_lt hT
  have hw0 : 0 < w.heap.size := by omega
  obtain ⟨t0, t1, t2, t3, t4, t5⟩ := c6 hT
  simp only [St.top] at t0 t1 t2 t3 t4 t5
  have h6 := fun a b c d e f W => six_any ⟨a, b, c, d, e, f⟩ W
  have h7 := fun a b c d e f W => rset_any ⟨a, b, c, d, e, f⟩ W
  simp only [St.a] at h6 h7
  clear hT
  go_enter Tryd.func41, Tryd.ntmps41
  go_wp2_with (first | (go_at_call 42; refine (h6 _ _ _ _ _ _ _).mono ?_; rintro e w' ⟨rfl, rfl⟩) | (go_at_call 43; refine (h7 _ _ _ _ _ _ _).mono ?_; rintro e w' ⟨rfl, rfl⟩))
  go_region
  all_goals
    go_wp2_with (first | (go_at_call 43; refine (h7 _ _ _ _ _ _ _).mono ?_; rintro e w' ⟨rfl, rfl⟩))
    go_region
    all_goals
      go_wp2_with (first | (go_at_call 43; refine (h7 _ _ _ _ _ _ _).mono ?_; rintro e w' ⟨rfl, rfl⟩))
      refine bodyPost_ret (results_cell_row (p := 4) (ty := 27) rfl _ _ (w.heap.size + 1 + 1) 27 #[.int .i64 s1, .int .i64 s2, .int .i64 2147483647, .int .i64 s4, .int .i64 s5, .int .i64 s6] (0, 0) _ rfl ?hr Tryd.underlying27 rfl (by kernel_rfl)) rfl ⟨rfl, ?_⟩
      case hr => (simp only [heap_al, heap_dr, size_al, size_dr]; repeat (first | rw [if_pos trivial] | rw [if_pos (by omega)] | rw [if_neg (by omega)]))
      repeat (first | exact Below.refl _ _ | apply Below.drew | (refine Below.alloc ?_ (by first | omega | (simp only [size_al, size_dr]; omega)) _))
set_option maxRecDepth 100000 in
set_option maxHeartbeats 2000000 in
theorem one_3l (s1 s2 s3 s4 s5 s6 y : Int) (w : World) (hT : Top w) (h : ¬ 2147483647 < y) : Calls Tryd.prog 41 #[.agg #[.int .i64 s1, .int .i64 s2, .int .i64 s3, .int .i64 s4, .int .i64 s5, .int .i64 s6], .agg #[.int .i64 3, .int .i64 y]] w fun e w' => e = .returned (.agg #[.int .i64 s1, .int .i64 s2, .int .i64 y, .int .i64 s4, .int .i64 s5, .int .i64 s6]) ∧ Below w.heap.size w w' := by
  obtain ⟨t, hT⟩ := hT
  have hw : 1 < w.heap.size := heap_lt hT
  have hw0 : 0 < w.heap.size := by omega
  obtain ⟨t0, t1, t2, t3, t4, t5⟩ := c6 hT
  simp only [St.top] at t0 t1 t2 t3 t4 t5
  have h6 := fun a b c d e f W => six_any ⟨a, b, c, d, e, f⟩ W
  have h7 := fun a b c d e f W => rset_any ⟨a, b, c, d, e, f⟩ W
  simp only [St.a] at h6 h7
  clear hT
  go_enter Tryd.func41, Tryd.ntmps41
  go_wp2_with (first | (go_at_call 42; refine (h6 _ _ _ _ _ _ _).mono ?_; rintro e w' ⟨rfl, rfl⟩) | (go_at_call 43; refine (h7 _ _ _ _ _ _ _).mono ?_; rintro e w' ⟨rfl, rfl⟩))
  go_region
  all_goals
    go_wp2_with (first | (go_at_call 43; refine (h7 _ _ _ _ _ _ _).mono ?_; rintro e w' ⟨rfl, rfl⟩))
    refine bodyPost_ret (results_cell_row (p := 4) (ty := 27) rfl _ _ (w.heap.size + 1 + 1) 27 #[.int .i64 s1, .int .i64 s2, .int .i64 y, .int .i64 s4, .int .i64 s5, .int .i64 s6] (0, 0) _ rfl ?hr Tryd.underlying27 rfl (by kernel_rfl)) rfl ⟨rfl, ?_⟩
    case hr => (simp only [heap_al, heap_dr, size_al, size_dr]; repeat (first | rw [if_pos trivial] | rw [if_pos (by omega)] | rw [if_neg (by omega)]))
    repeat (first | exact Below.refl _ _ | apply Below.drew | (refine Below.alloc ?_ (by first | omega | (simp only [size_al, size_dr]; omega)) _))
set_option maxRecDepth 100000 in
set_option maxHeartbeats 2000000 in
theorem one_4l (s1 s2 s3 s4 s5 s6 y : Int) (w : World) (hT : Top w) (h : ¬ 2147483647 < y) : Calls Tryd.prog 41 #[.agg #[.int .i64 s1, .int .i64 s2, .int .i64 s3, .int .i64 s4, .int .i64 s5, .int .i64 s6], .agg #[.int .i64 4, .int .i64 y]] w fun e w' => e = .returned (.agg #[.int .i64 s1, .int .i64 s2, .int .i64 s3, .int .i64 y, .int .i64 s5, .int .i64 s6]) ∧ Below w.heap.size w w' := by
  obtain ⟨t, hT⟩ := hT
  have hw : 1 < w.heap.size := heap_lt hT
  have hw0 : 0 < w.heap.size := by omega
  obtain ⟨t0, t1, t2, t3, t4, t5⟩ := c6 hT
  simp only [St.top] at t0 t1 t2 t3 t4 t5
  have h6 := fun a b c d e f W => six_any ⟨a, b, c, d, e, f⟩ W
  have h7 := fun a b c d e f W => rset_any ⟨a, b, c, d, e, f⟩ W
  simp only [St.a] at h6 h7
  clear hT
  go_enter Tryd.func41, Tryd.ntmps41
  go_wp2_with (first | (go_at_call 42; refine (h6 _ _ _ _ _ _ _).mono ?_; rintro e w' ⟨rfl, rfl⟩) | (go_at_call 43; refine (h7 _ _ _ _ _ _ _).mono ?_; rintro e w' ⟨rfl, rfl⟩))
  go_region
  all_goals
    go_wp2_with (first | (go_at_call 43; refine (h7 _ _ _ _ _ _ _).mono ?_; rintro e w' ⟨rfl, rfl⟩))
    refine bodyPost_ret (results_cell_row (p := 4) (ty := 27) rfl _ _ (w.heap.size + 1 + 1) 27 #[.int .i64 s1, .int .i64 s2, .int .i64 s3, .int .i64 y, .int .i64 s5, .int .i64 s6] (0, 0) _ rfl ?hr Tryd.underlying27 rfl (by kernel_rfl)) rfl ⟨rfl, ?_⟩
    case hr => (simp only [heap_al, heap_dr, size_al, size_dr]; repeat (first | rw [if_pos trivial] | rw [if_pos (by omega)] | rw [if_neg (by omega)]))
    repeat (first | exact Below.refl _ _ | apply Below.drew | (refine Below.alloc ?_ (by first | omega | (simp only [size_al, size_dr]; omega)) _))
set_option maxRecDepth 100000 in
set_option maxHeartbeats 2000000 in
theorem one_5h (s1 s2 s3 s4 s5 s6 y : Int) (w : World) (hT : Top w) (h : 65536 < y) : Calls Tryd.prog 41 #[.agg #[.int .i64 s1, .int .i64 s2, .int .i64 s3, .int .i64 s4, .int .i64 s5, .int .i64 s6], .agg #[.int .i64 5, .int .i64 y]] w fun e w' => e = .returned (.agg #[.int .i64 s1, .int .i64 s2, .int .i64 s3, .int .i64 s4, .int .i64 65536, .int .i64 s6]) ∧ Below w.heap.size w w' := by
  obtain ⟨t, hT⟩ := hT
  have hw : 1 < w.heap.size := heap_lt hT
  have hw0 : 0 < w.heap.size := by omega
  obtain ⟨t0, t1, t2, t3, t4, t5⟩ := c6 hT
  simp only [St.top] at t0 t1 t2 t3 t4 t5
  have h6 := fun a b c d e f W => six_any ⟨a, b, c, d, e, f⟩ W
  have h7 := fun a b c d e f W => rset_any ⟨a, b, c, d, e, f⟩ W
  simp only [St.a] at h6 h7
  clear hT
  go_enter Tryd.func41, Tryd.ntmps41
  go_wp2_with (first | (go_at_call 42; refine (h6 _ _ _ _ _ _ _).mono ?_; rintro e w' ⟨rfl, rfl⟩) | (go_at_call 43; refine (h7 _ _ _ _ _ _ _).mono ?_; rintro e w' ⟨rfl, rfl⟩))
  go_region
  all_goals
    go_wp2_with (first | (go_at_call 43; refine (h7 _ _ _ _ _ _ _).mono ?_; rintro e w' ⟨rfl, rfl⟩))
    go_region
    all_goals
      go_wp2_with (first | (go_at_call 43; refine (h7 _ _ _ _ _ _ _).mono ?_; rintro e w' ⟨rfl, rfl⟩))
      refine bodyPost_ret (results_cell_row (p := 4) (ty := 27) rfl _ _ (w.heap.size + 1 + 1) 27 #[.int .i64 s1, .int .i64 s2, .int .i64 s3, .int .i64 s4, .int .i64 65536, .int .i64 s6] (0, 0) _ rfl ?hr Tryd.underlying27 rfl (by kernel_rfl)) rfl ⟨rfl, ?_⟩
      case hr => (simp only [heap_al, heap_dr, size_al, size_dr]; repeat (first | rw [if_pos trivial] | rw [if_pos (by omega)] | rw [if_neg (by omega)]))
      repeat (first | exact Below.refl _ _ | apply Below.drew | (refine Below.alloc ?_ (by first | omega | (simp only [size_al, size_dr]; omega)) _))
set_option maxRecDepth 100000 in
set_option maxHeartbeats 2000000 in
theorem one_5l (s1 s2 s3 s4 s5 s6 y : Int) (w : World) (hT : Top w) (h : ¬ 65536 < y) : Calls Tryd.prog 41 #[.agg #[.int .i64 s1, .int .i64 s2, .int .i64 s3, .int .i64 s4, .int .i64 s5, .int .i64 s6], .agg #[.int .i64 5, .int .i64 y]] w fun e w' => e = .returned (.agg #[.int .i64 s1, .int .i64 s2, .int .i64 s3, .int .i64 s4, .int .i64 y, .int .i64 s6]) ∧ Below w.heap.size w w' := by
  obtain ⟨t, hT⟩ := hT
  have hw : 1 < w.heap.size := heap_lt hT
  have hw0 : 0 < w.heap.size := by omega
  obtain ⟨t0, t1, t2, t3, t4, t5⟩ := c6 hT
  simp only [St.top] at t0 t1 t2 t3 t4 t5
  have h6 := fun a b c d e f W => six_any ⟨a, b, c, d, e, f⟩ W
  have h7 := fun a b c d e f W => rset_any ⟨a, b, c, d, e, f⟩ W
  simp only [St.a] at h6 h7
  clear hT
  go_enter Tryd.func41, Tryd.ntmps41
  go_wp2_with (first | (go_at_call 42; refine (h6 _ _ _ _ _ _ _).mono ?_; rintro e w' ⟨rfl, rfl⟩) | (go_at_call 43; refine (h7 _ _ _ _ _ _ _).mono ?_; rintro e w' ⟨rfl, rfl⟩))
  go_region
  all_goals
    go_wp2_with (first | (go_at_call 43; refine (h7 _ _ _ _ _ _ _).mono ?_; rintro e w' ⟨rfl, rfl⟩))
    refine bodyPost_ret (results_cell_row (p := 4) (ty := 27) rfl _ _ (w.heap.size + 1 + 1) 27 #[.int .i64 s1, .int .i64 s2, .int .i64 s3, .int .i64 s4, .int .i64 y, .int .i64 s6] (0, 0) _ rfl ?hr Tryd.underlying27 rfl (by kernel_rfl)) rfl ⟨rfl, ?_⟩
    case hr => (simp only [heap_al, heap_dr, size_al, size_dr]; repeat (first | rw [if_pos trivial] | rw [if_pos (by omega)] | rw [if_neg (by omega)]))
    repeat (first | exact Below.refl _ _ | apply Below.drew | (refine Below.alloc ?_ (by first | omega | (simp only [size_al, size_dr]; omega)) _))
set_option maxRecDepth 100000 in
set_option maxHeartbeats 2000000 in
theorem one_6h (s1 s2 s3 s4 s5 s6 y : Int) (w : World) (hT : Top w) (h : 2147483647 < y) : Calls Tryd.prog 41 #[.agg #[.int .i64 s1, .int .i64 s2, .int .i64 s3, .int .i64 s4, .int .i64 s5, .int .i64 s6], .agg #[.int .i64 6, .int .i64 y]] w fun e w' => e = .returned (.agg #[.int .i64 s1, .int .i64 s2, .int .i64 s3, .int .i64 s4, .int .i64 s5, .int .i64 2147483647]) ∧ Below w.heap.size w w' := by
  obtain ⟨t, hT⟩ := hT
  have hw : 1 < w.heap.size := heap_lt hT
  have hw0 : 0 < w.heap.size := by omega
  obtain ⟨t0, t1, t2, t3, t4, t5⟩ := c6 hT
  simp only [St.top] at t0 t1 t2 t3 t4 t5
  have h6 := fun a b c d e f W => six_any ⟨a, b, c, d, e, f⟩ W
  have h7 := fun a b c d e f W => rset_any ⟨a, b, c, d, e, f⟩ W
  simp only [St.a] at h6 h7
  clear hT
  go_enter Tryd.func41, Tryd.ntmps41
  go_wp2_with (first | (go_at_call 42; refine (h6 _ _ _ _ _ _ _).mono ?_; rintro e w' ⟨rfl, rfl⟩) | (go_at_call 43; refine (h7 _ _ _ _ _ _ _).mono ?_; rintro e w' ⟨rfl, rfl⟩))
  go_region
  all_goals
    go_wp2_with (first | (go_at_call 43; refine (h7 _ _ _ _ _ _ _).mono ?_; rintro e w' ⟨rfl, rfl⟩))
    go_region
    all_goals
      go_wp2_with (first | (go_at_call 43; refine (h7 _ _ _ _ _ _ _).mono ?_; rintro e w' ⟨rfl, rfl⟩))
      refine bodyPost_ret (results_cell_row (p := 4) (ty := 27) rfl _ _ (w.heap.size + 1 + 1) 27 #[.int .i64 s1, .int .i64 s2, .int .i64 s3, .int .i64 s4, .int .i64 s5, .int .i64 2147483647] (0, 0) _ rfl ?hr Tryd.underlying27 rfl (by kernel_rfl)) rfl ⟨rfl, ?_⟩
      case hr => (simp only [heap_al, heap_dr, size_al, size_dr]; repeat (first | rw [if_pos trivial] | rw [if_pos (by omega)] | rw [if_neg (by omega)]))
      repeat (first | exact Below.refl _ _ | apply Below.drew | (refine Below.alloc ?_ (by first | omega | (simp only [size_al, size_dr]; omega)) _))
set_option maxRecDepth 100000 in
set_option maxHeartbeats 2000000 in
theorem one_6l (s1 s2 s3 s4 s5 s6 y : Int) (w : World) (hT : Top w) (h : ¬ 2147483647 < y) : Calls Tryd.prog 41 #[.agg #[.int .i64 s1, .int .i64 s2, .int .i64 s3, .int .i64 s4, .int .i64 s5, .int .i64 s6], .agg #[.int .i64 6, .int .i64 y]] w fun e w' => e = .returned (.agg #[.int .i64 s1, .int .i64 s2, .int .i64 s3, .int .i64 s4, .int .i64 s5, .int .i64 y]) ∧ Below w.heap.size w w' := by
  obtain ⟨t, hT⟩ := hT
  have hw : 1 < w.heap.size := heap_lt hT
  have hw0 : 0 < w.heap.size := by omega
  obtain ⟨t0, t1, t2, t3, t4, t5⟩ := c6 hT
  simp only [St.top] at t0 t1 t2 t3 t4 t5
  have h6 := fun a b c d e f W => six_any ⟨a, b, c, d, e, f⟩ W
  have h7 := fun a b c d e f W => rset_any ⟨a, b, c, d, e, f⟩ W
  simp only [St.a] at h6 h7
  clear hT
  go_enter Tryd.func41, Tryd.ntmps41
  go_wp2_with (first | (go_at_call 42; refine (h6 _ _ _ _ _ _ _).mono ?_; rintro e w' ⟨rfl, rfl⟩) | (go_at_call 43; refine (h7 _ _ _ _ _ _ _).mono ?_; rintro e w' ⟨rfl, rfl⟩))
  go_region
  all_goals
    go_wp2_with (first | (go_at_call 43; refine (h7 _ _ _ _ _ _ _).mono ?_; rintro e w' ⟨rfl, rfl⟩))
    refine bodyPost_ret (results_cell_row (p := 4) (ty := 27) rfl _ _ (w.heap.size + 1 + 1) 27 #[.int .i64 s1, .int .i64 s2, .int .i64 s3, .int .i64 s4, .int .i64 s5, .int .i64 y] (0, 0) _ rfl ?hr Tryd.underlying27 rfl (by kernel_rfl)) rfl ⟨rfl, ?_⟩
    case hr => (simp only [heap_al, heap_dr, size_al, size_dr]; repeat (first | rw [if_pos trivial] | rw [if_pos (by omega)] | rw [if_neg (by omega)]))
    repeat (first | exact Below.refl _ _ | apply Below.drew | (refine Below.alloc ?_ (by first | omega | (simp only [size_al, size_dr]; omega)) _))
set_option maxRecDepth 100000 in
set_option maxHeartbeats 2000000 in
theorem one_lo (s1 s2 s3 s4 s5 s6 x y : Int) (w : World) (h : x < 1) (hb : ¬ 1 ≤ x) : Calls Tryd.prog 41 #[.agg #[.int .i64 s1, .int .i64 s2, .int .i64 s3, .int .i64 s4, .int .i64 s5, .int .i64 s6], .agg #[.int .i64 x, .int .i64 y]] w fun e w' => e = .returned (.agg #[.int .i64 s1, .int .i64 s2, .int .i64 s3, .int .i64 s4, .int .i64 s5, .int .i64 s6]) ∧ Below w.heap.size w w' := by
  have h6 := fun a b c d e f W => six_any ⟨a, b, c, d, e, f⟩ W
  have h7 := fun a b c d e f W => rset_any ⟨a, b, c, d, e, f⟩ W
  simp only [St.a] at h6 h7
  go_enter Tryd.func41, Tryd.ntmps41
  go_wp2_with (first | (go_at_call 42; refine (h6 _ _ _ _ _ _ _).mono ?_; rintro e w' ⟨rfl, rfl⟩) | (go_at_call 43; refine (h7 _ _ _ _ _ _ _).mono ?_; rintro e w' ⟨rfl, rfl⟩))
  refine bodyPost_ret (results_cell_row (p := 4) (ty := 27) rfl _ _ (w.heap.size + 1 + 1) 27 #[.int .i64 s1, .int .i64 s2, .int .i64 s3, .int .i64 s4, .int .i64 s5, .int .i64 s6] (0, 0) _ rfl ?hr Tryd.underlying27 rfl (by kernel_rfl)) rfl ⟨rfl, ?_⟩
  case hr => (simp only [heap_al, heap_dr, size_al, size_dr]; repeat (first | rw [if_pos trivial] | rw [if_pos (by omega)] | rw [if_neg (by omega)]))
  repeat (first | exact Below.refl _ _ | apply Below.drew | (refine Below.alloc ?_ (by first | omega | (simp only [size_al, size_dr]; omega)) _))
set_option maxRecDepth 100000 in
set_option maxHeartbeats 2000000 in
theorem one_other (s1 s2 s3 s4 s5 s6 x y : Int) (w : World) (h : 1 ≤ x) (h2 : 6 < x) (hb : ¬ x ≤ 6) : Calls Tryd.prog 41 #[.agg #[.int .i64 s1, .int .i64 s2, .int .i64 s3, .int .i64 s4, .int .i64 s5, .int .i64 s6], .agg #[.int .i64 x, .int .i64 y]] w fun e w' => e = .returned (.agg #[.int .i64 s1, .int .i64 s2, .int .i64 s3, .int .i64 s4, .int .i64 s5, .int .i64 s6]) ∧ Below w.heap.size w w' := by
  have h6 := fun a b c d e f W => six_any ⟨a, b, c, d, e, f⟩ W
  have h7 := fun a b c d e f W => rset_any ⟨a, b, c, d, e, f⟩ W
  simp only [St.a] at h6 h7
  go_enter Tryd.func41, Tryd.ntmps41
  go_wp2_with (first | (go_at_call 42; refine (h6 _ _ _ _ _ _ _).mono ?_; rintro e w' ⟨rfl, rfl⟩) | (go_at_call 43; refine (h7 _ _ _ _ _ _ _).mono ?_; rintro e w' ⟨rfl, rfl⟩))
  refine bodyPost_ret (results_cell_row (p := 4) (ty := 27) rfl _ _ (w.heap.size + 1 + 1) 27 #[.int .i64 s1, .int .i64 s2, .int .i64 s3, .int .i64 s4, .int .i64 s5, .int .i64 s6] (0, 0) _ rfl ?hr Tryd.underlying27 rfl (by kernel_rfl)) rfl ⟨rfl, ?_⟩
  case hr => (simp only [heap_al, heap_dr, size_al, size_dr]; repeat (first | rw [if_pos trivial] | rw [if_pos (by omega)] | rw [if_neg (by omega)]))
  repeat (first | exact Below.refl _ _ | apply Below.drew | (refine Below.alloc ?_ (by first | omega | (simp only [size_al, size_dr]; omega)) _))

theorem one_any (s : St) (q : Int × Int) (c : Bool) (hv : validS q c = 0) (w : World) (hT : Top w) : Calls Tryd.prog 41 #[.agg s.a, .agg #[.int .i64 q.1, .int .i64 q.2]] w fun e w' => e = .returned (.agg (withS s q).a) ∧ Below w.heap.size w w' := by
  obtain ⟨s1, s2, s3, s4, s5, s6⟩ := s
  obtain ⟨x, y⟩ := q
  have hr : (0 ≤ x ∧ x ≤ 65535) ∧ (0 ≤ y ∧ y ≤ 4294967295) ∧ (x = 2 → y ≤ 1) ∧ (x = 4 → y ≤ 2147483647) := by
    unfold validS at hv
    simp only at hv
    by_cases h1 : ¬ (0 ≤ x ∧ x ≤ 65535) ∨ ¬ (0 ≤ y ∧ y ≤ 4294967295)
    · rw [if_pos h1] at hv; omega
    · rw [if_neg h1] at hv
      refine ⟨by omega, by omega, fun h2 => ?_, fun h4 => ?_⟩
      · by_cases h3 : y ≤ 1
        · exact h3
        · rw [if_pos ⟨h2, by cases c <;> simp <;> omega⟩] at hv; omega
      · by_cases h3 : y ≤ 2147483647
        · exact h3
        · rw [if_neg (by omega), if_pos ⟨h4, by omega⟩] at hv; omega
  obtain ⟨⟨hx0, hx1⟩, ⟨hy0, hy1⟩, hr2, hr4⟩ := hr
  have hmin : ∀ a b : Int, b < a → min a b = b := fun a b h => by omega
  have hmin2 : ∀ a b : Int, ¬ b < a → min a b = a := fun a b h => by omega
  unfold withS St.a
  simp only
  by_cases h1 : x = 1
  · subst h1
    by_cases h : 2147483647 < y
    · simp only [if_true, hmin _ _ h]; exact one_1h s1 s2 s3 s4 s5 s6 y w hT h
    · simp only [if_true, hmin2 _ _ h]; exact one_1l s1 s2 s3 s4 s5 s6 y w hT h
  by_cases h2 : x = 2
  · subst h2; exact one_2l s1 s2 s3 s4 s5 s6 y w hT (by have := hr2 rfl; omega)
  by_cases h3 : x = 3
  · subst h3
    by_cases h : 2147483647 < y
    · have e := hmin _ _ h
      simp only [e]; exact one_3h s1 s2 s3 s4 s5 s6 y w hT h
    · have e := hmin2 _ _ h
      simp only [e]; exact one_3l s1 s2 s3 s4 s5 s6 y w hT h
  by_cases h4 : x = 4
  · subst h4; exact one_4l s1 s2 s3 s4 s5 s6 y w hT (by have := hr4 rfl; omega)
  by_cases h5 : x = 5
  · subst h5
    by_cases h : 65536 < y
    · have e := hmin _ _ h
      simp only [e]; exact one_5h s1 s2 s3 s4 s5 s6 y w hT h
    · have e := hmin2 _ _ h
      simp only [e]; exact one_5l s1 s2 s3 s4 s5 s6 y w hT h
  by_cases h6 : x = 6
  · subst h6
    by_cases h : 2147483647 < y
    · have e := hmin _ _ h
      simp only [e]; exact one_6h s1 s2 s3 s4 s5 s6 y w hT h
    · have e := hmin2 _ _ h
      simp only [e]; exact one_6l s1 s2 s3 s4 s5 s6 y w hT h
  rw [if_neg h1, if_neg h2, if_neg h3, if_neg h4, if_neg h5, if_neg h6]
  by_cases h : x < 1
  · exact one_lo s1 s2 s3 s4 s5 s6 x y w h (by omega)
  · exact one_other s1 s2 s3 s4 s5 s6 x y w (by omega) (by omega) (by omega)
end Go.Proofs.YtfkimdgbkfogcaaDoor
