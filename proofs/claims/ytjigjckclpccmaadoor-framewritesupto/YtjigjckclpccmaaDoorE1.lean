/- The document's small functions. -/
import Derived.Test.YtjigjckclpccmaaDoorA7
namespace Go.Proofs.YtjigjckclpccmaaDoor
open Go.RowKit
set_option linter.unusedVariables false
set_option linter.unusedSimpArgs false

set_option maxRecDepth 100000 in
set_option maxHeartbeats 800000 in
theorem get_any (s : ByteArray) (w : World) (hs : s.size ≤ 4) :
    Calls Tryd.prog 27 #[.string s] w fun e w' => e = .returned (.int .i64 (numS s : Int)) ∧ w' = w := by
  go_enter Tryd.func27, Tryd.ntmps27
  go_wp2
  go_loop [3, 4] (fun v i => ∃ k x : Nat, k ≤ s.size ∧ i = .int .i64 (k : Int) ∧ v = .int .i64 (x : Int) ∧ Hid (x = numL (s.data.toList.take k))) (fun _ i => s.size - (intOf i).toNat)
  case atStart => exact ⟨0, 0, by omega, rfl, rfl, rfl⟩
  case round =>
    obtain ⟨k, x, hk, rfl, rfl, H⟩ := hrel
    by_cases hlt : k < s.size
    · have hx : x < 16777216 := by
        have h1 := numL_lt (s.data.toList.take k)
        have h2 : (s.data.toList.take k).length ≤ 3 := by rw [List.length_take]; omega
        have h3 : 256 ^ (s.data.toList.take k).length ≤ 256 ^ 3 := Nat.pow_le_pow_right (by decide) h2
        have := H.out
        omega
      have hb : s[k].toNat < 256 := s[k].toNat_lt
      have HN : Hid (x * 256 + s[k].toNat = numL (s.data.toList.take (k + 1))) := by
        show _ = _
        rw [take_num s k hlt, ← H.out]
      obtain ⟨y, hy⟩ : ∃ y : Nat, 256 * (x : Int) + (s[k].toNat : Int) = (y : Int) := ⟨x * 256 + s[k].toNat, by omega⟩
      have HN' : Hid (y = numL (s.data.toList.take (k + 1))) := by
        show _ = _
        rw [← HN.out]; omega
      clear H HN
      go_wp2
      go_round
      case rel => exact ⟨k + 1, y, by omega, by simp, by first | rfl | rw [hy], HN'⟩
      case measure => simp [intOf]; omega
    · obtain rfl : k = s.size := by omega
      have HN : Hid (x = numS s) := by
        show _ = _
        rw [H.out, numS, List.take_of_length_le (by simp)]
      clear H
      go_wp2
      go_ret
      have h := HN.out
      subst h
      exact ⟨rfl, rfl⟩

set_option maxHeartbeats 800000 in
theorem id_any (s : ByteArray) (w : World) (hs : s.size ≤ 4) :
    Calls Tryd.prog 28 #[.string s] w fun e w' => e = .returned (.int .i64 ((numS s : Int) % 2147483648)) ∧ w' = w := by
  have h : ((numS s : Int)).tmod 2147483648 = (numS s : Int) % 2147483648 := Int.tmod_eq_emod_of_nonneg (by omega)
  go_enter Tryd.func28, Tryd.ntmps28
  go_wp2_with (go_at_call 27; refine (get_any s w hs).mono ?_; rintro e w' ⟨rfl, rfl⟩)
  go_ret
  exact ⟨by first | rfl | rw [h], rfl⟩

theorem has_all : ((List.range 256).all fun x => ([1, 8, 32] : List Nat).all fun m => decide ((x / m % 2 : Nat) = 1) == hasF (x : Int) (m : Int)) = true := by decide +kernel
theorem has_eq (x m : Nat) (hx : x < 256) (hm : m = 1 ∨ m = 8 ∨ m = 32) : decide ((x / m % 2 : Nat) = 1) = hasF (x : Int) (m : Int) := by
  have h1 := List.all_eq_true.1 has_all x (by simpa using hx)
  have h2 := List.all_eq_true.1 h1 m (by rcases hm with rfl | rfl | rfl <;> simp)
  exact eq_of_beq h2

set_option maxHeartbeats 800000 in
theorem has_any (x m : Nat) (hx : x < 256) (hm : m = 1 ∨ m = 8 ∨ m = 32) (w : World) :
    Calls Tryd.prog 42 #[.int .i64 (x : Int), .int .i64 (m : Int)] w fun e w' => e = .returned (.bool (hasF (x : Int) (m : Int))) ∧ w' = w := by
  rw [← has_eq x m hx hm]
  have hm0 : (m : Int) ≠ 0 := by rcases hm with rfl | rfl | rfl <;> decide
  have h1 : (x : Int).tdiv (m : Int) = ((x / m : Nat) : Int) := by rw [Int.tdiv_eq_ediv_of_nonneg (by omega)]; rfl
  have h2 : ((x / m : Nat) : Int).tmod 2 = ((x / m % 2 : Nat) : Int) := by rw [Int.tmod_eq_emod_of_nonneg (Int.natCast_nonneg _)]; rfl
  obtain ⟨y, hy⟩ : ∃ y : Nat, x / m % 2 = y := ⟨_, rfl⟩
  obtain ⟨z, hz⟩ : ∃ z : Nat, x / m = z := ⟨_, rfl⟩
  have hzl : z ≤ 255 := by rw [← hz]; exact Nat.le_trans (Nat.div_le_self _ _) (by omega)
  have hwz : wrap64 (z : Int) = (z : Int) := wrap64_small _ (by omega) (by omega)
  rw [hz] at h1 h2 hy ⊢
  rw [hy] at h2 ⊢
  go_enter Tryd.func42, Tryd.ntmps42
  go_wp2
  go_ret
  refine ⟨?_, rfl⟩
  congr 2
  by_cases h : y = 1
  · simp [h]
  · simp [h]; omega

def mpS (T X : Nat) : Bool := (decide (T = 0) || decide (T = 1) || decide (T = 5)) && hasF (X : Int) 8

theorem cases_T (T : Nat) : T = 0 ∨ T = 1 ∨ T = 2 ∨ T = 3 ∨ T = 4 ∨ T = 5 ∨ T = 6 ∨ T = 7 ∨ T = 8 ∨ T = 9 ∨ 10 ≤ T := by omega

set_option maxHeartbeats 2000000 in
theorem mayPad_any (T X : Nat) (hX : X < 256) (w : World) :
    Calls Tryd.prog 43 #[.int .i64 (T : Int), .int .i64 (X : Int)] w fun e w' => e = .returned (.bool (mpS T X)) ∧ w' = w := by
  unfold mpS
  obtain ⟨h, hh⟩ : ∃ h, hasF (X : Int) 8 = h := ⟨_, rfl⟩
  have hc : Hid (∀ W : World, Calls Tryd.prog 42 #[.int .i64 (X : Int), .int .i64 8] W fun e w' => e = .returned (.bool h) ∧ w' = W) := fun W => by
    have := has_any X 8 hX (by simp) W
    rw [show ((8 : Nat) : Int) = 8 from rfl, hh] at this
    exact this
  rw [hh]
  clear hh
  rcases cases_T T with rfl | rfl | rfl | rfl | rfl | rfl | rfl | rfl | rfl | rfl | hT
  rotate_left 10
  · have t0 : ((T : Int) == 0) = false := by simp; omega
    have t1 : ((T : Int) == 1) = false := by simp; omega
    have t5 : ((T : Int) == 5) = false := by simp; omega
    go_enter Tryd.func43, Tryd.ntmps43
    go_wp2_with (go_at_call 42; refine (hc.out _).mono ?_; rintro e w' ⟨rfl, rfl⟩)
    go_ret
    exact ⟨by simp [show T ≠ 0 by omega, show T ≠ 1 by omega, show T ≠ 5 by omega], rfl⟩
  all_goals
    go_enter Tryd.func43, Tryd.ntmps43
    go_wp2_with (go_at_call 42; refine (hc.out _).mono ?_; rintro e w' ⟨rfl, rfl⟩)
    go_ret
    exact ⟨by simp, rfl⟩

theorem idx52 (k : Nat) (W : World) (hk : k < 10) : (Instr.index 52 (.agg #[.int .i64 9, .int .i64 45, .int .i64 0, .int .i64 0, .int .i64 1, .int .i64 12, .int .i64 1, .int .i64 0, .int .i64 0, .int .i64 4]) (.int .i64 (k : Int))).run Tryd.prog W = .ok (.int .i64 (kflags k)) W := by
  obtain rfl | rfl | rfl | rfl | rfl | rfl | rfl | rfl | rfl | rfl : k = 0 ∨ k = 1 ∨ k = 2 ∨ k = 3 ∨ k = 4 ∨ k = 5 ∨ k = 6 ∨ k = 7 ∨ k = 8 ∨ k = 9 := by omega
  all_goals simp [Instr.index, asIntOf, asAgg, run_underlying Tryd.underlying52, part, Tryd.isAgg3, Tryd.sizeOf3, kflags]

set_option maxHeartbeats 2000000 in
theorem flags_ref (T : Nat) (w : World) :
    Calls Tryd.prog 29 #[.int .i64 (T : Int)] w fun e w' => e = .returned (.int .i64 (kflags (min (T : Int) 10).toNat)) ∧ w' = w := by
  rcases cases_T T with rfl | rfl | rfl | rfl | rfl | rfl | rfl | rfl | rfl | rfl | hT
  rotate_left 10
  · have h9 : (9 : Int) < (T : Int) := by omega
    rw [show (min (T : Int) 10).toNat = 10 by omega]
    go_enter Tryd.func29, Tryd.ntmps29
    go_wp2
    go_ret
    exact ⟨rfl, rfl⟩
  · have hx := fun W => idx52 0 W (by omega)
    rw [show (((0 : Nat)) : Int) = 0 from rfl] at *
    go_enter Tryd.func29, Tryd.ntmps29
    go_wp2
    go_ret
    exact ⟨rfl, rfl⟩
  · have hx := fun W => idx52 1 W (by omega)
    rw [show (((1 : Nat)) : Int) = 1 from rfl] at *
    go_enter Tryd.func29, Tryd.ntmps29
    go_wp2
    go_ret
    exact ⟨rfl, rfl⟩
  · have hx := fun W => idx52 2 W (by omega)
    rw [show (((2 : Nat)) : Int) = 2 from rfl] at *
    go_enter Tryd.func29, Tryd.ntmps29
    go_wp2
    go_ret
    exact ⟨rfl, rfl⟩
  · have hx := fun W => idx52 3 W (by omega)
    rw [show (((3 : Nat)) : Int) = 3 from rfl] at *
    go_enter Tryd.func29, Tryd.ntmps29
    go_wp2
    go_ret
    exact ⟨rfl, rfl⟩
  · have hx := fun W => idx52 4 W (by omega)
    rw [show (((4 : Nat)) : Int) = 4 from rfl] at *
    go_enter Tryd.func29, Tryd.ntmps29
    go_wp2
    go_ret
    exact ⟨rfl, rfl⟩
  · have hx := fun W => idx52 5 W (by omega)
    rw [show (((5 : Nat)) : Int) = 5 from rfl] at *
    go_enter Tryd.func29, Tryd.ntmps29
    go_wp2
    go_ret
    exact ⟨rfl, rfl⟩
  · have hx := fun W => idx52 6 W (by omega)
    rw [show (((6 : Nat)) : Int) = 6 from rfl] at *
    go_enter Tryd.func29, Tryd.ntmps29
    go_wp2
    go_ret
    exact ⟨rfl, rfl⟩
  · have hx := fun W => idx52 7 W (by omega)
    rw [show (((7 : Nat)) : Int) = 7 from rfl] at *
    go_enter Tryd.func29, Tryd.ntmps29
    go_wp2
    go_ret
    exact ⟨rfl, rfl⟩
  · have hx := fun W => idx52 8 W (by omega)
    rw [show (((8 : Nat)) : Int) = 8 from rfl] at *
    go_enter Tryd.func29, Tryd.ntmps29
    go_wp2
    go_ret
    exact ⟨rfl, rfl⟩
  · have hx := fun W => idx52 9 W (by omega)
    rw [show (((9 : Nat)) : Int) = 9 from rfl] at *
    go_enter Tryd.func29, Tryd.ntmps29
    go_wp2
    go_ret
    exact ⟨rfl, rfl⟩

def srS (T : Nat) (S : Int) : Bool := if T = 4 ∨ T = 6 ∨ T = 7 then S == 0 else if T ≤ 3 ∨ T = 5 ∨ T = 9 then S != 0 else true

set_option maxHeartbeats 2000000 in
theorem streamRight_any (T : Nat) (S : Int) (w : World) :
    Calls Tryd.prog 30 #[.int .i64 (T : Int), .int .i64 S] w fun e w' => e = .returned (.bool (srS T S)) ∧ w' = w := by
  unfold srS
  rcases cases_T T with rfl | rfl | rfl | rfl | rfl | rfl | rfl | rfl | rfl | rfl | hT
  rotate_left 10
  ·
    have t0 : ((T : Int) == 0) = false := by simp; omega
    have t1 : ((T : Int) == 1) = false := by simp; omega
    have t2 : ((T : Int) == 2) = false := by simp; omega
    have t3 : ((T : Int) == 3) = false := by simp; omega
    have t4 : ((T : Int) == 4) = false := by simp; omega
    have t5 : ((T : Int) == 5) = false := by simp; omega
    have t6 : ((T : Int) == 6) = false := by simp; omega
    have t7 : ((T : Int) == 7) = false := by simp; omega
    have t8 : ((T : Int) == 8) = false := by simp; omega
    have t9 : ((T : Int) == 9) = false := by simp; omega
    go_enter Tryd.func30, Tryd.ntmps30
    go_wp2
    go_ret
    exact ⟨by simp [show ¬ T ≤ 3 by omega, show T ≠ 0 by omega, show T ≠ 1 by omega, show T ≠ 2 by omega, show T ≠ 3 by omega, show T ≠ 4 by omega, show T ≠ 5 by omega, show T ≠ 6 by omega, show T ≠ 7 by omega, show T ≠ 8 by omega, show T ≠ 9 by omega], rfl⟩
  all_goals
    go_enter Tryd.func30, Tryd.ntmps30
    go_wp2
    go_ret
    exact ⟨by simp, rfl⟩

def ahS (T X : Nat) : Nat := (if mpS T X then 1 else 0) + (if T = 1 ∧ hasF (X : Int) 32 = true then 5 else if T = 5 then 4 else 0)

set_option maxHeartbeats 4000000 in
theorem ahead_any (T X : Nat) (hX : X < 256) (w : World) :
    Calls Tryd.prog 41 #[.int .i64 (T : Int), .int .i64 (X : Int)] w fun e w' => e = .returned (.int .i64 (ahS T X : Int)) ∧ w' = w := by
  unfold ahS
  obtain ⟨h, hh⟩ : ∃ h, hasF (X : Int) 32 = h := ⟨_, rfl⟩
  obtain ⟨m, hm⟩ : ∃ m, mpS T X = m := ⟨_, rfl⟩
  have hc : Hid (∀ W : World, Calls Tryd.prog 42 #[.int .i64 (X : Int), .int .i64 32] W fun e w' => e = .returned (.bool h) ∧ w' = W) := fun W => by
    have := has_any X 32 hX (by simp) W
    rw [show ((32 : Nat) : Int) = 32 from rfl, hh] at this
    exact this
  have hp : Hid (∀ W : World, Calls Tryd.prog 43 #[.int .i64 (T : Int), .int .i64 (X : Int)] W fun e w' => e = .returned (.bool m) ∧ w' = W) := fun W => by
    have := mayPad_any T X hX W
    rw [hm] at this
    exact this
  rw [hh, hm]
  clear hh hm
  by_cases h1 : T = 1
  · subst h1
    cases m <;> cases h
    all_goals
      go_enter Tryd.func41, Tryd.ntmps41
      go_wp2_with (first | (go_at_call 42; refine (hc.out _).mono ?_; rintro e w' ⟨rfl, rfl⟩) | (go_at_call 43; refine (hp.out _).mono ?_; rintro e w' ⟨rfl, rfl⟩))
      go_ret
      exact ⟨by simp, rfl⟩
  · have t1 : ((T : Int) == 1) = false := by simp; omega
    by_cases h5 : T = 5
    · subst h5
      cases m
      all_goals
        go_enter Tryd.func41, Tryd.ntmps41
        go_wp2_with (first | (go_at_call 42; refine (hc.out _).mono ?_; rintro e w' ⟨rfl, rfl⟩) | (go_at_call 43; refine (hp.out _).mono ?_; rintro e w' ⟨rfl, rfl⟩))
        go_ret
        exact ⟨by simp, rfl⟩
    · have t5 : ((T : Int) == 5) = false := by simp; omega
      cases m
      all_goals
        go_enter Tryd.func41, Tryd.ntmps41
        go_wp2_with (first | (go_at_call 42; refine (hc.out _).mono ?_; rintro e w' ⟨rfl, rfl⟩) | (go_at_call 43; refine (hp.out _).mono ?_; rintro e w' ⟨rfl, rfl⟩))
        go_ret
        exact ⟨by simp [h1, h5], rfl⟩

def lrS (T X : Nat) (n : Nat) : Bool :=
  if T = 0 ∨ T = 1 ∨ T = 5 then decide (ahS T X ≤ n) else if T = 2 then decide (n = 5) else if T = 3 ∨ T = 8 then decide (n = 4)
  else if T = 4 then decide (n % 6 = 0) && (!hasF (X : Int) 1 || decide (n = 0)) else if T = 6 then decide (n = 8) else if T = 7 then decide (8 ≤ n) else true

set_option maxHeartbeats 8000000 in
theorem lengthRight_any (T X n : Nat) (hX : X < 256) (hn : n ≤ 9223372036854775807) (w : World) :
    Calls Tryd.prog 31 #[.int .i64 (T : Int), .int .i64 (X : Int), .int .i64 (n : Int)] w fun e w' => e = .returned (.bool (lrS T X n)) ∧ w' = w := by
  unfold lrS
  have hr : (n : Int).tmod 6 = ((n % 6 : Nat) : Int) := by rw [Int.tmod_eq_emod_of_nonneg (by omega)]; rfl
  obtain ⟨h, hh⟩ : ∃ h, hasF (X : Int) 1 = h := ⟨_, rfl⟩
  obtain ⟨m, hm⟩ : ∃ m, ahS T X = m := ⟨_, rfl⟩
  have hc : Hid (∀ W : World, Calls Tryd.prog 42 #[.int .i64 (X : Int), .int .i64 1] W fun e w' => e = .returned (.bool h) ∧ w' = W) := fun W => by
    have := has_any X 1 hX (by simp) W
    rw [show ((1 : Nat) : Int) = 1 from rfl, hh] at this
    exact this
  have hp : Hid (∀ W : World, Calls Tryd.prog 41 #[.int .i64 (T : Int), .int .i64 (X : Int)] W fun e w' => e = .returned (.int .i64 (m : Int)) ∧ w' = W) := fun W => by
    have := ahead_any T X hX W
    rw [hm] at this
    exact this
  rw [hh, hm]
  clear hh hm
  obtain ⟨z, hz⟩ : ∃ z, n % 6 = z := ⟨_, rfl⟩
  rw [hz] at hr ⊢
  clear hz
  rcases cases_T T with rfl | rfl | rfl | rfl | rfl | rfl | rfl | rfl | rfl | rfl | hT
  rotate_left 10
  ·
    have t0 : ((T : Int) == 0) = false := by simp; omega
    have t1 : ((T : Int) == 1) = false := by simp; omega
    have t2 : ((T : Int) == 2) = false := by simp; omega
    have t3 : ((T : Int) == 3) = false := by simp; omega
    have t4 : ((T : Int) == 4) = false := by simp; omega
    have t5 : ((T : Int) == 5) = false := by simp; omega
    have t6 : ((T : Int) == 6) = false := by simp; omega
    have t7 : ((T : Int) == 7) = false := by simp; omega
    have t8 : ((T : Int) == 8) = false := by simp; omega
    have t9 : ((T : Int) == 9) = false := by simp; omega
    go_enter Tryd.func31, Tryd.ntmps31
    go_wp2
    go_ret
    exact ⟨by simp [show T ≠ 0 by omega, show T ≠ 1 by omega, show T ≠ 2 by omega, show T ≠ 3 by omega, show T ≠ 4 by omega, show T ≠ 5 by omega, show T ≠ 6 by omega, show T ≠ 7 by omega, show T ≠ 8 by omega, show T ≠ 9 by omega], rfl⟩
  rotate_left 4
  · by_cases h0 : z = 0
    · subst h0
      cases h
      all_goals
        go_enter Tryd.func31, Tryd.ntmps31
        go_wp2_with (first | (go_at_call 42; refine (hc.out _).mono ?_; rintro e w' ⟨rfl, rfl⟩) | (go_at_call 41; refine (hp.out _).mono ?_; rintro e w' ⟨rfl, rfl⟩))
        go_ret
        refine ⟨?_, rfl⟩
        try (congr 2)
        all_goals (by_cases hn0 : n = 0 <;> simp [hn0])
    · have hz0 : ((z : Int) == 0) = false := by simp; omega
      go_enter Tryd.func31, Tryd.ntmps31
      go_wp2_with (first | (go_at_call 42; refine (hc.out _).mono ?_; rintro e w' ⟨rfl, rfl⟩) | (go_at_call 41; refine (hp.out _).mono ?_; rintro e w' ⟨rfl, rfl⟩))
      go_ret
      exact ⟨by simp [h0], rfl⟩
  all_goals
    go_enter Tryd.func31, Tryd.ntmps31
    go_wp2_with (first | (go_at_call 42; refine (hc.out _).mono ?_; rintro e w' ⟨rfl, rfl⟩) | (go_at_call 41; refine (hp.out _).mono ?_; rintro e w' ⟨rfl, rfl⟩))
    go_ret
    refine ⟨?_, rfl⟩
    try (congr 2)
    all_goals (first | (simp; done) | (by_cases hq : n = 5 <;> by_cases hq2 : n = 4 <;> by_cases hq3 : n = 8 <;> simp [hq, hq2, hq3] <;> omega))

def wgS (T X : Nat) : Bool := decide (T = 2) || (decide (T = 1) && hasF (X : Int) 32)

set_option maxHeartbeats 2000000 in
theorem weighed_any (f : Fr) (p : Value) (T X : Nat) (hT : f.ty = (T : Int)) (hF : f.fl = (X : Int)) (hX : X < 256) (w : World) :
    Calls Tryd.prog 44 #[.agg (fv f p)] w fun e w' => e = .returned (.bool (wgS T X)) ∧ w' = w.alloc (.cells (fv f p) 28) := by
  unfold wgS fv
  rw [hT, hF]
  obtain ⟨h, hh⟩ : ∃ h, hasF (X : Int) 32 = h := ⟨_, rfl⟩
  have hc : Hid (∀ W : World, Calls Tryd.prog 42 #[.int .i64 (X : Int), .int .i64 32] W fun e w' => e = .returned (.bool h) ∧ w' = W) := fun W => by
    have := has_any X 32 hX (by simp) W
    rw [show ((32 : Nat) : Int) = 32 from rfl, hh] at this
    exact this
  rw [hh]
  clear hh hT hF
  by_cases h2 : T = 2
  · subst h2
    go_enter Tryd.func44, Tryd.ntmps44
    go_wp2_with (go_at_call 42; refine (hc.out _).mono ?_; rintro e w' ⟨rfl, rfl⟩)
    go_ret
    exact ⟨by simp, rfl⟩
  · have t2 : ((T : Int) == 2) = false := by simp; omega
    by_cases h1 : T = 1
    · subst h1
      go_enter Tryd.func44, Tryd.ntmps44
      go_wp2_with (go_at_call 42; refine (hc.out _).mono ?_; rintro e w' ⟨rfl, rfl⟩)
      go_ret
      exact ⟨by simp, rfl⟩
    · have t1 : ((T : Int) == 1) = false := by simp; omega
      go_enter Tryd.func44, Tryd.ntmps44
      go_wp2_with (go_at_call 42; refine (hc.out _).mono ?_; rintro e w' ⟨rfl, rfl⟩)
      go_ret
      exact ⟨by simp [h2, h1], rfl⟩
end Go.Proofs.YtjigjckclpccmaaDoor
