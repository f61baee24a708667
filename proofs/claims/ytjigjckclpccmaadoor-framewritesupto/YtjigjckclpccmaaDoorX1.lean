/- The document's within, numbers, lists. -/
import Derived.Test.YtjigjckclpccmaaDoorE1
import Derived.Test.YtjigjckclpccmaaDoorH1
namespace Go.Proofs.YtjigjckclpccmaaDoor
open Go.RowKit
set_option linter.unusedVariables false
set_option linter.unusedSimpArgs false

def wiS (n m : Int) : Bool := decide (0 ≤ n) && decide (n ≤ m)

set_option maxHeartbeats 2000000 in
theorem within_any (n m : Int) (w : World) : Calls Tryd.prog 45 #[.int .i64 n, .int .i64 m] w fun e w' => e = .returned (.bool (wiS n m)) ∧ w' = w := by
  unfold wiS
  by_cases h : 0 ≤ n
  · rw [decide_eq_true h]
    go_enter Tryd.func45, Tryd.ntmps45
    go_wp2
    go_ret
    exact ⟨by simp, rfl⟩
  · rw [decide_eq_false h]
    go_enter Tryd.func45, Tryd.ntmps45
    go_wp2
    go_ret
    exact ⟨rfl, rfl⟩

def nuC (ty : Int) : Int := if ty = 3 ∨ ty = 7 then 4294967295 else 0
def nuL (ty : Int) : Int := if ty = 5 ∨ ty = 7 ∨ ty = 8 then 2147483647 else 0
def nuB (f : Fr) : Bool := wiS f.code (nuC f.ty) && wiS f.last (nuL f.ty)

set_option maxHeartbeats 4000000 in
theorem numbers_any (f : Fr) (p : Value) (w : World) : Calls Tryd.prog 46 #[.agg (fv f p)] w fun e w' => e = .returned (.bool (nuB f)) ∧ w' = w.alloc (.cells (fv f p) 28) := by
  have hc := fun n m (W : World) => within_any n m W
  obtain ⟨ty, fl, st, data, pad, dep, excl, wt, code, last⟩ := f
  unfold nuB nuC nuL fv
  simp only
  obtain ⟨C, hC⟩ : ∃ C, wiS code (if ty = 3 ∨ ty = 7 then 4294967295 else 0) = C := ⟨_, rfl⟩
  obtain ⟨L, hL⟩ : ∃ L, wiS last (if ty = 5 ∨ ty = 7 ∨ ty = 8 then 2147483647 else 0) = L := ⟨_, rfl⟩
  rw [hC, hL]
  by_cases h3 : ty = 3
  · subst h3
    rw [if_pos (by omega)] at hC
    rw [if_neg (by omega)] at hL
    cases C <;> cases L <;> (go_enter Tryd.func46, Tryd.ntmps46; go_wp2_with (go_at_call 45; refine (hc _ _ _).mono ?_; rintro e w' ⟨rfl, rfl⟩); go_ret; exact ⟨rfl, rfl⟩)
  have t3 : (ty == 3) = false := by simpa using h3
  by_cases h7 : ty = 7
  · subst h7
    rw [if_pos (by omega)] at hC
    rw [if_pos (by omega)] at hL
    cases C <;> cases L <;> (go_enter Tryd.func46, Tryd.ntmps46; go_wp2_with (go_at_call 45; refine (hc _ _ _).mono ?_; rintro e w' ⟨rfl, rfl⟩); go_ret; exact ⟨rfl, rfl⟩)
  have t7 : (ty == 7) = false := by simpa using h7
  rw [if_neg (by omega)] at hC
  by_cases h5 : ty = 5
  · subst h5
    rw [if_pos (by omega)] at hL
    cases C <;> cases L <;> (go_enter Tryd.func46, Tryd.ntmps46; go_wp2_with (go_at_call 45; refine (hc _ _ _).mono ?_; rintro e w' ⟨rfl, rfl⟩); go_ret; exact ⟨rfl, rfl⟩)
  have t5 : (ty == 5) = false := by simpa using h5
  by_cases h8 : ty = 8
  · subst h8
    rw [if_pos (by omega)] at hL
    cases C <;> cases L <;> (go_enter Tryd.func46, Tryd.ntmps46; go_wp2_with (go_at_call 45; refine (hc _ _ _).mono ?_; rintro e w' ⟨rfl, rfl⟩); go_ret; exact ⟨rfl, rfl⟩)
  have t8 : (ty == 8) = false := by simpa using h8
  rw [if_neg (by omega)] at hL
  cases C <;> cases L <;> (go_enter Tryd.func46, Tryd.ntmps46; go_wp2_with (go_at_call 45; refine (hc _ _ _).mono ?_; rintro e w' ⟨rfl, rfl⟩); go_ret; exact ⟨rfl, rfl⟩)

end Go.Proofs.YtjigjckclpccmaaDoor
