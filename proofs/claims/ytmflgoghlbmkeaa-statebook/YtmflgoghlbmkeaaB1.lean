/- What the statements ask: next, Counts, mirror, names, head. -/
import Derived.Test.YtmflgoghlbmkeaaA3
namespace Go.Proofs.Ytmflgoghlbmkeaa
open Go.RowKit
set_option linter.unusedVariables false
set_option linter.unusedSimpArgs false

/-- three results in slots -/
theorem results_ttt {P : Program} {fn : Func} {p q r : Tmp} (h : fn.results = #[.tmp p, .tmp q, .tmp r]) (tmps : Array Value) (w : World) :
    (results fn tmps).run P w = .ok (.tuple #[tmps.getD p undef, tmps.getD q undef, tmps.getD r undef]) w := by
  simp [results, h]

set_option maxRecDepth 100000 in
set_option maxHeartbeats 1000000 in
theorem next_eq (s : Int) (g : Bool) (k n v c : Int) (h : nx s g k = (n, v, c)) (w : World) : Calls Try.prog 9 #[.int .i64 s, .agg #[.bool g, .int .i64 k]] w fun e w' => e = .returned (.tuple #[.int .i64 n, .int .i64 v, .int .i64 c]) ∧ Below w.heap.size w w' := by
  have hn := nx_any s g k
  rw [h] at hn
  simp only at hn
  clear h
  go_enter Try.func9, Try.ntmps9
  go_wp2_with fail
  refine (hn _).mono ?_
  rintro e w1 ⟨rfl, hB⟩
  replace hB := (bel1 w _).trans (hB.mono (by simp))
  clear hn
  go_wp2
  go_region
  go_wp2
  refine bodyPost_ret (results_ttt rfl _ _) rfl ⟨rfl, by first | exact (hB.trans ((bel1 w1 _).mono hB.size)).drew | exact hB.trans ((bel1 w1 _).mono hB.size)⟩

/-- does a state count? -/
def ct (s : Int) : Bool := s == 3 || s == 4 || s == 5
set_option maxRecDepth 100000 in
set_option maxHeartbeats 1000000 in
theorem counts_any (s : Int) (w : World) : Calls Try.prog 13 #[.int .i64 s] w fun e w' => e = .returned (.bool (ct s)) ∧ w' = w := by
  by_cases h3 : s = 3
  · subst h3
    go_enter Try.func13, Try.ntmps13
    go_wp2
    go_ret
    exact ⟨rfl, rfl⟩
  by_cases h4 : s = 4
  · subst h4
    go_enter Try.func13, Try.ntmps13
    go_wp2
    go_ret
    exact ⟨rfl, rfl⟩
  by_cases h5 : s = 5
  · subst h5
    go_enter Try.func13, Try.ntmps13
    go_wp2
    go_ret
    exact ⟨rfl, rfl⟩
  have e3 : (s == 3) = false := beq_eq_false_iff_ne.2 h3
  have e4 : (s == 4) = false := beq_eq_false_iff_ne.2 h4
  have e5 : (s == 5) = false := beq_eq_false_iff_ne.2 h5
  have h : ct s = false := by unfold ct; rw [e3, e4, e5]; rfl
  rw [h]
  clear h h3 h4 h5
  go_enter Try.func13, Try.ntmps13
  go_wp2
  go_ret
  exact ⟨rfl, rfl⟩
set_option maxRecDepth 100000 in
set_option maxHeartbeats 1000000 in
theorem rcounts_any (s : Int) (w : World) : Calls Try.prog 14 #[.int .i64 s] w fun e w' => e = .returned (.bool (ct s)) ∧ w' = w := by
  have h : ct s = (decide (3 ≤ s) && decide (s ≤ 5)) := by
    unfold ct
    by_cases h1 : 3 ≤ s <;> by_cases h2 : s ≤ 5 <;> simp [h1, h2] <;> omega
  rw [h]
  clear h
  by_cases h1 : 3 ≤ s
  · by_cases h2 : s ≤ 5
    · have e1 : decide (3 ≤ s) = true := decide_eq_true h1
      have e2 : decide (s ≤ 5) = true := decide_eq_true h2
      rw [e1, e2]
      go_enter Try.func14, Try.ntmps14
      go_wp2
      go_ret
      exact ⟨rfl, rfl⟩
    · have e1 : decide (3 ≤ s) = true := decide_eq_true h1
      have e2 : decide (s ≤ 5) = false := decide_eq_false h2
      rw [e1, e2]
      go_enter Try.func14, Try.ntmps14
      go_wp2
      go_ret
      exact ⟨rfl, rfl⟩
  · have e1 : decide (3 ≤ s) = false := decide_eq_false h1
    rw [e1]
    go_enter Try.func14, Try.ntmps14
    go_wp2
    go_ret
    exact ⟨rfl, rfl⟩
/-- the other end's state -/
def mi (s : Int) : Int := if s = 1 then 2 else if s = 2 then 1 else if s = 4 then 5 else if s = 5 then 4 else s
set_option maxRecDepth 100000 in
set_option maxHeartbeats 1000000 in
theorem mirror_any (s : Int) (w : World) : Calls Try.prog 10 #[.int .i64 s] w fun e w' => e = .returned (.int .i64 (mi s)) ∧ w' = w := by
  unfold mi
  by_cases h1 : s = 1
  · subst h1
    go_enter Try.func10, Try.ntmps10
    go_wp2
    go_ret
    exact ⟨rfl, rfl⟩
  by_cases h2 : s = 2
  · subst h2
    go_enter Try.func10, Try.ntmps10
    go_wp2
    go_ret
    exact ⟨rfl, rfl⟩
  by_cases h4 : s = 4
  · subst h4
    go_enter Try.func10, Try.ntmps10
    go_wp2
    go_ret
    exact ⟨rfl, rfl⟩
  by_cases h5 : s = 5
  · subst h5
    go_enter Try.func10, Try.ntmps10
    go_wp2
    go_ret
    exact ⟨rfl, rfl⟩
  rw [if_neg h1, if_neg h2, if_neg h4, if_neg h5]
  have e1 : (s == 1) = false := beq_eq_false_iff_ne.2 h1
  have e2 : (s == 2) = false := beq_eq_false_iff_ne.2 h2
  have e4 : (s == 4) = false := beq_eq_false_iff_ne.2 h4
  have e5 : (s == 5) = false := beq_eq_false_iff_ne.2 h5
  go_enter Try.func10, Try.ntmps10
  go_wp2
  go_ret
  exact ⟨rfl, rfl⟩
set_option maxRecDepth 100000 in
set_option maxHeartbeats 1000000 in
theorem names_any (w : World) : Calls Try.prog 12 #[] w fun e w' => e = .returned (.bool true) ∧ w' = w := by
  go_enter Try.func12, Try.ntmps12
  go_wp2
  go_ret
  exact ⟨rfl, rfl⟩
set_option maxRecDepth 100000 in
set_option maxHeartbeats 2000000 in
theorem head_any (w : World) : Calls Try.prog 8 #[] w fun e w' => e = .returned (.bool true) ∧ Below w.heap.size w w' := by
  have c3 : ∀ W, Calls Try.prog 13 #[.int .i64 3] W fun e w' => e = .returned (.bool true) ∧ w' = W := counts_any 3
  have c1 : ∀ W, Calls Try.prog 13 #[.int .i64 1] W fun e w' => e = .returned (.bool false) ∧ w' = W := counts_any 1
  go_enter Try.func8, Try.ntmps8
  go_wp2_with fail
  refine (next_eq 0 false 2 4 0 0 rfl _).mono ?_
  rintro e w1 ⟨rfl, hB1⟩
  go_wp2_with fail
  refine (next_eq 6 true 3 6 3 5 rfl _).mono ?_
  rintro e w2 ⟨rfl, hB2⟩
  go_wp2_with fail
  refine (next_eq 5 true 3 5 2 5 rfl _).mono ?_
  rintro e w3 ⟨rfl, hB3⟩
  replace hB1 := hB1.trans (hB2.mono hB1.size)
  replace hB1 := hB1.trans (hB3.mono hB1.size)
  clear hB2 hB3
  go_wp2_with fail
  refine (c3 _).mono ?_
  rintro e w4 ⟨rfl, rfl⟩
  go_wp2_with fail
  refine (c1 _).mono ?_
  rintro e w5 ⟨rfl, rfl⟩
  go_wp2
  go_ret
  exact ⟨rfl, hB1⟩
end Go.Proofs.Ytmflgoghlbmkeaa
