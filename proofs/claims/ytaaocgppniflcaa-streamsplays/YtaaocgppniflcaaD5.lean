/- The document's Next (of a table). -/
import Derived.Test.YtaaocgppniflcaaD4
namespace Go.Proofs.Ytaaocgppniflcaa
open Go.RowKit Go.Maps
set_option linter.unusedVariables false
set_option linter.unusedSimpArgs false

def rnext (c : Bool) (t : Int) : Int × Bool := if (c && t == 0) = true then (1, true) else if 2147483647 < t + 2 then (0, false) else (t + 2, true)
set_option maxRecDepth 100000 in
set_option maxHeartbeats 2000000 in
theorem rnext_any (w : World) (p : Nat) (c : Bool) (v : Value) (l : List O1) (h : RT w p c v l) (hb : 0 ≤ rlast c l true ∧ rlast c l true ≤ 2147483647) : Calls Try.prog 45 #[.pointer (some ⟨p, 0, none⟩)] w fun e w' => e = .returned (.tuple #[.int .i64 (rnext c (rlast c l true)).1, .bool (rnext c (rlast c l true)).2]) ∧ w' = w := by
  have hl := rlast_any w p c v l true h
  obtain ⟨c0, c1, hp⟩ := h.cells
  clear h
  generalize rlast c l true = t at hl hb ⊢
  unfold rnext
  by_cases h0 : t = 0
  · subst h0
    cases c
    · rw [if_neg (by decide), if_neg (by decide)]
      go_enter Try.func45, Try.ntmps45
      go_wp2_with fail
      refine hl.mono ?_
      rintro e w1 ⟨rfl, rfl⟩
      go_wp2
      refine bodyPost_ret (results_tmp2 rfl _ _ _) rfl ⟨rfl, rfl⟩
    · rw [if_pos (by decide)]
      go_enter Try.func45, Try.ntmps45
      go_wp2_with fail
      refine hl.mono ?_
      rintro e w1 ⟨rfl, rfl⟩
      go_wp2
      refine bodyPost_ret (results_tmp2 rfl _ _ _) rfl ⟨rfl, rfl⟩
  · have e0 : (t == 0) = false := beq_eq_false_iff_ne.2 h0
    rw [e0, Bool.and_false, if_neg (by decide)]
    have e2 : (t + 2 == 2) = false := beq_eq_false_iff_ne.2 (by omega)
    by_cases h1 : 2147483647 < t + 2
    · rw [if_pos h1]
      have g1 : decide (2147483647 < t + 2) = true := decide_eq_true h1
      clear e0 h0 h1
      go_enter Try.func45, Try.ntmps45
      go_wp2_with fail
      refine hl.mono ?_
      rintro e w1 ⟨rfl, rfl⟩
      go_wp2
      refine bodyPost_ret (results_tmp2 rfl _ _ _) rfl ⟨rfl, rfl⟩
    · rw [if_neg h1]
      have g1 : decide (2147483647 < t + 2) = false := decide_eq_false h1
      clear e0 h0 h1
      go_enter Try.func45, Try.ntmps45
      go_wp2_with fail
      refine hl.mono ?_
      rintro e w1 ⟨rfl, rfl⟩
      go_wp2
      refine bodyPost_ret (results_tmp2 rfl _ _ _) rfl ⟨rfl, rfl⟩
end Go.Proofs.Ytaaocgppniflcaa
