/- The tables of Next. -/
import Derived.Test.YtaaocgppniflcaaM
namespace Go.Proofs.Ytaaocgppniflcaa
open Go.RowKit
set_option linter.unusedVariables false
set_option linter.unusedSimpArgs false

/-- what is sent, and what is got: seven states, eight kinds -/
def sentT : List (Int × Int × Int) := [(3, 0, 0), (4, 0, 0), (0, 4, 0), (0, 4, 0), (1, 0, 0), (0, 4, 0), (0, 4, 0), (0, 0, 0), (5, 0, 0), (6, 0, 0), (1, 4, 0), (1, 4, 0), (1, 4, 0), (6, 0, 0), (1, 4, 0), (1, 0, 0), (2, 4, 0), (2, 4, 0), (2, 4, 0), (2, 4, 0), (2, 4, 0), (6, 0, 0), (2, 0, 0), (2, 0, 0), (3, 0, 0), (4, 0, 0), (3, 0, 0), (4, 0, 0), (3, 4, 0), (6, 0, 0), (3, 0, 0), (3, 0, 0), (4, 4, 0), (4, 4, 0), (4, 4, 0), (4, 4, 0), (4, 4, 0), (6, 0, 0), (4, 0, 0), (4, 0, 0), (5, 0, 0), (6, 0, 0), (5, 0, 0), (6, 0, 0), (5, 4, 0), (6, 0, 0), (5, 0, 0), (5, 0, 0), (6, 4, 0), (6, 4, 0), (6, 4, 0), (6, 4, 0), (6, 4, 0), (6, 4, 0), (6, 4, 0), (6, 0, 0)]
def gotT : List (Int × Int × Int) := [(3, 0, 0), (5, 0, 0), (0, 3, 1), (0, 3, 1), (2, 0, 0), (0, 3, 1), (0, 3, 1), (0, 0, 0), (1, 3, 1), (1, 3, 1), (1, 3, 1), (1, 3, 1), (1, 3, 1), (6, 0, 0), (1, 0, 0), (1, 0, 0), (4, 0, 0), (6, 0, 0), (2, 3, 1), (2, 3, 1), (2, 3, 1), (6, 0, 0), (2, 3, 1), (2, 0, 0), (3, 0, 0), (5, 0, 0), (3, 0, 0), (5, 0, 0), (3, 3, 1), (6, 0, 0), (3, 0, 0), (3, 0, 0), (4, 0, 0), (6, 0, 0), (4, 0, 0), (6, 0, 0), (4, 3, 1), (6, 0, 0), (4, 0, 0), (4, 0, 0), (5, 2, 5), (5, 2, 5), (5, 2, 5), (5, 2, 5), (5, 3, 1), (6, 0, 0), (5, 0, 0), (5, 0, 0), (6, 3, 5), (6, 3, 5), (6, 3, 5), (6, 3, 5), (6, 3, 1), (6, 1, 0), (6, 1, 0), (6, 1, 0)]
def tb (g : Bool) (s k : Nat) : Int × Int × Int := (if g then gotT else sentT).getD (8 * s + k - 1) (0, 4, 0)
/-- the state behind an event, its verdict, its code -/
def nx (s : Int) (g : Bool) (k : Int) : Int × Int × Int := if 0 ≤ s ∧ s ≤ 6 ∧ 1 ≤ k ∧ k ≤ 8 then tb g s.toNat k.toNat else (s, 4, 0)
theorem nx_out {s : Int} {g : Bool} {k : Int} (h : ¬ (0 ≤ s ∧ s ≤ 6 ∧ 1 ≤ k ∧ k ≤ 8)) : nx s g k = (s, 4, 0) := if_neg h
theorem kinds {k : Int} (h : 1 ≤ k ∧ k ≤ 8) : k = 1 ∨ k = 2 ∨ k = 3 ∨ k = 4 ∨ k = 5 ∨ k = 6 ∨ k = 7 ∨ k = 8 := by omega
theorem states {s : Int} (h : 0 ≤ s ∧ s ≤ 6) : s = 0 ∨ s = 1 ∨ s = 2 ∨ s = 3 ∨ s = 4 ∨ s = 5 ∨ s = 6 := by omega

end Go.Proofs.Ytaaocgppniflcaa
