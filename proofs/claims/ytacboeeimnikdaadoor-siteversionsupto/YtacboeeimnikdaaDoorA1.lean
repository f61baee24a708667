/- The bytes' kinds. -/
import Derived.Test.YtacboeeimnikdaaDoorM
import Derived.Test.YtacboeeimnikdaaDoorSh
import Derived.Laws.RangeAny
import Derived.Lib.Strings
namespace Go.Proofs.YtacboeeimnikdaaDoor
open Go.RowKit
set_option linter.unusedVariables false
set_option linter.unusedSimpArgs false

def lowB (r : Int) : Bool := decide (97 ≤ r) && decide (r ≤ 122)
def digB (r : Int) : Bool := decide (48 ≤ r) && decide (r ≤ 57)
def visB (r : Int) : Bool := decide (33 ≤ r) && decide (r ≤ 126)
def capB (r : Int) : Bool := decide (65 ≤ r) && decide (r ≤ 90)

set_option maxHeartbeats 1000000 in
theorem isLetter_any (r : Int) (w : World) : Calls Tryd.prog 98 #[.int .i32 r] w fun e w' => e = .returned (.bool (lowB r)) ∧ w' = w := by
  unfold lowB
  by_cases h : 97 ≤ r
  · have h' : decide (97 ≤ r) = true := decide_eq_true h
    go_enter Tryd.func98, Tryd.ntmps98
    go_wp2
    go_ret
    exact ⟨by simp [h'], rfl⟩
  · have h' : decide (97 ≤ r) = false := decide_eq_false h
    go_enter Tryd.func98, Tryd.ntmps98
    go_wp2
    go_ret
    exact ⟨by simp [h'], rfl⟩
set_option maxHeartbeats 1000000 in
theorem isDigit_any (r : Int) (w : World) : Calls Tryd.prog 82 #[.int .i32 r] w fun e w' => e = .returned (.bool (digB r)) ∧ w' = w := by
  unfold digB
  by_cases h : 48 ≤ r
  · have h' : decide (48 ≤ r) = true := decide_eq_true h
    go_enter Tryd.func82, Tryd.ntmps82
    go_wp2
    go_ret
    exact ⟨by simp [h'], rfl⟩
  · have h' : decide (48 ≤ r) = false := decide_eq_false h
    go_enter Tryd.func82, Tryd.ntmps82
    go_wp2
    go_ret
    exact ⟨by simp [h'], rfl⟩
end Go.Proofs.YtacboeeimnikdaaDoor
