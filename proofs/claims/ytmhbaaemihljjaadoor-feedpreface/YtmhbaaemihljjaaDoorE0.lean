/- Weights of the arguments. -/
import Derived.Test.YtmhbaaemihljjaaDoorL1
import Derived.ProofKit
import Derived.SizedLaws
namespace Go.Proofs.YtmhbaaemihljjaaDoor
open Go.ChangeShapes Go.WideShapes Go.ChangeAt Go.RowKit
set_option linter.unusedVariables false
set_option linter.unusedSimpArgs false

theorem laidOut : laidOutB Tryd.prog = true := by kernel_rfl

/-- One argument's weights are among all. -/
theorem weights_of {H : Type} {ts : List TypeId} {ds : List (DataW H)} (h : (DataW.weightsEach Tryd.prog ts ds).all (· ≤ reachBytes) = true) {j : Nat} {t : TypeId} {d : DataW H} (ht : ts[j]? = some t) (hd : ds[j]? = some d) :
    ∀ n ∈ d.weights Tryd.prog t, n ≤ reachBytes := fun n hn => by
  have := List.all_eq_true.1 h n (DataW.weights_mem_each ht hd n hn)
  simpa using this
end Go.Proofs.YtmhbaaemihljjaaDoor
