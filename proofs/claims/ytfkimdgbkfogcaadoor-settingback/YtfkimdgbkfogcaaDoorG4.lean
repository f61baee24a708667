/- SettingBack. -/
import Derived.Test.YtfkimdgbkfogcaaDoorG2
import Derived.Test.YtfkimdgbkfogcaaDoorG3
namespace Go.Proofs.YtfkimdgbkfogcaaDoor
open Go.RowKit
set_option linter.unusedVariables false
set_option linter.unusedSimpArgs false

theorem settingBack_any (f t : St) (c : Bool) (w : World) (hS : Std w) :
    Calls Tryd.prog 4 #[.agg f.a, .agg t.a, .bool c] w fun e w' => e = .returned (.bool true) ∧ Below w.heap.size w w' := by
  cases c
  · exact settingBack_false f t w hS
  · exact settingBack_true f t w hS
end Go.Proofs.YtfkimdgbkfogcaaDoor
