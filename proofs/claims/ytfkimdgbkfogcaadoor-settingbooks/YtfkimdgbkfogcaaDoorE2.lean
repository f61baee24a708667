/- What the document's listed variables give. -/
import Derived.Test.YtfkimdgbkfogcaaDoorE1
import Derived.Test.YtfkimdgbkfogcaaDoorD1
namespace Go.Proofs.YtfkimdgbkfogcaaDoor
open Go.ChangeShapes Go.WideShapes Go.ChangeAt Go.RowKit Go.Deep
set_option linter.unusedVariables false
set_option linter.unusedSimpArgs false

theorem gTop : Tryd.prog.globalNamed "herald/heraldref08.top" = some 1 := by kernel_rfl
theorem gTopType : (Tryd.prog.globals[1]?).map (·.type) = some 68 := by kernel_rfl
theorem gLow : Tryd.prog.globalNamed "herald/heraldref08.low" = some 2 := by kernel_rfl
theorem gLowType : (Tryd.prog.globals[2]?).map (·.type) = some 68 := by kernel_rfl
theorem gHigh : Tryd.prog.globalNamed "herald/heraldref08.high" = some 3 := by kernel_rfl
theorem gHighType : (Tryd.prog.globals[3]?).map (·.type) = some 68 := by kernel_rfl

theorem top_of_laid {W : World} {laid : List (String × DataW Unit)} (h : laidMet Tryd.prog laid W) (hm : ("herald/heraldref08.top", Rows.laid_herald_heraldref08_top) ∈ laid) : Top W :=
  laid_six h (a := 2147483647) (b := 1) (c := 2147483647) (d := 2147483647) (e := 65536) (f := 2147483647) hm gTop gTopType (.inr rfl)
theorem low_of_laid {W : World} {laid : List (String × DataW Unit)} (h : laidMet Tryd.prog laid W) (hm : ("herald/heraldref08.low", Rows.laid_herald_heraldref08_low) ∈ laid) : Low W :=
  laid_six h (a := 0) (b := 0) (c := 0) (d := 0) (e := 16384) (f := 1024) hm gLow gLowType (.inr rfl)
theorem high_of_laid {W : World} {laid : List (String × DataW Unit)} (h : laidMet Tryd.prog laid W) (hm : ("herald/heraldref08.high", Rows.laid_herald_heraldref08_high) ∈ laid) : High W :=
  laid_six h (a := 65536) (b := 1) (c := 2147483647) (d := 2147483647) (e := 65536) (f := 2147483647) hm gHigh gHighType (.inr rfl)
end Go.Proofs.YtfkimdgbkfogcaaDoor
