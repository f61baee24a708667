/- FieldBack, walked. -/
import Derived.Test.YtcgfgjhhmbfmdaaDoorG1
import Derived.Test.YtcgfgjhhmbfmdaaDoorF4
import Derived.Deep.Cut
import Derived.Deep.RegionHeld3
namespace Go.Proofs.YtcgfgjhhmbfmdaaDoor
open Go.RowKit Go.Maps
set_option linter.unusedVariables false
set_option linter.unusedSimpArgs false

set_option maxHeartbeats 4000000 in
set_option maxRecDepth 100000 in
theorem copied_any (s : SV) (l : List Fd) (w : World) (hI : In EFd w (sv s) l) (hlen : l.length * 40 ≤ 140737488355328) :
    Calls Tryd.prog 15 #[sv s] w fun e w' => FdPost l w e w' := by
  obtain ⟨sb, sl, sc⟩ := s
  obtain ⟨es, hcap1, hcap2⟩ := slice_len hI
  obtain ⟨ab, ac, w1, g1, g2, g3⟩ := app okFd w (.slice none 0 0) [] (R.nil _ _) _ _ hI (by simp only [EFd, List.length_nil]; omega)
  simp only [List.length_nil, Nat.zero_add, List.nil_append] at g1 g2 g3
  have HF : Hid (FdPost l w (.returned (.slice ab l.length ac)) w1) := ⟨(ab, l.length, ac), rfl, g3.fresh, g2, g3.new⟩
  replace g1 : Hid _ := g1
  subst es
  simp only [sv, EFd] at g1 ⊢
  clear hI g2 g3
  go_enter Tryd.func15, Tryd.ntmps15
  go_wp2_with (at_builtin; refine Lib.wpList_append_run _ rfl _ _ _ _ rfl _ _ rfl rfl _ _ g1.out ?_)
  go_ret
  exact HF.out
end Go.Proofs.YtcgfgjhhmbfmdaaDoor
