/- Write. -/
import Derived.Test.YtfmljlflnpmceaaGreatDoorVr
namespace Go.Proofs.YtfmljlflnpmceaaGreatDoor.Fm
open Go.RowKit
set_option linter.unusedVariables false
set_option linter.unusedSimpArgs false

set_option maxRecDepth 100000 in
set_option maxHeartbeats 1000000 in
theorem putData_any (f : Fr) (pb : Option Addr) (pl pc : Nat) (w : World) (o : Value) (l : List UInt8) (hR : Row w o l) (hlen : l.length + f.data.size ≤ 140737488355328) :
    Calls Tryz.prog 103 #[o, .agg (fv f (.slice pb pl pc))] w fun e w' => ∃ o', e = .returned o' ∧ Row w' o' (l ++ f.data.data.toList) ∧ Gr w w' o o' := by
  obtain ⟨o', w', hrun, hR', hG⟩ := row_append_str (w.alloc (.cells (fv f (.slice pb pl pc)) 31)) o l (hR.alloc _) f.data hlen
  have hG' := (Gr.alloc w (.cells (fv f (.slice pb pl pc)) 31) o).trans hG
  clear hG
  unfold fv at *
  replace hrun : Hid _ := hrun
  go_enter Tryz.func103, Tryz.ntmps103
  go_wp2_with (at_builtin; refine Lib.wpList_append_run _ rfl (.tmp 5) (.tmp 7) 49 9 rfl _ _ rfl rfl _ _ hrun.out ?_)
  go_ret
  exact ⟨_, rfl, hR', hG'⟩

end Go.Proofs.YtfmljlflnpmceaaGreatDoor.Fm
