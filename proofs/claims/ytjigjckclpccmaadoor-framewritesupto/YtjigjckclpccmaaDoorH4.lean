/- Made, of every frame; what it makes is right. -/
import Derived.Test.YtjigjckclpccmaaDoorMa
import Derived.Test.YtjigjckclpccmaaDoorMb
import Derived.Test.YtjigjckclpccmaaDoorMc
import Derived.Test.YtjigjckclpccmaaDoorMd
import Derived.Test.YtjigjckclpccmaaDoorMe
import Derived.Test.YtjigjckclpccmaaDoorMf
import Derived.Test.YtjigjckclpccmaaDoorMg
import Derived.Test.YtjigjckclpccmaaDoorMh
import Derived.Test.YtjigjckclpccmaaDoorH5
namespace Go.Proofs.YtjigjckclpccmaaDoor
open Go.RowKit
set_option linter.unusedVariables false
set_option linter.unusedSimpArgs false

theorem made_any (f : Fr) (p : Value) (ps : List (Int × Int)) (w : World) (hp : PIn w p ps) (hDb : f.data.size ≤ 140737488355328) :
    Calls Tryd.prog 15 #[.agg (fv f p)] w fun e w' => MPost w f ps e w' := by
  obtain ⟨pb, pl, pc, rfl⟩ : ∃ pb pl pc, p = .slice pb pl pc := by
    rcases hp with ⟨b, cap, rfl, _⟩ | ⟨B, off, cap, rfl, _⟩
    · exact ⟨_, _, _, rfl⟩
    · exact ⟨_, _, _, rfl⟩
  have hr := mT_range f
  rcases (by omega : mT f = 0 ∨ mT f = 1 ∨ mT f = 2 ∨ mT f = 3 ∨ mT f = 4 ∨ mT f = 5 ∨ mT f = 6 ∨ mT f = 7 ∨ mT f = 8 ∨ mT f = 9 ∨ 10 ≤ mT f) with h | h | h | h | h | h | h | h | h | h | h
  · exact made_0 f pb pl pc ps w h hp
  · exact made_1 f pb pl pc ps w h hp
  · exact made_2 f pb pl pc ps w h hp
  · exact made_3 f pb pl pc ps w h hp
  · exact made_4 f pb pl pc ps w h hp
  · exact made_5 f pb pl pc ps w h hp
  · exact made_6 f pb pl pc ps w h hp hDb
  · exact made_7 f pb pl pc ps w h hp
  · exact made_8 f pb pl pc ps w h hp
  · exact made_9 f pb pl pc ps w h hp
  · exact made_10 f pb pl pc ps w _ h rfl hp
end Go.Proofs.YtjigjckclpccmaaDoor
