/- FrameOne, of every text. -/
import Derived.Test.YtjigjckclpccmaaDoorG6
namespace Go.Proofs.YtjigjckclpccmaaDoor
open Go.RowKit
set_option linter.unusedVariables false
set_option linter.unusedSimpArgs false

theorem frameOne_any (b : ByteArray) (most : Int) (w : World) (hw : 1 ≤ w.heap.size) (hK : Kinds w) (hS : b.size ≤ 140737488355328) :
    Calls Tryd.prog 6 #[.string b, .int .i64 most] w fun e w' => e = .returned (.bool true) ∧ Below w.heap.size w w' := by
  rcases read_cases b most with h | ⟨N, hN, hb, hN5, hm, hn, ⟨h0, hp⟩ | ⟨hc, hx, h3⟩⟩
  · exact one_none b most w hw hK hS h
  · obtain ⟨⟨⟨f, ps⟩, n, cx⟩, hr⟩ : ∃ res, readS b most = res := ⟨_, rfl⟩
    rw [hr] at hn h0 hp
    replace hn : n = ((9 + N : Nat) : Int) := hn
    replace h0 : cx = (0, 0) := h0
    subst hn
    subst h0
    by_cases hd : f.data = ⟨#[]⟩
    · exact one_empty b most w hw hK hS f ps N hN hb hN5 hm hr hp hd
    · exact one_full b most w hw hK hS f ps N hN hb hN5 hm hr hp hd
  · exact one_fault b most w hw hK hS N hb hn hc hx h3
end Go.Proofs.YtjigjckclpccmaaDoor
