/- OriginPrints. -/
import Derived.Test.YtbifmikndpeafaaDoorD5
namespace Go.Proofs.YtbifmikndpeafaaDoor
open Go.RowKit
set_option linter.unusedVariables false
set_option linter.unusedSimpArgs false
theorem prV_form (o : Og) : ∃ (X : ByteArray) (Y : Int), prV o = .tuple #[.string X, .int .i64 Y] := by
  unfold prV
  split
  · exact ⟨_, _, rfl⟩
  · exact ⟨_, _, rfl⟩
set_option maxHeartbeats 4000000 in
set_option maxRecDepth 100000 in
theorem originPrints_any (o : Og) (w : World) (he : Env w) : Calls Tryd.prog 6 #[.agg (ogv o)] w fun e w' => e = .returned (.bool true) ∧ Below w.heap.size w w' := by
  obtain ⟨X, Y, hV⟩ := prV_form o
  have H1 : Hid (∀ W, Env W → Calls Tryd.prog 11 #[.agg (ogv o)] W fun e w' => e = .returned (.tuple #[.string X, .int .i64 Y]) ∧ Below W.heap.size W w') := fun W hW => by rw [← hV]; exact print_any o W hW
  have H2 : Hid (∀ W, Calls Tryd.prog 17 #[.agg (ogv o)] W fun e w' => e = .returned (.tuple #[.string X, .int .i64 Y]) ∧ Below W.heap.size W w') := fun W => by rw [← hV]; exact rprint_any o W
  have HE : Hid (Env w) := he
  obtain ⟨n, hn⟩ : ∃ n, w.heap.size = n := ⟨_, rfl⟩
  obtain ⟨W0, hW0⟩ : ∃ W, w.alloc (.cells #[.string o.s, .string o.h, .int .i64 o.p] 23) = W := ⟨_, rfl⟩
  have HB0 : Hid (Below w.heap.size w W0) := by rw [← hW0]; exact bel1 _ _
  have HO0 : Hid (OB W0 n o) := by show OB _ _ _; rw [← hW0, ← hn]; unfold OB; rw [heap_al, if_pos rfl]; rfl
  unfold ogv at H1 H2 ⊢
  obtain ⟨d0, d1, d2, _, _, _⟩ := HO0.out.cells
  clear he hV
  go_enter Tryd.func6, Tryd.ntmps6
  go_wp2_with fail
  clear hW0
  go_at_call 11
  refine (H1.out _ (HE.out.below HB0.out)).mono ?_
  rintro e W1 ⟨rfl, b1⟩
  have B1 : Hid (Below w.heap.size w W1) := HB0.out.trans (b1.mono HB0.out.size)
  have O1 : Hid (OB W1 n o) := HO0.out.below b1
  clear b1 d0 d1 d2
  obtain ⟨d0, d1, d2, _, _, _⟩ := O1.out.cells
  go_wp2_with fail
  go_at_call 17
  refine (H2.out _).mono ?_
  rintro e W2 ⟨rfl, b2⟩
  have B2 : Hid (Below w.heap.size w W2) := B1.out.trans (b2.mono B1.out.size)
  clear b2
  go_wp2_with fail
  go_at_call 9
  refine (first_any _ (HE.out.below B2.out)).mono ?_
  rintro e W3 ⟨rfl, b3⟩
  have B3 : Hid (Below w.heap.size w W3) := B2.out.trans (b3.mono B2.out.size)
  clear b3
  go_wp2_with fail
  go_ret
  exact ⟨by first | rfl | simp, B3.out⟩
end Go.Proofs.YtbifmikndpeafaaDoor
