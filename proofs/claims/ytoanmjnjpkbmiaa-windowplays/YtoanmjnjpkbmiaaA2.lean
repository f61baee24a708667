/- first. -/
import Derived.Test.YtoanmjnjpkbmiaaA1
namespace Go.Proofs.Ytoanmjnjpkbmiaa
open Go.RowKit
set_option linter.unusedVariables false
set_option linter.unusedSimpArgs false

/-- what a call on the window at b leaves beneath B -/
theorem Ks.under {w w' : World} {b B : Nat} (h : Ks (fun j => j = b) w w') (h1 : B ≤ b) (h2 : B ≤ w.heap.size) : Below B w w' := h.below h2 fun i hi e => by omega

set_option maxRecDepth 100000 in
set_option maxHeartbeats 2000000 in
theorem first_any (w : World) : Calls Try.prog 8 #[] w fun e w' => e = .returned (.bool true) ∧ Below w.heap.size w w' := by
  have t1 : ∀ W b, Wd W b 65535 → Calls Try.prog 11 #[.pointer (some ⟨b, 0, none⟩), .int .i64 65536] W fun e w' => e = .returned (.bool false) ∧ Wd w' b 65535 ∧ Ks (fun j => j = b) W w' := fun W b h => take_any W b 65535 65536 h (by unfold InB; omega)
  have t2 : ∀ W b, Wd W b 65535 → Calls Try.prog 11 #[.pointer (some ⟨b, 0, none⟩), .int .i64 65535] W fun e w' => e = .returned (.bool true) ∧ Wd w' b 0 ∧ Ks (fun j => j = b) W w' := fun W b h => take_any W b 65535 65535 h (by unfold InB; omega)
  have t3 : ∀ W b, Wd W b 0 → Calls Try.prog 13 #[.pointer (some ⟨b, 0, none⟩), .int .i64 (-5)] W fun e w' => e = .returned (.int .i64 0) ∧ Wd w' b (-5) ∧ Ks (fun j => j = b) W w' := fun W b h => shift_any W b 0 (-5) h (by unfold InB; omega)
  have t4 : ∀ W b, Wd W b (-5) → Calls Try.prog 12 #[.pointer (some ⟨b, 0, none⟩), .int .i64 0] W fun e w' => e = .returned (.int .i64 1) ∧ Wd w' b (-5) ∧ Ks (fun j => j = b) W w' := fun W b h => give_any W b (-5) 0 h (by unfold InB; omega)
  have hr : ∀ W, Calls Try.prog 14 #[.int .i64 100, .int .i64 50, .int .i64 70, .int .i64 16384] W fun e w' => e = .returned (.int .i64 50) ∧ w' = W := fun W => room_any W 100 50 70 16384
  go_enter Try.func8, Try.ntmps8
  go_wp2_with fail
  refine (new_any 65535 w).mono ?_
  rintro e w1 ⟨b, rfl, h1, hb, hB⟩
  go_wp2_with fail
  refine (t1 w1 b h1).mono ?_
  rintro e w2 ⟨rfl, h2, k2⟩
  go_wp2_with fail
  refine (t2 w2 b h2).mono ?_
  rintro e w3 ⟨rfl, h3, k3⟩
  go_wp2_with fail
  refine (t3 w3 b h3).mono ?_
  rintro e w4 ⟨rfl, h4, k4⟩
  go_wp2_with fail
  refine (t4 w4 b h4).mono ?_
  rintro e w5 ⟨rfl, h5, k5⟩
  have hB5 : Below w.heap.size w w5 := by
    have s1 := hB.size
    have s2 := k2.size
    have s3 := k3.size
    have s4 := k4.size
    exact (((hB.trans (k2.under hb (by omega))).trans (k3.under hb (by omega))).trans (k4.under hb (by omega))).trans (k5.under hb (by omega))
  go_wp2_with fail
  refine (left_any w5 b (-5) h5).mono ?_
  rintro e w6 ⟨rfl, rfl⟩
  go_wp2_with fail
  refine (hr w6).mono ?_
  rintro e w7 ⟨rfl, rfl⟩
  go_wp2
  go_ret
  exact ⟨rfl, hB5⟩
end Go.Proofs.Ytoanmjnjpkbmiaa
