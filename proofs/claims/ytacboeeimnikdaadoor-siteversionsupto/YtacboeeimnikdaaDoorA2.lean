/- strings.IndexRune at a rune from 128 on, in a text of ASCII bytes: it is not there. -/
import Derived.Test.YtacboeeimnikdaaDoorA1
import Derived.Laws.Runes
import Derived.Deep.LoopGhost
import Derived.Deep.QuietTactic
import Derived.BigQuiet
namespace Go.Proofs.YtacboeeimnikdaaDoor
open Go.RowKit
set_option linter.unusedVariables false
set_option linter.unusedSimpArgs false

/-- all bytes below 128 -/
def Asc (s : ByteArray) : Prop := ∀ (j : Nat) (h : j < s.size), (s[j]'h).toNat < 128

theorem iter_bel (w : World) (s : ByteArray) (i : Nat) : Below w.heap.size w (w.iter s i) := bel1 w _

set_option maxHeartbeats 4000000 in
set_option maxRecDepth 100000 in
theorem indexRune_err (s : ByteArray) (w : World) (hs : Asc s) : Calls Tryd.prog 109 #[.string s, .int .i32 65533] w fun e w' => e = .returned (.int .i64 (-1)) ∧ Below w.heap.size w w' := by
  have HS : Hid (Asc s) := hs
  clear hs
  go_enter Tryd.func109, Tryd.ntmps109
  go_wp2_with fail
  go_loopg [5, 6] s.size (fun g _ _ wx => ∃ i : Nat, i + g = s.size ∧ wx = w.iter s i)
  case atStart => exact ⟨0, by omega, rfl⟩
  case round =>
    obtain ⟨i, hig, rfl⟩ := hrel
    cases gk with
    | zero =>
      obtain rfl : i = s.size := by omega
      have hnx := run_next_end (P := Tryd.prog) w s s.size
      go_wp2_with fail
      go_ret
      exact ⟨rfl, iter_bel _ _ _⟩
    | succ g =>
      have hi : i < s.size := by omega
      obtain ⟨x, hx⟩ : ∃ x : UInt8, s[i]'hi = x := ⟨_, rfl⟩
      have hx128 : x.toNat < 128 := by rw [← hx]; exact HS.out i hi
      have hnx := fun ty => run_next_ascii (P := Tryd.prog) w s i ty hi (by rw [hx]; exact hx128)
      rw [hx] at hnx
      have hne : ((x.toNat : Int) == 65533) = false := beq_eq_false_iff_ne.2 (by omega)
      clear hx
      go_wp2_with fail
      go_roundg g
      case measure => omega
      case rel => exact ⟨i + 1, by omega, rfl⟩
end Go.Proofs.YtacboeeimnikdaaDoor
