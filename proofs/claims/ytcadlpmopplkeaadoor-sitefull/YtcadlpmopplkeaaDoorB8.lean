/- site: sized. -/
import Derived.Test.YtcadlpmopplkeaaDoorB7
namespace Go.Proofs.YtcadlpmopplkeaaDoor
open Go.RowKit
open Go.Shelf
set_option linter.unusedVariables false
set_option linter.unusedSimpArgs false

def lengthName : ByteArray := ⟨#[99, 111, 110, 116, 101, 110, 116, 45, 108, 101, 110, 103, 116, 104]⟩
/-- the field that tells a body's size -/
def szF (n : Int) : Fd := ⟨lengthName, itoaS n, false⟩
set_option maxHeartbeats 2000000 in
theorem sized_any (n : Int) (h0 : -9223372036854775808 ≤ n) (h1 : n ≤ 9223372036854775807) (w : World) (ht : Tab w) :
    Calls Tryd.prog 38 #[.int .i64 n] w fun e w' => ∃ y : SV, e = .returned (sv y) ∧ Below w.heap.size w w' ∧ R EFd w' (sv y) [szF n] ∧ ∀ k, (sv y).ownBlock = some k → w.heap.size ≤ k := by
  have hC : Hid (Calls Tryd.prog 9 #[.int .i64 n] w fun e w' => e = .returned (.string (itoaS n)) ∧ Below w.heap.size w w') := itoa_any n h0 h1 w ht
  unfold szF
  obtain ⟨I, hI⟩ : ∃ I, itoaS n = I := ⟨_, rfl⟩
  rw [hI] at hC ⊢
  clear hI ht
  go_enter Tryd.func38, Tryd.ntmps38
  go_wp2_with fail
  go_at_call 9
  refine hC.out.mono ?_
  rintro e w1 ⟨rfl, hb1⟩
  have HB : Hid (Below w.heap.size w w1) := hb1
  clear hb1 hC
  go_wp2_with fail
  go_ret
  exact ⟨(some ⟨w1.heap.size, 0, none⟩, 1, 1), rfl, HB.out.trans ((bel1 _ _).mono HB.out.size), R.one okFd _ (by rw [heap_al, if_pos rfl]; rfl) rfl, fun k hk => by simp [sv, Value.ownBlock] at hk; have := HB.out.size; omega⟩

end Go.Proofs.YtcadlpmopplkeaaDoor
