import Derived.Test.YthfpidndjcnbcaaT9
import Derived.Test.YthfpidndjcnbcaaT4
namespace Go.Proofs.Ythfpidndjcnbcaa
open Go.RowKit

set_option maxRecDepth 100000 in
set_option maxHeartbeats 800000 in
theorem pintTakes_any (a : Int) (s : ByteArray) (w : World) (hs : s.size ≤ 9223372036854775807) :
    Calls Try.prog 3 #[.int .i64 a, .string s] w fun e w' => e = .returned (.bool true) ∧ Below w.heap.size w w' := by
  go_enter Try.func3, Try.ntmps3
  go_wp2_with (first
    | (go_at_call 8; refine (take_any _ _ _ hs).mono ?_; rintro e w ⟨rfl, rfl⟩)
    | (go_at_call 9; refine (rtake_any _ _ _ hs).mono ?_; rintro e w ⟨rfl, rfl⟩)
    | (go_at_call 10; refine (first_any _).mono ?_; rintro e w1 ⟨rfl, hb⟩))
  go_ret
  exact ⟨rfl, hb⟩
end Go.Proofs.Ythfpidndjcnbcaa
