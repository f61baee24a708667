import Derived.Test.YthfpidndjcnbcaaT9
import Derived.Test.YthfpidndjcnbcaaTA
namespace Go.Proofs.Ythfpidndjcnbcaa
open Go.RowKit

set_option maxRecDepth 100000 in
set_option maxHeartbeats 800000 in
theorem pintPuts_any (a f v : Int) (w : World) :
    Calls Try.prog 5 #[.int .i64 a, .int .i64 f, .int .i64 v] w fun e w' => e = .returned (.bool true) ∧ Below w.heap.size w w' := by
  go_enter Try.func5, Try.ntmps5
  go_wp2_with fail
  refine (put_any _ _ _ _).mono ?_
  rintro e w1 ⟨rfl, hb1⟩
  go_wp2_with fail
  refine (rput_any _ _ _ _).mono ?_
  rintro e w2 ⟨rfl, hb2⟩
  have hb := hb1.trans (hb2.mono hb1.size)
  clear hb1 hb2
  go_wp2_with fail
  refine (first_any _).mono ?_
  rintro e w3 ⟨rfl, hb3⟩
  have hb' := hb.trans (hb3.mono hb.size)
  clear hb hb3
  go_wp2
  go_ret
  exact ⟨rfl, hb'⟩
end Go.Proofs.Ythfpidndjcnbcaa
