/- Bytes and unsigned numbers among the arguments. -/
import Derived.Test.YtbifmikndpeafaaDoorP1
namespace Go.Proofs.YtbifmikndpeafaaDoor
open Go.ChangeShapes Go.WideShapes Go.ChangeAt Go.RowKit Go.Deep
set_option linter.unusedVariables false
set_option linter.unusedSimpArgs false
theorem wf_u64 {n : Int} (h : (Lit.int .u64 n).wf = true) : 0 ≤ n ∧ n ≤ 18446744073709551615 := by
  simp [Lit.wf] at h
  have h1 : IntKind.u64.min = 0 := by decide
  rw [h1] at h
  exact h
theorem u8_of {n : Int} (h : (Lit.int .u8 n).wf = true) : ∃ x : UInt8, n = (x.toNat : Int) := by
  simp [Lit.wf] at h
  have h1 : IntKind.u8.min = 0 := by decide
  have h2 : IntKind.u8.max = 255 := by decide
  rw [h1, h2] at h
  refine ⟨UInt8.ofNat n.toNat, ?_⟩
  rw [UInt8.toNat_ofNat']
  omega
end Go.Proofs.YtbifmikndpeafaaDoor
