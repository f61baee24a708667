/- FeedPreface: plain facts. -/
import Derived.Test.YtmhbaaemihljjaaDoorK9
namespace Go.Proofs.YtmhbaaemihljjaaDoor
open Go.RowKit
set_option linter.unusedVariables false
set_option linter.unusedSimpArgs false

def preL : List UInt8 := [80, 82, 73, 32, 42, 32, 72, 84, 84, 80, 47, 50, 46, 48, 13, 10, 13, 10, 83, 77, 13, 10, 13, 10]
theorem preL_len : preL.length = 24 := rfl
theorem pre_data : prefaceB.data.toList = preL := rfl
theorem pre_size : prefaceB.size = 24 := rfl

theorem next_pre (j : Nat) (h : j < 24) : nextS ⟨prefaceB, preL.take j, 16384, 0⟩ = ⟨(Fr.zero, []), false, 0, 0, ⟨prefaceB, preL.take j, 16384, 0⟩⟩ := by
  have hn : nS ⟨prefaceB, preL.take j, 16384, 0⟩ = j := by
    unfold nS
    rw [pre_size, List.length_take, preL_len]
    omega
  have hp : passL ⟨prefaceB, preL.take j, 16384, 0⟩ = (false, ⟨prefaceB, preL.take j, 16384, 0⟩) := by
    unfold passL
    rw [hn, pre_data, pre_size, List.take_take, Nat.min_self, if_neg (by simp), if_pos h]
  rw [nextS_eq]
  unfold nextL
  rw [hp]
  rfl

theorem next_wrong (j : Nat) (h : j < 24) (x : UInt8) (hx : x ≠ preL[j]) : nextS ⟨prefaceB, preL.take j ++ [x], 16384, 0⟩ = ⟨(Fr.zero, []), false, 1, 0, deadS 1⟩ := by
  have hl : (preL.take j ++ [x]).length = j + 1 := by rw [List.length_append, List.length_take, preL_len]; simp; omega
  have hn : nS ⟨prefaceB, preL.take j ++ [x], 16384, 0⟩ = j + 1 := by
    unfold nS
    rw [pre_size, hl]
    omega
  have hp : passL ⟨prefaceB, preL.take j ++ [x], 16384, 0⟩ = (false, ⟨prefaceB, preL.take j ++ [x], 16384, 1⟩) := by
    unfold passL
    rw [hn, pre_data]
    have hne : (List.take (j + 1) (preL.take j ++ [x]) == preL.take (j + 1)) = false := by
      rw [List.take_of_length_le (by omega), List.take_succ_eq_append_getElem (by rw [preL_len]; exact h)]
      rw [beq_eq_false_iff_ne]
      intro e
      have := List.append_cancel_left e
      simp at this
      exact hx this
    rw [if_pos hne]
  rw [nextS_eq]
  unfold nextL
  rw [hp]
  rfl

theorem next_dead : nextS (deadS 1) = ⟨(Fr.zero, []), false, 1, 0, deadS 1⟩ := by rw [nextS_eq]; kernel_rfl
theorem next_full : nextS ⟨prefaceB, preL, 16384, 0⟩ = ⟨(Fr.zero, []), false, 0, 0, ⟨⟨#[]⟩, [], 16384, 0⟩⟩ := by rw [nextS_eq]; kernel_rfl
theorem next_ping : nextS ⟨⟨#[]⟩, pingL, 16384, 0⟩ = ⟨(pingF, []), true, 0, 0, ⟨⟨#[]⟩, [], 16384, 0⟩⟩ := by rw [nextS_eq]; kernel_rfl

/-- a byte that is turned by an odd one is another -/
theorem xor_odd (a : Nat) (b : Int) (ha : a < 256) : ∃ X : UInt8, bits .xor .u8 (a : Int) (bits .or .u8 b 1) = (X.toNat : Int) ∧ X.toNat ≠ a := by
  obtain ⟨c, hc⟩ : ∃ c : Nat, c = (BitVec.ofInt 8 b).toNat ||| 1 := ⟨_, rfl⟩
  have hb8 : (BitVec.ofInt 8 b).toNat < 256 := (BitVec.ofInt 8 b).isLt
  have hc8 : c < 2 ^ 8 := by rw [hc]; exact Nat.or_lt_two_pow (by omega) (by decide)
  have h1 : bits .or .u8 b 1 = (c : Int) := by
    show IntKind.u8.wrap (((BitVec.ofInt 8 b ||| BitVec.ofInt 8 1) : BitVec 8).toNat : Int) = _
    rw [BitVec.toNat_or, show (BitVec.ofInt 8 1).toNat = 1 from rfl, ← hc]
    exact wraps_u8 _ (by omega) (by omega)
  have hx8 : a ^^^ c < 2 ^ 8 := Nat.xor_lt_two_pow (by omega) hc8
  have h2 : bits .xor .u8 (a : Int) (c : Int) = ((a ^^^ c : Nat) : Int) := by
    show IntKind.u8.wrap (((BitVec.ofInt 8 (a : Int) ^^^ BitVec.ofInt 8 (c : Int)) : BitVec 8).toNat : Int) = _
    rw [BitVec.toNat_xor, BitVec.ofInt_natCast, BitVec.ofInt_natCast, BitVec.toNat_ofNat, BitVec.toNat_ofNat, Nat.mod_eq_of_lt (by omega), Nat.mod_eq_of_lt hc8]
    exact wraps_u8 _ (by omega) (by omega)
  refine ⟨UInt8.ofNat (a ^^^ c), ?_, ?_⟩
  · rw [h1, h2, UInt8.toNat_ofNat', Nat.mod_eq_of_lt hx8]
  · rw [UInt8.toNat_ofNat', Nat.mod_eq_of_lt hx8]
    intro e
    have hb : c.testBit 0 = true := by rw [hc, Nat.testBit_or]; simp
    have e' : (a ^^^ c).testBit 0 = a.testBit 0 := by rw [e]
    rw [Nat.testBit_xor, hb] at e'
    cases h0 : a.testBit 0 <;> rw [h0] at e' <;> cases e'
end Go.Proofs.YtmhbaaemihljjaaDoor
