/- Bits. -/
import Derived.Test.YtdgdjanchpfleaaA2
import Derived.Laws.BitsLemmas
import Derived.Laws.Bits64
namespace Go.Proofs.Ytdgdjanchpfleaa
open Go.RowKit
set_option linter.unusedVariables false
set_option linter.unusedSimpArgs false

theorem wraps_i64_63 (n : Int) (h₀ : 0 ≤ n) (h₁ : n < 2 ^ 63) : IntKind.i64.wrap n = n := by rw [IntKind.wrap_i64]; omega
/-- of any number: its lower bits -/
theorem and_any (n : Int) (p : Nat) (hp : p ≤ 62) : bits .and .i64 n ((2 ^ p - 1 : Nat) : Int) = n % ((2 ^ p : Nat) : Int) := by
  have hpp : 2 ^ p < 2 ^ 63 := Nat.pow_lt_pow_right (by decide) (by omega)
  have hpos : 0 < 2 ^ p := Nat.two_pow_pos p
  have hd : 2 ^ p ∣ 2 ^ 64 := Nat.pow_dvd_pow 2 (by omega)
  have hb : (BitVec.ofInt 64 ((2 ^ p - 1 : Nat) : Int)).toNat = 2 ^ p - 1 := by
    rw [BitVec.ofInt_natCast, BitVec.toNat_ofNat]; exact Nat.mod_eq_of_lt (by omega)
  have ha : (BitVec.ofInt 64 n).toNat = (n % ((2 ^ 64 : Nat) : Int)).toNat := BitVec.toNat_ofInt n
  have key : (n % ((2 ^ 64 : Nat) : Int)).toNat % 2 ^ p = (n % ((2 ^ p : Nat) : Int)).toNat := by
    have h1 : 0 ≤ n % ((2 ^ 64 : Nat) : Int) := Int.emod_nonneg _ (by decide)
    have h2 : 0 ≤ n % ((2 ^ p : Nat) : Int) := Int.emod_nonneg _ (by omega)
    apply Int.ofNat.inj
    show (((n % ((2 ^ 64 : Nat) : Int)).toNat % 2 ^ p : Nat) : Int) = (((n % ((2 ^ p : Nat) : Int)).toNat : Nat) : Int)
    rw [Int.natCast_emod, Int.toNat_of_nonneg h1, Int.toNat_of_nonneg h2]
    exact Int.emod_emod_of_dvd n (Int.natCast_dvd_natCast.2 hd)
  have h2 : 0 ≤ n % ((2 ^ p : Nat) : Int) := Int.emod_nonneg _ (by omega)
  have h3 : n % ((2 ^ p : Nat) : Int) < ((2 ^ p : Nat) : Int) := Int.emod_lt_of_pos _ (by omega)
  show IntKind.i64.wrap (((BitVec.ofInt 64 n) &&& (BitVec.ofInt 64 ((2 ^ p - 1 : Nat) : Int))).toNat : Int) = _
  rw [BitVec.toNat_and, ha, hb, Nat.and_two_pow_sub_one_eq_mod, key, Int.toNat_of_nonneg h2]
  exact wraps_i64_63 _ h2 (by omega)


theorem and1 (n : Int) : bits .and .i64 n 1 = n % 2 := and_any n 1 (by decide)
theorem and255 (n : Int) : bits .and .i64 n 255 = n % 256 := and_any n 8 (by decide)
theorem and20 (n : Int) : bits .and .i64 n 1048575 = n % 1048576 := and_any n 20 (by decide)
theorem and15 (n : Int) : bits .and .i64 n 32767 = n % 32768 := and_any n 15 (by decide)

/-- what holds of flags of eight bits -/
theorem fl_all : ((List.range 256).all fun x =>
    (bits .and .i64 (bits .andNot .i64 (x : Int) 4) 4 == 0) && !(bits .and .i64 (bits .or .i64 (bits .andNot .i64 (x : Int) 4) 4) 4 == 0) &&
    (bits .and .i64 (bits .andNot .i64 (x : Int) 4) 8 == bits .and .i64 (x : Int) 8) && (bits .and .i64 (bits .or .i64 (bits .andNot .i64 (x : Int) 4) 4) 8 == bits .and .i64 (x : Int) 8) &&
    (bits .and .i64 (bits .andNot .i64 (x : Int) 4) 32 == bits .and .i64 (x : Int) 32) && (bits .and .i64 (bits .or .i64 (bits .andNot .i64 (x : Int) 4) 4) 32 == bits .and .i64 (x : Int) 32) &&
    (bits .andNot .i64 (bits .or .i64 (bits .andNot .i64 (x : Int) 4) 4) 4 == bits .andNot .i64 (x : Int) 4) && (bits .or .i64 (bits .or .i64 (bits .andNot .i64 (x : Int) 4) 4) 4 == bits .or .i64 (bits .andNot .i64 (x : Int) 4) 4) &&
    (bits .or .i64 (bits .andNot .i64 (x : Int) 4) 4 == bits .or .i64 (x : Int) 4) && (bits .andNot .i64 (bits .or .i64 (x : Int) 4) 4 == bits .andNot .i64 (x : Int) 4) && (bits .or .i64 (bits .or .i64 (x : Int) 4) 4 == bits .or .i64 (x : Int) 4)) = true := by decide +kernel
structure Fl (x : Int) : Prop where
  a0 : (bits .and .i64 (bits .andNot .i64 x 4) 4 == 0) = true
  a1 : (bits .and .i64 (bits .or .i64 (bits .andNot .i64 x 4) 4) 4 == 0) = false
  b0 : bits .and .i64 (bits .andNot .i64 x 4) 8 = bits .and .i64 x 8
  b1 : bits .and .i64 (bits .or .i64 (bits .andNot .i64 x 4) 4) 8 = bits .and .i64 x 8
  c0 : bits .and .i64 (bits .andNot .i64 x 4) 32 = bits .and .i64 x 32
  c1 : bits .and .i64 (bits .or .i64 (bits .andNot .i64 x 4) 4) 32 = bits .and .i64 x 32
  d0 : bits .andNot .i64 (bits .or .i64 (bits .andNot .i64 x 4) 4) 4 = bits .andNot .i64 x 4
  d1 : bits .or .i64 (bits .or .i64 (bits .andNot .i64 x 4) 4) 4 = bits .or .i64 (bits .andNot .i64 x 4) 4
  d2 : bits .or .i64 (bits .andNot .i64 x 4) 4 = bits .or .i64 x 4
theorem fl_of {x : Int} (h0 : 0 ≤ x) (h1 : x < 256) : Fl x := by
  obtain ⟨n, rfl⟩ := Int.eq_ofNat_of_zero_le h0
  have h := List.all_eq_true.1 fl_all n (List.mem_range.2 (by omega))
  simp only [Bool.and_eq_true, beq_iff_eq, Bool.not_eq_true', beq_eq_false_iff_ne] at h
  obtain ⟨⟨⟨⟨⟨⟨⟨⟨⟨⟨a, b⟩, c⟩, d⟩, e⟩, f⟩, g⟩, i⟩, j⟩, k⟩, l⟩ := h
  exact ⟨by simp only [beq_iff_eq]; exact a, by simp only [beq_eq_false_iff_ne]; exact b, c, d, e, f, g, i, j⟩
end Go.Proofs.Ytdgdjanchpfleaa
