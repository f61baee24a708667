/- Frames as bytes: numbers of several bytes; Go's bit operations as remainders. -/
import Derived.Laws.BitsLemmas
import Derived.Laws.Bits64
import Derived.RowKit
import Derived.Laws.Strings
import Derived.KernelRfl
namespace Go.Proofs.YtmhbaaemihljjaaDoor
open Go.RowKit
set_option linter.unusedVariables false
set_option linter.unusedSimpArgs false

/-- The number that bytes are, the highest first. -/
def numL (l : List UInt8) : Nat := l.foldl (fun v b => v * 256 + b.toNat) 0
def numS (s : ByteArray) : Nat := numL s.data.toList

theorem numL_snoc (l : List UInt8) (b : UInt8) : numL (l ++ [b]) = numL l * 256 + b.toNat := by simp [numL]

theorem numL_lt (l : List UInt8) : numL l < 256 ^ l.length := by
  have h : ∀ (l : List UInt8) (a : Nat), l.foldl (fun v b => v * 256 + b.toNat) a < (a + 1) * 256 ^ l.length := by
    intro l
    induction l with
    | nil => intro a; simp
    | cons b l ih =>
      intro a
      have h1 := ih (a * 256 + b.toNat)
      have h2 : (a * 256 + b.toNat + 1) * 256 ^ l.length ≤ ((a + 1) * 256) * 256 ^ l.length := Nat.mul_le_mul_right _ (by have := b.toNat_lt; omega)
      rw [List.foldl_cons, List.length_cons, Nat.pow_succ]
      calc _ < _ := h1
        _ ≤ _ := h2
        _ = _ := by rw [Nat.mul_assoc, Nat.mul_comm 256]
  simpa [numL] using h l 0

theorem take_num (s : ByteArray) (k : Nat) (h : k < s.size) : numL (s.data.toList.take (k + 1)) = numL (s.data.toList.take k) * 256 + s[k].toNat := by
  have hl : k < s.data.toList.length := by simpa using h
  rw [List.take_succ_eq_append_getElem hl, numL_snoc]
  rfl

theorem wraps_i64_63 (n : Int) (h₀ : 0 ≤ n) (h₁ : n < 2 ^ 63) : IntKind.i64.wrap n = n := by rw [IntKind.wrap_i64]; omega

theorem wrap64_small (n : Int) (h₀ : 0 ≤ n) (h₁ : n < 2 ^ 63) : wrap64 n = n := by unfold wrap64; omega

/-- of any number: its lower bits -/
theorem and_any (n : Int) (p : Nat) (hp : p ≤ 62) : bits .and .i64 n ((2 ^ p - 1 : Nat) : Int) = n % ((2 ^ p : Nat) : Int) := by
  have hpp : 2 ^ p < 2 ^ 63 := Nat.pow_lt_pow_right (by decide) (by omega)
  have hpos : 0 < 2 ^ p := Nat.two_pow_pos p
  have hd : 2 ^ p ∣ 2 ^ 64 := Nat.pow_dvd_pow 2 (by omega)
  have hb : (BitVec.ofInt 64 ((2 ^ p - 1 : Nat) : Int)).toNat = 2 ^ p - 1 := by
    rw [BitVec.ofInt_natCast, BitVec.toNat_ofNat]; exact Nat.mod_eq_of_lt (by omega)
  have ha : (BitVec.ofInt 64 n).toNat = (n % ((2 ^ 64 : Nat) : Int)).toNat := BitVec.toNat_ofInt n
  have key : (n % ((2 ^ 64 : Nat) : Int)).toNat % 2 ^ p = (n % ((2 ^ p : Nat) : Int)).toNat := by
    have h1 : 0 ≤ n % ((2 ^ 64 : Nat) : Int) := Int.emod_nonneg _ (by decide)
    have h2 : 0 ≤ n % ((2 ^ p : Nat) : Int) := Int.emod_nonneg _ (by omega)
    apply Int.ofNat.inj
    show (((n % ((2 ^ 64 : Nat) : Int)).toNat % 2 ^ p : Nat) : Int) = (((n % ((2 ^ p : Nat) : Int)).toNat : Nat) : Int)
    rw [Int.natCast_emod, Int.toNat_of_nonneg h1, Int.toNat_of_nonneg h2]
    exact Int.emod_emod_of_dvd n (Int.natCast_dvd_natCast.2 hd)
  have h2 : 0 ≤ n % ((2 ^ p : Nat) : Int) := Int.emod_nonneg _ (by omega)
  have h3 : n % ((2 ^ p : Nat) : Int) < ((2 ^ p : Nat) : Int) := Int.emod_lt_of_pos _ (by omega)
  show IntKind.i64.wrap (((BitVec.ofInt 64 n) &&& (BitVec.ofInt 64 ((2 ^ p - 1 : Nat) : Int))).toNat : Int) = _
  rw [BitVec.toNat_and, ha, hb, Nat.and_two_pow_sub_one_eq_mod, key, Int.toNat_of_nonneg h2]
  exact wraps_i64_63 _ h2 (by omega)

theorem and31 (n : Int) : bits .and .i64 n 2147483647 = n % 2147483648 := and_any n 31 (by decide)

/-- a byte behind a number -/
theorem or_byte (x b : Nat) (hx : x < 2 ^ 40) (hb : b < 256) : bits .or .i64 ((x * 256 : Nat) : Int) (b : Int) = ((x * 256 + b : Nat) : Int) := by
  rw [(bits_nat .i64 63 (by decide) wraps_i64_63 (x * 256) b (by omega) (by omega)).2]
  have := Nat.shiftLeft_add_eq_or_of_lt (show b < 2 ^ 8 by omega) x
  rw [Nat.shiftLeft_eq] at this
  rw [← this]

/-- the highest of 32 bits beside a number of 31 -/
theorem or_high (x : Nat) (hx : x < 2147483648) : bits .or .i64 (x : Int) 2147483648 = ((x + 2147483648 : Nat) : Int) := by
  have h := (bits_nat .i64 63 (by decide) wraps_i64_63 x 2147483648 (by omega) (by omega)).2
  rw [show ((2147483648 : Nat) : Int) = 2147483648 from rfl] at h
  rw [h]
  have := Nat.shiftLeft_add_eq_or_of_lt (show x < 2 ^ 31 by omega) 1
  rw [Nat.shiftLeft_eq] at this
  rw [Nat.or_comm, show (2147483648 : Nat) = 1 * 2 ^ 31 by decide, ← this, Nat.add_comm]

theorem and_high (x : Nat) (hx : x < 4294967296) : bits .and .i64 (x : Int) 2147483648 = (if 2147483648 ≤ x then 2147483648 else 0 : Int) := by
  have h := (bits_nat .i64 63 (by decide) wraps_i64_63 x 2147483648 (by omega) (by omega)).1
  rw [show ((2147483648 : Nat) : Int) = 2147483648 from rfl] at h
  rw [h]
  have : x &&& 2147483648 = if 2147483648 ≤ x then 2147483648 else 0 := by
    have ht : x.testBit 31 = decide (2 ^ 31 ≤ x) := by
      rw [Nat.testBit_eq_decide_div_mod_eq]
      by_cases hh : 2 ^ 31 ≤ x
      · simp only [hh, decide_true, decide_eq_true_eq]; omega
      · simp only [hh, decide_false, decide_eq_false_iff_not]; omega
    rw [show (2147483648 : Nat) = 2 ^ 31 by decide]
    apply Nat.eq_of_testBit_eq
    intro i
    rw [Nat.testBit_and, Nat.testBit_two_pow]
    by_cases hi : 31 = i
    · subst hi
      rw [ht]
      by_cases hh : 2 ^ 31 ≤ x
      · rw [if_pos hh, Nat.testBit_two_pow]; simp [hh]
      · rw [if_neg hh]; simp [hh]
    · by_cases hh : 2 ^ 31 ≤ x
      · rw [if_pos hh, Nat.testBit_two_pow]; simp [hi]
      · rw [if_neg hh]; simp [hi]
  rw [this]
  split <;> rfl
end Go.Proofs.YtmhbaaemihljjaaDoor
