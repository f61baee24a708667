/- Go's bit operations on small numbers, as remainders. -/
import Derived.Test.YthfpidndjcnbcaaNums
import Derived.Laws.BitsLemmas
import Derived.Laws.Bits64
import Derived.RowKit
import Derived.Laws.Strings
import Derived.KernelRfl
namespace Go.Proofs.Ythfpidndjcnbcaa
open Go.RowKit

theorem wraps_i64_63 (n : Int) (h₀ : 0 ≤ n) (h₁ : n < 2 ^ 63) : IntKind.i64.wrap n = n := by rw [IntKind.wrap_i64]; omega

theorem wrap64_small (n : Int) (h₀ : 0 ≤ n) (h₁ : n < 2 ^ 63) : wrap64 n = n := by unfold wrap64; omega

theorem and_low (x p : Nat) (hx : x < 2 ^ 63) (hp : p ≤ 62) : bits .and .i64 (x : Int) ((2 ^ p - 1 : Nat) : Int) = ((x % 2 ^ p : Nat) : Int) := by
  have hpp : 2 ^ p < 2 ^ 63 := Nat.pow_lt_pow_right (by decide) (by omega)
  rw [(bits_nat .i64 63 (by decide) wraps_i64_63 x (2 ^ p - 1) hx (by omega)).1, Nat.and_two_pow_sub_one_eq_mod]

theorem and_lowb (x p : Nat) (hx : x < 256) (hp : p ≤ 62) : bits .and .i64 (wrap64 (x : Int)) ((2 ^ p - 1 : Nat) : Int) = ((x % 2 ^ p : Nat) : Int) := by
  rw [wrap64_small _ (by omega) (by omega), and_low x p (by omega) hp]

/-- of any number: its lower bits -/
theorem and_any (n : Int) (p : Nat) (hp : p ≤ 62) : bits .and .i64 n ((2 ^ p - 1 : Nat) : Int) = n % ((2 ^ p : Nat) : Int) := by
  have hpp : 2 ^ p < 2 ^ 63 := Nat.pow_lt_pow_right (by decide) (by omega)
  have hpos : 0 < 2 ^ p := Nat.two_pow_pos p
  have hd : 2 ^ p ∣ 2 ^ 64 := Nat.pow_dvd_pow 2 (by omega)
  have hb : (BitVec.ofInt 64 ((2 ^ p - 1 : Nat) : Int)).toNat = 2 ^ p - 1 := by
    rw [BitVec.ofInt_natCast, BitVec.toNat_ofNat]; exact Nat.mod_eq_of_lt (by omega)
  have ha : (BitVec.ofInt 64 n).toNat = (n % ((2 ^ 64 : Nat) : Int)).toNat := BitVec.toNat_ofInt n
  have key : (n % ((2 ^ 64 : Nat) : Int)).toNat % 2 ^ p = (n % ((2 ^ p : Nat) : Int)).toNat := by
    have h1 : 0 ≤ n % ((2 ^ 64 : Nat) : Int) := Int.emod_nonneg _ (by decide)
    have h2 : 0 ≤ n % ((2 ^ p : Nat) : Int) := Int.emod_nonneg _ (by omega)
    apply Int.ofNat.inj
    show (((n % ((2 ^ 64 : Nat) : Int)).toNat % 2 ^ p : Nat) : Int) = (((n % ((2 ^ p : Nat) : Int)).toNat : Nat) : Int)
    rw [Int.natCast_emod, Int.toNat_of_nonneg h1, Int.toNat_of_nonneg h2]
    exact Int.emod_emod_of_dvd n (Int.natCast_dvd_natCast.2 hd)
  have h2 : 0 ≤ n % ((2 ^ p : Nat) : Int) := Int.emod_nonneg _ (by omega)
  have h3 : n % ((2 ^ p : Nat) : Int) < ((2 ^ p : Nat) : Int) := Int.emod_lt_of_pos _ (by omega)
  show IntKind.i64.wrap (((BitVec.ofInt 64 n) &&& (BitVec.ofInt 64 ((2 ^ p - 1 : Nat) : Int))).toNat : Int) = _
  rw [BitVec.toNat_and, ha, hb, Nat.and_two_pow_sub_one_eq_mod, key, Int.toNat_of_nonneg h2]
  exact wraps_i64_63 _ h2 (by omega)

theorem and7 (n : Int) : bits .and .i64 n 7 = n % 8 := and_any n 3 (by decide)
theorem and255 (n : Int) : bits .and .i64 n 255 = n % 256 := and_any n 8 (by decide)
theorem and31 (n : Int) : bits .and .i64 n 2147483647 = n % 2147483648 := and_any n 31 (by decide)

theorem andNot_all : ((List.range 256).all fun x => (List.range 9).all fun p => bits .andNot .i64 (x : Int) ((2 ^ p - 1 : Nat) : Int) == ((x - x % 2 ^ p : Nat) : Int)) = true := by decide +kernel
theorem andNot_low (x p : Nat) (hx : x < 256) (hp : p ≤ 8) : bits .andNot .i64 (x : Int) ((2 ^ p - 1 : Nat) : Int) = ((x - x % 2 ^ p : Nat) : Int) := by
  have h := List.all_eq_true.1 andNot_all x (by simpa using hx)
  have h2 := List.all_eq_true.1 h p (by simp; omega)
  exact eq_of_beq h2
theorem andNot_lowb (x p : Nat) (hx : x < 256) (hp : p ≤ 8) : bits .andNot .i64 (wrap64 (x : Int)) ((2 ^ p - 1 : Nat) : Int) = ((x - x % 2 ^ p : Nat) : Int) := by
  rw [wrap64_small _ (by omega) (by omega), andNot_low x p hx hp]

theorem or_all : ((List.range 256).all fun x => bits .or .u8 (x : Int) 128 == ((128 + x % 128 : Nat) : Int)) = true := by decide +kernel
theorem or128 (x : Nat) (hx : x < 256) : bits .or .u8 (x : Int) 128 = ((128 + x % 128 : Nat) : Int) :=
  eq_of_beq (List.all_eq_true.1 or_all x (by simpa using hx))
theorem mask127 (x : Nat) (hx : x < 256) : bits .and .u8 (x : Int) 127 = ((x % 128 : Nat) : Int) := by
  rw [show ((127 : Int)) = (2 : Int) ^ 7 - 1 by decide, bits_mask .u8 8 (by decide) wraps_u8 7 (by decide) (x : Int) (by omega) (by omega)]; rfl

theorem notEmpty (s : ByteArray) (h : 0 < s.size) : s.toList.isEmpty = false := by
  have h1 : s.toList = s.data.toList := by simp [ByteArray.toList_eq]
  rw [h1, list_cons s h]; rfl

theorem lo_bits (x p : Nat) (hx : x < 256) (hp : p ≤ 8) : bits .and .i64 (x : Int) (fl p : Int) = (lo p x : Int) := and_low x p (by omega) (by omega)
theorem lo_bitsb (x p : Nat) (hx : x < 256) (hp : p ≤ 8) : bits .and .i64 (wrap64 (x : Int)) (fl p : Int) = (lo p x : Int) := and_lowb x p hx (by omega)
theorem up_bits (x p : Nat) (hx : x < 256) (hp : p ≤ 8) : bits .andNot .i64 (x : Int) (fl p : Int) = ((x - lo p x : Nat) : Int) := andNot_low x p hx hp
theorem up_bitsb (x p : Nat) (hx : x < 256) (hp : p ≤ 8) : bits .andNot .i64 (wrap64 (x : Int)) (fl p : Int) = ((x - lo p x : Nat) : Int) := andNot_lowb x p hx hp

end Go.Proofs.Ythfpidndjcnbcaa
