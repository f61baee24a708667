/- bits.Len64 below 2^31: the library's own text walked; and how many groups of seven bits that makes. -/
import Derived.Test.YthfpidndjcnbcaaRows
import Derived.Lib.Strings
import Derived.Lib.Slices
import Derived.Lib.Small
import Derived.Lib.Walk
import Derived.Lib.BitFns
namespace Go.Proofs.Ythfpidndjcnbcaa

set_option maxHeartbeats 4000000 in
set_option maxRecDepth 100000 in
theorem len64_any (x : Int) (w : World) (h0 : 0 ≤ x) (h1 : x ≤ 2147483647) :
    Calls Try.prog 24 #[.int .u64 x] w fun e w' => e = .returned (.int .i64 (Lib.bitLen x.toNat)) ∧ w' = w := by
  go_enter Try.func24, Try.ntmps24
  go_wp2
  all_goals (go_ret; refine ⟨congrArg Ending.returned (congrArg (Value.int IntKind.i64) ?_), rfl⟩)
  all_goals first
    | (rw [Lib.len8_of (x / 65536 / 256 % 256) (by omega) (by omega)]
       have e : (x / 65536 / 256 % 256).toNat = x.toNat / 16777216 := by omega
       have l := Lib.bitLen_le8' (x / 65536 / 256 % 256) (by omega) (by omega)
       have s := Lib.bitLen_shift24 x.toNat (by omega) (by omega)
       rw [e] at l ⊢
       omega)
    | (rw [Lib.len8_of (x / 65536 % 256) (by omega) (by omega)]
       have e : (x / 65536 % 256).toNat = x.toNat / 65536 := by omega
       have l := Lib.bitLen_le8' (x / 65536 % 256) (by omega) (by omega)
       have s := Lib.bitLen_shift16 x.toNat (by omega) (by omega)
       rw [e] at l ⊢
       omega)
    | (rw [Lib.len8_of (x / 256 % 256) (by omega) (by omega)]
       have e : (x / 256 % 256).toNat = x.toNat / 256 := by omega
       have l := Lib.bitLen_le8' (x / 256 % 256) (by omega) (by omega)
       have s := Lib.bitLen_shift8 x.toNat (by omega) (by omega)
       rw [e] at l ⊢
       omega)
    | (rw [Lib.len8_of (x % 256) (by omega) (by omega)]
       have e : (x % 256).toNat = x.toNat := by omega
       have l := Lib.bitLen_le8' (x % 256) (by omega) (by omega)
       rw [e] at l ⊢
       omega)

/-- how many groups of seven bits a number below 2^31 has, at least one -/
def gN (x : Nat) : Nat := if x < 128 then 1 else if x < 16384 then 2 else if x < 2097152 then 3 else if x < 268435456 then 4 else 5

theorem bitLen_ge (x k : Nat) (h : 2 ^ k ≤ x) (hx : x < 2 ^ 64) : k + 1 ≤ Lib.bitLen x := by
  have s := Lib.bitLen_shift k x h hx
  have hpos : 0 < 2 ^ k := Nat.two_pow_pos k
  have h1 : 1 ≤ x / 2 ^ k := (Nat.le_div_iff_mul_le hpos).2 (by omega)
  have h2 : x / 2 ^ k ≤ x := Nat.div_le_self _ _
  have s2 := Lib.bitLen_half (x / 2 ^ k) (by omega) (by omega)
  omega

theorem gN_eq (x : Nat) (h : x ≤ 2147483647) : max 1 ((Lib.bitLen x + 6) / 7) = gN x := by
  unfold gN
  by_cases h1 : x < 128
  · have := Lib.bitLen_le x 7 (by decide) h1
    rw [if_pos h1]; omega
  · have g1 := bitLen_ge x 7 (by omega) (by omega)
    by_cases h2 : x < 16384
    · have := Lib.bitLen_le x 14 (by decide) h2
      rw [if_neg h1, if_pos h2]; omega
    · have g2 := bitLen_ge x 14 (by omega) (by omega)
      by_cases h3 : x < 2097152
      · have := Lib.bitLen_le x 21 (by decide) h3
        rw [if_neg h1, if_neg h2, if_pos h3]; omega
      · have g3 := bitLen_ge x 21 (by omega) (by omega)
        by_cases h4 : x < 268435456
        · have := Lib.bitLen_le x 28 (by decide) h4
          rw [if_neg h1, if_neg h2, if_neg h3, if_pos h4]; omega
        · have g4 := bitLen_ge x 28 (by omega) (by omega)
          have := Lib.bitLen_le x 31 (by decide) (by omega)
          rw [if_neg h1, if_neg h2, if_neg h3, if_neg h4]; omega
theorem bitLen_31 (x : Nat) (h : x ≤ 2147483647) : Lib.bitLen x ≤ 31 := Lib.bitLen_le x 31 (by decide) (by omega)

end Go.Proofs.Ythfpidndjcnbcaa
