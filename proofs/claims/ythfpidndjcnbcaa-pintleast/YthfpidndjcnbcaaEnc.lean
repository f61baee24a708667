/- The bytes of a number, made two ways: group by group with a count, and by dividing. -/
import Derived.Test.YthfpidndjcnbcaaLen
import Derived.Test.YthfpidndjcnbcaaNums
namespace Go.Proofs.Ythfpidndjcnbcaa

/-- the first k groups of r, each with the highest bit -/
def hi (r : Nat) : Nat → List Nat
  | 0 => []
  | k + 1 => hi r k ++ [128 + r / 128 ^ k % 128]
theorem hi_length (r k : Nat) : (hi r k).length = k := by
  induction k with
  | zero => rfl
  | succ k ih => simp [hi, ih]

theorem hi_lt (r k : Nat) : ∀ x ∈ hi r k, x < 256 := by
  induction k with
  | zero => intro x hx; cases hx
  | succ k ih =>
    intro x hx
    simp only [hi, List.mem_append, List.mem_cons, List.not_mem_nil, or_false] at hx
    rcases hx with hx | rfl
    · exact ih x hx
    · omega

theorem gN_range (r : Nat) : 1 ≤ gN r ∧ gN r ≤ 5 := by unfold gN; repeat (first | split | omega)

theorem enc_lt (k r : Nat) (h : r < 128) : enc k r = [B8 r] := by cases k <;> simp [enc, h]
theorem enc_ge (k r : Nat) (h : 128 ≤ r) : enc (k + 1) r = B8 (128 + r % 128) :: enc k (r / 128) := by simp [enc]; omega

theorem enc_eq (r : Nat) (h : r ≤ 2147483647) : (hi r (gN r - 1) ++ [r / 128 ^ (gN r - 1) % 128]).map B8 = enc 5 r := by
  by_cases h1 : r < 128
  · rw [show gN r = 1 by unfold gN; simp [h1], enc_lt _ _ h1]
    have e : r % 128 = r := by omega
    simp [hi, e]
  · rw [enc_ge 4 r (by omega)]
    by_cases h2 : r < 16384
    · rw [show gN r = 2 by unfold gN; simp [h1, h2], enc_lt 4 _ (by omega)]
      have e : r / 128 % 128 = r / 128 := by omega
      simp [hi, e]
    · rw [enc_ge 3 _ (by omega)]
      by_cases h3 : r < 2097152
      · rw [show gN r = 3 by unfold gN; simp [h1, h2, h3], enc_lt 3 _ (by omega)]
        have e : r / 16384 % 128 = r / 128 / 128 := by omega
        simp [hi, e]
      · rw [enc_ge 2 _ (by omega)]
        by_cases h4 : r < 268435456
        · rw [show gN r = 4 by unfold gN; simp [h1, h2, h3, h4], enc_lt 2 _ (by omega)]
          have e : r / 2097152 % 128 = r / 128 / 128 / 128 := by omega
          have e2 : r / 16384 % 128 = r / 128 / 128 % 128 := by omega
          simp [hi, e, e2]
        · rw [enc_ge 1 _ (by omega), enc_lt 1 _ (by omega)]
          rw [show gN r = 5 by unfold gN; simp [h1, h2, h3, h4]]
          have e : r / 268435456 % 128 = r / 128 / 128 / 128 / 128 := by omega
          have e2 : r / 16384 % 128 = r / 128 / 128 % 128 := by omega
          have e3 : r / 2097152 % 128 = r / 128 / 128 / 128 % 128 := by omega
          simp [hi, e, e2, e3]

end Go.Proofs.Ythfpidndjcnbcaa
