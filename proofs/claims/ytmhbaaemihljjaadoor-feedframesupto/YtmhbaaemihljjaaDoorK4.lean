/- What Read tells of the bytes that wait: plain facts. -/
import Derived.Test.YtmhbaaemihljjaaDoorK3
import Derived.Test.YtmhbaaemihljjaaDoorA8
namespace Go.Proofs.YtmhbaaemihljjaaDoor
open Go.RowKit
set_option linter.unusedVariables false
set_option linter.unusedSimpArgs false

abbrev Told := (Fr × List (Int × Int)) × Int × Int × Int
/-- what Read tells of a list of bytes -/
def rdL (W : List UInt8) (most : Int) : Told := readS ⟨W.toArray⟩ most

theorem ext_l (W : List UInt8) (i j : Nat) : (⟨W.toArray⟩ : ByteArray).extract i j = ⟨((W.drop i).take (j - i)).toArray⟩ := by
  apply ByteArray.ext
  rw [ByteArray.data_extract]
  apply Array.ext'
  rw [Array.toList_extract, List.extract_eq_take_drop]
theorem size_l (W : List UInt8) : (⟨W.toArray⟩ : ByteArray).size = W.length := by simp [ByteArray.size]
theorem num_l (W : List UInt8) : numS ((⟨W.toArray⟩ : ByteArray).extract 0 3) = n3 W := by
  rw [ext_l]
  simp [numS, n3]

/-- by lists -/
theorem rdL_eq (W : List UInt8) (most : Int) : rdL W most =
    if W.length < 9 then ((Fr.zero, []), 0, 0, 0)
    else if min (max most 16384) 65536 < (n3 W : Int) then ((Fr.zero, []), 0, 6, 0)
    else if W.length < 9 + n3 W then ((Fr.zero, []), 0, 0, 0)
    else if (parseS ⟨(W.take (9 + n3 W)).toArray⟩).2.1 ≠ 0 ∧ (parseS ⟨(W.take (9 + n3 W)).toArray⟩).2.2 = 0 then ((Fr.zero, []), 0, (parseS ⟨(W.take (9 + n3 W)).toArray⟩).2)
    else ((parseS ⟨(W.take (9 + n3 W)).toArray⟩).1, ((9 + n3 W : Nat) : Int), (parseS ⟨(W.take (9 + n3 W)).toArray⟩).2) := by
  unfold rdL readS
  rw [size_l, num_l, ext_l]
  simp only [List.drop_zero, Nat.sub_zero]

theorem n3_take (W : List UInt8) (k : Nat) (h : 3 ≤ k) : n3 (W.take k) = n3 W := by
  unfold n3
  rw [List.take_take, Nat.min_eq_left h]
theorem n3_app (W X : List UInt8) (h : 3 ≤ W.length) : n3 (W ++ X) = n3 W := by
  unfold n3
  rw [List.take_append_of_le_length h]

/-- Read goes by what 'first' tells -/
theorem rdL_first (W : List UInt8) (most : Int) : rdL (firstL W) most = rdL W most := by
  unfold firstL
  by_cases h9 : W.length < 9
  · rw [if_pos h9]
  · rw [if_neg h9]
    by_cases hl : W.length < 9 + n3 W
    · rw [if_pos hl, rdL_eq, rdL_eq, n3_take _ _ (by omega), List.length_take, if_neg (by omega), if_neg h9, if_pos hl]
      by_cases hm : min (max most 16384) 65536 < (n3 W : Int)
      · rw [if_pos hm, if_pos hm]
      · rw [if_neg hm, if_neg hm, if_pos (by omega)]
    · rw [if_neg hl, rdL_eq, rdL_eq, n3_take _ _ (by omega), List.length_take, List.take_take, Nat.min_self, if_neg (by omega), if_neg h9, if_neg hl]
      rw [if_neg (show ¬ min (9 + n3 W) W.length < 9 + n3 W by omega)]

theorem parse_cases (b : ByteArray) : ((parseS b).2.1 = 0 ∧ (parseS b).2.2 = 0) ∨ ((parseS b).1 = (Fr.zero, []) ∧ (parseS b).2.1 ≠ 0) := by
  unfold parseS parseB
  repeat' split
  all_goals simp

/-- the four ways of Read -/
theorem rdL_cases (W : List UInt8) (most : Int) :
    (rdL W most = ((Fr.zero, []), 0, 0, 0) ∧ (W.length < 9 ∨ W.length < 9 + n3 W)) ∨
    (∃ c, c ≠ 0 ∧ 9 ≤ W.length ∧ rdL W most = ((Fr.zero, []), 0, c, 0)) ∨
    (∃ c x, c ≠ 0 ∧ x ≠ 0 ∧ 9 + n3 W ≤ W.length ∧ rdL W most = ((Fr.zero, []), ((9 + n3 W : Nat) : Int), c, x)) ∨
    (∃ f ps, 9 + n3 W ≤ W.length ∧ rdL W most = ((f, ps), ((9 + n3 W : Nat) : Int), 0, 0)) := by
  rw [rdL_eq]
  by_cases h9 : W.length < 9
  · rw [if_pos h9]; exact .inl ⟨rfl, .inl h9⟩
  rw [if_neg h9]
  by_cases hm : min (max most 16384) 65536 < (n3 W : Int)
  · rw [if_pos hm]; exact .inr (.inl ⟨6, by decide, by omega, rfl⟩)
  rw [if_neg hm]
  by_cases hl : W.length < 9 + n3 W
  · rw [if_pos hl]; exact .inl ⟨rfl, .inr hl⟩
  rw [if_neg hl]
  rcases parse_cases ⟨(W.take (9 + n3 W)).toArray⟩ with ⟨h1, h2⟩ | ⟨h1, h2⟩
  · rw [if_neg (by rintro ⟨h, _⟩; exact h h1)]
    exact .inr (.inr (.inr ⟨(parseS ⟨(W.take (9 + n3 W)).toArray⟩).1.1, (parseS ⟨(W.take (9 + n3 W)).toArray⟩).1.2, by omega, Prod.ext rfl (Prod.ext rfl (Prod.ext h1 h2))⟩))
  · by_cases hx : (parseS ⟨(W.take (9 + n3 W)).toArray⟩).2.2 = 0
    · rw [if_pos ⟨h2, hx⟩]
      exact .inr (.inl ⟨_, h2, by omega, Prod.ext rfl (Prod.ext rfl (Prod.ext rfl hx))⟩)
    · rw [if_neg (by rintro ⟨_, h⟩; exact hx h)]
      exact .inr (.inr (.inl ⟨_, _, h2, hx, by omega, Prod.ext h1 rfl⟩))

/-- what more bytes behind them change -/
theorem rdL_app (W X : List UInt8) (most : Int) (h : rdL W most ≠ ((Fr.zero, []), 0, 0, 0)) : rdL (W ++ X) most = rdL W most := by
  rw [rdL_eq] at h
  by_cases h9 : W.length < 9
  · rw [if_pos h9] at h; exact absurd rfl h
  rw [if_neg h9] at h
  rw [rdL_eq, rdL_eq, n3_app _ _ (by omega), List.length_append, if_neg (by omega), if_neg h9]
  by_cases hm : min (max most 16384) 65536 < (n3 W : Int)
  · rw [if_pos hm, if_pos hm]
  rw [if_neg hm] at h
  rw [if_neg hm, if_neg hm]
  by_cases hl : W.length < 9 + n3 W
  · rw [if_pos hl] at h; exact absurd rfl h
  rw [if_neg hl, if_neg (by omega), List.take_append_of_le_length (by omega)]
end Go.Proofs.YtmhbaaemihljjaaDoor
