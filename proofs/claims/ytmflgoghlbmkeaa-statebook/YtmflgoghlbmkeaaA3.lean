/- What Next answers, as a table. -/
import Derived.Test.YtmflgoghlbmkeaaA2
namespace Go.Proofs.Ytmflgoghlbmkeaa
open Go.RowKit
set_option linter.unusedVariables false
set_option linter.unusedSimpArgs false

/-- what is sent, and what is got: seven states, eight kinds -/
def sentT : List (Int × Int × Int) := [(3, 0, 0), (4, 0, 0), (0, 4, 0), (0, 4, 0), (1, 0, 0), (0, 4, 0), (0, 4, 0), (0, 0, 0), (5, 0, 0), (6, 0, 0), (1, 4, 0), (1, 4, 0), (1, 4, 0), (6, 0, 0), (1, 4, 0), (1, 0, 0), (2, 4, 0), (2, 4, 0), (2, 4, 0), (2, 4, 0), (2, 4, 0), (6, 0, 0), (2, 0, 0), (2, 0, 0), (3, 0, 0), (4, 0, 0), (3, 0, 0), (4, 0, 0), (3, 4, 0), (6, 0, 0), (3, 0, 0), (3, 0, 0), (4, 4, 0), (4, 4, 0), (4, 4, 0), (4, 4, 0), (4, 4, 0), (6, 0, 0), (4, 0, 0), (4, 0, 0), (5, 0, 0), (6, 0, 0), (5, 0, 0), (6, 0, 0), (5, 4, 0), (6, 0, 0), (5, 0, 0), (5, 0, 0), (6, 4, 0), (6, 4, 0), (6, 4, 0), (6, 4, 0), (6, 4, 0), (6, 4, 0), (6, 4, 0), (6, 0, 0)]
def gotT : List (Int × Int × Int) := [(3, 0, 0), (5, 0, 0), (0, 3, 1), (0, 3, 1), (2, 0, 0), (0, 3, 1), (0, 3, 1), (0, 0, 0), (1, 3, 1), (1, 3, 1), (1, 3, 1), (1, 3, 1), (1, 3, 1), (6, 0, 0), (1, 0, 0), (1, 0, 0), (4, 0, 0), (6, 0, 0), (2, 3, 1), (2, 3, 1), (2, 3, 1), (6, 0, 0), (2, 3, 1), (2, 0, 0), (3, 0, 0), (5, 0, 0), (3, 0, 0), (5, 0, 0), (3, 3, 1), (6, 0, 0), (3, 0, 0), (3, 0, 0), (4, 0, 0), (6, 0, 0), (4, 0, 0), (6, 0, 0), (4, 3, 1), (6, 0, 0), (4, 0, 0), (4, 0, 0), (5, 2, 5), (5, 2, 5), (5, 2, 5), (5, 2, 5), (5, 3, 1), (6, 0, 0), (5, 0, 0), (5, 0, 0), (6, 3, 5), (6, 3, 5), (6, 3, 5), (6, 3, 5), (6, 3, 1), (6, 1, 0), (6, 1, 0), (6, 1, 0)]
def tb (g : Bool) (s k : Nat) : Int × Int × Int := (if g then gotT else sentT).getD (8 * s + k - 1) (0, 4, 0)
/-- the state behind an event, its verdict, its code -/
def nx (s : Int) (g : Bool) (k : Int) : Int × Int × Int := if 0 ≤ s ∧ s ≤ 6 ∧ 1 ≤ k ∧ k ≤ 8 then tb g s.toNat k.toNat else (s, 4, 0)
theorem nx_out {s : Int} {g : Bool} {k : Int} (h : ¬ (0 ≤ s ∧ s ≤ 6 ∧ 1 ≤ k ∧ k ≤ 8)) : nx s g k = (s, 4, 0) := if_neg h
theorem kinds {k : Int} (h : 1 ≤ k ∧ k ≤ 8) : k = 1 ∨ k = 2 ∨ k = 3 ∨ k = 4 ∨ k = 5 ∨ k = 6 ∨ k = 7 ∨ k = 8 := by omega
theorem states {s : Int} (h : 0 ≤ s ∧ s ≤ 6) : s = 0 ∨ s = 1 ∨ s = 2 ∨ s = 3 ∨ s = 4 ∨ s = 5 ∨ s = 6 := by omega

theorem nx_any (s : Int) (g : Bool) (k : Int) : NxS s g k (nx s g k).1 (nx s g k).2.1 (nx s g k).2.2 := by
  by_cases hk : 1 ≤ k ∧ k ≤ 8
  · by_cases h0 : s < 0
    · rw [nx_out (by omega)]
      rcases kinds hk with rfl | rfl | rfl | rfl | rfl | rfl | rfl | rfl
      · exact nx_1_low s g h0
      · exact nx_2_low s g h0
      · exact nx_3_low s g h0
      · exact nx_4_low s g h0
      · exact nx_5_low s g h0
      · exact nx_6_low s g h0
      · exact nx_7_low s g h0
      · exact nx_8_low s g h0
    by_cases h6 : 6 < s
    · rw [nx_out (by omega)]
      rcases kinds hk with rfl | rfl | rfl | rfl | rfl | rfl | rfl | rfl
      · exact nx_1_high s g h0 h6
      · exact nx_2_high s g h0 h6
      · exact nx_3_high s g h0 h6
      · exact nx_4_high s g h0 h6
      · exact nx_5_high s g h0 h6
      · exact nx_6_high s g h0 h6
      · exact nx_7_high s g h0 h6
      · exact nx_8_high s g h0 h6
    have hs : 0 ≤ s ∧ s ≤ 6 := by omega
    clear h0 h6
    cases g
    · rcases kinds hk with rfl | rfl | rfl | rfl | rfl | rfl | rfl | rfl
      · rcases states hs with rfl | rfl | rfl | rfl | rfl | rfl | rfl
        · exact nx_1_f _ _ _ _ (by decide) (by decide) a25_0
        · exact nx_1_f _ _ _ _ (by decide) (by decide) a25_1
        · exact nx_1_f _ _ _ _ (by decide) (by decide) a25_2
        · exact nx_1_f _ _ _ _ (by decide) (by decide) a25_3
        · exact nx_1_f _ _ _ _ (by decide) (by decide) a25_4
        · exact nx_1_f _ _ _ _ (by decide) (by decide) a25_5
        · exact nx_1_f _ _ _ _ (by decide) (by decide) a25_6
      · rcases states hs with rfl | rfl | rfl | rfl | rfl | rfl | rfl
        · exact nx_2_f _ _ _ _ (by decide) (by decide) a27_0
        · exact nx_2_f _ _ _ _ (by decide) (by decide) a27_1
        · exact nx_2_f _ _ _ _ (by decide) (by decide) a27_2
        · exact nx_2_f _ _ _ _ (by decide) (by decide) a27_3
        · exact nx_2_f _ _ _ _ (by decide) (by decide) a27_4
        · exact nx_2_f _ _ _ _ (by decide) (by decide) a27_5
        · exact nx_2_f _ _ _ _ (by decide) (by decide) a27_6
      · rcases states hs with rfl | rfl | rfl | rfl | rfl | rfl | rfl
        · exact nx_3_f _ _ _ _ (by decide) (by decide) a29_0
        · exact nx_3_f _ _ _ _ (by decide) (by decide) a29_1
        · exact nx_3_f _ _ _ _ (by decide) (by decide) a29_2
        · exact nx_3_f _ _ _ _ (by decide) (by decide) a29_3
        · exact nx_3_f _ _ _ _ (by decide) (by decide) a29_4
        · exact nx_3_f _ _ _ _ (by decide) (by decide) a29_5
        · exact nx_3_f _ _ _ _ (by decide) (by decide) a29_6
      · rcases states hs with rfl | rfl | rfl | rfl | rfl | rfl | rfl
        · exact nx_4_f _ _ _ _ (by decide) (by decide) a31_0
        · exact nx_4_f _ _ _ _ (by decide) (by decide) a31_1
        · exact nx_4_f _ _ _ _ (by decide) (by decide) a31_2
        · exact nx_4_f _ _ _ _ (by decide) (by decide) a31_3
        · exact nx_4_f _ _ _ _ (by decide) (by decide) a31_4
        · exact nx_4_f _ _ _ _ (by decide) (by decide) a31_5
        · exact nx_4_f _ _ _ _ (by decide) (by decide) a31_6
      · rcases states hs with rfl | rfl | rfl | rfl | rfl | rfl | rfl
        · exact nx_5_f _ _ _ _ (by decide) (by decide) a33_0
        · exact nx_5_f _ _ _ _ (by decide) (by decide) a33_1
        · exact nx_5_f _ _ _ _ (by decide) (by decide) a33_2
        · exact nx_5_f _ _ _ _ (by decide) (by decide) a33_3
        · exact nx_5_f _ _ _ _ (by decide) (by decide) a33_4
        · exact nx_5_f _ _ _ _ (by decide) (by decide) a33_5
        · exact nx_5_f _ _ _ _ (by decide) (by decide) a33_6
      · rcases states hs with rfl | rfl | rfl | rfl | rfl | rfl | rfl
        · exact nx_6_f _ _ _ _ (by decide) (by decide) a35_0
        · exact nx_6_f _ _ _ _ (by decide) (by decide) a35_1
        · exact nx_6_f _ _ _ _ (by decide) (by decide) a35_2
        · exact nx_6_f _ _ _ _ (by decide) (by decide) a35_3
        · exact nx_6_f _ _ _ _ (by decide) (by decide) a35_4
        · exact nx_6_f _ _ _ _ (by decide) (by decide) a35_5
        · exact nx_6_f _ _ _ _ (by decide) (by decide) a35_6
      · rcases states hs with rfl | rfl | rfl | rfl | rfl | rfl | rfl
        · exact nx_7_f _ _ _ _ (by decide) (by decide) a37_0
        · exact nx_7_f _ _ _ _ (by decide) (by decide) a37_1
        · exact nx_7_f _ _ _ _ (by decide) (by decide) a37_2
        · exact nx_7_f _ _ _ _ (by decide) (by decide) a37_3
        · exact nx_7_f _ _ _ _ (by decide) (by decide) a37_4
        · exact nx_7_f _ _ _ _ (by decide) (by decide) a37_5
        · exact nx_7_f _ _ _ _ (by decide) (by decide) a37_6
      · rcases states hs with rfl | rfl | rfl | rfl | rfl | rfl | rfl
        · exact nx_8_f _ _ _ _ (by decide) (by decide) (a39_any 0)
        · exact nx_8_f _ _ _ _ (by decide) (by decide) (a39_any 1)
        · exact nx_8_f _ _ _ _ (by decide) (by decide) (a39_any 2)
        · exact nx_8_f _ _ _ _ (by decide) (by decide) (a39_any 3)
        · exact nx_8_f _ _ _ _ (by decide) (by decide) (a39_any 4)
        · exact nx_8_f _ _ _ _ (by decide) (by decide) (a39_any 5)
        · exact nx_8_f _ _ _ _ (by decide) (by decide) (a39_any 6)
    · rcases kinds hk with rfl | rfl | rfl | rfl | rfl | rfl | rfl | rfl
      · rcases states hs with rfl | rfl | rfl | rfl | rfl | rfl | rfl
        · exact nx_1_t _ _ _ _ (by decide) (by decide) a26_0
        · exact nx_1_t _ _ _ _ (by decide) (by decide) a26_1
        · exact nx_1_t _ _ _ _ (by decide) (by decide) a26_2
        · exact nx_1_t _ _ _ _ (by decide) (by decide) a26_3
        · exact nx_1_t _ _ _ _ (by decide) (by decide) a26_4
        · exact nx_1_t _ _ _ _ (by decide) (by decide) a26_5
        · exact nx_1_t _ _ _ _ (by decide) (by decide) a26_6
      · rcases states hs with rfl | rfl | rfl | rfl | rfl | rfl | rfl
        · exact nx_2_t _ _ _ _ (by decide) (by decide) a28_0
        · exact nx_2_t _ _ _ _ (by decide) (by decide) a28_1
        · exact nx_2_t _ _ _ _ (by decide) (by decide) a28_2
        · exact nx_2_t _ _ _ _ (by decide) (by decide) a28_3
        · exact nx_2_t _ _ _ _ (by decide) (by decide) a28_4
        · exact nx_2_t _ _ _ _ (by decide) (by decide) a28_5
        · exact nx_2_t _ _ _ _ (by decide) (by decide) a28_6
      · rcases states hs with rfl | rfl | rfl | rfl | rfl | rfl | rfl
        · exact nx_3_t _ _ _ _ (by decide) (by decide) a30_0
        · exact nx_3_t _ _ _ _ (by decide) (by decide) a30_1
        · exact nx_3_t _ _ _ _ (by decide) (by decide) a30_2
        · exact nx_3_t _ _ _ _ (by decide) (by decide) a30_3
        · exact nx_3_t _ _ _ _ (by decide) (by decide) a30_4
        · exact nx_3_t _ _ _ _ (by decide) (by decide) a30_5
        · exact nx_3_t _ _ _ _ (by decide) (by decide) a30_6
      · rcases states hs with rfl | rfl | rfl | rfl | rfl | rfl | rfl
        · exact nx_4_t _ _ _ _ (by decide) (by decide) a32_0
        · exact nx_4_t _ _ _ _ (by decide) (by decide) a32_1
        · exact nx_4_t _ _ _ _ (by decide) (by decide) a32_2
        · exact nx_4_t _ _ _ _ (by decide) (by decide) a32_3
        · exact nx_4_t _ _ _ _ (by decide) (by decide) a32_4
        · exact nx_4_t _ _ _ _ (by decide) (by decide) a32_5
        · exact nx_4_t _ _ _ _ (by decide) (by decide) a32_6
      · rcases states hs with rfl | rfl | rfl | rfl | rfl | rfl | rfl
        · exact nx_5_t _ _ _ _ (by decide) (by decide) a34_0
        · exact nx_5_t _ _ _ _ (by decide) (by decide) a34_1
        · exact nx_5_t _ _ _ _ (by decide) (by decide) a34_2
        · exact nx_5_t _ _ _ _ (by decide) (by decide) a34_3
        · exact nx_5_t _ _ _ _ (by decide) (by decide) a34_4
        · exact nx_5_t _ _ _ _ (by decide) (by decide) a34_5
        · exact nx_5_t _ _ _ _ (by decide) (by decide) a34_6
      · rcases states hs with rfl | rfl | rfl | rfl | rfl | rfl | rfl
        · exact nx_6_t _ _ _ _ (by decide) (by decide) a36_0
        · exact nx_6_t _ _ _ _ (by decide) (by decide) a36_1
        · exact nx_6_t _ _ _ _ (by decide) (by decide) a36_2
        · exact nx_6_t _ _ _ _ (by decide) (by decide) a36_3
        · exact nx_6_t _ _ _ _ (by decide) (by decide) a36_4
        · exact nx_6_t _ _ _ _ (by decide) (by decide) a36_5
        · exact nx_6_t _ _ _ _ (by decide) (by decide) a36_6
      · rcases states hs with rfl | rfl | rfl | rfl | rfl | rfl | rfl
        · exact nx_7_t _ _ _ _ (by decide) (by decide) a38_0
        · exact nx_7_t _ _ _ _ (by decide) (by decide) a38_1
        · exact nx_7_t _ _ _ _ (by decide) (by decide) a38_2
        · exact nx_7_t _ _ _ _ (by decide) (by decide) a38_3
        · exact nx_7_t _ _ _ _ (by decide) (by decide) a38_4
        · exact nx_7_t _ _ _ _ (by decide) (by decide) a38_5
        · exact nx_7_t _ _ _ _ (by decide) (by decide) a38_6
      · rcases states hs with rfl | rfl | rfl | rfl | rfl | rfl | rfl
        · exact nx_8_t _ _ _ _ (by decide) (by decide) a40_0
        · exact nx_8_t _ _ _ _ (by decide) (by decide) a40_1
        · exact nx_8_t _ _ _ _ (by decide) (by decide) a40_2
        · exact nx_8_t _ _ _ _ (by decide) (by decide) a40_3
        · exact nx_8_t _ _ _ _ (by decide) (by decide) a40_4
        · exact nx_8_t _ _ _ _ (by decide) (by decide) a40_5
        · exact nx_8_t _ _ _ _ (by decide) (by decide) a40_6
  · rw [nx_out (by omega)]
    exact nx_no s k g (beq_eq_false_iff_ne.2 (by omega)) (beq_eq_false_iff_ne.2 (by omega)) (beq_eq_false_iff_ne.2 (by omega)) (beq_eq_false_iff_ne.2 (by omega)) (beq_eq_false_iff_ne.2 (by omega)) (beq_eq_false_iff_ne.2 (by omega)) (beq_eq_false_iff_ne.2 (by omega)) (beq_eq_false_iff_ne.2 (by omega))
end Go.Proofs.Ytmflgoghlbmkeaa
