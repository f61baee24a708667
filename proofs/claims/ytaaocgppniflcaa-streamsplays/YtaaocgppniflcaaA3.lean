/- What Next answers, as a table. -/
import Derived.Test.YtaaocgppniflcaaA2
import Derived.Test.YtaaocgppniflcaaS0
namespace Go.Proofs.Ytaaocgppniflcaa
open Go.RowKit
set_option linter.unusedVariables false
set_option linter.unusedSimpArgs false

theorem nx_any (s : Int) (g : Bool) (k : Int) : NxS s g k (nx s g k).1 (nx s g k).2.1 (nx s g k).2.2 := by
  by_cases hk : 1 ≤ k ∧ k ≤ 8
  · by_cases h0 : s < 0
    · rw [nx_out (by omega)]
      rcases kinds hk with rfl | rfl | rfl | rfl | rfl | rfl | rfl | rfl
      · exact nx_1_low s g h0
      · exact nx_2_low s g h0
      · exact nx_3_low s g h0
      · exact nx_4_low s g h0
      · exact nx_5_low s g h0
      · exact nx_6_low s g h0
      · exact nx_7_low s g h0
      · exact nx_8_low s g h0
    by_cases h6 : 6 < s
    · rw [nx_out (by omega)]
      rcases kinds hk with rfl | rfl | rfl | rfl | rfl | rfl | rfl | rfl
      · exact nx_1_high s g h0 h6
      · exact nx_2_high s g h0 h6
      · exact nx_3_high s g h0 h6
      · exact nx_4_high s g h0 h6
      · exact nx_5_high s g h0 h6
      · exact nx_6_high s g h0 h6
      · exact nx_7_high s g h0 h6
      · exact nx_8_high s g h0 h6
    have hs : 0 ≤ s ∧ s ≤ 6 := by omega
    clear h0 h6
    cases g
    · rcases kinds hk with rfl | rfl | rfl | rfl | rfl | rfl | rfl | rfl
      · rcases states hs with rfl | rfl | rfl | rfl | rfl | rfl | rfl
        · exact nx_1_f _ _ _ _ (by decide) (by decide) a65_0
        · exact nx_1_f _ _ _ _ (by decide) (by decide) a65_1
        · exact nx_1_f _ _ _ _ (by decide) (by decide) a65_2
        · exact nx_1_f _ _ _ _ (by decide) (by decide) a65_3
        · exact nx_1_f _ _ _ _ (by decide) (by decide) a65_4
        · exact nx_1_f _ _ _ _ (by decide) (by decide) a65_5
        · exact nx_1_f _ _ _ _ (by decide) (by decide) a65_6
      · rcases states hs with rfl | rfl | rfl | rfl | rfl | rfl | rfl
        · exact nx_2_f _ _ _ _ (by decide) (by decide) a67_0
        · exact nx_2_f _ _ _ _ (by decide) (by decide) a67_1
        · exact nx_2_f _ _ _ _ (by decide) (by decide) a67_2
        · exact nx_2_f _ _ _ _ (by decide) (by decide) a67_3
        · exact nx_2_f _ _ _ _ (by decide) (by decide) a67_4
        · exact nx_2_f _ _ _ _ (by decide) (by decide) a67_5
        · exact nx_2_f _ _ _ _ (by decide) (by decide) a67_6
      · rcases states hs with rfl | rfl | rfl | rfl | rfl | rfl | rfl
        · exact nx_3_f _ _ _ _ (by decide) (by decide) a69_0
        · exact nx_3_f _ _ _ _ (by decide) (by decide) a69_1
        · exact nx_3_f _ _ _ _ (by decide) (by decide) a69_2
        · exact nx_3_f _ _ _ _ (by decide) (by decide) a69_3
        · exact nx_3_f _ _ _ _ (by decide) (by decide) a69_4
        · exact nx_3_f _ _ _ _ (by decide) (by decide) a69_5
        · exact nx_3_f _ _ _ _ (by decide) (by decide) a69_6
      · rcases states hs with rfl | rfl | rfl | rfl | rfl | rfl | rfl
        · exact nx_4_f _ _ _ _ (by decide) (by decide) a71_0
        · exact nx_4_f _ _ _ _ (by decide) (by decide) a71_1
        · exact nx_4_f _ _ _ _ (by decide) (by decide) a71_2
        · exact nx_4_f _ _ _ _ (by decide) (by decide) a71_3
        · exact nx_4_f _ _ _ _ (by decide) (by decide) a71_4
        · exact nx_4_f _ _ _ _ (by decide) (by decide) a71_5
        · exact nx_4_f _ _ _ _ (by decide) (by decide) a71_6
      · rcases states hs with rfl | rfl | rfl | rfl | rfl | rfl | rfl
        · exact nx_5_f _ _ _ _ (by decide) (by decide) a73_0
        · exact nx_5_f _ _ _ _ (by decide) (by decide) a73_1
        · exact nx_5_f _ _ _ _ (by decide) (by decide) a73_2
        · exact nx_5_f _ _ _ _ (by decide) (by decide) a73_3
        · exact nx_5_f _ _ _ _ (by decide) (by decide) a73_4
        · exact nx_5_f _ _ _ _ (by decide) (by decide) a73_5
        · exact nx_5_f _ _ _ _ (by decide) (by decide) a73_6
      · rcases states hs with rfl | rfl | rfl | rfl | rfl | rfl | rfl
        · exact nx_6_f _ _ _ _ (by decide) (by decide) a75_0
        · exact nx_6_f _ _ _ _ (by decide) (by decide) a75_1
        · exact nx_6_f _ _ _ _ (by decide) (by decide) a75_2
        · exact nx_6_f _ _ _ _ (by decide) (by decide) a75_3
        · exact nx_6_f _ _ _ _ (by decide) (by decide) a75_4
        · exact nx_6_f _ _ _ _ (by decide) (by decide) a75_5
        · exact nx_6_f _ _ _ _ (by decide) (by decide) a75_6
      · rcases states hs with rfl | rfl | rfl | rfl | rfl | rfl | rfl
        · exact nx_7_f _ _ _ _ (by decide) (by decide) a77_0
        · exact nx_7_f _ _ _ _ (by decide) (by decide) a77_1
        · exact nx_7_f _ _ _ _ (by decide) (by decide) a77_2
        · exact nx_7_f _ _ _ _ (by decide) (by decide) a77_3
        · exact nx_7_f _ _ _ _ (by decide) (by decide) a77_4
        · exact nx_7_f _ _ _ _ (by decide) (by decide) a77_5
        · exact nx_7_f _ _ _ _ (by decide) (by decide) a77_6
      · rcases states hs with rfl | rfl | rfl | rfl | rfl | rfl | rfl
        · exact nx_8_f _ _ _ _ (by decide) (by decide) (a79_any 0)
        · exact nx_8_f _ _ _ _ (by decide) (by decide) (a79_any 1)
        · exact nx_8_f _ _ _ _ (by decide) (by decide) (a79_any 2)
        · exact nx_8_f _ _ _ _ (by decide) (by decide) (a79_any 3)
        · exact nx_8_f _ _ _ _ (by decide) (by decide) (a79_any 4)
        · exact nx_8_f _ _ _ _ (by decide) (by decide) (a79_any 5)
        · exact nx_8_f _ _ _ _ (by decide) (by decide) (a79_any 6)
    · rcases kinds hk with rfl | rfl | rfl | rfl | rfl | rfl | rfl | rfl
      · rcases states hs with rfl | rfl | rfl | rfl | rfl | rfl | rfl
        · exact nx_1_t _ _ _ _ (by decide) (by decide) a66_0
        · exact nx_1_t _ _ _ _ (by decide) (by decide) a66_1
        · exact nx_1_t _ _ _ _ (by decide) (by decide) a66_2
        · exact nx_1_t _ _ _ _ (by decide) (by decide) a66_3
        · exact nx_1_t _ _ _ _ (by decide) (by decide) a66_4
        · exact nx_1_t _ _ _ _ (by decide) (by decide) a66_5
        · exact nx_1_t _ _ _ _ (by decide) (by decide) a66_6
      · rcases states hs with rfl | rfl | rfl | rfl | rfl | rfl | rfl
        · exact nx_2_t _ _ _ _ (by decide) (by decide) a68_0
        · exact nx_2_t _ _ _ _ (by decide) (by decide) a68_1
        · exact nx_2_t _ _ _ _ (by decide) (by decide) a68_2
        · exact nx_2_t _ _ _ _ (by decide) (by decide) a68_3
        · exact nx_2_t _ _ _ _ (by decide) (by decide) a68_4
        · exact nx_2_t _ _ _ _ (by decide) (by decide) a68_5
        · exact nx_2_t _ _ _ _ (by decide) (by decide) a68_6
      · rcases states hs with rfl | rfl | rfl | rfl | rfl | rfl | rfl
        · exact nx_3_t _ _ _ _ (by decide) (by decide) a70_0
        · exact nx_3_t _ _ _ _ (by decide) (by decide) a70_1
        · exact nx_3_t _ _ _ _ (by decide) (by decide) a70_2
        · exact nx_3_t _ _ _ _ (by decide) (by decide) a70_3
        · exact nx_3_t _ _ _ _ (by decide) (by decide) a70_4
        · exact nx_3_t _ _ _ _ (by decide) (by decide) a70_5
        · exact nx_3_t _ _ _ _ (by decide) (by decide) a70_6
      · rcases states hs with rfl | rfl | rfl | rfl | rfl | rfl | rfl
        · exact nx_4_t _ _ _ _ (by decide) (by decide) a72_0
        · exact nx_4_t _ _ _ _ (by decide) (by decide) a72_1
        · exact nx_4_t _ _ _ _ (by decide) (by decide) a72_2
        · exact nx_4_t _ _ _ _ (by decide) (by decide) a72_3
        · exact nx_4_t _ _ _ _ (by decide) (by decide) a72_4
        · exact nx_4_t _ _ _ _ (by decide) (by decide) a72_5
        · exact nx_4_t _ _ _ _ (by decide) (by decide) a72_6
      · rcases states hs with rfl | rfl | rfl | rfl | rfl | rfl | rfl
        · exact nx_5_t _ _ _ _ (by decide) (by decide) a74_0
        · exact nx_5_t _ _ _ _ (by decide) (by decide) a74_1
        · exact nx_5_t _ _ _ _ (by decide) (by decide) a74_2
        · exact nx_5_t _ _ _ _ (by decide) (by decide) a74_3
        · exact nx_5_t _ _ _ _ (by decide) (by decide) a74_4
        · exact nx_5_t _ _ _ _ (by decide) (by decide) a74_5
        · exact nx_5_t _ _ _ _ (by decide) (by decide) a74_6
      · rcases states hs with rfl | rfl | rfl | rfl | rfl | rfl | rfl
        · exact nx_6_t _ _ _ _ (by decide) (by decide) a76_0
        · exact nx_6_t _ _ _ _ (by decide) (by decide) a76_1
        · exact nx_6_t _ _ _ _ (by decide) (by decide) a76_2
        · exact nx_6_t _ _ _ _ (by decide) (by decide) a76_3
        · exact nx_6_t _ _ _ _ (by decide) (by decide) a76_4
        · exact nx_6_t _ _ _ _ (by decide) (by decide) a76_5
        · exact nx_6_t _ _ _ _ (by decide) (by decide) a76_6
      · rcases states hs with rfl | rfl | rfl | rfl | rfl | rfl | rfl
        · exact nx_7_t _ _ _ _ (by decide) (by decide) a78_0
        · exact nx_7_t _ _ _ _ (by decide) (by decide) a78_1
        · exact nx_7_t _ _ _ _ (by decide) (by decide) a78_2
        · exact nx_7_t _ _ _ _ (by decide) (by decide) a78_3
        · exact nx_7_t _ _ _ _ (by decide) (by decide) a78_4
        · exact nx_7_t _ _ _ _ (by decide) (by decide) a78_5
        · exact nx_7_t _ _ _ _ (by decide) (by decide) a78_6
      · rcases states hs with rfl | rfl | rfl | rfl | rfl | rfl | rfl
        · exact nx_8_t _ _ _ _ (by decide) (by decide) a80_0
        · exact nx_8_t _ _ _ _ (by decide) (by decide) a80_1
        · exact nx_8_t _ _ _ _ (by decide) (by decide) a80_2
        · exact nx_8_t _ _ _ _ (by decide) (by decide) a80_3
        · exact nx_8_t _ _ _ _ (by decide) (by decide) a80_4
        · exact nx_8_t _ _ _ _ (by decide) (by decide) a80_5
        · exact nx_8_t _ _ _ _ (by decide) (by decide) a80_6
  · rw [nx_out (by omega)]
    exact nx_no s k g (beq_eq_false_iff_ne.2 (by omega)) (beq_eq_false_iff_ne.2 (by omega)) (beq_eq_false_iff_ne.2 (by omega)) (beq_eq_false_iff_ne.2 (by omega)) (beq_eq_false_iff_ne.2 (by omega)) (beq_eq_false_iff_ne.2 (by omega)) (beq_eq_false_iff_ne.2 (by omega)) (beq_eq_false_iff_ne.2 (by omega))
end Go.Proofs.Ytaaocgppniflcaa
