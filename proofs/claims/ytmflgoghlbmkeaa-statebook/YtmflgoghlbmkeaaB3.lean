/- The book behind an event. -/
import Derived.Test.YtmflgoghlbmkeaaB2
namespace Go.Proofs.Ytmflgoghlbmkeaa
open Go.RowKit
set_option linter.unusedVariables false
set_option linter.unusedSimpArgs false

set_option maxRecDepth 100000 in
set_option maxHeartbeats 2000000 in
theorem behind_1 (b : Bk) (g : Bool) (w : World) : Calls Try.prog 16 #[.agg b.a, .agg #[.bool g, .int .i64 1]] w fun e w' => e = .returned (.agg (b.behind g 1).a) ∧ Below w.heap.size w w' := by
  obtain ⟨b1, b2, b3, b4⟩ := b
  unfold Bk.a
  cases b1
  all_goals
    go_enter Try.func16, Try.ntmps16
    go_wp2
    refine bodyPost_ret (results_cell_row (p := 4) (ty := 38) rfl _ _ (w.heap.size + 2) 38 _ (0, 0) _ rfl (fresh3 _ _ _ _) Try.underlying38 rfl (by kernel_rfl)) rfl ⟨by simp [Bk.behind], bel3 _ _ _ _⟩

set_option maxRecDepth 100000 in
set_option maxHeartbeats 2000000 in
theorem behind_2 (b : Bk) (g : Bool) (w : World) : Calls Try.prog 16 #[.agg b.a, .agg #[.bool g, .int .i64 2]] w fun e w' => e = .returned (.agg (b.behind g 2).a) ∧ Below w.heap.size w w' := by
  obtain ⟨b1, b2, b3, b4⟩ := b
  unfold Bk.a
  cases b1 <;> cases g
  all_goals
    go_enter Try.func16, Try.ntmps16
    go_wp2
    refine bodyPost_ret (results_cell_row (p := 4) (ty := 38) rfl _ _ (w.heap.size + 2) 38 _ (0, 0) _ rfl (fresh3 _ _ _ _) Try.underlying38 rfl (by kernel_rfl)) rfl ⟨by simp [Bk.behind], bel3 _ _ _ _⟩

set_option maxRecDepth 100000 in
set_option maxHeartbeats 2000000 in
theorem behind_4 (b : Bk) (g : Bool) (w : World) : Calls Try.prog 16 #[.agg b.a, .agg #[.bool g, .int .i64 4]] w fun e w' => e = .returned (.agg (b.behind g 4).a) ∧ Below w.heap.size w w' := by
  obtain ⟨b1, b2, b3, b4⟩ := b
  unfold Bk.a
  cases g
  all_goals
    go_enter Try.func16, Try.ntmps16
    go_wp2
    refine bodyPost_ret (results_cell_row (p := 4) (ty := 38) rfl _ _ (w.heap.size + 2) 38 _ (0, 0) _ rfl (fresh3 _ _ _ _) Try.underlying38 rfl (by kernel_rfl)) rfl ⟨by simp [Bk.behind], bel3 _ _ _ _⟩

set_option maxRecDepth 100000 in
set_option maxHeartbeats 2000000 in
theorem behind_5 (b : Bk) (g : Bool) (w : World) : Calls Try.prog 16 #[.agg b.a, .agg #[.bool g, .int .i64 5]] w fun e w' => e = .returned (.agg (b.behind g 5).a) ∧ Below w.heap.size w w' := by
  obtain ⟨b1, b2, b3, b4⟩ := b
  unfold Bk.a
  go_enter Try.func16, Try.ntmps16
  go_wp2
  refine bodyPost_ret (results_cell_row (p := 4) (ty := 38) rfl _ _ (w.heap.size + 2) 38 _ (0, 0) _ rfl (fresh3 _ _ _ _) Try.underlying38 rfl (by kernel_rfl)) rfl ⟨by simp [Bk.behind], bel3 _ _ _ _⟩

set_option maxRecDepth 100000 in
set_option maxHeartbeats 2000000 in
theorem behind_6 (b : Bk) (g : Bool) (w : World) : Calls Try.prog 16 #[.agg b.a, .agg #[.bool g, .int .i64 6]] w fun e w' => e = .returned (.agg (b.behind g 6).a) ∧ Below w.heap.size w w' := by
  obtain ⟨b1, b2, b3, b4⟩ := b
  unfold Bk.a
  go_enter Try.func16, Try.ntmps16
  go_wp2
  refine bodyPost_ret (results_cell_row (p := 4) (ty := 38) rfl _ _ (w.heap.size + 2) 38 _ (0, 0) _ rfl (fresh3 _ _ _ _) Try.underlying38 rfl (by kernel_rfl)) rfl ⟨by simp [Bk.behind], bel3 _ _ _ _⟩

set_option maxRecDepth 100000 in
set_option maxHeartbeats 2000000 in
theorem behind_no (b : Bk) (g : Bool) (k : Int) (h1 : (k == 1) = false) (h2 : (k == 2) = false) (h4 : (k == 4) = false) (h5 : (k == 5) = false) (h6 : (k == 6) = false) (w : World) : Calls Try.prog 16 #[.agg b.a, .agg #[.bool g, .int .i64 k]] w fun e w' => e = .returned (.agg (b.behind g k).a) ∧ Below w.heap.size w w' := by
  have hf : b.behind g k = b := by
    have := beq_eq_false_iff_ne.1 h1
    have := beq_eq_false_iff_ne.1 h2
    have := beq_eq_false_iff_ne.1 h4
    have := beq_eq_false_iff_ne.1 h5
    have := beq_eq_false_iff_ne.1 h6
    simp [Bk.behind, *]
  rw [hf]
  clear hf
  obtain ⟨b1, b2, b3, b4⟩ := b
  unfold Bk.a
  go_enter Try.func16, Try.ntmps16
  go_wp2
  refine bodyPost_ret (results_cell_row (p := 4) (ty := 38) rfl _ _ (w.heap.size + 2) 38 _ (0, 0) _ rfl (fresh3 _ _ _ _) Try.underlying38 rfl (by kernel_rfl)) rfl ⟨rfl, bel3 _ _ _ _⟩

theorem behind_any (b : Bk) (g : Bool) (k : Int) (w : World) : Calls Try.prog 16 #[.agg b.a, .agg #[.bool g, .int .i64 k]] w fun e w' => e = .returned (.agg (b.behind g k).a) ∧ Below w.heap.size w w' := by
  by_cases h1 : k = 1
  · subst h1; exact behind_1 b g w
  by_cases h2 : k = 2
  · subst h2; exact behind_2 b g w
  by_cases h4 : k = 4
  · subst h4; exact behind_4 b g w
  by_cases h5 : k = 5
  · subst h5; exact behind_5 b g w
  by_cases h6 : k = 6
  · subst h6; exact behind_6 b g w
  exact behind_no b g k (beq_eq_false_iff_ne.2 h1) (beq_eq_false_iff_ne.2 h2) (beq_eq_false_iff_ne.2 h4) (beq_eq_false_iff_ne.2 h5) (beq_eq_false_iff_ne.2 h6) w
theorem fine_any (b : Bk) (g : Bool) (k : Int) (w : World) : Calls Try.prog 15 #[.agg b.a, .agg #[.bool g, .int .i64 k]] w fun e w' => e = .returned (.bool (b.fine g k)) ∧ Below w.heap.size w w' := by
  by_cases h1 : k = 1
  · subst h1; exact fine_1 b g w
  by_cases h2 : k = 2
  · subst h2; exact fine_2 b g w
  by_cases h3 : k = 3
  · subst h3; exact fine_3 b g w
  by_cases h4 : k = 4
  · subst h4; exact fine_4 b g w
  by_cases h5 : k = 5
  · subst h5; exact fine_5 b g w
  by_cases h6 : k = 6
  · subst h6; exact fine_6 b g w
  by_cases h7 : k = 7
  · subst h7; exact fine_7 b g w
  by_cases h8 : k = 8
  · subst h8; exact fine_8 b g w
  exact fine_no b g k (beq_eq_false_iff_ne.2 h1) (beq_eq_false_iff_ne.2 h2) (beq_eq_false_iff_ne.2 h3) (beq_eq_false_iff_ne.2 h4) (beq_eq_false_iff_ne.2 h5) (beq_eq_false_iff_ne.2 h6) (beq_eq_false_iff_ne.2 h7) (beq_eq_false_iff_ne.2 h8) w

/-- the books that there are -/
def Bk.ok (b : Bk) : Prop := (b.born = false → b.begun = false ∧ b.ours = false ∧ b.theirs = false) ∧ (b.begun = false → b.ours = true → b.theirs = false)
/-- what the table says is what the book says -/
theorem book_fact (b : Bk) (g : Bool) (k n v c : Int) (h : nx b.state g k = (n, v, c)) (hb : b.ok) :
    (v == 0) = b.fine g k ∧ (v = 0 → c = 0) ∧ (b.fine g k = true → n = (b.behind g k).state ∧ ct n = ((b.behind g k).begun && !(b.behind g k).over) ∧ (b.behind g k).ok) ∧ (b.fine g k = false → n = b.state ∧ ct n = (b.begun && !b.over)) := by
  by_cases hk : 1 ≤ k ∧ k ≤ 8
  · obtain ⟨b1, b2, b3, b4⟩ := b
    rcases kinds hk with rfl | rfl | rfl | rfl | rfl | rfl | rfl | rfl <;> cases g <;> cases b1 <;> cases b2 <;> cases b3 <;> cases b4 <;>
      first
        | (exact absurd hb (by decide))
        | (simp [Bk.ok] at hb; done)
        | (injection h with a1 a2
           injection a2 with a2 a3
           subst a1 a2 a3
           decide)
        | (injection h with a1 a2
           injection a2 with a2 a3
           subst a1 a2 a3
           refine ⟨rfl, by decide, ?_, ?_⟩ <;> simp [Bk.fine, Bk.behind, Bk.mine, Bk.other, Bk.over, Bk.state, Bk.ok, ct])
  · rw [nx_out (by omega)] at h
    injection h with a1 a2
    injection a2 with a2 a3
    subst a1 a2 a3
    have hf : b.fine g k = false := by
      unfold Bk.fine
      repeat' rw [if_neg (by omega)]
    rw [hf]
    refine ⟨rfl, fun h => absurd h (by decide), fun h => (by cases h), fun _ => ⟨rfl, ?_⟩⟩
    obtain ⟨b1, b2, b3, b4⟩ := b
    cases b1 <;> cases b2 <;> cases b3 <;> cases b4 <;> first | rfl | (simp [Bk.ok] at hb; done)
end Go.Proofs.Ytmflgoghlbmkeaa
