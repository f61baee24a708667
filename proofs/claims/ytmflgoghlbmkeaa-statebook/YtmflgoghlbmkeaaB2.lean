/- The book: right, over, fine, behind, state. -/
import Derived.Test.YtmflgoghlbmkeaaC1
namespace Go.Proofs.Ytmflgoghlbmkeaa
open Go.RowKit
set_option linter.unusedVariables false
set_option linter.unusedSimpArgs false

/-- a book: born, begun, ours, theirs -/
structure Bk where
  born : Bool
  begun : Bool
  ours : Bool
  theirs : Bool
def Bk.a (b : Bk) : Array Value := #[.bool b.born, .bool b.begun, .bool b.ours, .bool b.theirs]
def Bk.over (b : Bk) : Bool := b.born && !b.ours && !b.theirs
def Bk.mine (b : Bk) (g : Bool) : Bool := if g then b.theirs else b.ours
def Bk.other (b : Bk) (g : Bool) : Bool := if g then b.ours else b.theirs
def Bk.fine (b : Bk) (g : Bool) (k : Int) : Bool :=
  if k = 1 ∨ k = 2 then !b.born || b.mine g
  else if k = 3 ∨ k = 4 then b.born && b.mine g && b.begun
  else if k = 5 then !b.born
  else if k = 6 then b.born && !b.over
  else if k = 7 then b.born && !b.over && (b.begun || b.other g)
  else if k = 8 then !g || !b.over
  else false
def Bk.behind (b : Bk) (g : Bool) (k : Int) : Bk :=
  if k = 1 then ⟨true, true, b.ours || !b.born, b.theirs || !b.born⟩
  else if k = 2 then ⟨true, true, (b.ours || !b.born) && g, (b.theirs || !b.born) && !g⟩
  else if k = 4 then ⟨b.born, b.begun, b.ours && g, b.theirs && !g⟩
  else if k = 5 then ⟨true, b.begun, !g, g⟩
  else if k = 6 then ⟨b.born, b.begun, false, false⟩
  else b
def Bk.state (b : Bk) : Int :=
  if b.born = false then 0 else if b.over then 6 else if b.begun = false ∧ b.ours = true then 1 else if b.begun = false then 2 else if b.ours = true ∧ b.theirs = true then 3 else if b.theirs = true then 4 else 5

set_option maxRecDepth 100000 in
set_option maxHeartbeats 1000000 in
theorem right_any (b : Bk) (g : Bool) (w : World) : Calls Try.prog 22 #[.agg b.a, .bool g] w fun e w' => e = .returned (.tuple #[.bool (b.mine g), .bool (b.other g)]) ∧ Below w.heap.size w w' := by
  unfold Bk.a
  cases g
  all_goals
    go_enter Try.func22, Try.ntmps22
    go_wp2
    go_region
    go_wp2
    refine bodyPost_ret (results_tmp2 rfl _ _ _) rfl ⟨rfl, (bel1 _ _).drew⟩
set_option maxRecDepth 100000 in
set_option maxHeartbeats 1000000 in
theorem over_any (b : Bk) (w : World) : Calls Try.prog 18 #[.agg b.a] w fun e w' => e = .returned (.bool b.over) ∧ Below w.heap.size w w' := by
  obtain ⟨b1, b2, b3, b4⟩ := b
  unfold Bk.a
  cases b1 <;> cases b3 <;> cases b4
  all_goals
    go_enter Try.func18, Try.ntmps18
    go_wp2
    go_ret
    exact ⟨rfl, bel1 _ _⟩
set_option maxRecDepth 100000 in
set_option maxHeartbeats 2000000 in
theorem state_any (b : Bk) (w : World) : Calls Try.prog 17 #[.agg b.a] w fun e w' => e = .returned (.int .i64 b.state) ∧ Below w.heap.size w w' := by
  obtain ⟨b1, b2, b3, b4⟩ := b
  cases b1
  · unfold Bk.a
    go_enter Try.func17, Try.ntmps17
    go_wp2
    go_ret
    exact ⟨rfl, bel1 _ _⟩
  · have ho := fun w => over_any ⟨true, b2, b3, b4⟩ w
    unfold Bk.a at *
    cases b2 <;> cases b3 <;> cases b4
    all_goals
      simp [Bk.over] at ho
      go_enter Try.func17, Try.ntmps17
      go_wp2_with fail
      refine (ho _).mono ?_
      rintro e w1 ⟨rfl, hB1⟩
      have q := (hB1.block w.heap.size (by simp)).trans (heap_alloc_new w _)
      have q0 := cell_blk q 0
      have q1 := cell_blk q 1
      have q2 := cell_blk q 2
      have q3 := cell_blk q 3
      simp only [List.getElem?_toArray, List.getElem?_cons_zero, List.getElem?_cons_succ] at q0 q1 q2 q3
      replace hB1 := (bel1 w _).trans (hB1.mono (by simp))
      clear q ho
      go_wp2
      go_ret
      exact ⟨rfl, hB1⟩

/-- fine's two boxes -/
theorem boxes {w w1 : World} {x y : Array Value} {t u : TypeId} (h : Below ((w.alloc (.cells x t)).alloc (.cells y u)).heap.size ((w.alloc (.cells x t)).alloc (.cells y u)) w1) : w1.heap[w.heap.size]? = some (.cells x t) ∧ w1.heap[w.heap.size + 1]? = some (.cells y u) ∧ Below w.heap.size w w1 := by
  refine ⟨(h.block w.heap.size (by simp; omega)).trans (by rw [heap_al, if_neg (by simp), heap_al, if_pos rfl]), (h.block (w.heap.size + 1) (by simp)).trans (fresh2 w _ _), (bel2 w _ _).trans (h.mono (by simp; omega))⟩

set_option maxRecDepth 100000 in
set_option maxHeartbeats 2000000 in
theorem fine_1 (b : Bk) (g : Bool) (w : World) : Calls Try.prog 15 #[.agg b.a, .agg #[.bool g, .int .i64 1]] w fun e w' => e = .returned (.bool (b.fine g 1)) ∧ Below w.heap.size w w' := by
  obtain ⟨b1, b2, b3, b4⟩ := b
  have hr := fun g w => right_any ⟨b1, b2, b3, b4⟩ g w
  unfold Bk.a at *
  cases g <;> cases b1
  all_goals
    simp only [Bk.mine, Bk.other] at hr
    go_enter Try.func15, Try.ntmps15
    go_wp2_with fail
    refine (hr _ _).mono ?_
    rintro e w1 ⟨rfl, hB1⟩
    obtain ⟨q, q', hB⟩ := boxes hB1
    have q0 := cell_blk q 0
    have q1 := cell_blk q 1
    have q2 := cell_blk q 2
    have q3 := cell_blk q 3
    have q4 := cell_blk q' 0
    have q5 := cell_blk q' 1
    simp only [List.getElem?_toArray, List.getElem?_cons_zero, List.getElem?_cons_succ] at q0 q1 q2 q3 q4 q5
    clear hB1
    go_wp2
    go_ret
    exact ⟨rfl, hB⟩

set_option maxRecDepth 100000 in
set_option maxHeartbeats 2000000 in
theorem fine_2 (b : Bk) (g : Bool) (w : World) : Calls Try.prog 15 #[.agg b.a, .agg #[.bool g, .int .i64 2]] w fun e w' => e = .returned (.bool (b.fine g 2)) ∧ Below w.heap.size w w' := by
  obtain ⟨b1, b2, b3, b4⟩ := b
  have hr := fun g w => right_any ⟨b1, b2, b3, b4⟩ g w
  unfold Bk.a at *
  cases g <;> cases b1
  all_goals
    simp only [Bk.mine, Bk.other] at hr
    go_enter Try.func15, Try.ntmps15
    go_wp2_with fail
    refine (hr _ _).mono ?_
    rintro e w1 ⟨rfl, hB1⟩
    obtain ⟨q, q', hB⟩ := boxes hB1
    have q0 := cell_blk q 0
    have q1 := cell_blk q 1
    have q2 := cell_blk q 2
    have q3 := cell_blk q 3
    have q4 := cell_blk q' 0
    have q5 := cell_blk q' 1
    simp only [List.getElem?_toArray, List.getElem?_cons_zero, List.getElem?_cons_succ] at q0 q1 q2 q3 q4 q5
    clear hB1
    go_wp2
    go_ret
    exact ⟨rfl, hB⟩

set_option maxRecDepth 100000 in
set_option maxHeartbeats 2000000 in
theorem fine_3 (b : Bk) (g : Bool) (w : World) : Calls Try.prog 15 #[.agg b.a, .agg #[.bool g, .int .i64 3]] w fun e w' => e = .returned (.bool (b.fine g 3)) ∧ Below w.heap.size w w' := by
  obtain ⟨b1, b2, b3, b4⟩ := b
  have hr := fun g w => right_any ⟨b1, b2, b3, b4⟩ g w
  unfold Bk.a at *
  cases g <;> cases b1 <;> cases b3 <;> cases b4
  all_goals
    simp only [Bk.mine, Bk.other] at hr
    go_enter Try.func15, Try.ntmps15
    go_wp2_with fail
    refine (hr _ _).mono ?_
    rintro e w1 ⟨rfl, hB1⟩
    obtain ⟨q, q', hB⟩ := boxes hB1
    have q0 := cell_blk q 0
    have q1 := cell_blk q 1
    have q2 := cell_blk q 2
    have q3 := cell_blk q 3
    have q4 := cell_blk q' 0
    have q5 := cell_blk q' 1
    simp only [List.getElem?_toArray, List.getElem?_cons_zero, List.getElem?_cons_succ] at q0 q1 q2 q3 q4 q5
    clear hB1
    go_wp2
    go_ret
    exact ⟨rfl, hB⟩

set_option maxRecDepth 100000 in
set_option maxHeartbeats 2000000 in
theorem fine_4 (b : Bk) (g : Bool) (w : World) : Calls Try.prog 15 #[.agg b.a, .agg #[.bool g, .int .i64 4]] w fun e w' => e = .returned (.bool (b.fine g 4)) ∧ Below w.heap.size w w' := by
  obtain ⟨b1, b2, b3, b4⟩ := b
  have hr := fun g w => right_any ⟨b1, b2, b3, b4⟩ g w
  unfold Bk.a at *
  cases g <;> cases b1 <;> cases b3 <;> cases b4
  all_goals
    simp only [Bk.mine, Bk.other] at hr
    go_enter Try.func15, Try.ntmps15
    go_wp2_with fail
    refine (hr _ _).mono ?_
    rintro e w1 ⟨rfl, hB1⟩
    obtain ⟨q, q', hB⟩ := boxes hB1
    have q0 := cell_blk q 0
    have q1 := cell_blk q 1
    have q2 := cell_blk q 2
    have q3 := cell_blk q 3
    have q4 := cell_blk q' 0
    have q5 := cell_blk q' 1
    simp only [List.getElem?_toArray, List.getElem?_cons_zero, List.getElem?_cons_succ] at q0 q1 q2 q3 q4 q5
    clear hB1
    go_wp2
    go_ret
    exact ⟨rfl, hB⟩

set_option maxRecDepth 100000 in
set_option maxHeartbeats 2000000 in
theorem fine_5 (b : Bk) (g : Bool) (w : World) : Calls Try.prog 15 #[.agg b.a, .agg #[.bool g, .int .i64 5]] w fun e w' => e = .returned (.bool (b.fine g 5)) ∧ Below w.heap.size w w' := by
  obtain ⟨b1, b2, b3, b4⟩ := b
  have hr := fun g w => right_any ⟨b1, b2, b3, b4⟩ g w
  unfold Bk.a at *
  skip
  all_goals
    skip
    go_enter Try.func15, Try.ntmps15
    go_wp2_with fail
    refine (hr _ _).mono ?_
    rintro e w1 ⟨rfl, hB1⟩
    obtain ⟨q, q', hB⟩ := boxes hB1
    have q0 := cell_blk q 0
    have q1 := cell_blk q 1
    have q2 := cell_blk q 2
    have q3 := cell_blk q 3
    have q4 := cell_blk q' 0
    have q5 := cell_blk q' 1
    simp only [List.getElem?_toArray, List.getElem?_cons_zero, List.getElem?_cons_succ] at q0 q1 q2 q3 q4 q5
    clear hB1
    go_wp2
    go_ret
    exact ⟨rfl, hB⟩

set_option maxRecDepth 100000 in
set_option maxHeartbeats 2000000 in
theorem fine_no (b : Bk) (g : Bool) (k : Int) (h1 : (k == 1) = false) (h2 : (k == 2) = false) (h3 : (k == 3) = false) (h4 : (k == 4) = false) (h5 : (k == 5) = false) (h6 : (k == 6) = false) (h7 : (k == 7) = false) (h8 : (k == 8) = false) (w : World) : Calls Try.prog 15 #[.agg b.a, .agg #[.bool g, .int .i64 k]] w fun e w' => e = .returned (.bool (b.fine g k)) ∧ Below w.heap.size w w' := by
  have hf : b.fine g k = false := by
    have := beq_eq_false_iff_ne.1 h1
    have := beq_eq_false_iff_ne.1 h2
    have := beq_eq_false_iff_ne.1 h3
    have := beq_eq_false_iff_ne.1 h4
    have := beq_eq_false_iff_ne.1 h5
    have := beq_eq_false_iff_ne.1 h6
    have := beq_eq_false_iff_ne.1 h7
    have := beq_eq_false_iff_ne.1 h8
    simp [Bk.fine, *]
  rw [hf]
  clear hf
  obtain ⟨b1, b2, b3, b4⟩ := b
  have hr := fun g w => right_any ⟨b1, b2, b3, b4⟩ g w
  unfold Bk.a at *
  skip
  all_goals
    skip
    go_enter Try.func15, Try.ntmps15
    go_wp2_with fail
    refine (hr _ _).mono ?_
    rintro e w1 ⟨rfl, hB1⟩
    obtain ⟨q, q', hB⟩ := boxes hB1
    have q0 := cell_blk q 0
    have q1 := cell_blk q 1
    have q2 := cell_blk q 2
    have q3 := cell_blk q 3
    have q4 := cell_blk q' 0
    have q5 := cell_blk q' 1
    simp only [List.getElem?_toArray, List.getElem?_cons_zero, List.getElem?_cons_succ] at q0 q1 q2 q3 q4 q5
    clear hB1
    go_wp2
    go_ret
    exact ⟨rfl, hB⟩

set_option maxRecDepth 100000 in
set_option maxHeartbeats 2000000 in
theorem fine_6 (b : Bk) (g : Bool) (w : World) : Calls Try.prog 15 #[.agg b.a, .agg #[.bool g, .int .i64 6]] w fun e w' => e = .returned (.bool (b.fine g 6)) ∧ Below w.heap.size w w' := by
  obtain ⟨b1, b2, b3, b4⟩ := b
  have hr := fun g w => right_any ⟨b1, b2, b3, b4⟩ g w
  have ho := fun w => over_any ⟨b1, b2, b3, b4⟩ w
  unfold Bk.a at *
  cases b1
  · cases g
    all_goals
      simp only [Bk.mine, Bk.other] at hr
      simp [Bk.over] at ho
      go_enter Try.func15, Try.ntmps15
      go_wp2_with fail
      refine (hr _ _).mono ?_
      rintro e w1 ⟨rfl, hB1⟩
      obtain ⟨q, q', hB⟩ := boxes hB1
      have q0 := cell_blk q 0
      have q1 := cell_blk q 1
      have q2 := cell_blk q 2
      have q3 := cell_blk q 3
      have q4 := cell_blk q' 0
      have q5 := cell_blk q' 1
      simp only [List.getElem?_toArray, List.getElem?_cons_zero, List.getElem?_cons_succ] at q0 q1 q2 q3 q4 q5
      clear hB1
      go_wp2
      go_ret
      exact ⟨rfl, hB⟩
  · cases b3 <;> cases b4 <;> cases g
    all_goals
      simp only [Bk.mine, Bk.other] at hr
      simp [Bk.over] at ho
      go_enter Try.func15, Try.ntmps15
      go_wp2_with fail
      refine (hr _ _).mono ?_
      rintro e w1 ⟨rfl, hB1⟩
      obtain ⟨q, q', hB⟩ := boxes hB1
      have q0 := cell_blk q 0
      have q1 := cell_blk q 1
      have q2 := cell_blk q 2
      have q3 := cell_blk q 3
      have q4 := cell_blk q' 0
      have q5 := cell_blk q' 1
      simp only [List.getElem?_toArray, List.getElem?_cons_zero, List.getElem?_cons_succ] at q0 q1 q2 q3 q4 q5
      clear hB1
      go_wp2_with fail
      refine (ho _).mono ?_
      rintro e w2 ⟨rfl, hB2⟩
      replace q := (hB2.block w.heap.size (heap_lt q)).trans q
      replace q' := (hB2.block (w.heap.size + 1) (heap_lt q')).trans q'
      replace hB := hB.trans (hB2.mono hB.size)
      have z0 := cell_blk q 0
      have z1 := cell_blk q 1
      have z4 := cell_blk q' 0
      have z5 := cell_blk q' 1
      simp only [List.getElem?_toArray, List.getElem?_cons_zero, List.getElem?_cons_succ] at z0 z1 z4 z5
      clear hB2
      go_wp2
      go_ret
      exact ⟨rfl, hB⟩

set_option maxRecDepth 100000 in
set_option maxHeartbeats 2000000 in
theorem fine_7 (b : Bk) (g : Bool) (w : World) : Calls Try.prog 15 #[.agg b.a, .agg #[.bool g, .int .i64 7]] w fun e w' => e = .returned (.bool (b.fine g 7)) ∧ Below w.heap.size w w' := by
  obtain ⟨b1, b2, b3, b4⟩ := b
  have hr := fun g w => right_any ⟨b1, b2, b3, b4⟩ g w
  have ho := fun w => over_any ⟨b1, b2, b3, b4⟩ w
  unfold Bk.a at *
  cases b1
  · cases g
    all_goals
      simp only [Bk.mine, Bk.other] at hr
      simp [Bk.over] at ho
      go_enter Try.func15, Try.ntmps15
      go_wp2_with fail
      refine (hr _ _).mono ?_
      rintro e w1 ⟨rfl, hB1⟩
      obtain ⟨q, q', hB⟩ := boxes hB1
      have q0 := cell_blk q 0
      have q1 := cell_blk q 1
      have q2 := cell_blk q 2
      have q3 := cell_blk q 3
      have q4 := cell_blk q' 0
      have q5 := cell_blk q' 1
      simp only [List.getElem?_toArray, List.getElem?_cons_zero, List.getElem?_cons_succ] at q0 q1 q2 q3 q4 q5
      clear hB1
      go_wp2
      go_ret
      exact ⟨rfl, hB⟩
  · cases b3 <;> cases b4 <;> cases b2 <;> cases g
    all_goals
      simp only [Bk.mine, Bk.other] at hr
      simp [Bk.over] at ho
      go_enter Try.func15, Try.ntmps15
      go_wp2_with fail
      refine (hr _ _).mono ?_
      rintro e w1 ⟨rfl, hB1⟩
      obtain ⟨q, q', hB⟩ := boxes hB1
      have q0 := cell_blk q 0
      have q1 := cell_blk q 1
      have q2 := cell_blk q 2
      have q3 := cell_blk q 3
      have q4 := cell_blk q' 0
      have q5 := cell_blk q' 1
      simp only [List.getElem?_toArray, List.getElem?_cons_zero, List.getElem?_cons_succ] at q0 q1 q2 q3 q4 q5
      clear hB1
      go_wp2_with fail
      refine (ho _).mono ?_
      rintro e w2 ⟨rfl, hB2⟩
      replace q := (hB2.block w.heap.size (heap_lt q)).trans q
      replace q' := (hB2.block (w.heap.size + 1) (heap_lt q')).trans q'
      replace hB := hB.trans (hB2.mono hB.size)
      have z0 := cell_blk q 0
      have z1 := cell_blk q 1
      have z4 := cell_blk q' 0
      have z5 := cell_blk q' 1
      simp only [List.getElem?_toArray, List.getElem?_cons_zero, List.getElem?_cons_succ] at z0 z1 z4 z5
      clear hB2
      go_wp2
      go_ret
      exact ⟨rfl, hB⟩

set_option maxRecDepth 100000 in
set_option maxHeartbeats 2000000 in
theorem fine_8 (b : Bk) (g : Bool) (w : World) : Calls Try.prog 15 #[.agg b.a, .agg #[.bool g, .int .i64 8]] w fun e w' => e = .returned (.bool (b.fine g 8)) ∧ Below w.heap.size w w' := by
  obtain ⟨b1, b2, b3, b4⟩ := b
  have hr := fun g w => right_any ⟨b1, b2, b3, b4⟩ g w
  have ho := fun w => over_any ⟨b1, b2, b3, b4⟩ w
  unfold Bk.a at *
  cases g
  · skip
    simp only [Bk.mine, Bk.other] at hr
    simp [Bk.over] at ho
    go_enter Try.func15, Try.ntmps15
    go_wp2_with fail
    refine (hr _ _).mono ?_
    rintro e w1 ⟨rfl, hB1⟩
    obtain ⟨q, q', hB⟩ := boxes hB1
    have q0 := cell_blk q 0
    have q1 := cell_blk q 1
    have q2 := cell_blk q 2
    have q3 := cell_blk q 3
    have q4 := cell_blk q' 0
    have q5 := cell_blk q' 1
    simp only [List.getElem?_toArray, List.getElem?_cons_zero, List.getElem?_cons_succ] at q0 q1 q2 q3 q4 q5
    clear hB1
    go_wp2
    go_ret
    exact ⟨rfl, hB⟩
  · cases b1 <;> cases b3 <;> cases b4
    all_goals
      simp only [Bk.mine, Bk.other] at hr
      simp [Bk.over] at ho
      go_enter Try.func15, Try.ntmps15
      go_wp2_with fail
      refine (hr _ _).mono ?_
      rintro e w1 ⟨rfl, hB1⟩
      obtain ⟨q, q', hB⟩ := boxes hB1
      have q0 := cell_blk q 0
      have q1 := cell_blk q 1
      have q2 := cell_blk q 2
      have q3 := cell_blk q 3
      have q4 := cell_blk q' 0
      have q5 := cell_blk q' 1
      simp only [List.getElem?_toArray, List.getElem?_cons_zero, List.getElem?_cons_succ] at q0 q1 q2 q3 q4 q5
      clear hB1
      go_wp2_with fail
      refine (ho _).mono ?_
      rintro e w2 ⟨rfl, hB2⟩
      replace q := (hB2.block w.heap.size (heap_lt q)).trans q
      replace q' := (hB2.block (w.heap.size + 1) (heap_lt q')).trans q'
      replace hB := hB.trans (hB2.mono hB.size)
      have z0 := cell_blk q 0
      have z1 := cell_blk q 1
      have z4 := cell_blk q' 0
      have z5 := cell_blk q' 1
      simp only [List.getElem?_toArray, List.getElem?_cons_zero, List.getElem?_cons_succ] at z0 z1 z4 z5
      clear hB2
      go_wp2
      go_ret
      exact ⟨rfl, hB⟩

end Go.Proofs.Ytmflgoghlbmkeaa
