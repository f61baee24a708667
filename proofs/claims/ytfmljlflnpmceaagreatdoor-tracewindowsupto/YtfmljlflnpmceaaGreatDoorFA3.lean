/- What a payload is: payloadOf, its functions' values; padded, lengthFault. -/
import Derived.Test.YtfmljlflnpmceaaGreatDoorVf1
import Derived.Laws.ResultCell
import Derived.Laws.EntriesVeiled
namespace Go.Proofs.YtfmljlflnpmceaaGreatDoor.Fm
open Go.RowKit
set_option linter.unusedVariables false
set_option linter.unusedSimpArgs false

set_option maxHeartbeats 800000 in
theorem atLeast_any (n : Int) (w : World) :
    Calls Tryz.prog 90 #[.int .i64 n] w fun e w' => e = .returned (.func (.func 116) #[] #[.pointer (some ⟨w.heap.size, 0, none⟩)]) ∧ w' = w.alloc (.cells #[.int .i64 n] 3) := by
  go_enter Tryz.func90, Tryz.ntmps90
  go_wp2
  go_ret
  exact ⟨rfl, rfl⟩

set_option maxHeartbeats 800000 in
theorem exactly_any (n : Int) (w : World) :
    Calls Tryz.prog 93 #[.int .i64 n] w fun e w' => e = .returned (.func (.func 117) #[] #[.pointer (some ⟨w.heap.size, 0, none⟩)]) ∧ w' = w.alloc (.cells #[.int .i64 n] 3) := by
  go_enter Tryz.func93, Tryz.ntmps93
  go_wp2
  go_ret
  exact ⟨rfl, rfl⟩

set_option maxHeartbeats 800000 in
theorem timesOf_any (n : Int) (w : World) :
    Calls Tryz.prog 100 #[.int .i64 n] w fun e w' => e = .returned (.func (.func 118) #[] #[.pointer (some ⟨w.heap.size, 0, none⟩)]) ∧ w' = w.alloc (.cells #[.int .i64 n] 3) := by
  go_enter Tryz.func100, Tryz.ntmps100
  go_wp2
  go_ret
  exact ⟨rfl, rfl⟩

/-- may a payload have this length? -/
def ftS (ff : Nat) (m n : Int) : Bool := if ff = 116 then decide (m ≤ n) else if ff = 117 then n == m else n.tmod m == 0

set_option maxHeartbeats 800000 in
theorem fits68 (n m : Int) (g : Nat) (w : World) (h : w.cell? ⟨g, 0, none⟩ = some (.int .i64 m)) :
    Calls Tryz.prog 116 #[.int .i64 n, .pointer (some ⟨g, 0, none⟩)] w fun e w' => e = .returned (.bool (ftS 116 m n)) ∧ w' = w := by
  go_enter Tryz.func116, Tryz.ntmps116
  go_wp2
  go_ret
  exact ⟨rfl, rfl⟩

set_option maxHeartbeats 800000 in
theorem fits69 (n m : Int) (g : Nat) (w : World) (h : w.cell? ⟨g, 0, none⟩ = some (.int .i64 m)) :
    Calls Tryz.prog 117 #[.int .i64 n, .pointer (some ⟨g, 0, none⟩)] w fun e w' => e = .returned (.bool (ftS 117 m n)) ∧ w' = w := by
  go_enter Tryz.func117, Tryz.ntmps117
  go_wp2
  go_ret
  exact ⟨rfl, rfl⟩

set_option maxHeartbeats 800000 in
theorem fits70 (n : Int) (g : Nat) (w : World) (h : w.cell? ⟨g, 0, none⟩ = some (.int .i64 6)) :
    Calls Tryz.prog 118 #[.int .i64 n, .pointer (some ⟨g, 0, none⟩)] w fun e w' => e = .returned (.bool (ftS 118 6 n)) ∧ w' = w := by
  go_enter Tryz.func118, Tryz.ntmps118
  go_wp2
  go_ret
  exact ⟨rfl, rfl⟩

def hasF (fl m : Int) : Bool := bits .and .i64 fl m != 0

/-- The functions of a type with such flags: which lengths, and how it is written and read. -/
def kd (ty fl : Int) : Nat × Int × Nat × Nat :=
  if ty = 1 ∧ hasF fl 32 = true then (116, 5, 91, 92)
  else if ty = 2 then (117, 5, 94, 95)
  else if ty = 3 then (117, 4, 96, 97)
  else if ty = 4 then (if hasF fl 1 = true then (117, 0, 98, 99) else (118, 6, 98, 99))
  else if ty = 5 then (116, 4, 101, 102)
  else if ty = 6 then (117, 8, 103, 104)
  else if ty = 7 then (116, 8, 105, 106)
  else if ty = 8 then (117, 4, 107, 108)
  else (116, 0, 103, 104)

def padS (f : Fr) : Bool := decide (f.ty < 10) && hasF f.fl 8

set_option maxHeartbeats 800000 in
theorem padded_any (f : Fr) (p : Value) (w : World) :
    Calls Tryz.prog 66 #[.agg (fv f p)] w fun e w' => e = .returned (.bool (padS f)) ∧ w' = w.alloc (.cells (fv f p) 31) := by
  unfold fv padS
  by_cases h : f.ty < 10
  · simp only [h, decide_true, Bool.true_and]
    go_enter Tryz.func66, Tryz.ntmps66
    go_wp2
    go_ret
    exact ⟨rfl, rfl⟩
  · simp only [h, decide_false, Bool.false_and]
    go_enter Tryz.func66, Tryz.ntmps66
    go_wp2
    go_ret
    exact ⟨rfl, rfl⟩

/-- what a payload's functions are, as a value; b: where the length lies -/
def pv (k : Nat × Int × Nat × Nat) (b : Nat) : Array Value := #[.func (.func k.1) #[] #[.pointer (some ⟨b, 0, none⟩)], .func (.func k.2.2.1) #[] #[], .func (.func k.2.2.2) #[] #[]]

def PayOf (f : Fr) (p : Value) (w w' : World) (e : Ending) (k : Nat × Int × Nat × Nat) : Prop :=
  e = .returned (.agg (pv k (w.heap.size + 1 + 1))) ∧ w' = ((w.alloc (.cells (fv f p) 31)).alloc (.cells (pv k (w.heap.size + 1 + 1)) 125)).alloc (.cells #[.int .i64 k.2.1] 3)

theorem fresh2 (w : World) (a : Obj) (v : Array Value) : ((w.alloc a).alloc (.cells v 106)).heap[w.heap.size + 1]? = some (.cells v 106 (0, 0)) := by
  have h1 : (w.alloc a).heap.size = w.heap.size + 1 := by simp
  rw [← h1]
  exact heap_alloc_new _ _
theorem fresh3 (w : World) (a c : Obj) (v : Array Value) : (((w.alloc a).alloc (.cells v 125)).alloc c).heap[w.heap.size + 1]? = some (.cells v 125 (0, 0)) := by
  have h1 : (w.alloc a).heap.size = w.heap.size + 1 := by simp
  rw [← h1, heap_alloc_old _ _ (by simp)]
  exact heap_alloc_new _ _
set_option maxRecDepth 100000 in
set_option maxHeartbeats 400000 in
theorem pay_1p (f : Fr) (p : Value) (w : World) (h : f.ty = 1) (hb : (bits .and .i64 f.fl 32 != 0) = true) :
    Calls Tryz.prog 67 #[.agg (fv f p)] w fun e w' => PayOf f p w w' e (116, 5, 91, 92) := by
  unfold fv
  go_enter Tryz.func67, Tryz.ntmps67
  go_wp2_with (first | (go_at_call 90; refine (atLeast_any _ _).mono ?_; rintro e w' ⟨rfl, rfl⟩) | (go_at_call 93; refine (exactly_any _ _).mono ?_; rintro e w' ⟨rfl, rfl⟩) | (go_at_call 100; refine (timesOf_any _ _).mono ?_; rintro e w' ⟨rfl, rfl⟩))
  refine bodyPost_ret (results_cell_row (p := 2) (ty := 125) rfl _ _ (w.heap.size + 1) 125 (pv (116, 5, 91, 92) (w.heap.size + 1 + 1)) (0, 0) _ rfl ?hr Tryz.underlying125 rfl (by kernel_rfl)) rfl ?hp
  case hr => exact fresh3 _ _ _ _
  case hp => exact ⟨rfl, by first | rfl | (unfold fv; first | rfl | (rw [h]; rfl))⟩

set_option maxRecDepth 100000 in
set_option maxHeartbeats 400000 in
theorem pay_2 (f : Fr) (p : Value) (w : World) (h : f.ty = 2) :
    Calls Tryz.prog 67 #[.agg (fv f p)] w fun e w' => PayOf f p w w' e (117, 5, 94, 95) := by
  unfold fv
  go_enter Tryz.func67, Tryz.ntmps67
  go_wp2_with (first | (go_at_call 90; refine (atLeast_any _ _).mono ?_; rintro e w' ⟨rfl, rfl⟩) | (go_at_call 93; refine (exactly_any _ _).mono ?_; rintro e w' ⟨rfl, rfl⟩) | (go_at_call 100; refine (timesOf_any _ _).mono ?_; rintro e w' ⟨rfl, rfl⟩))
  refine bodyPost_ret (results_cell_row (p := 2) (ty := 125) rfl _ _ (w.heap.size + 1) 125 (pv (117, 5, 94, 95) (w.heap.size + 1 + 1)) (0, 0) _ rfl ?hr Tryz.underlying125 rfl (by kernel_rfl)) rfl ?hp
  case hr => exact fresh3 _ _ _ _
  case hp => exact ⟨rfl, by first | rfl | (unfold fv; first | rfl | (rw [h]; rfl))⟩

set_option maxRecDepth 100000 in
set_option maxHeartbeats 400000 in
theorem pay_3 (f : Fr) (p : Value) (w : World) (h : f.ty = 3) :
    Calls Tryz.prog 67 #[.agg (fv f p)] w fun e w' => PayOf f p w w' e (117, 4, 96, 97) := by
  unfold fv
  go_enter Tryz.func67, Tryz.ntmps67
  go_wp2_with (first | (go_at_call 90; refine (atLeast_any _ _).mono ?_; rintro e w' ⟨rfl, rfl⟩) | (go_at_call 93; refine (exactly_any _ _).mono ?_; rintro e w' ⟨rfl, rfl⟩) | (go_at_call 100; refine (timesOf_any _ _).mono ?_; rintro e w' ⟨rfl, rfl⟩))
  refine bodyPost_ret (results_cell_row (p := 2) (ty := 125) rfl _ _ (w.heap.size + 1) 125 (pv (117, 4, 96, 97) (w.heap.size + 1 + 1)) (0, 0) _ rfl ?hr Tryz.underlying125 rfl (by kernel_rfl)) rfl ?hp
  case hr => exact fresh3 _ _ _ _
  case hp => exact ⟨rfl, by first | rfl | (unfold fv; first | rfl | (rw [h]; rfl))⟩

set_option maxRecDepth 100000 in
set_option maxHeartbeats 400000 in
theorem pay_4a (f : Fr) (p : Value) (w : World) (h : f.ty = 4) (hb : (bits .and .i64 f.fl 1 != 0) = true) :
    Calls Tryz.prog 67 #[.agg (fv f p)] w fun e w' => PayOf f p w w' e (117, 0, 98, 99) := by
  unfold fv
  go_enter Tryz.func67, Tryz.ntmps67
  go_wp2_with (first | (go_at_call 90; refine (atLeast_any _ _).mono ?_; rintro e w' ⟨rfl, rfl⟩) | (go_at_call 93; refine (exactly_any _ _).mono ?_; rintro e w' ⟨rfl, rfl⟩) | (go_at_call 100; refine (timesOf_any _ _).mono ?_; rintro e w' ⟨rfl, rfl⟩))
  refine bodyPost_ret (results_cell_row (p := 2) (ty := 125) rfl _ _ (w.heap.size + 1) 125 (pv (117, 0, 98, 99) (w.heap.size + 1 + 1)) (0, 0) _ rfl ?hr Tryz.underlying125 rfl (by kernel_rfl)) rfl ?hp
  case hr => exact fresh3 _ _ _ _
  case hp => exact ⟨rfl, by first | rfl | (unfold fv; first | rfl | (rw [h]; rfl))⟩

set_option maxRecDepth 100000 in
set_option maxHeartbeats 400000 in
theorem pay_4 (f : Fr) (p : Value) (w : World) (h : f.ty = 4) (hb : (bits .and .i64 f.fl 1 != 0) = false) :
    Calls Tryz.prog 67 #[.agg (fv f p)] w fun e w' => PayOf f p w w' e (118, 6, 98, 99) := by
  unfold fv
  go_enter Tryz.func67, Tryz.ntmps67
  go_wp2_with (first | (go_at_call 90; refine (atLeast_any _ _).mono ?_; rintro e w' ⟨rfl, rfl⟩) | (go_at_call 93; refine (exactly_any _ _).mono ?_; rintro e w' ⟨rfl, rfl⟩) | (go_at_call 100; refine (timesOf_any _ _).mono ?_; rintro e w' ⟨rfl, rfl⟩))
  refine bodyPost_ret (results_cell_row (p := 2) (ty := 125) rfl _ _ (w.heap.size + 1) 125 (pv (118, 6, 98, 99) (w.heap.size + 1 + 1)) (0, 0) _ rfl ?hr Tryz.underlying125 rfl (by kernel_rfl)) rfl ?hp
  case hr => exact fresh3 _ _ _ _
  case hp => exact ⟨rfl, by first | rfl | (unfold fv; first | rfl | (rw [h]; rfl))⟩

set_option maxRecDepth 100000 in
set_option maxHeartbeats 400000 in
theorem pay_5 (f : Fr) (p : Value) (w : World) (h : f.ty = 5) :
    Calls Tryz.prog 67 #[.agg (fv f p)] w fun e w' => PayOf f p w w' e (116, 4, 101, 102) := by
  unfold fv
  go_enter Tryz.func67, Tryz.ntmps67
  go_wp2_with (first | (go_at_call 90; refine (atLeast_any _ _).mono ?_; rintro e w' ⟨rfl, rfl⟩) | (go_at_call 93; refine (exactly_any _ _).mono ?_; rintro e w' ⟨rfl, rfl⟩) | (go_at_call 100; refine (timesOf_any _ _).mono ?_; rintro e w' ⟨rfl, rfl⟩))
  refine bodyPost_ret (results_cell_row (p := 2) (ty := 125) rfl _ _ (w.heap.size + 1) 125 (pv (116, 4, 101, 102) (w.heap.size + 1 + 1)) (0, 0) _ rfl ?hr Tryz.underlying125 rfl (by kernel_rfl)) rfl ?hp
  case hr => exact fresh3 _ _ _ _
  case hp => exact ⟨rfl, by first | rfl | (unfold fv; first | rfl | (rw [h]; rfl))⟩

set_option maxRecDepth 100000 in
set_option maxHeartbeats 400000 in
theorem pay_6 (f : Fr) (p : Value) (w : World) (h : f.ty = 6) :
    Calls Tryz.prog 67 #[.agg (fv f p)] w fun e w' => PayOf f p w w' e (117, 8, 103, 104) := by
  unfold fv
  go_enter Tryz.func67, Tryz.ntmps67
  go_wp2_with (first | (go_at_call 90; refine (atLeast_any _ _).mono ?_; rintro e w' ⟨rfl, rfl⟩) | (go_at_call 93; refine (exactly_any _ _).mono ?_; rintro e w' ⟨rfl, rfl⟩) | (go_at_call 100; refine (timesOf_any _ _).mono ?_; rintro e w' ⟨rfl, rfl⟩))
  refine bodyPost_ret (results_cell_row (p := 2) (ty := 125) rfl _ _ (w.heap.size + 1) 125 (pv (117, 8, 103, 104) (w.heap.size + 1 + 1)) (0, 0) _ rfl ?hr Tryz.underlying125 rfl (by kernel_rfl)) rfl ?hp
  case hr => exact fresh3 _ _ _ _
  case hp => exact ⟨rfl, by first | rfl | (unfold fv; first | rfl | (rw [h]; rfl))⟩

set_option maxRecDepth 100000 in
set_option maxHeartbeats 400000 in
theorem pay_7 (f : Fr) (p : Value) (w : World) (h : f.ty = 7) :
    Calls Tryz.prog 67 #[.agg (fv f p)] w fun e w' => PayOf f p w w' e (116, 8, 105, 106) := by
  unfold fv
  go_enter Tryz.func67, Tryz.ntmps67
  go_wp2_with (first | (go_at_call 90; refine (atLeast_any _ _).mono ?_; rintro e w' ⟨rfl, rfl⟩) | (go_at_call 93; refine (exactly_any _ _).mono ?_; rintro e w' ⟨rfl, rfl⟩) | (go_at_call 100; refine (timesOf_any _ _).mono ?_; rintro e w' ⟨rfl, rfl⟩))
  refine bodyPost_ret (results_cell_row (p := 2) (ty := 125) rfl _ _ (w.heap.size + 1) 125 (pv (116, 8, 105, 106) (w.heap.size + 1 + 1)) (0, 0) _ rfl ?hr Tryz.underlying125 rfl (by kernel_rfl)) rfl ?hp
  case hr => exact fresh3 _ _ _ _
  case hp => exact ⟨rfl, by first | rfl | (unfold fv; first | rfl | (rw [h]; rfl))⟩

set_option maxRecDepth 100000 in
set_option maxHeartbeats 400000 in
theorem pay_8 (f : Fr) (p : Value) (w : World) (h : f.ty = 8) :
    Calls Tryz.prog 67 #[.agg (fv f p)] w fun e w' => PayOf f p w w' e (117, 4, 107, 108) := by
  unfold fv
  go_enter Tryz.func67, Tryz.ntmps67
  go_wp2_with (first | (go_at_call 90; refine (atLeast_any _ _).mono ?_; rintro e w' ⟨rfl, rfl⟩) | (go_at_call 93; refine (exactly_any _ _).mono ?_; rintro e w' ⟨rfl, rfl⟩) | (go_at_call 100; refine (timesOf_any _ _).mono ?_; rintro e w' ⟨rfl, rfl⟩))
  refine bodyPost_ret (results_cell_row (p := 2) (ty := 125) rfl _ _ (w.heap.size + 1) 125 (pv (117, 4, 107, 108) (w.heap.size + 1 + 1)) (0, 0) _ rfl ?hr Tryz.underlying125 rfl (by kernel_rfl)) rfl ?hp
  case hr => exact fresh3 _ _ _ _
  case hp => exact ⟨rfl, by first | rfl | (unfold fv; first | rfl | (rw [h]; rfl))⟩

set_option maxRecDepth 100000 in
set_option maxHeartbeats 400000 in
theorem pay_1 (f : Fr) (p : Value) (w : World) (h : f.ty = 1) (hb : (bits .and .i64 f.fl 32 != 0) = false) :
    Calls Tryz.prog 67 #[.agg (fv f p)] w fun e w' => PayOf f p w w' e (116, 0, 103, 104) := by
  unfold fv
  go_enter Tryz.func67, Tryz.ntmps67
  go_wp2_with (first | (go_at_call 90; refine (atLeast_any _ _).mono ?_; rintro e w' ⟨rfl, rfl⟩) | (go_at_call 93; refine (exactly_any _ _).mono ?_; rintro e w' ⟨rfl, rfl⟩) | (go_at_call 100; refine (timesOf_any _ _).mono ?_; rintro e w' ⟨rfl, rfl⟩))
  refine bodyPost_ret (results_cell_row (p := 2) (ty := 125) rfl _ _ (w.heap.size + 1) 125 (pv (116, 0, 103, 104) (w.heap.size + 1 + 1)) (0, 0) _ rfl ?hr Tryz.underlying125 rfl (by kernel_rfl)) rfl ?hp
  case hr => exact fresh3 _ _ _ _
  case hp => exact ⟨rfl, by first | rfl | (unfold fv; first | rfl | (rw [h]; rfl))⟩

set_option maxRecDepth 100000 in
set_option maxHeartbeats 400000 in
theorem pay_no (f : Fr) (p : Value) (w : World) (h1 : (f.ty == 1) = false) (h2 : (f.ty == 2) = false) (h3 : (f.ty == 3) = false) (h4 : (f.ty == 4) = false) (h5 : (f.ty == 5) = false) (h6 : (f.ty == 6) = false) (h7 : (f.ty == 7) = false) (h8 : (f.ty == 8) = false) :
    Calls Tryz.prog 67 #[.agg (fv f p)] w fun e w' => PayOf f p w w' e (116, 0, 103, 104) := by
  unfold fv
  go_enter Tryz.func67, Tryz.ntmps67
  go_wp2_with (first | (go_at_call 90; refine (atLeast_any _ _).mono ?_; rintro e w' ⟨rfl, rfl⟩) | (go_at_call 93; refine (exactly_any _ _).mono ?_; rintro e w' ⟨rfl, rfl⟩) | (go_at_call 100; refine (timesOf_any _ _).mono ?_; rintro e w' ⟨rfl, rfl⟩))
  refine bodyPost_ret (results_cell_row (p := 2) (ty := 125) rfl _ _ (w.heap.size + 1) 125 (pv (116, 0, 103, 104) (w.heap.size + 1 + 1)) (0, 0) _ rfl ?hr Tryz.underlying125 rfl (by kernel_rfl)) rfl ?hp
  case hr => exact fresh3 _ _ _ _
  case hp => exact ⟨rfl, by first | rfl | (unfold fv; first | rfl | (rw [h]; rfl))⟩

theorem payloadOf_any (f : Fr) (p : Value) (w : World) :
    Calls Tryz.prog 67 #[.agg (fv f p)] w fun e w' => PayOf f p w w' e (kd f.ty f.fl) := by
  unfold kd
  by_cases h1 : f.ty = 1 ∧ hasF f.fl 32 = true
  · rw [if_pos h1]; exact pay_1p f p w h1.1 h1.2
  rw [if_neg h1]
  by_cases h2 : f.ty = 2
  · rw [if_pos h2]; exact pay_2 f p w h2
  rw [if_neg h2]
  by_cases h3 : f.ty = 3
  · rw [if_pos h3]; exact pay_3 f p w h3
  rw [if_neg h3]
  by_cases h4 : f.ty = 4
  · rw [if_pos h4]
    by_cases ha : hasF f.fl 1 = true
    · rw [if_pos ha]; exact pay_4a f p w h4 ha
    · rw [if_neg ha]; exact pay_4 f p w h4 (show hasF f.fl 1 = false from Bool.eq_false_iff.2 ha)
  rw [if_neg h4]
  by_cases h5 : f.ty = 5
  · rw [if_pos h5]; exact pay_5 f p w h5
  rw [if_neg h5]
  by_cases h6 : f.ty = 6
  · rw [if_pos h6]; exact pay_6 f p w h6
  rw [if_neg h6]
  by_cases h7 : f.ty = 7
  · rw [if_pos h7]; exact pay_7 f p w h7
  rw [if_neg h7]
  by_cases h8 : f.ty = 8
  · rw [if_pos h8]; exact pay_8 f p w h8
  rw [if_neg h8]
  by_cases hx : f.ty = 1
  · exact pay_1 f p w hx (show hasF f.fl 32 = false from Bool.eq_false_iff.2 fun e => h1 ⟨hx, e⟩)
  · exact pay_no f p w (by simpa using hx) (by simpa using h2) (by simpa using h3) (by simpa using h4) (by simpa using h5) (by simpa using h6) (by simpa using h7) (by simpa using h8)

/-- of whom a wrong length is the fault -/
def lenF (f : Fr) : Int × Int := (6, if f.ty = 2 then f.st else 0)

set_option maxHeartbeats 800000 in
theorem lengthFault_any (f : Fr) (p : Value) (w : World) :
    Calls Tryz.prog 70 #[.agg (fv f p)] w fun e w' => e = .returned (.agg #[.int .i64 (lenF f).1, .int .i64 (lenF f).2]) ∧ w' = (w.alloc (.cells (fv f p) 31)).alloc (.cells #[.int .i64 (lenF f).1, .int .i64 (lenF f).2] 106) := by
  unfold fv lenF
  by_cases h : f.ty = 2
  · rw [if_pos h]
    go_enter Tryz.func70, Tryz.ntmps70
    go_wp2
    refine bodyPost_ret (results_cell_row (p := 2) (ty := 106) rfl _ _ (w.heap.size + 1) 106 #[.int .i64 6, .int .i64 f.st] (0, 0) _ rfl ?hr Tryz.underlying106 rfl (by kernel_rfl)) rfl ⟨rfl, ?_⟩
    case hr => exact fresh2 _ _ _
    first | rfl | rw [h]
  · rw [if_neg h]
    go_enter Tryz.func70, Tryz.ntmps70
    go_wp2
    refine bodyPost_ret (results_cell_row (p := 2) (ty := 106) rfl _ _ (w.heap.size + 1) 106 #[.int .i64 6, .int .i64 0] (0, 0) _ rfl ?hr Tryz.underlying106 rfl (by kernel_rfl)) rfl ⟨rfl, ?_⟩
    case hr => exact fresh2 _ _ _
    first | rfl | rw [h]
end Go.Proofs.YtfmljlflnpmceaaGreatDoor.Fm
