/- A window in memory; New, Left, Take, Shift, Give, Room. -/
import Derived.Test.YtoanmjnjpkbmiaaM
import Derived.Lib.MinMax
namespace Go.Proofs.Ytoanmjnjpkbmiaa
open Go.RowKit
set_option linter.unusedVariables false
set_option linter.unusedSimpArgs false

/-- Block b is a window with n left. -/
def Wd (w : World) (b : Nat) (n : Int) : Prop := w.heap[b]? = some (.cells #[.int .i64 n] 42 (0, 0))
theorem Wd.lt {w : World} {b : Nat} {n : Int} (h : Wd w b n) : b < w.heap.size := heap_lt h
theorem Wd.cell {w : World} {b : Nat} {n : Int} (h : Wd w b n) : w.cell? ⟨b, 0, none⟩ = some (.int .i64 n) := cell_blk h 0
theorem Wd.frozen {w : World} {b : Nat} {n : Int} (h : Wd w b n) (i : Nat) : w.frozen? ⟨b, i, none⟩ = false := frozen_blk h i
theorem Wd.keep {A : Nat → Prop} {w w' : World} {b : Nat} {n : Int} (h : Wd w b n) (hk : Ks A w w') (ho : ¬ A b) : Wd w' b n := (hk.block b h.lt ho).trans h
theorem Wd.below {w w' : World} {b : Nat} {n : Int} (h : Wd w b n) (hb : Below w.heap.size w w') : Wd w' b n := (hb.block b h.lt).trans h

/-- within New's bounds -/
def cl (n : Int) : Int := min (max n 0) 2147483647

set_option maxRecDepth 100000 in
set_option maxHeartbeats 1000000 in
theorem new_any (n : Int) (w : World) :
    Calls Try.prog 9 #[.int .i64 n] w fun e w' => ∃ b, e = .returned (.pointer (some ⟨b, 0, none⟩)) ∧ Wd w' b (cl n) ∧ w.heap.size ≤ b ∧ Below w.heap.size w w' := by
  go_enter Try.func9, Try.ntmps9
  go_wp2
  go_ret
  exact ⟨_, rfl, heap_alloc_new _ _, Nat.le_refl _, bel1 _ _⟩

set_option maxRecDepth 100000 in
set_option maxHeartbeats 1000000 in
theorem left_any (w : World) (b : Nat) (n : Int) (h : Wd w b n) :
    Calls Try.prog 10 #[.pointer (some ⟨b, 0, none⟩)] w fun e w' => e = .returned (.int .i64 n) ∧ w' = w := by
  have c := h.cell
  clear h
  go_enter Try.func10, Try.ntmps10
  go_wp2
  go_ret
  exact ⟨rfl, rfl⟩


/-- what is written into a window -/
theorem Wd.set {w : World} {b : Nat} {n : Int} (h : Wd w b n) (m : Int) : Wd (w.setCell ⟨b, 0, none⟩ (.int .i64 m)) b m := setCell_block w b 0 _ _ _ _ h

/-- what Take answers -/
def tk (n k : Int) : Bool := decide (0 ≤ k) && decide (k ≤ max n 0)
def tkN (n k : Int) : Int := if tk n k then n - k else n
/-- what Shift answers -/
def sf (n k : Int) : Bool := decide (-2147483647 ≤ n + k) && decide (n + k ≤ 2147483647)
def sfC (n k : Int) : Int := if sf n k then 0 else 3
def sfN (n k : Int) : Int := if sf n k then n + k else n
def gvC (n k : Int) : Int := if k < 1 then 1 else sfC n k
def gvN (n k : Int) : Int := if k < 1 then n else sfN n k
def InB (n : Int) : Prop := -2147483647 ≤ n ∧ n ≤ 2147483647
theorem cl_in (n : Int) : InB (cl n) := by unfold InB cl; omega
theorem tkN_in {n k : Int} (h : InB n) : InB (tkN n k) := by
  unfold tkN tk
  unfold InB at h ⊢
  split
  · rename_i h1
    simp at h1
    omega
  · exact h
theorem sfN_in {n k : Int} (h : InB n) : InB (sfN n k) := by
  unfold sfN sf
  split
  · rename_i h1
    simpa [InB] using h1
  · exact h
theorem gvN_in {n k : Int} (h : InB n) : InB (gvN n k) := by
  unfold gvN
  split
  · exact h
  · exact sfN_in h

set_option maxRecDepth 100000 in
set_option maxHeartbeats 1000000 in
theorem take_any (w : World) (b : Nat) (n k : Int) (h : Wd w b n) (hn : InB n) :
    Calls Try.prog 11 #[.pointer (some ⟨b, 0, none⟩), .int .i64 k] w fun e w' => e = .returned (.bool (tk n k)) ∧ Wd w' b (tkN n k) ∧ Ks (fun j => j = b) w w' := by
  have c := h.cell
  have fz := h.frozen
  obtain ⟨hn1, hn2⟩ := hn
  by_cases h0 : k < 0
  · have ht : tk n k = false := by unfold tk; simp; omega
    have ht' : tkN n k = n := by unfold tkN; rw [ht]; rfl
    rw [ht, ht']
    go_enter Try.func11, Try.ntmps11
    go_wp2
    go_ret
    exact ⟨rfl, h, Ks.refl _ _⟩
  by_cases h1 : max n 0 < k
  · have ht : tk n k = false := by unfold tk; simp; omega
    have ht' : tkN n k = n := by unfold tkN; rw [ht]; rfl
    rw [ht, ht']
    go_enter Try.func11, Try.ntmps11
    go_wp2
    go_ret
    exact ⟨rfl, h, Ks.refl _ _⟩
  · have ht : tk n k = true := by unfold tk; simp; omega
    have ht' : tkN n k = n - k := by unfold tkN; rw [ht]; rfl
    rw [ht, ht']
    have hb : -4294967294 ≤ n - k ∧ n - k ≤ 4294967294 := by omega
    go_enter Try.func11, Try.ntmps11
    go_wp2
    go_ret
    exact ⟨rfl, h.set _, Ks.setCell _ _ _ _ _ rfl⟩

set_option maxRecDepth 100000 in
set_option maxHeartbeats 1000000 in
theorem shift_any (w : World) (b : Nat) (n k : Int) (h : Wd w b n) (hn : InB n) :
    Calls Try.prog 13 #[.pointer (some ⟨b, 0, none⟩), .int .i64 k] w fun e w' => e = .returned (.int .i64 (sfC n k)) ∧ Wd w' b (sfN n k) ∧ Ks (fun j => j = b) w w' := by
  have c := h.cell
  have fz := h.frozen
  obtain ⟨hn1, hn2⟩ := hn
  by_cases h0 : 2147483647 - n < k
  · have ht : sf n k = false := by unfold sf; simp; omega
    have ht' : sfN n k = n := by unfold sfN; rw [ht]; rfl
    have ht2 : sfC n k = 3 := by unfold sfC; rw [ht]; rfl
    rw [ht2, ht']
    go_enter Try.func13, Try.ntmps13
    go_wp2
    go_ret
    exact ⟨rfl, h, Ks.refl _ _⟩
  by_cases h1 : k < -2147483647 - n
  · have ht : sf n k = false := by unfold sf; simp; omega
    have ht' : sfN n k = n := by unfold sfN; rw [ht]; rfl
    have ht2 : sfC n k = 3 := by unfold sfC; rw [ht]; rfl
    rw [ht2, ht']
    go_enter Try.func13, Try.ntmps13
    go_wp2
    go_ret
    exact ⟨rfl, h, Ks.refl _ _⟩
  · have ht : sf n k = true := by unfold sf; simp; omega
    have ht' : sfN n k = n + k := by unfold sfN; rw [ht]; rfl
    have ht2 : sfC n k = 0 := by unfold sfC; rw [ht]; rfl
    rw [ht2, ht']
    have hb : -4294967294 ≤ n + k ∧ n + k ≤ 4294967294 := by omega
    go_enter Try.func13, Try.ntmps13
    go_wp2
    go_ret
    exact ⟨rfl, h.set _, Ks.setCell _ _ _ _ _ rfl⟩

set_option maxRecDepth 100000 in
set_option maxHeartbeats 1000000 in
theorem give_any (w : World) (b : Nat) (n k : Int) (h : Wd w b n) (hn : InB n) :
    Calls Try.prog 12 #[.pointer (some ⟨b, 0, none⟩), .int .i64 k] w fun e w' => e = .returned (.int .i64 (gvC n k)) ∧ Wd w' b (gvN n k) ∧ Ks (fun j => j = b) w w' := by
  by_cases h0 : k < 1
  · have ht' : gvN n k = n := by unfold gvN; rw [if_pos h0]
    have ht2 : gvC n k = 1 := by unfold gvC; rw [if_pos h0]
    rw [ht2, ht']
    go_enter Try.func12, Try.ntmps12
    go_wp2
    go_ret
    exact ⟨rfl, h, Ks.refl _ _⟩
  · have ht' : gvN n k = sfN n k := by unfold gvN; rw [if_neg h0]
    have ht2 : gvC n k = sfC n k := by unfold gvC; rw [if_neg h0]
    rw [ht2, ht']
    have hs := shift_any w b n k h hn
    go_enter Try.func12, Try.ntmps12
    go_wp2_with (go_at_call 13; refine hs.mono ?_; rintro e w' ⟨rfl, h1, h2⟩)
    go_ret
    exact ⟨rfl, h1, h2⟩

theorem run_min_int4 {P : Program} (w : World) (ts : Array TypeId) (t : TypeId) (k k1 k2 k3 : IntKind) (x y z u : Int) : (Builtin.min_ ts t #[.int k x, .int k1 y, .int k2 z, .int k3 u]).run P w = .ok (.int k (min (min (min x y) z) u)) w := by
  have e : ∀ a b : Int, (if b < a then b else a) = min a b := fun a b => by
    rw [Int.min_def]
    split <;> split <;> omega
  simp [Builtin.min_, Builtin.min2, e]

/-- what Room answers -/
def rm (a b c d : Int) : Int := max (min a (min b (min c d))) 0

set_option maxRecDepth 100000 in
set_option maxHeartbeats 1000000 in
theorem room_any (w : World) (a b c d : Int) :
    Calls Try.prog 14 #[.int .i64 a, .int .i64 b, .int .i64 c, .int .i64 d] w fun e w' => e = .returned (.int .i64 (rm a b c d)) ∧ w' = w := by
  have hr := fun W => run_min_int4 (P := Try.prog) W #[2, 2, 2, 2] 2 .i64 .i64 .i64 .i64 a b c d
  go_enter Try.func14, Try.ntmps14
  go_wp2
  go_ret
  exact ⟨rfl, rfl⟩

end Go.Proofs.Ytoanmjnjpkbmiaa
