/- The document's birth, ours, Last, Next, Count. -/
import Derived.Test.YtaaocgppniflcaaD2
namespace Go.Proofs.Ytaaocgppniflcaa
open Go.RowKit Go.Maps
set_option linter.unusedVariables false
set_option linter.unusedSimpArgs false

def rmay (c : Bool) (id : Int) (g : Bool) (k : Int) : Bool := if (k == 5) = true then (id.tmod 2 == 0) && (g == c) else (id.tmod 2 == 1) && (g != c)
set_option maxRecDepth 100000 in
set_option maxHeartbeats 1000000 in
theorem birth_any (w : World) (p : Nat) (c : Bool) (v : Value) (l : List O1) (id : Int) (g : Bool) (k : Int) (h : RT w p c v l) : Calls Try.prog 39 #[.pointer (some ⟨p, 0, none⟩), .int .i64 id, .agg #[.bool g, .int .i64 k]] w fun e w' => e = .returned (.bool (rmay c id g k)) ∧ Below w.heap.size w w' := by
  obtain ⟨c0, c1, hp⟩ := (h.below (bel1 w (.cells #[.bool g, .int .i64 k] 57))).cells
  clear h
  unfold rmay
  cases e5 : (k == 5)
  · rw [if_neg (by decide)]
    cases e1 : (id.tmod 2 == 1) <;> cases c <;> cases g <;>
    · go_enter Try.func39, Try.ntmps39
      go_wp2
      go_quiet (fail)
      go_wp2
      go_ret
      exact ⟨rfl, rfl, rfl, rfl, by simp, (bel1 w _).block⟩
  · rw [if_pos rfl]
    cases e1 : (id.tmod 2 == 0) <;> cases c <;> cases g <;>
    · go_enter Try.func39, Try.ntmps39
      go_wp2
      go_quiet (fail)
      go_wp2
      go_ret
      exact ⟨rfl, rfl, rfl, rfl, by simp, (bel1 w _).block⟩
def rours (c : Bool) (id : Int) : Bool := (id.tmod 2 == 1) == c
set_option maxRecDepth 100000 in
set_option maxHeartbeats 1000000 in
theorem rours_any (w : World) (p : Nat) (c : Bool) (v : Value) (l : List O1) (id : Int) (h : RT w p c v l) : Calls Try.prog 43 #[.pointer (some ⟨p, 0, none⟩), .int .i64 id] w fun e w' => e = .returned (.bool (rours c id)) ∧ w' = w := by
  obtain ⟨c0, c1, hp⟩ := h.cells
  clear h
  unfold rours
  cases e1 : (id.tmod 2 == 1) <;> cases c <;>
  · go_enter Try.func43, Try.ntmps43
    go_wp2
    go_ret
    exact ⟨rfl, rfl⟩
def rlast (c : Bool) (l : List O1) (b : Bool) : Int := if (b == c) = true then topS l 1 else topS l 0
set_option maxRecDepth 100000 in
set_option maxHeartbeats 1000000 in
theorem rlast_any (w : World) (p : Nat) (c : Bool) (v : Value) (l : List O1) (b : Bool) (h : RT w p c v l) : Calls Try.prog 46 #[.pointer (some ⟨p, 0, none⟩), .bool b] w fun e w' => e = .returned (.int .i64 (rlast c l b)) ∧ w' = w := by
  have h1 := top_any w p c v l 1 h
  have h2 := top_any w p c v l 2 h
  rw [show (1 : Int).tmod 2 = 1 from rfl] at h1
  rw [show (2 : Int).tmod 2 = 0 from rfl] at h2
  obtain ⟨c0, c1, hp⟩ := h.cells
  clear h
  unfold rlast
  generalize topS l 1 = x1 at h1 ⊢
  generalize topS l 0 = x2 at h2 ⊢
  cases b <;> cases c
  · go_enter Try.func46, Try.ntmps46
    go_wp2_with fail
    refine h1.mono ?_
    rintro e w1 ⟨rfl, rfl⟩
    go_wp2
    go_ret
    exact ⟨rfl, rfl⟩
  · go_enter Try.func46, Try.ntmps46
    go_wp2_with fail
    refine h2.mono ?_
    rintro e w1 ⟨rfl, rfl⟩
    go_wp2
    go_ret
    exact ⟨rfl, rfl⟩
  · go_enter Try.func46, Try.ntmps46
    go_wp2_with fail
    refine h2.mono ?_
    rintro e w1 ⟨rfl, rfl⟩
    go_wp2
    go_ret
    exact ⟨rfl, rfl⟩
  · go_enter Try.func46, Try.ntmps46
    go_wp2_with fail
    refine h1.mono ?_
    rintro e w1 ⟨rfl, rfl⟩
    go_wp2
    go_ret
    exact ⟨rfl, rfl⟩
end Go.Proofs.Ytaaocgppniflcaa
