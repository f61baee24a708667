/- The document's Split: its small functions. -/
import Derived.Test.YtdgdjanchpfleaaA8
namespace Go.Proofs.Ytdgdjanchpfleaa
open Go.RowKit
set_option linter.unusedVariables false
set_option linter.unusedSimpArgs false

set_option maxHeartbeats 1000000 in
theorem rhead_any (f : Fr) (p : Value) (w : World) :
    Calls Try.prog 29 #[.agg (fv f p)] w fun e w' => e = .returned (.bool (dH f.ty)) ∧ Below w.heap.size w w' := by
  have hb : Hid (Below w.heap.size w (w.alloc (.cells (fv f p) 24))) := bel1 w _
  by_cases h1 : f.ty = 1
  · have hd : dH f.ty = true := by simp [dH, h1]
    have e1 : (f.ty == 1) = true := by simp [h1]
    rw [hd]
    unfold fv at hb ⊢
    clear hd h1
    go_enter Try.func29, Try.ntmps29
    go_wp2
    go_ret
    exact ⟨rfl, hb.out⟩
  · have e1 : (f.ty == 1) = false := by simp [h1]
    have hd : dH f.ty = (f.ty == 5) := by
      by_cases h5 : f.ty = 5 <;> simp [dH, h1, h5]
    rw [hd]
    unfold fv at hb ⊢
    clear hd h1
    go_enter Try.func29, Try.ntmps29
    go_wp2
    go_ret
    exact ⟨rfl, hb.out⟩

set_option maxHeartbeats 1000000 in
theorem rhas_any (a b : Int) (w : World) :
    Calls Try.prog 30 #[.int .i64 a, .int .i64 b] w fun e w' => e = .returned (.bool (bits .and .i64 a b != 0)) ∧ w' = w := by
  go_enter Try.func30, Try.ntmps30
  go_wp2
  go_ret
  exact ⟨rfl, rfl⟩

set_option maxHeartbeats 4000000 in
set_option maxRecDepth 100000 in
theorem room_any (f : Fr) (p : Value) (size : Int) (w : World) (hh : isH f.ty) (h0 : 0 ≤ f.pad) (h1 : f.pad ≤ 255) (s0 : 16384 ≤ size) (s1 : size ≤ 65536) :
    Calls Try.prog 31 #[.agg (fv f p), .int .i64 size] w fun e w' => e = .returned (.int .i64 (size - tkI f)) ∧ Below w.heap.size w w' := by
  have hC : Hid (∀ a b W, Calls Try.prog 30 #[.int .i64 a, .int .i64 b] W fun e w' => e = .returned (.bool (bits .and .i64 a b != 0)) ∧ w' = W) := rhas_any
  have B0 : Hid (Below w.heap.size w (w.alloc (.cells (fv f p) 24))) := bel1 w (.cells (fv f p) 24)
  obtain ⟨P, hP⟩ : ∃ P, (bits .and .i64 f.fl 8 != 0) = P := ⟨_, rfl⟩
  obtain ⟨Q, hQ⟩ : ∃ Q, (bits .and .i64 f.fl 32 != 0) = Q := ⟨_, rfl⟩
  obtain ⟨T, hT⟩ : ∃ T, (f.ty == 1) = T := ⟨_, rfl⟩
  have h5 : (f.ty == 5) = !T := by
    rw [← hT]
    rcases hh with h | h <;> simp [h]
  have hM : Hid (tkI f = (if P = true then 1 + f.pad else 0) + (if T = true then (if Q = true then 5 else 0) else 4)) := by
    show _ = _
    unfold tkI
    rw [hP, hQ, ← hT]
    rcases hh with h | h <;> simp [h]
  obtain ⟨K, hK⟩ : ∃ K, tkI f = K := ⟨_, rfl⟩
  rw [hK] at hM ⊢
  have hC8 : Hid (∀ W, Calls Try.prog 30 #[.int .i64 f.fl, .int .i64 8] W fun e w' => e = .returned (.bool P) ∧ w' = W) := fun W => by
    have := rhas_any f.fl 8 W
    rw [hP] at this
    exact this
  have hC32 : Hid (∀ W, Calls Try.prog 30 #[.int .i64 f.fl, .int .i64 32] W fun e w' => e = .returned (.bool Q) ∧ w' = W) := fun W => by
    have := rhas_any f.fl 32 W
    rw [hQ] at this
    exact this
  unfold fv at B0 ⊢
  clear hP hQ hK hC hh
  cases P <;> cases T
  all_goals
    simp only [if_true, if_false, Bool.false_eq_true, Bool.not_true, Bool.not_false] at hM h5
    go_enter Try.func31, Try.ntmps31
    go_wp2_with fail
    go_at_call 30
    refine (hC8.out _).mono ?_
    rintro e w1 ⟨rfl, rfl⟩
    go_wp2_with fail
    first
      | (go_at_call 30
         refine (hC32.out _).mono ?_
         rintro e w1 ⟨rfl, rfl⟩
         cases Q
         all_goals
           simp only [if_true, if_false, Bool.false_eq_true] at hM
           go_wp2_with fail
           go_ret
           refine ⟨?_, B0.out⟩
           have hm := hM.out
           exact congrArg (fun n => Ending.returned (Value.int .i64 n)) (by omega))
      | (go_ret
         refine ⟨?_, B0.out⟩
         have hm := hM.out
         exact congrArg (fun n => Ending.returned (Value.int .i64 n)) (by omega))
end Go.Proofs.Ytdgdjanchpfleaa
