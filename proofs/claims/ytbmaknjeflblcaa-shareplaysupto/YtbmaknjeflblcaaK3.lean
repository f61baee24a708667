/- share: New, Waits, Drop, mayGo, Room. -/
import Derived.Test.YtbmaknjeflblcaaK2
import Derived.Lib.MinMax
namespace Go.Proofs.Ytbmaknjeflblcaa
open Go.RowKit Go.Maps
set_option linter.unusedVariables false
set_option linter.unusedSimpArgs false

theorem run_min_int4 {P : Program} (w : World) (ts : Array TypeId) (t : TypeId) (k k1 k2 k3 : IntKind) (x y z u : Int) : (Builtin.min_ ts t #[.int k x, .int k1 y, .int k2 z, .int k3 u]).run P w = .ok (.int k (min (min (min x y) z) u)) w := by
  have e : ∀ a b : Int, (if b < a then b else a) = min a b := fun a b => by
    rw [Int.min_def]
    split <;> split <;> omega
  simp [Builtin.min_, Builtin.min2, e]
set_option maxRecDepth 100000 in
set_option maxHeartbeats 1000000 in
theorem room_any (w : World) (a b c d : Int) :
    Calls Try.prog 24 #[.int .i64 a, .int .i64 b, .int .i64 c, .int .i64 d] w fun e w' => e = .returned (.int .i64 (rm a b c d)) ∧ w' = w := by
  have hr := fun W => run_min_int4 (P := Try.prog) W #[2, 2, 2, 2] 2 .i64 .i64 .i64 .i64 a b c d
  unfold rm
  go_enter Try.func24, Try.ntmps24
  go_wp2
  go_ret
  exact ⟨rfl, rfl⟩
theorem bel1q (w : World) (o : Obj) (n : Nat) : Below w.heap.size w ((w.alloc o).drewN n) := ⟨(bel1 w o).os, (bel1 w o).tape, (bel1 w o).output, (bel1 w o).size, (bel1 w o).block⟩

set_option maxRecDepth 100000 in
set_option maxHeartbeats 1000000 in
theorem mayGo_any (w : World) (y : SV) (l : List UInt8) (e : Bool) (c s : Int) (hy : y.2.1 = l.length) :
    Calls Try.prog 23 #[qw y e, .int .i64 c, .int .i64 s] w fun r w' => r = .returned (.bool (mg l c s)) ∧ Below w.heap.size w w' := by
  obtain ⟨b, n, k⟩ := y
  simp only at hy
  subst hy
  unfold qw sv
  simp only
  by_cases h0 : l.length = 0
  · have hm : mg l c s = true := by
      have := List.eq_nil_of_length_eq_zero h0
      subst this
      rfl
    rw [hm, h0]
    go_enter Try.func23, Try.ntmps23
    go_wp2
    go_ret
    exact ⟨rfl, bel1 w _⟩
  · have e0 : ((l.length : Int) == 0) = false := beq_eq_false_iff_ne.2 (by omega)
    have hm : mg l c s = (decide (0 < c) && decide (0 < s)) := by
      unfold mg
      cases l with
      | nil => simp at h0
      | cons a r => simp
    rw [hm]
    cases hc : decide (0 < c)
    · have hc' : ¬ 0 < c := of_decide_eq_false hc
      go_enter Try.func23, Try.ntmps23
      go_wp2
      go_ret
      exact ⟨rfl, bel1 w _⟩
    · have hc' : 0 < c := of_decide_eq_true hc
      cases hs : decide (0 < s)
      · have hs' : ¬ 0 < s := of_decide_eq_false hs
        go_enter Try.func23, Try.ntmps23
        go_wp2
        go_ret
        exact ⟨rfl, bel1 w _⟩
      · have hs' : 0 < s := of_decide_eq_true hs
        go_enter Try.func23, Try.ntmps23
        go_wp2
        go_ret
        exact ⟨rfl, bel1 w _⟩
set_option maxRecDepth 100000 in
set_option maxHeartbeats 1000000 in
theorem new_any (w : World) : Calls Try.prog 12 #[] w fun e w' => e = .returned (.pointer (some ⟨w.heap.size + 2, 0, none⟩)) ∧ Sh w' (fun k => w.heap.size ≤ k ∧ k < w'.heap.size) (w.heap.size + 2) St.new ∧ Below w.heap.size w w' := by
  have hmm := @run_makeMap Try.prog
  go_enter Try.func12, Try.ntmps12
  go_wp2
  go_ret
  refine ⟨rfl, ⟨w.heap.size, w.heap.size + 1, [], ?_⟩, bel3 w _ _ _⟩
  have h1 := World.ownsMap_made (H := Value) w Try.prog 2 qR
  have h2 := World.ownsMap_made (H := Value) (w.alloc (.map #[] 0)) Try.prog 2 unitElem
  refine ⟨⟨fresh3 _ _ _ _, (h1.alloc _).alloc _, ?_, by omega, rfl, ⟨by simp, by simp; omega, by simp⟩, St.new_ok⟩, by simp, by simp, by simp⟩
  have h3 := h2.alloc (.cells #[.map (some w.heap.size), .map (some (w.heap.size + 1))] 61)
  rw [size_al] at h3
  exact h3
set_option maxRecDepth 100000 in
set_option maxHeartbeats 1000000 in
theorem waits_any (w : World) (S : Nat → Prop) (p : Nat) (T : St) (id : Int) (hi : wf64 id) (h : Sh w S p T) : Calls Try.prog 15 #[.pointer (some ⟨p, 0, none⟩), .int .i64 id] w fun e w' => e = .returned (.tuple #[.int .i64 ((T.b id).length : Int), .bool (T.e id)]) ∧ Below w.heap.size w w' := by
  obtain ⟨bq, bo, L, h⟩ := h
  have c0 := cell_blk h.sm.blk 0
  have hp := heap_lt h.sm.blk
  have hf := h.sm.find hi
  have hrow := (h.row id).1
  generalize lkY L id = y at hf hrow
  obtain ⟨b, n, k⟩ := y
  obtain ⟨b', c', hy⟩ := hrow.slice
  unfold sv at hy
  simp only at hy
  injection hy with hy1 hy2 hy3
  subst hy2
  generalize T.e id = e at hf
  generalize (T.b id).length = n at hf ⊢
  clear hrow hy1 hy3 h
  unfold qw sv at hf
  simp only at hf
  go_enter Try.func15, Try.ntmps15
  go_wp2
  go_quiet (fail)
  go_wp2
  go_ret2
  exact ⟨rfl, bel1q w _ _⟩
end Go.Proofs.Ytbmaknjeflblcaa
