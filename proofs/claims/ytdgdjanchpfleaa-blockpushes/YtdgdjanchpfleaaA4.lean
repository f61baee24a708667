/- goesOn, breakBy; payload, same. -/
import Derived.Test.YtdgdjanchpfleaaA3
import Derived.BigQuiet
namespace Go.Proofs.Ytdgdjanchpfleaa
open Go.RowKit
set_option linter.unusedVariables false
set_option linter.unusedSimpArgs false

theorem below_drewN {B : Nat} {a w : World} (h : Below B a w) (n : Nat) : Below B a (w.drewN n) := h.trans ⟨rfl, rfl, rfl, Nat.le_refl _, fun _ _ => rfl⟩

set_option maxHeartbeats 2000000 in
set_option maxRecDepth 100000 in
theorem goesOn_any (w : World) (b : Nat) (h f : Fr) (p s q : Value) (c : Int) (hj : JB w b h p s c) :
    Calls Try.prog 21 #[.pointer (some ⟨b, 0, none⟩), .agg (fv f q)] w fun e w' => e = .returned (.bool (f.ty == 9 && f.st == h.st)) ∧ Below w.heap.size w w' := by
  obtain ⟨c0, c1, c2, c3, c4, c5, c6, c7, c8, c9, c10, c11, c12, c13⟩ := hj.cells
  have hlt := hj.lt
  unfold fv
  clear hj c0 c1 c3 c4 c5 c6 c7 c8 c9 c10 c11 c12 c13
  by_cases h9 : f.ty = 9
  · have e9 : (f.ty == 9) = true := by simp [h9]
    have ee : (f.ty == 9 && f.st == h.st) = (f.st == h.st) := by rw [e9, Bool.true_and]
    rw [ee]
    clear h9 ee
    go_enter Try.func21, Try.ntmps21
    go_wp2_with fail
    go_quiet (fail)
    all_goals
      go_wp2_with fail
      go_ret
      exact ⟨rfl, by (repeat (first | exact Below.refl _ _ | refine Below.drew ?_ | refine below_drewN ?_ _ | refine Below.alloc ?_ (by first | exact Nat.le_refl _ | (simp only [size_al, size_dr]; omega)) _))⟩
  · have e9 : (f.ty == 9) = false := by simp [h9]
    have ee : (f.ty == 9 && f.st == h.st) = false := by rw [e9, Bool.false_and]
    rw [ee]
    clear h9 ee
    go_enter Try.func21, Try.ntmps21
    go_wp2_with fail
    go_quiet (fail)
    all_goals
      go_wp2_with fail
      go_ret
      exact ⟨rfl, by (repeat (first | exact Below.refl _ _ | refine Below.drew ?_ | refine below_drewN ?_ _ | refine Below.alloc ?_ (by first | exact Nat.le_refl _ | (simp only [size_al, size_dr]; omega)) _))⟩

def jsets (f : Fr) (p s : Value) (c : Int) : List (Nat × Value) := fsets f p ++ [(11, s), (12, .int .i64 c), (13, .int .i64 0)]
theorem JB.sets {w : World} {g : Nat} {f : Fr} {p s : Value} {c : Int} (h : JB w g f p s c) (f' : Fr) (p' s' : Value) (c' : Int) : JB (sets w g (jsets f' p' s' c')) g f' p' s' c' := by
  unfold JB
  rw [sets_block _ _ _ _ _ _ h]
  simp only [jsets, fsets, jv, List.cons_append, List.nil_append, List.foldl_cons, List.foldl_nil, List.setIfInBounds_toArray, List.set_cons_zero, List.set_cons_succ]

set_option maxHeartbeats 2000000 in
set_option maxRecDepth 100000 in
theorem breakBy_any (w : World) (b : Nat) (s : Value) (st : Js) (c : Int) (hc : c ≠ 0) (hj : Jn w b s st) :
    Calls Try.prog 22 #[.pointer (some ⟨b, 0, none⟩), .int .i64 c] w fun e w' => e = .returned (.tuple #[]) ∧ Jn w' b (.slice none 0 0) (.broken c) ∧ Ks (fun k => k = b) w w' := by
  obtain ⟨p, c', h, _⟩ := hj.head
  obtain ⟨c0, c1, c2, c3, c4, c5, c6, c7, c8, c9, c10, c11, c12, c13⟩ := h.cells
  obtain ⟨f0, f1, f2, f3, f4, f5, f6, f7, f8, f9, f10, f11, f12, f13⟩ := h.frozens
  have hfin : Hid (Jn (sets w b (jsets Fr.zero (.slice none 0 0) (.slice none 0 0) c)) b (.slice none 0 0) (.broken c) ∧ Ks (fun k => k = b) w (sets w b (jsets Fr.zero (.slice none 0 0) (.slice none 0 0) c))) := ⟨⟨h.sets _ _ _ _, rfl, hc⟩, sets_ks (fun k => k = b) b rfl _ _⟩
  simp only [jsets, fsets, sets, Fr.zero, List.cons_append, List.nil_append, List.foldl_cons, List.foldl_nil] at hfin
  clear h hj hc
  go_enter Try.func22, Try.ntmps22
  go_wp2_with fail
  go_end0
  exact ⟨rfl, hfin.out⟩

/-- how many bytes a frame's payload has -/
def payN (f : Fr) : Int :=
  (f.data.size : Int) + (if f.ty ≠ 9 ∧ (bits .and .i64 f.fl 8 != 0) = true then 1 + f.pad else 0) + (if f.ty = 1 ∧ (bits .and .i64 f.fl 32 != 0) = true then 5 else 0) + (if f.ty = 5 then 4 else 0)

set_option maxHeartbeats 4000000 in
set_option maxRecDepth 100000 in
theorem payload_any (f : Fr) (p : Value) (w : World) (hs : f.data.size ≤ 281474976710656) (hp : 0 ≤ f.pad ∧ f.pad ≤ 255) :
    Calls Try.prog 16 #[.agg (fv f p)] w fun e w' => e = .returned (.int .i64 (payN f)) ∧ Below w.heap.size w w' := by
  obtain ⟨h0, h1⟩ := hp
  obtain ⟨b8, hb8⟩ : ∃ b, (bits .and .i64 f.fl 8 != 0) = b := ⟨_, rfl⟩
  obtain ⟨b32, hb32⟩ : ∃ b, (bits .and .i64 f.fl 32 != 0) = b := ⟨_, rfl⟩
  obtain ⟨P, hP⟩ : ∃ P, payN f = P := ⟨_, rfl⟩
  rw [hP]
  unfold payN at hP
  rw [hb8, hb32] at hP
  unfold fv
  by_cases h9 : f.ty = 9
  · have e9 : (f.ty != 9) = false := by simp [h9]
    have e1 : (f.ty == 1) = false := by simp [h9]
    have e5 : (f.ty == 5) = false := by simp [h9]
    simp [h9] at hP
    clear h9
    subst hP
    go_enter Try.func16, Try.ntmps16
    go_wp2
    go_ret
    exact ⟨rfl, by (repeat (first | exact Below.refl _ _ | refine Below.drew ?_ | refine below_drewN ?_ _ | refine Below.alloc ?_ (by first | exact Nat.le_refl _ | (simp only [size_al, size_dr]; omega)) _))⟩
  · have e9 : (f.ty != 9) = true := by simp [h9]
    by_cases h1 : f.ty = 1
    · have e1 : (f.ty == 1) = true := by simp [h1]
      have e5 : (f.ty == 5) = false := by simp [h1]
      simp [h1] at hP
      clear h9 h1
      cases b8 <;> cases b32
      all_goals
        simp at hP
        subst hP
        go_enter Try.func16, Try.ntmps16
        go_wp2
        go_ret
        exact ⟨by first | rfl | exact congrArg (fun n => Ending.returned (Value.int .i64 n)) (by omega), by (repeat (first | exact Below.refl _ _ | refine Below.drew ?_ | refine below_drewN ?_ _ | refine Below.alloc ?_ (by first | exact Nat.le_refl _ | (simp only [size_al, size_dr]; omega)) _))⟩
    · have e1 : (f.ty == 1) = false := by simp [h1]
      by_cases h5 : f.ty = 5
      · have e5 : (f.ty == 5) = true := by simp [h5]
        simp [h5] at hP
        clear h9 h1 h5
        cases b8
        all_goals
          simp at hP
          subst hP
          go_enter Try.func16, Try.ntmps16
          go_wp2
          go_ret
          exact ⟨by first | rfl | exact congrArg (fun n => Ending.returned (Value.int .i64 n)) (by omega), by (repeat (first | exact Below.refl _ _ | refine Below.drew ?_ | refine below_drewN ?_ _ | refine Below.alloc ?_ (by first | exact Nat.le_refl _ | (simp only [size_al, size_dr]; omega)) _))⟩
      · have e5 : (f.ty == 5) = false := by simp [h5]
        simp [h1, h5, h9] at hP
        clear h9 h1 h5
        cases b8
        all_goals
          simp at hP
          subst hP
          go_enter Try.func16, Try.ntmps16
          go_wp2
          go_ret
          exact ⟨by first | rfl | exact congrArg (fun n => Ending.returned (Value.int .i64 n)) (by omega), by (repeat (first | exact Below.refl _ _ | refine Below.drew ?_ | refine below_drewN ?_ _ | refine Below.alloc ?_ (by first | exact Nat.le_refl _ | (simp only [size_al, size_dr]; omega)) _))⟩
end Go.Proofs.Ytdgdjanchpfleaa
