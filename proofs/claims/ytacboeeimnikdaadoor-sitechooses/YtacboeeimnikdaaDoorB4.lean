/- site: areChoices. -/
import Derived.Test.YtacboeeimnikdaaDoorB3
import Derived.Deep.RegionHeld3
namespace Go.Proofs.YtacboeeimnikdaaDoor
open Go.RowKit
open Go.Shelf
set_option linter.unusedVariables false
set_option linter.unusedSimpArgs false

/-- may the i-th choice stand there? -/
def goodAt (l : List Ch) (i : Nat) : Bool := match l[i]? with | some c => valB c.v && bdB c.b && decide (plI (l.take i) c.v < 0) | none => true
def loneB (l : List Ch) : Bool := match l with | [c] => c.v.toList.isEmpty && bdB c.b | _ => false
def noVary (s : ByteArray) : Bool := s.toList.isEmpty || (s.toList == [42])
def chB (l : List Ch) (vary : ByteArray) : Bool :=
  decide (1 ≤ l.length) && decide (l.length ≤ 8) && (if noVary vary = true then loneB l else nmB vary && (List.range l.length).all (goodAt l))

set_option maxHeartbeats 2000000 in
set_option maxRecDepth 100000 in
theorem areChoices_size (x : SV) (l : List Ch) (vary : ByteArray) (w : World) (hI : In ECh w (sv x) l) (h : ¬ (1 ≤ l.length ∧ l.length ≤ 8)) :
    Calls Tryd.prog 54 #[sv x, .string vary] w fun e w' => e = .returned (.bool (chB l vary)) ∧ Below w.heap.size w w' := by
  obtain ⟨b, c, e, m1, m2⟩ := hI.slice
  obtain ⟨sb, sl, sc⟩ := x
  simp only [sv] at e ⊢
  injection e with e1 e2 e3
  subst e1 e2 e3
  have hc : chB l vary = false := by
    unfold chB
    rw [show (decide (1 ≤ l.length) && decide (l.length ≤ 8)) = false by simpa using h]
    rfl
  rw [hc]
  clear hI hc
  by_cases h1 : 1 ≤ l.length
  · have a1 : ¬ (l.length : Int) < 1 := by omega
    have a2 : 8 < (l.length : Int) := by omega
    clear h h1
    go_enter Tryd.func54, Tryd.ntmps54
    go_wp2_with fail
    go_ret
    exact ⟨rfl, Below.refl _ _⟩
  · have a1 : (l.length : Int) < 1 := by omega
    clear h h1
    go_enter Tryd.func54, Tryd.ntmps54
    go_wp2_with fail
    go_ret
    exact ⟨rfl, Below.refl _ _⟩

set_option maxHeartbeats 4000000 in
set_option maxRecDepth 100000 in
theorem areChoices_lone (x : SV) (l : List Ch) (vary : ByteArray) (w : World) (hI : In ECh w (sv x) l) (h : 1 ≤ l.length ∧ l.length ≤ 8) (hv : noVary vary = true) :
    Calls Tryd.prog 54 #[sv x, .string vary] w fun e w' => e = .returned (.bool (chB l vary)) ∧ Below w.heap.size w w' := by
  have hI' := hI
  obtain ⟨b, c, e, m1, m2⟩ := hI.slice
  have hbd : Hid (∀ s W, Calls Tryd.prog 70 #[.string s] W fun e w' => e = .returned (.bool (bdB s)) ∧ w' = W) := isBody_any
  obtain ⟨sb, sl, sc⟩ := x
  simp only [sv] at e hI' ⊢
  injection e with e1 e2 e3
  subst e1 e2 e3
  have hc : chB l vary = loneB l := by
    unfold chB
    rw [if_pos hv]
    simp [h.1, h.2]
  rw [hc]
  have a1 : ¬ (l.length : Int) < 1 := by omega
  have a2 : ¬ 8 < (l.length : Int) := by omega
  obtain ⟨n, hn⟩ : ∃ n, l.length = n := ⟨_, rfl⟩
  have hvv : vary.toList.isEmpty = true ∨ (vary.toList.isEmpty = false ∧ (vary.toList == [42]) = true) := by
    unfold noVary at hv
    cases h1 : vary.toList.isEmpty
    · rw [h1] at hv
      exact .inr ⟨rfl, by simpa using hv⟩
    · exact .inl rfl
  by_cases h1 : l.length = 1
  · obtain ⟨c, rfl⟩ := List.length_eq_one_iff.1 h1
    obtain ⟨Bk, off, cap, e, hc0⟩ := In.ch hI' 0 (by simp)
    injection e with e1 e2 e3
    subst e1
    obtain ⟨c0, c1⟩ := hc0 w (Below.refl _ _)
    simp only [Nat.zero_mul, Nat.add_zero, List.getElem_cons_zero, List.length_singleton] at c0 c1 a1 a2 m1 ⊢
    have hl : loneB [c] = (c.v.toList.isEmpty && bdB c.b) := rfl
    rw [hl]
    clear hc0 e2 e3 hI hI' hl hc hv h h1 hn
    cases hE : c.v.toList.isEmpty
    · have hE2 : ¬ c.v.toList = [] := by simpa using hE
      rcases hvv with g | ⟨g, g2⟩
      all_goals
        go_enter Tryd.func54, Tryd.ntmps54
        go_wp2_with fail
        go_ret
        exact ⟨rfl, Below.refl _ _⟩
    · have hE2 : c.v.toList = [] := by simpa using hE
      rcases hvv with g | ⟨g, g2⟩
      all_goals
        go_enter Tryd.func54, Tryd.ntmps54
        go_wp2_with fail
        go_at_call 70
        refine (hbd.out _ _).mono ?_
        rintro e w' ⟨rfl, hw⟩
        rw [hw]
        clear hw
        go_wp2_with fail
        go_ret
        exact ⟨rfl, Below.refl _ _⟩
  · have hl : loneB l = false := by
      unfold loneB
      split
      · rename_i c; exact absurd (by simp) h1
      · rfl
    rw [hl]
    have a3 : ((l.length : Int) == 1) = false := beq_eq_false_iff_ne.2 (by omega)
    clear hI hI' hl hc hv h h1 hn
    rcases hvv with g | ⟨g, g2⟩
    all_goals
      go_enter Tryd.func54, Tryd.ntmps54
      go_wp2_with fail
      go_ret
      exact ⟨rfl, Below.refl _ _⟩

end Go.Proofs.YtacboeeimnikdaaDoor
