/- The walk, on lists. -/
import Derived.Test.YtldnibkgdpeocaaB1
namespace Go.Proofs.Ytldnibkgdpeocaa
set_option linter.unusedVariables false
set_option linter.unusedSimpArgs false

/-- what is told behind 'told' as the walk goes through these -/
def wk (nm : Tg → List Tg) (of : Tg) (most : Int) : Nat → List Tg → List Tg → List Tg
  | 0, _, told => told
  | n + 1, ys, told => ys.foldl (fun T y => if most ≤ (T.length : Int) ∨ y = of ∨ inB T y = true then T else wk nm of most n (nm y) (T ++ [y])) told
/-- one step of it -/
def stp (nm : Tg → List Tg) (of : Tg) (most : Int) (n : Nat) (T : List Tg) (y : Tg) : List Tg :=
  if most ≤ (T.length : Int) ∨ y = of ∨ inB T y = true then T else wk nm of most n (nm y) (T ++ [y])
theorem wk_succ (nm : Tg → List Tg) (of : Tg) (most : Int) (n : Nat) (ys T : List Tg) : wk nm of most (n + 1) ys T = ys.foldl (stp nm of most n) T := rfl
variable {nm : Tg → List Tg} {of : Tg} {most : Int}
theorem stp_stop {n : Nat} {T : List Tg} (h : most ≤ (T.length : Int)) (y : Tg) : stp nm of most n T y = T := by unfold stp; rw [if_pos (.inl h)]
theorem stp_of {n : Nat} {T : List Tg} : stp nm of most n T of = T := by unfold stp; rw [if_pos (.inr (.inl rfl))]
theorem stp_in {n : Nat} {T : List Tg} {y : Tg} (h : inB T y = true) : stp nm of most n T y = T := by unfold stp; rw [if_pos (.inr (.inr h))]
theorem stp_go {n : Nat} {T : List Tg} {y : Tg} (h1 : ¬ most ≤ (T.length : Int)) (h2 : y ≠ of) (h3 : inB T y = false) : stp nm of most n T y = wk nm of most n (nm y) (T ++ [y]) := by
  unfold stp
  rw [if_neg]
  rintro (h | h | h)
  · exact h1 h
  · exact h2 h
  · rw [h3] at h; cases h
theorem fold_stop {n : Nat} {T : List Tg} (h : most ≤ (T.length : Int)) (ys : List Tg) : ys.foldl (stp nm of most n) T = T := by
  induction ys with
  | nil => rfl
  | cons y ys ih => rw [List.foldl_cons, stp_stop h]; exact ih
theorem wk_len (hm : most ≤ 8) : ∀ (n : Nat) (ys T : List Tg), T.length ≤ (wk nm of most n ys T).length ∧ (T.length ≤ 8 → (wk nm of most n ys T).length ≤ 8) := by
  intro n
  induction n with
  | zero => intro ys T; exact ⟨Nat.le_refl _, id⟩
  | succ n ih =>
    intro ys
    induction ys with
    | nil => intro T; exact ⟨Nat.le_refl _, id⟩
    | cons y ys ih2 =>
      intro T
      rw [wk_succ, List.foldl_cons]
      by_cases h : most ≤ (T.length : Int) ∨ y = of ∨ inB T y = true
      · have e : stp nm of most n T y = T := by unfold stp; rw [if_pos h]
        rw [e]
        exact ih2 T
      · have e : stp nm of most n T y = wk nm of most n (nm y) (T ++ [y]) := by unfold stp; rw [if_neg h]
        rw [e]
        have i1 := ih (nm y) (T ++ [y])
        have i2 := ih2 (wk nm of most n (nm y) (T ++ [y]))
        rw [wk_succ] at i2
        have hlt : ¬ most ≤ (T.length : Int) := fun x => h (.inl x)
        simp at i1
        exact ⟨by omega, fun _ => i2.2 (i1.2 (by omega))⟩
end Go.Proofs.Ytldnibkgdpeocaa
