/- Of one field the last param counts. -/
import Derived.Test.YtfkimdgbkfogcaaDoorG1
namespace Go.Proofs.YtfkimdgbkfogcaaDoor
open Go.RowKit
set_option linter.unusedVariables false
set_option linter.unusedSimpArgs false

/-- those whose ID does not come again, of the first k -/
def lastK (l : List (Int × Int)) (k : Nat) : List (Int × Int) := (List.range k).flatMap fun i => if (l.drop (i + 1)).any (fun q => q.1 == (l.getD i (0, 0)).1) then [] else [l.getD i (0, 0)]
theorem lastK_succ (l : List (Int × Int)) (k : Nat) : lastK l (k + 1) = lastK l k ++ if (l.drop (k + 1)).any (fun q => q.1 == (l.getD k (0, 0)).1) then [] else [l.getD k (0, 0)] := by
  simp [lastK, List.range_succ]
theorem lastK_length (l : List (Int × Int)) (k : Nat) : (lastK l k).length ≤ k := by
  induction k with
  | zero => simp [lastK]
  | succ k ih =>
    rw [lastK_succ, List.length_append]
    split
    · simp only [List.length_nil]; omega
    · simp only [List.length_cons, List.length_nil]; omega
def lastS' : List (Int × Int) → List (Int × Int)
  | [] => []
  | q :: r => if r.any (fun x => x.1 == q.1) then lastS' r else q :: lastS' r
theorem lastK_cons (q : Int × Int) (r : List (Int × Int)) (k : Nat) : lastK (q :: r) (k + 1) = (if r.any (fun x => x.1 == q.1) then [] else [q]) ++ lastK r k := by
  unfold lastK
  rw [List.range_succ_eq_map, List.flatMap_cons, List.flatMap_map]
  rfl
theorem lastK_all (l : List (Int × Int)) : lastK l l.length = lastS' l := by
  induction l with
  | nil => rfl
  | cons q r ih =>
    rw [List.length_cons, lastK_cons, ih]
    simp only [lastS']
    split <;> simp
theorem last_mem (l : List (Int × Int)) (q : Int × Int) (h : q ∈ lastS' l) : q ∈ l := by
  induction l with
  | nil => cases h
  | cons x r ih =>
    simp only [lastS'] at h
    split at h
    · exact List.mem_cons_of_mem _ (ih h)
    · rcases List.mem_cons.1 h with rfl | h
      · exact List.mem_cons_self ..
      · exact List.mem_cons_of_mem _ (ih h)
theorem last_any_ (l : List (Int × Int)) (i : Int) : (lastS' l).any (fun x => x.1 == i) = l.any (fun x => x.1 == i) := by
  induction l with
  | nil => rfl
  | cons x r ih =>
    simp only [lastS', List.any_cons]
    split
    · rename_i h
      rw [ih]
      by_cases hx : (x.1 == i) = true
      · have e : x.1 = i := by simpa using hx
        rw [e] at h
        rw [h]
        simp
      · simp [hx]
    · rw [List.any_cons, ih]

/-- a param that is named again behind it may be left out -/
theorem apply_skip (s : St) (q : Int × Int) (r : List (Int × Int)) (c : Bool) (hv : ∀ x ∈ r, validS x c = 0) (h : r.any (fun x => x.1 == q.1) = true) : (applyS (withS s q) r c).1 = (applyS s r c).1 := by
  have key : ∀ (r : List (Int × Int)) (s t : St) (j : Nat), j < 6 → (∀ x ∈ r, validS x c = 0) → (s.nth j = t.nth j ∨ r.any (fun x => x.1 == (j : Int) + 1) = true) → (applyS s r c).1.nth j = (applyS t r c).1.nth j := by
    intro r
    induction r with
    | nil =>
      intro s t j hj hv h
      rcases h with h | h
      · exact h
      · simp at h
    | cons x r ih =>
      intro s t j hj hv h
      simp only [applyS]
      rw [if_pos (hv x (List.mem_cons_self ..)), if_pos (hv x (List.mem_cons_self ..))]
      refine ih _ _ j hj (fun y hy => hv y (List.mem_cons_of_mem _ hy)) ?_
      rw [with_nth s x j hj, with_nth t x j hj]
      by_cases hx : x.1 = (j : Int) + 1
      · rw [if_pos hx, if_pos hx]
        exact .inl rfl
      · rw [if_neg hx, if_neg hx]
        rcases h with h | h
        · exact .inl h
        · refine .inr ?_
          rw [List.any_cons] at h
          have hf : (x.1 == (j : Int) + 1) = false := by simpa using hx
          rw [hf, Bool.false_or] at h
          exact h
  refine St.ext' fun j hj => key r _ _ j hj hv ?_
  rw [with_nth s q j hj]
  by_cases hq : q.1 = (j : Int) + 1
  · rw [← hq]
    exact .inr h
  · rw [if_neg hq]
    exact .inl rfl
theorem last_apply (s : St) (l : List (Int × Int)) (c : Bool) (hv : ∀ q ∈ l, validS q c = 0) : applyS s (lastS' l) c = applyS s l c := by
  induction l generalizing s with
  | nil => rfl
  | cons q r ih =>
    have hvr : ∀ x ∈ r, validS x c = 0 := fun x hx => hv x (List.mem_cons_of_mem _ hx)
    have hq := hv q (List.mem_cons_self ..)
    simp only [lastS']
    split
    · rename_i h
      rw [ih s hvr]
      simp only [applyS]
      rw [if_pos hq]
      exact Prod.ext (apply_skip s q r c hvr h).symm ((applyS_valid' _ _ _ hvr).trans (applyS_valid' _ _ _ hvr).symm)
    · simp only [applyS]
      rw [if_pos hq, if_pos hq]
      exact ih _ hvr

/-- what comes of a list that is taken lies in its ranges -/
theorem with_may (s : St) (q : Int × Int) (c : Bool) (hs : mayS s) (hv : validS q c = 0) : mayS (withS s q) := by
  obtain ⟨x, y⟩ := q
  have hr : (0 ≤ x ∧ x ≤ 65535) ∧ (0 ≤ y ∧ y ≤ 4294967295) ∧ (x = 2 → y ≤ 1) ∧ (x = 4 → y ≤ 2147483647) ∧ (x = 5 → 16384 ≤ y) := by
    unfold validS at hv
    simp only at hv
    by_cases h1 : ¬ (0 ≤ x ∧ x ≤ 65535) ∨ ¬ (0 ≤ y ∧ y ≤ 4294967295)
    · rw [if_pos h1] at hv; omega
    · rw [if_neg h1] at hv
      refine ⟨by omega, by omega, fun h2 => ?_, fun h4 => ?_, fun h5 => ?_⟩
      · by_cases h3 : y ≤ 1
        · exact h3
        · rw [if_pos ⟨h2, by cases c <;> simp <;> omega⟩] at hv; omega
      · by_cases h3 : y ≤ 2147483647
        · exact h3
        · rw [if_neg (by omega), if_pos ⟨h4, by omega⟩] at hv; omega
      · by_cases h3 : 16384 ≤ y
        · exact h3
        · rw [if_neg (by omega), if_neg (by omega), if_pos ⟨h5, by omega⟩] at hv; omega
  unfold mayS at hs ⊢
  unfold withS
  simp only
  split
  · simp only; omega
  split
  · simp only; omega
  split
  · simp only; omega
  split
  · simp only; omega
  split
  · simp only; omega
  split
  · simp only; omega
  · exact hs
theorem apply_may (s : St) (l : List (Int × Int)) (c : Bool) (hs : mayS s) (h : (applyS s l c).2 = 0) : mayS (applyS s l c).1 := by
  induction l generalizing s with
  | nil => exact hs
  | cons q r ih =>
    simp only [applyS] at h ⊢
    by_cases hq : validS q c = 0
    · rw [if_pos hq] at h ⊢
      exact ih _ (with_may s q c hs hq) h
    · rw [if_neg hq] at h
      exact absurd h hq
theorem made_may (s : St) : mayS (madeS s) := by
  unfold mayS madeS
  simp only
  omega
theorem code_zero (s : St) (l : List (Int × Int)) (c : Bool) : (applyS s l c).2 = 0 ↔ ∀ q ∈ l, validS q c = 0 := by
  refine ⟨fun h => ?_, applyS_valid' s l c⟩
  induction l generalizing s with
  | nil => intro q hq; cases hq
  | cons q r ih =>
    simp only [applyS] at h
    by_cases hq : validS q c = 0
    · rw [if_pos hq] at h
      intro x hx
      rcases List.mem_cons.1 hx with rfl | hx
      · exact hq
      · exact ih _ h x hx
    · rw [if_neg hq] at h
      exact absurd h hq
theorem bad_zero (s : St) (l : List (Int × Int)) (c : Bool) (h : (applyS s l c).2 ≠ 0) : (applyS s l c).1 = St.zero := by
  induction l generalizing s with
  | nil => exact absurd rfl h
  | cons q r ih =>
    simp only [applyS] at h ⊢
    split
    · rename_i hq
      rw [if_pos hq] at h
      exact ih _ h
    · rfl
end Go.Proofs.YtfkimdgbkfogcaaDoor
