/- The document's list and the program's table say the same. -/
import Derived.Test.YtaaocgppniflcaaP3
import Derived.Test.YtaaocgppniflcaaD7
namespace Go.Proofs.Ytaaocgppniflcaa
open Go.RowKit
set_option linter.unusedVariables false
set_option linter.unusedSimpArgs false

structure Rl (T : Tb) (l : List O1) : Prop where
  nd : (l.map (·.1)).Nodup
  born : ∀ x ∈ l, T.Born x.1
  some : ∀ id s b, lk l id = some (s, b) → T.st id = s ∧ T.cut id = b
  none : ∀ id, lk l id = none → look T.L id = none
  t1 : topS l 1 = T.top true
  t0 : topS l 0 = T.top false
theorem Rl.new (c : Bool) : Rl (Tb.new c) [] := ⟨List.nodup_nil, fun x hx => (by cases hx), fun id s b h => (by cases h), fun id _ => rfl, (by cases c <;> rfl), (by cases c <;> rfl)⟩
theorem tmod_odd {id : Int} (h : 1 ≤ id) : id.tmod 2 = if odd id = true then 1 else 0 := by
  rw [odd_pos h, Int.tmod_eq_emod_of_nonneg (by omega)]
  by_cases h1 : id % 2 = 1
  · simp [h1]
  · simp [h1]; omega
theorem Rl.top {T : Tb} {l : List O1} (h : Rl T l) {id : Int} (hid : 1 ≤ id) : topS l (id.tmod 2) = T.last (T.ours id) := by
  rw [T.last_top, tmod_odd hid]
  cases odd id
  · exact h.t0
  · exact h.t1
theorem foldl_top (r : Int) : ∀ (l : List O1) (n : Int), l.foldl (fun n x => if (x.1.tmod 2 == r) = true then max n x.1 else n) n = n ∨ ∃ x ∈ l, x.1 = l.foldl (fun n x => if (x.1.tmod 2 == r) = true then max n x.1 else n) n
  | [], n => .inl rfl
  | a :: r', n => by
    simp only [List.foldl_cons]
    rcases foldl_top r r' (if (a.1.tmod 2 == r) = true then max n a.1 else n) with h | ⟨x, hx, h⟩
    · rw [h]
      split
      · by_cases hn : n ≤ a.1
        · right
          exact ⟨a, List.mem_cons_self, (Int.max_eq_right hn).symm⟩
        · left
          exact Int.max_eq_left (by omega)
      · exact .inl rfl
    · exact .inr ⟨x, List.mem_cons_of_mem _ hx, h⟩
theorem topS_mem (l : List O1) (r : Int) : topS l r = 0 ∨ ∃ x ∈ l, x.1 = topS l r := foldl_top r l 0
theorem lk_none {l : List O1} {id : Int} (h : lk l id = none) : ∀ x ∈ l, x.1 ≠ id := by
  unfold lk at h
  cases hf : l.find? (fun x => x.1 == id) with
  | some y => rw [hf] at h; cases h
  | none =>
    intro x hx
    have := List.find?_eq_none.1 hf x hx
    simpa using this
theorem Rl.st {T : Tb} {l : List O1} (h : Rl T l) (ok : T.Ok) (id : Int) : rst l id = T.st id := by
  unfold rst
  by_cases hs : isStr id = true
  · rw [if_pos hs]
    cases hl : lk l id with
    | some x => exact ((h.some id x.1 x.2 hl).1).symm
    | none =>
      simp only
      have hn := h.none id hl
      have hi := isStr_iff.1 hs
      rw [h.top hi.1]
      unfold Tb.st
      rw [if_pos hs, hn]
      by_cases h1 : id < T.last (T.ours id)
      · rw [if_pos h1, if_neg (by omega)]; rfl
      · by_cases h2 : T.last (T.ours id) < id
        · rw [if_neg h1, if_pos h2]
        · exfalso
          have he : id = topS l (id.tmod 2) := by rw [h.top hi.1]; omega
          rcases topS_mem l (id.tmod 2) with h3 | ⟨x, hx, h3⟩
          · omega
          · exact lk_none hl x hx (by omega)
  · rw [if_neg hs]
    unfold Tb.st
    rw [if_neg hs]
theorem Rl.cut {T : Tb} {l : List O1} (h : Rl T l) (id : Int) : rcut l id = T.cut id := by
  unfold rcut
  cases hl : lk l id with
  | some x => exact ((h.some id x.1 x.2 hl).2).symm
  | none =>
    simp only
    unfold Tb.cut
    rw [h.none id hl]
    rfl
end Go.Proofs.Ytaaocgppniflcaa
