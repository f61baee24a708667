/- An event: list and table answer alike. -/
import Derived.Test.YtaaocgppniflcaaP5
namespace Go.Proofs.Ytaaocgppniflcaa
open Go.RowKit
set_option linter.unusedVariables false
set_option linter.unusedSimpArgs false

theorem rput_cases (l : List O1) (id n : Int) (cu : Bool) : (lk l id = none ∧ rput l id n cu = l ++ [(id, n, cu)]) ∨ ∃ i, ∃ hi : i < l.length, l[i].1 = id ∧ lk l id = some l[i].2 ∧ rput l id n cu = l.set i (id, n, l[i].2.2 || cu) := by
  unfold rput
  rcases lk_find (l := l) (id := id) with ⟨e1, e2⟩ | ⟨i, hi, e1, e2, e3⟩
  · left
    refine ⟨e2, ?_⟩
    unfold findS at e1
    cases hf : l.findIdx? (fun x => x.1 == id) with
    | none => rfl
    | some j => rw [hf] at e1; simp at e1
  · right
    refine ⟨i, hi, e3, e2, ?_⟩
    unfold findS at e1
    cases hf : l.findIdx? (fun x => x.1 == id) with
    | none => rw [hf] at e1; simp at e1
    | some j =>
      rw [hf] at e1
      simp at e1
      obtain rfl : j = i := by omega
      simp only [dif_pos hi, e3]
theorem map_set_fst {l : List O1} {i : Nat} (hi : i < l.length) {x : O1} (hx : x.1 = l[i].1) : (l.set i x).map (·.1) = l.map (·.1) := by
  rw [List.map_set, hx]
  apply List.ext_getElem?
  intro j
  rw [List.getElem?_set]
  split
  · rename_i h
    subst h
    simp [hi]
  · rfl
theorem topS_map {l l' : List O1} (h : l.map (·.1) = l'.map (·.1)) (r : Int) : topS l r = topS l' r := by
  have e : ∀ l : List O1, topS l r = (l.map (·.1)).foldl (fun n x => if (x.tmod 2 == r) = true then max n x else n) 0 := fun l => by
    unfold topS
    rw [List.foldl_map]
  rw [e, e, h]
theorem topS_snoc (l : List O1) (x : O1) (r : Int) : topS (l ++ [x]) r = if (x.1.tmod 2 == r) = true then max (topS l r) x.1 else topS l r := by
  unfold topS
  rw [List.foldl_append]
  rfl
theorem lk_iff {l : List O1} (hn : (l.map (·.1)).Nodup) (id : Int) (y : Int × Bool) : lk l id = some y ↔ (id, y) ∈ l := by
  constructor
  · intro h
    unfold lk at h
    cases hf : l.find? (fun x => x.1 == id) with
    | none => rw [hf] at h; cases h
    | some z =>
      rw [hf] at h
      have h1 := List.find?_some hf
      have h2 := List.mem_of_find?_eq_some hf
      simp at h h1
      rw [← h, ← h1]
      exact h2
  · intro h
    exact lk_mem hn h
theorem rput_lk {l : List O1} (hn : (l.map (·.1)).Nodup) (id n : Int) (cu : Bool) : ((rput l id n cu).map (·.1)).Nodup ∧ (∀ j, j ≠ id → lk (rput l id n cu) j = lk l j) ∧ lk (rput l id n cu) id = some (n, ((lk l id).map (·.2)).getD false || cu) ∧ (∀ x ∈ rput l id n cu, x.1 = id ∨ x ∈ l) := by
  rcases rput_cases l id n cu with ⟨h1, h2⟩ | ⟨i, hi, h1, h2, h3⟩
  · have hni := lk_none h1
    have hnd : ((l ++ [(id, n, cu)]).map (·.1)).Nodup := by
      rw [List.map_append, List.nodup_append]
      refine ⟨hn, by simp, fun a ha b hb e => ?_⟩
      obtain ⟨x, hx, rfl⟩ := List.mem_map.1 ha
      simp at hb
      exact hni x hx (e.trans hb)
    rw [h2]
    refine ⟨hnd, fun j hj => ?_, ?_, fun x hx => ?_⟩
    · unfold lk
      rw [List.find?_append]
      cases l.find? (fun x => x.1 == j) with
      | some y => rfl
      | none => simp [List.find?_cons, Ne.symm hj]
    · rw [h1]
      exact (lk_iff hnd id (n, cu)).2 (by simp)
    · rcases List.mem_append.1 hx with hx | hx
      · exact .inr hx
      · simp at hx; subst hx; exact .inl rfl
  · have hm := map_set_fst hi (x := (id, n, l[i].2.2 || cu)) h1.symm
    rw [h3]
    have hnd : ((l.set i (id, n, l[i].2.2 || cu)).map (·.1)).Nodup := by rw [hm]; exact hn
    refine ⟨hnd, fun j hj => ?_, ?_, fun x hx => ?_⟩
    · cases hl : lk l j with
      | some y =>
        refine (lk_iff hnd j y).2 ?_
        have hmem := (lk_iff hn j y).1 hl
        obtain ⟨k, hk, hke⟩ := List.getElem_of_mem hmem
        have hki : i ≠ k := fun e => by subst e; rw [hke] at h1; exact hj h1
        exact List.mem_of_getElem? (i := k) (by rw [List.getElem?_set, if_neg hki, List.getElem?_eq_getElem hk, hke])
      | none =>
        cases hl2 : lk (l.set i (id, n, l[i].2.2 || cu)) j with
        | none => rfl
        | some y =>
          exfalso
          have hmem := (lk_iff hnd j y).1 hl2
          rcases List.mem_or_eq_of_mem_set hmem with h4 | h4
          · exact lk_none hl _ h4 rfl
          · exact hj (congrArg Prod.fst h4)
    · rw [h2]
      refine (lk_iff hnd id _).2 ?_
      exact List.mem_of_getElem? (i := i) (by rw [List.getElem?_set, if_pos rfl, if_pos hi]; rfl)
    · rcases List.mem_or_eq_of_mem_set hx with h4 | h4
      · exact .inr h4
      · exact .inl (congrArg Prod.fst h4)
end Go.Proofs.Ytaaocgppniflcaa
