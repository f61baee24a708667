/- The document's Live, on lists. -/
import Derived.Test.YtaaocgppniflcaaP7
namespace Go.Proofs.Ytaaocgppniflcaa
open Go.RowKit
set_option linter.unusedVariables false
set_option linter.unusedSimpArgs false

/-- where a number goes in a rising list -/
def cutAt (out : List Int) (id : Int) : Nat := (out.takeWhile fun x => decide (x < id)).length
def insI (out : List Int) (id : Int) : List Int := out.take (cutAt out id) ++ [id] ++ out.drop (cutAt out id)
def rlive (l : List O1) : List Int := l.foldl (fun out x => if (x.2.1 == 6) = true then out else insI out x.1) []
theorem mem_insI (out : List Int) (id x : Int) : x ∈ insI out id ↔ x = id ∨ x ∈ out := by
  unfold insI
  have := List.take_append_drop (cutAt out id) out
  constructor
  · intro h
    simp only [List.mem_append, List.mem_singleton] at h
    rcases h with (h | h) | h
    · exact .inr (List.mem_of_mem_take h)
    · exact .inl h
    · exact .inr (List.mem_of_mem_drop h)
  · rintro (rfl | h)
    · simp
    · rw [← this, List.mem_append] at h
      simp only [List.mem_append, List.mem_singleton]
      rcases h with h | h
      · exact .inl (.inl h)
      · exact .inr h
theorem take_cut (out : List Int) (id : Int) : out.take (cutAt out id) = out.takeWhile fun x => decide (x < id) := by
  unfold cutAt
  induction out with
  | nil => rfl
  | cons a r ih =>
    rw [List.takeWhile_cons]
    split
    · simp [ih]
    · simp
theorem drop_cut (out : List Int) (id : Int) : out.drop (cutAt out id) = out.dropWhile fun x => decide (x < id) := by
  unfold cutAt
  induction out with
  | nil => rfl
  | cons a r ih =>
    rw [List.takeWhile_cons, List.dropWhile_cons]
    split
    · simp [ih]
    · simp
theorem rise_insI {out : List Int} {id : Int} (h : out.Pairwise (· < ·)) (hn : id ∉ out) : (insI out id).Pairwise (· < ·) := by
  unfold insI
  rw [take_cut, drop_cut]
  induction out with
  | nil => simp
  | cons a r ih =>
    have h' := List.pairwise_cons.1 h
    have hni : id ∉ r := fun e => hn (List.mem_cons_of_mem _ e)
    have hne : a ≠ id := fun e => hn (e ▸ List.mem_cons_self)
    rw [List.takeWhile_cons, List.dropWhile_cons]
    by_cases ha : a < id
    · rw [if_pos (by simpa using ha), if_pos (by simpa using ha)]
      simp only [List.cons_append]
      refine List.pairwise_cons.2 ⟨fun x hx => ?_, by simpa using ih h'.2 hni⟩
      have hx' : x ∈ insI r id := by
        unfold insI
        rw [take_cut, drop_cut]
        simpa using hx
      rcases (mem_insI r id x).1 hx' with rfl | hx2
      · exact ha
      · exact h'.1 x hx2
    · rw [if_neg (by simpa using ha), if_neg (by simpa using ha)]
      simp only [List.nil_append, List.singleton_append]
      refine List.pairwise_cons.2 ⟨fun x hx => ?_, h⟩
      rcases List.mem_cons.1 hx with rfl | hx
      · omega
      · have := h'.1 x hx
        omega
theorem rlive_spec : ∀ (l : List O1) (out : List Int), out.Pairwise (· < ·) → (l.map (·.1)).Nodup → (∀ x ∈ l, x.1 ∉ out) →
    (l.foldl (fun out x => if (x.2.1 == 6) = true then out else insI out x.1) out).Pairwise (· < ·) ∧ ∀ y, y ∈ l.foldl (fun out x => if (x.2.1 == 6) = true then out else insI out x.1) out ↔ y ∈ out ∨ ∃ x ∈ l, x.1 = y ∧ x.2.1 ≠ 6
  | [], out, h, _, _ => ⟨h, fun y => by simp⟩
  | a :: r, out, h, hn, hni => by
    simp only [List.map_cons, List.nodup_cons] at hn
    simp only [List.foldl_cons]
    by_cases h6 : (a.2.1 == 6) = true
    · rw [if_pos h6]
      obtain ⟨h1, h2⟩ := rlive_spec r out h hn.2 fun x hx => hni x (List.mem_cons_of_mem _ hx)
      refine ⟨h1, fun y => ?_⟩
      rw [h2 y]
      have e6 : a.2.1 = 6 := by simpa using h6
      constructor
      · rintro (h | ⟨x, hx, e1, e2⟩)
        · exact .inl h
        · exact .inr ⟨x, List.mem_cons_of_mem _ hx, e1, e2⟩
      · rintro (h | ⟨x, hx, e1, e2⟩)
        · exact .inl h
        · rcases List.mem_cons.1 hx with rfl | hx
          · exact absurd e6 e2
          · exact .inr ⟨x, hx, e1, e2⟩
    · rw [if_neg h6]
      have hna := hni a List.mem_cons_self
      obtain ⟨h1, h2⟩ := rlive_spec r (insI out a.1) (rise_insI h hna) hn.2 fun x hx e => by
        rcases (mem_insI out a.1 x.1).1 e with e | e
        · exact hn.1 (e ▸ List.mem_map.2 ⟨x, hx, rfl⟩)
        · exact hni x (List.mem_cons_of_mem _ hx) e
      refine ⟨h1, fun y => ?_⟩
      rw [h2 y, mem_insI]
      have e6 : a.2.1 ≠ 6 := by simpa using h6
      constructor
      · rintro ((h | h) | ⟨x, hx, e1, e2⟩)
        · exact .inr ⟨a, List.mem_cons_self, h.symm, e6⟩
        · exact .inl h
        · exact .inr ⟨x, List.mem_cons_of_mem _ hx, e1, e2⟩
      · rintro (h | ⟨x, hx, e1, e2⟩)
        · exact .inl (.inr h)
        · rcases List.mem_cons.1 hx with rfl | hx
          · exact .inl (.inl e1.symm)
          · exact .inr ⟨x, hx, e1, e2⟩
theorem Rl.live {T : Tb} {l : List O1} (h : Rl T l) (ok : T.Ok) : rlive l = T.live := by
  obtain ⟨h1, h2⟩ := rlive_spec l [] List.Pairwise.nil h.nd (fun x _ => by simp)
  refine rise_ext h1 (rise_keys ok.srt _) fun y => ?_
  show y ∈ l.foldl _ [] ↔ _
  rw [h2 y]
  constructor
  · rintro (hy | ⟨x, hx, e1, e2⟩)
    · cases hy
    · subst e1
      have hs := h.some x.1 x.2.1 x.2.2 (lk_mem h.nd hx)
      have hm := h.bi.mem_live ok (List.mem_map.2 ⟨x, hx, rfl⟩)
      rw [hs.1, beq_eq_false_iff_ne.2 e2] at hm
      exact of_decide_eq_true hm
  · intro hy
    right
    obtain ⟨v, hl, hv⟩ := (mem_keys ok.srt _ y).1 hy
    obtain ⟨x, hx, rfl⟩ := List.mem_map.1 (h.bi.all y v hl)
    have hs := h.some x.1 x.2.1 x.2.2 (lk_mem h.nd hx)
    refine ⟨x, hx, rfl, ?_⟩
    rw [← hs.1, (ok.born_st (h.born x hx)).2.2, hl]
    simpa using hv
end Go.Proofs.Ytaaocgppniflcaa
