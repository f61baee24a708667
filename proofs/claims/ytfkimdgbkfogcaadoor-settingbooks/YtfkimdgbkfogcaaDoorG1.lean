/- What Params tells, as lists. -/
import Derived.Test.YtfkimdgbkfogcaaDoorC1
namespace Go.Proofs.YtfkimdgbkfogcaaDoor
open Go.RowKit
set_option linter.unusedVariables false
set_option linter.unusedSimpArgs false

theorem St.ext' {a b : St} (h : ∀ j, j < 6 → a.nth j = b.nth j) : a = b := by
  obtain ⟨a1, a2, a3, a4, a5, a6⟩ := a
  obtain ⟨b1, b2, b3, b4, b5, b6⟩ := b
  have h0 := h 0 (by omega); have h1 := h 1 (by omega); have h2 := h 2 (by omega); have h3 := h 3 (by omega); have h4 := h 4 (by omega); have h5 := h 5 (by omega)
  simp [St.nth] at h0 h1 h2 h3 h4 h5
  subst h0 h1 h2 h3 h4 h5
  rfl

/-- what a field takes of a value -/
def clip (j : Nat) (x : Int) : Int := if j = 4 then min x 65536 else if j = 1 ∨ j = 3 then x else min x 2147483647
theorem with_nth (s : St) (q : Int × Int) (j : Nat) (hj : j < 6) : (withS s q).nth j = if q.1 = (j : Int) + 1 then clip j q.2 else s.nth j := by
  obtain ⟨x, y⟩ := q
  obtain rfl | rfl | rfl | rfl | rfl | rfl : j = 0 ∨ j = 1 ∨ j = 2 ∨ j = 3 ∨ j = 4 ∨ j = 5 := by omega
  all_goals
    unfold withS
    simp only
    by_cases h1 : x = 1
    · subst h1; simp [St.nth, clip]
    by_cases h2 : x = 2
    · subst h2; simp [St.nth, clip]
    by_cases h3 : x = 3
    · subst h3; simp [St.nth, clip]
    by_cases h4 : x = 4
    · subst h4; simp [St.nth, clip]
    by_cases h5 : x = 5
    · subst h5; simp [St.nth, clip]
    by_cases h6 : x = 6
    · subst h6; simp [St.nth, clip]
    rw [if_neg h1, if_neg h2, if_neg h3, if_neg h4, if_neg h5, if_neg h6, if_neg (by omega)]

/-- a field that no param names is as it was -/
theorem apply_other (s : St) (l : List (Int × Int)) (c : Bool) (hv : ∀ q ∈ l, validS q c = 0) (j : Nat) (hj : j < 6) (h : ∀ q ∈ l, q.1 ≠ (j : Int) + 1) : (applyS s l c).1.nth j = s.nth j := by
  induction l generalizing s with
  | nil => rfl
  | cons q r ih =>
    simp only [applyS]
    rw [if_pos (hv q (List.mem_cons_self ..)), ih _ (fun x hx => hv x (List.mem_cons_of_mem _ hx)) (fun x hx => h x (List.mem_cons_of_mem _ hx)), with_nth s q j hj, if_neg (h q (List.mem_cons_self ..))]
theorem applyS_valid' (s : St) (l : List (Int × Int)) (c : Bool) (h : ∀ q ∈ l, validS q c = 0) : (applyS s l c).2 = 0 := by
  induction l generalizing s with
  | nil => rfl
  | cons q r ih =>
    simp only [applyS]
    rw [if_pos (h q (List.mem_cons_self ..))]
    exact ih _ fun x hx => h x (List.mem_cons_of_mem _ hx)

/-- what b becomes where a server's Push stays -/
def endS (a b : St) (c : Bool) : St := if c then b else { b with psh := a.psh }
theorem end_nth (a b : St) (c : Bool) (j : Nat) (hj : j < 6) : (endS a b c).nth j = if c = false ∧ j = 1 then a.nth j else b.nth j := by
  obtain rfl | rfl | rfl | rfl | rfl | rfl : j = 0 ∨ j = 1 ∨ j = 2 ∨ j = 3 ∨ j = 4 ∨ j = 5 := by omega
  all_goals cases c <;> simp [endS, St.nth]

theorem par_mem (a b : St) (c : Bool) (k : Nat) (q : Int × Int) (h : q ∈ parK a b c k) : ∃ j, j < k ∧ q = ((j : Int) + 1, b.nth j) ∧ a.nth j ≠ b.nth j ∧ ¬ (c = false ∧ j = 1) := by
  unfold parK at h
  obtain ⟨j, hj, hq⟩ := List.mem_flatMap.1 h
  have hj' := List.mem_range.1 hj
  by_cases hc : a.nth j = b.nth j ∨ (c = false ∧ j = 1)
  · rw [if_pos hc] at hq; cases hq
  · rw [if_neg hc] at hq
    exact ⟨j, hj', List.mem_singleton.1 hq, fun e => hc (.inl e), fun e => hc (.inr e)⟩
theorem par_has (a b : St) (c : Bool) (k j : Nat) (hj : j < k) (hne : a.nth j ≠ b.nth j) (hc : ¬ (c = false ∧ j = 1)) : ((j : Int) + 1, b.nth j) ∈ parK a b c k := by
  unfold parK
  refine List.mem_flatMap.2 ⟨j, List.mem_range.2 hj, ?_⟩
  rw [if_neg (by rintro (h | h); exact hne h; exact hc h)]
  exact List.mem_singleton.2 rfl
theorem par_sorted (a b : St) (c : Bool) (k : Nat) : (parK a b c k).Pairwise (fun x y => x.1 < y.1) := by
  induction k with
  | zero => simp [parK]
  | succ k ih =>
    rw [parK_succ, List.pairwise_append]
    refine ⟨ih, ?_, ?_⟩
    · split <;> simp
    · intro x hx y hy
      obtain ⟨j, hj, rfl, _⟩ := par_mem a b c k x hx
      split at hy
      · cases hy
      · rw [List.mem_singleton.1 hy]
        simp
        omega

theorem vOK (k y : Int) (c : Bool) (hk : 1 ≤ k ∧ k ≤ 6) (hy : 0 ≤ y ∧ y ≤ 2147483647) (h2 : k = 2 → c = true ∧ y ≤ 1) (h5 : k = 5 → 16384 ≤ y ∧ y ≤ 65536) : validS (k, y) c = 0 := by
  unfold validS
  simp only
  rw [if_neg (by omega), if_neg (by rintro ⟨e, h⟩; obtain ⟨rfl, h'⟩ := h2 e; simp at h; omega), if_neg (by omega), if_neg (by rintro ⟨e, h⟩; have := h5 e; omega)]
/-- of sets that fit, each param is right -/
theorem par_valid (a b : St) (c : Bool) (hb : fitsS b = true) (q : Int × Int) (h : q ∈ parS a b c) : validS q c = 0 ∧ clip (q.1 - 1).toNat q.2 = q.2 := by
  obtain ⟨j, hj, rfl, hne, hc⟩ := par_mem a b c 6 q h
  clear h hne
  unfold fitsS inB at hb
  simp only [Bool.and_eq_true, decide_eq_true_eq] at hb
  obtain ⟨⟨⟨⟨⟨h0, h1⟩, h2⟩, h3⟩, h4⟩, h5⟩ := hb
  obtain ⟨b1, b2, b3, b4, b5, b6⟩ := b
  simp only at h0 h1 h2 h3 h4 h5
  obtain rfl | rfl | rfl | rfl | rfl | rfl : j = 0 ∨ j = 1 ∨ j = 2 ∨ j = 3 ∨ j = 4 ∨ j = 5 := by omega
  · show validS (1, b1) c = 0 ∧ min b1 2147483647 = b1
    exact ⟨vOK 1 b1 c (by omega) (by omega) (by omega) (by omega), by omega⟩
  · have hct : c = true := by
      cases c
      · exact absurd ⟨rfl, rfl⟩ hc
      · rfl
    show validS (2, b2) c = 0 ∧ b2 = b2
    exact ⟨vOK 2 b2 c (by omega) (by omega) (fun _ => ⟨hct, by omega⟩) (by omega), rfl⟩
  · show validS (3, b3) c = 0 ∧ min b3 2147483647 = b3
    exact ⟨vOK 3 b3 c (by omega) (by omega) (by omega) (by omega), by omega⟩
  · show validS (4, b4) c = 0 ∧ b4 = b4
    exact ⟨vOK 4 b4 c (by omega) (by omega) (by omega) (by omega), rfl⟩
  · show validS (5, b5) c = 0 ∧ min b5 65536 = b5
    exact ⟨vOK 5 b5 c (by omega) (by omega) (by omega) (by omega), by omega⟩
  · show validS (6, b6) c = 0 ∧ min b6 2147483647 = b6
    exact ⟨vOK 6 b6 c (by omega) (by omega) (by omega) (by omega), by omega⟩

/-- the value of a field that one param names, behind a rising list -/
theorem apply_named (s : St) (l : List (Int × Int)) (c : Bool) (hv : ∀ q ∈ l, validS q c = 0) (hs : l.Pairwise (fun x y => x.1 < y.1)) (j : Nat) (hj : j < 6) (x : Int) (h : ((j : Int) + 1, x) ∈ l) : (applyS s l c).1.nth j = clip j x := by
  induction l generalizing s with
  | nil => cases h
  | cons q r ih =>
    simp only [applyS]
    rw [if_pos (hv q (List.mem_cons_self ..))]
    rw [List.pairwise_cons] at hs
    rcases List.mem_cons.1 h with e | h
    · subst e
      rw [apply_other _ r c (fun y hy => hv y (List.mem_cons_of_mem _ hy)) j hj (fun y hy => by have := hs.1 y hy; simp only at this; omega), with_nth _ _ j hj, if_pos rfl]
    · exact ih _ (fun y hy => hv y (List.mem_cons_of_mem _ hy)) hs.2 h

theorem par_apply (a b : St) (c : Bool) (hb : fitsS b = true) : applyS a (parS a b c) c = (endS a b c, 0) := by
  have hv := fun q hq => (par_valid a b c hb q hq).1
  refine Prod.ext (St.ext' fun j hj => ?_) (applyS_valid' _ _ _ hv)
  rw [end_nth a b c j hj]
  by_cases hc : c = false ∧ j = 1
  · rw [if_pos hc]
    refine apply_other a _ c hv j hj fun q hq e => ?_
    obtain ⟨i, _, rfl, _, hi⟩ := par_mem a b c 6 q hq
    simp only at e
    exact hi ⟨hc.1, by omega⟩
  · rw [if_neg hc]
    by_cases hne : a.nth j = b.nth j
    · rw [← hne]
      refine apply_other a _ c hv j hj fun q hq e => ?_
      obtain ⟨i, _, rfl, hi, _⟩ := par_mem a b c 6 q hq
      simp only at e
      exact hi (by rw [show i = j by omega]; exact hne)
    · have hm := par_has a b c 6 j hj hne hc
      have h1 := apply_named a _ c hv (par_sorted a b c 6) j hj _ hm
      have h2 := (par_valid a b c hb _ hm).2
      simp only [show ((j : Int) + 1 - 1).toNat = j by omega] at h2
      rw [h2] at h1
      exact h1

/-- with one left out it is another set -/
theorem par_less (a b : St) (c : Bool) (hb : fitsS b = true) (i : Nat) (hi : i < (parS a b c).length) :
    ∃ t, applyS a ((parS a b c).take i ++ (parS a b c).drop (i + 1)) c = (t, 0) ∧ t ≠ endS a b c := by
  have hsub : ∀ q ∈ (parS a b c).take i ++ (parS a b c).drop (i + 1), q ∈ parS a b c := fun q hq => by
    rcases List.mem_append.1 hq with h | h
    · exact List.mem_of_mem_take h
    · exact List.mem_of_mem_drop h
  have hv : ∀ q ∈ (parS a b c).take i ++ (parS a b c).drop (i + 1), validS q c = 0 := fun q hq => (par_valid a b c hb q (hsub q hq)).1
  obtain ⟨j, hj, hq, hne, hc⟩ := par_mem a b c 6 ((parS a b c)[i]) (List.getElem_mem _)
  refine ⟨_, Prod.ext rfl (applyS_valid' _ _ _ hv), fun e => hne ?_⟩
  have h1 := congrArg (fun t => St.nth t j) e
  rw [end_nth a b c j hj, if_neg hc] at h1
  rw [← h1, apply_other a _ c hv j hj]
  intro q hq2 e2
  have hs : (parS a b c).Pairwise (fun x y => x.1 < y.1) := par_sorted a b c 6
  rw [List.pairwise_iff_getElem] at hs
  have e3 : (parS a b c)[i].1 = (j : Int) + 1 := by rw [hq]
  rcases List.mem_append.1 hq2 with h | h
  · obtain ⟨n, hn, rfl⟩ := List.getElem_of_mem h
    have hn' : n < i := by rw [List.length_take] at hn; omega
    have := hs n i (by omega) hi hn'
    rw [List.getElem_take] at e2
    omega
  · obtain ⟨n, hn, rfl⟩ := List.getElem_of_mem h
    rw [List.length_drop] at hn
    have := hs i (i + 1 + n) hi (by omega) (by omega)
    rw [List.getElem_drop] at e2
    omega

theorem par_end (a b : St) (c : Bool) : parS a (endS a b c) c = parS a b c := by
  have h : ∀ k, k ≤ 6 → parK a (endS a b c) c k = parK a b c k := by
    intro k
    induction k with
    | zero => intro _; rfl
    | succ k ih =>
      intro hk
      rw [parK_succ, parK_succ, ih (by omega)]
      congr 1
      rw [end_nth a b c k (by omega)]
      by_cases hc : c = false ∧ k = 1
      · rw [if_pos (.inr hc), if_pos (.inr hc)]
      · rw [if_neg hc]
  exact h 6 (Nat.le_refl _)
theorem par_self (b : St) (c : Bool) : parS b b c = [] := by
  cases h : parS b b c with
  | nil => rfl
  | cons q r =>
    obtain ⟨j, _, _, hne, _⟩ := par_mem b b c 6 q (by show q ∈ parS b b c; rw [h]; exact List.mem_cons_self ..)
    exact absurd rfl hne
theorem end_fits (a b : St) (c : Bool) (ha : fitsS a = true) (hb : fitsS b = true) : fitsS (endS a b c) = true := by
  unfold fitsS at *
  simp only [Bool.and_eq_true] at *
  cases c <;> simp [endS] <;> simp_all
theorem par_len (a b : St) (c : Bool) : (parS a b c).length ≤ 6 := parK_length a b c 6

/-- a slice of a slice -/
theorem In.take {α : Type} {E : El α} {w : World} {B off n cap : Nat} {l : List α} (h : In E w (.slice (some ⟨B, off, none⟩) n cap) l) (k : Nat) (hk : k ≤ l.length) : In E w (.slice (some ⟨B, off, none⟩) k cap) (l.take k) := by
  rcases h with ⟨h, _⟩ | ⟨a, cap', e, h1, h2, h3⟩
  · cases h
  · injection e with e1 e2 e3
    injection e1 with e1
    subst e1
    subst e3
    refine .inr ⟨_, cap, by rw [List.length_take, Nat.min_eq_left hk], by rw [List.length_take]; omega, h2, fun j u hu => h3 j u ?_⟩
    have e : E.cs l = E.cs (l.take k) ++ E.cs (l.drop k) := by rw [← El.cs_append, List.take_append_drop]
    rw [e, List.getElem?_append_left (List.getElem?_eq_some_iff.1 hu).1]
    exact hu
theorem In.drop {α : Type} {E : El α} (ok : E.Ok) {w : World} {B off n cap : Nat} {l : List α} (h : In E w (.slice (some ⟨B, off, none⟩) n cap) l) (k : Nat) (hk : k ≤ l.length) :
    (cap ≠ k → In E w (.slice (some ⟨B, off + k * E.sz, none⟩) (l.length - k) (cap - k)) (l.drop k)) ∧ (cap = k → In E w (.slice (some ⟨B, off, none⟩) (l.length - k) (cap - k)) (l.drop k)) := by
  rcases h with ⟨h, _⟩ | ⟨a, cap', e, h1, h2, h3⟩
  · cases h
  · injection e with e1 e2 e3
    injection e1 with e1
    subst e1
    subst e3
    refine ⟨fun hc => .inr ⟨_, cap - k, by rw [List.length_drop], by rw [List.length_drop]; omega, by omega, fun j u hu => ?_⟩, fun hc => .inr ⟨_, cap - k, by rw [List.length_drop], by rw [List.length_drop]; omega, by omega, fun j u hu => ?_⟩⟩
    · have e : E.cs l = E.cs (l.take k) ++ E.cs (l.drop k) := by rw [← El.cs_append, List.take_append_drop]
      have hl : (E.cs (l.take k)).length = k * E.sz := by rw [ok.length, List.length_take, Nat.min_eq_left hk]
      have := h3 (k * E.sz + j) u (by rw [e, List.getElem?_append_right (by omega), hl, Nat.add_sub_cancel_left]; exact hu)
      rw [Addr.add_lit] at this ⊢
      rw [← Nat.add_assoc] at this
      exact this
    · have : l.drop k = [] := List.drop_of_length_le (by omega)
      rw [this] at hu
      simp [El.cs] at hu
end Go.Proofs.YtfkimdgbkfogcaaDoor
