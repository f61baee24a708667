/- Plain facts on plans. -/
import Derived.Test.YtldnibkgdpeocaaC4
namespace Go.Proofs.Ytldnibkgdpeocaa
set_option linter.unusedVariables false
set_option linter.unusedSimpArgs false
section
variable {nm : Tg → List Tg} {of : Tg} {most : Int}

theorem wk_fuel (hm : most ≤ 8) : ∀ (n : Nat) (ys T : List Tg), T.length ≤ 8 → 9 ≤ T.length + n → wk nm of most (n + 1) ys T = wk nm of most n ys T := by
  intro n
  induction n with
  | zero => intro ys T h8 h9; omega
  | succ n ih =>
    intro ys
    induction ys with
    | nil => intro T h8 h9; rfl
    | cons y ys ih2 =>
      intro T h8 h9
      rw [wk_succ, wk_succ, List.foldl_cons, List.foldl_cons]
      have hs : stp nm of most (n + 1) T y = stp nm of most n T y := by
        unfold stp
        by_cases h : most ≤ (T.length : Int) ∨ y = of ∨ inB T y = true
        · rw [if_pos h, if_pos h]
        · rw [if_neg h, if_neg h]
          have hlt : ¬ most ≤ (T.length : Int) := fun x => h (.inl x)
          exact ih _ _ (by simp; omega) (by simp; omega)
      rw [hs]
      have hl : T.length ≤ (stp nm of most n T y).length ∧ (stp nm of most n T y).length ≤ 8 := by
        unfold stp
        by_cases h : most ≤ (T.length : Int) ∨ y = of ∨ inB T y = true
        · rw [if_pos h]; exact ⟨Nat.le_refl _, h8⟩
        · rw [if_neg h]
          have hlt : ¬ most ≤ (T.length : Int) := fun x => h (.inl x)
          have := wk_len (nm := nm) (of := of) hm n (nm y) (T ++ [y])
          simp at this
          exact ⟨by omega, this.2 (by omega)⟩
      have := ih2 (stp nm of most n T y) hl.2 (by omega)
      rw [wk_succ, wk_succ] at this
      exact this

/-- what is told behind T as these are looked at, one by one -/
def D (nm : Tg → List Tg) (of : Tg) (most : Int) (todo T : List Tg) : List Tg := todo.foldl (stp nm of most 8) T
theorem plan_D (t : Tg) (k : Int) : plan nm t k = D nm t (min k 8) (nm t) [] := rfl
theorem D_nil (T : List Tg) : D nm of most [] T = T := rfl
theorem D_stop {x : Tg} {todo T : List Tg} (h : most ≤ (T.length : Int)) : D nm of most (x :: todo) T = T := fold_stop h _
theorem D_skip {x : Tg} {todo T : List Tg} (h : x = of ∨ x ∈ T) : D nm of most (x :: todo) T = D nm of most todo T := by
  unfold D
  rw [List.foldl_cons]
  have : stp nm of most 8 T x = T := by
    rcases h with rfl | h
    · exact stp_of
    · exact stp_in (inB_iff.2 h)
  rw [this]
theorem D_go (hm : most ≤ 8) {x : Tg} {todo T : List Tg} (h1 : ¬ most ≤ (T.length : Int)) (h2 : x ≠ of) (h3 : x ∉ T) : D nm of most (x :: todo) T = D nm of most (nm x ++ todo) (T ++ [x]) := by
  have e : wk nm of most 8 (nm x) (T ++ [x]) = (nm x).foldl (stp nm of most 8) (T ++ [x]) := by
    rw [← wk_succ, wk_fuel hm 8 _ _ (by simp; omega) (by simp)]
  unfold D
  rw [List.foldl_cons, stp_go h1 h2 (inB_not.2 h3), List.foldl_append, e]
theorem D_ind (hm : most ≤ 8) {P : List Tg → List Tg → Prop} (nil : ∀ T, P [] T) (stop : ∀ x todo T, most ≤ (T.length : Int) → P (x :: todo) T)
    (skip : ∀ x todo T, ¬ most ≤ (T.length : Int) → (x = of ∨ x ∈ T) → P todo T → P (x :: todo) T)
    (go : ∀ x todo T, ¬ most ≤ (T.length : Int) → x ≠ of → x ∉ T → P (nm x ++ todo) (T ++ [x]) → P (x :: todo) T) : ∀ todo T, P todo T := by
  have key : ∀ (k : Nat) (T : List Tg), 8 - T.length = k → ∀ todo, P todo T := by
    intro k
    induction k with
    | zero =>
      intro T hk todo
      cases todo with
      | nil => exact nil T
      | cons x todo => exact stop x todo T (by omega)
    | succ k ih =>
      intro T hk todo
      induction todo with
      | nil => exact nil T
      | cons x todo ih2 =>
        by_cases h1 : most ≤ (T.length : Int)
        · exact stop x todo T h1
        · by_cases h2 : x = of
          · exact skip x todo T h1 (.inl h2) ih2
          · by_cases h3 : inB T x = true
            · exact skip x todo T h1 (.inr (inB_iff.1 h3)) ih2
            · exact go x todo T h1 h2 (fun h => h3 (inB_iff.2 h)) (ih _ (by simp; omega) _)
  exact fun todo T => key _ T rfl todo

theorem D_pre (hm : most ≤ 8) : ∀ todo T, T <+: D nm of most todo T := by
  refine D_ind hm (of := of) (nm := nm) ?_ ?_ ?_ ?_
  · intro T; exact List.prefix_refl _
  · intro x todo T h; rw [D_stop h]; exact List.prefix_refl _
  · intro x todo T h1 h2 ih; rw [D_skip h2]; exact ih
  · intro x todo T h1 h2 h3 ih; rw [D_go hm h1 h2 h3]; exact (List.prefix_append _ _).trans ih
theorem D_len (hm : most ≤ 8) : ∀ todo T, T.length ≤ 8 → (D nm of most todo T).length ≤ 8 := by
  refine D_ind hm (of := of) (nm := nm) ?_ ?_ ?_ ?_
  · intro T h; exact h
  · intro x todo T h h8; rw [D_stop h]; exact h8
  · intro x todo T h1 h2 ih h8; rw [D_skip h2]; exact ih h8
  · intro x todo T h1 h2 h3 ih h8; rw [D_go hm h1 h2 h3]; exact ih (by simp; omega)
theorem D_nodup (hm : most ≤ 8) : ∀ todo T, T.Nodup → of ∉ T → (D nm of most todo T).Nodup ∧ of ∉ D nm of most todo T := by
  refine D_ind hm (of := of) (nm := nm) ?_ ?_ ?_ ?_
  · intro T h1 h2; exact ⟨h1, h2⟩
  · intro x todo T h h1 h2; rw [D_stop h]; exact ⟨h1, h2⟩
  · intro x todo T h1 h2 ih; rw [D_skip h2]; exact ih
  · intro x todo T h1 h2 h3 ih h4 h5
    rw [D_go hm h1 h2 h3]
    refine ih ?_ ?_
    · rw [List.nodup_append]
      exact ⟨h4, by simp, fun a ha b hb => by rw [List.mem_singleton.1 hb]; exact fun e => h3 (e ▸ ha)⟩
    · simp only [List.mem_append, List.mem_singleton, not_or]
      exact ⟨h5, fun e => h2 e.symm⟩
/-- each is named by the page or by one ahead of it -/
def Nmd (nm : Tg → List Tg) (of : Tg) (T : List Tg) : Prop := ∀ i (h : i < T.length), T[i] ∈ nm of ∨ ∃ j, ∃ h' : j < T.length, j < i ∧ T[i] ∈ nm T[j]
theorem D_named (hm : most ≤ 8) : ∀ todo T, Nmd nm of T → (∀ y ∈ todo, y ∈ nm of ∨ ∃ z ∈ T, y ∈ nm z) → Nmd nm of (D nm of most todo T) := by
  refine D_ind hm (of := of) (nm := nm) ?_ ?_ ?_ ?_
  · intro T h1 h2; exact h1
  · intro x todo T h h1 h2; rw [D_stop h]; exact h1
  · intro x todo T h1 h2 ih h3 h4; rw [D_skip h2]; exact ih h3 fun y hy => h4 y (List.mem_cons_of_mem _ hy)
  · intro x todo T h1 h2 h3 ih h4 h5
    rw [D_go hm h1 h2 h3]
    refine ih ?_ ?_
    · intro i hi
      rw [List.length_append, List.length_singleton] at hi
      by_cases hlt : i < T.length
      · rw [List.getElem_append_left hlt]
        rcases h4 i hlt with h | ⟨j, hj, hji, h⟩
        · exact .inl h
        · exact .inr ⟨j, by simp; omega, hji, by rw [List.getElem_append_left hj]; exact h⟩
      · have hi' : i = T.length := by omega
        subst hi'
        rw [List.getElem_concat_length rfl]
        rcases h5 x (by simp) with h | ⟨z, hz, h⟩
        · exact .inl h
        · obtain ⟨j, hj, e⟩ := List.getElem_of_mem hz
          exact .inr ⟨j, by simp; omega, hj, by rw [List.getElem_append_left hj, e]; exact h⟩
    · intro y hy
      rcases List.mem_append.1 hy with h | h
      · exact .inr ⟨x, by simp, h⟩
      · rcases h5 y (List.mem_cons_of_mem _ h) with h' | ⟨z, hz, h'⟩
        · exact .inl h'
        · exact .inr ⟨z, by simp [hz], h'⟩
theorem D_closed : ∀ todo T, (∀ x, x = of ∨ x ∈ T → ∀ y ∈ nm x, y = of ∨ y ∈ T ∨ y ∈ todo) → (D nm of 8 todo T).length < 8 → ∀ x, x = of ∨ x ∈ D nm of 8 todo T → ∀ y ∈ nm x, y = of ∨ y ∈ D nm of 8 todo T := by
  refine D_ind (most := 8) (by decide) (of := of) (nm := nm) ?_ ?_ ?_ ?_
  · intro T h hl x hx y hy
    rw [D_nil] at hx ⊢
    rcases h x hx y hy with e | e | e
    · exact .inl e
    · exact .inr e
    · simp at e
  · intro x todo T h h1 hl; rw [D_stop h] at hl; omega
  · intro x todo T h1 h2 ih h3 hl
    rw [D_skip h2] at hl ⊢
    refine ih (fun z hz y hy => ?_) hl
    rcases h3 z hz y hy with e | e | e
    · exact .inl e
    · exact .inr (.inl e)
    · rcases List.mem_cons.1 e with e | e
      · rcases h2 with h2 | h2
        · exact .inl (e.trans h2)
        · exact .inr (.inl (e ▸ h2))
      · exact .inr (.inr e)
  · intro x todo T h1 h2 h3 ih h4 hl
    rw [D_go (by decide) h1 h2 h3] at hl ⊢
    refine ih (fun z hz y hy => ?_) hl
    have hz' : (z = of ∨ z ∈ T) ∨ z = x := by
      rcases hz with e | e
      · exact .inl (.inl e)
      · rcases List.mem_append.1 e with e | e
        · exact .inl (.inr e)
        · exact .inr (List.mem_singleton.1 e)
    rcases hz' with hz' | rfl
    · rcases h4 z hz' y hy with e | e | e
      · exact .inl e
      · exact .inr (.inl (List.mem_append_left _ e))
      · rcases List.mem_cons.1 e with e | e
        · exact .inr (.inl (by rw [e]; simp))
        · exact .inr (.inr (List.mem_append_right _ e))
    · exact .inr (.inr (List.mem_append_left _ hy))
/-- may it be told? -/
def mayB (of : Tg) (T : List Tg) (y : Tg) : Bool := !decide (y = of) && !inB T y
theorem mayB_iff {T : List Tg} {y : Tg} : mayB of T y = true ↔ y ≠ of ∧ y ∉ T := by
  unfold mayB
  rw [Bool.and_eq_true, Bool.not_eq_true', Bool.not_eq_true', decide_eq_false_iff_not, inB_not]
/-- going down first -/
def Dwn (nm : Tg → List Tg) (of : Tg) (T : List Tg) : Prop := ∀ i (h : i + 1 < T.length), ∀ y, (nm T[i]).find? (mayB of (T.take (i + 1))) = some y → T[i + 1] = y
theorem D_down (hm : most ≤ 8) : ∀ todo T, Dwn nm of T → (∀ z, T.getLast? = some z → ∀ y, (nm z).find? (mayB of T) = some y → todo.find? (mayB of T) = some y) → Dwn nm of (D nm of most todo T) := by
  refine D_ind hm (of := of) (nm := nm) ?_ ?_ ?_ ?_
  · intro T h1 h2; exact h1
  · intro x todo T h h1 h2; rw [D_stop h]; exact h1
  · intro x todo T h1 h2 ih h3 h4
    rw [D_skip h2]
    refine ih h3 fun z hz y hy => ?_
    have := h4 z hz y hy
    have hx : mayB of T x = false := Bool.eq_false_iff.2 fun h => by
      have := mayB_iff.1 h
      rcases h2 with e | e
      · exact this.1 e
      · exact this.2 e
    rw [List.find?_cons_of_neg (by rw [hx]; simp)] at this
    exact this
  · intro x todo T h1 h2 h3 ih h4 h5
    rw [D_go hm h1 h2 h3]
    refine ih ?_ ?_
    · intro i hi y hy
      rw [List.length_append, List.length_singleton] at hi
      by_cases hlt : i + 1 < T.length
      · rw [List.getElem_append_left hlt]
        rw [List.getElem_append_left (by omega), List.take_append_of_le_length (by omega)] at hy
        exact h4 i hlt y hy
      · have hi' : i + 1 = T.length := by omega
        have e1 : (T ++ [x])[i + 1]'(by simp; omega) = x := by simp [hi']
        rw [e1]
        rw [List.getElem_append_left (by omega), List.take_append_of_le_length (by omega), hi', List.take_length] at hy
        have hl : T.getLast? = some (T[i]'(by omega)) := by
          rw [List.getLast?_eq_getElem?, List.getElem?_eq_getElem (by omega)]
          congr 1
          congr 1
          omega
        have := h5 _ hl y hy
        rw [List.find?_cons_of_pos (mayB_iff.2 ⟨h2, h3⟩)] at this
        exact Option.some.inj this
    · intro z hz y hy
      rw [List.getLast?_concat] at hz
      rw [← Option.some.inj hz] at hy
      rw [List.find?_append, hy]
      rfl
theorem D_cut {k : Int} (hk : k ≤ 8) : ∀ todo T, T.length ≤ k.toNat → D nm of k todo T = (D nm of 8 todo T).take k.toNat := by
  have pre : ∀ (T U : List Tg), T <+: U → T.length = k.toNat → U.take k.toNat = T := fun T U ⟨s, e⟩ h => by rw [← e, ← h, List.take_left']; rfl
  refine D_ind (most := 8) (by decide) (of := of) (nm := nm) ?_ ?_ ?_ ?_
  · intro T h; rw [D_nil, D_nil, List.take_of_length_le h]
  · intro x todo T h1 h; rw [D_stop h1, D_stop (by omega), List.take_of_length_le h]
  · intro x todo T h1 h2 ih h
    by_cases hs : k ≤ (T.length : Int)
    · rw [D_stop hs, pre T _ (D_pre (by decide) _ _) (by omega)]
    · rw [D_skip h2, D_skip h2]; exact ih h
  · intro x todo T h1 h2 h3 ih h
    by_cases hs : k ≤ (T.length : Int)
    · rw [D_stop hs, pre T _ (D_pre (by decide) _ _) (by omega)]
    · rw [D_go hk hs h2 h3, D_go (by decide) h1 h2 h3]; exact ih (by simp; omega)
end
/-- what the law on reaching asks -/
theorem plan_cut (nm : Tg → List Tg) (t : Tg) (k : Int) : plan nm t k = (plan nm t 8).take (min k 8).toNat := by
  rw [plan_D, plan_D]
  exact D_cut (by omega) _ _ (by simp)
theorem plan_len (nm : Tg → List Tg) (t : Tg) (k : Int) : (plan nm t k).length ≤ 8 := by rw [plan_D]; exact D_len (by omega) _ _ (by simp)
theorem plan_nodup (nm : Tg → List Tg) (t : Tg) : (plan nm t 8).Nodup ∧ t ∉ plan nm t 8 := by rw [plan_D]; exact D_nodup (by decide) _ _ (by simp) (by simp)
theorem plan_named (nm : Tg → List Tg) (t : Tg) : Nmd nm t (plan nm t 8) := by
  rw [plan_D]
  exact D_named (by decide) _ _ (fun i h => by simp at h) fun y hy => .inl hy
theorem plan_closed (nm : Tg → List Tg) (t : Tg) (h : (plan nm t 8).length < 8) : ∀ x, x = t ∨ x ∈ plan nm t 8 → ∀ y ∈ nm x, y = t ∨ y ∈ plan nm t 8 := by
  rw [plan_D] at h ⊢
  exact D_closed _ _ (fun x hx y hy => by
    rcases hx with rfl | hx
    · exact .inr (.inr hy)
    · simp at hx) h
theorem plan_down (nm : Tg → List Tg) (t : Tg) : Dwn nm t (plan nm t 8) := by
  rw [plan_D]
  exact D_down (by decide) _ _ (fun i h => by simp at h) fun z hz => by simp at hz
theorem plan_head (nm : Tg → List Tg) (t x : Tg) (r : List Tg) (h : nm t = x :: r) (hx : x ≠ t) : (plan nm t 8)[0]? = some x := by
  rw [plan_D, h, D_go (by decide) (by decide) hx (by simp)]
  obtain ⟨s, e⟩ := D_pre (nm := nm) (of := t) (most := min 8 8) (by decide) (nm x ++ r) ([] ++ [x])
  rw [← e]
  rfl
theorem plan_head2 (nm : Tg → List Tg) (t x : Tg) (r : List Tg) (h : nm t = t :: x :: r) (hx : x ≠ t) : (plan nm t 8)[0]? = some x := by
  rw [plan_D, h, D_skip (.inl rfl), D_go (by decide) (by decide) hx (by simp)]
  obtain ⟨s, e⟩ := D_pre (nm := nm) (of := t) (most := min 8 8) (by decide) (nm x ++ r) ([] ++ [x])
  rw [← e]
  rfl
end Go.Proofs.Ytldnibkgdpeocaa
