/- SiteVersions: plain facts. -/
import Derived.Test.YtacboeeimnikdaaDoorH3
namespace Go.Proofs.YtacboeeimnikdaaDoor
open Go.RowKit Go.Maps
open Go.Shelf
set_option linter.unusedVariables false
set_option linter.unusedSimpArgs false

/-- a put's target, its edition -/
def ptT (x : PC) : Tg := (aTest, rtP x.1.p)
def ptE (x : PC) (v : Int) : Ep := ⟨v, 200, rtV (rtK x.1.n), rtL x.1.n x.2⟩
/-- what the site holds behind n puts -/
def FN (F : Fm) (ps : List PC) : Nat → Fm
  | 0 => F
  | n + 1 => match ps[n]? with | some x => (FN F ps n).put (ptT x) (ptE x ((n : Int) + 2)) | none => FN F ps n
def KN (K : List Tg) (ps : List PC) : Nat → List Tg
  | 0 => K
  | n + 1 => match ps[n]? with | some x => kadd (KN K ps n) (ptT x) | none => KN K ps n
theorem FN_succ (F : Fm) (ps : List PC) (n : Nat) (h : n < ps.length) : FN F ps (n + 1) = (FN F ps n).put (ptT ps[n]) (ptE ps[n] ((n : Int) + 2)) := by
  show (match ps[n]? with | some x => _ | none => _) = _
  rw [List.getElem?_eq_getElem h]
theorem KN_succ (K : List Tg) (ps : List PC) (n : Nat) (h : n < ps.length) : KN K ps (n + 1) = kadd (KN K ps n) (ptT ps[n]) := by
  show (match ps[n]? with | some x => _ | none => _) = _
  rw [List.getElem?_eq_getElem h]
theorem KN_none (K : List Tg) (ps : List PC) (n : Nat) (h : ¬ n < ps.length) : KN K ps (n + 1) = KN K ps n := by
  simp only [KN]
  rw [List.getElem?_eq_none (by omega)]
theorem put_at {F : Fm} {t : Tg} {e : Ep} (u : Tg) (v : Int) (h : v < e.s) : atE (F.put t e u) v = atE (F u) v := by
  unfold Fm.put
  by_cases e' : t = u
  · rw [if_pos e', atE_snoc, if_neg (by omega), e']
  · rw [if_neg e']
/-- an older version stays as it was -/
theorem FN_at (F : Fm) (ps : List PC) (m n : Nat) (h : m ≤ n) (u : Tg) : atE (FN F ps n u) ((m : Int) + 1) = atE (FN F ps m u) ((m : Int) + 1) := by
  induction n with
  | zero => obtain rfl : m = 0 := by omega
            rfl
  | succ n ih =>
    by_cases hm : m = n + 1
    · rw [hm]
    · rw [← ih (by omega)]
      by_cases hl : n < ps.length
      · rw [FN_succ _ _ _ hl]
        exact put_at u _ (by simp only [ptE]; omega)
      · show atE ((match ps[n]? with | some x => _ | none => FN F ps n) u) _ = _
        rw [List.getElem?_eq_none (by omega)]
theorem atE_top {l : List Ep} {v v' : Int} (h : ∀ e ∈ l, e.s ≤ v) (hv : v ≤ v') : atE l v' = atE l v := by
  unfold atE
  have : ∀ e ∈ l.reverse, decide (e.s ≤ v') = decide (e.s ≤ v) := fun e he => by
    have := h e (by simpa using he)
    rw [decide_eq_true this, decide_eq_true (show e.s ≤ v' by omega)]
  clear h hv
  generalize l.reverse = q at this ⊢
  induction q with
  | nil => rfl
  | cons a r ih =>
    have ha := this a (by simp)
    rw [List.find?_cons, List.find?_cons, ha, ih fun e he => this e (by simp [he])]
/-- a put's version changes its own target alone -/
theorem FN_other (F : Fm) (ps : List PC) (n : Nat) (hn : n < ps.length) (u : Tg) (hu : u ≠ ptT ps[n]) (hv : ∀ e ∈ FN F ps n u, e.s ≤ (n : Int) + 1) : atE (FN F ps (n + 1) u) (((n + 1 : Nat) : Int) + 1) = atE (FN F ps n u) ((n : Int) + 1) := by
  rw [FN_succ _ _ _ hn]
  have : Fm.put (FN F ps n) (ptT ps[n]) (ptE ps[n] ((n : Int) + 2)) u = FN F ps n u := by
    unfold Fm.put
    rw [if_neg (Ne.symm hu)]
  rw [this]
  exact atE_top hv (by omega)
/-- what a put has laid is there -/
theorem FN_has (F : Fm) (ps : List PC) (n : Nat) (hn : n < ps.length) : (atE (FN F ps (n + 1) (ptT ps[n])) ((n : Int) + 2)).isSome = true := by
  rw [FN_succ _ _ _ hn]
  unfold Fm.put
  rw [if_pos rfl, atE_snoc, if_pos (by simp [ptE])]
  rfl
theorem nodup_le (M : List Tg) : ∀ K : List Tg, K.Nodup → (∀ x ∈ K, x ∈ M) → K.length ≤ M.length := by
  induction M with
  | nil => intro K _ h; cases K with
    | nil => simp
    | cons a r => exact absurd (h a (by simp)) (by simp)
  | cons m M ih =>
    intro K hn h
    have hf : (K.filter (fun x => decide (x ≠ m))).length ≤ M.length := ih _ (hn.sublist List.filter_sublist) fun x hx => by
      have := List.mem_filter.1 hx
      rcases List.mem_cons.1 (h x this.1) with e | e
      · exact absurd e (of_decide_eq_true this.2)
      · exact e
    have hc : K.length ≤ (K.filter (fun x => decide (x ≠ m))).length + 1 := by
      clear hf h ih
      induction K with
      | nil => simp
      | cons a r ihr =>
        rw [List.nodup_cons] at hn
        by_cases e : a = m
        · subst e
          rw [List.filter_cons_of_neg (by simp)]
          have : r.filter (fun x => decide (x ≠ a)) = r := List.filter_eq_self.2 fun x hx => decide_eq_true fun e => hn.1 (e ▸ hx)
          rw [this]
          simp
        · rw [List.filter_cons_of_pos (by simpa using e)]
          have := ihr hn.2
          simp only [List.length_cons]
          omega
    simp only [List.length_cons]
    omega
def ltrs : List UInt8 := [97, 98, 99, 100]
def T21 : List Tg := ([[]] ++ ltrs.map (fun a => [a]) ++ ltrs.flatMap (fun a => ltrs.map fun b => [a, b])).map fun l => (aTest, (⟨(47 :: 112 :: l).toArray⟩ : ByteArray))
theorem T21_len : T21.length = 21 := by decide
theorem ltr_mem (x : UInt8) : ltr x ∈ ltrs := by
  have h := ltr_nat x
  have h4 : x.toNat % 4 < 4 := Nat.mod_lt _ (by omega)
  have : ltr x = 97 ∨ ltr x = 98 ∨ ltr x = 99 ∨ ltr x = 100 := by
    have : x.toNat % 4 = 0 ∨ x.toNat % 4 = 1 ∨ x.toNat % 4 = 2 ∨ x.toNat % 4 = 3 := by omega
    rcases this with e | e | e | e
    · exact .inl (UInt8.toNat_inj.1 (by rw [h, e]; rfl))
    · exact .inr (.inl (UInt8.toNat_inj.1 (by rw [h, e]; rfl)))
    · exact .inr (.inr (.inl (UInt8.toNat_inj.1 (by rw [h, e]; rfl))))
    · exact .inr (.inr (.inr (UInt8.toNat_inj.1 (by rw [h, e]; rfl))))
  unfold ltrs
  rcases this with e | e | e | e <;> rw [e] <;> simp
theorem rtP_mem (p : ByteArray) : (aTest, rtP p) ∈ T21 := by
  have hl := rtP_list p
  have he : rtP p = (⟨(47 :: 112 :: (p.data.toList.take 2).map ltr).toArray⟩ : ByteArray) := by
    rw [← hl]
  rw [he]
  unfold T21
  refine List.mem_map.2 ⟨(p.data.toList.take 2).map ltr, ?_, rfl⟩
  match h : p.data.toList.take 2 with
  | [] => simp
  | [a] =>
    refine List.mem_append_left _ (List.mem_append_right _ (List.mem_map.2 ⟨ltr a, ltr_mem a, rfl⟩))
  | [a, b] =>
    refine List.mem_append_right _ (List.mem_flatMap.2 ⟨ltr a, ltr_mem a, List.mem_map.2 ⟨ltr b, ltr_mem b, rfl⟩⟩)
  | a :: b :: c :: r =>
    have := congrArg List.length h
    rw [List.length_take] at this
    simp at this
    omega
theorem kadd_nodup {K : List Tg} {t : Tg} (h : K.Nodup) : (kadd K t).Nodup := by
  by_cases hm : t ∈ K
  · rw [kadd_in hm]; exact h
  · rw [kadd_not hm, List.nodup_append]
    exact ⟨h, by simp, fun a ha b hb e => hm (by simp at hb; rw [← hb, ← e]; exact ha)⟩
theorem kadd_mem {K : List Tg} {t x : Tg} (h : x ∈ kadd K t) : x ∈ K ∨ x = t := by
  by_cases hm : t ∈ K
  · rw [kadd_in hm] at h; exact .inl h
  · rw [kadd_not hm] at h; simpa using h
theorem KN_ok (K M : List Tg) (ps : List PC) (n : Nat) (hn : K.Nodup) (hm : ∀ x ∈ K, x ∈ M) (hT : ∀ x ∈ T21, x ∈ M) : (KN K ps n).Nodup ∧ ∀ x ∈ KN K ps n, x ∈ M := by
  induction n with
  | zero => exact ⟨hn, hm⟩
  | succ n ih =>
    by_cases hl : n < ps.length
    · rw [KN_succ _ _ _ hl]
      refine ⟨kadd_nodup ih.1, fun x hx => ?_⟩
      rcases kadd_mem hx with h | h
      · exact ih.2 x h
      · rw [h]; exact hT _ (rtP_mem _)
    · rw [KN_none _ _ _ hl]
      exact ih
theorem KN_len (K : List Tg) (ps : List PC) (n : Nat) (hn : K.Nodup) (h20 : K.length ≤ 20) : (KN K ps n).length < 64 := by
  have h := KN_ok K (K ++ T21) ps n hn (fun x hx => List.mem_append_left _ hx) (fun x hx => List.mem_append_right _ hx)
  have := nodup_le (K ++ T21) _ h.1 h.2
  rw [List.length_append, T21_len] at this
  omega
end Go.Proofs.YtacboeeimnikdaaDoor
