/- Store, of the cache and the book: plain facts. -/
import Derived.Test.YtfponcdhaefkdaaDoorGa
import Derived.Deep.Cut
namespace Go.Proofs.YtfponcdhaefkdaaDoor
open Go.RowKit
set_option linter.unusedVariables false
set_option linter.unusedSimpArgs false
/-- the size of the last that went, if it was not late -/
def lstN (c : Ca) (B : List Kn) (n : Nat) : Nat := if h : 0 < n ∧ n - 1 < B.length then (if c.lf < c.ck - (B[n - 1]'h.2).ar then 0 else ksz (B[n - 1]'h.2)) else 0
/-- what a Store lets go -/
structure Sp (c : Ca) (L : List En) (B : List Kn) (ok : Bool) (n : Nat) (D : List Int) (z : Nat) : Prop where
  nl : n ≤ B.length
  Ds : D = (B.take n).map (·.st)
  late : ∀ k ∈ B.take n, ok = true ∨ c.lf < c.ck - k.ar
  rest : ∀ k ∈ B.drop n, ¬ c.lf < c.ck - k.ar
  room : 0 < lstN c B n → ¬ (((B.length - n : Nat) : Int) + 2 ≤ c.me ∧ ((totK (B.drop n) + lstN c B n + z : Nat) : Int) ≤ c.mb)
theorem Rl.map_st {L : List En} {B : List Kn} (h : Rl L B) (n : Nat) : (L.take n).map (·.st) = (B.take n).map (·.st) := by
  induction L generalizing B n with
  | nil => cases B with
    | nil => simp
    | cons k B => have := h.len; simp at this
  | cons e L ih => cases B with
    | nil => have := h.len; simp at this
    | cons k B =>
      cases n with
      | zero => rfl
      | succ n =>
        rw [List.take_succ_cons, List.take_succ_cons, List.map_cons, List.map_cons, ih h.tail.2, h.tail.1.ee.st]
theorem take_len {α : Type} (p : α → Bool) (L : List α) : L.take (L.takeWhile p).length = L.takeWhile p ∧ L.drop (L.takeWhile p).length = L.dropWhile p := by
  induction L with
  | nil => exact ⟨rfl, rfl⟩
  | cons x L ih =>
    by_cases hx : p x = true
    · rw [List.takeWhile_cons_of_pos hx, List.dropWhile_cons_of_pos hx, List.length_cons, List.take_succ_cons, List.drop_succ_cons, ih.1, ih.2]
      exact ⟨rfl, rfl⟩
    · rw [List.takeWhile_cons_of_neg hx, List.dropWhile_cons_of_neg hx]
      exact ⟨rfl, rfl⟩
theorem late_all {c : Ca} {L : List En} : ∀ e ∈ L.takeWhile (exB c), exB c e = true := fun e he => List.all_eq_true.1 (List.all_takeWhile (p := exB c) (l := L)) e he
/-- those that stay are young -/
theorem young_all {c : Ca} {L : List En} (hu : L.Pairwise fun a b => a.ar ≤ b.ar) : ∀ e ∈ L.dropWhile (exB c), exB c e = false := by
  induction L with
  | nil => intro e he; simp at he
  | cons x L ih =>
    intro e he
    by_cases hx : exB c x = true
    · rw [List.dropWhile_cons_of_pos hx] at he
      exact ih (List.pairwise_cons.1 hu).2 e he
    · rw [List.dropWhile_cons_of_neg hx] at he
      have hx' : exB c x = false := by simpa using hx
      rcases List.mem_cons.1 he with rfl | he
      · exact hx'
      · have := (List.pairwise_cons.1 hu).1 e he
        unfold exB at hx' ⊢
        rw [decide_eq_false_iff_not] at hx' ⊢
        omega
theorem Rl.late {L : List En} {B : List Kn} (h : Rl L B) (c : Ca) (i : Nat) (h1 : i < L.length) (h2 : i < B.length) : exB c L[i] = decide (c.lf < c.ck - B[i].ar) := by
  unfold exB
  rw [(h.re i h1 h2).ee.ar]
theorem ev_last (c : Ca) (z : Nat) (M : List En) (h : 0 < (evD c z M).length) : ∃ x, M[(evD c z M).length - 1]? = some x ∧ lkB c (x :: evL c z M) z = true := by
  induction M with
  | nil => simp [evD] at h
  | cons x M ih =>
    by_cases hl : lkB c (x :: M) z = true
    · have e1 : evD c z (x :: M) = x :: evD c z M := by rw [evD, if_pos hl]
      have e2 : evL c z (x :: M) = evL c z M := by rw [evL, if_pos hl]
      rw [e1, e2]
      by_cases h0 : 0 < (evD c z M).length
      · obtain ⟨y, h1, h2⟩ := ih h0
        refine ⟨y, ?_, h2⟩
        rw [List.length_cons, Nat.add_sub_cancel]
        obtain ⟨m, hm⟩ : ∃ m, (evD c z M).length = m + 1 := ⟨(evD c z M).length - 1, by omega⟩
        rw [hm, List.getElem?_cons_succ]
        rw [hm, Nat.add_sub_cancel] at h1
        exact h1
      · have e3 : evD c z M = [] := List.eq_nil_of_length_eq_zero (by omega)
        have e4 : evL c z M = M := by have := ev_app c z M; rw [e3] at this; exact this
        refine ⟨x, ?_, ?_⟩
        · rw [e3]; rfl
        · rw [e4]; exact hl
    · have e1 : evD c z (x :: M) = [] := by rw [evD, if_neg hl]
      rw [e1] at h
      simp at h
/-- refused: those that are late go -/
theorem Sp.no {c : Ca} {L : List En} {B : List Kn} (h : Rl L B) (hu : L.Pairwise fun a b => a.ar ≤ b.ar) (z : Nat) : Sp c L B false (L.takeWhile (exB c)).length ((L.takeWhile (exB c)).map (·.st)) z ∧ L.dropWhile (exB c) = L.drop (L.takeWhile (exB c)).length := by
  obtain ⟨t1, t2⟩ := take_len (exB c) L
  have hn : (L.takeWhile (exB c)).length ≤ L.length := (List.takeWhile_sublist _).length_le
  have hl := h.len
  have late : ∀ k ∈ B.take (L.takeWhile (exB c)).length, c.lf < c.ck - k.ar := fun k hk => by
    obtain ⟨i, hi, rfl⟩ := List.getElem_of_mem hk
    rw [List.length_take] at hi
    rw [List.getElem_take]
    have h1 : L[i]'(by omega) ∈ L.takeWhile (exB c) := by
      have : (L.takeWhile (exB c))[i]'(by omega) = L[i]'(by omega) := by
        have := congrArg (fun l => l[i]?) t1
        simp only [List.getElem?_take] at this
        rw [if_pos (by omega), List.getElem?_eq_getElem (by omega), List.getElem?_eq_getElem (by omega)] at this
        exact (Option.some.inj this).symm
      rw [← this]
      exact List.getElem_mem _
    have := late_all _ h1
    rw [h.late c i (by omega) (by omega)] at this
    exact of_decide_eq_true this
  refine ⟨⟨by omega, by rw [← h.map_st, t1], fun k hk => .inr (late k hk), fun k hk => ?_, fun hp => ?_⟩, t2.symm⟩
  · obtain ⟨i, hi, rfl⟩ := List.getElem_of_mem hk
    rw [List.length_drop] at hi
    rw [List.getElem_drop]
    have h1 : L[(L.takeWhile (exB c)).length + i]'(by omega) ∈ L.dropWhile (exB c) := by
      rw [← t2]
      have : (L.drop (L.takeWhile (exB c)).length)[i]'(by rw [List.length_drop]; omega) = L[(L.takeWhile (exB c)).length + i]'(by omega) := List.getElem_drop
      rw [← this]
      exact List.getElem_mem _
    have := young_all hu _ h1
    rw [h.late c _ (by omega) (by omega)] at this
    exact of_decide_eq_false this
  · exfalso
    unfold lstN at hp
    split at hp
    · rename_i hh
      rw [if_pos (late _ (List.mem_take_iff_getElem.2 ⟨(L.takeWhile (exB c)).length - 1, by omega, rfl⟩))] at hp
      omega
    · omega
/-- kept: the late ones go, and those that there is no room for -/
theorem Sp.yes {c : Ca} {L : List En} {B : List Kn} (h : Rl L B) (hu : L.Pairwise fun a b => a.ar ≤ b.ar) (z : Nat) : ∃ n, Sp c L B true n ((L.takeWhile (exB c)).map (·.st) ++ (evD c z (L.dropWhile (exB c))).map (·.st)) z ∧ evL c z (L.dropWhile (exB c)) = L.drop n := by
  obtain ⟨⟨s1, s2, s3, s4, s5⟩, t2⟩ := Sp.no h hu (c := c) z
  obtain ⟨t1, _⟩ := take_len (exB c) L
  obtain ⟨M, hM⟩ : ∃ M, L.dropWhile (exB c) = M := ⟨_, rfl⟩
  obtain ⟨k, hk⟩ : ∃ k, (L.takeWhile (exB c)).length = k := ⟨_, rfl⟩
  rw [hM] at t2 ⊢
  rw [hk] at s1 s2 s3 s4 s5 t1 t2
  have ha := ev_app c z M
  have hl := h.len
  obtain ⟨d, hd⟩ : ∃ d, (evD c z M).length = d := ⟨_, rfl⟩
  have hML : M.length = L.length - k := by rw [t2, List.length_drop]
  have hdM : d ≤ M.length := by rw [← ha, List.length_append]; omega
  have e1 : evD c z M = M.take d := by
    have : (evD c z M ++ evL c z M).take d = M.take d := by rw [ha]
    rw [List.take_left' hd] at this
    exact this
  have e2 : evL c z M = M.drop d := by
    have : (evD c z M ++ evL c z M).drop d = M.drop d := by rw [ha]
    rw [List.drop_left' hd] at this
    exact this
  have e3 : M.drop d = L.drop (k + d) := by rw [t2, List.drop_drop]
  refine ⟨k + d, ⟨by omega, ?_, fun _ _ => .inl rfl, fun x hx => s4 x ?_, fun hp hr => ?_⟩, by rw [e2, e3]⟩
  · rw [e1, ← h.map_st, ← List.map_append, ← t1, t2, List.take_add]
  · rw [← List.drop_drop] at hx
    exact (List.drop_sublist _ _).subset hx
  · unfold lstN at hp hr
    split at hp
    · rename_i hh
      by_cases hlt : c.lf < c.ck - (B[k + d - 1]'hh.2).ar
      · rw [if_pos hlt] at hp; omega
      · by_cases hd0 : 0 < d
        · obtain ⟨x, hx, hlk⟩ := ev_last c z M (by rw [hd]; exact hd0)
          rw [dif_pos hh, if_neg hlt] at hr
          have hidx : L[k + d - 1]? = some x := by
            rw [hd, t2, List.getElem?_drop] at hx
            rw [show k + d - 1 = k + (d - 1) by omega]
            exact hx
          rw [List.getElem?_eq_getElem (by omega)] at hidx
          have hx2 := Option.some.inj hidx
          have hsz := (h.re (k + d - 1) (by omega) hh.2).ee.sz
          rw [hx2] at hsz
          have ht := (h.drop (k + d)).tot
          unfold lkB at hlk
          rw [e2, e3] at hlk
          simp only [Bool.or_eq_true, decide_eq_true_eq, List.length_cons, List.length_drop] at hlk
          have htx : totL (x :: L.drop (k + d)) = x.sz + totL (L.drop (k + d)) := by unfold totL; rw [List.map_cons, List.sum_cons]
          rw [htx, ht, hsz] at hlk
          unfold ksz at hr
          rcases hlk with hlk | hlk
          · omega
          · omega
        · exfalso
          have d0 : d = 0 := by omega
          subst d0
          rcases s3 (B[k + 0 - 1]'hh.2) (List.mem_take_iff_getElem.2 ⟨k - 1, by omega, by simp⟩) with e | e
          · cases e
          · exact hlt e
    · omega
theorem Sp.ls0 {c : Ca} {L : List En} {B : List Kn} {n : Nat} {D : List Int} {z : Nat} (h : Sp c L B false n D z) : lstN c B n = 0 := by
  unfold lstN
  split
  · rename_i hh
    rcases h.late (B[n - 1]'hh.2) (List.mem_take_iff_getElem.2 ⟨n - 1, by omega, rfl⟩) with e | e
    · cases e
    · rw [if_pos e]
  · rfl
end Go.Proofs.YtfponcdhaefkdaaDoor
