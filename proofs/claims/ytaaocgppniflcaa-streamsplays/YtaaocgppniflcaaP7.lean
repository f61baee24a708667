/- An event keeps list and table alike. -/
import Derived.Test.YtaaocgppniflcaaP6
namespace Go.Proofs.Ytaaocgppniflcaa
open Go.RowKit
set_option linter.unusedVariables false
set_option linter.unusedSimpArgs false

theorem Rl.moved {T : Tb} {l : List O1} (h : Rl T l) (ok : T.Ok) {id n : Int} {g : Bool} {k : Int} (hid : isStr id = true) (hn : 1 ≤ n ∧ n ≤ 6) (h6 : T.st id ≠ 6) (hr : (k == 6 && !g) = true → n = 6) :
    Rl (T.mv id n g k) (rput l id n (k == 6 && !g)) := by
  have hi := isStr_iff.1 hid
  have okm := T.mv_ok ok g k hi hn
  obtain ⟨a1, a2, a3, a4⟩ := rput_lk h.nd id n (k == 6 && !g)
  have hcf : T.cut id = false := by
    cases hc : T.cut id
    · rfl
    · exact absurd (ok.cut_st hc) h6
  have hold : ((lk l id).map (·.2)).getD false = false := by
    have := h.cut id
    rw [hcf] at this
    unfold rcut at this
    cases hl : lk l id with
    | none => rfl
    | some y => rw [hl] at this; exact this
  rw [hold, Bool.false_or] at a3
  have hbid : (T.mv id n g k).Born id := ⟨hid, by
    have ho : (T.mv id n g k).ours id = T.ours id := rfl
    rw [ho, Tb.mv_last]
    simp
    omega⟩
  have hlook : look (T.mv id n g k).L id = if (n == 6 && !(k == 6 && !g)) = true then Option.none else Option.some n := by
    have e : (T.mv id n g k).L = if (n == 6 && !(k == 6 && !g)) = true then dele T.L id else putm T.L id n := rfl
    rw [e]
    split
    · rw [look_dele ok.srt, if_pos rfl]
    · rw [look_putm ok.srt, if_pos rfl]
  have hborn : ∀ x, T.Born x → (T.mv id n g k).Born x := fun x hx => ⟨hx.1, by
    have ho : (T.mv id n g k).ours x = T.ours x := rfl
    rw [ho, Tb.mv_last]
    have := hx.2
    split <;> omega⟩
  have htop : ∀ o : Bool, (T.mv id n g k).top o = if (odd id == o) = true then max (T.top o) id else T.top o := fun o => by
    show (T.mv id n g k).last (o == T.cl) = _
    rw [Tb.mv_last]
    unfold Tb.top Tb.ours
    cases odd id <;> cases o <;> cases T.cl <;> rfl
  have hts : ∀ o : Bool, topS (rput l id n (k == 6 && !g)) (if o = true then 1 else 0) = if (odd id == o) = true then max (topS l (if o = true then 1 else 0)) id else topS l (if o = true then 1 else 0) := fun o => by
    have htm := tmod_odd hi.1
    have key : (id.tmod 2 == (if o = true then (1 : Int) else 0)) = (odd id == o) := by
      rw [htm]
      cases odd id <;> cases o <;> rfl
    rcases rput_cases l id n (k == 6 && !g) with ⟨b1, b2⟩ | ⟨i, hil, b1, b2, b3⟩
    · rw [b2, topS_snoc]
      simp only
      rw [key]
    · rw [b3, topS_map (map_set_fst hil (x := (id, n, l[i].2.2 || (k == 6 && !g))) b1.symm)]
      by_cases ho : (odd id == o) = true
      · rw [if_pos ho]
        have hb := h.born l[i] (List.getElem_mem hil)
        rw [b1] at hb
        have h2 := hb.2
        rw [T.last_top] at h2
        have ho' : odd id = o := by simpa using ho
        rw [ho'] at h2
        have : topS l (if o = true then 1 else 0) = T.top o := by cases o; exact h.t0; exact h.t1
        rw [this]
        omega
      · rw [if_neg ho]
  refine ⟨a1, fun x hx => ?_, fun j s b hl => ?_, fun j hl => ?_, ?_, ?_⟩
  · rcases a4 x hx with e | hx
    · rw [e]; exact hbid
    · exact hborn _ (h.born x hx)
  · by_cases hj : j = id
    · subst hj
      rw [a3] at hl
      injection hl with hl
      injection hl with e1 e2
      subst e1
      refine ⟨?_, ?_⟩
      · rw [(okm.born_st hbid).2.2, hlook]
        split
        · rename_i hc
          simp at hc
          exact hc.1.symm
        · rfl
      · unfold Tb.cut
        rw [hlook]
        by_cases hn6 : n = 6
        · subst hn6
          rw [← e2]
          cases (k == 6 && !g) <;> rfl
        · have hcu : (k == 6 && !g) = false := by
            cases hc : (k == 6 && !g)
            · rfl
            · exact absurd (hr hc) hn6
          rw [← e2, hcu, beq_eq_false_iff_ne.2 hn6]
          simp [hn6]
    · rw [a2 j hj] at hl
      have hs := h.some j s b hl
      have hb : T.Born j := by
        have := (lk_iff h.nd j (s, b)).1 hl
        exact h.born _ this
      have hk := Tb.mv_look ok id n g k j hj
      refine ⟨?_, ?_⟩
      · rw [(okm.born_st (hborn _ hb)).2.2, hk, ← (ok.born_st hb).2.2]
        exact hs.1
      · rw [← hs.2]
        unfold Tb.cut
        rw [hk]
  · have hj : j ≠ id := fun e => by rw [e, a3] at hl; cases hl
    rw [a2 j hj] at hl
    rw [Tb.mv_look ok id n g k j hj]
    exact h.none j hl
  · have := hts true
    rw [htop true]
    simp only [if_true] at this
    rw [this, h.t1]
  · have := hts false
    rw [htop false]
    simp only [Bool.false_eq_true, if_false] at this
    rw [this, h.t0]
/-- an event: the same verdict, and alike again -/
theorem Rl.step {T : Tb} {l : List O1} (h : Rl T l) (ok : T.Ok) (id : Int) (g : Bool) (k : Int) : (rdo T.cl l id g k).2 = (T.doo id g k).2 ∧ Rl (T.doo id g k).1 (rdo T.cl l id g k).1 := by
  unfold rdo Tb.doo
  by_cases h1 : isK k = false
  · rw [if_pos h1, if_pos h1]; exact ⟨rfl, h⟩
  rw [if_neg h1, if_neg h1]
  by_cases h2 : isStr id = false
  · rw [if_pos h2, if_pos h2]; exact ⟨rfl, h⟩
  rw [if_neg h2, if_neg h2]
  have hid : isStr id = true := by simpa using h2
  have hk : isK k = true := by simpa using h1
  rw [h.st ok id, h.cut id, Rl.may (isStr_iff.1 hid).1 g k]
  by_cases h3 : (T.st id == 0 && isB k && !T.may id g k) = true
  · rw [if_pos h3, if_pos h3]; exact ⟨rfl, h⟩
  rw [if_neg h3, if_neg h3]
  by_cases h4 : (T.cut id && g && !(k == 5)) = true
  · rw [if_pos h4, if_pos h4]; exact ⟨rfl, h⟩
  rw [if_neg h4, if_neg h4]
  refine ⟨rfl, ?_⟩
  simp only
  by_cases h5 : ((nx (T.st id) g k).2.1 == 0 && !((nx (T.st id) g k).1 == T.st id)) = true
  · rw [if_pos h5, if_pos h5]
    have h5' := h5
    simp at h5'
    obtain ⟨a1, a2, a3, _, _⟩ := nx_new (g := g) (ok.st_range id) (isK_iff.1 hk) h5'.2
    refine h.moved ok hid ⟨a1, a2⟩ a3 fun hc => ?_
    simp at hc
    exact cells_all (fun s g k r => k = 6 → g = false → r.1 ≠ s → r.1 = 6) (by decide) (T.st id) g k (ok.st_range id) (isK_iff.1 hk) hc.1 hc.2 h5'.2
  · rw [if_neg h5, if_neg h5]; exact h
end Go.Proofs.Ytaaocgppniflcaa
