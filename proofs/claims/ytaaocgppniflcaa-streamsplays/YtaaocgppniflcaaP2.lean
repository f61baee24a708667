/- What comes behind a reset. -/
import Derived.Test.YtaaocgppniflcaaP1
namespace Go.Proofs.Ytaaocgppniflcaa
open Go.RowKit
set_option linter.unusedVariables false
set_option linter.unusedSimpArgs false

/-- a stream, and not above the greatest of its kind -/
def Tb.Born (T : Tb) (id : Int) : Prop := isStr id = true ∧ id ≤ T.last (T.ours id)
theorem Tb.Ok.born_st {T : Tb} (h : T.Ok) {id : Int} (hb : T.Born id) : 1 ≤ T.st id ∧ T.st id ≤ 6 ∧ T.st id = (look T.L id).getD 6 := by
  have e : T.st id = (look T.L id).getD 6 := by
    unfold Tb.st
    rw [if_pos hb.1, if_neg (by have := hb.2; omega)]
  rw [e]
  cases hl : look T.L id with
  | none => simp
  | some v =>
    have := h.look_range hl
    simp
    omega
theorem Tb.born_of {T : Tb} {id : Int} (hs : isStr id = true) (h : T.st id ≠ 0) : T.Born id := by
  refine ⟨hs, ?_⟩
  unfold Tb.st at h
  rw [if_pos hs] at h
  by_cases hl : T.last (T.ours id) < id
  · rw [if_pos hl] at h; exact absurd rfl h
  · omega
theorem Tb.Born.doo {T : Tb} (h : T.Ok) {id : Int} (hb : T.Born id) (j : Int) (g : Bool) (k : Int) : (T.doo j g k).1.Born id := by
  rcases T.doo_cases h j g k with e | ⟨n, _, _, _, _, _, _, _, _, e⟩
  · rw [e]; exact hb
  · rw [e]
    refine ⟨hb.1, ?_⟩
    have ho : (T.mv j n g k).ours id = T.ours id := rfl
    rw [ho, Tb.mv_last]
    have := hb.2
    split <;> omega
theorem Mir.born {A B : Tb} (h : Mir A B) {id : Int} (hb : A.Born id) : B.Born id := ⟨hb.1, by rw [h.last, h.ours, Bool.not_not]; exact hb.2⟩
/-- what we send is Fine or Barred -/
theorem sent_cases (s k : Int) (hs : 0 ≤ s ∧ s ≤ 6) (hk : 1 ≤ k ∧ k ≤ 8) : (nx s false k).2.1 = 0 ∨ (nx s false k).2.1 = 4 :=
  cells_all (fun s g k r => g = false → (r.2.1 = 0 ∨ r.2.1 = 4)) (by decide) s false k hs hk rfl
/-- our reset: Fine, and the stream is cut, or Barred -/
theorem reset_cut {A : Tb} (h : A.Ok) (id : Int) : (A.doo id false 6).2.1 = 4 ∨ ((A.doo id false 6).2.1 = 0 ∧ (A.doo id false 6).1.cut id = true ∧ A.Born id) := by
  cases h2 : isStr id
  · left
    unfold Tb.doo
    rw [if_neg (by decide), if_pos h2]
    rfl
  · have e : A.doo id false 6 = (if ((nx (A.st id) false 6).2.1 == 0 && !((nx (A.st id) false 6).1 == A.st id)) = true then A.mv id (nx (A.st id) false 6).1 false 6 else A, (nx (A.st id) false 6).2) := by
      conv => lhs; unfold Tb.doo
      rw [if_neg (by decide), if_neg (by rw [h2]; decide), if_neg (by
        have : isB 6 = false := by decide
        rw [this]; simp), if_neg (by simp)]
    have hc : nx (A.st id) false 6 = (A.st id, 4, 0) ∨ (nx (A.st id) false 6 = (6, 0, 0) ∧ A.st id ≠ 6 ∧ A.st id ≠ 0) :=
      cells_all (fun s g k r => g = false → k = 6 → (r = (s, 4, 0) ∨ (r = (6, 0, 0) ∧ s ≠ 6 ∧ s ≠ 0))) (by decide) (A.st id) false 6 (h.st_range id) (by omega) rfl rfl
    rcases hc with hc | ⟨hc, h6, h0⟩
    · left; rw [e, hc]
    · right
      rw [e, hc]
      refine ⟨rfl, ?_, Tb.born_of h2 h0⟩
      simp only
      rw [if_pos (by simp; exact fun e => h6 e.symm)]
      show ((look (putm A.L id 6) id).getD 0 == 6) = true
      rw [look_putm h.srt, if_pos rfl]
      rfl
/-- what comes behind our reset is ignored -/
theorem late_ignored {A B : Tb} (ha : A.Ok) (hb : B.Ok) {id k : Int} (hc : A.cut id = true) (hbo : B.Born id) (h0 : (B.doo id false k).2.1 = 0) : A.doo id true k = (A, 1, 0) := by
  have hst := ha.cut_st hc
  have hs := hbo.1
  have hbs := hb.born_st hbo
  have hk : isK k = true := by
    cases h1 : isK k
    · exfalso
      unfold Tb.doo at h0
      rw [if_pos h1] at h0
      simp at h0
    · rfl
  have h5 : (k == 5) = false := by
    cases h1 : (k == 5)
    · rfl
    · exfalso
      have hk5 : k = 5 := by simpa using h1
      subst hk5
      have e : B.doo id false 5 = (if ((nx (B.st id) false 5).2.1 == 0 && !((nx (B.st id) false 5).1 == B.st id)) = true then B.mv id (nx (B.st id) false 5).1 false 5 else B, (nx (B.st id) false 5).2) := by
        conv => lhs; unfold Tb.doo
        rw [if_neg (by decide), if_neg (by rw [hs]; decide), if_neg (by
          have : (B.st id == 0) = false := beq_eq_false_iff_ne.2 (by omega)
          rw [this]; simp), if_neg (by simp)]
      have hc : B.st id ≠ 0 → (nx (B.st id) false 5).2.1 = 4 :=
        cells_all (fun s g k r => g = false → k = 5 → s ≠ 0 → r.2.1 = 4) (by decide) (B.st id) false 5 (hb.st_range id) (by omega) rfl rfl
      rw [e] at h0
      simp only at h0
      rw [hc (by omega)] at h0
      exact absurd h0 (by decide)
  unfold Tb.doo
  rw [if_neg (by rw [hk]; decide), if_neg (by rw [hs]; decide), if_neg (by rw [hst]; simp), if_pos (by rw [hc, h5]; rfl)]
/-- a got reset closes what was born -/
theorem reset_got {B : Tb} (hb : B.Ok) {id : Int} (hbo : B.Born id) : (B.doo id true 6).1.st id = 6 := by
  have hs := hbo.1
  have hbs := hb.born_st hbo
  cases hc : B.cut id
  · have e : B.doo id true 6 = (if ((nx (B.st id) true 6).2.1 == 0 && !((nx (B.st id) true 6).1 == B.st id)) = true then B.mv id (nx (B.st id) true 6).1 true 6 else B, (nx (B.st id) true 6).2) := by
      conv => lhs; unfold Tb.doo
      rw [if_neg (by decide), if_neg (by rw [hs]; decide), if_neg (by
        have : isB 6 = false := by decide
        rw [this]; simp), if_neg (by rw [hc]; simp)]
    have hn : B.st id ≠ 0 → ((nx (B.st id) true 6) = (6, 0, 0) ∧ B.st id ≠ 6 ∨ (nx (B.st id) true 6) = (6, 1, 0) ∧ B.st id = 6) :=
      cells_all (fun s g k r => g = true → k = 6 → s ≠ 0 → (r = (6, 0, 0) ∧ s ≠ 6 ∨ r = (6, 1, 0) ∧ s = 6)) (by decide) (B.st id) true 6 (hb.st_range id) (by omega) rfl rfl
    rcases hn (by omega) with ⟨h1, h2⟩ | ⟨h1, h2⟩
    · rw [e, h1]
      simp only
      rw [if_pos (by simp; exact fun e => h2 e.symm), Tb.st_lv, if_pos hs]
      have ho : (B.mv id 6 true 6).ours id = B.ours id := rfl
      rw [if_neg (by rw [ho, Tb.mv_last]; simp; omega), Tb.mv_lv hb, if_pos rfl, if_pos rfl]
      rfl
    · rw [e, h1]
      exact h2
  · have e : B.doo id true 6 = (B, 1, 0) := by
      unfold Tb.doo
      rw [if_neg (by decide), if_neg (by rw [hs]; decide), if_neg (by
        have : isB 6 = false := by decide
        rw [this]; simp), if_pos (by rw [hc]; rfl)]
    rw [e]
    exact hb.cut_st hc
/-- what is closed does not live -/
theorem Tb.Ok.not_live {T : Tb} (h : T.Ok) {id : Int} (h6 : T.st id = 6) : ¬ id ∈ T.live := by
  intro hm
  obtain ⟨v, hl, hv⟩ := (mem_keys h.srt _ id).1 hm
  have hr := h.look_range hl
  unfold Tb.st at h6
  rw [if_pos (isStr_iff.2 ⟨hr.1, hr.2.2.1⟩), if_neg (by omega), hl] at h6
  simp at hv h6
  omega
end Go.Proofs.Ytaaocgppniflcaa
