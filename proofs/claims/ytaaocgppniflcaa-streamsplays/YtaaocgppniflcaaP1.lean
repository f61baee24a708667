/- Two ends' tables. -/
import Derived.Test.YtaaocgppniflcaaS
namespace Go.Proofs.Ytaaocgppniflcaa
open Go.RowKit
set_option linter.unusedVariables false
set_option linter.unusedSimpArgs false

/-- a stream's state, where it lives -/
def Tb.lv (T : Tb) (id : Int) : Option Int := match look T.L id with | some v => if v = 6 then none else some v | none => none
theorem Tb.st_lv (T : Tb) (id : Int) : T.st id = if isStr id then (if T.last (T.ours id) < id then 0 else (T.lv id).getD 6) else 6 := by
  unfold Tb.st Tb.lv
  split
  · split
    · rfl
    · cases look T.L id with
      | none => rfl
      | some v =>
        by_cases h : v = 6
        · subst h; rfl
        · simp [h]
  · rfl
theorem Tb.lv_some {T : Tb} {id v : Int} : T.lv id = some v ↔ look T.L id = some v ∧ v ≠ 6 := by
  unfold Tb.lv
  cases look T.L id with
  | none => simp
  | some u =>
    by_cases h : u = 6
    · simp [h]
      intro e; exact e.symm
    · simp only [if_neg h]
      constructor
      · intro e
        have := Option.some.inj e
        exact ⟨e, this ▸ h⟩
      · exact fun e => e.1
theorem Tb.mv_lv {T : Tb} (h : T.Ok) (id n : Int) (g : Bool) (k : Int) (j : Int) : (T.mv id n g k).lv j = if j = id then (if n = 6 then none else some n) else T.lv j := by
  have e : look (T.mv id n g k).L j = if (n == 6 && !(k == 6 && !g)) = true then (if j = id then none else look T.L j) else (if j = id then some n else look T.L j) := by
    show look (if _ then _ else _) j = _
    split
    · exact look_dele h.srt _ _
    · exact look_putm h.srt _ _ _
  unfold Tb.lv
  rw [e]
  by_cases h1 : j = id
  · simp only [if_pos h1]
    by_cases h2 : n = 6
    · simp only [h2]
      split <;> simp_all
    · have : (n == 6) = false := beq_eq_false_iff_ne.2 h2
      simp [this, h2]
  · simp only [if_neg h1, ite_self]
theorem mi_mi (s : Int) : mi (mi s) = s := by
  unfold mi
  repeat' split
  all_goals omega
theorem mi_six {s : Int} : mi s = 6 ↔ s = 6 := by
  unfold mi
  repeat' split
  all_goals omega
theorem mi_zero {s : Int} : mi s = 0 ↔ s = 0 := by
  unfold mi
  repeat' split
  all_goals omega
theorem mi_inj {s t : Int} (h : mi s = mi t) : s = t := by rw [← mi_mi s, h, mi_mi]
theorem ct_mi (s : Int) : ct (mi s) = ct s := by
  unfold ct mi
  repeat' split
  all_goals simp_all

/-- what we send: Barred, and nothing has turned, or Fine; and what the other end says to it -/
theorem mirrored (s k : Int) (hs : 0 ≤ s ∧ s ≤ 6) : nx s false k = (s, 4, 0) ∨ ∃ n, nx s false k = (n, 0, 0) ∧ (s = 6 → n = 6) ∧ ∃ x, nx (mi s) true k = (mi n, x, 0) ∧ (x = 0 ∨ x = 1) ∧ (n ≠ s → x = 0) := by
  by_cases hk : 1 ≤ k ∧ k ≤ 8
  · rcases states hs with rfl | rfl | rfl | rfl | rfl | rfl | rfl <;> rcases kinds hk with rfl | rfl | rfl | rfl | rfl | rfl | rfl | rfl <;>
      first
        | exact .inl rfl
        | exact .inr ⟨_, rfl, by decide, 0, rfl, .inl rfl, fun _ => rfl⟩
        | exact .inr ⟨_, rfl, by decide, 1, rfl, .inr rfl, fun h => absurd rfl h⟩
  · exact .inl (nx_out (by omega))

structure Mir (A B : Tb) : Prop where
  cl : B.cl = !A.cl
  lo : B.lo = A.lt
  lt : B.lt = A.lo
  lv : ∀ id, B.lv id = (A.lv id).map mi
theorem Mir.sym {A B : Tb} (h : Mir A B) : Mir B A := by
  refine ⟨by rw [h.cl]; simp, h.lt.symm, h.lo.symm, fun id => ?_⟩
  rw [h.lv]
  cases A.lv id with
  | none => rfl
  | some v => simp [mi_mi]
theorem Mir.ours {A B : Tb} (h : Mir A B) (id : Int) : B.ours id = !A.ours id := by
  unfold Tb.ours
  rw [h.cl]
  cases odd id <;> cases A.cl <;> rfl
theorem Mir.last {A B : Tb} (h : Mir A B) (l : Bool) : B.last l = A.last (!l) := by
  unfold Tb.last
  cases l
  · simp [h.lt]
  · simp [h.lo]
theorem Mir.st {A B : Tb} (h : Mir A B) (id : Int) : B.st id = mi (A.st id) := by
  rw [Tb.st_lv, Tb.st_lv, h.last, h.ours, h.lv, Bool.not_not]
  split
  · split
    · rfl
    · cases A.lv id with
      | none => rfl
      | some v => rfl
  · rfl
theorem Mir.new (c : Bool) : Mir (Tb.new c) (Tb.new (!c)) := ⟨rfl, rfl, rfl, fun _ => rfl⟩
theorem Mir.live {A B : Tb} (h : Mir A B) (ha : A.Ok) (hb : B.Ok) : B.live = A.live := by
  unfold Tb.live
  refine keys_ext hb.srt ha.srt _ _ fun x => ?_
  have e : ∀ T : Tb, (∃ v, look T.L x = some v ∧ (!(v == 6)) = true) ↔ ∃ v, T.lv x = some v := fun T => by
    constructor
    · rintro ⟨v, h1, h2⟩
      exact ⟨v, Tb.lv_some.2 ⟨h1, by simpa using h2⟩⟩
    · rintro ⟨v, h1⟩
      obtain ⟨h2, h3⟩ := Tb.lv_some.1 h1
      exact ⟨v, h2, by simpa using h3⟩
  simp only
  rw [e, e, h.lv]
  cases A.lv x <;> simp
theorem ct_six {v : Int} (h : ct v = true) : v ≠ 6 := by
  rintro rfl
  exact absurd h (by decide)
theorem Mir.count {A B : Tb} (h : Mir A B) (ha : A.Ok) (hb : B.Ok) (l : Bool) : B.count l = A.count (!l) := by
  unfold Tb.count
  have e := congrArg List.length (keys_ext hb.srt ha.srt (fun p => (B.ours p.1 == l) && ct p.2) (fun p => (A.ours p.1 == !l) && ct p.2) fun x => ?_)
  · simpa using e
  simp only [h.ours]
  constructor
  · rintro ⟨v, h1, h2⟩
    simp only [Bool.and_eq_true] at h2
    have h3 := Tb.lv_some.2 ⟨h1, ct_six h2.2⟩
    rw [h.lv] at h3
    cases ha1 : A.lv x with
    | none => rw [ha1] at h3; cases h3
    | some u =>
      rw [ha1] at h3
      have h4 : mi u = v := Option.some.inj h3
      refine ⟨u, (Tb.lv_some.1 ha1).1, ?_⟩
      rw [← h4, ct_mi] at h2
      rw [h2.2]
      have := h2.1
      cases hA : A.ours x <;> cases l <;> simp_all
  · rintro ⟨u, h1, h2⟩
    simp only [Bool.and_eq_true] at h2
    have h3 := Tb.lv_some.2 ⟨h1, ct_six h2.2⟩
    have h4 : B.lv x = some (mi u) := by rw [h.lv, h3]; rfl
    refine ⟨mi u, (Tb.lv_some.1 h4).1, ?_⟩
    rw [ct_mi, h2.2]
    have := h2.1
    cases hA : A.ours x <;> cases l <;> simp_all

theorem Tb.Ok.cut_st {T : Tb} (h : T.Ok) {id : Int} (hc : T.cut id = true) : T.st id = 6 := by
  unfold Tb.cut at hc
  cases hl : look T.L id with
  | none => rw [hl] at hc; exact absurd hc (by decide)
  | some v =>
    rw [hl] at hc
    have hr := h.look_range hl
    unfold Tb.st
    rw [if_pos (isStr_iff.2 ⟨hr.1, hr.2.2.1⟩), if_neg (by omega), hl]
    simpa using hc
/-- what one may send the other takes, and the two are mirrored again -/
theorem Mir.step {A B : Tb} (h : Mir A B) (ha : A.Ok) (hb : B.Ok) (id k : Int) :
    ((A.doo id false k).2.1 = 4 ∧ (A.doo id false k).1 = A) ∨ ((A.doo id false k).2.1 = 0 ∧ ((B.doo id true k).2.1 = 0 ∨ (B.doo id true k).2.1 = 1) ∧ Mir (A.doo id false k).1 (B.doo id true k).1) := by
  cases h1 : isK k
  · left; unfold Tb.doo; rw [if_pos h1]; exact ⟨rfl, rfl⟩
  cases h2 : isStr id
  · left; unfold Tb.doo; rw [if_neg (by rw [h1]; decide), if_pos h2]; exact ⟨rfl, rfl⟩
  have hmay : B.may id true k = A.may id false k := by
    unfold Tb.may
    rw [h.cl]
    cases A.cl <;> rfl
  have hst := h.st id
  have hs0 : (B.st id == 0) = (A.st id == 0) := by
    rw [hst, Bool.eq_iff_iff]
    simp [mi_zero]
  cases h3 : (A.st id == 0 && isB k && !A.may id false k)
  · have h3' : (B.st id == 0 && isB k && !B.may id true k) = false := by rw [hs0, hmay]; exact h3
    have eA : A.doo id false k = (if ((nx (A.st id) false k).2.1 == 0 && !((nx (A.st id) false k).1 == A.st id)) = true then A.mv id (nx (A.st id) false k).1 false k else A, (nx (A.st id) false k).2) := by
      conv => lhs; unfold Tb.doo
      rw [if_neg (by rw [h1]; decide), if_neg (by rw [h2]; decide), if_neg (by rw [h3]; decide), if_neg (by simp)]
    rcases mirrored (A.st id) k (ha.st_range id) with hn | ⟨n, hn, h6, x, hx, hx1, hx2⟩
    · left
      rw [eA, hn]
      exact ⟨rfl, by simp⟩
    · right
      rw [eA, hn]
      refine ⟨rfl, ?_⟩
      simp only
      cases h4 : (B.cut id && true && !(k == 5))
      · have eB : B.doo id true k = (if ((nx (B.st id) true k).2.1 == 0 && !((nx (B.st id) true k).1 == B.st id)) = true then B.mv id (nx (B.st id) true k).1 true k else B, (nx (B.st id) true k).2) := by
          conv => lhs; unfold Tb.doo
          rw [if_neg (by rw [h1]; decide), if_neg (by rw [h2]; decide), if_neg (by rw [h3']; decide), if_neg (by rw [h4]; decide)]
        rw [eB, hst, hx]
        refine ⟨hx1, ?_⟩
        simp only
        by_cases hne : n = A.st id
        · rw [if_neg (by simp [hne]), if_neg (by simp [hne])]
          exact h
        · have hx0 := hx2 hne
          subst hx0
          rw [if_pos (by simpa using hne), if_pos (by simp; exact fun e => hne (mi_inj e))]
          refine ⟨h.cl, ?_, ?_, fun j => ?_⟩
          · show (if B.ours id then max B.lo id else B.lo) = (if A.ours id then A.lt else max A.lt id)
            rw [h.ours, h.lo]
            cases A.ours id <;> rfl
          · show (if B.ours id then B.lt else max B.lt id) = (if A.ours id then max A.lo id else A.lo)
            rw [h.ours, h.lt]
            cases A.ours id <;> rfl
          · rw [Tb.mv_lv hb, Tb.mv_lv ha, h.lv]
            split
            · by_cases h6' : n = 6
              · subst h6'; rfl
              · rw [if_neg h6', if_neg (fun e => h6' (mi_six.1 e))]; rfl
            · rfl
      · have hc : B.cut id = true := by simp at h4; exact h4.1
        have hs6 : A.st id = 6 := by
          have := hb.cut_st hc
          rw [hst] at this
          exact mi_six.1 this
        have hn6 := h6 hs6
        have eB : B.doo id true k = (B, 1, 0) := by
          unfold Tb.doo
          rw [if_neg (by rw [h1]; decide), if_neg (by rw [h2]; decide), if_neg (by rw [h3']; decide), if_pos h4]
        rw [eB, if_neg (by simp [hn6, hs6])]
        exact ⟨.inr rfl, h⟩
  · left
    unfold Tb.doo
    rw [if_neg (by rw [h1]; decide), if_neg (by rw [h2]; decide), if_pos h3]
    exact ⟨rfl, rfl⟩
end Go.Proofs.Ytaaocgppniflcaa
