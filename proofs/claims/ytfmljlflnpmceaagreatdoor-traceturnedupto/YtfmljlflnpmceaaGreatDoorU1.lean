/- Two ends of one log: P24.3, plain. -/
import Derived.Test.YtfmljlflnpmceaaGreatDoorVz1
namespace Go.Proofs.YtfmljlflnpmceaaGreatDoor
open Go.RowKit
set_option linter.unusedVariables false
set_option linter.unusedSimpArgs false
set_option linter.unnecessarySimpa false
/-- a stream's state, where it lives -/
def Tb.lv (T : Tb) (id : Int) : Option Int := match look T.L id with | some v => if v = 6 then none else some v | none => none
theorem Tb.st_lv (T : Tb) (id : Int) : T.st id = if isStr id then (if T.last (T.ours id) < id then 0 else (T.lv id).getD 6) else 6 := by
  unfold Tb.st Tb.lv
  split
  · split
    · rfl
    · cases look T.L id with
      | none => rfl
      | some v =>
        by_cases h : v = 6
        · subst h; rfl
        · simp [h]
  · rfl
theorem Tb.lv_some {T : Tb} {id v : Int} : T.lv id = some v ↔ look T.L id = some v ∧ v ≠ 6 := by
  unfold Tb.lv
  cases look T.L id with
  | none => simp
  | some u =>
    by_cases h : u = 6
    · simp [h]
      intro e; exact e.symm
    · simp only [if_neg h]
      constructor
      · intro e
        have := Option.some.inj e
        exact ⟨e, this ▸ h⟩
      · exact fun e => e.1
theorem Tb.mv_lv {T : Tb} (h : T.Ok) (id n : Int) (g : Bool) (k : Int) (j : Int) : (T.mv id n g k).lv j = if j = id then (if n = 6 then none else some n) else T.lv j := by
  have e : look (T.mv id n g k).L j = if (n == 6 && !(k == 6 && !g)) = true then (if j = id then none else look T.L j) else (if j = id then some n else look T.L j) := by
    show look (if _ then _ else _) j = _
    split
    · exact look_dele h.srt _ _
    · exact look_putm h.srt _ _ _
  unfold Tb.lv
  rw [e]
  by_cases h1 : j = id
  · simp only [if_pos h1]
    by_cases h2 : n = 6
    · simp only [h2]
      split <;> simp_all
    · have : (n == 6) = false := beq_eq_false_iff_ne.2 h2
      simp [this, h2]
  · simp only [if_neg h1, ite_self]
theorem mi_mi (s : Int) : mi (mi s) = s := by
  unfold mi
  repeat' split
  all_goals omega
theorem mi_six {s : Int} : mi s = 6 ↔ s = 6 := by
  unfold mi
  repeat' split
  all_goals omega
theorem mi_zero {s : Int} : mi s = 0 ↔ s = 0 := by
  unfold mi
  repeat' split
  all_goals omega
theorem mi_inj {s t : Int} (h : mi s = mi t) : s = t := by rw [← mi_mi s, h, mi_mi]
theorem ct_mi (s : Int) : ct (mi s) = ct s := by
  unfold ct mi
  repeat' split
  all_goals simp_all

/-- what we send: Barred, and nothing has turned, or Fine; and what the other end says to it -/
theorem mirrored (s k : Int) (hs : 0 ≤ s ∧ s ≤ 6) : nx s false k = (s, 4, 0) ∨ ∃ n, nx s false k = (n, 0, 0) ∧ (s = 6 → n = 6) ∧ ∃ x, nx (mi s) true k = (mi n, x, 0) ∧ (x = 0 ∨ x = 1) ∧ (n ≠ s → x = 0) := by
  by_cases hk : 1 ≤ k ∧ k ≤ 8
  · rcases states hs with rfl | rfl | rfl | rfl | rfl | rfl | rfl <;> rcases kinds hk with rfl | rfl | rfl | rfl | rfl | rfl | rfl | rfl <;>
      first
        | exact .inl rfl
        | exact .inr ⟨_, rfl, by decide, 0, rfl, .inl rfl, fun _ => rfl⟩
        | exact .inr ⟨_, rfl, by decide, 1, rfl, .inr rfl, fun h => absurd rfl h⟩
  · exact .inl (nx_out (by omega))

structure Mir (A B : Tb) : Prop where
  cl : B.cl = !A.cl
  lo : B.lo = A.lt
  lt : B.lt = A.lo
  lv : ∀ id, B.lv id = (A.lv id).map mi
theorem Mir.ours {A B : Tb} (h : Mir A B) (id : Int) : B.ours id = !A.ours id := by
  unfold Tb.ours
  rw [h.cl]
  cases odd id <;> cases A.cl <;> rfl
theorem Mir.last {A B : Tb} (h : Mir A B) (l : Bool) : B.last l = A.last (!l) := by
  unfold Tb.last
  cases l
  · simp [h.lt]
  · simp [h.lo]
theorem Mir.st {A B : Tb} (h : Mir A B) (id : Int) : B.st id = mi (A.st id) := by
  rw [Tb.st_lv, Tb.st_lv, h.last, h.ours, h.lv, Bool.not_not]
  split
  · split
    · rfl
    · cases A.lv id with
      | none => rfl
      | some v => rfl
  · rfl
theorem Mir.new (c : Bool) : Mir (Tb.new c) (Tb.new (!c)) := ⟨rfl, rfl, rfl, fun _ => rfl⟩
theorem Mir.live {A B : Tb} (h : Mir A B) (ha : A.Ok) (hb : B.Ok) : B.live = A.live := by
  unfold Tb.live
  refine keys_ext hb.srt ha.srt _ _ fun x => ?_
  have e : ∀ T : Tb, (∃ v, look T.L x = some v ∧ (!(v == 6)) = true) ↔ ∃ v, T.lv x = some v := fun T => by
    constructor
    · rintro ⟨v, h1, h2⟩
      exact ⟨v, Tb.lv_some.2 ⟨h1, by simpa using h2⟩⟩
    · rintro ⟨v, h1⟩
      obtain ⟨h2, h3⟩ := Tb.lv_some.1 h1
      exact ⟨v, h2, by simpa using h3⟩
  simp only
  rw [e, e, h.lv]
  cases A.lv x <;> simp
theorem ct_six {v : Int} (h : ct v = true) : v ≠ 6 := by
  rintro rfl
  exact absurd h (by decide)
theorem Mir.count {A B : Tb} (h : Mir A B) (ha : A.Ok) (hb : B.Ok) (l : Bool) : B.count l = A.count (!l) := by
  unfold Tb.count
  have e := congrArg List.length (keys_ext hb.srt ha.srt (fun p => (B.ours p.1 == l) && ct p.2) (fun p => (A.ours p.1 == !l) && ct p.2) fun x => ?_)
  · simpa using e
  simp only [h.ours]
  constructor
  · rintro ⟨v, h1, h2⟩
    simp only [Bool.and_eq_true] at h2
    have h3 := Tb.lv_some.2 ⟨h1, ct_six h2.2⟩
    rw [h.lv] at h3
    cases ha1 : A.lv x with
    | none => rw [ha1] at h3; cases h3
    | some u =>
      rw [ha1] at h3
      have h4 : mi u = v := Option.some.inj h3
      refine ⟨u, (Tb.lv_some.1 ha1).1, ?_⟩
      rw [← h4, ct_mi] at h2
      rw [h2.2]
      have := h2.1
      cases hA : A.ours x <;> cases l <;> simp_all
  · rintro ⟨u, h1, h2⟩
    simp only [Bool.and_eq_true] at h2
    have h3 := Tb.lv_some.2 ⟨h1, ct_six h2.2⟩
    have h4 : B.lv x = some (mi u) := by rw [h.lv, h3]; rfl
    refine ⟨mi u, (Tb.lv_some.1 h4).1, ?_⟩
    rw [ct_mi, h2.2]
    have := h2.1
    cases hA : A.ours x <;> cases l <;> simp_all

theorem Tb.Ok.cut_st {T : Tb} (h : T.Ok) {id : Int} (hc : T.cut id = true) : T.st id = 6 := by
  unfold Tb.cut at hc
  cases hl : look T.L id with
  | none => rw [hl] at hc; exact absurd hc (by decide)
  | some v =>
    rw [hl] at hc
    have hr := h.look_range hl
    unfold Tb.st
    rw [if_pos (isStr_iff.2 ⟨hr.1, hr.2.2.1⟩), if_neg (by omega), hl]
    simpa using hc
/-- what one may send the other takes, and the two are mirrored again -/
theorem Mir.step {A B : Tb} (h : Mir A B) (ha : A.Ok) (hb : B.Ok) (id k : Int) :
    ((A.doo id false k).2.1 = 4 ∧ (A.doo id false k).1 = A) ∨ ((A.doo id false k).2.1 = 0 ∧ ((B.doo id true k).2.1 = 0 ∨ (B.doo id true k).2.1 = 1) ∧ Mir (A.doo id false k).1 (B.doo id true k).1) := by
  cases h1 : isK k
  · left; unfold Tb.doo; rw [if_pos h1]; exact ⟨rfl, rfl⟩
  cases h2 : isStr id
  · left; unfold Tb.doo; rw [if_neg (by rw [h1]; decide), if_pos h2]; exact ⟨rfl, rfl⟩
  have hmay : B.may id true k = A.may id false k := by
    unfold Tb.may
    rw [h.cl]
    cases A.cl <;> rfl
  have hst := h.st id
  have hs0 : (B.st id == 0) = (A.st id == 0) := by
    rw [hst, Bool.eq_iff_iff]
    simp [mi_zero]
  cases h3 : (A.st id == 0 && isB k && !A.may id false k)
  · have h3' : (B.st id == 0 && isB k && !B.may id true k) = false := by rw [hs0, hmay]; exact h3
    have eA : A.doo id false k = (if ((nx (A.st id) false k).2.1 == 0 && !((nx (A.st id) false k).1 == A.st id)) = true then A.mv id (nx (A.st id) false k).1 false k else A, (nx (A.st id) false k).2) := by
      conv => lhs; unfold Tb.doo
      rw [if_neg (by rw [h1]; decide), if_neg (by rw [h2]; decide), if_neg (by rw [h3]; decide), if_neg (by simp)]
    rcases mirrored (A.st id) k (ha.st_range id) with hn | ⟨n, hn, h6, x, hx, hx1, hx2⟩
    · left
      rw [eA, hn]
      exact ⟨rfl, by simp⟩
    · right
      rw [eA, hn]
      refine ⟨rfl, ?_⟩
      simp only
      cases h4 : (B.cut id && true && !(k == 5))
      · have eB : B.doo id true k = (if ((nx (B.st id) true k).2.1 == 0 && !((nx (B.st id) true k).1 == B.st id)) = true then B.mv id (nx (B.st id) true k).1 true k else B, (nx (B.st id) true k).2) := by
          conv => lhs; unfold Tb.doo
          rw [if_neg (by rw [h1]; decide), if_neg (by rw [h2]; decide), if_neg (by rw [h3']; decide), if_neg (by rw [h4]; decide)]
        rw [eB, hst, hx]
        refine ⟨hx1, ?_⟩
        simp only
        by_cases hne : n = A.st id
        · rw [if_neg (by simp [hne]), if_neg (by simp [hne])]
          exact h
        · have hx0 := hx2 hne
          subst hx0
          rw [if_pos (by simpa using hne), if_pos (by simp; exact fun e => hne (mi_inj e))]
          refine ⟨h.cl, ?_, ?_, fun j => ?_⟩
          · show (if B.ours id then max B.lo id else B.lo) = (if A.ours id then A.lt else max A.lt id)
            rw [h.ours, h.lo]
            cases A.ours id <;> rfl
          · show (if B.ours id then B.lt else max B.lt id) = (if A.ours id then max A.lo id else A.lo)
            rw [h.ours, h.lt]
            cases A.ours id <;> rfl
          · rw [Tb.mv_lv hb, Tb.mv_lv ha, h.lv]
            split
            · by_cases h6' : n = 6
              · subst h6'; rfl
              · rw [if_neg h6', if_neg (fun e => h6' (mi_six.1 e))]; rfl
            · rfl
      · have hc : B.cut id = true := by simp at h4; exact h4.1
        have hs6 : A.st id = 6 := by
          have := hb.cut_st hc
          rw [hst] at this
          exact mi_six.1 this
        have hn6 := h6 hs6
        have eB : B.doo id true k = (B, 1, 0) := by
          unfold Tb.doo
          rw [if_neg (by rw [h1]; decide), if_neg (by rw [h2]; decide), if_neg (by rw [h3']; decide), if_pos h4]
        rw [eB, if_neg (by simp [hn6, hs6])]
        exact ⟨.inr rfl, h⟩
  · left
    unfold Tb.doo
    rw [if_neg (by rw [h1]; decide), if_neg (by rw [h2]; decide), if_pos h3]
    exact ⟨rfl, rfl⟩
theorem chk_cons1 (k : Lk) (e : Et) (r : List Et) (i : Nat) : chk k (e :: r) i = if (k.take e).2 = 0 then chk (k.take e).1 r (i + 1) else ((i : Int), (k.take e).2) := rfl
theorem Mir.mv {A B : Tb} (h : Mir A B) (ha : A.Ok) (hb : B.Ok) (id n : Int) (g g' : Bool) (k k' : Int) : Mir (A.mv id n g k) (B.mv id (mi n) g' k') := by
  refine ⟨h.cl, ?_, ?_, fun j => ?_⟩
  · show (if B.ours id then max B.lo id else B.lo) = (if A.ours id then A.lt else max A.lt id)
    rw [h.ours, h.lo]
    cases A.ours id <;> rfl
  · show (if B.ours id then B.lt else max B.lt id) = (if A.ours id then max A.lo id else A.lo)
    rw [h.ours, h.lt]
    cases A.ours id <;> rfl
  · rw [Tb.mv_lv hb, Tb.mv_lv ha, h.lv]
    split
    · by_cases h6' : n = 6
      · subst h6'; rfl
      · rw [if_neg h6', if_neg (fun e => h6' (mi_six.1 e))]; rfl
    · rfl
theorem mir_sent (s k : Int) (hs : 0 ≤ s ∧ s ≤ 6) : nx s false k = (s, 4, 0) ∨ ∃ n, nx s false k = (n, 0, 0) ∧ (s = 6 → n = 6 ∧ k = 8) ∧ ∃ x, nx (mi s) true k = (mi n, x, 0) ∧ (x = 0 ∨ (x = 1 ∧ k = 8)) ∧ (n ≠ s → x = 0) := by
  by_cases hk : 1 ≤ k ∧ k ≤ 8
  · rcases states hs with rfl | rfl | rfl | rfl | rfl | rfl | rfl <;> rcases kinds hk with rfl | rfl | rfl | rfl | rfl | rfl | rfl | rfl <;>
      first
        | exact .inl rfl
        | exact .inr ⟨_, rfl, by decide, 0, rfl, .inl rfl, fun _ => rfl⟩
        | exact .inr ⟨_, rfl, by decide, 1, rfl, .inr ⟨rfl, rfl⟩, fun h => absurd rfl h⟩
  · exact .inl (nx_out (by omega))
theorem mir_got (s k : Int) (hs : 0 ≤ s ∧ s ≤ 6) : (nx s true k).2.1 = 4 ∨ (nx s true k).2.2 ≠ 0 ∨ (∃ n, nx s true k = (n, 0, 0) ∧ nx (mi s) false k = (mi n, 0, 0)) ∨ (nx s true k = (6, 1, 0) ∧ s = 6 ∧ (k = 6 ∨ k = 7 ∨ k = 8)) := by
  by_cases hk : 1 ≤ k ∧ k ≤ 8
  · rcases states hs with rfl | rfl | rfl | rfl | rfl | rfl | rfl <;> rcases kinds hk with rfl | rfl | rfl | rfl | rfl | rfl | rfl | rfl <;>
      first
        | exact .inr (.inl (by decide))
        | exact .inr (.inr (.inl ⟨_, rfl, rfl⟩))
        | exact .inr (.inr (.inr ⟨rfl, rfl, by decide⟩))
        | exact .inl (by decide)
  · exact .inl (by rw [nx_out (by omega)])
/-- an event whose verdict is told by the tables -/
theorem Tb.doo_nx {T : Tb} {id : Int} {g : Bool} {k : Int} (h1 : isK k = true) (h2 : isStr id = true) (h3 : (T.st id == 0 && isB k && !T.may id g k) = false) (h4 : (T.cut id && g && !(k == 5)) = false) :
    T.doo id g k = (if ((nx (T.st id) g k).2.1 == 0 && !((nx (T.st id) g k).1 == T.st id)) = true then T.mv id (nx (T.st id) g k).1 g k else T, (nx (T.st id) g k).2) := by
  conv => lhs; unfold Tb.doo
  rw [if_neg (by rw [h1]; decide), if_neg (by rw [h2]; decide), if_neg (by rw [h3]; decide), if_neg (by rw [h4]; decide)]
theorem Mir.may {A B : Tb} (h : Mir A B) (id k : Int) (g : Bool) : B.may id (!g) k = A.may id g k := by
  unfold Tb.may
  rw [h.cl]
  cases A.cl <;> cases g <;> rfl
theorem Mir.st0 {A B : Tb} (h : Mir A B) (id : Int) : (B.st id == 0) = (A.st id == 0) := by
  rw [h.st id, Bool.eq_iff_iff]
  simp [mi_zero]
/-- what is sent and not barred the other end takes -/
theorem Mir.sent {A B : Tb} (h : Mir A B) (ha : A.Ok) (hb : B.Ok) (id k : Int) (hv : (A.doo id false k).2.1 ≠ 4) :
    (A.doo id false k).2 = (0, 0) ∧ Mir (A.doo id false k).1 (B.doo id true k).1 ∧ ((B.doo id true k).2 = (0, 0) ∨ ((B.doo id true k).2 = (1, 0) ∧ k = 8)) := by
  cases h1 : isK k
  · exact absurd (by unfold Tb.doo; rw [if_pos h1]) hv
  cases h2 : isStr id
  · exact absurd (by unfold Tb.doo; rw [if_neg (by rw [h1]; decide), if_pos h2]; rfl) hv
  cases h3 : (A.st id == 0 && isB k && !A.may id false k)
  · have h3' : (B.st id == 0 && isB k && !B.may id true k) = false := by rw [h.st0, show B.may id true k = A.may id false k from h.may id k false]; exact h3
    have eA := Tb.doo_nx (g := false) h1 h2 h3 (by simp)
    rcases mir_sent (A.st id) k (ha.st_range id) with hn | ⟨n, hn, h6, x, hx, hx1, hx2⟩
    · exact absurd (by rw [eA, hn]) hv
    · rw [eA, hn]
      refine ⟨rfl, ?_⟩
      simp only
      cases h4 : (B.cut id && true && !(k == 5))
      · have eB := Tb.doo_nx (g := true) h1 h2 h3' h4
        rw [eB, h.st, hx]
        simp only
        refine ⟨?_, by rcases hx1 with rfl | ⟨rfl, e⟩ <;> simp [*]⟩
        by_cases hne : n = A.st id
        · rw [if_neg (by simp [hne]), if_neg (by simp [hne])]
          exact h
        · have hx0 := hx2 hne
          subst hx0
          rw [if_pos (by simpa using hne), if_pos (by simp; exact fun e => hne (mi_inj e))]
          exact h.mv ha hb id n _ _ _ _
      · have hc : B.cut id = true := by simp at h4; exact h4.1
        have hs6 : A.st id = 6 := by
          have := hb.cut_st hc
          rw [h.st] at this
          exact mi_six.1 this
        obtain ⟨hn6, hk8⟩ := h6 hs6
        have eB : B.doo id true k = (B, 1, 0) := by
          unfold Tb.doo
          rw [if_neg (by rw [h1]; decide), if_neg (by rw [h2]; decide), if_neg (by rw [h3']; decide), if_pos h4]
        rw [eB, if_neg (by simp [hn6, hs6])]
        exact ⟨h, .inr ⟨rfl, hk8⟩⟩
  · exact absurd (by unfold Tb.doo; rw [if_neg (by rw [h1]; decide), if_neg (by rw [h2]; decide), if_pos h3]; rfl) hv
/-- what is got without a fault the other end may have sent, but for what comes late -/
theorem Mir.got {A B : Tb} (h : Mir A B) (ha : A.Ok) (hb : B.Ok) (id k : Int) (hv : (A.doo id true k).2.1 ≠ 4) (hc : (A.doo id true k).2.2 = 0) :
    ((A.doo id true k).2 = (0, 0) ∧ (B.doo id false k).2 = (0, 0) ∧ Mir (A.doo id true k).1 (B.doo id false k).1) ∨ ((A.doo id true k).2 = (1, 0) ∧ (A.doo id true k).1 = A ∧ A.st id = 6 ∧ ((A.cut id = true ∧ k ≠ 5) ∨ k = 6 ∨ k = 7 ∨ k = 8) ∧ isStr id = true) := by
  cases h1 : isK k
  · exact absurd (by unfold Tb.doo; rw [if_pos h1]) hv
  cases h2 : isStr id
  · exact absurd hc (by unfold Tb.doo; rw [if_neg (by rw [h1]; decide), if_pos h2]; show ¬ (mis true).2 = 0; decide)
  cases h3 : (A.st id == 0 && isB k && !A.may id true k)
  · have h3' : (B.st id == 0 && isB k && !B.may id false k) = false := by rw [h.st0, show B.may id false k = A.may id true k from h.may id k true]; exact h3
    cases h4 : (A.cut id && true && !(k == 5))
    · have eA := Tb.doo_nx (g := true) h1 h2 h3 h4
      have eB := Tb.doo_nx (g := false) h1 h2 h3' (by simp)
      rw [eA] at hv hc ⊢
      rw [eB, h.st]
      simp only at hv hc ⊢
      rcases mir_got (A.st id) k (ha.st_range id) with e | e | ⟨n, e1, e2⟩ | ⟨e1, e2, e3⟩
      · exact absurd e hv
      · exact absurd hc e
      · left
        rw [e1, e2]
        refine ⟨rfl, rfl, ?_⟩
        simp only
        by_cases hne : n = A.st id
        · rw [if_neg (by simp [hne]), if_neg (by simp [hne])]
          exact h
        · rw [if_pos (by simpa using hne), if_pos (by simp; exact fun e => hne (mi_inj e))]
          exact h.mv ha hb id n _ _ _ _
      · right
        rw [e1]
        exact ⟨rfl, by simp, e2, .inr e3, trivial⟩
    · have hc4 : A.cut id = true := by simp at h4; exact h4.1
      have eA : A.doo id true k = (A, 1, 0) := by
        unfold Tb.doo
        rw [if_neg (by rw [h1]; decide), if_neg (by rw [h2]; decide), if_neg (by rw [h3]; decide), if_pos h4]
      right
      rw [eA]
      exact ⟨rfl, rfl, ha.cut_st hc4, .inl ⟨hc4, by simp at h4; exact h4.2⟩, rfl⟩
  · exact absurd hc (by unfold Tb.doo; rw [if_neg (by rw [h1]; decide), if_neg (by rw [h2]; decide), if_pos h3]; show ¬ (mis true).2 = 0; decide)
/-- what an event cuts -/
theorem Tb.doo_cut {T : Tb} (h : T.Ok) (id : Int) (g : Bool) (k j : Int) (hc : (T.doo id g k).1.cut j = true) : T.cut j = true ∨ (j = id ∧ k = 6 ∧ g = false) := by
  rcases T.doo_cases h id g k with e | ⟨n, a1, a2, _, _, _, a3, _, _, e⟩
  · rw [e] at hc; exact .inl hc
  · rw [e] at hc
    replace hc : (look (if (n == 6 && !(k == 6 && !g)) = true then dele T.L id else putm T.L id n) j).getD 0 == 6 := hc
    split at hc
    · rw [look_dele h.srt] at hc
      split at hc
      · exact absurd hc (by decide)
      · exact .inl hc
    · rename_i hn
      rw [look_putm h.srt] at hc
      split at hc
      · rename_i hj
        have h6 : n = 6 := by simpa using hc
        right
        refine ⟨hj, ?_⟩
        simpa [h6] using hn
      · exact .inl hc

theorem Tb.doo_six {T : Tb} {id : Int} (h : T.st id = 6) (hs : isStr id = true) : T.doo id true 6 = (T, 1, 0) ∧ T.doo id true 7 = (T, 1, 0) ∧ T.doo id false 6 = (T, 4, 0) ∧ T.doo id false 7 = (T, 4, 0) ∧ T.doo id false 8 = (T, 0, 0) := by
  have h3 : ∀ g k, (T.st id == 0 && isB k && !T.may id g k) = false := fun g k => by rw [h]; rfl
  have e1 : ∀ k, k = 6 ∨ k = 7 → T.doo id true k = (T, 1, 0) := fun k hk => by
    have hk1 : isK k = true := by rcases hk with rfl | rfl <;> rfl
    cases h4 : (T.cut id && true && !(k == 5))
    · rw [Tb.doo_nx hk1 hs (h3 _ _) h4, h]
      rcases hk with rfl | rfl <;> rfl
    · unfold Tb.doo
      rw [if_neg (by rw [hk1]; decide), if_neg (by rw [hs]; decide), if_neg (by rw [h3]; decide), if_pos h4]
  refine ⟨e1 6 (.inl rfl), e1 7 (.inr rfl), ?_, ?_, ?_⟩
  · rw [Tb.doo_nx rfl hs (h3 _ _) (by simp), h]; rfl
  · rw [Tb.doo_nx rfl hs (h3 _ _) (by simp), h]; rfl
  · rw [Tb.doo_nx rfl hs (h3 _ _) (by simp), h]; rfl
theorem Tb.doo_bad {T : Tb} (ha : T.Ok) {id k : Int} (h : (T.doo id false k).2.1 = 4) : (T.doo id false k).1 = T := by
  rcases T.doo_cases ha id false k with e | ⟨n, _, _, _, _, _, _, _, _, e⟩
  · exact e
  · rw [e] at h; simp at h
/-- the two ends' states, mirrored; X: what this end has cut -/
structure Tr (X : List Int) (A B : Lk) : Prop where
  T : Mir A.T B.T
  oa : A.T.Ok
  ob : B.T.Ok
  wy : ∀ s, B.wy (!s) = A.wy s
  ga : ∀ s, (A.wy s).ga = false
  cu : ∀ id, A.T.cut id = true → id ∈ X
theorem Lk.upd_wy (k : Lk) (s : Bool) (f : Wy → Wy) (t : Bool) : (k.upd s f).wy t = if t = s then f (k.wy t) else k.wy t := rfl
theorem Tr.upd {X : List Int} {A B : Lk} (h : Tr X A B) (s : Bool) (f : Wy → Wy) (hf : ∀ w, (f w).ga = w.ga) : Tr X (A.upd s f) (B.upd (!s) f) := by
  refine ⟨h.T, h.oa, h.ob, fun t => ?_, fun t => ?_, h.cu⟩
  · rw [Lk.upd_wy, Lk.upd_wy, h.wy]
    cases s <;> cases t <;> rfl
  · rw [Lk.upd_wy]
    split
    · rw [hf]; exact h.ga t
    · exact h.ga t
theorem Tr.weak {X Y : List Int} {A B : Lk} (h : Tr X A B) (hX : ∀ x ∈ X, x ∈ Y) : Tr Y A B := ⟨h.T, h.oa, h.ob, h.wy, h.ga, fun id hc => hX _ (h.cu id hc)⟩
theorem Tr.bear {X : List Int} {A B : Lk} (h : Tr X A B) (id : Int) : Tr X (A.bear id) (B.bear id) := by
  refine ⟨h.T, h.oa, h.ob, fun t => ?_, fun t => h.ga t, h.cu⟩
  show ({ B.wy (!t) with rw := _ } : Wy) = _
  rw [h.wy]
  rfl
/-- what an event leaves -/
def Lk.hap (k : Lk) (s : Bool) (id kd : Int) : Lk :=
  if (k.T.st id == 0 && !((k.T.doo id (!s) kd).1.st id == 0)) = true then (Lk.mk (k.T.doo id (!s) kd).1 k.wy).bear id else Lk.mk (k.T.doo id (!s) kd).1 k.wy
theorem happen_bad {k : Lk} {s : Bool} {id kd : Int} (h : (k.T.doo id (!s) kd).2.1 = 4) : k.happen s id kd = (k.hap s id kd, 1, false) := by
  unfold Lk.happen Lk.hap
  simp only
  rw [if_pos h]
theorem happen_ok {k : Lk} {s : Bool} {id kd : Int} (h : (k.T.doo id (!s) kd).2.1 ≠ 4) : k.happen s id kd = (k.hap s id kd, (k.T.doo id (!s) kd).2.2, (k.T.doo id (!s) kd).2.1 == 1) := by
  unfold Lk.happen Lk.hap
  simp only
  rw [if_neg h]
theorem hap_same {k : Lk} {s : Bool} {id kd : Int} (h : (k.T.doo id (!s) kd).1 = k.T) : k.hap s id kd = k := by
  unfold Lk.hap
  rw [h, if_neg (by cases (k.T.st id == 0) <;> simp)]
theorem happen_code {k : Lk} {s : Bool} {id kd : Int} (h : (k.happen s id kd).2.1 = 0) : (k.T.doo id (!s) kd).2.1 ≠ 4 ∧ (k.T.doo id (!s) kd).2.2 = 0 := by
  by_cases h4 : (k.T.doo id (!s) kd).2.1 = 4
  · rw [happen_bad h4] at h
    simp at h
  · rw [happen_ok h4] at h
    exact ⟨h4, h⟩
theorem Tr.hap {X Y : List Int} {A B : Lk} (h : Tr X A B) (s : Bool) (id kd : Int) (hm : Mir (A.T.doo id (!s) kd).1 (B.T.doo id s kd).1) (hY : ∀ j, (A.T.doo id (!s) kd).1.cut j = true → j ∈ Y) : Tr Y (A.hap s id kd) (B.hap (!s) id kd) := by
  unfold Lk.hap
  rw [Bool.not_not]
  have hb : Tr Y (Lk.mk (A.T.doo id (!s) kd).1 A.wy) (Lk.mk (B.T.doo id s kd).1 B.wy) := ⟨hm, Tb.doo_ok h.oa _ _ _, Tb.doo_ok h.ob _ _ _, h.wy, h.ga, hY⟩
  have e : (B.T.st id == 0 && !((B.T.doo id s kd).1.st id == 0)) = (A.T.st id == 0 && !((A.T.doo id (!s) kd).1.st id == 0)) := by rw [h.T.st0, hm.st0]
  rw [e]
  split
  · exact hb.bear id
  · exact hb
theorem Tr.happen_sent {X : List Int} {A B : Lk} (h : Tr X A B) {id kd : Int} (hc : (A.happen true id kd).2.1 = 0) :
    (B.happen false id kd).2.1 = 0 ∧ Tr (if kd = 6 then id :: X else X) (A.happen true id kd).1 (B.happen false id kd).1 ∧ (A.happen true id kd).2.2 = false ∧ (kd ≠ 8 → (B.happen false id kd).2.2 = false) := by
  obtain ⟨h4, h0⟩ := happen_code hc
  obtain ⟨a1, a2, a3⟩ := h.T.sent h.oa h.ob id kd h4
  have e1 : (A.T.doo id (!true) kd).2 = (0, 0) := a1
  rw [happen_ok h4, e1]
  have h4' : (B.T.doo id (!false) kd).2.1 ≠ 4 := by
    show (B.T.doo id true kd).2.1 ≠ 4
    rcases a3 with e | ⟨e, _⟩ <;> rw [e] <;> decide
  rw [happen_ok h4']
  have e2 : (B.T.doo id (!false) kd).2.2 = 0 := by
    show (B.T.doo id true kd).2.2 = 0
    rcases a3 with e | ⟨e, _⟩ <;> rw [e]
  refine ⟨e2, ?_, rfl, fun h8 => ?_⟩
  · refine h.hap true id kd a2 fun j hj => ?_
    rcases Tb.doo_cut h.oa id _ kd j hj with e | ⟨rfl, rfl, _⟩
    · have := h.cu j e
      split
      · exact List.mem_cons_of_mem _ this
      · exact this
    · rw [if_pos rfl]
      exact List.mem_cons_self
  · show ((B.T.doo id true kd).2.1 == 1) = false
    rcases a3 with e | ⟨_, e⟩
    · rw [e]; rfl
    · exact absurd e h8
theorem Tr.happen_got {X : List Int} {A B : Lk} (h : Tr X A B) {id kd : Int} (hc : (A.happen false id kd).2.1 = 0) :
    ((A.happen false id kd).2.2 = false ∧ (B.happen true id kd).2 = (0, false) ∧ Tr X (A.happen false id kd).1 (B.happen true id kd).1) ∨ ((A.happen false id kd).2.2 = true ∧ (A.happen false id kd).1 = A ∧ A.T.st id = 6 ∧ ((A.T.cut id = true ∧ kd ≠ 5) ∨ kd = 6 ∨ kd = 7 ∨ kd = 8) ∧ isStr id = true) := by
  obtain ⟨h4, h0⟩ := happen_code hc
  rw [happen_ok h4]
  rcases h.T.got h.oa h.ob id kd h4 h0 with ⟨a1, a2, a3⟩ | ⟨a1, a2, a3, a4, a5⟩
  · left
    have e1 : (A.T.doo id (!false) kd).2 = (0, 0) := a1
    have e2 : (B.T.doo id (!true) kd).2 = (0, 0) := a2
    rw [e1, happen_ok (by rw [e2]; decide), e2]
    refine ⟨rfl, rfl, h.hap false id kd a3 fun j hj => ?_⟩
    rcases Tb.doo_cut h.oa id _ kd j hj with e | ⟨_, _, e⟩
    · exact h.cu j e
    · cases e
  · right
    have e1 : (A.T.doo id (!false) kd).2 = (1, 0) := a1
    rw [e1]
    exact ⟨rfl, hap_same a2, a3, a4, a5⟩
/-- what happens on a stream that is not late -/
theorem Tr.happen {X : List Int} {A B : Lk} (h : Tr X A B) {s : Bool} {id kd : Int} (hk : kd ≠ 6 ∧ kd ≠ 7 ∧ kd ≠ 8) (hl : s = false → id ∉ X ∨ kd = 5) (hc : (A.happen s id kd).2.1 = 0) :
    (B.happen (!s) id kd).2 = (0, false) ∧ (A.happen s id kd).2.2 = false ∧ Tr X (A.happen s id kd).1 (B.happen (!s) id kd).1 := by
  cases s
  · rcases h.happen_got hc with ⟨a1, a2, a3⟩ | ⟨_, _, _, a4, _⟩
    · exact ⟨a2, a1, a3⟩
    · rcases a4 with ⟨a4, a5⟩ | a4
      · rcases hl rfl with e | e
        · exact absurd (h.cu _ a4) e
        · exact absurd e a5
      · omega
  · obtain ⟨a1, a2, a3, a4⟩ := h.happen_sent hc
    rw [if_neg hk.1] at a2
    exact ⟨Prod.ext a1 (a4 hk.2.2), a3, a2⟩
theorem Tr.crowded {X : List Int} {A B : Lk} (h : Tr X A B) (s : Bool) : B.crowded (!s) = A.crowded s := by
  unfold Lk.crowded
  rw [h.wy, h.T.last, h.T.count h.oa h.ob, Bool.not_not]
def Et.flip (e : Et) : Et := { e with s := !e.s }
theorem Tr.block {X : List Int} {A B : Lk} (h : Tr X A B) (e : Et) : Tr X (A.block e) (B.block e.flip) := by
  unfold Lk.block
  show Tr X _ (if e.has 4 = true then B else B.upd (!e.s) _)
  split
  · exact h
  · exact h.upd e.s (fun w => { w with bk := e.f.st, ln := (e.f.data.size : Int) }) fun w => rfl

theorem Tr.headers {X : List Int} {A B : Lk} (h : Tr X A B) (e : Et) (hl : e.s = false → e.f.st ∉ X) (hc : (A.headers e).2 = 0) : (B.headers e.flip).2 = 0 ∧ Tr X (A.headers e).1 (B.headers e.flip).1 := by
  have hk : (e.kind 1 2 ≠ 6 ∧ e.kind 1 2 ≠ 7 ∧ e.kind 1 2 ≠ 8) := by unfold Et.kind; split <;> decide
  unfold Lk.headers at hc ⊢
  simp only at hc ⊢
  by_cases h1 : (A.happen e.s e.f.st (e.kind 1 2)).2.1 ≠ 0
  · rw [if_pos h1] at hc
    exact absurd hc h1
  · rw [if_neg h1] at hc
    rw [if_neg h1]
    obtain ⟨a1, a2, a3⟩ := h.happen hk (fun hs => .inl (hl hs)) (Decidable.not_not.1 h1)
    have e1 : B.happen e.flip.s e.flip.f.st (e.flip.kind 1 2) = B.happen (!e.s) e.f.st (e.kind 1 2) := rfl
    rw [e1, if_neg (by rw [a1]; simp)]
    have g1 : ∀ t b, (e.s && ((A.happen e.s e.f.st (e.kind 1 2)).1.wy t).ga && b) = false := fun t b => by rw [a3.ga]; simp
    have g2 : ∀ t b, (e.flip.s && ((B.happen (!e.s) e.f.st (e.kind 1 2)).1.wy t).ga && b) = false := fun t b => by
      have := a3.wy (!t)
      rw [Bool.not_not] at this
      rw [this, a3.ga]; simp
    rw [g1] at hc ⊢
    rw [g2, if_neg Bool.false_ne_true, if_neg Bool.false_ne_true]
    rw [if_neg Bool.false_ne_true] at hc
    have e3 : (!ct (B.T.st e.flip.f.st) && ct ((B.happen (!e.s) e.f.st (e.kind 1 2)).1.T.st e.flip.f.st) && (B.happen (!e.s) e.f.st (e.kind 1 2)).1.crowded e.flip.s) = (!ct (A.T.st e.f.st) && ct ((A.happen e.s e.f.st (e.kind 1 2)).1.T.st e.f.st) && (A.happen e.s e.f.st (e.kind 1 2)).1.crowded e.s) := by
      show (!ct (B.T.st e.f.st) && ct ((B.happen (!e.s) e.f.st (e.kind 1 2)).1.T.st e.f.st) && (B.happen (!e.s) e.f.st (e.kind 1 2)).1.crowded (!e.s)) = _
      rw [h.T.st, a3.T.st, ct_mi, ct_mi, a3.crowded]
    rw [e3]
    split at hc
    · simp at hc
    · rename_i h3
      rw [if_neg h3, if_neg h3]
      exact ⟨rfl, a3.block e⟩
theorem Tr.carries {X : List Int} {A B : Lk} (h : Tr X A B) (e : Et) (hX : ∀ x ∈ (A.wy true).rs, x ∈ X) (hl : e.s = false → e.f.st ∉ X) (hc : A.carries e = true) : B.carries e.flip = true := by
  unfold Lk.carries at hc ⊢
  have e1 : e.flip.f = e.f := rfl
  have e2 : e.flip.s = !e.s := rfl
  rw [e1, e2]
  split at hc
  · cases hc
  · rename_i h2
    rw [if_neg h2]
    rw [h.T.st]
    cases hs : e.s
    · rw [hs, if_neg (by decide)] at hc
      rw [if_pos (by decide)]
      have hn : ((A.wy (!false)).rs.contains e.f.st) = false := by
        cases hcc : (A.wy (!false)).rs.contains e.f.st
        · rfl
        · exact absurd (hX _ (by simpa using hcc)) (hl hs)
      rw [hn] at hc
      simp at hc
      rcases hc with e | e <;> rw [e] <;> decide
    · rw [hs, if_pos rfl] at hc
      rw [if_neg (by decide)]
      simp at hc
      rcases hc with e | e <;> rw [e] <;> rfl
theorem Tr.promise {X : List Int} {A B : Lk} (h : Tr X A B) (e : Et) (hX : ∀ x ∈ (A.wy true).rs, x ∈ X) (hl : e.s = false → e.f.st ∉ X) (hc : (A.promise e).2 = 0) : (B.promise e.flip).2 = 0 ∧ Tr X (A.promise e).1 (B.promise e.flip).1 := by
  unfold Lk.promise at hc ⊢
  have ew : (B.wy e.flip.s).ac = (A.wy e.s).ac := congrArg Wy.ac (h.wy e.s)
  simp only [ew] at hc ⊢
  by_cases h0 : (!((A.wy e.s).ac.psh == 1) || !A.carries e) = true
  · rw [if_pos h0] at hc
    simp at hc
  · rw [if_neg h0] at hc ⊢
    simp only [Bool.or_eq_true, not_or] at h0
    have hcb : B.carries e.flip = true := h.carries e hX hl (by simpa using h0.2)
    rw [if_neg (by rw [hcb]; simpa using h0.1)]
    by_cases h1 : (A.happen e.s e.f.last 5).2.1 ≠ 0
    · rw [if_pos h1] at hc
      exact absurd hc h1
    · rw [if_neg h1] at hc
      rw [if_neg h1]
      obtain ⟨a1, a2, a3⟩ := h.happen (kd := 5) (by decide) (fun hs => .inr rfl) (Decidable.not_not.1 h1)
      have e1 : B.happen e.flip.s e.flip.f.last 5 = B.happen (!e.s) e.f.last 5 := rfl
      rw [e1, if_neg (by rw [a1]; simp)]
      have g1 : ∀ t, (e.s && ((A.happen e.s e.f.last 5).1.wy t).ga) = false := fun t => by rw [a3.ga]; simp
      have g2 : ∀ t, (e.flip.s && ((B.happen (!e.s) e.f.last 5).1.wy t).ga) = false := fun t => by
        have := a3.wy (!t)
        rw [Bool.not_not] at this
        rw [this, a3.ga]; simp
      rw [g1] at hc ⊢
      rw [g2, if_neg (by decide), if_neg (by decide)]
      exact ⟨rfl, a3.block e⟩
theorem Tr.continuation {X : List Int} {A B : Lk} (h : Tr X A B) (e : Et) (hc : (A.continuation e).2 = 0) : (B.continuation e.flip).2 = 0 ∧ Tr X (A.continuation e).1 (B.continuation e.flip).1 := by
  unfold Lk.continuation at hc ⊢
  have ew : (B.wy e.flip.s).ln = (A.wy e.s).ln := congrArg Wy.ln (h.wy e.s)
  simp only [ew] at hc ⊢
  have e1 : e.flip.f = e.f := rfl
  have e3 : e.flip.has 4 = e.has 4 := rfl
  have e2 : e.flip.s = !e.s := rfl
  rw [e1, e2, e3]
  split at hc
  · simp at hc
  · rename_i h1
    rw [if_neg h1, if_neg h1]
    refine ⟨rfl, ?_⟩
    simp only
    have := h.upd e.s (fun w => { w with ln := (A.wy e.s).ln + (e.f.data.size : Int) }) fun w => rfl
    split
    · exact this.upd e.s (fun w => { w with bk := 0 }) fun w => rfl
    · exact this
theorem Tr.takeC {X : List Int} {A B : Lk} (h : Tr X A B) (s : Bool) (n : Int) : (B.takeC (!s) n).2 = (A.takeC s n).2 ∧ Tr X (A.takeC s n).1 (B.takeC (!s) n).1 := by
  unfold Lk.takeC
  simp only
  refine ⟨by rw [h.wy], h.upd s (fun w => { w with rm := tkN w.rm n }) fun w => rfl⟩
theorem Tr.takeS {X : List Int} {A B : Lk} (h : Tr X A B) (s : Bool) (id n : Int) : (B.takeS (!s) id n).2 = (A.takeS s id n).2 ∧ Tr X (A.takeS s id n).1 (B.takeS (!s) id n).1 := by
  unfold Lk.takeS
  simp only
  rw [h.wy]
  exact ⟨rfl, h.upd s (fun w => { w with rw := putm w.rw id (tkN ((look (A.wy s).rw id).getD 0) n) }) fun w => rfl⟩
theorem hap_takeC (k : Lk) (t : Bool) (n : Int) (s : Bool) (id kd : Int) : (k.takeC t n).1.hap s id kd = ((k.hap s id kd).takeC t n).1 := by
  unfold Lk.hap Lk.takeC Lk.upd
  simp only
  split
  · unfold Lk.bear
    simp only
    congr 1
    funext u
    by_cases hu : u = t
    · subst hu; simp
    · simp [hu]
  · rfl
theorem hap_rm (k : Lk) (s : Bool) (id kd : Int) (t : Bool) : ((k.hap s id kd).wy t).rm = (k.wy t).rm := by
  unfold Lk.hap
  split <;> rfl
theorem takeC_T (k : Lk) (t : Bool) (n : Int) : (k.takeC t n).1.T = k.T := rfl
theorem takeC_happen (k : Lk) (t : Bool) (n : Int) (s : Bool) (id kd : Int) : (k.takeC t n).1.happen s id kd = (((k.happen s id kd).1.takeC t n).1, (k.happen s id kd).2) := by
  by_cases h4 : (k.T.doo id (!s) kd).2.1 = 4
  · rw [happen_bad h4, happen_bad (by rw [takeC_T]; exact h4), hap_takeC]
  · rw [happen_ok h4, happen_ok (by rw [takeC_T]; exact h4), hap_takeC]
    rfl
theorem takeC_rm (k : Lk) (t : Bool) (n : Int) (s : Bool) (id kd : Int) : ((k.happen s id kd).1.takeC t n).2 = (k.takeC t n).2 := by
  unfold Lk.takeC
  simp only
  by_cases h4 : (k.T.doo id (!s) kd).2.1 = 4
  · rw [happen_bad h4, hap_rm]
  · rw [happen_ok h4, hap_rm]
theorem send_get1 (k : Lk) (e : Et) (hi : (k.happen e.s e.f.st (e.kind 3 4)).2 = (0, false)) (h : (k.sendData e).2 = 0 ∨ (k.getData e).2 = 0) : k.getData e = k.sendData e := by
  unfold Lk.getData Lk.sendData at *
  simp only [takeC_happen, takeC_rm, hi] at *
  simp only [ne_eq, not_true_eq_false, if_false, Bool.false_eq_true] at *
  split
  · rename_i hn
    rw [if_pos hn, if_pos hn] at h
    simp at h
  · rfl

theorem Tr.sendData {X : List Int} {A B : Lk} (h : Tr X A B) (e : Et) (hl : e.s = false → e.f.st ∉ X) (hc : (A.sendData e).2 = 0) : (B.sendData e.flip).2 = 0 ∧ Tr X (A.sendData e).1 (B.sendData e.flip).1 := by
  have hk : (e.kind 3 4 ≠ 6 ∧ e.kind 3 4 ≠ 7 ∧ e.kind 3 4 ≠ 8) := by unfold Et.kind; split <;> decide
  unfold Lk.sendData at hc ⊢
  simp only at hc ⊢
  by_cases h1 : (A.happen e.s e.f.st (e.kind 3 4)).2.1 ≠ 0
  · rw [if_pos h1] at hc
    exact absurd hc h1
  · rw [if_neg h1] at hc
    rw [if_neg h1]
    obtain ⟨a1, a2, a3⟩ := h.happen hk (fun hs => .inl (hl hs)) (Decidable.not_not.1 h1)
    have e1 : B.happen e.flip.s e.flip.f.st (e.flip.kind 3 4) = B.happen (!e.s) e.f.st (e.kind 3 4) := rfl
    rw [e1, if_neg (by rw [a1]; simp)]
    obtain ⟨b1, b2⟩ := a3.takeC e.s e.size
    have e2 : ((B.happen (!e.s) e.f.st (e.kind 3 4)).1.takeC e.flip.s e.flip.size).2 = ((A.happen e.s e.f.st (e.kind 3 4)).1.takeC e.s e.size).2 := b1
    rw [e2]
    split at hc
    · simp at hc
    · rename_i h2
      rw [if_neg h2, if_neg h2]
      obtain ⟨c1, c2⟩ := b2.takeS e.s e.f.st e.size
      exact ⟨c1.trans hc, c2⟩
theorem getData_code {k : Lk} {e : Et} (h : (k.getData e).2 = 0) : (k.happen e.s e.f.st (e.kind 3 4)).2.1 = 0 := by
  unfold Lk.getData at h
  simp only at h
  split at h
  · simp at h
  · rw [takeC_happen] at h
    simp only at h
    split at h
    · exact h
    · rename_i h1
      exact Decidable.not_not.1 h1
theorem Tr.data {X : List Int} {A B : Lk} (h : Tr X A B) (e : Et) (hl : e.s = false → e.f.st ∉ X) (hc : (if e.s = true then A.sendData e else A.getData e).2 = 0) : (if e.flip.s = true then B.sendData e.flip else B.getData e.flip).2 = 0 ∧ Tr X (if e.s = true then A.sendData e else A.getData e).1 (if e.flip.s = true then B.sendData e.flip else B.getData e.flip).1 := by
  have hk : (e.kind 3 4 ≠ 6 ∧ e.kind 3 4 ≠ 7 ∧ e.kind 3 4 ≠ 8) := by unfold Et.kind; split <;> decide
  have e2 : e.flip.s = !e.s := rfl
  have e1 : B.happen e.flip.s e.flip.f.st (e.flip.kind 3 4) = B.happen (!e.s) e.f.st (e.kind 3 4) := rfl
  rw [e2]
  cases hs : e.s
  · rw [hs, if_neg Bool.false_ne_true] at hc
    simp only [Bool.not_false, if_true, Bool.false_eq_true, if_false]
    have h0 := getData_code hc
    obtain ⟨a1, a2, a3⟩ := h.happen hk (fun hs => .inl (hl hs)) h0
    have e3 := send_get1 A e (Prod.ext h0 a2) (.inr hc)
    rw [e3] at hc ⊢
    exact h.sendData e hl hc
  · rw [hs, if_pos rfl] at hc
    simp only [Bool.not_true, if_true, Bool.false_eq_true, if_false]
    have h0 : (A.happen e.s e.f.st (e.kind 3 4)).2.1 = 0 := by
      unfold Lk.sendData at hc
      simp only at hc
      split at hc
      · exact hc
      · rename_i h1; exact Decidable.not_not.1 h1
    obtain ⟨a1, a2, a3⟩ := h.happen hk (fun hs => .inl (hl hs)) h0
    have hB := h.sendData e hl hc
    have e3 := send_get1 B e.flip (by rw [e1]; exact a1) (.inl hB.1)
    rw [e3]
    exact hB
theorem Tr.resets {X : List Int} {A B : Lk} (h : Tr X A B) (hX : ∀ x ∈ X, x ∈ (A.wy true).rs) (e : Et) (hst : isStr e.f.st = true) (hc : (A.resets e).2 = 0) : (B.resets e.flip).2 = 0 ∧ Tr ((A.resets e).1.wy true).rs (A.resets e).1 (B.resets e.flip).1 := by
  unfold Lk.resets at hc ⊢
  simp only at hc ⊢
  have e1 : B.happen e.flip.s e.flip.f.st 6 = B.happen (!e.s) e.f.st 6 := rfl
  have e2 : e.flip.s = !e.s := rfl
  have e3 : e.flip.f = e.f := rfl
  rw [e2, e3]
  have fin : ∀ A' B' : Lk, Tr (if e.s = true then e.f.st :: X else X) A' B' → (∀ t, (A'.wy t).rs = (A.wy t).rs) → Tr ((A'.upd e.s fun w => { w with rs := e.f.st :: w.rs }).wy true).rs (A'.upd e.s fun w => { w with rs := e.f.st :: w.rs }) (B'.upd (!e.s) fun w => { w with rs := e.f.st :: w.rs }) := by
    intro A' B' h' hr
    refine (h'.upd e.s (fun w => { w with rs := e.f.st :: w.rs }) fun w => rfl).weak fun x hx => ?_
    rw [Lk.upd_wy]
    cases hs : e.s
    · rw [hs, if_neg Bool.false_ne_true] at hx
      rw [if_neg (by decide), hr]
      exact hX x hx
    · rw [hs, if_pos rfl] at hx
      rw [if_pos rfl]
      show x ∈ e.f.st :: (A'.wy true).rs
      rw [hr]
      rcases List.mem_cons.1 hx with rfl | hx
      · exact List.mem_cons_self
      · exact List.mem_cons_of_mem _ (hX x hx)
  have hrs : ∀ s : Bool, ∀ t, ((A.happen s e.f.st 6).1.wy t).rs = (A.wy t).rs := fun s t => by
    by_cases h4 : (A.T.doo e.f.st (!s) 6).2.1 = 4
    · rw [happen_bad h4]; unfold Lk.hap; split <;> rfl
    · rw [happen_ok h4]; unfold Lk.hap; split <;> rfl
  cases hs : e.s
  · rw [hs] at hc fin
    simp only [Bool.false_and, Bool.not_false, Bool.and_true, Bool.true_and] at hc ⊢
    by_cases h1 : (A.happen false e.f.st 6).2.1 = 0
    · rw [if_neg (c := (!((A.happen false e.f.st 6).2.1 == 0)) = true) (by simp [h1])]
      simp only [Bool.false_eq_true, if_false] at fin
      rcases h.happen_got h1 with ⟨a1, a2, a3⟩ | ⟨a1, a2, a3, _, _⟩
      · rw [if_neg (by rw [a2]; simp)]
        exact ⟨rfl, fin _ _ a3 (hrs false)⟩
      · have hb : B.T.st e.f.st = 6 := by rw [h.T.st, a3]; rfl
        have d := (Tb.doo_six hb hst).2.2.1
        have eB : B.happen true e.f.st 6 = (B, 1, false) := by
          rw [happen_bad (by show (B.T.doo e.f.st false 6).2.1 = 4; rw [d]), hap_same (by show (B.T.doo e.f.st false 6).1 = B.T; rw [d])]
        rw [eB, a2]
        simp only [hb]
        rw [if_neg (by decide)]
        exact ⟨rfl, fin _ _ h fun t => rfl⟩
    · rw [if_pos (by simpa using h1)] at hc
      exact absurd hc h1
  · rw [hs] at hc fin
    simp only [Bool.true_and, Bool.not_true, Bool.false_and, Bool.not_false, Bool.and_true] at hc ⊢
    by_cases h1 : (A.happen true e.f.st 6).2.1 = 0
    · rw [if_neg (c := (!((A.happen true e.f.st 6).2.1 == 0) && !((A.happen true e.f.st 6).1.T.st e.f.st == 6)) = true) (by simp [h1])]
      simp only [if_true] at fin
      obtain ⟨a1, a2, a3, a4⟩ := h.happen_sent h1
      simp only [if_true] at a2
      rw [if_neg (c := (!((B.happen false e.f.st 6).2.1 == 0)) = true) (by rw [a1]; simp)]
      exact ⟨rfl, fin _ _ a2 (hrs true)⟩
    · have h6 : (A.happen true e.f.st 6).1.T.st e.f.st = 6 := by
        by_cases h6 : (A.happen true e.f.st 6).1.T.st e.f.st = 6
        · exact h6
        · rw [if_pos (by simp [h1, h6])] at hc
          exact absurd hc h1
      rw [if_neg (c := (!((A.happen true e.f.st 6).2.1 == 0) && !((A.happen true e.f.st 6).1.T.st e.f.st == 6)) = true) (by simp [h6])]
      have h4 : (A.T.doo e.f.st (!true) 6).2.1 = 4 := by
        by_cases h4 : (A.T.doo e.f.st (!true) 6).2.1 = 4
        · exact h4
        · have := (h.T.sent h.oa h.ob e.f.st 6 h4).1
          exact absurd (by rw [happen_ok h4]; exact congrArg Prod.snd this) h1
      have eA : (A.happen true e.f.st 6).1 = A := by
        rw [happen_bad h4]
        exact hap_same (Tb.doo_bad h.oa h4)
      rw [eA] at h6 ⊢
      have hb : B.T.st e.f.st = 6 := by rw [h.T.st, h6]; rfl
      have d := (Tb.doo_six hb hst).1
      have eB : B.happen false e.f.st 6 = (B, 0, true) := by
        rw [happen_ok (by show (B.T.doo e.f.st true 6).2.1 ≠ 4; rw [d]; simp), hap_same (by show (B.T.doo e.f.st true 6).1 = B.T; rw [d])]
        show (B, (B.T.doo e.f.st true 6).2.2, (B.T.doo e.f.st true 6).2.1 == 1) = _
        rw [d]
        rfl
      rw [eB]
      simp only [beq_self_eq_true, Bool.not_true, Bool.false_eq_true, if_false]
      refine ⟨trivial, fin _ _ (h.weak fun x hx => ?_) fun t => rfl⟩
      rw [if_pos rfl]
      exact List.mem_cons_of_mem _ hx
theorem Tr.settings {X : List Int} {A B : Lk} (h : Tr X A B) (e : Et) (hc : (A.settings e).2 = 0) : (B.settings e.flip).2 = 0 ∧ Tr X (A.settings e).1 (B.settings e.flip).1 := by
  unfold Lk.settings at hc ⊢
  have e2 : e.flip.s = !e.s := rfl
  have e3 : e.flip.has 1 = e.has 1 := rfl
  have e4 : e.flip.ps = e.ps := rfl
  have w1 : B.wy (!e.s) = A.wy e.s := h.wy e.s
  have w2 : B.wy (!(!e.s)) = A.wy (!e.s) := h.wy (!e.s)
  rw [e2, e3, e4, w1, w2]
  by_cases h1 : e.has 1 = true
  · rw [if_pos h1] at hc ⊢
    rw [if_pos h1]
    cases hw : (A.wy e.s).wt with
    | nil => rw [hw] at hc; simp at hc
    | cons x T =>
      rw [hw] at hc
      simp only at hc ⊢
      have hu := h.upd e.s (fun w => { w with ac := x, wt := T }) fun w => rfl
      by_cases h2 : x.win - (A.wy e.s).ac.win = 0
      · rw [if_pos h2, if_pos h2]
        exact ⟨rfl, hu⟩
      · rw [if_neg h2] at hc
        rw [if_neg h2, if_neg h2, h.T.live h.oa h.ob]
        exact ⟨hc, hu.upd e.s (fun w => { w with rw := (shiftL (A.wy e.s).rw (x.win - (A.wy e.s).ac.win) A.T.live).1 }) fun w => rfl⟩
  · rw [if_neg h1] at hc ⊢
    rw [if_neg h1]
    by_cases h2 : (applyS St.dfl e.ps (A.wy (!e.s)).cl).2 ≠ 0
    · rw [if_pos h2] at hc
      exact absurd hc h2
    · rw [if_neg h2] at hc
      rw [if_neg h2, if_neg h2]
      exact ⟨hc, h.upd (!e.s) (fun w => { w with wt := sendL (A.wy (!e.s)).cl (A.wy (!e.s)).ac (A.wy (!e.s)).wt e.ps }) fun w => rfl⟩
theorem Tr.ping {X : List Int} {A B : Lk} (h : Tr X A B) (e : Et) (hc : (A.ping e).2 = 0) : (B.ping e.flip).2 = 0 ∧ Tr X (A.ping e).1 (B.ping e.flip).1 := by
  unfold Lk.ping at hc ⊢
  have e2 : e.flip.s = !e.s := rfl
  have e3 : e.flip.has 1 = e.has 1 := rfl
  have e4 : e.flip.f = e.f := rfl
  have w2 : B.wy (!(!e.s)) = A.wy (!e.s) := h.wy (!e.s)
  rw [e2, e3, e4, w2]
  by_cases h1 : e.has 1 = false
  · rw [if_pos h1, if_pos h1]
    exact ⟨rfl, h.upd e.s (fun w => { w with pg := w.pg ++ [e.f.data] }) fun w => rfl⟩
  · rw [if_neg h1] at hc ⊢
    rw [if_neg h1]
    cases hw : (A.wy (!e.s)).pg with
    | nil => rw [hw] at hc; simp at hc
    | cons p r =>
      rw [hw] at hc
      simp only at hc ⊢
      split at hc
      · rename_i h2
        rw [if_pos h2, if_pos h2]
        exact ⟨rfl, h.upd (!e.s) (fun w => { w with pg := r }) fun w => rfl⟩
      · simp at hc
theorem Tr.update {X : List Int} {A B : Lk} (h : Tr X A B) (e : Et) (hst : e.f.st = 0 ∨ isStr e.f.st = true) (hc : (A.update e).2 = 0) : (B.update e.flip).2 = 0 ∧ Tr X (A.update e).1 (B.update e.flip).1 := by
  unfold Lk.update at hc ⊢
  have e2 : e.flip.s = !e.s := rfl
  have e4 : e.flip.f = e.f := rfl
  have w2 : ∀ k k' : Lk, Tr X k k' → k'.wy (!(!e.s)) = k.wy (!e.s) := fun k k' hk => hk.wy (!e.s)
  simp only [e2, e4] at hc ⊢
  by_cases h1 : e.f.last = 0
  · rw [if_pos h1] at hc
    simp at hc
  rw [if_neg h1] at hc ⊢
  rw [if_neg h1]
  by_cases h2 : e.f.st = 0
  · rw [if_pos h2] at hc ⊢
    rw [if_pos h2, w2 _ _ h]
    exact ⟨hc, h.upd (!e.s) (fun w => { w with rm := gvN w.rm e.f.last }) fun w => rfl⟩
  rw [if_neg h2] at hc ⊢
  rw [if_neg h2]
  have hS : isStr e.f.st = true := hst.resolve_left h2
  have fin : ∀ A' B' : Lk, Tr X A' B' → gvC ((look (A'.wy (!e.s)).rw e.f.st).getD 0) e.f.last = 0 → gvC ((look (B'.wy (!(!e.s))).rw e.f.st).getD 0) e.f.last = 0 ∧ Tr X (A'.upd (!e.s) fun w => { w with rw := putm w.rw e.f.st (gvN ((look (A'.wy (!e.s)).rw e.f.st).getD 0) e.f.last) }) (B'.upd (!(!e.s)) fun w => { w with rw := putm w.rw e.f.st (gvN ((look (B'.wy (!(!e.s))).rw e.f.st).getD 0) e.f.last) }) := by
    intro A' B' h' hg
    rw [h'.wy]
    exact ⟨hg, h'.upd (!e.s) (fun w => { w with rw := putm w.rw e.f.st (gvN ((look (A'.wy (!e.s)).rw e.f.st).getD 0) e.f.last) }) fun w => rfl⟩
  cases hs : e.s
  · rw [hs] at hc fin
    simp only [Bool.false_and, Bool.not_false, Bool.true_and, Bool.not_true] at hc fin ⊢
    rw [if_neg Bool.false_ne_true] at hc ⊢
    by_cases h3 : (A.happen false e.f.st 7).2.1 ≠ 0
    · rw [if_pos h3] at hc; exact absurd hc h3
    · rw [if_neg h3] at hc
      rw [if_neg h3]
      rcases h.happen_got (Decidable.not_not.1 h3) with ⟨a1, a2, a3⟩ | ⟨a1, a2, a3, _, _⟩
      · have hb : ¬ B.T.st e.f.st = 6 := fun hb => by
          have d := (Tb.doo_six hb hS).2.2.2.1
          have : B.happen true e.f.st 7 = (B.hap true e.f.st 7, 1, false) := happen_bad (by show (B.T.doo e.f.st false 7).2.1 = 4; rw [d])
          rw [this] at a2
          simp at a2
        rw [if_neg (by simpa using hb), if_neg (by rw [a2]; simp), if_neg (by rw [a2]; simp)]
        rw [a1, if_neg Bool.false_ne_true] at hc
        rw [a1, if_neg Bool.false_ne_true]
        exact fin _ _ a3 hc
      · have hb : B.T.st e.f.st = 6 := by rw [h.T.st, a3]; rfl
        rw [if_pos (by simp [hb]), a1, if_pos rfl, a2]
        exact ⟨rfl, h⟩
  · rw [hs] at hc fin
    simp only [Bool.true_and, Bool.not_true, Bool.false_and, Bool.not_false] at hc fin ⊢
    by_cases h6 : A.T.st e.f.st = 6
    · have hb : B.T.st e.f.st = 6 := by rw [h.T.st, h6]; rfl
      have d := (Tb.doo_six hb hS).2.1
      have eB : B.happen false e.f.st 7 = (B, 0, true) := by
        rw [happen_ok (by show (B.T.doo e.f.st true 7).2.1 ≠ 4; rw [d]; simp), hap_same (by show (B.T.doo e.f.st true 7).1 = B.T; rw [d])]
        show (B, (B.T.doo e.f.st true 7).2.2, (B.T.doo e.f.st true 7).2.1 == 1) = _
        rw [d]
        rfl
      rw [if_pos (c := (A.T.st e.f.st == 6) = true) (by simp [h6]), eB]
      simp only [Bool.false_eq_true, if_false, ne_eq, not_true_eq_false, if_true]
      exact ⟨trivial, h⟩
    · rw [if_neg (c := (A.T.st e.f.st == 6) = true) (by simpa using h6)] at hc
      rw [if_neg (c := (A.T.st e.f.st == 6) = true) (by simpa using h6)]
      simp only [Bool.false_eq_true, if_false]
      by_cases h3 : (A.happen true e.f.st 7).2.1 ≠ 0
      · rw [if_pos h3] at hc; exact absurd hc h3
      · rw [if_neg h3] at hc
        rw [if_neg h3]
        obtain ⟨a1, a2, a3, a4⟩ := h.happen_sent (Decidable.not_not.1 h3)
        rw [if_neg (by decide)] at a2
        rw [a3] at hc
        simp only [Bool.false_eq_true, if_false] at hc
        rw [if_neg (by rw [a1]; simp), a3, a4 (by decide)]
        simp only [Bool.false_eq_true, if_false]
        exact fin _ _ a2 hc
theorem Tr.priority {X : List Int} {A B : Lk} (h : Tr X A B) (s : Bool) (id : Int) (hc : (A.happen s id 8).2.1 = 0) : (B.happen (!s) id 8).2.1 = 0 ∧ Tr X (A.happen s id 8).1 (B.happen (!s) id 8).1 := by
  cases s
  · rcases h.happen_got hc with ⟨a1, a2, a3⟩ | ⟨a1, a2, a3, _, a5⟩
    · exact ⟨congrArg Prod.fst a2, a3⟩
    · have hb : B.T.st id = 6 := by rw [h.T.st, a3]; rfl
      have d := (Tb.doo_six hb a5).2.2.2.2
      have eB : B.happen true id 8 = (B, 0, false) := by
        rw [happen_ok (by show (B.T.doo id false 8).2.1 ≠ 4; rw [d]; simp), hap_same (by show (B.T.doo id false 8).1 = B.T; rw [d])]
        show (B, (B.T.doo id false 8).2.2, (B.T.doo id false 8).2.1 == 1) = _
        rw [d]
        rfl
      rw [a2, show (!false) = true from rfl, eB]
      exact ⟨rfl, h⟩
  · obtain ⟨a1, a2, _, _⟩ := h.happen_sent hc
    rw [if_neg (by decide)] at a2
    exact ⟨a1, a2⟩

/-- what is kept of both ways: resets, what went, blocks, settings and windows but for those of streams -/
structure Kp (k k' : Lk) : Prop where
  rs : ∀ t, (k'.wy t).rs = (k.wy t).rs
  bk : ∀ t, (k'.wy t).bk = (k.wy t).bk
  ac : ∀ t, (k'.wy t).ac = (k.wy t).ac
  wt : ∀ t, (k'.wy t).wt = (k.wy t).wt
  rm : ∀ t, (k'.wy t).rm = (k.wy t).rm
  cl : ∀ t, (k'.wy t).cl = (k.wy t).cl
  ga : ∀ t, (k'.wy t).ga = (k.wy t).ga
theorem Kp.refl (k : Lk) : Kp k k := ⟨fun _ => rfl, fun _ => rfl, fun _ => rfl, fun _ => rfl, fun _ => rfl, fun _ => rfl, fun _ => rfl⟩
theorem hap_kp (k : Lk) (s : Bool) (id kd : Int) : Kp k (k.hap s id kd) := by
  unfold Lk.hap
  split <;> exact ⟨fun _ => rfl, fun _ => rfl, fun _ => rfl, fun _ => rfl, fun _ => rfl, fun _ => rfl, fun _ => rfl⟩
theorem happen_hap (k : Lk) (s : Bool) (id kd : Int) : (k.happen s id kd).1 = k.hap s id kd := by
  by_cases h4 : (k.T.doo id (!s) kd).2.1 = 4
  · rw [happen_bad h4]
  · rw [happen_ok h4]
theorem happen_kp (k : Lk) (s : Bool) (id kd : Int) : Kp k (k.happen s id kd).1 := by
  rw [happen_hap]; exact hap_kp k s id kd
/-- the resets -/
def Rs (k k' : Lk) : Prop := ∀ t, (k'.wy t).rs = (k.wy t).rs
theorem Rs.refl (k : Lk) : Rs k k := fun _ => rfl
theorem Rs.upd {k k' : Lk} (h : Rs k k') (s : Bool) (f : Wy → Wy) (hf : ∀ w, (f w).rs = w.rs) : Rs k (k'.upd s f) := fun t => by
  rw [Lk.upd_wy]
  split
  · rw [hf]; exact h t
  · exact h t
theorem Rs.hap (k : Lk) (s : Bool) (id kd : Int) : Rs k (k.happen s id kd).1 := (happen_kp k s id kd).rs
theorem Rs.block {k k' : Lk} (h : Rs k k') (e : Et) : Rs k (k'.block e) := by
  unfold Lk.block
  split
  · exact h
  · exact h.upd e.s _ fun w => by rfl
theorem Rs.takeC {k k' : Lk} (h : Rs k k') (s : Bool) (n : Int) : Rs k (k'.takeC s n).1 := h.upd s (fun w => { w with rm := tkN w.rm n }) fun w => rfl
theorem Rs.takeS {k k' : Lk} (h : Rs k k') (s : Bool) (id n : Int) : Rs k (k'.takeS s id n).1 := h.upd s (fun w => { w with rw := putm w.rw id (tkN ((look (k'.wy s).rw id).getD 0) n) }) fun w => rfl
theorem Rs.trans {a b c : Lk} (h : Rs a b) (g : Rs b c) : Rs a c := fun t => (g t).trans (h t)
theorem rs_headers (k : Lk) (e : Et) : Rs k (k.headers e).1 := by
  unfold Lk.headers
  simp only
  split
  · exact Rs.hap _ _ _ _
  · split
    · exact Rs.hap _ _ _ _
    · split
      · exact Rs.hap _ _ _ _
      · exact (Rs.hap _ _ _ _).block e
theorem rs_promise (k : Lk) (e : Et) : Rs k (k.promise e).1 := by
  unfold Lk.promise
  simp only
  split
  · exact Rs.refl _
  · split
    · exact Rs.hap _ _ _ _
    · split
      · exact Rs.hap _ _ _ _
      · exact (Rs.hap _ _ _ _).block e
theorem rs_continuation (k : Lk) (e : Et) : Rs k (k.continuation e).1 := by
  unfold Lk.continuation
  simp only
  have h := (Rs.refl k).upd e.s (fun w => { w with ln := (k.wy e.s).ln + (e.f.data.size : Int) }) fun w => rfl
  split
  · exact h
  · simp only
    split
    · exact h.upd e.s (fun w => { w with bk := 0 }) fun w => rfl
    · exact h
theorem rs_sendData (k : Lk) (e : Et) : Rs k (k.sendData e).1 := by
  unfold Lk.sendData
  simp only
  split
  · exact Rs.hap _ _ _ _
  · split
    · exact (Rs.hap _ _ _ _).takeC _ _
    · exact ((Rs.hap _ _ _ _).takeC _ _).takeS _ _ _
theorem rs_getData (k : Lk) (e : Et) : Rs k (k.getData e).1 := by
  unfold Lk.getData
  simp only
  have h := (Rs.refl k).takeC e.s e.size
  split
  · exact h
  · have h2 := h.trans (Rs.hap (k.takeC e.s e.size).1 e.s e.f.st (e.kind 3 4))
    split
    · exact h2
    · split
      · exact h2
      · exact h2.takeS _ _ _
theorem rs_settings (k : Lk) (e : Et) : Rs k (k.settings e).1 := by
  unfold Lk.settings
  split
  · cases (k.wy e.s).wt with
    | nil => exact Rs.refl _
    | cons x T =>
      simp only
      have h := (Rs.refl k).upd e.s (fun w => { w with ac := x, wt := T }) fun w => rfl
      split
      · exact h
      · exact h.upd e.s (fun w => { w with rw := (shiftL (k.wy e.s).rw (x.win - (k.wy e.s).ac.win) k.T.live).1 }) fun w => rfl
  · split
    · exact Rs.refl _
    · exact (Rs.refl k).upd (!e.s) (fun w => { w with wt := sendL (k.wy (!e.s)).cl (k.wy (!e.s)).ac (k.wy (!e.s)).wt e.ps }) fun w => rfl
theorem rs_ping (k : Lk) (e : Et) : Rs k (k.ping e).1 := by
  unfold Lk.ping
  split
  · exact (Rs.refl k).upd e.s (fun w => { w with pg := w.pg ++ [e.f.data] }) fun w => rfl
  · cases (k.wy (!e.s)).pg with
    | nil => exact Rs.refl _
    | cons p r =>
      simp only
      split
      · exact (Rs.refl k).upd (!e.s) (fun w => { w with pg := r }) fun w => rfl
      · exact Rs.refl _
theorem rs_update (k : Lk) (e : Et) : Rs k (k.update e).1 := by
  unfold Lk.update
  simp only
  split
  · exact Rs.refl _
  · split
    · exact (Rs.refl k).upd (!e.s) (fun w => { w with rm := gvN w.rm e.f.last }) fun w => rfl
    · split
      · exact Rs.refl _
      · split
        · exact Rs.hap _ _ _ _
        · split
          · exact Rs.hap _ _ _ _
          · exact (Rs.hap k e.s e.f.st 7).upd (!e.s) (fun w => { w with rw := putm w.rw e.f.st (gvN ((look ((k.happen e.s e.f.st 7).1.wy (!e.s)).rw e.f.st).getD 0) e.f.last) }) fun w => rfl
/-- an entry that is no RST_STREAM adds none -/
theorem rs_byType (k : Lk) (e : Et) (h3 : e.f.ty ≠ 3) : Rs k (k.byType e).1 := by
  unfold Lk.byType
  split
  · exact rs_headers k e
  split
  · exact rs_promise k e
  split
  · exact rs_continuation k e
  split
  · split
    · exact rs_sendData k e
    · exact rs_getData k e
  split
  · exact rs_settings k e
  split
  · exact rs_ping k e
  split
  · exact (Rs.refl k).upd e.s (fun w => { w with ga := true }) fun w => rfl
  split
  · exact rs_update k e
  split
  · exact Rs.hap _ _ _ _
  · exact Rs.refl _
theorem rs_resets (k : Lk) (e : Et) (hc : (k.resets e).2 = 0) (t : Bool) : ((k.resets e).1.wy t).rs = if t = e.s then e.f.st :: (k.wy t).rs else (k.wy t).rs := by
  unfold Lk.resets at hc ⊢
  simp only at hc ⊢
  split at hc
  · rename_i h1
    simp only [Bool.and_eq_true, Bool.not_eq_true', beq_eq_false_iff_ne] at h1
    exact absurd hc h1.1
  · rename_i h1
    rw [if_neg h1]
    simp only [Lk.upd_wy]
    split
    · show e.f.st :: ((k.happen e.s e.f.st 6).1.wy t).rs = _
      rw [(happen_kp k e.s e.f.st 6).rs]
    · exact (happen_kp k e.s e.f.st 6).rs t
/-- what a frame that may be written says of its stream -/
structure Ew (e : Et) : Prop where
  one : e.n ≠ none → (e.f.ty = 0 ∨ e.f.ty = 1 ∨ e.f.ty = 2 ∨ e.f.ty = 3 ∨ e.f.ty = 5 ∨ e.f.ty = 9) → isStr e.f.st = true
  win : e.n ≠ none → e.f.ty = 8 → e.f.st = 0 ∨ isStr e.f.st = true
  con : e.n ≠ none → (e.f.ty = 4 ∨ e.f.ty = 6 ∨ e.f.ty = 7) → e.f.st = 0
  ty : e.n ≠ none → 0 ≤ e.f.ty
  pad : e.n ≠ none → e.has 8 = true → e.f.ty = 0 → 0 ≤ e.f.pad ∧ e.f.pad < 256
theorem isStr_ne {id : Int} (h : isStr id = true) : id ≠ 0 := by
  have := isStr_iff.1 h
  omega
theorem Tr.byType {X : List Int} {A B : Lk} (h : Tr X A B) (hX : ∀ x, x ∈ X ↔ x ∈ (A.wy true).rs) (e : Et) (he : Ew e) (hn : e.n ≠ none) (h7 : e.f.ty ≠ 7) (hl : e.s = false → e.f.st ≠ 0 → e.f.st ∉ X) (hc : (A.byType e).2 = 0) :
    (B.byType e.flip).2 = 0 ∧ Tr ((A.byType e).1.wy true).rs (A.byType e).1 (B.byType e.flip).1 := by
  have e1 : e.flip.f = e.f := rfl
  by_cases h3 : e.f.ty = 3
  · have dA : A.byType e = A.resets e := by unfold Lk.byType; rw [h3]; rfl
    have dB : B.byType e.flip = B.resets e.flip := by unfold Lk.byType; rw [e1, h3]; rfl
    rw [dA] at hc ⊢
    rw [dB]
    exact h.resets (fun x hx => (hX x).1 hx) e (he.one hn (by omega)) hc
  · have hr : ((A.byType e).1.wy true).rs = (A.wy true).rs := rs_byType A e h3 true
    rw [hr]
    suffices (B.byType e.flip).2 = 0 ∧ Tr X (A.byType e).1 (B.byType e.flip).1 from ⟨this.1, this.2.weak fun x hx => (hX x).1 hx⟩
    have hX' : ∀ x ∈ (A.wy true).rs, x ∈ X := fun x hx => (hX x).2 hx
    by_cases t1 : e.f.ty = 1
    · have dA : A.byType e = A.headers e := by unfold Lk.byType; rw [t1]; rfl
      have dB : B.byType e.flip = B.headers e.flip := by unfold Lk.byType; rw [e1, t1]; rfl
      rw [dA] at hc ⊢
      rw [dB]
      exact h.headers e (fun hs => hl hs (isStr_ne (he.one hn (by omega)))) hc
    by_cases t5 : e.f.ty = 5
    · have dA : A.byType e = A.promise e := by unfold Lk.byType; rw [t5]; rfl
      have dB : B.byType e.flip = B.promise e.flip := by unfold Lk.byType; rw [e1, t5]; rfl
      rw [dA] at hc ⊢
      rw [dB]
      exact h.promise e hX' (fun hs => hl hs (isStr_ne (he.one hn (by omega)))) hc
    by_cases t9 : e.f.ty = 9
    · have dA : A.byType e = A.continuation e := by unfold Lk.byType; rw [t9]; rfl
      have dB : B.byType e.flip = B.continuation e.flip := by unfold Lk.byType; rw [e1, t9]; rfl
      rw [dA] at hc ⊢
      rw [dB]
      exact h.continuation e hc
    by_cases t0 : e.f.ty = 0
    · have dA : A.byType e = if e.s = true then A.sendData e else A.getData e := by unfold Lk.byType; rw [t0]; rfl
      have dB : B.byType e.flip = if e.flip.s = true then B.sendData e.flip else B.getData e.flip := by unfold Lk.byType; rw [e1, t0]; rfl
      rw [dA] at hc ⊢
      rw [dB]
      exact h.data e (fun hs => hl hs (isStr_ne (he.one hn (by omega)))) hc
    by_cases t4 : e.f.ty = 4
    · have dA : A.byType e = A.settings e := by unfold Lk.byType; rw [t4]; rfl
      have dB : B.byType e.flip = B.settings e.flip := by unfold Lk.byType; rw [e1, t4]; rfl
      rw [dA] at hc ⊢
      rw [dB]
      exact h.settings e hc
    by_cases t6 : e.f.ty = 6
    · have dA : A.byType e = A.ping e := by unfold Lk.byType; rw [t6]; rfl
      have dB : B.byType e.flip = B.ping e.flip := by unfold Lk.byType; rw [e1, t6]; rfl
      rw [dA] at hc ⊢
      rw [dB]
      exact h.ping e hc
    by_cases t8 : e.f.ty = 8
    · have dA : A.byType e = A.update e := by unfold Lk.byType; rw [t8]; rfl
      have dB : B.byType e.flip = B.update e.flip := by unfold Lk.byType; rw [e1, t8]; rfl
      rw [dA] at hc ⊢
      rw [dB]
      exact h.update e (he.win hn t8) hc
    by_cases t2 : e.f.ty = 2
    · have dA : A.byType e = ((A.happen e.s e.f.st 8).1, (A.happen e.s e.f.st 8).2.1) := by unfold Lk.byType; rw [t2]; rfl
      have dB : B.byType e.flip = ((B.happen (!e.s) e.f.st 8).1, (B.happen (!e.s) e.f.st 8).2.1) := by unfold Lk.byType; rw [e1, t2]; rfl
      rw [dA] at hc ⊢
      rw [dB]
      exact h.priority e.s e.f.st hc
    · have dA : A.byType e = (A, 0) := by unfold Lk.byType; simp only [t1, t5, t9, t0, h3, t4, t6, h7, t8, t2, if_false]
      have dB : B.byType e.flip = (B, 0) := by unfold Lk.byType; simp only [e1, t1, t5, t9, t0, h3, t4, t6, h7, t8, t2, if_false]
      rw [dA, dB]
      exact ⟨rfl, h⟩
theorem take_ok {k : Lk} {e : Et} (h : (k.take e).2 = 0) : (k.wy true).ga = false ∧ k.form e = 0 ∧ k.early e = false ∧ k.astray e = false ∧ k.late e = false ∧ k.take e = (k.upd e.s fun w => { w with bg := true }).byType e := by
  unfold Lk.take at h ⊢
  split at h
  · simp at h
  rename_i h1
  split at h
  · rename_i h2
    exact absurd h h2
  rename_i h2
  split at h
  · simp at h
  rename_i h3
  split at h
  · simp at h
  rename_i h4
  simp only [Bool.or_eq_true, not_or] at h3
  refine ⟨by simpa using h1, Decidable.not_not.1 h2, by simpa using h3.1, by simpa using h3.2, by simpa using h4, ?_⟩
  rw [if_neg h1, if_neg h2, if_neg (by simp only [Bool.or_eq_true, not_or]; exact h3), if_neg h4]
theorem form_n {k : Lk} {e : Et} (h : k.form e = 0) : e.n ≠ none := fun hn => by
  unfold Lk.form at h
  rw [hn] at h
  simp at h
theorem Tr.take {A B : Lk} (h : Tr (A.wy true).rs A B) (e : Et) (he : Ew e) (h7 : e.f.ty ≠ 7) (hl : e.s = false → e.f.st ≠ 0 → e.f.st ∉ (A.wy true).rs) (hc : (A.take e).2 = 0) :
    (B.take e.flip).2 = 0 ∧ Tr ((A.take e).1.wy true).rs (A.take e).1 (B.take e.flip).1 := by
  obtain ⟨a1, a2, a3, a4, a5, a6⟩ := take_ok hc
  have hn := form_n a2
  have w1 : B.wy e.flip.s = A.wy e.s := h.wy e.s
  have b1 : (B.wy true).ga = false := by
    have := h.wy false
    rw [show (!false) = true from rfl] at this
    rw [this]; exact h.ga false
  have b2 : B.form e.flip = 0 := by
    have : B.form e.flip = A.form e := by unfold Lk.form; rw [w1]; rfl
    rw [this]; exact a2
  have b3 : B.early e.flip = false := by
    have : B.early e.flip = A.early e := by unfold Lk.early; rw [w1]; rfl
    rw [this]; exact a3
  have b4 : B.astray e.flip = false := by
    have : B.astray e.flip = A.astray e := by unfold Lk.astray; rw [w1]; rfl
    rw [this]; exact a4
  have b5 : B.late e.flip = false := by
    have : B.late e.flip = A.late e := by unfold Lk.late; rw [w1]; rfl
    rw [this]; exact a5
  have b6 : B.take e.flip = (B.upd e.flip.s fun w => { w with bg := true }).byType e.flip := by
    unfold Lk.take
    rw [if_neg (by rw [b1]; simp), if_neg (by rw [b2]; simp), if_neg (by rw [b3, b4]; simp), if_neg (by rw [b5]; simp)]
  rw [b6]
  rw [a6] at hc ⊢
  have hu := h.upd e.s (fun w => { w with bg := true }) fun w => rfl
  have hru : ((A.upd e.s fun w => { w with bg := true }).wy true).rs = (A.wy true).rs := by rw [Lk.upd_wy]; split <;> rfl
  exact hu.byType (fun x => by rw [hru]) e he hn h7 hl hc
/-- has a log a GOAWAY, or what came late? -/
def lateL (X : List Int) : List Et → Bool
  | [] => false
  | e :: r => (e.f.ty == 7 || (!e.s && !(e.f.st == 0) && X.contains e.f.st)) || lateL (if (e.f.ty == 3 && e.s) = true then X ++ [e.f.st] else X) r
theorem Tr.chk : ∀ (l : List Et) (X : List Int) (A B : Lk) (i j : Nat), Tr (A.wy true).rs A B → (∀ x, x ∈ X ↔ x ∈ (A.wy true).rs) → (∀ e ∈ l, Ew e) → lateL X l = false → chk A l i = (-1, 0) → chk B (l.map Et.flip) j = (-1, 0)
  | [], X, A, B, i, j, h, hX, he, hl, hc => rfl
  | e :: r, X, A, B, i, j, h, hX, he, hl, hc => by
    rw [chk_cons1] at hc
    by_cases h0 : (A.take e).2 = 0
    · rw [if_pos h0] at hc
      unfold lateL at hl
      simp only [Bool.or_eq_false_iff] at hl
      obtain ⟨⟨l1, l2⟩, l3⟩ := hl
      have h7 : e.f.ty ≠ 7 := by simpa using l1
      have hE := he e List.mem_cons_self
      obtain ⟨b1, b2⟩ := h.take e hE h7 (fun hs hz hx => by
        rw [hs] at l2
        have := (hX e.f.st).2 hx
        simp [hz, this] at l2) h0
      rw [List.map_cons, chk_cons1, if_pos b1]
      obtain ⟨a1, a2, a3, a4, a5, a6⟩ := take_ok h0
      refine Tr.chk r _ _ _ (i + 1) (j + 1) b2 ?_ (fun e' h' => he e' (List.mem_cons_of_mem _ h')) l3 hc
      intro x
      rw [a6]
      have hru : ((A.upd e.s fun w => { w with bg := true }).wy true).rs = (A.wy true).rs := by rw [Lk.upd_wy]; split <;> rfl
      by_cases h3 : e.f.ty = 3
      · have dA : ∀ k : Lk, k.byType e = k.resets e := fun k => by unfold Lk.byType; rw [h3]; rfl
        rw [a6, dA] at h0
        rw [dA, rs_resets _ e h0, hru, h3]
        cases e.s
        · rw [if_neg (by decide), if_neg (by decide)]
          exact hX x
        · rw [if_pos (by decide), if_pos rfl]
          simp only [List.mem_append, List.mem_cons, List.not_mem_nil, or_false]
          rw [hX x]
          exact Or.comm
      · rw [rs_byType _ e h3, hru, if_neg (by simp [h3])]
        exact hX x
    · rw [if_neg h0] at hc
      injection hc with c1 c2
      exact absurd c2 h0
theorem Tr.new (c : Bool) : Tr ((Lk.new c).wy true).rs (Lk.new c) (Lk.new (!c)) := by
  refine ⟨Mir.new c, Tb.new_ok c, Tb.new_ok (!c), fun s => ?_, fun s => rfl, fun id hc => by simp [Lk.new, Tb.new, Tb.cut, look] at hc⟩
  show Wy.new ((!s) != !c) = Wy.new (s != c)
  cases s <;> cases c <;> rfl
/-- P24.3 -/
theorem checkS_turned (l : List Et) (c : Bool) (he : ∀ e ∈ l, Ew e) (hl : lateL [] l = false) (h : checkS l c = (-1, 0)) : checkS (l.map Et.flip) (!c) = (-1, 0) :=
  Tr.chk l [] _ _ 0 0 (Tr.new c) (fun x => by simp [Lk.new, Wy.new]) he hl h
end Go.Proofs.YtfmljlflnpmceaaGreatDoor
