/- The sums of a log: P24.4, plain. -/
import Derived.Test.YtfmljlflnpmceaaGreatDoorU1
namespace Go.Proofs.YtfmljlflnpmceaaGreatDoor
open Go.RowKit
set_option linter.unusedVariables false
set_option linter.unusedSimpArgs false
set_option linter.unnecessarySimpa false
/-- what TraceRight keeps: what is left of each way's window, the resets, the client's settings that wait, whether pushing is on, the last promise -/
structure Rg where
  left : Bool → Int
  sh : Bool → List Int
  wait : List (List (Int × Int))
  push : Int
  last : Int
def pushOf (p : Int) (l : List (Int × Int)) : Int := l.foldl (fun p q => if q.1 = 2 then q.2 else p) p
def Rg.new : Rg := ⟨fun _ => 65535, fun _ => [], [], 1, 0⟩
/-- an entry: none is where the law answers false -/
def Rg.step (c : Bool) (g : Rg) (e : Et) : Option Rg :=
  if ((g.sh e.s).contains e.f.st && !(e.f.st == 0) && decide (e.f.ty ≤ 9) && !(e.f.ty == 2)) = true then none
  else if e.f.ty = 0 then (if g.left e.s - e.size < 0 then none else some { g with left := fun t => if t = e.s then g.left t - e.size else g.left t })
  else if e.f.ty = 3 then some { g with sh := fun t => if t = e.s then g.sh t ++ [e.f.st] else g.sh t }
  else if e.f.ty = 4 then
    (if e.has 1 = true then
      (if (e.s == c) = true then some g else match g.wait with | [] => none | w :: W => some { g with push := pushOf g.push w, wait := W })
     else if (e.s == c) = true then some { g with wait := g.wait ++ [e.ps] } else some g)
  else if e.f.ty = 5 then (if (e.s == c) = true ∨ e.f.last ≤ g.last ∨ e.f.last.tmod 2 ≠ 0 ∨ g.push ≠ 1 then none else some { g with last := e.f.last })
  else if e.f.ty = 8 then (if e.f.st = 0 then some { g with left := fun t => if t = !e.s then g.left t + e.f.last else g.left t } else some g)
  else some g
/-- the settings that wait, seen by their lists -/
def PR : St → List St → List (List (Int × Int)) → Int → Prop
  | a, [], [], p => a.psh = p
  | a, x :: T, w :: W, p => a.psh = p ∧ PR x T W (pushOf p w)
  | _, _, _, _ => False
theorem PR.psh {a : St} {L : List St} {W : List (List (Int × Int))} {p : Int} (h : PR a L W p) : a.psh = p := by
  cases L <;> cases W <;> simp [PR] at h
  · exact h
  · exact h.1
theorem withS_psh (s : St) (q : Int × Int) : (withS s q).psh = if q.1 = 2 then q.2 else s.psh := by
  unfold withS
  by_cases h2 : q.1 = 2
  · rw [if_pos h2, if_neg (by omega), if_pos h2]
  · rw [if_neg h2]
    repeat' split
    all_goals rfl
theorem applyS_psh : ∀ (l : List (Int × Int)) (s : St) (c : Bool), (applyS s l c).2 = 0 → (applyS s l c).1.psh = pushOf s.psh l
  | [], s, c, h => rfl
  | q :: r, s, c, h => by
    unfold applyS at h ⊢
    split at h
    · rename_i hv
      rw [if_pos hv, applyS_psh r _ c h, withS_psh]
      rfl
    · rename_i hv
      exact absurd h hv
theorem PR.snoc : ∀ {L : List St} {W : List (List (Int × Int))} {a : St} {p : Int} (x : St) (w : List (Int × Int)), PR a L W p → x.psh = pushOf (lastS a L).psh w → PR a (L ++ [x]) (W ++ [w]) p
  | [], [], a, p, x, w, h, hx => ⟨h, by
      show x.psh = pushOf p w
      rw [hx]
      have : a.psh = p := h
      rw [← this]; rfl⟩
  | [], _ :: _, _, _, _, _, h, _ => by simp [PR] at h
  | _ :: _, [], _, _, _, _, h, _ => by simp [PR] at h
  | y :: L, v :: W, a, p, x, w, h, hx => by
    refine ⟨h.1, PR.snoc x w h.2 ?_⟩
    rw [hx]
    congr 2
    unfold lastS
    cases L <;> rfl
/-- the law's sums are the state's -/
structure Iv (c : Bool) (k : Lk) (g : Rg) : Prop where
  ok : k.T.Ok
  cl : k.T.cl = c
  lf : ∀ s, g.left s = (k.wy s).rm ∧ 0 ≤ (k.wy s).rm ∧ (k.wy s).rm ≤ 2147483647
  sh : ∀ s x, x ∈ g.sh s ↔ x ∈ (k.wy s).rs
  bk : ∀ s, (k.wy s).bk ≠ 0 → (k.wy s).bk ∉ (k.wy s).rs
  pr : PR (k.wy (!c)).ac (k.wy (!c)).wt g.wait g.push
  la : 0 ≤ g.last ∧ g.last ≤ k.T.last (!c)
theorem Tb.doo_last {T : Tb} (h : T.Ok) (id : Int) (g : Bool) (k : Int) (l : Bool) : T.last l ≤ (T.doo id g k).1.last l := by
  rcases T.doo_cases h id g k with e | ⟨n, _, _, _, _, _, _, _, _, e⟩
  · rw [e]; exact Int.le_refl _
  · rw [e]
    show T.last l ≤ (T.mv id n g k).last l
    rw [Tb.mv_last]
    split <;> omega
theorem hap_T (k : Lk) (s : Bool) (id kd : Int) : (k.hap s id kd).T = (k.T.doo id (!s) kd).1 := by
  unfold Lk.hap
  split <;> rfl
theorem Iv.kp {c : Bool} {k k' : Lk} {g : Rg} (h : Iv c k g) (hk : Kp k k') (ho : k'.T.Ok) (hc : k'.T.cl = k.T.cl) (hl : ∀ l, k.T.last l ≤ k'.T.last l) : Iv c k' g := by
  refine ⟨ho, hc.trans h.cl, fun s => ?_, fun s x => ?_, fun s => ?_, ?_, ?_⟩
  · rw [hk.rm]; exact h.lf s
  · rw [hk.rs]; exact h.sh s x
  · rw [hk.bk, hk.rs]; exact h.bk s
  · rw [hk.ac, hk.wt]; exact h.pr
  · have := hl (!c)
    have := h.la
    omega
theorem Iv.happen {c : Bool} {k : Lk} {g : Rg} (h : Iv c k g) (s : Bool) (id kd : Int) : Iv c (k.happen s id kd).1 g := by
  refine h.kp (happen_kp k s id kd) ?_ ?_ ?_
  · rw [happen_hap, hap_T]; exact Tb.doo_ok h.ok _ _ _
  · rw [happen_hap, hap_T]; exact Tb.doo_cl h.ok _ _ _
  · intro l
    rw [happen_hap, hap_T]; exact Tb.doo_last h.ok _ _ _ _
/-- a way's field that the law does not see -/
theorem Iv.side {c : Bool} {k : Lk} {g : Rg} (h : Iv c k g) (s : Bool) (f : Wy → Wy) (hf : ∀ w, (f w).rs = w.rs ∧ (f w).bk = w.bk ∧ (f w).ac = w.ac ∧ (f w).wt = w.wt ∧ (f w).rm = w.rm) : Iv c (k.upd s f) g := by
  refine ⟨h.ok, h.cl, fun t => ?_, fun t x => ?_, fun t => ?_, ?_, h.la⟩
  · rw [Lk.upd_wy]; split
    · rw [(hf _).2.2.2.2]; exact h.lf t
    · exact h.lf t
  · rw [Lk.upd_wy]; split
    · rw [(hf _).1]; exact h.sh t x
    · exact h.sh t x
  · rw [Lk.upd_wy]; split
    · rw [(hf _).1, (hf _).2.1]; exact h.bk t
    · exact h.bk t
  · rw [Lk.upd_wy]; split
    · rw [(hf _).2.2.1, (hf _).2.2.2.1]; exact h.pr
    · exact h.pr
theorem Iv.block {c : Bool} {k : Lk} {g : Rg} (h : Iv c k g) (e : Et) (hl : e.f.st ∉ (k.wy e.s).rs) : Iv c (k.block e) g := by
  unfold Lk.block
  split
  · exact h
  · refine ⟨h.ok, h.cl, fun t => ?_, fun t x => ?_, fun t => ?_, ?_, h.la⟩
    · rw [Lk.upd_wy]; split <;> exact h.lf t
    · rw [Lk.upd_wy]; split <;> exact h.sh t x
    · rw [Lk.upd_wy]; split
      · rename_i ht
        subst ht
        exact fun _ => hl
      · exact h.bk t
    · rw [Lk.upd_wy]; split <;> exact h.pr
theorem Iv.headers {c : Bool} {k : Lk} {g : Rg} (h : Iv c k g) (e : Et) (hl : e.f.st ∉ (k.wy e.s).rs) : Iv c (k.headers e).1 g := by
  unfold Lk.headers
  simp only
  have h1 := h.happen e.s e.f.st (e.kind 1 2)
  split
  · exact h1
  · split
    · exact h1
    · split
      · exact h1
      · exact h1.block e (by rw [(happen_kp k e.s e.f.st (e.kind 1 2)).rs]; exact hl)
/-- a promise that is taken -/
theorem promise_born {T : Tb} {id : Int} {g : Bool} (h : T.Ok) (hv : (T.doo id g 5).2.1 ≠ 4) (hc : (T.doo id g 5).2.2 = 0) : odd id = false ∧ T.cl = g ∧ T.last (!T.cl) < id ∧ id ≤ (T.doo id g 5).1.last (!T.cl) := by
  have tab : ∀ s : Int, 0 ≤ s ∧ s ≤ 6 → ((nx s g 5).2.1 = 4 ∨ (nx s g 5).2.2 ≠ 0 ∨ (s = 0 ∧ ∃ n, nx s g 5 = (n, 0, 0) ∧ n ≠ 0)) := by
    intro s hs
    cases g <;> rcases states hs with rfl | rfl | rfl | rfl | rfl | rfl | rfl <;>
      first
        | exact .inl (by decide)
        | exact .inr (.inl (by decide))
        | exact .inr (.inr ⟨rfl, _, rfl, by decide⟩)
  cases h2 : isStr id
  · refine absurd hc ?_
    have e : T.doo id g 5 = (T, mis g) := by unfold Tb.doo; rw [if_neg (by decide), if_pos h2]
    rw [e] at hv ⊢
    cases g
    · exact absurd rfl hv
    · show ¬ (1 : Int) = 0
      decide
  cases h3 : (T.st id == 0 && isB 5 && !T.may id g 5)
  · have e := Tb.doo_nx (T := T) (id := id) (g := g) (k := 5) rfl h2 h3 (by simp)
    rw [e] at hv hc ⊢
    simp only at hv hc ⊢
    rcases tab _ (h.st_range id) with t | t | ⟨t1, n, t2, t3⟩
    · exact absurd t hv
    · exact absurd hc t
    · have hm : T.may id g 5 = true := by
        rw [t1] at h3
        simpa [isB] using h3
      unfold Tb.may at hm
      simp only [Bool.and_eq_true, beq_iff_eq, bne_iff_ne] at hm
      have ho : odd id = false := by
        have := hm.2
        cases hq : odd id
        · rfl
        · rw [hq] at this; exact absurd rfl this
      have hg : T.cl = g := by
        have := hm.1
        rw [ho] at this
        revert this
        cases T.cl <;> cases g <;> decide
      have hours : T.ours id = !T.cl := by unfold Tb.ours; rw [ho]; cases T.cl <;> rfl
      have hlt : T.last (!T.cl) < id := by
        unfold Tb.st at t1
        rw [if_pos h2, hours] at t1
        split at t1
        · assumption
        · exfalso
          cases hl : look T.L id with
          | none => rw [hl] at t1; simp at t1
          | some v =>
            rw [hl] at t1
            simp at t1
            have := h.look_range hl
            omega
      refine ⟨ho, hg, hlt, ?_⟩
      rw [t2, t1, if_pos (by simpa using t3), Tb.mv_last, hours, if_pos (by simp)]
      omega
  · refine absurd hc ?_
    have e : T.doo id g 5 = (T, mis g) := by unfold Tb.doo; rw [if_neg (by decide), if_neg (by rw [h2]; decide), if_pos h3]
    rw [e] at hv ⊢
    cases g
    · exact absurd rfl hv
    · show ¬ (1 : Int) = 0
      decide
theorem Iv.promise {c : Bool} {k : Lk} {g : Rg} (h : Iv c k g) (e : Et) (hl : e.f.st ∉ (k.wy e.s).rs) (hc : (k.promise e).2 = 0) :
    (e.s == c) = false ∧ ¬ e.f.last ≤ g.last ∧ e.f.last.tmod 2 = 0 ∧ g.push = 1 ∧ Iv c (k.promise e).1 { g with last := e.f.last } := by
  unfold Lk.promise at hc ⊢
  simp only at hc ⊢
  split at hc
  · simp at hc
  rename_i h0
  rw [if_neg h0]
  split at hc
  · rename_i h1
    exact absurd hc h1
  rename_i h1
  rw [if_neg h1]
  obtain ⟨d1, d2⟩ := happen_code (Decidable.not_not.1 h1)
  obtain ⟨p1, p2, p3, p4⟩ := promise_born h.ok d1 d2
  rw [h.cl] at p2 p3 p4
  have hs : e.s = !c := by rw [p2]; simp
  have hla : Iv c (k.happen e.s e.f.last 5).1 { g with last := e.f.last } := by
    have := h.happen e.s e.f.last 5
    refine ⟨this.ok, this.cl, this.lf, this.sh, this.bk, this.pr, ?_, ?_⟩
    · have := h.la
      show 0 ≤ e.f.last
      omega
    · show e.f.last ≤ (k.happen e.s e.f.last 5).1.T.last (!c)
      rw [happen_hap, hap_T]
      exact p4
  have hlr : e.f.st ∉ ((k.happen e.s e.f.last 5).1.wy e.s).rs := by rw [(happen_kp k e.s e.f.last 5).rs]; exact hl
  refine ⟨by rw [hs]; cases c <;> rfl, ?_, ?_, ?_, ?_⟩
  · have := h.la
    omega
  · unfold odd at p1
    simpa using p1
  · simp only [Bool.or_eq_true, not_or, Bool.not_eq_true', Bool.not_eq_false] at h0
    have := h.pr.psh
    rw [← this, ← hs]
    simpa using h0.1
  · split
    · exact hla
    · exact hla.block e hlr
theorem Iv.continuation {c : Bool} {k : Lk} {g : Rg} (h : Iv c k g) (e : Et) : Iv c (k.continuation e).1 g := by
  unfold Lk.continuation
  simp only
  have h1 := h.side e.s (fun w => { w with ln := (k.wy e.s).ln + (e.f.data.size : Int) }) fun w => ⟨rfl, rfl, rfl, rfl, rfl⟩
  split
  · exact h1
  · simp only
    split
    · refine ⟨h1.ok, h1.cl, fun t => ?_, fun t x => ?_, fun t => ?_, ?_, h1.la⟩
      · rw [Lk.upd_wy]; split <;> exact h1.lf t
      · rw [Lk.upd_wy]; split <;> exact h1.sh t x
      · rw [Lk.upd_wy]; split
        · exact fun hb => absurd rfl hb
        · exact h1.bk t
      · rw [Lk.upd_wy]; split <;> exact h1.pr
    · exact h1
/-- the connection's window of one way -/
theorem Iv.room {c : Bool} {k : Lk} {g : Rg} (h : Iv c k g) (s : Bool) (x : Int) (h0 : 0 ≤ x ∧ x ≤ 2147483647) (f : Wy → Wy) (hf : ∀ w, (f w).rs = w.rs ∧ (f w).bk = w.bk ∧ (f w).ac = w.ac ∧ (f w).wt = w.wt) (hr : (f (k.wy s)).rm = x) : Iv c (k.upd s f) { g with left := fun t => if t = s then x else g.left t } := by
  refine ⟨h.ok, h.cl, fun t => ?_, fun t x => ?_, fun t => ?_, ?_, h.la⟩
  · rw [Lk.upd_wy]
    simp only
    split
    · rename_i ht
      subst ht
      rw [hr]
      exact ⟨rfl, h0⟩
    · exact h.lf t
  · rw [Lk.upd_wy]; split
    · rw [(hf _).1]; exact h.sh t x
    · exact h.sh t x
  · rw [Lk.upd_wy]; split
    · rw [(hf _).1, (hf _).2.1]; exact h.bk t
    · exact h.bk t
  · rw [Lk.upd_wy]; split
    · rw [(hf _).2.2.1, (hf _).2.2.2]; exact h.pr
    · exact h.pr
theorem Iv.takeC {c : Bool} {k : Lk} {g : Rg} (h : Iv c k g) (s : Bool) (n : Int) (hc : (k.takeC s n).2 = true) : 0 ≤ g.left s - n ∧ Iv c (k.takeC s n).1 { g with left := fun t => if t = s then g.left t - n else g.left t } := by
  have hl := h.lf s
  have hc' : tk (k.wy s).rm n = true := hc
  have ht := hc'
  unfold tk at ht
  simp only [Bool.and_eq_true, decide_eq_true_eq] at ht
  have e : tkN (k.wy s).rm n = (k.wy s).rm - n := by unfold tkN; rw [if_pos hc']
  refine ⟨by rw [hl.1]; omega, ?_⟩
  have := h.room s ((k.wy s).rm - n) (by omega) (fun w => { w with rm := tkN w.rm n }) (fun w => ⟨rfl, rfl, rfl, rfl⟩) e
  have e2 : (fun t => if t = s then g.left t - n else g.left t) = fun t => if t = s then (k.wy s).rm - n else g.left t := by
    funext t
    split
    · rename_i ht
      subst ht
      rw [hl.1]
    · rfl
  rw [e2]
  exact this
theorem Iv.takeS {c : Bool} {k : Lk} {g : Rg} (h : Iv c k g) (s : Bool) (id n : Int) : Iv c (k.takeS s id n).1 g := h.side s (fun w => { w with rw := putm w.rw id (tkN ((look (k.wy s).rw id).getD 0) n) }) fun w => ⟨rfl, rfl, rfl, rfl, rfl⟩
theorem Iv.sendData {c : Bool} {k : Lk} {g : Rg} (h : Iv c k g) (e : Et) (hc : (k.sendData e).2 = 0) : 0 ≤ g.left e.s - e.size ∧ Iv c (k.sendData e).1 { g with left := fun t => if t = e.s then g.left t - e.size else g.left t } := by
  unfold Lk.sendData at hc ⊢
  simp only at hc ⊢
  split at hc
  · rename_i h1
    exact absurd hc h1
  rename_i h1
  rw [if_neg h1]
  split at hc
  · simp at hc
  rename_i h2
  rw [if_neg h2]
  obtain ⟨a1, a2⟩ := (h.happen e.s e.f.st (e.kind 3 4)).takeC e.s e.size (by simpa using h2)
  exact ⟨a1, a2.takeS _ _ _⟩
theorem Iv.getData {c : Bool} {k : Lk} {g : Rg} (h : Iv c k g) (e : Et) (hc : (k.getData e).2 = 0) : 0 ≤ g.left e.s - e.size ∧ Iv c (k.getData e).1 { g with left := fun t => if t = e.s then g.left t - e.size else g.left t } := by
  unfold Lk.getData at hc ⊢
  simp only at hc ⊢
  split at hc
  · simp at hc
  rename_i h2
  rw [if_neg h2]
  obtain ⟨a1, a2⟩ := h.takeC e.s e.size (by simpa using h2)
  have a3 := a2.happen e.s e.f.st (e.kind 3 4)
  split
  · exact ⟨a1, a3⟩
  · split
    · exact ⟨a1, a3⟩
    · exact ⟨a1, a3.takeS _ _ _⟩
theorem Iv.resets {c : Bool} {k : Lk} {g : Rg} (h : Iv c k g) (e : Et) (hb : (k.wy e.s).bk = 0) (hc : (k.resets e).2 = 0) : Iv c (k.resets e).1 { g with sh := fun t => if t = e.s then g.sh t ++ [e.f.st] else g.sh t } := by
  have hr := rs_resets k e hc
  unfold Lk.resets at hc hr ⊢
  simp only at hc hr ⊢
  split at hc
  · rename_i h1
    simp only [Bool.and_eq_true, Bool.not_eq_true', beq_eq_false_iff_ne] at h1
    exact absurd hc h1.1
  rename_i h1
  rw [if_neg h1] at hr ⊢
  have h2 := h.happen e.s e.f.st 6
  have hb2 : ((k.happen e.s e.f.st 6).1.wy e.s).bk = 0 := by rw [(happen_kp k e.s e.f.st 6).bk]; exact hb
  refine ⟨h2.ok, h2.cl, fun t => ?_, fun t x => ?_, fun t => ?_, ?_, h2.la⟩
  · rw [Lk.upd_wy]; split <;> exact h2.lf t
  · rw [hr]
    simp only
    split
    · simp only [List.mem_append, List.mem_cons, List.not_mem_nil, or_false]
      rw [h.sh t x]
      exact Or.comm
    · exact h.sh t x
  · rw [Lk.upd_wy]; split
    · rename_i ht
      subst ht
      exact fun hn => absurd hb2 hn
    · exact h2.bk t
  · rw [Lk.upd_wy]; split <;> exact h2.pr

theorem Iv.settings {c : Bool} {k : Lk} {g : Rg} (h : Iv c k g) (e : Et) (hc : (k.settings e).2 = 0) :
    (e.has 1 = true → (e.s == c) = false → ∃ w W, g.wait = w :: W ∧ Iv c (k.settings e).1 { g with push := pushOf g.push w, wait := W }) ∧ (e.has 1 = true → (e.s == c) = true → Iv c (k.settings e).1 g) ∧
    (e.has 1 = false → (e.s == c) = true → Iv c (k.settings e).1 { g with wait := g.wait ++ [e.ps] }) ∧ (e.has 1 = false → (e.s == c) = false → Iv c (k.settings e).1 g) := by
  unfold Lk.settings at hc ⊢
  by_cases h1 : e.has 1 = true
  · rw [if_pos h1] at hc
    simp only [if_pos h1]
    refine ⟨fun _ hs => ?_, fun _ hs => ?_, fun h0 => absurd (h1.symm.trans h0) (by decide), fun h0 => absurd (h1.symm.trans h0) (by decide)⟩
    · have hse : e.s = !c := by revert hs; cases e.s <;> cases c <;> decide
      cases hw : (k.wy e.s).wt with
      | nil => rw [hw] at hc; simp at hc
      | cons x T =>
        have hp := h.pr
        rw [← hse, hw] at hp
        cases hg : g.wait with
        | nil => rw [hg] at hp; exact absurd hp (by simp [PR])
        | cons w W =>
          rw [hg] at hp
          refine ⟨w, W, rfl, ?_⟩
          have base : ∀ f : Wy → Wy, (∀ w, (f w).rs = w.rs ∧ (f w).bk = w.bk ∧ (f w).rm = w.rm ∧ (f w).ac = x ∧ (f w).wt = T) → Iv c (k.upd e.s f) { g with push := pushOf g.push w, wait := W } := by
            intro f hf
            refine ⟨h.ok, h.cl, fun t => ?_, fun t y => ?_, fun t => ?_, ?_, h.la⟩
            · rw [Lk.upd_wy]; split
              · rw [(hf _).2.2.1]; exact h.lf t
              · exact h.lf t
            · rw [Lk.upd_wy]; split
              · rw [(hf _).1]; exact h.sh t y
              · exact h.sh t y
            · rw [Lk.upd_wy]; split
              · rw [(hf _).1, (hf _).2.1]; exact h.bk t
              · exact h.bk t
            · rw [← hse, Lk.upd_wy, if_pos rfl, (hf _).2.2.2.1, (hf _).2.2.2.2]
              exact hp.2
          have b1 := base (fun w => { w with ac := x, wt := T }) fun w => ⟨rfl, rfl, rfl, rfl, rfl⟩
          simp only
          split
          · exact b1
          · exact b1.side e.s (fun w => { w with rw := (shiftL (k.wy e.s).rw (x.win - (k.wy e.s).ac.win) k.T.live).1 }) fun w => ⟨rfl, rfl, rfl, rfl, rfl⟩
    · have hse : (!c) ≠ e.s := by revert hs; cases e.s <;> cases c <;> decide
      cases hw : (k.wy e.s).wt with
      | nil => rw [hw] at hc; simp at hc
      | cons x T =>
        have base : ∀ f : Wy → Wy, (∀ w, (f w).rs = w.rs ∧ (f w).bk = w.bk ∧ (f w).rm = w.rm) → Iv c (k.upd e.s f) g := by
          intro f hf
          refine ⟨h.ok, h.cl, fun t => ?_, fun t y => ?_, fun t => ?_, ?_, h.la⟩
          · rw [Lk.upd_wy]; split
            · rw [(hf _).2.2]; exact h.lf t
            · exact h.lf t
          · rw [Lk.upd_wy]; split
            · rw [(hf _).1]; exact h.sh t y
            · exact h.sh t y
          · rw [Lk.upd_wy]; split
            · rw [(hf _).1, (hf _).2.1]; exact h.bk t
            · exact h.bk t
          · rw [Lk.upd_wy, if_neg hse]
            exact h.pr
        have b1 := base (fun w => { w with ac := x, wt := T }) fun w => ⟨rfl, rfl, rfl⟩
        simp only
        split
        · exact b1
        · exact b1.side e.s (fun w => { w with rw := (shiftL (k.wy e.s).rw (x.win - (k.wy e.s).ac.win) k.T.live).1 }) fun w => ⟨rfl, rfl, rfl, rfl, rfl⟩
  · rw [if_neg h1] at hc
    simp only [if_neg h1]
    split at hc
    · rename_i h2
      exact absurd hc h2
    rename_i h2
    have hsd : sendC (k.wy (!e.s)).cl (k.wy (!e.s)).ac (k.wy (!e.s)).wt e.ps = 0 := by
      simp only at hc
      split at hc
      · assumption
      · simp at hc
    refine ⟨fun h0 => absurd h0 h1, fun h0 => absurd h0 h1, fun _ hs => ?_, fun _ hs => ?_⟩
    · have hse : e.s = c := by revert hs; cases e.s <;> cases c <;> decide
      rw [if_neg h2]
      refine ⟨h.ok, h.cl, fun t => ?_, fun t y => ?_, fun t => ?_, ?_, h.la⟩
      · rw [Lk.upd_wy]; split <;> exact h.lf t
      · rw [Lk.upd_wy]; split <;> exact h.sh t y
      · rw [Lk.upd_wy]; split <;> exact h.bk t
      · rw [hse] at hsd ⊢
        rw [Lk.upd_wy, if_pos rfl]
        show PR (k.wy (!c)).ac (sendL (k.wy (!c)).cl (k.wy (!c)).ac (k.wy (!c)).wt e.ps) (g.wait ++ [e.ps]) g.push
        unfold sendC at hsd
        unfold sendL
        split at hsd
        · rename_i ha
          rw [if_pos ha]
          split at hsd
          · simp at hsd
          · rename_i h64
            rw [if_neg h64]
            exact h.pr.snoc _ _ (applyS_psh _ _ _ ha)
        · simp at hsd
    · have hse : ¬ (!c) = !e.s := by revert hs; cases e.s <;> cases c <;> decide
      rw [if_neg h2]
      refine ⟨h.ok, h.cl, fun t => ?_, fun t y => ?_, fun t => ?_, ?_, h.la⟩
      · rw [Lk.upd_wy]; split <;> exact h.lf t
      · rw [Lk.upd_wy]; split <;> exact h.sh t y
      · rw [Lk.upd_wy]; split <;> exact h.bk t
      · rw [Lk.upd_wy, if_neg hse]
        exact h.pr
theorem Iv.ping {c : Bool} {k : Lk} {g : Rg} (h : Iv c k g) (e : Et) : Iv c (k.ping e).1 g := by
  unfold Lk.ping
  split
  · exact h.side e.s (fun w => { w with pg := w.pg ++ [e.f.data] }) fun w => ⟨rfl, rfl, rfl, rfl, rfl⟩
  · cases (k.wy (!e.s)).pg with
    | nil => exact h
    | cons p r =>
      simp only
      split
      · exact h.side (!e.s) (fun w => { w with pg := r }) fun w => ⟨rfl, rfl, rfl, rfl, rfl⟩
      · exact h
theorem Iv.update {c : Bool} {k : Lk} {g : Rg} (h : Iv c k g) (e : Et) (hc : (k.update e).2 = 0) : Iv c (k.update e).1 (if e.f.st = 0 then { g with left := fun t => if t = !e.s then g.left t + e.f.last else g.left t } else g) ∧ (e.f.st = 0 → 1 ≤ e.f.last ∧ g.left (!e.s) + e.f.last ≤ 2147483647 ∧ 0 ≤ g.left (!e.s)) := by
  unfold Lk.update at hc ⊢
  simp only at hc ⊢
  split at hc
  · simp at hc
  rename_i h0
  rw [if_neg h0]
  split at hc
  · rename_i h1
    rw [if_pos h1, if_pos h1]
    have hl := h.lf (!e.s)
    simp only at hc
    have hg : gvN (k.wy (!e.s)).rm e.f.last = (k.wy (!e.s)).rm + e.f.last ∧ 1 ≤ e.f.last ∧ (k.wy (!e.s)).rm + e.f.last ≤ 2147483647 := by
      unfold gvC sfC at hc
      unfold gvN sfN
      split at hc
      · simp at hc
      · rename_i h3
        rw [if_neg h3]
        split at hc
        · rename_i h4
          rw [if_pos h4]
          unfold sf at h4
          simp only [Bool.and_eq_true, decide_eq_true_eq] at h4
          exact ⟨rfl, by omega, h4.2⟩
        · simp at hc
    refine ⟨?_, fun _ => ⟨hg.2.1, by rw [hl.1]; exact hg.2.2, by rw [hl.1]; exact hl.2.1⟩⟩
    have := h.room (!e.s) ((k.wy (!e.s)).rm + e.f.last) (by omega) (fun w => { w with rm := gvN w.rm e.f.last }) (fun w => ⟨rfl, rfl, rfl, rfl⟩) hg.1
    have e2 : (fun t => if t = !e.s then g.left t + e.f.last else g.left t) = fun t => if t = !e.s then (k.wy (!e.s)).rm + e.f.last else g.left t := by
      funext t
      split
      · rename_i ht
        subst ht
        rw [hl.1]
      · rfl
    rw [e2]
    exact this
  · rename_i h1
    rw [if_neg h1, if_neg h1]
    refine ⟨?_, fun hh => absurd hh h1⟩
    split
    · exact h
    · split
      · exact h.happen _ _ _
      · split
        · exact h.happen _ _ _
        · exact (h.happen e.s e.f.st 7).side (!e.s) (fun w => { w with rw := putm w.rw e.f.st (gvN ((look ((k.happen e.s e.f.st 7).1.wy (!e.s)).rw e.f.st).getD 0) e.f.last) }) fun w => ⟨rfl, rfl, rfl, rfl, rfl⟩
theorem isLate_ne {k : Lk} {e : Et} (h : k.late e = false) (ht : isLateT e.f.ty = true) : e.f.st ∉ (k.wy e.s).rs := by
  unfold Lk.late at h
  rw [ht] at h
  simpa using h
/-- an entry that is taken the law takes too -/
theorem Iv.take {c : Bool} {k : Lk} {g : Rg} (h : Iv c k g) (e : Et) (he : Ew e) (hc : (k.take e).2 = 0) : ∃ g', g.step c e = some g' ∧ Iv c (k.take e).1 g' ∧ (e.f.ty = 8 → e.f.st = 0 → 1 ≤ e.f.last ∧ g.left (!e.s) + e.f.last ≤ 2147483647) := by
  obtain ⟨a1, a2, a3, a4, a5, a6⟩ := take_ok hc
  have hn := form_n a2
  rw [a6] at hc ⊢
  have hu := h.side e.s (fun w => { w with bg := true }) fun w => ⟨rfl, rfl, rfl, rfl, rfl⟩
  have hrs : ∀ t, ((k.upd e.s fun w => { w with bg := true }).wy t).rs = (k.wy t).rs := fun t => by rw [Lk.upd_wy]; split <;> rfl
  have hbk : ∀ t, ((k.upd e.s fun w => { w with bg := true }).wy t).bk = (k.wy t).bk := fun t => by rw [Lk.upd_wy]; split <;> rfl
  revert hc hu hrs hbk
  generalize (k.upd e.s fun w => { w with bg := true }) = k1
  intro hc hu hrs hbk
  have in_no : ∀ hx : e.f.st ∉ (k.wy e.s).rs ∨ e.f.st = 0 ∨ ¬ e.f.ty ≤ 9 ∨ e.f.ty = 2, ((g.sh e.s).contains e.f.st && !(e.f.st == 0) && decide (e.f.ty ≤ 9) && !(e.f.ty == 2)) = false := by
    intro hx
    rcases hx with hx | hx | hx | hx
    · have : (g.sh e.s).contains e.f.st = false := by
        cases hq : (g.sh e.s).contains e.f.st
        · rfl
        · exact absurd ((h.sh e.s e.f.st).1 (by simpa using hq)) hx
      rw [this]; rfl
    · rw [hx]; simp
    · have : decide (e.f.ty ≤ 9) = false := decide_eq_false hx
      rw [this]; simp
    · rw [hx]; simp
  unfold Rg.step
  by_cases t1 : e.f.ty = 1
  · have hl := isLate_ne a5 (by rw [t1]; rfl)
    have dA : k1.byType e = k1.headers e := by unfold Lk.byType; rw [t1]; rfl
    rw [dA, in_no (.inl hl)]
    refine ⟨g, ?_, hu.headers e (by rw [hrs]; exact hl), fun h8 => absurd (t1.symm.trans h8) (by decide)⟩
    simp [t1]
  by_cases t5 : e.f.ty = 5
  · have hl := isLate_ne a5 (by rw [t5]; rfl)
    have dA : k1.byType e = k1.promise e := by unfold Lk.byType; rw [t5]; rfl
    rw [dA] at hc ⊢
    rw [in_no (.inl hl)]
    obtain ⟨p1, p2, p3, p4, p5⟩ := hu.promise e (by rw [hrs]; exact hl) hc
    refine ⟨_, ?_, p5, fun h8 => absurd (t5.symm.trans h8) (by decide)⟩
    have hno : ¬ ((e.s == c) = true ∨ e.f.last ≤ g.last ∨ e.f.last.tmod 2 ≠ 0 ∨ g.push ≠ 1) := by
      rintro (h | h | h | h)
      · rw [p1] at h; cases h
      · exact p2 h
      · exact h p3
      · exact h p4
    rw [if_neg Bool.false_ne_true, if_neg (by omega), if_neg (by omega), if_neg (by omega), if_pos t5, if_neg hno]
  by_cases t9 : e.f.ty = 9
  · have hst : e.f.st ≠ 0 := isStr_ne (he.one hn (by omega))
    have hbe : (k.wy e.s).bk = e.f.st := by
      unfold Lk.astray at a4
      rw [if_pos t9] at a4
      simpa using a4
    have hl : e.f.st ∉ (k.wy e.s).rs := by
      have := h.bk e.s (by rw [hbe]; exact hst)
      rw [hbe] at this
      exact this
    have dA : k1.byType e = k1.continuation e := by unfold Lk.byType; rw [t9]; rfl
    rw [dA, in_no (.inl hl)]
    refine ⟨g, ?_, hu.continuation e, fun h8 => absurd (t9.symm.trans h8) (by decide)⟩
    simp [t9]
  by_cases t0 : e.f.ty = 0
  · have hl := isLate_ne a5 (by rw [t0]; rfl)
    have dA : k1.byType e = if e.s = true then k1.sendData e else k1.getData e := by unfold Lk.byType; rw [t0]; rfl
    rw [dA] at hc ⊢
    rw [in_no (.inl hl), if_neg Bool.false_ne_true, if_pos t0]
    have key : 0 ≤ g.left e.s - e.size ∧ Iv c (if e.s = true then k1.sendData e else k1.getData e).1 { g with left := fun t => if t = e.s then g.left t - e.size else g.left t } := by
      by_cases hs : e.s = true
      · rw [if_pos hs] at hc
        simp only [if_pos hs]
        exact hu.sendData e hc
      · rw [if_neg hs] at hc
        simp only [if_neg hs]
        exact hu.getData e hc
    rw [if_neg (by omega)]
    exact ⟨_, rfl, key.2, fun h8 => absurd (t0.symm.trans h8) (by decide)⟩
  by_cases t3 : e.f.ty = 3
  · have hl := isLate_ne a5 (by rw [t3]; rfl)
    have dA : k1.byType e = k1.resets e := by unfold Lk.byType; rw [t3]; rfl
    rw [dA] at hc ⊢
    have hb : (k1.wy e.s).bk = 0 := by
      rw [hbk]
      unfold Lk.astray at a4
      rw [if_neg t9] at a4
      simpa using a4
    rw [in_no (.inl hl), if_neg Bool.false_ne_true, if_neg t0, if_pos t3]
    exact ⟨_, rfl, hu.resets e hb hc, fun h8 => absurd (t3.symm.trans h8) (by decide)⟩
  by_cases t4 : e.f.ty = 4
  · have hst := he.con hn (by omega)
    have dA : k1.byType e = k1.settings e := by unfold Lk.byType; rw [t4]; rfl
    rw [dA] at hc ⊢
    rw [in_no (.inr (.inl hst)), if_neg Bool.false_ne_true, if_neg t0, if_neg t3, if_pos t4]
    obtain ⟨q1, q2, q3, q4⟩ := hu.settings e hc
    have h8 : (e.f.ty = 8 → e.f.st = 0 → 1 ≤ e.f.last ∧ g.left (!e.s) + e.f.last ≤ 2147483647) := fun h8 => absurd (t4.symm.trans h8) (by decide)
    cases hh : e.has 1 <;> cases hs : (e.s == c)
    · exact ⟨g, rfl, q4 hh hs, h8⟩
    · exact ⟨_, rfl, q3 hh hs, h8⟩
    · obtain ⟨w, W, hw, hq⟩ := q1 hh hs
      rw [hw]
      exact ⟨_, rfl, hq, h8⟩
    · exact ⟨g, rfl, q2 hh hs, h8⟩
  by_cases t6 : e.f.ty = 6
  · have hst := he.con hn (by omega)
    have dA : k1.byType e = k1.ping e := by unfold Lk.byType; rw [t6]; rfl
    rw [dA, in_no (.inr (.inl hst))]
    refine ⟨g, ?_, hu.ping e, fun h8 => absurd (t6.symm.trans h8) (by decide)⟩
    simp [t6]
  by_cases t7 : e.f.ty = 7
  · have hst := he.con hn (by omega)
    have dA : k1.byType e = (k1.upd e.s fun w => { w with ga := true }, 0) := by unfold Lk.byType; rw [t7]; rfl
    rw [dA, in_no (.inr (.inl hst))]
    refine ⟨g, ?_, hu.side e.s (fun w => { w with ga := true }) fun w => ⟨rfl, rfl, rfl, rfl, rfl⟩, fun h8 => absurd (t7.symm.trans h8) (by decide)⟩
    simp [t7]
  by_cases t8 : e.f.ty = 8
  · have hl := isLate_ne a5 (by rw [t8]; rfl)
    have dA : k1.byType e = k1.update e := by unfold Lk.byType; rw [t8]; rfl
    rw [dA] at hc ⊢
    obtain ⟨u1, u2⟩ := hu.update e hc
    rw [in_no (.inl hl), if_neg Bool.false_ne_true, if_neg t0, if_neg t3, if_neg t4, if_neg t5, if_pos t8]
    by_cases hz : e.f.st = 0
    · rw [if_pos hz] at u1 ⊢
      exact ⟨_, rfl, u1, fun _ _ => ⟨(u2 hz).1, (u2 hz).2.1⟩⟩
    · rw [if_neg hz] at u1 ⊢
      exact ⟨_, rfl, u1, fun _ hh => absurd hh hz⟩
  have h8 : (e.f.ty = 8 → e.f.st = 0 → 1 ≤ e.f.last ∧ g.left (!e.s) + e.f.last ≤ 2147483647) := fun h8 => absurd h8 t8
  by_cases t2 : e.f.ty = 2
  · have dA : k1.byType e = ((k1.happen e.s e.f.st 8).1, (k1.happen e.s e.f.st 8).2.1) := by unfold Lk.byType; rw [t2]; rfl
    rw [dA, in_no (.inr (.inr (.inr t2)))]
    refine ⟨g, ?_, hu.happen _ _ _, h8⟩
    simp [t2]
  · have dA : k1.byType e = (k1, 0) := by unfold Lk.byType; simp only [t1, t5, t9, t0, t3, t4, t6, t7, t8, t2, if_false]
    have h9 : ¬ e.f.ty ≤ 9 := by have := he.ty hn; omega
    rw [dA, in_no (.inr (.inr (.inl h9)))]
    refine ⟨g, ?_, hu, h8⟩
    simp [t0, t3, t4, t5, t8]
theorem Iv.new (c : Bool) : Iv c (Lk.new c) Rg.new := ⟨Tb.new_ok c, rfl, fun s => ⟨rfl, by show (0 : Int) ≤ 65535; decide, by show (65535 : Int) ≤ _; decide⟩, fun s x => by simp [Lk.new, Wy.new, Rg.new], fun s hb => absurd rfl hb, rfl, Int.le_refl _, by simp [Lk.new, Tb.new, Tb.last, Rg.new]⟩
end Go.Proofs.YtfmljlflnpmceaaGreatDoor
