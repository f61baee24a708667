/- Two ends of one log: P24.3, plain. -/
import Derived.Test.YtfmljlflnpmceaaGreatDoorVz1
namespace Go.Proofs.YtfmljlflnpmceaaGreatDoor
open Go.RowKit
set_option linter.unusedVariables false
set_option linter.unusedSimpArgs false
set_option linter.unnecessarySimpa false
theorem chk_cons1 (k : Lk) (e : Et) (r : List Et) (i : Nat) : chk k (e :: r) i = if (k.take e).2 = 0 then chk (k.take e).1 r (i + 1) else ((i : Int), (k.take e).2) := rfl
/-- an event whose verdict is told by the tables -/
theorem Tb.doo_nx {T : Tb} {id : Int} {g : Bool} {k : Int} (h1 : isK k = true) (h2 : isStr id = true) (h3 : (T.st id == 0 && isB k && !T.may id g k) = false) (h4 : (T.cut id && g && !(k == 5)) = false) :
    T.doo id g k = (if ((nx (T.st id) g k).2.1 == 0 && !((nx (T.st id) g k).1 == T.st id)) = true then T.mv id (nx (T.st id) g k).1 g k else T, (nx (T.st id) g k).2) := by
  conv => lhs; unfold Tb.doo
  rw [if_neg (by rw [h1]; decide), if_neg (by rw [h2]; decide), if_neg (by rw [h3]; decide), if_neg (by rw [h4]; decide)]
theorem Lk.upd_wy (k : Lk) (s : Bool) (f : Wy → Wy) (t : Bool) : (k.upd s f).wy t = if t = s then f (k.wy t) else k.wy t := rfl
/-- what an event leaves -/
def Lk.hap (k : Lk) (s : Bool) (id kd : Int) : Lk :=
  if (k.T.st id == 0 && !((k.T.doo id (!s) kd).1.st id == 0)) = true then (Lk.mk (k.T.doo id (!s) kd).1 k.wy).bear id else Lk.mk (k.T.doo id (!s) kd).1 k.wy
theorem happen_bad {k : Lk} {s : Bool} {id kd : Int} (h : (k.T.doo id (!s) kd).2.1 = 4) : k.happen s id kd = (k.hap s id kd, 1, false) := by
  unfold Lk.happen Lk.hap
  simp only
  rw [if_pos h]
theorem happen_ok {k : Lk} {s : Bool} {id kd : Int} (h : (k.T.doo id (!s) kd).2.1 ≠ 4) : k.happen s id kd = (k.hap s id kd, (k.T.doo id (!s) kd).2.2, (k.T.doo id (!s) kd).2.1 == 1) := by
  unfold Lk.happen Lk.hap
  simp only
  rw [if_neg h]
theorem happen_code {k : Lk} {s : Bool} {id kd : Int} (h : (k.happen s id kd).2.1 = 0) : (k.T.doo id (!s) kd).2.1 ≠ 4 ∧ (k.T.doo id (!s) kd).2.2 = 0 := by
  by_cases h4 : (k.T.doo id (!s) kd).2.1 = 4
  · rw [happen_bad h4] at h
    simp at h
  · rw [happen_ok h4] at h
    exact ⟨h4, h⟩
/-- what is kept of both ways: resets, what went, blocks, settings and windows but for those of streams -/
structure Kp (k k' : Lk) : Prop where
  rs : ∀ t, (k'.wy t).rs = (k.wy t).rs
  bk : ∀ t, (k'.wy t).bk = (k.wy t).bk
  ac : ∀ t, (k'.wy t).ac = (k.wy t).ac
  wt : ∀ t, (k'.wy t).wt = (k.wy t).wt
  rm : ∀ t, (k'.wy t).rm = (k.wy t).rm
  cl : ∀ t, (k'.wy t).cl = (k.wy t).cl
  ga : ∀ t, (k'.wy t).ga = (k.wy t).ga
theorem Kp.refl (k : Lk) : Kp k k := ⟨fun _ => rfl, fun _ => rfl, fun _ => rfl, fun _ => rfl, fun _ => rfl, fun _ => rfl, fun _ => rfl⟩
theorem hap_kp (k : Lk) (s : Bool) (id kd : Int) : Kp k (k.hap s id kd) := by
  unfold Lk.hap
  split <;> exact ⟨fun _ => rfl, fun _ => rfl, fun _ => rfl, fun _ => rfl, fun _ => rfl, fun _ => rfl, fun _ => rfl⟩
theorem happen_hap (k : Lk) (s : Bool) (id kd : Int) : (k.happen s id kd).1 = k.hap s id kd := by
  by_cases h4 : (k.T.doo id (!s) kd).2.1 = 4
  · rw [happen_bad h4]
  · rw [happen_ok h4]
theorem happen_kp (k : Lk) (s : Bool) (id kd : Int) : Kp k (k.happen s id kd).1 := by
  rw [happen_hap]; exact hap_kp k s id kd
/-- the resets -/
def Rs (k k' : Lk) : Prop := ∀ t, (k'.wy t).rs = (k.wy t).rs
theorem Rs.refl (k : Lk) : Rs k k := fun _ => rfl
theorem Rs.upd {k k' : Lk} (h : Rs k k') (s : Bool) (f : Wy → Wy) (hf : ∀ w, (f w).rs = w.rs) : Rs k (k'.upd s f) := fun t => by
  rw [Lk.upd_wy]
  split
  · rw [hf]; exact h t
  · exact h t
theorem Rs.hap (k : Lk) (s : Bool) (id kd : Int) : Rs k (k.happen s id kd).1 := (happen_kp k s id kd).rs
theorem Rs.block {k k' : Lk} (h : Rs k k') (e : Et) : Rs k (k'.block e) := by
  unfold Lk.block
  split
  · exact h
  · exact h.upd e.s _ fun w => by rfl
theorem Rs.takeC {k k' : Lk} (h : Rs k k') (s : Bool) (n : Int) : Rs k (k'.takeC s n).1 := h.upd s (fun w => { w with rm := tkN w.rm n }) fun w => rfl
theorem Rs.takeS {k k' : Lk} (h : Rs k k') (s : Bool) (id n : Int) : Rs k (k'.takeS s id n).1 := h.upd s (fun w => { w with rw := putm w.rw id (tkN ((look (k'.wy s).rw id).getD 0) n) }) fun w => rfl
theorem Rs.trans {a b c : Lk} (h : Rs a b) (g : Rs b c) : Rs a c := fun t => (g t).trans (h t)
theorem rs_resets (k : Lk) (e : Et) (hc : (k.resets e).2 = 0) (t : Bool) : ((k.resets e).1.wy t).rs = if t = e.s then e.f.st :: (k.wy t).rs else (k.wy t).rs := by
  unfold Lk.resets at hc ⊢
  simp only at hc ⊢
  split at hc
  · rename_i h1
    simp only [Bool.and_eq_true, Bool.not_eq_true', beq_eq_false_iff_ne] at h1
    exact absurd hc h1.1
  · rename_i h1
    rw [if_neg h1]
    simp only [Lk.upd_wy]
    split
    · show e.f.st :: ((k.happen e.s e.f.st 6).1.wy t).rs = _
      rw [(happen_kp k e.s e.f.st 6).rs]
    · exact (happen_kp k e.s e.f.st 6).rs t
/-- what a frame that may be written says of its stream -/
structure Ew (e : Et) : Prop where
  one : e.n ≠ none → (e.f.ty = 0 ∨ e.f.ty = 1 ∨ e.f.ty = 2 ∨ e.f.ty = 3 ∨ e.f.ty = 5 ∨ e.f.ty = 9) → isStr e.f.st = true
  win : e.n ≠ none → e.f.ty = 8 → e.f.st = 0 ∨ isStr e.f.st = true
  con : e.n ≠ none → (e.f.ty = 4 ∨ e.f.ty = 6 ∨ e.f.ty = 7) → e.f.st = 0
  ty : e.n ≠ none → 0 ≤ e.f.ty
  pad : e.n ≠ none → e.has 8 = true → e.f.ty = 0 → 0 ≤ e.f.pad ∧ e.f.pad < 256
theorem isStr_ne {id : Int} (h : isStr id = true) : id ≠ 0 := by
  have := isStr_iff.1 h
  omega
theorem take_ok {k : Lk} {e : Et} (h : (k.take e).2 = 0) : (k.wy true).ga = false ∧ k.form e = 0 ∧ k.early e = false ∧ k.astray e = false ∧ k.late e = false ∧ k.take e = (k.upd e.s fun w => { w with bg := true }).byType e := by
  unfold Lk.take at h ⊢
  split at h
  · simp at h
  rename_i h1
  split at h
  · rename_i h2
    exact absurd h h2
  rename_i h2
  split at h
  · simp at h
  rename_i h3
  split at h
  · simp at h
  rename_i h4
  simp only [Bool.or_eq_true, not_or] at h3
  refine ⟨by simpa using h1, Decidable.not_not.1 h2, by simpa using h3.1, by simpa using h3.2, by simpa using h4, ?_⟩
  rw [if_neg h1, if_neg h2, if_neg (by simp only [Bool.or_eq_true, not_or]; exact h3), if_neg h4]
theorem form_n {k : Lk} {e : Et} (h : k.form e = 0) : e.n ≠ none := fun hn => by
  unfold Lk.form at h
  rw [hn] at h
  simp at h
end Go.Proofs.YtfmljlflnpmceaaGreatDoor
