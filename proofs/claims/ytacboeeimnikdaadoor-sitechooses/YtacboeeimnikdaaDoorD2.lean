/- site: which row a target has. -/
import Derived.Test.YtacboeeimnikdaaDoorD1
import Derived.WideKeyEntry
namespace Go.Proofs.YtacboeeimnikdaaDoor
open Go.RowKit Go.Maps
set_option linter.unusedVariables false
set_option linter.unusedSimpArgs false

/-- a target, its row's place, its editions -/
structure Te where
  t : Tg
  y : SV
  l : List Ed
/-- the target's row set anew, or laid -/
def upd (L : List Te) (r : Te) : List Te := if L.any (fun x => decide (x.t = r.t)) = true then L.map (fun x => if x.t = r.t then r else x) else L ++ [r]
def fdT (L : List Te) (t : Tg) : Option Te := L.find? (fun x => decide (x.t = t))
/-- the datum tells these rows -/
structure MS (D : DataW Value) (L : List Te) : Prop where
  tidy : Tidy D
  size : size D = L.length
  at' : ∀ t, tz t → ∀ z, D.atKey (klT t) z = match fdT L t with | some r => .held (sv r.y) | none => z
theorem MS.nil : MS (.map []) [] := ⟨tidy_empty, rfl, fun t _ z => rfl⟩
theorem fdT_map {L : List Te} {r : Te} (t : Tg) (h : r.t ≠ t) : fdT (L.map fun x => if x.t = r.t then r else x) t = fdT L t := by
  unfold fdT
  induction L with
  | nil => rfl
  | cons a L ih =>
    rw [List.map_cons]
    by_cases e : a.t = r.t
    · rw [if_pos e, List.find?_cons_of_neg (by simpa using h), List.find?_cons_of_neg (by rw [e]; simpa using h)]
      exact ih
    · rw [if_neg e]
      by_cases e2 : a.t = t
      · rw [List.find?_cons_of_pos (by simpa using e2), List.find?_cons_of_pos (by simpa using e2)]
      · rw [List.find?_cons_of_neg (by simpa using e2), List.find?_cons_of_neg (by simpa using e2)]
        exact ih
theorem fdT_same {L : List Te} {r : Te} (h : L.any (fun x => decide (x.t = r.t)) = true) : fdT (L.map fun x => if x.t = r.t then r else x) r.t = some r := by
  unfold fdT
  induction L with
  | nil => simp at h
  | cons a L ih =>
    rw [List.map_cons]
    by_cases e : a.t = r.t
    · rw [if_pos e, List.find?_cons_of_pos (by simp)]
    · rw [if_neg e, List.find?_cons_of_neg (by simpa using e)]
      exact ih (by simpa [e] using h)
theorem fdT_none {L : List Te} {t : Tg} : fdT L t = none ↔ L.any (fun x => decide (x.t = t)) = false := by
  unfold fdT
  rw [List.find?_eq_none, List.any_eq_false]
theorem upd_at (L : List Te) (r : Te) (t : Tg) : fdT (upd L r) t = if r.t = t then some r else fdT L t := by
  unfold upd
  by_cases h : L.any (fun x => decide (x.t = r.t)) = true
  · rw [if_pos h]
    by_cases e : r.t = t
    · subst e; rw [if_pos rfl]; exact fdT_same h
    · rw [if_neg e]; exact fdT_map t e
  · rw [if_neg h]
    have hn : fdT L r.t = none := fdT_none.2 (by simpa using h)
    unfold fdT at hn ⊢
    rw [List.find?_append]
    by_cases e : r.t = t
    · subst e
      rw [if_pos rfl, hn]
      simp
    · rw [if_neg e]
      cases L.find? (fun x => decide (x.t = t)) <;> simp [e]
theorem upd_len (L : List Te) (r : Te) : (upd L r).length = if L.any (fun x => decide (x.t = r.t)) = true then L.length else L.length + 1 := by
  unfold upd
  split <;> simp
theorem MS.has {D : DataW Value} {L : List Te} (h : MS D L) {t : Tg} (ht : tz t) : Maps.has D (klT t) = L.any (fun x => decide (x.t = t)) := by
  have ha := h.at' t ht
  cases hf : fdT L t with
  | none =>
    rw [hf] at ha
    rw [fdT_none.1 hf]
    exact has_false_of_atKey ha
  | some r =>
    rw [hf] at ha
    have : L.any (fun x => decide (x.t = t)) = true := by
      cases e : L.any (fun x => decide (x.t = t))
      · rw [fdT_none.2 e] at hf; cases hf
      · rfl
    rw [this]
    exact has_true_of_atKey ha
/-- one row set anew, or one more -/
theorem MS.put {D : DataW Value} {L : List Te} (h : MS D L) (r : Te) (hr : tz r.t) : MS (D.put (klT r.t) (.held (sv r.y))) (upd L r) := by
  refine ⟨h.tidy.put (klT_key hr) _, ?_, fun t ht z => ?_⟩
  · rw [size_put h.tidy, h.has hr, upd_len, h.size]
  · rw [upd_at]
    by_cases e : r.t = t
    · subst e
      rw [if_pos rfl, atKey_put_same h.tidy.isMap (klT_key hr)]
    · rw [if_neg e, atKey_put_other (fun h' => e (klT_inj hr ht h'.symm)), h.at' t ht]
end Go.Proofs.YtacboeeimnikdaaDoor
