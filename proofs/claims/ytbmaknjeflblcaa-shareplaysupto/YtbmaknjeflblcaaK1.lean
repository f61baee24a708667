/- Maps from numbers, as rising lists. -/
import Derived.Test.YtbmaknjeflblcaaS
import Derived.Maps.Own
import Derived.Maps.OwnOps
import Derived.Maps.OwnSet
import Derived.Maps.RangeWalk
import Derived.Deep.RegionHeld3
import Derived.Deep.RegionWith
import Derived.Deep.QuietTactic
import Derived.BigQuiet
namespace Go.Proofs.Ytbmaknjeflblcaa
open Go.RowKit Go.Maps
set_option linter.unusedVariables false
set_option linter.unusedSimpArgs false

def ky (x : Int) : Lit := .int .i64 x
def mD {α H : Type} (g : α → DataW H) (L : Mp α) : DataW H := .map (L.map fun p => (.int .i64 p.1, g p.2))
section
variable {α H : Type} {g : α → DataW H}
theorem same_int (a b : Int) : (Lit.int .i64 a).sameKey (.int .i64 b) = (a == b) := by
  simp only [Lit.sameKey, true_and]
  by_cases h : a = b <;> simp [h]
theorem filter_mD (L : Mp α) (k : Int) : ((L.map fun p => ((Lit.int .i64 p.1, g p.2))).filter fun p => !p.1.sameKey (.int .i64 k)) = (dele L k).map fun p => (.int .i64 p.1, g p.2) := by
  unfold dele
  rw [List.filter_map]
  congr 1
  exact List.filter_congr fun p _ => by simp [same_int]
theorem insert_mD (k : Int) (v : α) : ∀ L : Mp α, DataW.insert (.int .i64 k, g v) (L.map fun p => (.int .i64 p.1, g p.2)) = (ins k v L).map fun p => (.int .i64 p.1, g p.2)
  | [] => rfl
  | y :: r => by
    simp only [List.map_cons, DataW.insert, ins, Lit.before, decide_eq_true_eq]
    split
    · rfl
    · simp only [List.map_cons]
      rw [insert_mD k v r]
theorem put_mD (L : Mp α) (k : Int) (v : α) : (mD g L).put (.int .i64 k) (g v) = mD g (putm L k v) := by
  unfold mD putm DataW.put
  simp only
  rw [filter_mD, insert_mD]
theorem del_mD (L : Mp α) (k : Int) : (mD g L).del (.int .i64 k) = mD g (dele L k) := by
  unfold mD DataW.del
  simp only
  rw [filter_mD]
theorem at_mD (L : Mp α) (k : Int) (z : DataW H) : (mD g L).atKey (.int .i64 k) z = match look L k with | some v => g v | none => z := by
  unfold mD DataW.atKey look
  simp only
  rw [List.find?_map]
  have : ((fun p : Lit × DataW H => p.1.sameKey (.int .i64 k)) ∘ fun p : Int × α => (Lit.int .i64 p.1, g p.2)) = fun p => p.1 == k := by
    funext p
    simp [same_int]
  rw [this]
  cases L.find? (fun p => p.1 == k) <;> rfl
theorem has_mD (L : Mp α) (k : Int) : Maps.has (mD g L) (.int .i64 k) = (look L k).isSome := by
  cases h : look L k with
  | none =>
    refine Maps.has_false_of_atKey fun z => ?_
    rw [at_mD, h]
  | some v =>
    refine Maps.has_true_of_atKey (y := g v) fun z => ?_
    rw [at_mD, h]
theorem size_mD (L : Mp α) : Maps.size (mD g L) = L.length := by simp [mD, Maps.size]
/-- what has been met, of what is asked -/
def met (L : Mp α) (c : Int × α → Bool) (left : Lit → Bool) : Mp α := L.filter fun p => c p && !left (ky p.1)
theorem met_start (g : α → DataW H) (L : Mp α) (c : Int × α → Bool) : met L c (Maps.has (mD g L)) = [] := by
  refine List.filter_eq_nil_iff.2 fun p hp => ?_
  have : Maps.has (mD g L) (ky p.1) = true := by
    unfold ky
    rw [has_mD]
    cases h : look L p.1 with
    | none => exact absurd rfl (look_none h p hp)
    | some v => rfl
  rw [this]
  simp
theorem met_end (L : Mp α) (c : Int × α → Bool) {left : Lit → Bool} (h : ∀ k, left k = false) : met L c left = L.filter c := by
  refine List.filter_congr fun p _ => ?_
  rw [h]
  simp
theorem met_other {c : Int × α → Bool} {left : Lit → Bool} {x : Int} {r : Mp α} (h : ∀ q ∈ r, q.1 ≠ x) : met r c (fun z => left z && !z.sameKey (ky x)) = met r c left := by
  refine List.filter_congr fun p hp => ?_
  have : (ky p.1).sameKey (ky x) = false := by
    unfold ky
    rw [same_int]
    exact beq_eq_false_iff_ne.2 (h p hp)
  simp [this]
theorem met_step (c : Int × α → Bool) {left : Lit → Bool} {x : Int} {v : α} (hl : left (ky x) = true) : ∀ {L : Mp α}, Srt L → (x, v) ∈ L → (met L c (fun z => left z && !z.sameKey (ky x))).Perm (met L c left ++ if c (x, v) = true then [(x, v)] else [])
  | a :: r, hs, hm => by
    have h' := List.pairwise_cons.1 hs
    by_cases e : a.1 = x
    · have ea : a = (x, v) := hs.one List.mem_cons_self hm e
      subst ea
      have hn : ∀ q ∈ r, q.1 ≠ x := fun q hq => by have := h'.1 q hq; simp at this; omega
      have e1 := met_other (c := c) (left := left) hn
      unfold met at e1 ⊢
      simp only [List.filter_cons]
      have e2 : (ky x).sameKey (ky x) = true := by unfold ky; rw [same_int]; simp
      simp only [hl, e2]
      rw [e1]
      cases c (x, v)
      · simp
      · simp
        exact (List.perm_append_singleton _ _).symm
    · have hm' : (x, v) ∈ r := by
        rcases List.mem_cons.1 hm with e2 | h2
        · exact absurd (by rw [← e2]) e
        · exact h2
      have ih := met_step c hl h'.2 hm'
      unfold met at ih ⊢
      simp only [List.filter_cons]
      have e2 : (ky a.1).sameKey (ky x) = false := by unfold ky; rw [same_int]; exact beq_eq_false_iff_ne.2 e
      simp only [e2, Bool.not_false, Bool.and_true]
      split
      · exact (ih.cons a)
      · exact ih
theorem met_le (L : Mp α) (c : Int × α → Bool) (left : Lit → Bool) : (met L c left).length ≤ L.length := List.length_filter_le _ _
end
theorem law2 : Keyed Try.prog 2 := int_keyed Try.underlying2
/-- a number that a key can be -/
def wf64 (x : Int) : Prop := -9223372036854775808 ≤ x ∧ x ≤ 9223372036854775807
theorem key_int {x : Int} (h : wf64 x) : keyOf Try.prog 2 (.int .i64 x) = some (.int .i64 x) := keyOf_int_mk Try.underlying2 (WalkArith.wf_i64 h)
end Go.Proofs.Ytbmaknjeflblcaa
