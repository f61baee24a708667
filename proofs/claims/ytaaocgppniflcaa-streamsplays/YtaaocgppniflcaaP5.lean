/- The document's list and the program's table: Last, Next, Count, who may give birth. -/
import Derived.Test.YtaaocgppniflcaaP4
namespace Go.Proofs.Ytaaocgppniflcaa
open Go.RowKit
set_option linter.unusedVariables false
set_option linter.unusedSimpArgs false

theorem lk_mem {l : List O1} (hn : (l.map (·.1)).Nodup) {x : O1} (hx : x ∈ l) : lk l x.1 = some x.2 := by
  induction l with
  | nil => cases hx
  | cons a r ih =>
    simp only [List.map_cons, List.nodup_cons] at hn
    unfold lk
    rw [List.find?_cons]
    rcases List.mem_cons.1 hx with rfl | hx'
    · simp
    · have hne : a.1 ≠ x.1 := fun e => hn.1 (e ▸ List.mem_map.2 ⟨x, hx', rfl⟩)
      rw [beq_eq_false_iff_ne.2 hne]
      exact ih hn.2 hx'
theorem Rl.bi {T : Tb} {l : List O1} (h : Rl T l) : Bi T (l.map (·.1)) := by
  refine ⟨h.nd, fun x hx => ?_, fun x v hl => ?_⟩
  · obtain ⟨y, hy, rfl⟩ := List.mem_map.1 hx
    exact h.born y hy
  · cases hk : lk l x with
    | none => rw [h.none x hk] at hl; cases hl
    | some y =>
      unfold lk at hk
      cases hf : l.find? (fun z => z.1 == x) with
      | none => rw [hf] at hk; cases hk
      | some z =>
        have h1 := List.find?_some hf
        have h2 := List.mem_of_find?_eq_some hf
        simp at h1
        exact List.mem_map.2 ⟨z, h2, h1⟩
theorem Rl.last {T : Tb} {l : List O1} (h : Rl T l) (b : Bool) : rlast T.cl l b = T.last b := by
  unfold rlast
  rw [h.t1, h.t0]
  unfold Tb.top
  cases b <;> cases T.cl <;> rfl
theorem Rl.next {T : Tb} {l : List O1} (h : Rl T l) (ok : T.Ok) : rnext T.cl (rlast T.cl l true) = T.next := by
  have e : rlast T.cl l true = T.lo := h.last true
  rw [e]
  have hlo := ok.lo
  unfold rnext Tb.next
  by_cases hc : (T.cl && T.lo == 0) = true
  · simp only [if_pos hc]
    rw [if_neg (by decide)]
  · simp only [if_neg hc]
    by_cases h1 : 2147483647 < T.lo + 2
    · rw [if_pos h1, if_pos (isStr_not.2 (by omega))]
    · rw [if_neg h1, if_neg (by rw [isStr_iff.2 ⟨by omega, by omega⟩]; decide)]
theorem Rl.ours {T : Tb} {id : Int} (hid : 1 ≤ id) : rours T.cl id = T.ours id := by
  unfold rours Tb.ours
  rw [tmod_pos hid]
theorem Rl.count {T : Tb} {l : List O1} (h : Rl T l) (ok : T.Ok) (b : Bool) : rcount T.cl l b = T.count b := by
  have h1 := h.bi.counted ok (fun x s => (T.ours x == b) && ct s) (fun x => by simp [ct])
  unfold rcount Tb.count
  rw [← h1, List.filter_map, List.length_map]
  congr 1
  refine List.filter_congr fun x hx => ?_
  have hb := h.born x hx
  have hs := h.some x.1 x.2.1 x.2.2 (lk_mem h.nd hx)
  simp only [Function.comp]
  rw [Rl.ours (isStr_iff.1 hb.1).1, hs.1]
theorem Rl.may {T : Tb} {id : Int} (hid : 1 ≤ id) (g : Bool) (k : Int) : rmay T.cl id g k = T.may id g k := by
  unfold rmay Tb.may
  have h1 : (id.tmod 2 == 1) = odd id := tmod_pos hid
  have h0 : (id.tmod 2 == 0) = !odd id := by unfold odd; simp
  rw [h1, h0]
  cases (k == 5) <;> cases odd id <;> cases g <;> cases T.cl <;> rfl
end Go.Proofs.Ytaaocgppniflcaa
