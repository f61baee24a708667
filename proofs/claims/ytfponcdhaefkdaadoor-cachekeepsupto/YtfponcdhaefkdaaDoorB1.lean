/- A text cut at its commas. -/
import Derived.Test.YtfponcdhaefkdaaDoorA4
import Derived.Lib.IndexLaws
namespace Go.Proofs.YtfponcdhaefkdaaDoor
open Go.RowKit
set_option linter.unusedVariables false
set_option linter.unusedSimpArgs false

def cutL : List UInt8 → List (List UInt8)
  | [] => [[]]
  | c :: r => if c = 44 then [] :: cutL r else match cutL r with
    | [] => [[c]]
    | p :: ps => (c :: p) :: ps
theorem cutL_ne : ∀ l, cutL l ≠ []
  | [] => by simp [cutL]
  | c :: r => by
    unfold cutL
    split
    · simp
    · split <;> simp
theorem cut_none : ∀ {l : List UInt8}, (∀ k : Nat, l[k]? ≠ some 44) → cutL l = [l]
  | [], _ => rfl
  | c :: r, h => by
    have hc : c ≠ 44 := fun e => h 0 (by simp [e])
    have hr := cut_none (l := r) fun k => by have := h (k + 1); simpa using this
    unfold cutL
    rw [if_neg hc, hr]
theorem cut_some : ∀ {l : List UInt8} {o : Nat}, l[o]? = some 44 → (∀ k : Nat, k < o → l[k]? ≠ some 44) → cutL l = l.take o :: cutL (l.drop (o + 1))
  | [], o, h, _ => by simp at h
  | c :: r, 0, h, _ => by
    have : c = 44 := by simpa using h
    rw [cutL, if_pos this]
    rfl
  | c :: r, o + 1, h, hk => by
    have hc : c ≠ 44 := fun e => hk 0 (by omega) (by simp [e])
    have hr := cut_some (l := r) (o := o) (by simpa using h) fun k hko => by have := hk (k + 1) (by omega); simpa using this
    rw [cutL, if_neg hc, hr]
    rfl
def cutS (s : ByteArray) : List ByteArray := (cutL s.data.toList).map bt
theorem cutS_none {s : ByteArray} (h : Lib.indexByte s.data.toList 44 = -1) : cutS s = [s] := by
  unfold cutS
  rw [cut_none (Lib.indexByte_none h)]
  simp [bt_self]
theorem cutS_some {s : ByteArray} {o : Nat} (h : Lib.indexByte s.data.toList 44 = (o : Int)) : o < s.size ∧ cutS s = s.extract 0 o :: cutS (s.extract (o + 1) s.size) := by
  obtain ⟨h1, h2⟩ := Lib.indexByte_some h
  have hlt : o < s.data.toList.length := (List.getElem?_eq_some_iff.1 h1).1
  have hls := Lib.size_eq s
  refine ⟨by omega, ?_⟩
  unfold cutS
  rw [cut_some h1 h2, List.map_cons]
  congr 1
  · apply ba_eq
    rw [bt_list, Lib.extract_data]
    simp
  · rw [Lib.extract_data, List.take_of_length_le (by rw [List.length_drop]; omega)]
theorem cutL_size : ∀ (l p : List UInt8), p ∈ cutL l → p.length ≤ l.length
  | [], p, h => by simp [cutL] at h; simp [h]
  | c :: r, p, h => by
    rw [cutL] at h
    split at h
    · rcases List.mem_cons.1 h with rfl | h
      · simp
      · have := cutL_size r p h
        simp
        omega
    · split at h
      · simp at h
        simp [h]
      · rename_i q ps hq
        rcases List.mem_cons.1 h with rfl | h
        · have := cutL_size r q (by rw [hq]; simp)
          simp
          exact this
        · have := cutL_size r p (by rw [hq]; simp [h])
          simp
          omega
theorem cutS_size {s x : ByteArray} (h : x ∈ cutS s) : x.size ≤ s.size := by
  obtain ⟨p, hp, rfl⟩ := List.mem_map.1 h
  rw [bt_size, Lib.size_eq s]
  exact cutL_size _ _ hp
end Go.Proofs.YtfponcdhaefkdaaDoor
