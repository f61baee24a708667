/- The document's Names. -/
import Derived.Test.YtckdldbheejmhaaDoorG3
import Derived.Test.YtckdldbheejmhaaDoorB6
import Derived.Test.YtckdldbheejmhaaDoorD3
namespace Go.Proofs.YtckdldbheejmhaaDoor
open Go.RowKit
set_option linter.unusedVariables false
set_option linter.unusedSimpArgs false
theorem cnt_snoc2 (ps : List ByteArray) (q p : ByteArray) : cnt (ps ++ [q]) p = cnt ps p + if q = p then 1 else 0 := by
  unfold cnt
  rw [List.countP_append]
  by_cases h : q = p <;> simp [h]
theorem cnt_cons (r : List ByteArray) (q p : ByteArray) : cnt (q :: r) p = cnt r p + if q = p then 1 else 0 := by
  unfold cnt
  by_cases h : q = p <;> simp [h]
theorem mem_nmG (p : ByteArray) : ∀ (r seen : List ByteArray), p ∈ nmG seen r ↔ cnt seen p = 0 ∧ cnt r p ≠ 0 ∧ p ≠ noS ∧ p ≠ starS
  | [], seen => by simp [nmG, cnt]
  | q :: r, seen => by
    rw [nmG, List.mem_append, mem_nmG p r (seen ++ [q]), cnt_snoc2, cnt_cons]
    by_cases h : q = p
    · subst h
      by_cases hc : cnt seen q ≠ 0 ∨ q = noS ∨ q = starS
      · rw [if_pos hc]
        simp only [if_true, List.not_mem_nil, false_or]
        constructor
        · rintro ⟨h, _⟩; omega
        · rintro ⟨h1, _, h2, h3⟩
          rcases hc with h | h | h
          · exact absurd h1 h
          · exact absurd h h2
          · exact absurd h h3
      · rw [if_neg hc]
        simp only [not_or, Decidable.not_not, ne_eq] at hc
        simp [hc.1, hc.2.1, hc.2.2]
    · rw [if_neg h]
      have hm : p ∉ (if cnt seen q ≠ 0 ∨ q = noS ∨ q = starS then [] else [q]) := by
        split
        · simp
        · simp; exact fun e => h e.symm
      simp [hm]
theorem mem_nmL (p : ByteArray) (ps : List ByteArray) : p ∈ nmL ps ↔ cnt ps p ≠ 0 ∧ p ≠ noS ∧ p ≠ starS := by
  unfold nmL
  rw [mem_nmG]
  simp [cnt]
/-- what is told already, or is no name -/
def thB (ps : List ByteArray) (p : ByteArray) : Bool := decide (cnt ps p ≠ 0 ∨ p = noS ∨ p = starS)
/-- so far as the first j that are told show it -/
def thJ (ps : List ByteArray) (p : ByteArray) (j : Nat) : Bool := decide (p = noS ∨ p = starS) || ((nmL ps).take j).any fun x => decide (x = p)
theorem thJ_all (ps : List ByteArray) (p : ByteArray) : thJ ps p (nmL ps).length = thB ps p := by
  unfold thJ thB
  rw [List.take_length]
  have hm := mem_nmL p ps
  have ha : ((nmL ps).any fun x => decide (x = p)) = true ↔ p ∈ nmL ps := by
    rw [List.any_eq_true]
    constructor
    · rintro ⟨x, h1, h2⟩
      rw [← of_decide_eq_true h2]; exact h1
    · exact fun h => ⟨p, h, decide_eq_true rfl⟩
  rw [Bool.eq_iff_iff, Bool.or_eq_true, ha, hm, decide_eq_true_iff, decide_eq_true_iff]
  constructor
  · rintro (h | h)
    · exact .inr h
    · exact .inl h.1
  · rintro (h | h)
    · by_cases h1 : p = noS
      · exact .inl (.inl h1)
      · by_cases h2 : p = starS
        · exact .inl (.inr h2)
        · exact .inr ⟨h, h1, h2⟩
    · exact .inl h
theorem thJ_succ (ps : List ByteArray) (p : ByteArray) (j : Nat) (h : j < (nmL ps).length) : thJ ps p (j + 1) = (thJ ps p j || decide ((nmL ps)[j] = p)) := by
  unfold thJ
  rw [List.take_succ_eq_append_getElem h, List.any_append, ← Bool.or_assoc]
  simp
structure Rn (w wb : World) (b : Option Addr) (n c : Nat) (PS : List ByteArray) (st : Bool) (W : World) : Prop where
  row : R ES W (.slice b n c) (nmL PS)
  len : n = (nmL PS).length
  star : st = decide (0 < cnt PS starS)
  bel : Below wb.heap.size wb W
  own : ∀ j, (Value.slice b n c).ownBlock = some j → w.heap.size ≤ j
theorem Rn.below {w wb : World} {b : Option Addr} {n c : Nat} {PS : List ByteArray} {st : Bool} {W W' : World} (h : Rn w wb b n c PS st W) (hb : Below W.heap.size W W') : Rn w wb b n c PS st W' := ⟨R.below h.row hb, h.len, h.star, h.bel.trans (hb.mono h.bel.size), h.own⟩
end Go.Proofs.YtckdldbheejmhaaDoor
