/- What the laws' loops want. -/
import Derived.Test.YtlfbnhdcgldopaaC3
namespace Go.Proofs.Ytlfbnhdcgldopaa
open Go.RowKit

theorem fixed_small : fixedL.all (fun e => decide (e.1.size ≤ 65536) && decide (e.2.size ≤ 65536)) = true := by kernel_rfl

theorem Tab.small {w : World} {b mx : Nat} {es : List E} {v : Value} (h : Tab w b mx es v) (k : Nat) (e : E) (he : (fixedL ++ es)[k]? = some e) : e.1.size ≤ 281474976710656 ∧ e.2.size ≤ 281474976710656 := by
  have hm := List.mem_of_getElem? he
  rcases List.mem_append.1 hm with h1 | h1
  · have := List.all_eq_true.1 fixed_small e h1
    simp at this
    omega
  · obtain ⟨i, hi, rfl⟩ := List.getElem_of_mem h1
    have h2 := esz_le_total es i hi
    have h3 : esz es[i] = es[i].1.size + es[i].2.size + 32 := rfl
    have := h.2.1
    omega

theorem Mine.drew {w : World} {b mx : Nat} {es : List E} {v : Value} {W : World} (h : Mine w b mx es v W) : Mine w b mx es v W.drew :=
  h.below ⟨rfl, rfl, rfl, Nat.le_refl _, fun _ _ => rfl⟩

theorem take_rev (l : List E) (k : Nat) (hk : k < l.length) : (l.take (k + 1)).reverse = l[k] :: (l.take k).reverse := by
  rw [take_snoc l k hk, List.reverse_append]; rfl

/-- One Add more of a list's. -/
theorem add_round {w : World} {b mx k : Nat} {l : List E} {v : Value} {W : World} (h : Mine w b mx (keep mx (l.take k).reverse) v W) (hk : k < l.length) (hf : Fine l) (x y : ByteArray) (hx : l[k] = (x, y)) :
    Calls Try.prog 10 #[.pointer (some ⟨b, 0, none⟩), .string x, .string y] W fun e W' => e = .returned (.tuple #[]) ∧ ∃ v', Mine w b mx (keep mx (l.take (k + 1)).reverse) v' W' := by
  have hfe := hf _ (List.getElem_mem hk)
  rw [hx] at hfe
  refine (add_mine h x y hfe).mono ?_
  rintro e W' ⟨rfl, v', hm⟩
  refine ⟨rfl, v', ?_⟩
  rw [take_rev l k hk, hx, ← keep_add]
  exact hm

/-- The cells of an entry of a slice that came in. -/
theorem ents_round {w : World} {base : Option Addr} {cap : Nat} {l : List E} (HE : Ents w (.slice base l.length cap) l) (k : Nat) (hk : k < l.length) :
    ∃ (x y : ByteArray) (g off : Nat), l[k] = (x, y) ∧ base = some ⟨g, off, none⟩ ∧ l.length ≤ cap ∧ cap ≤ 9223372036854775807 ∧
      ∀ W, Below w.heap.size w W → W.cell? ⟨g, off + k * 2, none⟩ = some (.string x) ∧ W.cell? ⟨g, off + k * 2 + 1, none⟩ = some (.string y) := by
  obtain ⟨g, off, cap', h1, hc1, hc2, hd1, hd2⟩ := HE.at k hk
  cases h1
  exact ⟨_, _, g, off, rfl, rfl, hc1, hc2, fun W hW => ⟨(hW.cell (World.block_lt_of_cell? _ _ hd1)).trans hd1, (hW.cell (World.block_lt_of_cell? _ _ hd2)).trans hd2⟩⟩

/-- The index of the first entry with the name and the value, 0 where there is none. -/
def sameOf (n x : ByteArray) (l : List Item) : Nat := match l.find? (hit n x) with | some y => y.1.1 | none => 0

theorem sameOf_zero (n x : ByteArray) (l : List Item) (h : sameOf n x l = 0) : l.find? (hit n x) = none := by
  unfold sameOf at h
  split at h
  · rename_i y hy
    have := y.2.1
    omega
  · assumption

theorem same_snoc_same (n x : ByteArray) (l : List Item) (y : Item) (h : ¬ hit n x y = true) : sameOf n x (l ++ [y]) = sameOf n x l := by
  simp [sameOf, List.find?_append, h]

theorem same_snoc_first (n x : ByteArray) (l : List Item) (y : Item) (h : hit n x y = true) (h0 : sameOf n x l = 0) : sameOf n x (l ++ [y]) = y.1.1 := by
  have := sameOf_zero n x l h0
  simp [sameOf, List.find?_append, h, this]

theorem same_snoc_later (n x : ByteArray) (l : List Item) (y : Item) (h0 : ¬ sameOf n x l = 0) : sameOf n x (l ++ [y]) = sameOf n x l := by
  unfold sameOf at h0 ⊢
  rw [List.find?_append]
  split at h0
  · rename_i z hz
    simp [hz]
  · exact absurd rfl h0

theorem sameOf_le (n x : ByteArray) (l : List Item) : sameOf n x l ≤ 10000 := by
  unfold sameOf
  split
  · rename_i y hy; exact y.2.2
  · omega

theorem findS_same (l : List E) (k : Nat) (n x : ByteArray) : findS l k n x = if sameOf n x (upto l k) = 0 then (named n (upto l k), false) else (sameOf n x (upto l k), true) := by
  unfold findS
  by_cases h : sameOf n x (upto l k) = 0
  · rw [if_pos h, sameOf_zero n x _ h]
  · rw [if_neg h]
    unfold sameOf at h ⊢
    split at h
    · rename_i y hy
      simp [hy]
    · exact absurd rfl h

end Go.Proofs.Ytlfbnhdcgldopaa
