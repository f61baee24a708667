/- FieldApart: what the three loops leave. -/
import Derived.Test.YtcgfgjhhmbfmdaaDoorJ1
namespace Go.Proofs.YtcgfgjhhmbfmdaaDoor
open Go.RowKit Go.Maps
set_option linter.unusedVariables false
set_option linter.unusedSimpArgs false

theorem getD_get (ls : List (List Fd)) (i : Nat) (h : i < ls.length) : ls.getD i [] = ls[i] := by simp [List.getD, h]
/-- the list i, its first k fields marked -/
def mkA (l : List Fd) (i k : Nat) : List Fd := List.replicate k (markF i) ++ l.drop k
theorem mkA_len {l : List Fd} {i k : Nat} (h : k ≤ l.length) : (mkA l i k).length = l.length := by simp [mkA]; omega
theorem mkA_zero (l : List Fd) (i : Nat) : mkA l i 0 = l := by simp [mkA]
theorem mkA_all (l : List Fd) (i : Nat) : mkA l i l.length = List.replicate l.length (markF i) := by simp [mkA]
theorem mkA_set {l : List Fd} {i k : Nat} (h : k < l.length) : (mkA l i k).set k (markF i) = mkA l i (k + 1) := by
  unfold mkA
  rw [List.set_append_right _ _ (by simp)]
  simp only [List.length_replicate, Nat.sub_self]
  rw [List.drop_eq_getElem_cons h, List.set_cons_zero, List.replicate_succ', List.append_assoc]
  rfl
/-- the first i lists marked -/
def mkM (ls : List (List Fd)) : Nat → List (List Fd)
  | 0 => ls
  | i + 1 => (mkM ls i).set i (List.replicate (ls.getD i []).length (markF i))
theorem mkM_len (ls : List (List Fd)) : ∀ i, (mkM ls i).length = ls.length
  | 0 => rfl
  | i + 1 => by rw [mkM, List.length_set, mkM_len]
theorem mkM_hi (ls : List (List Fd)) : ∀ i j (h : j < (mkM ls i).length) (h' : j < ls.length), i ≤ j → (mkM ls i)[j] = ls[j]
  | 0, j, h, h', _ => rfl
  | i + 1, j, h, h', hij => by
    have : i ≠ j := by omega
    simp only [mkM]
    rw [List.getElem_set_ne this]
    exact mkM_hi ls i j _ h' (by omega)
theorem mkM_lo (ls : List (List Fd)) : ∀ i j (h : j < (mkM ls i).length) (h' : j < ls.length), j < i → (mkM ls i)[j] = List.replicate ls[j].length (markF j)
  | i + 1, j, h, h', hij => by
    simp only [mkM]
    by_cases e : i = j
    · subst e
      rw [List.getElem_set_self, getD_get _ _ h']
    · rw [List.getElem_set_ne e]
      exact mkM_lo ls i j _ h' (by omega)
theorem mkM_step (ls : List (List Fd)) (i : Nat) (h : i < ls.length) : (mkM ls i).set i (mkA ls[i] i ls[i].length) = mkM ls (i + 1) := by
  rw [mkA_all, mkM, getD_get _ _ h]
theorem mkM_self (ls : List (List Fd)) (i : Nat) (h : i < ls.length) : (mkM ls i).set i (mkA ls[i] i 0) = mkM ls i := by
  rw [mkA_zero]
  have h' : i < (mkM ls i).length := by rw [mkM_len]; exact h
  rw [← mkM_hi ls i i h' h (Nat.le_refl _), List.set_getElem_self]
def nsL (ls : List (List Fd)) (i : Nat) : List Int := (ls.take i).map fun l => (l.length : Int)
theorem nsL_succ (ls : List (List Fd)) (i : Nat) (h : i < ls.length) : nsL ls (i + 1) = nsL ls i ++ [(ls[i].length : Int)] := by
  unfold nsL
  rw [List.take_succ_eq_append_getElem h, List.map_append]
  rfl
theorem nsL_len (ls : List (List Fd)) (i : Nat) (h : i ≤ ls.length) : (nsL ls i).length = i := by simp [nsL]; omega
theorem nsL_get (ls : List (List Fd)) (j : Nat) (h : j < ls.length) (h' : j < (nsL ls ls.length).length) : (nsL ls ls.length)[j] = (ls[j].length : Int) := by
  simp [nsL]
/-- the first i lists marked and made longer -/
def mkP (ls : List (List Fd)) : Nat → List (List Fd)
  | 0 => mkM ls ls.length
  | i + 1 => (mkP ls i).set i (List.replicate (ls.getD i []).length (markF i) ++ [behF i])
theorem mkP_len (ls : List (List Fd)) : ∀ i, (mkP ls i).length = ls.length
  | 0 => mkM_len _ _
  | i + 1 => by rw [mkP, List.length_set, mkP_len]
theorem mkP_hi (ls : List (List Fd)) : ∀ i j (h : j < (mkP ls i).length) (h' : j < ls.length), i ≤ j → (mkP ls i)[j] = List.replicate ls[j].length (markF j)
  | 0, j, h, h', _ => mkM_lo ls ls.length j _ h' h'
  | i + 1, j, h, h', hij => by
    have : i ≠ j := by omega
    simp only [mkP]
    rw [List.getElem_set_ne this]
    exact mkP_hi ls i j _ h' (by omega)
theorem mkP_lo (ls : List (List Fd)) : ∀ i j (h : j < (mkP ls i).length) (h' : j < ls.length), j < i → (mkP ls i)[j] = List.replicate ls[j].length (markF j) ++ [behF j]
  | i + 1, j, h, h', hij => by
    simp only [mkP]
    by_cases e : i = j
    · subst e
      rw [List.getElem_set_self, getD_get _ _ h']
    · rw [List.getElem_set_ne e]
      exact mkP_lo ls i j _ h' (by omega)
theorem mkP_step (ls : List (List Fd)) (i : Nat) (h : i < ls.length) (h' : i < (mkP ls i).length) : (mkP ls i).set i ((mkP ls i)[i] ++ [behF i]) = mkP ls (i + 1) := by
  rw [mkP_hi ls i i h' h (Nat.le_refl _), mkP, getD_get _ _ h]
theorem Ls.lens {B : Nat} {O : Nat → Prop} {W0 : World} {g : Nat} {vs : List SV} {ls : List (List Fd)} {z : SV} {ns : List Int} {W : World} (h : Ls B O W0 g vs ls z ns W) : z.2.1 = ns.length ∧ ns.length ≤ z.2.2 ∧ z.2.2 ≤ 9223372036854775807 := by
  obtain ⟨b, c, e, q1, q2⟩ := h.zr.slice
  simp only [sv] at e
  injection e with e1 e2 e3
  rw [e2, e3]
  exact ⟨rfl, q1, q2⟩
/-- a size, read -/
theorem Ls.get {B : Nat} {O : Nat → Prop} {W0 : World} {g : Nat} {vs : List SV} {ls : List (List Fd)} {zb : Option Addr} {zl zc : Nat} {ns : List Int} {W : World} (h : Ls B O W0 g vs ls (zb, zl, zc) ns W) (j : Nat) (hj : j < ns.length) : ∃ r, zb = some ⟨r, 0, none⟩ ∧ r < W.heap.size ∧ W.cell? ⟨r, j, none⟩ = some (.int .i64 ns[j]) := by
  obtain ⟨r, c, e, _, _, hlt, _, hc, _⟩ := R.setc okI h.zr j 0 hj (by decide)
  simp only [sv] at e
  injection e with e1 e2 e3
  have := hc 0 _ rfl
  simp only [EI, Nat.mul_one, Nat.add_zero] at this
  exact ⟨r, e1, hlt, this⟩
theorem wrap_byte {i : Nat} (h : i < 10) : IntKind.u8.wrap (97 + (i : Int)) = 97 + (i : Int) := by
  simp [IntKind.wrap, IntKind.bits]
  omega
theorem wrap_64b {i : Nat} (h : i < 10) : IntKind.i64.wrap (97 + (i : Int)) = 97 + (i : Int) := by
  rw [IntKind.wrap_i64]
  omega
theorem two_cells {W : World} {b : Option Addr} {c : Nat} {x y : ByteArray} (h : R ES W (.slice b 2 c) [x, y]) : ∃ g, b = some ⟨g, 0, none⟩ ∧ g < W.heap.size ∧ 2 ≤ c ∧ c ≤ 9223372036854775807 ∧ W.cell? ⟨g, 0, none⟩ = some (.string x) ∧ W.cell? ⟨g, 1, none⟩ = some (.string y) := by
  obtain ⟨g, c0, e, q1, q2, hlt, _, hc, _⟩ := R.setc okS h 0 0 (by simp) (by decide)
  obtain ⟨g', c1, e', _, _, _, _, hc', _⟩ := R.setc okS h 1 0 (by simp) (by decide)
  injection e with e1 e2 e3
  rw [e1] at e'
  injection e' with e1' _ _
  simp only [Option.some.injEq, Addr.mk.injEq, and_true] at e1'
  subst e1'
  subst e3
  exact ⟨g, e1, hlt, q1, q2, hc 0 _ rfl, hc' 0 _ rfl⟩
end Go.Proofs.YtcgfgjhhmbfmdaaDoor
