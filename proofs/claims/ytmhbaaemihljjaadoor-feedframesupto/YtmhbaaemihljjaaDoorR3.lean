/- What Read tells of written bytes, whole, cut short, and of their first nine. -/
import Derived.Test.YtmhbaaemihljjaaDoorR2
namespace Go.Proofs.YtmhbaaemihljjaaDoor
open Go.RowKit
set_option linter.unusedVariables false
set_option linter.unusedSimpArgs false

theorem ext_app (a b : ByteArray) (i j : Nat) (h : j ≤ a.size) : (a ++ b).extract i j = a.extract i j := by
  apply ByteArray.ext
  rw [ByteArray.data_extract, ByteArray.data_extract, ByteArray.data_append]
  have h' : j ≤ a.data.size := h
  apply Array.ext'
  rw [Array.toList_extract, Array.toList_extract, Array.toList_append, List.extract_eq_take_drop, List.extract_eq_take_drop]
  have hl : a.data.toList.length = a.data.size := by simp
  by_cases hi : i ≤ j
  · rw [List.drop_append_of_le_length (by omega), List.take_append_of_le_length (by rw [List.length_drop]; omega)]
  · rw [show j - i = 0 by omega, List.take_zero, List.take_zero]
theorem ext_ext (a : ByteArray) (i j n : Nat) (h : j ≤ n) : (a.extract 0 n).extract i j = a.extract i j := by
  rw [ByteArray.extract_extract, Nat.zero_add, Nat.zero_add, Nat.min_eq_left h]
theorem ext_full (a : ByteArray) (n : Nat) (h : n = a.size) : a.extract 0 n = a := by
  subst h
  simp

theorem read_app (f : Fr) (ps : List (Int × Int)) (h : Right f ps) (s : ByteArray) (most : Int) (hl : (wholeB f ps).length ≤ 65536) (hm : ((wholeB f ps).length : Int) ≤ min (max most 16384) 65536) :
    readS (asmB f ps ++ s) most = ((f, ps), ((asmB f ps).size : Int), 0, 0) := by
  have hs := asmB_size f ps
  have hn : numS ((asmB f ps ++ s).extract 0 3) = (wholeB f ps).length := by rw [ext_app _ _ _ _ (by omega)]; exact asm_len f ps (by omega)
  have hw : (asmB f ps ++ s).extract 0 (9 + (wholeB f ps).length) = asmB f ps := by rw [ext_app _ _ _ _ (by omega), ext_full _ _ (by omega)]
  unfold readS
  rw [hn, hw, parse_asm f ps h, if_neg (by rw [ByteArray.size_append]; omega), if_neg (by omega), if_neg (by rw [ByteArray.size_append]; omega), if_neg (by simp), hs]

theorem read_cut (f : Fr) (ps : List (Int × Int)) (c : Nat) (hc : c < (asmB f ps).size) (most : Int) (hl : (wholeB f ps).length ≤ 65536) (hm : ((wholeB f ps).length : Int) ≤ min (max most 16384) 65536) :
    readS ((asmB f ps).extract 0 c) most = ((Fr.zero, []), 0, 0, 0) := by
  have hs := asmB_size f ps
  have hz : ((asmB f ps).extract 0 c).size = c := by rw [ByteArray.size_extract]; omega
  unfold readS
  by_cases h9 : c < 9
  · rw [if_pos (by omega)]
  · have hn : numS (((asmB f ps).extract 0 c).extract 0 3) = (wholeB f ps).length := by rw [ext_ext _ _ _ _ (by omega)]; exact asm_len f ps (by omega)
    rw [if_neg (by omega), hn, if_neg (by omega), if_pos (by omega)]

theorem head_num (f : Fr) (ps : List (Int × Int)) (s : ByteArray) (hl : (wholeB f ps).length ≤ 65536) : numS (((asmB f ps).extract 0 9 ++ s).extract 0 3) = (wholeB f ps).length ∧ ((asmB f ps).extract 0 9 ++ s).size = 9 + s.size := by
  have hs := asmB_size f ps
  have hz : ((asmB f ps).extract 0 9).size = 9 := by rw [ByteArray.size_extract]; omega
  refine ⟨?_, by rw [ByteArray.size_append, hz]⟩
  rw [ext_app _ _ _ _ (by omega), ext_ext _ _ _ _ (by omega)]
  exact asm_len f ps (by omega)

theorem read_head_long (f : Fr) (ps : List (Int × Int)) (s : ByteArray) (hl : (wholeB f ps).length ≤ 65536) (hm : 16384 < (wholeB f ps).length) : readS ((asmB f ps).extract 0 9 ++ s) 16384 = ((Fr.zero, []), 0, 6, 0) := by
  obtain ⟨h1, h2⟩ := head_num f ps s hl
  unfold readS
  rw [h1, if_neg (by omega), if_pos (by omega)]
theorem read_head_more (f : Fr) (ps : List (Int × Int)) (s : ByteArray) (hl : (wholeB f ps).length ≤ 65536) (hm : (wholeB f ps).length ≤ 16384) (hs : s.size < (wholeB f ps).length) : readS ((asmB f ps).extract 0 9 ++ s) 16384 = ((Fr.zero, []), 0, 0, 0) := by
  obtain ⟨h1, h2⟩ := head_num f ps s hl
  unfold readS
  rw [h1, if_neg (by omega), if_neg (by omega), if_pos (by omega)]

/-- two blocks set anew -/
theorem setsGX (w : World) (G X : Nat) (hne : G ≠ X) (g g' : Fr) (r p : Value) (c0 c1 c x : Int) (h1 : FB w G g r) (h2 : w.heap[X]? = some (.cells #[.int .i64 c0, .int .i64 c1] 30 (0, 0))) :
    FB (sets (sets w G (fsets g' p)) X [(0, .int .i64 c), (1, .int .i64 x)]) G g' p ∧ (sets (sets w G (fsets g' p)) X [(0, .int .i64 c), (1, .int .i64 x)]).heap[X]? = some (.cells #[.int .i64 c, .int .i64 x] 30 (0, 0)) ∧
    (∀ k, k ≠ G → k ≠ X → (sets (sets w G (fsets g' p)) X [(0, .int .i64 c), (1, .int .i64 x)]).heap[k]? = w.heap[k]?) ∧ (∀ B, B ≤ G → B ≤ X → Below B w (sets (sets w G (fsets g' p)) X [(0, .int .i64 c), (1, .int .i64 x)])) := by
  refine ⟨?_, ?_, fun k hG hX => ?_, fun B hG hX => ?_⟩
  · unfold FB
    rw [sets_other _ _ hne, sets_block _ _ _ _ _ _ h1]
    simp only [fsets, fv, List.foldl_cons, List.foldl_nil, List.setIfInBounds_toArray, List.set_cons_zero, List.set_cons_succ]
  · rw [sets_block _ _ _ _ _ _ ((sets_other _ _ (Ne.symm hne) _ _).trans h2)]
    simp only [List.foldl_cons, List.foldl_nil, List.setIfInBounds_toArray, List.set_cons_zero, List.set_cons_succ]
  · rw [sets_other _ _ hX, sets_other _ _ hG]
  · exact (sets_below G B hG _ _).trans (sets_below X B hX _ _)
end Go.Proofs.YtmhbaaemihljjaaDoor
