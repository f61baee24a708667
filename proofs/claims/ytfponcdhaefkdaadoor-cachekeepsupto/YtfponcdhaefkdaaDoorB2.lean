/- strings.SplitSeq at a comma: its iterator. -/
import Derived.Test.YtfponcdhaefkdaaDoorB1
import Derived.Test.YtfponcdhaefkdaaDoorSh
import Derived.RangeFuncNested
import Derived.RangeFuncBound
import Derived.RangeFuncCalls
import Derived.RangeFuncLeaves
import Derived.Shelf.Abstract
import Derived.Shelf.RegionOpen
import Derived.WalkKit
import Derived.OwnWalkIn
import Derived.TacticsInMore
import Derived.LoopNIn
import Derived.LoopIn
namespace Go.Proofs.YtfponcdhaefkdaaDoor
open Go.RowKit Go.Shelf
set_option linter.unusedVariables false
set_option linter.unusedSimpArgs false
attribute [local go_sem] Oper.semAt_some

/-- the iterator's three boxes -/
structure Bx (bs bp bz : Nat) (s : ByteArray) (W : World) : Prop where
  s : W.heap[bs]? = some (.cells #[.string s] 9 (0, 0))
  p : W.heap[bp]? = some (.cells #[.string ⟨#[44]⟩] 9 (0, 0))
  z : W.heap[bz]? = some (.cells #[.int .i64 0] 3 (0, 0))
/-- a round leaves the three boxes alone -/
def Cm (bs bp bz : Nat) (W W' : World) : Prop := W.heap.size ≤ W'.heap.size ∧ W'.heap[bs]? = W.heap[bs]? ∧ W'.heap[bp]? = W.heap[bp]? ∧ W'.heap[bz]? = W.heap[bz]?
theorem Bx.cm {bs bp bz : Nat} {s : ByteArray} {W W' : World} (h : Bx bs bp bz s W) (c : Cm bs bp bz W W') : Bx bs bp bz s W' := ⟨c.2.1.trans h.s, c.2.2.1.trans h.p, c.2.2.2.trans h.z⟩
theorem Bx.set {bs bp bz : Nat} {s : ByteArray} {W : World} (h : Bx bs bp bz s W) (h1 : bp ≠ bs) (h2 : bz ≠ bs) (t : ByteArray) : Bx bs bp bz t (W.setCell ⟨bs, 0, none⟩ (.string t)) :=
  ⟨setCell_block _ _ _ _ _ _ _ h.s, (setCell_other _ _ _ _ _ h1).trans h.p, (setCell_other _ _ _ _ _ h2).trans h.z⟩
def boxLen (bs : Nat) (W : World) : Nat := match W.cell? ⟨bs, 0, none⟩ with | some (.string s) => s.size | _ => 0
theorem Bx.len {bs bp bz : Nat} {s : ByteArray} {W : World} (h : Bx bs bp bz s W) : boxLen bs W = s.size := by
  unfold boxLen
  rw [cell_blk h.s]
  rfl

set_option maxRecDepth 100000 in
set_option maxHeartbeats 4000000 in
theorem split_in (n : Nat) (hn : 1 ≤ n) (l bs bp bz : Nat) (s : ByteArray) (J : List ByteArray → World → Prop) (W : World) (hB : Bx bs bp bz s W) (h1 : bp ≠ bs) (h2 : bz ≠ bs) (hsz : s.size ≤ 140737488355328)
    (hJ : ∀ pre A A', J pre A → Ks (fun k => k = bs) A A' → J pre A')
    (hY : ∀ pre x r W1, pre ++ x :: r = cutS s → J pre W1 → YieldAt Fence.wide (n - 1) Tryd.prog l #[.string x] W1 fun e W' => e = .returned (.bool true) ∧ J (pre ++ [x]) W' ∧ Cm bs bp bz W1 W') (h0 : J [] W) :
    CallsIn Fence.wide n Tryd.prog 75 #[.func (.yield l) #[] #[], .pointer (some ⟨bp, 0, none⟩), .pointer (some ⟨bs, 0, none⟩), .pointer (some ⟨bz, 0, none⟩)] W fun e W' => (∃ v, e = .returned v) ∧ J (cutS s) W' := by
  have HB : Hid (Bx bs bp bz s W) := hB
  have HJ : Hid (J [] W) := h0
  have HS : Hid (∀ pre A A', J pre A → Ks (fun k => k = bs) A A' → J pre A') := hJ
  have HY : Hid (∀ pre x r W1, pre ++ x :: r = cutS s → J pre W1 → YieldAt Fence.wide (n - 1) Tryd.prog l #[.string x] W1 fun e W' => e = .returned (.bool true) ∧ J (pre ++ [x]) W' ∧ Cm bs bp bz W1 W') := hY
  have p0 := cell_blk hB.p 0
  simp only [List.getElem?_toArray, List.getElem?_cons_zero] at p0
  have pl := heap_lt hB.p
  clear hB h0 hJ hY
  refine callsIn_of_wp Tryd.func75 rfl trivial ?_ rfl
  simp only [Tryd.ntmps75, List.size_toArray, List.length_cons, List.length_nil, Nat.reduceAdd, Nat.reduceSub, Array.replicate_succ, Array.replicate_zero, List.push_toArray, List.append_toArray, List.nil_append, List.cons_append]
  gi_wp2
  clear p0 pl
  gi_loopw [7, 8] (fun _ _ wr => ∃ (S : ByteArray) (pre : List ByteArray), Hid (Bx bs bp bz S wr) ∧ Hid (J pre wr) ∧ Hid (pre ++ cutS S = cutS s) ∧ S.size ≤ s.size) (fun _ _ wr => boxLen bs wr)
  case atStart => exact ⟨s, [], HB.out, HJ.out, by show _ = _; simp, Nat.le_refl _⟩
  case round =>
    obtain ⟨S, pre, hb, hj, hc, hle⟩ := hrel
    clear HB HJ
    have s0 := cell_blk hb.out.s 0
    have p0 := cell_blk hb.out.p 0
    have z0 := cell_blk hb.out.z 0
    simp only [List.getElem?_toArray, List.getElem?_cons_zero] at s0 p0 z0
    have sl := heap_lt hb.out.s
    have pl := heap_lt hb.out.p
    have zl := heap_lt hb.out.z
    have f0 := frozen_blk hb.out.s 0
    by_cases hi : Lib.indexByte S.data.toList 44 = -1
    · have hcs := cutS_none hi
      obtain ⟨fn, tmps, assign, body, hy, hR⟩ := HY.out pre S [] wr (by rw [← hcs]; exact hc.out) hj.out
      have hlt : (-1 : Int) < 0 := by decide
      have HF : Hid (pre ++ [S] = cutS s) := by show _ = _; rw [← hcs]; exact hc.out
      clear hc hcs hb hj HY HS
      gi_wp2_with (refine ⟨trivial, ?_⟩; gi_at_call 77; refine (callsIn_wide.2 (Tryd.strings_Index_one _ _ _)).mono ?_; rintro e w1 ⟨rfl, hw⟩; subst hw; try rw [hi])
      refine hR.mono ?_
      rintro e W3 ⟨rfl, hJ3, _⟩
      rw [HF.out] at hJ3
      replace hJ3 : Hid (J (cutS s) W3) := hJ3
      gi_wp2
      go_end0
      exact ⟨⟨_, rfl⟩, hJ3.out⟩
    · obtain ⟨o, ho⟩ : ∃ o : Nat, Lib.indexByte S.data.toList 44 = (o : Int) := by
        have := Lib.indexByte_ge S.data.toList 44
        exact ⟨(Lib.indexByte S.data.toList 44).toNat, by omega⟩
      obtain ⟨hol, hcs⟩ := cutS_some ho
      obtain ⟨fn, tmps, assign, body, hy, hR⟩ := HY.out pre (S.extract 0 o) _ wr (by rw [← hcs]; exact hc.out) hj.out
      have hge : ¬ (o : Int) < 0 := by omega
      have hol' : (o : Int) ≤ (S.size : Int) := by omega
      have hol2 : (o : Int) + 1 ≤ (S.size : Int) := by omega
      have ho62 : o ≤ 140737488355328 := by omega
      have HF : Hid ((pre ++ [S.extract 0 o]) ++ cutS (S.extract (o + 1) S.size) = cutS s) := by
        show _ = _
        rw [← hc.out, hcs, List.append_assoc]
        rfl
      have hsz2 : (S.extract (o + 1) S.size).size < S.size := by rw [ByteArray.size_extract]; omega
      have HB : Hid (Bx bs bp bz S wr) := hb.out
      have HI : Hid (Lib.indexByte S.data.toList 44 = (o : Int)) := ho
      clear hc hcs hb hj HY ho hi
      gi_wp2_with (refine ⟨trivial, ?_⟩; gi_at_call 77; refine (callsIn_wide.2 (Tryd.strings_Index_one _ _ _)).mono ?_; rintro e w1 ⟨rfl, hw⟩; subst hw; try rw [HI.out])
      refine hR.mono ?_
      rintro e W3 ⟨rfl, hJ3, hC3⟩
      have HB3 : Hid (Bx bs bp bz S W3) := HB.out.cm hC3
      have s0' := cell_blk HB3.out.s 0
      have p0' := cell_blk HB3.out.p 0
      simp only [List.getElem?_toArray, List.getElem?_cons_zero] at s0' p0'
      have sl' := heap_lt HB3.out.s
      have pl' := heap_lt HB3.out.p
      have f0' := frozen_blk HB3.out.s 0
      have HJ3 : Hid (J (pre ++ [S.extract 0 o]) (W3.setCell ⟨bs, 0, none⟩ (.string (S.extract (o + 1) S.size)))) := HS.out _ _ _ hJ3 (Ks.setCell _ _ _ _ _ rfl)
      have HB4 : Hid (Bx bs bp bz (S.extract (o + 1) S.size) (W3.setCell ⟨bs, 0, none⟩ (.string (S.extract (o + 1) S.size)))) := HB3.out.set h1 h2 _
      have HM : Hid (boxLen bs (W3.setCell ⟨bs, 0, none⟩ (.string (S.extract (o + 1) S.size))) < boxLen bs w1) := by
        show _ < _
        rw [HB4.out.len, HB.out.len]
        exact hsz2
      obtain ⟨X, hX⟩ : ∃ X, S.extract (o + 1) S.size = X := ⟨_, rfl⟩
      rw [hX] at HF HJ3 HB4 HM hsz2
      clear hJ3 hC3 HI hy hR s0 p0 z0 sl pl zl f0 HB HB3
      gi_wp2
      exact ⟨⟨X, _, HB4.out, HJ3.out, HF.out, by omega⟩, HM.out⟩
end Go.Proofs.YtfponcdhaefkdaaDoor
