/- head: the chapter's first two examples. -/
import Derived.Test.YtmhbaaemihljjaaDoorK8
namespace Go.Proofs.YtmhbaaemihljjaaDoor
open Go.RowKit
set_option linter.unusedVariables false
set_option linter.unusedSimpArgs false

theorem okS_eq (S : St) : okS S = (S.wait.take (nS S) == S.pre.data.toList.take (nS S)) := by
  unfold okS
  rw [ByteArray.toList_eq, ByteArray.data_extract, Array.toList_extract, List.extract_eq_take_drop, List.drop_zero, Nat.sub_zero]

/-- by lists -/
def passL (S : St) : Bool × St :=
  if (S.wait.take (nS S) == S.pre.data.toList.take (nS S)) = false then (false, { S with code := 1 })
  else if nS S < S.pre.size then (false, S)
  else (true, { S with wait := S.wait.drop (nS S), pre := ⟨#[]⟩ })
theorem passS_eq (S : St) : passS S = passL S := by
  unfold passS passL
  rw [okS_eq]
def nextL (S : St) : NxR :=
  shutR (if S.code ≠ 0 then ⟨(Fr.zero, []), false, 0, 0, S⟩
    else if (passL S).1 = false then ⟨(Fr.zero, []), false, 0, 0, (passL S).2⟩
    else ⟨(rdL (passL S).2.wait (passL S).2.most).1, okR (rdL (passL S).2.wait (passL S).2.most), (rdL (passL S).2.wait (passL S).2.most).2.2.1, (rdL (passL S).2.wait (passL S).2.most).2.2.2, rfS (passL S).2⟩)
theorem nextS_eq (S : St) : nextS S = nextL S := by
  unfold nextS nextL
  rw [passS_eq]

def pingL : List UInt8 := [0, 0, 8, 6, 0, 0, 0, 0, 0, 49, 50, 51, 52, 53, 54, 55, 56]
def pingF : Fr := ⟨6, 0, 0, ⟨#[49, 50, 51, 52, 53, 54, 55, 56]⟩, 0, 0, false, 0, 0, 0⟩
theorem next_h1 : nextS ⟨⟨#[]⟩, pingL ++ [0], 16384, 0⟩ = ⟨(pingF, []), true, 0, 0, ⟨⟨#[]⟩, [0], 16384, 0⟩⟩ := by rw [nextS_eq]; kernel_rfl
theorem next_h2 : nextS ⟨⟨#[]⟩, [0], 16384, 0⟩ = ⟨(Fr.zero, []), false, 0, 0, ⟨⟨#[]⟩, [0], 16384, 0⟩⟩ := by rw [nextS_eq]; kernel_rfl
theorem next_h3 : nextS ⟨prefaceB, [71, 69, 84, 32], 16384, 0⟩ = ⟨(Fr.zero, []), false, 1, 0, deadS 1⟩ := by rw [nextS_eq]; kernel_rfl

/-- a frame and a fault in new boxes -/
theorem box2 {w W : World} {fs : List Fed} (h : All w W fs) (f : Fr) (p : Value) (c x : Int) :
    All w ((W.alloc (.cells (fv f p) 28)).alloc (.cells #[.int .i64 c, .int .i64 x] 30)) fs ∧ FB ((W.alloc (.cells (fv f p) 28)).alloc (.cells #[.int .i64 c, .int .i64 x] 30)) W.heap.size f p ∧
    ((W.alloc (.cells (fv f p) 28)).alloc (.cells #[.int .i64 c, .int .i64 x] 30)).heap[W.heap.size + 1]? = some (.cells #[.int .i64 c, .int .i64 x] 30 (0, 0)) ∧ Kt W ((W.alloc (.cells (fv f p) 28)).alloc (.cells #[.int .i64 c, .int .i64 x] 30)) := by
  refine ⟨(h.alloc _).alloc _, ?_, ?_, (Kt.alloc _ _).trans (Kt.alloc _ _)⟩
  · unfold FB
    simp only [heap_al, size_al]
    rw [if_neg (by omega), if_pos trivial]
  · simp only [heap_al, size_al]
    rw [if_pos trivial]
theorem box_cells {W : World} {a : Nat} {c x : Int} (h : W.heap[a]? = some (.cells #[.int .i64 c, .int .i64 x] 30 (0, 0))) : W.cell? ⟨a, 0, none⟩ = some (.int .i64 c) ∧ W.cell? ⟨a, 1, none⟩ = some (.int .i64 x) ∧ W.frozen? ⟨a, 0, none⟩ = false ∧ W.frozen? ⟨a, 1, none⟩ = false :=
  ⟨by rw [cell_of_row _ _ _ _ _ _ h]; rfl, by rw [cell_of_row _ _ _ _ _ _ h]; rfl, frozen_row h 0, frozen_row h 1⟩

theorem box_set {w W : World} {fs : List Fed} (h : All w W fs) (a : Nat) (c0 x0 c x : Int) (hb : W.heap[a]? = some (.cells #[.int .i64 c0, .int .i64 x0] 30 (0, 0))) (hw : w.heap.size ≤ a) :
    All w ((W.setCell ⟨a, 0, none⟩ (.int .i64 c)).setCell ⟨a, 1, none⟩ (.int .i64 x)) fs ∧ ((W.setCell ⟨a, 0, none⟩ (.int .i64 c)).setCell ⟨a, 1, none⟩ (.int .i64 x)).heap[a]? = some (.cells #[.int .i64 c, .int .i64 x] 30 (0, 0)) := by
  refine ⟨h.sets a _ 30 hb (by decide) (by decide) hw [(0, .int .i64 c), (1, .int .i64 x)], ?_⟩
  rw [setCell_block _ _ _ _ _ _ _ (setCell_block _ _ _ _ _ _ _ hb)]
  rfl

set_option maxRecDepth 100000 in
set_option maxHeartbeats 4000000 in
theorem head_any (w : World) (hK : Kinds w) (hw : 1 ≤ w.heap.size) : Calls Tryd.prog 9 #[] w fun e w' => e = .returned (.bool true) ∧ Below w.heap.size w w' := by
  have h0 := All.start hK hw
  have c1 := new_all h0 false 16384
  go_enter Tryd.func9, Tryd.ntmps9
  go_wp2_with fail
  refine c1.mono ?_
  rintro e W ⟨g1, rfl, h1, -⟩
  clear c1 h0
  replace h1 : Hid (All w W [(g1, .slice none 0 0, ⟨⟨#[]⟩, [], 16384, 0⟩)]) := h1
  go_wp2_with fail
  refine (new_all h1.out true 16384).mono ?_
  rintro e W ⟨g2, rfl, h2, -⟩
  replace h2 : Hid (All w W [(g1, .slice none 0 0, ⟨⟨#[]⟩, [], 16384, 0⟩), (g2, .slice none 0 0, ⟨prefaceB, [], 16384, 0⟩)]) := h2
  clear h1
  go_wp2_with fail
  refine (push_all h2.out 0 (g := g1) (v := .slice none 0 0) (S := ⟨⟨#[]⟩, [], 16384, 0⟩) rfl _ (by decide)).mono ?_
  rintro e W ⟨rfl, v1, h3, -⟩
  replace h3 : Hid (All w W [(g1, v1, ⟨⟨#[]⟩, pingL ++ [0], 16384, 0⟩), (g2, .slice none 0 0, ⟨prefaceB, [], 16384, 0⟩)]) := h3
  clear h2
  go_wp2_with fail
  refine (next_all h3.out 0 (g := g1) (v := v1) (S := ⟨⟨#[]⟩, pingL ++ [0], 16384, 0⟩) rfl _ next_h1).mono ?_
  rintro e W ⟨pb, pl, pc, v1, rfl, -, -, h4, -⟩
  replace h4 : Hid (All w W [(g1, v1, ⟨⟨#[]⟩, [0], 16384, 0⟩), (g2, .slice none 0 0, ⟨prefaceB, [], 16384, 0⟩)]) := h4
  clear h3
  simp only [pingF]
  go_wp2_with fail
  obtain ⟨h5, b3, b5, -⟩ := box2 h4.out pingF (.slice pb pl pc) 0 0
  obtain ⟨a3, ha3⟩ : ∃ a3, a3 = W.heap.size := ⟨_, rfl⟩
  rw [← ha3] at b3 b5 ⊢
  clear ha3
  refine (next_all h5 0 (g := g1) (v := v1) (S := ⟨⟨#[]⟩, [0], 16384, 0⟩) rfl _ next_h2).mono ?_
  rintro e W2 ⟨qb, ql, qc, v1, rfl, -, -, h6, kt⟩
  replace h6 : Hid (All w W2 [(g1, v1, ⟨⟨#[]⟩, [0], 16384, 0⟩), (g2, .slice none 0 0, ⟨prefaceB, [], 16384, 0⟩)]) := h6
  replace b3 : Hid (FB W2 a3 pingF (.slice pb pl pc)) := kt.fb b3
  replace b5 : Hid _ := kt.box b5
  clear h4 h5 kt
  simp only [Fr.zero]
  go_wp2_with fail
  obtain ⟨h7, -, b8, kt⟩ := box2 h6.out Fr.zero (.slice qb ql qc) 0 0
  replace b3 := kt.fb b3.out
  replace b5 := kt.box b5.out
  obtain ⟨a6, ha6⟩ : ∃ a6, a6 = W2.heap.size := ⟨_, rfl⟩
  rw [← ha6] at b8 ⊢
  clear ha6 kt
  refine (push_all h7 1 (g := g2) (v := .slice none 0 0) (S := ⟨prefaceB, [], 16384, 0⟩) rfl _ (by decide)).mono ?_
  rintro e W3 ⟨rfl, v2, h8, kt⟩
  replace h8 : Hid (All w W3 [(g1, v1, ⟨⟨#[]⟩, [0], 16384, 0⟩), (g2, v2, ⟨prefaceB, [71, 69, 84, 32], 16384, 0⟩)]) := h8
  replace b3 : Hid (FB W3 a3 pingF (.slice pb pl pc)) := kt.fb b3
  replace b5 : Hid _ := kt.box b5
  replace b8 : Hid _ := kt.box b8
  clear h6 h7 kt
  go_wp2_with fail
  refine (next_all h8.out 1 (g := g2) (v := v2) (S := ⟨prefaceB, [71, 69, 84, 32], 16384, 0⟩) rfl _ next_h3).mono ?_
  rintro e W4 ⟨rb, rl, rc, v2, rfl, -, -, h9, kt⟩
  replace h9 : Hid (All w W4 [(g1, v1, ⟨⟨#[]⟩, [0], 16384, 0⟩), (g2, v2, deadS 1)]) := h9
  replace b3 : Hid (FB W4 a3 pingF (.slice pb pl pc)) := kt.fb b3.out
  replace b5 : Hid _ := kt.box b5.out
  replace b8 : Hid _ := kt.box b8.out
  clear h8 kt
  simp only [Fr.zero]
  obtain ⟨hA, -, b11, kt⟩ := box2 h9.out Fr.zero (.slice rb rl rc) 1 0
  obtain ⟨d0, -, -, d3, -⟩ := (kt.fb b3.out).cells
  obtain ⟨d5, d6, -, -⟩ := box_cells (kt.box b5.out)
  obtain ⟨d8, d9, -, -⟩ := box_cells (kt.box b8.out)
  obtain ⟨d11, d12, -, -⟩ := box_cells b11
  simp only [pingF] at d0 d3
  have hw1 := wait_all hA 0 (g := g1) (v := v1) (S := ⟨⟨#[]⟩, [0], 16384, 0⟩) rfl
  have hw2 := wait_all hA 1 (g := g2) (v := v2) (S := deadS 1) rfl
  have hfin : Hid _ := hA.bel
  clear hA kt b3 b5 b8 b11 h9
  simp only [fv, Fr.zero] at d0 d3 d5 d6 d8 d9 d11 d12 hw1 hw2 hfin
  go_wp2_with (first | (go_at_call 13; first | (refine hw1.mono ?_; rintro e W ⟨rfl, rfl⟩) | (refine hw2.mono ?_; rintro e W ⟨rfl, rfl⟩)))
  go_ret
  exact ⟨rfl, hfin.out⟩
end Go.Proofs.YtmhbaaemihljjaaDoor
