/- FrameReads, walked. -/
import Derived.Test.YtjigjckclpccmaaDoorF5
import Derived.Test.YtjigjckclpccmaaDoorD2
namespace Go.Proofs.YtjigjckclpccmaaDoor
open Go.RowKit
set_option linter.unusedVariables false
set_option linter.unusedSimpArgs false

set_option maxRecDepth 100000 in
set_option maxHeartbeats 4000000 in
theorem frameReads_any (s : ByteArray) (most : Int) (w : World) (hw : 1 ≤ w.heap.size) (hK : Kinds w) :
    Calls Tryd.prog 7 #[.string s, .int .i64 most] w fun e w' => e = .returned (.bool true) ∧ Below w.heap.size w w' := by
  have hKW : Hid (∀ W : World, Below w.heap.size w W → Kinds W ∧ 1 ≤ W.heap.size) := fun W hb => ⟨hK.of_eq (hb.block 0 (by omega)), Nat.le_trans hw hb.size⟩
  obtain ⟨res, hres⟩ : ∃ res, readS s most = res := ⟨_, rfl⟩
  have h1 := read_any s most w hw hK
  rw [hres] at h1
  have h2 : ∀ W : World, Calls Tryd.prog 20 #[.string s, .int .i64 most] W fun e w' => RPost W res e w' := fun W => by rw [← hres]; exact ref_any s most W
  clear hres hK
  obtain ⟨⟨f, ps⟩, n, c, x⟩ := res
  have H1 : Hid (Calls Tryd.prog 13 #[.string s, .int .i64 most] w fun e w' => RPost w ((f, ps), n, c, x) e w') := h1
  have H2 : Hid (∀ W : World, Calls Tryd.prog 20 #[.string s, .int .i64 most] W fun e w' => RPost W ((f, ps), n, c, x) e w') := h2
  clear h1 h2
  go_enter Tryd.func7, Tryd.ntmps7
  go_wp2_with fail
  refine H1.out.mono ?_
  rintro e w1 ⟨p, rfl, a1, a2, a3⟩
  obtain ⟨pb, pc, rfl⟩ := a1.slice
  unfold fv
  go_wp2_with fail
  refine (H2.out _).mono ?_
  rintro e w2 ⟨q, rfl, b1, b2, b3⟩
  obtain ⟨qb, qc, rfl⟩ := b1.slice
  have hb2 : Below w.heap.size w w2 := ((a3.alloc a3.size _).alloc (by rw [size_al]; have := a3.size; omega) _).trans (b3.mono (by simp only [size_al]; have := a3.size; omega))
  have hF1 : FB w2 w1.heap.size f (.slice pb ps.length pc) := (b3.block _ (by simp only [size_al]; omega)).trans (by (simp only [heap_al, heap_dr, size_al, size_dr]; repeat (first | rw [if_pos trivial] | rw [if_neg (by omega)] | rw [if_pos (by omega)])); rfl)
  have hz1 : w2.heap[w1.heap.size + 1]? = some (.cells #[.int .i64 c, .int .i64 x] 31 (0, 0)) := (b3.block _ (by simp only [size_al]; omega)).trans (by (simp only [heap_al, heap_dr, size_al, size_dr]; repeat (first | rw [if_pos trivial] | rw [if_neg (by omega)] | rw [if_pos (by omega)])))
  have hr1 : PRow w2 (.slice pb ps.length pc) ps := a1.below fun k _ hk => (b3.block k (by simp only [size_al]; omega)).trans (by (simp only [heap_al, heap_dr, size_al, size_dr]; repeat (first | rw [if_pos trivial] | rw [if_neg (by omega)] | rw [if_pos (by omega)])))
  clear a1 a2 a3 b2 b3
  unfold fv
  go_wp2_with fail
  have hb2' : Below w.heap.size w ((w2.alloc (.cells (fv f (.slice qb ps.length qc)) 28)).alloc (.cells #[.int .i64 c, .int .i64 x] 31)) := (hb2.alloc hb2.size _).alloc (by rw [size_al]; have := hb2.size; omega) _
  refine (first_any _ (hKW.out _ hb2').2 (hKW.out _ hb2').1).mono ?_
  rintro e w3 ⟨rfl, hb3⟩
  have hB : Below w2.heap.size w2 w3 := (((Below.refl _ w2).alloc (Nat.le_refl _) _).alloc (by rw [size_al]; omega) _).trans (hb3.mono (by simp only [size_al]; omega))
  have hF1' := hF1.below hB
  have hz1' := (hB.block _ (Array.getElem?_eq_some_iff.1 hz1).1).trans hz1
  have hr1' : PRow w3 (.slice pb ps.length pc) ps := hr1.below fun k _ hk => hB.block k hk
  have hr2' : PRow w3 (.slice qb ps.length qc) ps := b1.below fun k _ hk => hB.block k hk
  have hF2 : FB w3 w2.heap.size f (.slice qb ps.length qc) := (hb3.block _ (by simp only [size_al]; omega)).trans (by (simp only [heap_al, heap_dr, size_al, size_dr]; repeat (first | rw [if_pos trivial] | rw [if_neg (by omega)] | rw [if_pos (by omega)])))
  have hz2 : w3.heap[w2.heap.size + 1]? = some (.cells #[.int .i64 c, .int .i64 x] 31 (0, 0)) := (hb3.block _ (by simp only [size_al]; omega)).trans (by (simp only [heap_al, heap_dr, size_al, size_dr]; repeat (first | rw [if_pos trivial] | rw [if_neg (by omega)] | rw [if_pos (by omega)])))
  have hbw3 : Below w.heap.size w w3 := hb2.trans (hB.mono hb2.size)
  obtain ⟨c0, c1, c2, c3, c4, c5, c6, c7, c8, c9, c10⟩ := hF1'.cells
  obtain ⟨d0, d1, d2, d3, d4, d5, d6, d7, d8, d9, d10⟩ := hF2.cells
  have u0 := cell_of_row _ _ 0 _ _ _ hz1'
  have u1 := cell_of_row _ _ 1 _ _ _ hz1'
  have v0 := cell_of_row _ _ 0 _ _ _ hz2
  have v1 := cell_of_row _ _ 1 _ _ _ hz2
  simp only [List.getElem?_toArray, List.getElem?_cons_succ, List.getElem?_cons_zero] at u0 u1 v0 v1
  clear hF1 hz1 hr1 b1 hF1' hz1' hF2 hz2 hb3 hB hb2' hb2
  go_wp2_with fail
  refine (sameFrame_eq f w3 pb ps.length pc qb ps.length qc ps hr1' hr2').mono ?_
  rintro e w4 ⟨rfl, hb4⟩
  have hfin := hbw3.trans (hb4.mono hbw3.size)
  go_wp2_with fail
  go_ret
  exact ⟨rfl, hfin⟩
end Go.Proofs.YtjigjckclpccmaaDoor
