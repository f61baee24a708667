/- SameRequest, SameResponse of the same. -/
import Derived.Test.YtcgfgjhhmbfmdaaDoorC6
namespace Go.Proofs.YtcgfgjhhmbfmdaaDoor
open Go.RowKit Go.Maps
set_option linter.unusedVariables false
set_option linter.unusedSimpArgs false

set_option maxHeartbeats 4000000 in
set_option maxRecDepth 100000 in
theorem rsameRq (m s a p b : ByteArray) (y z : SV) (fs : List Fd) (w : World) (hI : In EFd w (sv y) fs) (hJ : In EFd w (sv z) fs) :
    Calls Tryd.prog 28 #[.agg (rqv m s a p (sv y) b), .agg (rqv m s a p (sv z) b)] w fun e w' => e = .returned (.bool true) ∧ Below w.heap.size w w' := by
  obtain ⟨yb, yl, yc⟩ := y
  obtain ⟨zb, zl, zc⟩ := z
  have bb := bel2 w (.cells (rqv m s a p (sv (yb, yl, yc)) b) 26) (.cells (rqv m s a p (sv (zb, zl, zc)) b) 26)
  have hC : Hid (∀ W, Below w.heap.size w W → Calls Tryd.prog 34 #[sv (yb, yl, yc), sv (zb, zl, zc)] W fun e w' => e = .returned (.bool true) ∧ Hid (Below w.heap.size w w')) := fun W hb => by
    refine (rsame_eq _ _ fs W (hI.below hb) (hJ.below hb)).mono ?_
    rintro e w' ⟨rfl, h⟩
    exact ⟨rfl, hb.trans (h.mono hb.size)⟩
  have HB : Hid (Below w.heap.size w ((w.alloc (.cells #[.string m, .string s, .string a, .string p, .slice yb yl yc, .string b] 26)).alloc (.cells #[.string m, .string s, .string a, .string p, .slice zb zl zc, .string b] 26))) := bb
  clear bb hI hJ
  simp only [sv, rqv] at hC ⊢
  go_enter Tryd.func28, Tryd.ntmps28
  go_wp2_with fail
  go_at_call 34
  refine (hC.out _ HB.out).mono ?_
  rintro e w1 ⟨rfl, b1⟩
  go_wp2_with fail
  go_ret
  exact ⟨rfl, b1.out⟩
set_option maxHeartbeats 4000000 in
set_option maxRecDepth 100000 in
theorem rsameRs (n : Int) (b : ByteArray) (y z : SV) (fs : List Fd) (w : World) (hI : In EFd w (sv y) fs) (hJ : In EFd w (sv z) fs) :
    Calls Tryd.prog 30 #[.agg (rsv n (sv y) b), .agg (rsv n (sv z) b)] w fun e w' => e = .returned (.bool true) ∧ Below w.heap.size w w' := by
  obtain ⟨yb, yl, yc⟩ := y
  obtain ⟨zb, zl, zc⟩ := z
  have bb := bel2 w (.cells (rsv n (sv (yb, yl, yc)) b) 37) (.cells (rsv n (sv (zb, zl, zc)) b) 37)
  have hC : Hid (∀ W, Below w.heap.size w W → Calls Tryd.prog 34 #[sv (yb, yl, yc), sv (zb, zl, zc)] W fun e w' => e = .returned (.bool true) ∧ Hid (Below w.heap.size w w')) := fun W hb => by
    refine (rsame_eq _ _ fs W (hI.below hb) (hJ.below hb)).mono ?_
    rintro e w' ⟨rfl, h⟩
    exact ⟨rfl, hb.trans (h.mono hb.size)⟩
  have HB : Hid (Below w.heap.size w ((w.alloc (.cells #[.int .i64 n, .slice yb yl yc, .string b] 37)).alloc (.cells #[.int .i64 n, .slice zb zl zc, .string b] 37))) := bb
  clear bb hI hJ
  simp only [sv, rsv] at hC ⊢
  go_enter Tryd.func30, Tryd.ntmps30
  go_wp2_with fail
  go_at_call 34
  refine (hC.out _ HB.out).mono ?_
  rintro e w1 ⟨rfl, b1⟩
  go_wp2_with fail
  go_ret
  exact ⟨rfl, b1.out⟩
set_option maxHeartbeats 4000000 in
set_option maxRecDepth 100000 in
theorem sameRq (m s a p b : ByteArray) (y z : SV) (fs : List Fd) (w : World) (hI : In EFd w (sv y) fs) (hJ : In EFd w (sv z) fs) :
    Calls Tryd.prog 19 #[.agg (rqv m s a p (sv y) b), .agg (rqv m s a p (sv z) b)] w fun e w' => e = .returned (.bool true) ∧ Below w.heap.size w w' := by
  obtain ⟨yb, yl, yc⟩ := y
  obtain ⟨zb, zl, zc⟩ := z
  have bb := bel2 w (.cells (rqv m s a p (sv (yb, yl, yc)) b) 26) (.cells (rqv m s a p (sv (zb, zl, zc)) b) 26)
  have hC : Hid (∀ W, Below w.heap.size w W → Calls Tryd.prog 17 #[sv (yb, yl, yc), sv (zb, zl, zc)] W fun e w' => e = .returned (.bool true) ∧ Hid (Below w.heap.size w w')) := fun W hb => by
    refine (same_eq _ _ fs W (hI.below hb) (hJ.below hb)).mono ?_
    rintro e w' ⟨rfl, h⟩
    exact ⟨rfl, hb.trans (h.mono hb.size)⟩
  have HB : Hid (Below w.heap.size w ((w.alloc (.cells #[.string m, .string s, .string a, .string p, .slice yb yl yc, .string b] 26)).alloc (.cells #[.string m, .string s, .string a, .string p, .slice zb zl zc, .string b] 26))) := bb
  clear bb hI hJ
  simp only [sv, rqv] at hC ⊢
  go_enter Tryd.func19, Tryd.ntmps19
  go_wp2_with fail
  go_at_call 17
  refine (hC.out _ HB.out).mono ?_
  rintro e w1 ⟨rfl, b1⟩
  go_wp2_with fail
  go_ret
  exact ⟨rfl, b1.out⟩

/-- two that were read of one list -/
theorem RqPost.pair {l : List Fd} {w1 w1' w2 w2' : World} {e1 e2 : Ending} (h1 : RqPost l w1 e1 w1') (h2 : RqPost l w2 e2 w2') (hb : Below w1'.heap.size w1' w2) :
    ∃ (m s a p : ByteArray) (y z : SV) (fs : List Fd), e1 = .returned (.tuple #[.agg (rqv m s a p (sv y) ⟨#[]⟩), .int .i64 (rqE l)]) ∧ e2 = .returned (.tuple #[.agg (rqv m s a p (sv z) ⟨#[]⟩), .int .i64 (rqE l)]) ∧ In EFd w1' (sv y) fs ∧ In EFd w2' (sv z) fs ∧ Below w1.heap.size w1 w1' ∧ Below w2.heap.size w2 w2' := by
  obtain ⟨m, s, a, p, y, rfl, b1, g1, n1⟩ := h1
  obtain ⟨m', s', a', p', z, rfl, b2, g2, n2⟩ := h2
  by_cases h0 : rqE l = 0
  · obtain ⟨v1, _, r1, _⟩ := g1 h0
    obtain ⟨v2, _, r2, _⟩ := g2 h0
    rw [v1] at v2
    simp only [Option.some.injEq, List.cons.injEq, and_true] at v2
    obtain ⟨rfl, rfl, rfl, rfl⟩ := v2
    exact ⟨m, s, a, p, y, z, _, rfl, rfl, r1.isIn, r2.isIn, b1, b2⟩
  · obtain ⟨rfl, rfl, rfl, rfl, rfl⟩ := n1 h0
    obtain ⟨rfl, rfl, rfl, rfl, rfl⟩ := n2 h0
    exact ⟨_, _, _, _, (none, 0, 0), (none, 0, 0), [], rfl, rfl, .inl ⟨rfl, rfl⟩, .inl ⟨rfl, rfl⟩, b1, b2⟩
theorem RsPost.pair {l : List Fd} {w1 w1' w2 w2' : World} {e1 e2 : Ending} (h1 : RsPost l w1 e1 w1') (h2 : RsPost l w2 e2 w2') :
    ∃ (n : Int) (y z : SV) (fs : List Fd), e1 = .returned (.tuple #[.agg (rsv n (sv y) ⟨#[]⟩), .int .i64 (rsE l)]) ∧ e2 = .returned (.tuple #[.agg (rsv n (sv z) ⟨#[]⟩), .int .i64 (rsE l)]) ∧ In EFd w1' (sv y) fs ∧ In EFd w2' (sv z) fs ∧ Below w1.heap.size w1 w1' ∧ Below w2.heap.size w2 w2' := by
  obtain ⟨n, y, rfl, b1, g1, n1⟩ := h1
  obtain ⟨n', z, rfl, b2, g2, n2⟩ := h2
  by_cases h0 : rsE l = 0
  · obtain ⟨⟨s, v1, _, rfl⟩, r1, _⟩ := g1 h0
    obtain ⟨⟨s', v2, _, rfl⟩, r2, _⟩ := g2 h0
    rw [v1] at v2
    simp only [Option.some.injEq, List.cons.injEq, and_true] at v2
    subst v2
    exact ⟨_, y, z, _, rfl, rfl, r1.isIn, r2.isIn, b1, b2⟩
  · obtain ⟨rfl, rfl⟩ := n1 h0
    obtain ⟨rfl, rfl⟩ := n2 h0
    exact ⟨_, (none, 0, 0), (none, 0, 0), [], rfl, rfl, .inl ⟨rfl, rfl⟩, .inl ⟨rfl, rfl⟩, b1, b2⟩
end Go.Proofs.YtcgfgjhhmbfmdaaDoor
