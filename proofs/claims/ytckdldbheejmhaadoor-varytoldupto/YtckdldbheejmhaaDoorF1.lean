/- VaryMatches: what is lent, and whether it was kept. -/
import Derived.Test.YtckdldbheejmhaaDoorD4
namespace Go.Proofs.YtckdldbheejmhaaDoor
open Go.RowKit
set_option linter.unusedVariables false
set_option linter.unusedSimpArgs false

/-- the mark behind what is lent -/
def mkF : Fd := ⟨⟨#[109, 97, 114, 107]⟩, ⟨#[118, 97, 114, 121]⟩, false⟩
set_option maxHeartbeats 4000000 in
set_option maxRecDepth 100000 in
theorem lend_any (s : SV) (L : List Fd) (w : World) (hI : In EFd w (sv s) L) (hlen : L.length * 40 ≤ 140737488351232) :
    Calls Tryd.prog 14 #[sv s] w fun e w' => ∃ g c, e = .returned (.slice (some ⟨g, 0, none⟩) L.length c) ∧ Below w.heap.size w w' ∧ w.heap.size ≤ g ∧ L.length + 1 ≤ c ∧ c ≤ 9223372036854775807 ∧ R EFd w' (.slice (some ⟨g, 0, none⟩) (L.length + 1) c) (L ++ [mkF]) := by
  obtain ⟨sb, sl, sc⟩ := s
  obtain ⟨es, hcap1, hcap2⟩ := slice_len hI
  obtain ⟨ab, ac, w1, g1, g2, g3⟩ := app okFd w (.slice none 0 0) [] (R.nil _ _) _ _ hI (by simp only [EFd, List.length_nil]; omega)
  simp only [List.length_nil, Nat.zero_add, List.nil_append] at g1 g2 g3
  have bm := bel1 w1 (.cells (fdv mkF) 30)
  obtain ⟨bb, bc, w2, h1, h2, h3⟩ := app okFd (w1.alloc (.cells (fdv mkF) 30)) _ _ (g2.below bm) (.slice (some ⟨w1.heap.size, 0, none⟩) 1 1) [mkF] (in_one (x := mkF) _ _ (fdv mkF) 30 (0, 0) (by rw [heap_al, if_pos rfl]) rfl) (by simp only [EFd, List.length_singleton]; omega)
  simp only [List.length_singleton] at h1 h2 h3
  obtain ⟨g, cap, e, c1, c2, rl, ro, _⟩ := R.setc okFd h2 0 0 (by simp) (by decide)
  have hB : Below w.heap.size w w2 := by
    refine g3.fresh.trans (Below.trans (bm.mono g3.fresh.size) (h3.belowB (Nat.le_trans g3.fresh.size bm.size) fun k hk => g3.new k hk))
  have hg : w.heap.size ≤ g := by
    rcases h3.own g ro with e | e
    · exact g3.new g e
    · exact Nat.le_trans (Nat.le_trans g3.fresh.size bm.size) e
  injection e with e1 e2 e3
  subst e1 e3
  simp only [List.length_append, List.length_singleton] at c1
  have HF : Hid (Below w.heap.size w w2 ∧ w.heap.size ≤ g ∧ L.length + 1 ≤ bc ∧ bc ≤ 9223372036854775807 ∧ R EFd w2 (.slice (some ⟨g, 0, none⟩) (L.length + 1) bc) (L ++ [mkF])) := ⟨hB, hg, c1, c2, h2⟩
  replace g1 : Hid _ := g1
  replace h1 : Hid _ := h1
  subst es
  have i1 : (L.length : Int) ≤ (bc : Int) := by omega
  have i0 : L.length ≤ bc := by omega
  simp only [sv, EFd, mkF, fdv] at g1 h1 ⊢
  clear hI g2 g3 h2 h3 hB hg bm ro rl e2
  go_enter Tryd.func14, Tryd.ntmps14
  go_wp2_with (at_builtin; first | refine Lib.wpList_append_run _ rfl _ _ _ _ rfl _ _ rfl rfl _ _ g1.out ?_ | refine Lib.wpList_append_run _ rfl _ _ _ _ rfl _ _ rfl rfl _ _ h1.out ?_)
  go_ret
  exact ⟨g, bc, by first | rfl | simp, HF.out⟩
end Go.Proofs.YtckdldbheejmhaaDoor
