/- slices.Clone of a row of entries; Copy. -/
import Derived.Test.YtlfbnhdcgldopaaA8
import Derived.Test.YtlfbnhdcgldopaaA6
namespace Go.Proofs.Ytlfbnhdcgldopaa
open Go.RowKit Go.Shelf Go.Lib

set_option maxHeartbeats 1000000 in
set_option maxRecDepth 100000 in
theorem clone_row (w : World) (v : Value) (es : List E) (hown : w.ownsRow 0 64 2 v es.length (cellsOf es)) (hlen : es.length ≤ 4096) :
    Calls Try.prog 34 #[v] w fun r w' => ∃ base' cap', r = .returned (.slice base' es.length cap') ∧ w'.ownsRow 0 64 2 (.slice base' es.length cap') es.length (cellsOf es) ∧
      (∀ k, (Value.slice base' es.length cap').ownBlock = some k → w.heap.size ≤ k) ∧ Below w.heap.size w w' := by
  have hown' := hown
  rcases hown.2 with ⟨rfl, hn⟩ | ⟨g, cap, cur, rfl, _, hg, hc, hm, hs, htk⟩
  · obtain rfl : es = [] := List.length_eq_zero_iff.1 hn
    clear hown hown'
    have hnil : ∀ w, (binOp .eql 60 (.slice none 0 0) (.slice none 0 0)).run Try.prog w = .ok (.bool true) w := fun w => by kernel_rfl
    go_enter Try.func34, Try.ntmps34
    go_wp2
    go_ret
    exact ⟨none, 0, rfl, World.ownsRow_nil _ _ _ _, by simp [Value.ownBlock], Below.refl _ _⟩
  · obtain ⟨i0, hi0, hz0, hz1, hz2⟩ := info_parts info64
    have hg1 : (w.alloc (.cells #[] 64)).heap[g]? = some (.cells cur 64 (0, 0)) := (heap_alloc_old w _ (Array.getElem?_eq_some_iff.1 hg).1).trans hg
    obtain ⟨v', w', hrun, ho, hgr, _⟩ := run_append_own (P := Try.prog) (w.alloc (.cells #[] 64)) w.heap.size 60 60 64 i0 _ 2 32 Try.underlying60 hi0 hz0 hz1 hz2 rfl (by omega) (.slice (some ⟨w.heap.size, 0, none⟩) 0 0) 0 []
      (World.ownsRow_made w #[] 0 (Nat.le_refl _) (Nat.zero_le _) rfl) ⟨g, 0, none⟩ es.length cap (cellsOf es) (by rw [length_cellsOf]) (fun j u hu => by
        rw [Addr.add_lit, cell_of_row _ _ _ _ _ _ hg1, Nat.zero_add]
        rw [← htk, List.getElem?_take] at hu
        split at hu
        · simpa using hu
        · cases hu) (cellsOf_one es) (by unfold maxLen; omega) (by omega) (by simp)
    rw [Nat.zero_add, List.nil_append] at ho
    obtain ⟨base', cap', rfl⟩ := row_slice ho
    have hfin : Hid (w'.ownsRow 0 64 2 (.slice base' es.length cap') es.length (cellsOf es) ∧ (∀ k, (Value.slice base' es.length cap').ownBlock = some k → w.heap.size ≤ k) ∧ Below w.heap.size w w') :=
      ⟨⟨ho.1, ho.2.imp id fun ⟨g, c, cu, h1, _, h3⟩ => ⟨g, c, cu, h1, Nat.zero_le _, h3⟩⟩, fun k hk => (ho.lt k hk).1, ((Below.refl _ w).alloc (Nat.le_refl _) _).grown hgr (by simp) fun k hk => by cases hk; exact Nat.le_refl _⟩
    clear hown hown' ho hgr hg1
    have hnil : ∀ w, (binOp .eql 60 (.slice (some ⟨g, 0, none⟩) es.length cap) (.slice none 0 0)).run Try.prog w = .ok (.bool false) w := fun w => by kernel_rfl
    go_enter Try.func34, Try.ntmps34
    go_wp2_with (at_builtin; refine Lib.wpList_append_run _ rfl _ _ _ _ rfl _ _ rfl rfl _ _ hrun ?_)
    go_ret
    exact ⟨base', cap', rfl, hfin.out⟩

set_option maxRecDepth 100000 in
set_option maxHeartbeats 1000000 in
theorem copy_any (w : World) (b mx : Nat) (es : List E) (v : Value) (h : Tab w b mx es v) :
    Calls Try.prog 20 #[.pointer (some ⟨b, 0, none⟩)] w fun r w' => ∃ c v', r = .returned (.pointer (some ⟨c, 0, none⟩)) ∧ w.heap.size ≤ c ∧ Tab w' c mx es v' ∧ (∀ k, v'.ownBlock = some k → w.heap.size ≤ k) ∧ Below w.heap.size w w' := by
  obtain ⟨base, cap, rfl⟩ := h.slice
  obtain ⟨c0, c1, c2, f1, f2, f0⟩ := h.cells
  have hcl : Hid (Calls Try.prog 34 #[.slice base es.length cap] w.drew fun r w1 => ∃ base' cap', r = .returned (.slice base' es.length cap') ∧ w1.cell? ⟨b, 0, none⟩ = some (.int .i64 (mx : Int)) ∧ w1.cell? ⟨b, 1, none⟩ = some (.int .i64 (total es : Int)) ∧ w1.cell? ⟨b, 2, none⟩ = some (.slice base es.length cap) ∧
      Hid (w1.ownsRow 0 64 2 (.slice base' es.length cap') es.length (cellsOf es) ∧ (∀ k, (Value.slice base' es.length cap').ownBlock = some k → w.heap.size ≤ k) ∧ Below w.heap.size w w1)) := by
    have hlen := h.len
    refine (clone_row w.drew (.slice base es.length cap) es (row_stays h.2.2.2 fun _ _ _ => rfl) (by omega)).mono ?_
    rintro r w1 ⟨base', cap', rfl, ho, hk, hb⟩
    have hB : Below w.heap.size w w1 := ⟨hb.os, hb.tape, hb.output, hb.size, hb.block⟩
    have h1 := (h.below hB).cells
    exact ⟨base', cap', rfl, h1.1, h1.2.1, h1.2.2.1, ho, hk, hB⟩
  have hmx := h.1
  have htot := h.2.1
  have hbl := h.lt
  clear h
  go_enter Try.func20, Try.ntmps20
  go_wp2
  go_region_with (first | (go_at_call 34; refine hcl.out.mono ?_; rintro e w1 ⟨base', cap', rfl, d0, d1, d2, hfin⟩))
  all_goals
    go_wp2
    go_ret
    refine ⟨_, .slice base' es.length cap', rfl, hfin.out.2.2.size, ⟨hmx, htot, ?_, ?_⟩, hfin.out.2.1, ?_⟩
    · exact heap_alloc_new _ _
    · exact hfin.out.1.alloc _
    · exact hfin.out.2.2.alloc hfin.out.2.2.size _

end Go.Proofs.Ytlfbnhdcgldopaa
