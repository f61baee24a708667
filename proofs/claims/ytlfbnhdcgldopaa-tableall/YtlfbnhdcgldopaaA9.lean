/- Add. -/
import Derived.Test.YtlfbnhdcgldopaaA7
import Derived.Test.YtlfbnhdcgldopaaA8
namespace Go.Proofs.Ytlfbnhdcgldopaa
open Go.RowKit

/-- Within Add: the table is so, all else but its two blocks is as it was. -/
def AddS (w : World) (b mx : Nat) (es : List E) (v v2 : Value) (W : World) : Prop :=
  Tab W b mx es v2 ∧ Kept (fun j => j = b ∨ some j = v.ownBlock) w W

theorem AddS.below {w : World} {b mx : Nat} {es : List E} {v v2 : Value} {W W' : World} (h : AddS w b mx es v v2 W) (hb : Below W.heap.size W W') : AddS w b mx es v v2 W' :=
  ⟨h.1.below hb, h.2.trans (Kept.of_below hb)⟩

theorem add_clone {w : World} {b mx : Nat} {es : List E} {v v2 : Value} (s : ByteArray) (hs : s.size ≤ 65536) (W : World) (h : Hid (AddS w b mx es v v2 W)) :
    Calls Try.prog 30 #[.string s] W fun e W' => e = .returned (.string s) ∧ W'.cell? ⟨b, 2, none⟩ = some v2 ∧ W'.frozen? ⟨b, 2, none⟩ = false ∧ b < W'.heap.size ∧ Hid (AddS w b mx es v v2 W') := by
  refine (clone_any s W (by omega)).mono ?_
  rintro e W' ⟨rfl, hb⟩
  have h' := h.out.below hb
  exact ⟨rfl, h'.1.cells.2.2.1, h'.1.cells.2.2.2.2.1, h'.1.lt, h'⟩

/-- The insertion, and what stands behind the two stores. -/
theorem add_insert {w : World} {b mx : Nat} {es : List E} {v v2 : Value} (hob : v2.ownBlock = v.ownBlock) (_hvl : ∀ k, v.ownBlock = some k → k < w.heap.size) (n x : ByteArray) (k : Nat) (hk : k = esz (n, x)) (T : Nat) (hT' : total es + k = T) (htot : T ≤ 65536) (W : World) (h : Hid (AddS w b mx es v v2 W)) :
    Calls Try.prog 29 #[v2, .int .i64 0, .slice (some ⟨W.heap.size, 0, none⟩) 1 1] (W.alloc (.cells #[.string n, .string x] 64)) fun e W' => ∃ base' cap', e = .returned (.slice base' (es.length + 1) cap') ∧
      W'.cell? ⟨b, 2, none⟩ = some v2 ∧ W'.frozen? ⟨b, 2, none⟩ = false ∧ W'.cell? ⟨b, 1, none⟩ = some (.int .i64 (total es : Int)) ∧ W'.frozen? ⟨b, 1, none⟩ = false ∧
      Hid (Changed w ((W'.setCell ⟨b, 2, none⟩ (.slice base' (es.length + 1) cap')).setCell ⟨b, 1, none⟩ (.int .i64 (T : Int))) b mx ((n, x) :: es) v) := by
  have hlen := h.out.1.len
  have hT := h.out.1.below ((Below.refl _ W).alloc (Nat.le_refl _) (.cells #[.string n, .string x] 64))
  have hK := h.out.2.trans (Kept.of_below (S := fun j => j = b ∨ some j = v.ownBlock) ((Below.refl _ W).alloc (Nat.le_refl _) (.cells #[.string n, .string x] 64)))
  have hrl := h.out.1.row_lt
  refine (insert_any _ v2 es (n, x) W.heap.size hT.2.2.2 (by omega) (heap_alloc_new _ _) (fun e => Nat.lt_irrefl _ (hrl _ e))).mono ?_
  rintro e W' ⟨base', cap', rfl, ho, hblk, hg⟩
  have hne : some b ≠ v2.ownBlock := fun e => (hT.row_ne b e.symm) rfl
  have hbl : W'.heap[b]? = _ := (hg.block b hT.lt hne).trans hT.2.2.1
  have hbc := block_cells hbl
  refine ⟨base', cap', rfl, hbc.2.2.1, hbc.2.2.2.2.2, hbc.2.1, hbc.2.2.2.2.1, ?_⟩
  have hbne : ∀ j, (Value.slice base' (es.length + 1) cap').ownBlock = some j → j ≠ b := fun j hj e => by
    rcases hblk j hj with h1 | h1
    · exact hT.row_ne j h1 e
    · have := hT.lt; omega
  refine ⟨.slice base' (es.length + 1) cap', ⟨h.out.1.1, ?_, ?_, ?_⟩, ?_, fun j hj => ?_⟩
  · simp only [total]; omega
  · rw [setCell_block _ _ _ _ _ _ _ (setCell_block _ _ _ _ _ _ _ hbl)]
    rw [show total ((n, x) :: es) = T by simp only [total]; omega]
    rfl
  · exact row_stays (row_stays ho fun j hj _ => setCell_other _ _ _ _ _ (hbne j hj)) fun j hj _ => setCell_other _ _ _ _ _ (hbne j hj)
  · refine ((hK.trans ⟨hg.os, hg.tape, hg.output, hg.size, fun j hj hs => hg.block j hj fun e => hs (.inr (e.trans hob))⟩).trans (Kept.setCell _ _ (.inl rfl))).trans (Kept.setCell _ _ (.inl rfl))
  · rcases hblk j hj with h1 | h1
    · exact .inl (hob ▸ h1)
    · right
      have := hK.size
      omega

set_option maxRecDepth 100000 in
set_option maxHeartbeats 600000 in
theorem add_any (w : World) (b mx : Nat) (es : List E) (v : Value) (h : Tab w b mx es v) (n x : ByteArray) (hsz : n.size + x.size + 32 ≤ 4611686018427387904) :
    Calls Try.prog 10 #[.pointer (some ⟨b, 0, none⟩), .string n, .string x] w fun e w' => e = .returned (.tuple #[]) ∧ Changed w w' b mx (keep mx ((n, x) :: es)) v := by
  obtain ⟨k, hk⟩ : ∃ k : Nat, k = esz (n, x) := ⟨_, rfl⟩
  have hk' : k = n.size + x.size + 32 := hk
  obtain ⟨most, hmost⟩ : ∃ most : Int, (mx : Int) - (k : Int) = most := ⟨_, rfl⟩
  have hmx := h.1
  have hm1 : -9223372036854775808 ≤ most := by omega
  have hm2 : most ≤ 9223372036854775807 := by omega
  have hsize : Hid (Calls Try.prog 27 #[.agg #[.string n, .string x]] w fun e w1 => e = .returned (.int .i64 (k : Int)) ∧ w1.cell? ⟨b, 0, none⟩ = some (.int .i64 (mx : Int)) ∧ Hid (AddS w b mx es v v w1)) := by
    refine (size_any n x w (by omega)).mono ?_
    rintro e w1 ⟨rfl, hb⟩
    have h' := h.below hb
    exact ⟨by rw [hk], h'.cells.1, h', Kept.of_below hb⟩
  have hshr : ∀ w1, Hid (AddS w b mx es v v w1) → Calls Try.prog 28 #[.pointer (some ⟨b, 0, none⟩), .int .i64 most] w1 fun e w2 => ∃ base' cap', e = .returned (.tuple #[]) ∧ w2.cell? ⟨b, 0, none⟩ = some (.int .i64 (mx : Int)) ∧ w2.cell? ⟨b, 2, none⟩ = some (.slice base' (keepI most es).length cap') ∧ w2.frozen? ⟨b, 2, none⟩ = false ∧
      Hid (AddS w b mx (keepI most es) v (.slice base' (keepI most es).length cap') w2 ∧ (Value.slice base' (keepI most es).length cap').ownBlock = v.ownBlock) := by
    intro w1 h1
    refine (shrink_any w1 b mx es v h1.out.1 most).mono ?_
    rintro e w2 ⟨rfl, v', ht, hb, hkp⟩
    obtain ⟨base', cap', rfl⟩ := ht.slice
    exact ⟨base', cap', rfl, ht.cells.1, ht.cells.2.2.1, ht.cells.2.2.2.2.1, ⟨ht, h1.out.2.trans hkp⟩, hb⟩
  replace hshr : Hid (∀ w1, Hid (AddS w b mx es v v w1) → Calls Try.prog 28 #[.pointer (some ⟨b, 0, none⟩), .int .i64 most] w1 fun e w2 => ∃ base' cap', e = .returned (.tuple #[]) ∧ w2.cell? ⟨b, 0, none⟩ = some (.int .i64 (mx : Int)) ∧ w2.cell? ⟨b, 2, none⟩ = some (.slice base' (keepI most es).length cap') ∧ w2.frozen? ⟨b, 2, none⟩ = false ∧
      Hid (AddS w b mx (keepI most es) v (.slice base' (keepI most es).length cap') w2 ∧ (Value.slice base' (keepI most es).length cap').ownBlock = v.ownBlock)) := hshr
  have hvl := h.row_lt
  by_cases hover : mx < k
  · have hans : keepI most es = keep mx ((n, x) :: es) := by
      unfold keepI
      rw [if_pos (by omega), keep, if_neg (by omega)]
    have hlt : (mx : Int) < (k : Int) := by omega
    clear hk hk' h hvl
    go_enter Try.func10, Try.ntmps10
    go_wp2_with (first | (go_at_call 27; refine hsize.out.mono ?_; rintro e w1 ⟨rfl, c0, hS⟩) | (go_at_call 28; refine (hshr.out _ hS).mono ?_; rintro e w2 ⟨base', cap', rfl, d0, d2, g2, hS2⟩))
    refine bodyPost_ret (results_none rfl _ _ _) rfl ?_
    refine ⟨rfl, _, ?_, hS2.out.1.2, fun j hj => .inl (hS2.out.2 ▸ hj)⟩
    rw [← hans]
    exact hS2.out.1.1
  · have hans : (n, x) :: keepI most es = keep mx ((n, x) :: es) := by
      unfold keepI
      rw [if_neg (by omega), keep, if_pos (by omega)]
      congr 2
      omega
    have hlt : ¬ (mx : Int) < (k : Int) := by omega
    have htot : total (keepI most es) + k ≤ 65536 := by
      unfold keepI
      rw [if_neg (by omega)]
      have := total_keep most.toNat es
      omega
    have hn : n.size ≤ 65536 := by omega
    have hx : x.size ≤ 65536 := by omega
    obtain ⟨T, hT⟩ : ∃ T, total (keepI most es) + k = T := ⟨_, rfl⟩
    rw [hT] at htot
    generalize keepI most es = es2 at hans hshr hT
    have hsum : (total es2 : Int) + (k : Int) = (T : Int) := by omega
    rw [← hans]
    replace hk : Hid (k = esz (n, x)) := hk
    replace hT : Hid (total es2 + k = T) := hT
    clear h hk' hans
    go_enter Try.func10, Try.ntmps10
    go_wp2_with (first | (go_at_call 27; refine hsize.out.mono ?_; rintro e w1 ⟨rfl, c0, hS⟩) | (go_at_call 28; refine (hshr.out _ hS).mono ?_; rintro e w2 ⟨base', cap', rfl, d0, d2, g2, hS2⟩))
    have hob := hS2.out.2
    have hS3 : Hid (AddS w b mx es2 v (.slice base' es2.length cap') w2.drew) := ⟨hS2.out.1.1.below ⟨rfl, rfl, rfl, Nat.le_refl _, fun _ _ => rfl⟩, hS2.out.1.2.trans (Kept.of_below ⟨rfl, rfl, rfl, Nat.le_refl _, fun _ _ => rfl⟩)⟩
    have hins := fun W h => add_insert (w := w) (b := b) (mx := mx) (es := es2) (v := v) (v2 := .slice base' es2.length cap') hob hvl n x k hk.out T hT.out htot W h
    have hcl := fun s hs W h => add_clone (w := w) (b := b) (mx := mx) (es := es2) (v := v) (v2 := .slice base' es2.length cap') s hs W h
    replace hins : Hid _ := hins
    replace hcl : Hid _ := hcl
    clear hS2 hS hob hvl hk hT
    go_region_with (first | (go_at_call 30; refine (hcl.out n hn _ (by assumption)).mono ?_; rintro e w3 ⟨rfl, e2, i2, l2, hS4⟩) | (go_at_call 30; refine (hcl.out x hx _ (by assumption)).mono ?_; rintro e w4 ⟨rfl, e3, i3, l3, hS5⟩) | (go_at_call 29; refine (hins.out _ (by assumption)).mono ?_; rintro e w5 ⟨base2, cap2, rfl, j2, k2, j1, k1, hfin⟩))
    all_goals
      go_wp2
      go_end0
      exact ⟨rfl, hfin.out⟩

end Go.Proofs.Ytlfbnhdcgldopaa
