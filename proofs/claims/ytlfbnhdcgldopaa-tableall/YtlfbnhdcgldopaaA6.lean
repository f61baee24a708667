/- shrink, Resize. -/
import Derived.Test.YtlfbnhdcgldopaaA5
import Derived.Deep.RegionWith
import Derived.Deep.LoopGhost
namespace Go.Proofs.Ytlfbnhdcgldopaa
open Go.RowKit

theorem wrap_id (n : Int) (h₀ : 0 ≤ n) (h₁ : n < 2 ^ 63) : IntKind.i64.wrap n = n := by rw [IntKind.wrap_i64]; omega

/-- What is kept where the bound may be below 0. -/
def keepI (m : Int) (l : List E) : List E := if m < 0 then [] else keep m.toNat l

theorem keepI_done (m : Int) (l : List E) (h : (total l : Int) ≤ m) : keepI m l = l := by
  unfold keepI
  rw [if_neg (by omega), keep_whole _ _ (by omega)]

theorem keepI_nil (m : Int) : keepI m [] = [] := by unfold keepI; split <;> rfl

theorem keepI_snoc (m : Int) (l : List E) (e : E) (h : m < (total (l ++ [e]) : Int)) : keepI m (l ++ [e]) = keepI m l := by
  unfold keepI
  split
  · rfl
  · exact keep_snoc _ _ _ (by omega)

theorem take_snoc (l : List E) (k : Nat) (h : k < l.length) : l.take (k + 1) = l.take k ++ [l[k]] := by
  rw [List.take_add_one, List.getElem?_eq_getElem h]; rfl

/-- Behind some rounds of shrink: k entries are still counted. -/
def ShrinkAt (w : World) (b mx : Nat) (es : List E) (v : Value) (most : Int) (k : Nat) (wr : World) : Prop :=
  k ≤ es.length ∧ wr.heap[b]? = some (.cells #[.int .i64 (mx : Int), .int .i64 (total (es.take k) : Int), v] 62 (0, 0)) ∧ wr.ownsRow 0 64 2 v es.length (cellsOf es) ∧
    keepI most es = keepI most (es.take k) ∧ Kept (fun j => j = b) w wr

theorem row_slice {w : World} {base : Nat} {e : TypeId} {size : Nat} {v : Value} {n : Nat} {xs : List Value} (h : w.ownsRow base e size v n xs) : ∃ b c, v = .slice b n c := by
  rcases h.2 with ⟨rfl, rfl⟩ | ⟨g, cap, cur, rfl, _⟩
  · exact ⟨none, 0, rfl⟩
  · exact ⟨_, cap, rfl⟩

theorem block_cells {w : World} {b : Nat} {x y z : Value} (h : w.heap[b]? = some (.cells #[x, y, z] 62 (0, 0))) :
    w.cell? ⟨b, 0, none⟩ = some x ∧ w.cell? ⟨b, 1, none⟩ = some y ∧ w.cell? ⟨b, 2, none⟩ = some z ∧
    w.frozen? ⟨b, 0, none⟩ = false ∧ w.frozen? ⟨b, 1, none⟩ = false ∧ w.frozen? ⟨b, 2, none⟩ = false := by
  refine ⟨by simp [World.cell?, h], by simp [World.cell?, h], by simp [World.cell?, h], ?_, ?_, ?_⟩
  all_goals simp [World.frozen?, h]

set_option maxRecDepth 100000 in
set_option maxHeartbeats 1000000 in
theorem shrink_any (w : World) (b mx : Nat) (es : List E) (v : Value) (h : Tab w b mx es v) (most : Int) :
    Calls Try.prog 28 #[.pointer (some ⟨b, 0, none⟩), .int .i64 most] w fun e w' => e = .returned (.tuple #[]) ∧ ∃ v', Tab w' b mx (keepI most es) v' ∧ v'.ownBlock = v.ownBlock ∧ Kept (fun j => j = b ∨ some j = v.ownBlock) w w' := by
  have hlen := h.len
  obtain ⟨hmx, htot, hblk, hown⟩ := h
  have H0 : ShrinkAt w b mx es v most es.length w := ⟨Nat.le_refl _, by rw [List.take_length]; exact hblk, hown, by rw [List.take_length], Kept.refl _ _⟩
  obtain ⟨base, cap, rfl⟩ : ∃ base cap, v = .slice base es.length cap := by
    rcases hown.2 with ⟨rfl, hn⟩ | ⟨g, cap, cur, rfl, _⟩
    · exact ⟨none, 0, by rw [hn]⟩
    · exact ⟨_, cap, rfl⟩
  obtain ⟨_, _, hc2, _⟩ := block_cells hblk
  clear hblk hown
  go_enter Try.func28, Try.ntmps28
  go_wp2
  go_loopw [4] (fun x wr => ∃ k : Nat, x = .int .i64 (k : Int) ∧ ShrinkAt w b mx es (.slice base es.length cap) most k wr) (fun x _ => (intOf x).toNat)
  case atStart => exact ⟨es.length, rfl, H0⟩
  case round =>
    obtain ⟨k, rfl, hk, hblk, hown, hkeep, hkept⟩ := hrel
    obtain ⟨c0, c1, c2, f0, f1, f2⟩ := block_cells hblk
    have hne : some b ≠ (Value.slice base es.length cap).ownBlock := fun e => by
      rcases hown.2 with ⟨h1, _⟩ | ⟨g, cap, cur, h1, _, hg, _⟩
      · rw [h1] at e; cases e
      · rw [h1] at e
        cases e
        rw [hblk] at hg
        simp at hg
    by_cases hz : k = 0 ∨ (total (es.take k) : Int) ≤ most
    · have hend : keepI most es = es.take k := by
        rw [hkeep]
        rcases hz with rfl | hz
        · rw [List.take_zero, keepI_nil]
        · exact keepI_done _ _ hz
      have hfin : ∀ (W : World) (v' : Value), W.ownsRow 0 64 2 v' k (cellsOf (es.take k)) → v'.ownBlock = (Value.slice base es.length cap).ownBlock → wr.grownBy W (Value.slice base es.length cap).ownBlock →
          ∃ u, Tab (W.setCell ⟨b, 2, none⟩ v') b mx (keepI most es) u ∧ u.ownBlock = (Value.slice base es.length cap).ownBlock ∧ Kept (fun j => j = b ∨ some j = (Value.slice base es.length cap).ownBlock) w (W.setCell ⟨b, 2, none⟩ v') := by
        intro W v' ho hb hg
        have hbl : W.heap[b]? = _ := (hg.block b (Array.getElem?_eq_some_iff.1 hblk).1 hne).trans hblk
        have hko : Kept (fun j => j = b ∨ some j = (Value.slice base es.length cap).ownBlock) wr W := ⟨hg.os, hg.tape, hg.output, hg.size, fun j hj hs => hg.block j hj fun e => hs (.inr e)⟩
        refine ⟨v', ⟨hmx, ?_, ?_, ?_⟩, hb, ?_⟩
        · rw [hend]
          have : total (es.take k) + total (es.drop k) = total es := by rw [← total_append, List.take_append_drop]
          omega
        · rw [setCell_block _ _ _ _ _ _ _ hbl, hend]
          rfl
        · rw [hend, List.length_take, Nat.min_eq_left hk]
          refine row_stays ho fun j hj _ => setCell_other _ _ _ _ _ fun e => hne (by rw [← e, ← hj, hb])
        · refine ((hkept.mono fun j _ h => .inl h).trans hko).trans ⟨rfl, rfl, rfl, by simp [World.setCell], fun j _ hs => setCell_other _ _ _ _ _ fun e => hs (.inl e)⟩
      have hdel : Hid (Calls Try.prog 43 #[.slice base es.length cap, .int .i64 (k : Int), .int .i64 (es.length : Int)] wr.drew fun e w2 => ∃ base' cap', e = .returned (.slice base' k cap') ∧ w2.cell? ⟨b, 2, none⟩ = some (.slice base es.length cap) ∧ w2.frozen? ⟨b, 2, none⟩ = false ∧
          Hid (∃ u, Tab (w2.setCell ⟨b, 2, none⟩ (.slice base' k cap')) b mx (keepI most es) u ∧ u.ownBlock = (Value.slice base es.length cap).ownBlock ∧ Kept (fun j => j = b ∨ some j = (Value.slice base es.length cap).ownBlock) w (w2.setCell ⟨b, 2, none⟩ (.slice base' k cap')))) := by
        refine (delete_any wr.drew (.slice base es.length cap) es k hk (row_stays hown fun j _ _ => rfl)).mono ?_
        rintro e w2 ⟨v', rfl, ho, hb, hg⟩
        have hbl : w2.heap[b]? = _ := (hg.block b (Array.getElem?_eq_some_iff.1 hblk).1 hne).trans hblk
        obtain ⟨base', cap', rfl⟩ := row_slice ho
        exact ⟨base', cap', rfl, (block_cells hbl).2.2.1, (block_cells hbl).2.2.2.2.2, hfin w2 _ ho hb ⟨hg.os, hg.tape, hg.output, hg.size, hg.block⟩⟩
      have hz1 : 0 < (k : Int) ∨ ¬ (0 < (k : Int)) := by omega
      clear hkeep hend hown H0 hkept htot hfin hblk hne
      rcases hz1 with hz1 | hz1
      · replace hz : (total (es.take k) : Int) ≤ most := by omega
        go_wp2
        go_region_with (first | (go_at_call 43; refine hdel.out.mono ?_; rintro e w2 ⟨base', cap', rfl, d2, g2, hfin⟩))
        all_goals
          go_wp2
          go_end0
          exact ⟨rfl, hfin.out⟩
      · replace hz1 : k = 0 := by omega
        subst hz1
        go_wp2
        go_region_with (first | (go_at_call 43; refine hdel.out.mono ?_; rintro e w2 ⟨base', cap', rfl, d2, g2, hfin⟩))
        all_goals
          go_wp2
          go_end0
          exact ⟨rfl, hfin.out⟩
    · -- one entry more goes
      have hk1 : 0 < k := by omega
      obtain ⟨j, rfl⟩ : ∃ j, k = j + 1 := ⟨k - 1, by omega⟩
      have hj : j < es.length := by omega
      have htk := take_snoc es j hj
      have hsum : total (es.take (j + 1)) = total (es.take j) + esz es[j] := by rw [htk, total_append]; simp [total]
      have hover : most < (total (es.take (j + 1)) : Int) := by omega
      have hkeep' : keepI most es = keepI most (es.take j) := by rw [hkeep, htk, keepI_snoc _ _ _ (by rw [← htk]; exact hover)]
      have hle : total (es.take (j + 1)) ≤ 65536 := by
        have : total (es.take (j + 1)) + total (es.drop (j + 1)) = total es := by rw [← total_append, List.take_append_drop]
        omega
      have hown' := hown
      rcases hown.2 with ⟨h1, hn⟩ | ⟨g, cap', cur, h1, _, hg, _⟩
      · omega
      cases h1
      have hgl : g < wr.heap.size := (Array.getElem?_eq_some_iff.1 hg).1
      have hce := hown.cells (g := g) rfl
      obtain ⟨hg1, hg2⟩ := cellsOf_get es j hj
      have hd1 := hce _ _ hg1
      have hd2 := hce _ _ hg2
      rw [Addr.add_lit, Nat.zero_add] at hd1 hd2
      have hszj : es[j].1.size + es[j].2.size + 32 ≤ 65536 := by have : esz es[j] = es[j].1.size + es[j].2.size + 32 := rfl; omega
      have hsize : Hid (Calls Try.prog 27 #[.agg #[.string es[j].1, .string es[j].2]] wr.drew fun e w2 => e = .returned (.int .i64 ((esz es[j] : Nat) : Int)) ∧ w2.cell? ⟨b, 1, none⟩ = some (.int .i64 (total (es.take (j + 1)) : Int)) ∧ w2.frozen? ⟨b, 1, none⟩ = false ∧
          Hid (ShrinkAt w b mx es (.slice (some ⟨g, 0, none⟩) es.length cap) most j (w2.setCell ⟨b, 1, none⟩ (.int .i64 (total (es.take j) : Int))))) := by
        refine (size_any es[j].1 es[j].2 wr.drew (by omega)).mono ?_
        rintro e w2 ⟨rfl, hb⟩
        have hbl : w2.heap[b]? = _ := (hb.block b (Array.getElem?_eq_some_iff.1 hblk).1).trans hblk
        refine ⟨rfl, (block_cells hbl).2.1, (block_cells hbl).2.2.2.2.1, ⟨by omega, ?_, ?_, hkeep', ?_⟩⟩
        · rw [setCell_block _ _ _ _ _ _ _ hbl]
          rfl
        · exact row_stays (row_stays hown' fun i _ hi => hb.block i hi) fun i hi _ => setCell_other _ _ _ _ _ fun e => hne (by rw [← e]; exact hi.symm)
        · exact (hkept.trans (Kept.of_below (w := wr) ⟨hb.os, hb.tape, hb.output, hb.size, hb.block⟩)).trans ⟨rfl, rfl, rfl, by simp [World.setCell], fun i _ hs => setCell_other _ _ _ _ _ hs⟩
      have hsub : (total (es.take (j + 1)) : Int) - ((esz es[j] : Nat) : Int) = (total (es.take j) : Int) := by omega
      have hj1 : ((j + 1 : Nat) : Int) - 1 = (j : Int) := by omega
      have hwr : Hid (IntKind.i64.wrap (total (es.take j) : Int) = (total (es.take j) : Int)) := wrap_id _ (by omega) (by omega)
      generalize es[j].1 = n1 at hd1 hd2 hsize
      generalize es[j].2 = n2 at hd1 hd2 hsize
      clear hkeep hkeep' hsum hown hown' hce hg1 hg2 hg H0 hkept hblk htk hszj hne
      go_wp2
      go_region_with (first | (go_at_call 27; refine hsize.out.mono ?_; rintro e w2 ⟨rfl, d2, g2, hfin⟩))
      all_goals
        go_wp2
        exact ⟨⟨j, rfl, by rw [hwr.out]; exact hfin.out⟩, by simp [intOf]⟩

end Go.Proofs.Ytlfbnhdcgldopaa
