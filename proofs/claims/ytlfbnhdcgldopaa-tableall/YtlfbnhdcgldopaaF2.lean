/- shrunk: the newest entries that fit. -/
import Derived.Test.YtlfbnhdcgldopaaF1
namespace Go.Proofs.Ytlfbnhdcgldopaa
open Go.RowKit

/-- append(m, e) on a row of its own, e in a block of its own. -/
theorem rappend_one (W : World) (b0 : Nat) (hb0 : b0 ≤ W.heap.size) (v : Value) (l : List E) (x y : ByteArray) (hrow : W.ownsRow b0 82 2 v l.length (cellsOf l)) (hlen : l.length ≤ 100000) :
    ∃ bb cc w', (Builtin.append_ #[73, 73] 73 #[v, .slice (some ⟨W.heap.size, 0, none⟩) 1 1]).run Try.prog (W.alloc (.cells #[.string x, .string y] 82)) = .ok (.slice bb (l.length + 1) cc) w' ∧ w'.ownsRow b0 82 2 (.slice bb (l.length + 1) cc) (l ++ [(x, y)]).length (cellsOf (l ++ [(x, y)])) ∧ Below b0 W w' := by
  obtain ⟨i0, hi0, hz0, hz1, hz2⟩ := info_parts info82
  have hv : (W.alloc (.cells #[.string x, .string y] 82)).heap[W.heap.size]? = some (.cells #[.string x, .string y] 82 (0, 0)) := heap_alloc_new _ _
  have hrow1 := hrow.alloc (.cells #[.string x, .string y] 82)
  obtain ⟨v', w', hrun, ho, hg, _⟩ := run_append_own (P := Try.prog) _ b0 73 73 82 i0 _ 2 32 Try.underlying73 hi0 hz0 hz1 hz2 rfl (by omega) v l.length (cellsOf l) hrow1 ⟨W.heap.size, 0, none⟩ 1 1 [.string x, .string y] rfl (fun j u hu => by
      rw [Addr.add_lit, cell_of_row _ _ _ _ _ _ hv, Nat.zero_add]
      simpa using hu) (by simp [Value.oneCell']) (by unfold maxLen; omega) (by omega) (by simp; omega)
  obtain ⟨bb, cc, rfl⟩ := row_slice ho
  have hcell : cellsOf l ++ [.string x, .string y] = cellsOf (l ++ [(x, y)]) := by rw [cellsOf_append]; rfl
  rw [hcell] at ho
  refine ⟨bb, cc, w', hrun, by rw [List.length_append]; exact ho, ?_⟩
  exact (((Below.refl _ W).alloc (Nat.le_refl _) _).mono hb0).grown hg (by simp; omega) fun k hk => (hrow.lt k hk).1

set_option maxRecDepth 100000 in
set_option maxHeartbeats 1000000 in
theorem shrunk_any (w : World) (v : Value) (l : List E) (hE : REnts w v l) (hlen : l.length ≤ 100000) (htot : total l ≤ 4611686018427387904) (m : Nat) (_hm : m ≤ 65536) :
    Calls Try.prog 50 #[v, .int .i64 (m : Int)] w fun e w' => ∃ bb cc, e = .returned (.slice bb (keep m l).length cc) ∧ w'.ownsRow w.heap.size 82 2 (.slice bb (keep m l).length cc) (keep m l).length (cellsOf (keep m l)) ∧ Below w.heap.size w w' := by
  obtain ⟨base, cap, rfl⟩ := hE.slice
  have HE : Hid (∀ W, Below w.heap.size w W → REnts W (.slice base l.length cap) l) := fun W hW => hE.below hW
  clear hE
  go_enter Try.func50, Try.ntmps50
  go_wp2
  go_loopw [5] (fun x wr => ∃ k : Nat, k ≤ l.length ∧ x = .int .i64 (k : Int) ∧ keep m l = keep m (l.take k) ∧ Below w.heap.size w wr) (fun x _ => (intOf x).toNat)
  case atStart => exact ⟨l.length, by omega, rfl, by rw [List.take_length], Below.refl _ _⟩
  case round =>
    obtain ⟨k, hk, rfl, hkeep, hB⟩ := hrel
    by_cases hz : k = 0 ∨ total (l.take k) ≤ m
    · have hend : keep m l = l.take k := by
        rw [hkeep]
        rcases hz with rfl | hz
        · rw [List.take_zero]; rfl
        · exact keep_whole _ _ hz
      have hfin : Hid (∀ (W : World) (bb : Option Addr) (cc : Nat), W.ownsRow w.heap.size 82 2 (.slice bb k cc) (l.take k).length (cellsOf (l.take k)) → Below w.heap.size w W → ∃ b3 c3, Value.slice bb k cc = .slice b3 (keep m l).length c3 ∧ W.ownsRow w.heap.size 82 2 (.slice b3 (keep m l).length c3) (keep m l).length (cellsOf (keep m l)) ∧ Below w.heap.size w W) := fun W bb cc h1 h2 => by
        have hlk : (l.take k).length = k := by rw [List.length_take]; omega
        rw [hend, hlk]
        rw [hlk] at h1
        exact ⟨bb, cc, rfl, h1, h2⟩
      have hsum : 0 < k → Hid (∃ g, base = some ⟨g, 0, none⟩ ∧ l.length ≤ cap ∧ cap ≤ 9223372036854775807 ∧ Calls Try.prog 52 #[.slice base k cap] wr fun e w' => e = .returned (.int .i64 (total (l.take k) : Int)) ∧ Below w.heap.size w w') := fun h => by
        obtain ⟨g, h1, h2, h3, _⟩ := (HE.out wr hB).at 0 (by omega)
        refine ⟨g, h1, h2, h3, ?_⟩
        refine (rsum_any wr _ (l.take k) ?_ (by rw [List.length_take]; omega) ?_).mono ?_
        · exact (HE.out wr hB).take k hk
        · have : total (l.take k) + total (l.drop k) = total l := by rw [← total_append, List.take_append_drop]
          omega
        · rintro e w' ⟨rfl, hb⟩
          exact ⟨rfl, hB.trans (hb.mono hB.size)⟩
      clear hend hkeep
      by_cases h0 : k = 0
      · subst h0
        clear hsum hz
        go_wp2
        go_loopw [6, 7] (fun iv i wr => ∃ (j : Nat) (bb : Option Addr) (cc : Nat), j ≤ 0 ∧ iv = .slice bb j cc ∧ i = .int .i64 (j : Int) ∧ wr.ownsRow w.heap.size 82 2 (.slice bb j cc) (l.take j).length (cellsOf (l.take j)) ∧ Below w.heap.size w wr) (fun _ i _ => 0 - (intOf i).toNat)
        case atStart => exact ⟨0, none, 0, by omega, rfl, rfl, World.ownsRow_nil _ _ _ _, hB⟩
        case round =>
          clear hB
          obtain ⟨j, bb, cc, hj, rfl, rfl, hrow, hB⟩ := hrel
          by_cases hlt : j < 0
          · exact absurd hlt (by omega)
          · obtain rfl : j = 0 := by omega
            have hf := hfin.out _ _ _ hrow hB
            replace hf : Hid _ := hf
            clear hrow
            go_wp2
            go_ret
            obtain ⟨b3, c3, e1, e2, e3⟩ := hf.out
            exact ⟨b3, c3, by rw [← e1]; rfl, e2, e3⟩
      · replace hz : ¬ (m : Int) < (total (l.take k) : Int) := by omega
        obtain ⟨g, rfl, hc1, hc2, hcall⟩ := (hsum (by omega)).out
        have hcall' : Hid (Calls Try.prog 52 #[.slice (some ⟨g, 0, none⟩) k cap] wr fun e w' => e = .returned (.int .i64 (total (l.take k) : Int)) ∧ Below w.heap.size w w') := hcall
        have hkc : k ≤ cap := by omega
        have hk0 : 0 < k := by omega
        clear hsum hcall hB
        generalize total (l.take k) = T at hcall' hz
        go_wp2_with (go_at_call 52; refine hcall'.out.mono ?_; rintro e w2 ⟨rfl, hB⟩)
        rw [show decide (m < T) = false from decide_eq_false (by omega)]
        go_loopw [6, 7] (fun iv i wr => ∃ (j : Nat) (bb : Option Addr) (cc : Nat), j ≤ k ∧ iv = .slice bb j cc ∧ i = .int .i64 (j : Int) ∧ wr.ownsRow w.heap.size 82 2 (.slice bb j cc) (l.take j).length (cellsOf (l.take j)) ∧ Below w.heap.size w wr) (fun _ i _ => k - (intOf i).toNat)
        case atStart => exact ⟨0, none, 0, by omega, rfl, rfl, World.ownsRow_nil _ _ _ _, hB⟩
        case round =>
          clear hB
          obtain ⟨j, bb, cc, hj, rfl, rfl, hrow, hB⟩ := hrel
          by_cases hlt : j < k
          · obtain ⟨x, y, g', hx, hbase, hc1, hc2, hd1, hd2⟩ : ∃ (x y : ByteArray) (g' : Nat), l[j] = (x, y) ∧ some (⟨g, 0, none⟩ : Addr) = some ⟨g', 0, none⟩ ∧ l.length ≤ cap ∧ cap ≤ 9223372036854775807 ∧ wr.cell? ⟨g', j * 2, none⟩ = some (.string x) ∧ wr.cell? ⟨g', j * 2 + 1, none⟩ = some (.string y) := by
              obtain ⟨g', h1, h2, h3, h4, h5⟩ := (HE.out wr hB).at j (by omega)
              exact ⟨_, _, g', rfl, h1, h2, h3, h4, h5⟩
            cases hbase
            have hlj : (l.take j).length = j := by rw [List.length_take]; omega
            obtain ⟨b2, c2, w2, hrun, ho, hb2⟩ := rappend_one wr w.heap.size hB.size (.slice bb j cc) (l.take j) x y hrow (by omega)
            rw [hlj] at hrun ho
            have htk : l.take j ++ [(x, y)] = l.take (j + 1) := by rw [take_snoc l j (by omega), hx]
            rw [htk] at ho
            have hjl : (j : Int) < (l.length : Int) := by omega
            have hfin2 : Hid (∃ (j' : Nat) (bb : Option Addr) (cc : Nat), j' ≤ k ∧ Value.slice b2 (j + 1) c2 = .slice bb j' cc ∧ Value.int .i64 ((j : Int) + 1) = .int .i64 (j' : Int) ∧ w2.ownsRow w.heap.size 82 2 (.slice bb j' cc) (l.take j').length (cellsOf (l.take j')) ∧ Below w.heap.size w w2) := ⟨j + 1, b2, c2, by omega, rfl, by simp, ho, hB.trans hb2⟩
            clear ho hrow hb2 htk hlj hx
            go_wp2_with (at_builtin; refine Lib.wpList_append_run _ rfl _ _ _ _ rfl _ _ rfl rfl _ _ hrun ?_)
            go_roundw
            case rel => exact hfin2.out
            case measure => simp [intOf]; omega
          · obtain rfl : j = k := by omega
            have hf := hfin.out _ _ _ hrow hB
            replace hf : Hid _ := hf
            clear hrow
            go_wp2
            go_ret
            obtain ⟨b3, c3, e1, e2, e3⟩ := hf.out
            exact ⟨b3, c3, by rw [← e1]; rfl, e2, e3⟩
    · -- one entry less
      obtain ⟨j, rfl⟩ : ∃ j, k = j + 1 := ⟨k - 1, by omega⟩
      have hover : m < total (l.take (j + 1)) := by omega
      have hnext : keep m l = keep m (l.take j) := by
        rw [hkeep, take_snoc l j (by omega)]
        rw [take_snoc l j (by omega)] at hover
        exact keep_snoc _ _ _ hover
      obtain ⟨g, hbase, hc1, hc2, _⟩ := (HE.out wr hB).at 0 (by omega)
      subst hbase
      have hcall : Hid (Calls Try.prog 52 #[.slice (some ⟨g, 0, none⟩) (j + 1) cap] wr fun e w' => e = .returned (.int .i64 (total (l.take (j + 1)) : Int)) ∧ Hid (Below w.heap.size w w')) := by
        refine (rsum_any wr _ (l.take (j + 1)) ?_ (by rw [List.length_take]; omega) ?_).mono ?_
        · exact (HE.out wr hB).take (j + 1) hk
        · have : total (l.take (j + 1)) + total (l.drop (j + 1)) = total l := by rw [← total_append, List.take_append_drop]
          omega
        · rintro e w' ⟨rfl, hb⟩
          exact ⟨rfl, hB.trans (hb.mono hB.size)⟩
      have hov : (m : Int) < (total (l.take (j + 1)) : Int) := by omega
      have hj1 : ((j + 1 : Nat) : Int) - 1 = (j : Int) := by omega
      have hj2 : ((j + 1 : Nat) : Int) ≤ (l.length : Int) := by omega
      generalize total (l.take (j + 1)) = T at hcall hov
      replace hnext : Hid (keep m l = keep m (l.take j)) := hnext
      clear hkeep hover hz hB
      go_wp2_with (go_at_call 52; refine hcall.out.mono ?_; rintro e w2 ⟨rfl, hB⟩)
      exact ⟨⟨j, by omega, rfl, hnext.out, hB.out⟩, by simp [intOf]⟩

end Go.Proofs.Ytlfbnhdcgldopaa
