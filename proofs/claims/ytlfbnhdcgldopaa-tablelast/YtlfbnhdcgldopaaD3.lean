/- TableLast, walked. -/
import Derived.Test.YtlfbnhdcgldopaaD2
namespace Go.Proofs.Ytlfbnhdcgldopaa
open Go.RowKit

/-- The slice v holds the numbers zs. -/
def Nums (W : World) (v : Value) (zs : List Int) : Prop :=
  (v = .slice none 0 0 ∧ zs = []) ∨ ∃ (a : Addr) (cap : Nat), v = .slice (some a) zs.length cap ∧ zs.length ≤ cap ∧ cap ≤ 9223372036854775807 ∧ ∀ j (h : j < zs.length), W.cell? (a.add j) = some (.int .i64 zs[j])

def Whole64 (zs : List Int) : Prop := ∀ z ∈ zs, -9223372036854775808 ≤ z ∧ z ≤ 9223372036854775807

theorem Nums.slice {W : World} {v : Value} {zs : List Int} (h : Nums W v zs) : ∃ base cap, v = .slice base zs.length cap ∧ zs.length ≤ 9223372036854775807 := by
  rcases h with ⟨rfl, rfl⟩ | ⟨a, cap, h1, h2, h3, _⟩
  · exact ⟨none, 0, rfl, by simp⟩
  · exact ⟨_, cap, h1, by omega⟩

theorem spot_of {W : World} {a : Addr} {u : Value} (h : W.cell? a = some u) : a.spot = none := by
  unfold World.cell? at h
  split at h
  · split at h
    · cases h
    · rename_i h1
      simpa using h1
  · cases h

theorem nums_round {w : World} {base : Option Addr} {cap : Nat} {zs : List Int} (H : Nums w (.slice base zs.length cap) zs) (k : Nat) (hk : k < zs.length) :
    ∃ (z : Int) (g off : Nat), zs[k] = z ∧ base = some ⟨g, off, none⟩ ∧ zs.length ≤ cap ∧ cap ≤ 9223372036854775807 ∧ ∀ W, Below w.heap.size w W → W.cell? ⟨g, off + k, none⟩ = some (.int .i64 z) := by
  rcases H with ⟨_, rfl⟩ | ⟨⟨g, off, spot⟩, cap', h1, h2, h3, h5⟩
  · exact absurd hk (by simp)
  · cases h1
    have h0 := h5 0 (by omega)
    have hs : spot = none := by
      have := spot_of h0
      simpa [Addr.add] using this
    subst hs
    have hd := h5 k hk
    rw [Addr.add_lit] at hd
    exact ⟨_, g, off, rfl, rfl, h2, h3, fun W hW => (hW.cell (World.block_lt_of_cell? _ _ hd)).trans hd⟩

set_option maxRecDepth 100000 in
set_option maxHeartbeats 2000000 in
theorem tableLast_any (w : World) (mx : Int) (lv sv mv : Value) (l more : List E) (zs : List Int) (hm0 : -9223372036854775808 ≤ mx) (hm1 : mx ≤ 9223372036854775807)
    (hE : Ents w lv l) (hf : Fine l) (hS : Nums w sv zs) (hz : Whole64 zs) (hE2 : Ents w mv more) (hf2 : Fine more) :
    Calls Try.prog 5 #[.int .i64 mx, lv, sv, mv] w fun e w' => e = .returned (.bool true) ∧ Below w.heap.size w w' := by
  obtain ⟨base, cap, rfl, hl63⟩ := hE.slice
  obtain ⟨sbase, scap, rfl, hs63⟩ := hS.slice
  obtain ⟨mbase, mcap, rfl, hm63⟩ := hE2.slice
  have HE : Hid (Ents w (.slice base l.length cap) l) := hE
  have HS : Hid (Nums w (.slice sbase zs.length scap) zs) := hS
  have HE2 : Hid (Ents w (.slice mbase more.length mcap) more) := hE2
  have hble := boundS_le mx
  clear hE hS hE2
  go_enter Try.func5, Try.ntmps5
  go_wp2_with fail
  refine (head_any w).mono ?_
  rintro e w1 ⟨rfl, hb1⟩
  go_wp2_with fail
  refine (bounded_any mx w1 hm0 hm1).mono ?_
  rintro e w2 ⟨rfl, rfl⟩
  generalize boundS mx = m at hble
  go_wp2_with fail
  refine (new_mine w w2 m hble hb1).mono ?_
  rintro e w3 ⟨rfl, h2, _⟩
  generalize w2.heap.size = b at h2
  clear hb1
  go_wp2_with fail
  go_loopw [12] (fun i wr => ∃ (k : Nat) (v : Value), k ≤ l.length ∧ i = .int .i64 (k : Int) ∧ Mine w b m (keep m (l.take k).reverse) v wr) (fun i _ => l.length - (intOf i).toNat)
  case atStart => exact ⟨0, _, by omega, rfl, h2⟩
  case round =>
    obtain ⟨k, v, hk, rfl, hM⟩ := hrel
    by_cases hlt : k < l.length
    · obtain ⟨y, z, g, off, hy, hbase, hc1, hc2, HC⟩ := ents_round HE.out k hlt
      subst hbase
      obtain ⟨hd1, hd2⟩ := HC wr hM.2.2
      have hadd : Hid (Calls Try.prog 10 #[.pointer (some ⟨b, 0, none⟩), .string y, .string z] wr.drew fun e W' => e = .returned (.tuple #[]) ∧ Hid (∃ v', Mine w b m (keep m (l.take (k + 1)).reverse) v' W')) := add_round hM.drew hlt hf y z hy
      clear HC hy hM
      go_wp2_with fail
      go_region_with (first | (go_at_call 10; refine hadd.out.mono ?_; rintro e w3 ⟨rfl, hfin⟩))
      all_goals
        go_wp2_with fail
        go_roundw
        case rel => obtain ⟨v', hv'⟩ := hfin.out; exact ⟨k + 1, v', by omega, by simp, hv'⟩
        case measure => simp [intOf]; omega
    · obtain rfl : k = l.length := by omega
      rw [List.take_length] at hM
      clear hlt hk
      go_wp2_with fail
      have hMN := hM.below ((Below.refl _ wr).alloc (Nat.le_refl _) (.cells #[] 30))
      refine (last_any _ _ l (HE.out.below hMN.2.2) hf m hble).mono ?_
      rintro e w4 ⟨v', rfl, hE4, hb4⟩
      have hN4 : w4.heap[wr.heap.size]? = some (.cells #[] 30 (0, 0)) := (hb4.block _ (by simp)).trans (heap_alloc_new _ _)
      have hM4 := hMN.below hb4
      rw [← lastS_rev] at hM4
      generalize lastS l m = is at hE4 hM4
      obtain ⟨base', cap', w5, hrun, hSt⟩ := st_fresh hM4 hE4 hN4 hM.2.2.size
      clear hE4 hM4 hN4 hb4 hMN hM
      go_wp2_with (at_builtin; refine Lib.wpList_append_run _ rfl _ _ _ _ rfl _ _ rfl rfl _ _ hrun ?_)
      refine (holds_true w5 b m is v _ hSt.1.1 (ents_of_row hSt.2)).mono ?_
      rintro e w6 ⟨rfl, hb6⟩
      replace hSt := hSt.below hb6
      clear hb6 hrun
      go_wp2_with fail
      go_loopw [9, 13, 14] (fun mo iv i wr => ∃ (k m : Nat) (is : List E) (v : Value) (bb : Option Addr) (cc : Nat), k ≤ zs.length ∧ m ≤ 65536 ∧ mo = .int .i64 (m : Int) ∧ iv = .slice bb is.length cc ∧ i = .int .i64 (k : Int) ∧ St w b m is v (.slice bb is.length cc) wr) (fun _ _ i _ => zs.length - (intOf i).toNat)
      case atStart => exact ⟨0, m, is, v, _, _, by omega, hble, rfl, rfl, rfl, hSt⟩
      case round =>
        clear hSt hble
        obtain ⟨k, m, is, v, bb, cc, hk, hble, rfl, rfl, rfl, hSt⟩ := hrel
        by_cases hlt : k < zs.length
        · obtain ⟨z, g, off, hy, hbase, hc1, hc2, HC⟩ := nums_round HS.out k hlt
          subst hbase
          have hd1 := HC wr hSt.1.2.2
          have hzk := hz z (by rw [← hy]; exact List.getElem_mem _)
          clear HC hy
          go_wp2_with fail
          refine (bounded_any z wr hzk.1 hzk.2).mono ?_
          rintro e w7 ⟨rfl, rfl⟩
          have hble' := boundS_le z
          generalize boundS z = m' at hble'
          clear hzk hd1
          go_wp2_with fail
          refine (resize_good w7 b m is.reverse v hSt.1.1 m' hble').mono ?_
          rintro e w8 ⟨rfl, hch⟩
          have hfi := hSt.1.1.fine
          obtain ⟨v8, hM8, hrow8⟩ := hSt.changed hch
          clear hch hSt
          go_wp2_with fail
          refine (max_any w8 b m' _ v8 hM8.1).mono ?_
          rintro e w9 ⟨rfl, rfl⟩
          go_wp2_with fail
          have hMN := hM8.below ((Below.refl _ w9).alloc (Nat.le_refl _) (.cells #[] 30))
          refine (last_any _ _ is (ents_of_row (hrow8.alloc _)) hfi.1 m' hble').mono ?_
          rintro e w10 ⟨v', rfl, hE10, hb10⟩
          have hN10 : w10.heap[w9.heap.size]? = some (.cells #[] 30 (0, 0)) := (hb10.block _ (by simp)).trans (heap_alloc_new _ _)
          have hM10 := hMN.below hb10
          rw [← lastS_rev] at hM10
          generalize lastS is m' = is' at hE10 hM10
          obtain ⟨base', cap', w11, hrun, hSt⟩ := st_fresh hM10 hE10 hN10 hM8.2.2.size
          clear hE10 hM10 hN10 hb10 hMN hM8 hrow8 hfi
          go_wp2_with (at_builtin; refine Lib.wpList_append_run _ rfl _ _ _ _ rfl _ _ rfl rfl _ _ hrun ?_)
          refine (holds_true w11 b m' is' v8 _ hSt.1.1 (ents_of_row hSt.2)).mono ?_
          rintro e w12 ⟨rfl, hb12⟩
          replace hSt := hSt.below hb12
          clear hb12 hrun
          go_wp2_with fail
          go_roundw
          case rel => exact ⟨k + 1, m', is', v8, _, _, by omega, hble', rfl, rfl, by simp, hSt⟩
          case measure => simp [intOf]; omega
        · obtain rfl : k = zs.length := by omega
          clear hlt hk
          go_wp2_with fail
          go_loopw [13, 15] (fun iv i wr => ∃ (k : Nat) (is : List E) (v : Value) (bb : Option Addr) (cc : Nat), k ≤ more.length ∧ iv = .slice bb is.length cc ∧ i = .int .i64 (k : Int) ∧ St w b m is v (.slice bb is.length cc) wr) (fun _ i _ => more.length - (intOf i).toNat)
          case atStart => exact ⟨0, is, v, _, _, by omega, rfl, rfl, hSt⟩
          case round =>
            clear hSt
            obtain ⟨k, is, v, bb, cc, hk, rfl, rfl, hSt⟩ := hrel
            by_cases hlt : k < more.length
            · obtain ⟨y, z, g, off, hy, hbase, hc1, hc2, HC⟩ := ents_round HE2.out k hlt
              subst hbase
              obtain ⟨hd1, hd2⟩ := HC wr hSt.1.2.2
              have hfe := hf2 _ (List.getElem_mem hlt)
              rw [hy] at hfe
              have hadd : Hid (Calls Try.prog 10 #[.pointer (some ⟨b, 0, none⟩), .string y, .string z] wr.drew fun e W' => e = .returned (.tuple #[]) ∧ W'.cell? ⟨g, off + k * 2, none⟩ = some (.string y) ∧ W'.cell? ⟨g, off + k * 2 + 1, none⟩ = some (.string z) ∧ Hid (∃ v', Mine w b m (keep m ((y, z) :: is.reverse)) v' W' ∧ W'.ownsRow w.heap.size 30 2 (.slice bb is.length cc) is.length (cellsOf is))) := by
                refine (add_any wr.drew b m is.reverse v hSt.1.drew.1 y z hfe).mono ?_
                rintro e W' ⟨rfl, hch⟩
                obtain ⟨v', hm', hr'⟩ := (hSt.below (W' := wr.drew) ⟨rfl, rfl, rfl, Nat.le_refl _, fun _ _ => rfl⟩).changed hch
                exact ⟨rfl, (HC W' hm'.2.2).1, (HC W' hm'.2.2).2, v', hm', hr'⟩
              have hfi := hSt.1.1.fine
              replace hfe : Hid (y.size + z.size + 32 ≤ 4611686018427387904) := hfe
              clear HC hy hSt
              go_wp2_with fail
              go_region_with (first | (go_at_call 10; refine hadd.out.mono ?_; clear hd1 hd2; rintro e w3 ⟨rfl, hd1, hd2, hfin⟩))
              all_goals
                obtain ⟨v3, hM3, hrow3⟩ := hfin.out
                have hgl : g < w3.heap.size := World.block_lt_of_cell? _ _ hd1
                obtain ⟨v4, w4, hrunA, hE4, hM4, hN4⟩ := append_one y z hM3 hrow3 hfi.2
                have hfy : Fine (is ++ [(y, z)]) := fun e he => by
                  rcases List.mem_append.1 he with h1 | h1
                  · exact hfi.1 e h1
                  · rw [List.mem_singleton.1 h1]; exact hfe.out
                have hNw := hM3.2.2.size
                clear hfin hrow3
                go_wp2_with (at_builtin; refine Lib.wpList_append_run _ rfl _ _ _ _ rfl _ _ rfl rfl _ _ hrunA ?_)
                refine (last_any w4 v4 _ hE4 hfy m hble).mono ?_
                rintro e w5 ⟨v5, rfl, hE5, hb5⟩
                have hN5 : w5.heap[w3.heap.size]? = some (.cells #[] 30 (0, 0)) := (hb5.block _ (Array.getElem?_eq_some_iff.1 hN4).1).trans hN4
                have hM5 := hM4.below hb5
                have hrev : keep m ((y, z) :: is.reverse) = (lastS (is ++ [(y, z)]) m).reverse := by rw [lastS_rev, List.reverse_append]; rfl
                have htk : total (lastS (is ++ [(y, z)]) m).reverse ≤ m := by rw [← hrev]; exact total_keep _ _
                rw [hrev] at hM5
                clear hrev hM4 hE4 hN4 hb5 hM3
                generalize lastS (is ++ [(y, z)]) m = is' at hE5 hM5 htk
                obtain ⟨base', cap', w6, hrun, hSt⟩ := st_fresh hM5 hE5 hN5 hNw
                clear hE5 hM5 hN5 hrunA hfy
                go_wp2_with (at_builtin; refine Lib.wpList_append_run _ rfl _ _ _ _ rfl _ _ rfl rfl _ _ hrun ?_)
                refine (holds_true w6 b m is' v3 _ hSt.1.1 (ents_of_row hSt.2)).mono ?_
                rintro e w7 ⟨rfl, hb7⟩
                replace hSt := hSt.below hb7
                clear hb7 hrun
                go_wp2_with fail
                refine (tsize_any w7 b m is'.reverse v3 hSt.1.1).mono ?_
                rintro e w8 ⟨rfl, rfl⟩
                have htk' : ¬ (m : Int) < (total is'.reverse : Int) := by omega
                go_wp2_with fail
                go_roundw
                case rel => exact ⟨k + 1, is', v3, _, _, by omega, rfl, by simp, hSt⟩
                case measure => simp [intOf]; omega
            · obtain rfl : k = more.length := by omega
              have hB := hSt.1.2.2
              clear hSt
              go_wp2_with fail
              go_ret
              exact ⟨rfl, hB⟩

end Go.Proofs.Ytlfbnhdcgldopaa
