/- TableFixed, walked. -/
import Derived.Test.YtlfbnhdcgldopaaC4
namespace Go.Proofs.Ytlfbnhdcgldopaa
open Go.RowKit

def fixedAt (k : Nat) : E := fixedL[k]?.getD (⟨#[]⟩, ⟨#[]⟩)
def nsum : Nat → Nat
  | 0 => 0
  | k + 1 => nsum k + (fixedAt k).1.size
def vsum : Nat → Nat
  | 0 => 0
  | k + 1 => vsum k + (fixedAt k).2.size

theorem nsum_all : nsum 61 = 622 := by kernel_rfl
theorem vsum_all : vsum 61 = 62 := by kernel_rfl

theorem fixed_found : (List.range 61).all (fun k => decide (findS fixedL 61 (fixedAt k).1 (fixedAt k).2 = (k + 1, true)) && !(fixedAt k).1.toList.isEmpty && decide ((fixedAt k).1.size ≤ 100) && decide ((fixedAt k).2.size ≤ 100)) = true := by kernel_rfl

theorem upto_fixed (es : List E) : upto (fixedL ++ es) 61 = upto fixedL 61 := by
  unfold upto
  apply List.map_congr_left
  intro k hk
  have hk' : k < 61 := List.mem_range.1 hk
  unfold it
  have h : (fixedL ++ es)[k]? = fixedL[k]? := List.getElem?_append_left (by rw [show fixedL.length = 61 from rfl]; exact hk')
  simp only [h]

theorem findS_fixed (es : List E) (N : Nat) (hN : 61 ≤ N) (n x : ByteArray) (k : Nat) (h : findS fixedL 61 n x = (k, true)) : findS (fixedL ++ es) N n x = (k, true) := by
  obtain ⟨t, ht⟩ := upto_prefix (fixedL ++ es) 61 N hN
  rw [upto_fixed] at ht
  unfold findS at h ⊢
  rw [← ht, List.find?_append]
  split at h
  · rename_i y hy
    rw [hy]
    exact h
  · simp at h

theorem fixed_fact (k : Nat) (hk : k < 61) : findS fixedL 61 (fixedAt k).1 (fixedAt k).2 = (k + 1, true) ∧ (fixedAt k).1.toList.isEmpty = false ∧ (fixedAt k).1.size ≤ 100 ∧ (fixedAt k).2.size ≤ 100 := by
  have := List.all_eq_true.1 fixed_found k (List.mem_range.2 hk)
  simp at this
  obtain ⟨⟨⟨h1, h2⟩, h3⟩, h4⟩ := this
  exact ⟨h1, by simpa using h2, h3, h4⟩

theorem fixed_get (es : List E) (k : Nat) (hk : k < 61) : (fixedL ++ es)[k]? = some (fixedAt k) := by
  rw [List.getElem?_append_left (by rw [show fixedL.length = 61 from rfl]; exact hk)]
  unfold fixedAt
  rw [List.getElem?_eq_getElem (by rw [show fixedL.length = 61 from rfl]; exact hk)]
  rfl

/-- At of a fixed index. -/
theorem at_fixed {w : World} {b m : Nat} {es : List E} {v : Value} {W : World} (hM : Mine w b m es v W) (k : Nat) (hk : k < 61) :
    Calls Try.prog 13 #[.pointer (some ⟨b, 0, none⟩), .int .i64 ((k : Int) + 1)] W fun r w' => r = .returned (.tuple #[.string (fixedAt k).1, .string (fixedAt k).2, .int .i64 0]) ∧ Mine w b m es v w' := by
  have hsm := hM.1.small k _ (fixed_get es k hk)
  have h := at_good W b m es v hM.1 (k + 1) (fixedAt k) (by omega) (fixed_get es k hk) hsm.1 hsm.2
  rw [show ((k + 1 : Nat) : Int) = (k : Int) + 1 by omega] at h
  refine h.mono ?_
  rintro r w' ⟨rfl, hb⟩
  exact ⟨rfl, hM.below hb⟩

theorem find_fixed {w : World} {b m : Nat} {es : List E} {v : Value} {W : World} (hM : Mine w b m es v W) (n x : ByteArray) (k : Nat) (h : findS fixedL 61 n x = (k + 1, true)) :
    Calls Try.prog 11 #[.pointer (some ⟨b, 0, none⟩), .string n, .string x] W fun r w' => r = .returned (.tuple #[.int .i64 ((k : Int) + 1), .bool true]) ∧ Mine w b m es v w' := by
  refine (find_any W b m es v hM.1 n x).mono ?_
  rw [findS_fixed es (61 + es.length) (by omega) n x (k + 1) h]
  rintro r w' ⟨rfl, hb⟩
  exact ⟨by simp, hM.below hb⟩

set_option maxRecDepth 100000 in
set_option maxHeartbeats 2000000 in
theorem tableFixed_any (w : World) (lv : Value) (l : List E) (hE : Ents w lv l) (hf : Fine l) :
    Calls Try.prog 4 #[lv] w fun e w' => e = .returned (.bool true) ∧ Below w.heap.size w w' := by
  obtain ⟨base, cap, rfl, hl63⟩ := hE.slice
  have HE : Hid (Ents w (.slice base l.length cap) l) := hE
  clear hE
  go_enter Try.func4, Try.ntmps4
  go_wp2_with fail
  refine (head_any w).mono ?_
  rintro e w1 ⟨rfl, hb1⟩
  go_wp2_with fail
  refine (new_mine w w1 4096 (by omega) hb1).mono ?_
  rintro e w2 ⟨rfl, h2, _⟩
  generalize w1.heap.size = b at h2
  go_wp2_with fail
  go_loopw [5] (fun i wr => ∃ (k : Nat) (v : Value), k ≤ l.length ∧ i = .int .i64 (k : Int) ∧ Mine w b 4096 (keep 4096 (l.take k).reverse) v wr) (fun i _ => l.length - (intOf i).toNat)
  case atStart => exact ⟨0, _, by omega, rfl, h2⟩
  case round =>
    obtain ⟨k, v, hk, rfl, hM⟩ := hrel
    by_cases hlt : k < l.length
    · obtain ⟨y, z, g, off, hy, hbase, hc1, hc2, HC⟩ := ents_round HE.out k hlt
      subst hbase
      obtain ⟨hd1, hd2⟩ := HC wr hM.2.2
      have hadd : Hid (Calls Try.prog 10 #[.pointer (some ⟨b, 0, none⟩), .string y, .string z] wr.drew fun e W' => e = .returned (.tuple #[]) ∧ Hid (∃ v', Mine w b 4096 (keep 4096 (l.take (k + 1)).reverse) v' W')) := add_round hM.drew hlt hf y z hy
      clear HC hy hM
      go_wp2_with fail
      go_region_with (first | (go_at_call 10; refine hadd.out.mono ?_; rintro e w3 ⟨rfl, hfin⟩))
      all_goals
        go_wp2_with fail
        go_roundw
        case rel => obtain ⟨v', hv'⟩ := hfin.out; exact ⟨k + 1, v', by omega, by simp, hv'⟩
        case measure => simp [intOf]; omega
    · obtain rfl : k = l.length := by omega
      rw [List.take_length] at hM
      generalize keep 4096 l.reverse = es at hM
      go_wp2_with fail
      go_loopw [6, 7, 8] (fun f s i wr => ∃ k : Nat, k ≤ 61 ∧ f = .int .i64 (nsum k : Int) ∧ s = .int .i64 (vsum k : Int) ∧ i = .int .i64 ((k : Int) + 1) ∧ nsum k ≤ k * 100 ∧ vsum k ≤ k * 100 ∧ Mine w b 4096 es v wr) (fun _ _ i _ => 62 - (intOf i).toNat)
      case atStart => exact ⟨0, by omega, rfl, rfl, rfl, by simp [nsum], by simp [vsum], hM⟩
      case round =>
        clear hM
        obtain ⟨k, hk, rfl, rfl, rfl, hn1, hn2, hM⟩ := hrel
        by_cases hlt : k < 61
        · obtain ⟨hfs, hne, hs1, hs2⟩ := fixed_fact k hlt
          have hat : Hid (Calls Try.prog 13 #[.pointer (some ⟨b, 0, none⟩), .int .i64 ((k : Int) + 1)] wr fun r w' => r = .returned (.tuple #[.string (fixedAt k).1, .string (fixedAt k).2, .int .i64 0]) ∧ Mine w b 4096 es v w') := at_fixed hM k hlt
          have hfd : Hid (∀ W, Mine w b 4096 es v W → Calls Try.prog 11 #[.pointer (some ⟨b, 0, none⟩), .string (fixedAt k).1, .string (fixedAt k).2] W fun r w' => r = .returned (.tuple #[.int .i64 ((k : Int) + 1), .bool true]) ∧ Mine w b 4096 es v w') := fun W hW => find_fixed hW _ _ k hfs
          have hfin : Hid (∀ W, Mine w b 4096 es v W → ∃ k' : Nat, k' ≤ 61 ∧ Value.int .i64 ((nsum k : Int) + ((fixedAt k).1.size : Int)) = .int .i64 (nsum k' : Int) ∧ Value.int .i64 ((vsum k : Int) + ((fixedAt k).2.size : Int)) = .int .i64 (vsum k' : Int) ∧ Value.int .i64 ((k : Int) + 1 + 1) = .int .i64 ((k' : Int) + 1) ∧ nsum k' ≤ k' * 100 ∧ vsum k' ≤ k' * 100 ∧ Mine w b 4096 es v W) :=
            fun W hW => ⟨k + 1, by omega, by simp [nsum], by simp [vsum], by simp, by simp only [nsum]; omega, by simp only [vsum]; omega, hW⟩
          have hle : (k : Int) + 1 ≤ 61 := by omega
          clear hfs hM
          generalize fixedAt k = f at *
          go_wp2_with (first | (go_at_call 13; refine hat.out.mono ?_; rintro e w2 ⟨rfl, hM⟩) | (go_at_call 11; refine (hfd.out _ hM).mono ?_; clear hM; rintro e w2 ⟨rfl, hM⟩))
          exact ⟨hfin.out _ hM, by simp [intOf]; omega⟩
        · obtain rfl : k = 61 := by omega
          rw [nsum_all, vsum_all]
          clear hn1 hn2
          go_wp2_with fail
          refine (show Calls Try.prog 13 #[.pointer (some ⟨b, 0, none⟩), .int .i64 1] wr _ from at_fixed hM 0 (by omega)).mono ?_
          rw [show fixedAt 0 = (⟨#[58, 97, 117, 116, 104, 111, 114, 105, 116, 121]⟩, ⟨#[]⟩) from rfl]
          clear hM
          rintro e w3 ⟨rfl, hM⟩
          go_wp2_with fail
          refine (show Calls Try.prog 13 #[.pointer (some ⟨b, 0, none⟩), .int .i64 5] w3 _ from at_fixed hM 4 (by omega)).mono ?_
          rw [show fixedAt 4 = (⟨#[58, 112, 97, 116, 104]⟩, ⟨#[47, 105, 110, 100, 101, 120, 46, 104, 116, 109, 108]⟩) from rfl]
          clear hM
          rintro e w4 ⟨rfl, hM⟩
          go_wp2_with fail
          refine (show Calls Try.prog 13 #[.pointer (some ⟨b, 0, none⟩), .int .i64 16] w4 _ from at_fixed hM 15 (by omega)).mono ?_
          rw [show fixedAt 15 = (⟨#[97, 99, 99, 101, 112, 116, 45, 101, 110, 99, 111, 100, 105, 110, 103]⟩, ⟨#[103, 122, 105, 112, 44, 32, 100, 101, 102, 108, 97, 116, 101]⟩) from rfl]
          clear hM
          rintro e w5 ⟨rfl, hM⟩
          go_wp2_with fail
          refine (show Calls Try.prog 13 #[.pointer (some ⟨b, 0, none⟩), .int .i64 61] w5 _ from at_fixed hM 60 (by omega)).mono ?_
          rw [show fixedAt 60 = (⟨#[119, 119, 119, 45, 97, 117, 116, 104, 101, 110, 116, 105, 99, 97, 116, 101]⟩, ⟨#[]⟩) from rfl]
          clear hM
          rintro e w6 ⟨rfl, hM⟩
          go_wp2_with fail
          refine (add_mine hM ⟨#[58, 115, 116, 97, 116, 117, 115]⟩ ⟨#[52, 48, 52]⟩ (by decide)).mono ?_
          clear hM
          rintro e w7 ⟨rfl, v7, hM⟩
          rw [keep, if_pos (by decide)] at hM
          generalize keep _ es = es7 at hM
          go_wp2_with fail
          refine (find_fixed hM ⟨#[58, 115, 116, 97, 116, 117, 115]⟩ ⟨#[52, 48, 52]⟩ 12 (by kernel_rfl)).mono ?_
          rw [show ((12 : Nat) : Int) + 1 = 13 from rfl]
          clear hM
          rintro e w8 ⟨rfl, hM⟩
          go_wp2_with fail
          refine (at_good w8 b 4096 _ v7 hM.1 62 (⟨#[58, 115, 116, 97, 116, 117, 115]⟩, ⟨#[52, 48, 52]⟩) (by omega) (by rw [List.getElem?_append_right (by rw [show fixedL.length = 61 from rfl]; omega)]; rfl) (by decide) (by decide)).mono ?_
          rintro e w9 ⟨rfl, hb9⟩
          replace hM := hM.below hb9
          clear hb9
          go_wp2_with fail
          refine (at_bad w9 b 4096 _ v7 hM.1 0 (.inl (by omega))).mono ?_
          rintro e w10 ⟨rfl, rfl⟩
          have hB := hM.2.2
          clear hM
          go_wp2_with fail
          go_ret
          exact ⟨rfl, hB⟩

end Go.Proofs.Ytlfbnhdcgldopaa
