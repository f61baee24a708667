/- The document's table (heraldref04): its small functions. -/
import Derived.Test.YtlfbnhdcgldopaaC4
import Derived.Lib.JoinLaws
namespace Go.Proofs.Ytlfbnhdcgldopaa
open Go.RowKit

theorem info82 : (Try.prog.info? 82).map (fun i => (i.zero, i.size, i.bytes)) = some (some (.agg #[.string ⟨#[]⟩, .string ⟨#[]⟩]), 2, 32) := by kernel_rfl

set_option maxHeartbeats 400000 in
theorem good_any (a : Int) (w : World) :
    Calls Try.prog 48 #[.int .i64 a] w fun e w' => e = .returned (.bool (decide (0 ≤ a ∧ a ≤ 65536))) ∧ w' = w := by
  by_cases h1 : 0 ≤ a <;> by_cases h2 : a ≤ 65536
  all_goals
    go_enter Try.func48, Try.ntmps48
    go_wp2
    go_ret
    exact ⟨by simp [h1, h2], rfl⟩

set_option maxHeartbeats 400000 in
theorem rsize_any (n v : ByteArray) (w : World) (h : n.size + v.size + 32 ≤ 9223372036854775807) :
    Calls Try.prog 49 #[.agg #[.string n, .string v]] w fun e w' => e = .returned (.int .i64 ((esz (n, v) : Nat) : Int)) ∧ Below w.heap.size w w' := by
  obtain ⟨k, hk⟩ : ∃ k : Nat, k = esz (n, v) := ⟨_, rfl⟩
  rw [← hk]
  have h1 : (n.size : Int) + (v.size : Int) + 32 = (k : Int) := by rw [hk]; simp [esz]
  clear hk
  go_enter Try.func49, Try.ntmps49
  go_wp2
  go_ret
  exact ⟨rfl, (Below.refl _ _).alloc (Nat.le_refl _) _⟩

/-- Block b holds the document's table. -/
def RTab (w : World) (b mx : Nat) (es : List E) (v : Value) : Prop :=
  mx ≤ 65536 ∧ total es ≤ 65536 ∧ w.heap[b]? = some (.cells #[.int .i64 (mx : Int), v] 75 (0, 0)) ∧ w.ownsRow 0 82 2 v es.length (cellsOf es)

theorem rtab_cells {w : World} {b : Nat} {x y : Value} (h : w.heap[b]? = some (.cells #[x, y] 75 (0, 0))) :
    w.cell? ⟨b, 0, none⟩ = some x ∧ w.cell? ⟨b, 1, none⟩ = some y ∧ w.frozen? ⟨b, 0, none⟩ = false ∧ w.frozen? ⟨b, 1, none⟩ = false := by
  refine ⟨by simp [World.cell?, h], by simp [World.cell?, h], ?_, ?_⟩
  all_goals simp [World.frozen?, h]

theorem RTab.len {w : World} {b mx : Nat} {es : List E} {v : Value} (h : RTab w b mx es v) : es.length ≤ 2048 := by
  have := length_total es
  have := h.2.1
  omega

theorem RTab.lt {w : World} {b mx : Nat} {es : List E} {v : Value} (h : RTab w b mx es v) : b < w.heap.size := (Array.getElem?_eq_some_iff.1 h.2.2.1).1

theorem RTab.row_ne {w : World} {b mx : Nat} {es : List E} {v : Value} (h : RTab w b mx es v) : ∀ k, v.ownBlock = some k → k ≠ b := by
  intro k hk e
  subst e
  rcases h.2.2.2.2 with ⟨rfl, _⟩ | ⟨g, cap, cur, rfl, _, hg, _⟩
  · cases hk
  · cases hk
    rw [h.2.2.1] at hg
    simp at hg

theorem RTab.stays {w w' : World} {b mx : Nat} {es : List E} {v : Value} {S : Nat → Prop} (h : RTab w b mx es v) (hk : Kept S w w') (hb : ¬ S b) (hv : ∀ k, v.ownBlock = some k → ¬ S k) : RTab w' b mx es v := by
  obtain ⟨h1, h2, h3, h4⟩ := h
  refine ⟨h1, h2, ?_, row_stays h4 fun k e hk' => hk.block k hk' (hv k e)⟩
  rw [hk.block b (Array.getElem?_eq_some_iff.1 h3).1 hb]
  exact h3

theorem RTab.below {w w' : World} {b mx : Nat} {es : List E} {v : Value} (h : RTab w b mx es v) (hk : Below w.heap.size w w') : RTab w' b mx es v :=
  h.stays (S := fun _ => False) (Kept.of_below hk) id fun _ _ => id

/-- A part of a row, or the row: it reads as entries. -/
def REnts (W : World) (v : Value) (l : List E) : Prop :=
  (v = .slice none 0 0 ∧ l = []) ∨ ∃ (g cap : Nat), v = .slice (some ⟨g, 0, none⟩) l.length cap ∧ l.length ≤ cap ∧ cap ≤ 9223372036854775807 ∧ ∀ j u, (cellsOf l)[j]? = some u → W.cell? ⟨g, j, none⟩ = some u

theorem rents_of_row {w : World} {base : Nat} {v : Value} {l : List E} (h : w.ownsRow base 82 2 v l.length (cellsOf l)) : REnts w v l := by
  rcases h.2 with ⟨rfl, hn⟩ | ⟨g, cap, cur, rfl, _, hg, hc, hm, hs, htk⟩
  · exact .inl ⟨rfl, List.length_eq_zero_iff.1 hn⟩
  · refine .inr ⟨g, cap, rfl, hc, by unfold maxLen at hm; omega, fun j u hj => ?_⟩
    have := h.cells (g := g) rfl j u hj
    rwa [Addr.add_lit, Nat.zero_add] at this

theorem REnts.below {W W' : World} {v : Value} {l : List E} (h : REnts W v l) (hb : Below W.heap.size W W') : REnts W' v l := by
  rcases h with h | ⟨g, cap, h1, h2, h3, h5⟩
  · exact .inl h
  · exact .inr ⟨g, cap, h1, h2, h3, fun j u hj => (hb.cell (p := ⟨g, j, none⟩) (World.block_lt_of_cell? _ _ (h5 j u hj))).trans (h5 j u hj)⟩

theorem REnts.slice {W : World} {v : Value} {l : List E} (h : REnts W v l) : ∃ base cap, v = .slice base l.length cap := by
  rcases h with ⟨rfl, rfl⟩ | ⟨g, cap, h1, _⟩
  · exact ⟨none, 0, rfl⟩
  · exact ⟨_, cap, h1⟩

theorem REnts.at {W : World} {base : Option Addr} {cap : Nat} {l : List E} (h : REnts W (.slice base l.length cap) l) (k : Nat) (hk : k < l.length) : ∃ g, base = some ⟨g, 0, none⟩ ∧ l.length ≤ cap ∧ cap ≤ 9223372036854775807 ∧
    W.cell? ⟨g, k * 2, none⟩ = some (.string l[k].1) ∧ W.cell? ⟨g, k * 2 + 1, none⟩ = some (.string l[k].2) := by
  rcases h with ⟨_, rfl⟩ | ⟨g, cap', h1, h2, h3, h5⟩
  · exact absurd hk (by simp)
  · cases h1
    obtain ⟨hg1, hg2⟩ := cellsOf_get l k hk
    exact ⟨g, rfl, h2, h3, h5 _ _ hg1, h5 _ _ hg2⟩

theorem REnts.take {W : World} {base : Option Addr} {cap : Nat} {l : List E} (h : REnts W (.slice base l.length cap) l) (k : Nat) (hk : k ≤ l.length) : REnts W (.slice base k cap) (l.take k) := by
  rcases h with ⟨h1, rfl⟩ | ⟨g, cap', h1, h2, h3, h5⟩
  · cases h1
    have : k = 0 := by simpa using hk
    subst this
    exact .inl ⟨rfl, rfl⟩
  · cases h1
    refine .inr ⟨g, cap, by rw [List.length_take, Nat.min_eq_left hk], by rw [List.length_take]; omega, h3, fun j u hj => h5 j u ?_⟩
    rw [cellsOf_take, List.getElem?_take] at hj
    split at hj
    · exact hj
    · cases hj

/-- .. and the size of one of its entries, the cells of which were read. -/
theorem rsize_at {w : World} (x y : ByteArray) (h : x.size + y.size + 32 ≤ 4611686018427387904) (p q : Addr) (W : World) (hB : Below w.heap.size w W) (hp : W.cell? p = some (.string x)) (hq : W.cell? q = some (.string y)) :
    Calls Try.prog 49 #[.agg #[.string x, .string y]] W fun e W' => e = .returned (.int .i64 ((esz (x, y) : Nat) : Int)) ∧ W'.cell? p = some (.string x) ∧ W'.cell? q = some (.string y) ∧ Below w.heap.size w W' := by
  refine (rsize_any x y W (by omega)).mono ?_
  rintro e W' ⟨rfl, hb⟩
  exact ⟨rfl, (hb.cell (World.block_lt_of_cell? _ _ hp)).trans hp, (hb.cell (World.block_lt_of_cell? _ _ hq)).trans hq, hB.trans (hb.mono hB.size)⟩

set_option maxRecDepth 100000 in
set_option maxHeartbeats 1000000 in
theorem rsum_any (w : World) (v : Value) (l : List E) (hE : REnts w v l) (hlen : l.length ≤ 100000) (htot : total l ≤ 4611686018427387904) :
    Calls Try.prog 52 #[v] w fun e w' => e = .returned (.int .i64 (total l : Int)) ∧ Below w.heap.size w w' := by
  obtain ⟨base, cap, rfl⟩ := hE.slice
  have HE : Hid (∀ W, Below w.heap.size w W → REnts W (.slice base l.length cap) l) := fun W hW => hE.below hW
  clear hE
  go_enter Try.func52, Try.ntmps52
  go_wp2
  go_loopw [3, 4] (fun y x wr => ∃ k : Nat, k ≤ l.length ∧ x = .int .i64 (k : Int) ∧ y = .int .i64 (total (l.take k) : Int) ∧ Below w.heap.size w wr) (fun _ x _ => l.length - (intOf x).toNat)
  case atStart => exact ⟨0, by omega, rfl, by simp [total], Below.refl _ _⟩
  case round =>
    obtain ⟨k, hk, rfl, rfl, hB⟩ := hrel
    by_cases hlt : k < l.length
    · obtain ⟨x, y, g, hx, hbase, hc1, hc2, hd1, hd2⟩ : ∃ (x y : ByteArray) (g : Nat), l[k] = (x, y) ∧ base = some ⟨g, 0, none⟩ ∧ l.length ≤ cap ∧ cap ≤ 9223372036854775807 ∧ wr.cell? ⟨g, k * 2, none⟩ = some (.string x) ∧ wr.cell? ⟨g, k * 2 + 1, none⟩ = some (.string y) := by
        obtain ⟨g, h1, h2, h3, h4, h5⟩ := (HE.out wr hB).at k hlt
        exact ⟨_, _, g, rfl, h1, h2, h3, h4, h5⟩
      subst hbase
      have hsx := esz_le_total l k hlt
      rw [hx] at hsx
      obtain ⟨s, hs⟩ : ∃ s, s = esz (x, y) := ⟨_, rfl⟩
      have hs2 : s = x.size + y.size + 32 := hs
      rw [← hs] at hsx
      have hsz := fun W hB hp hq => rsize_at (w := w) x y (by omega) ⟨g, k * 2, none⟩ ⟨g, k * 2 + 1, none⟩ W hB hp hq
      rw [← hs] at hsz
      replace hsz : Hid _ := hsz
      have hadd : total (l.take (k + 1)) = total (l.take k) + s := by rw [take_snoc l k hlt, total_append, hx, hs]; simp [total]
      have hle : total (l.take (k + 1)) ≤ total l := by
        have : total (l.take (k + 1)) + total (l.drop (k + 1)) = total l := by rw [← total_append, List.take_append_drop]
        omega
      obtain ⟨T, hT⟩ : ∃ T, total (l.take k) = T := ⟨_, rfl⟩
      obtain ⟨T', hT'⟩ : ∃ T', total (l.take (k + 1)) = T' := ⟨_, rfl⟩
      rw [hT] at hadd ⊢
      rw [hT'] at hadd hle
      have hfin : Hid (∀ W, Below w.heap.size w W → ∃ k' : Nat, k' ≤ l.length ∧ Value.int .i64 ((k : Int) + 1) = .int .i64 (k' : Int) ∧ Value.int .i64 (T' : Int) = .int .i64 (total (l.take k') : Int) ∧ Below w.heap.size w W) := fun W hW =>
        ⟨k + 1, by omega, by simp, by rw [hT'], hW⟩
      have hsum : (T : Int) + (s : Int) = (T' : Int) := by omega
      have hT2 : (T' : Int) ≤ 4611686018427387904 := by omega
      clear hx hs hs2 hT hT' hadd HE
      go_wp2_with (go_at_call 49; refine (hsz.out _ hB hd1 hd2).mono ?_; clear hB hd1 hd2; rintro e w2 ⟨rfl, hd1, hd2, hB⟩)
      exact ⟨hfin.out _ hB, by simp [intOf]; omega⟩
    · obtain rfl : k = l.length := by omega
      rw [List.take_length]
      go_wp2
      go_ret
      exact ⟨rfl, hB⟩

end Go.Proofs.Ytlfbnhdcgldopaa
