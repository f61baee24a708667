/- A slice of entries that came in, or a part of one; bounded, last. -/
import Derived.Test.YtlfbnhdcgldopaaC1
namespace Go.Proofs.Ytlfbnhdcgldopaa
open Go.RowKit

/-- The slice v holds the entries l. -/
def Ents (W : World) (v : Value) (l : List E) : Prop :=
  (v = .slice none 0 0 ∧ l = []) ∨ ∃ (a : Addr) (cap : Nat), v = .slice (some a) l.length cap ∧ l.length ≤ cap ∧ cap ≤ 9223372036854775807 ∧ (cap = 0 ∨ a.spot = none) ∧ ∀ j u, (cellsOf l)[j]? = some u → W.cell? (a.add j) = some u

theorem Ents.below {W W' : World} {v : Value} {l : List E} (h : Ents W v l) (hb : Below W.heap.size W W') : Ents W' v l := by
  rcases h with h | ⟨a, cap, h1, h2, h3, h4, h5⟩
  · exact .inl h
  · exact .inr ⟨a, cap, h1, h2, h3, h4, fun j u hj => (hb.cell (World.block_lt_of_cell? _ _ (h5 j u hj))).trans (h5 j u hj)⟩

/-- The texts are no longer than a machine can hold. -/
def Fine (l : List E) : Prop := ∀ e ∈ l, e.1.size + e.2.size + 32 ≤ 4611686018427387904

theorem Ents.slice {W : World} {v : Value} {l : List E} (h : Ents W v l) : ∃ base cap, v = .slice base l.length cap ∧ l.length ≤ 9223372036854775807 := by
  rcases h with ⟨rfl, rfl⟩ | ⟨a, cap, h1, h2, h3, _⟩
  · exact ⟨none, 0, rfl, by simp⟩
  · exact ⟨_, cap, h1, by omega⟩

/-- The entry with number k. -/
theorem Ents.at {W : World} {v : Value} {l : List E} (h : Ents W v l) (k : Nat) (hk : k < l.length) : ∃ g off cap, v = .slice (some ⟨g, off, none⟩) l.length cap ∧ l.length ≤ cap ∧ cap ≤ 9223372036854775807 ∧
    W.cell? ⟨g, off + k * 2, none⟩ = some (.string l[k].1) ∧ W.cell? ⟨g, off + k * 2 + 1, none⟩ = some (.string l[k].2) := by
  rcases h with ⟨_, rfl⟩ | ⟨⟨g, off, spot⟩, cap, h1, h2, h3, h4, h5⟩
  · exact absurd hk (by simp)
  · rcases h4 with h4 | h4
    · omega
    · cases h4
      obtain ⟨hg1, hg2⟩ := cellsOf_get l k hk
      have hd1 := h5 _ _ hg1
      have hd2 := h5 _ _ hg2
      rw [Addr.add_lit] at hd1 hd2
      exact ⟨g, off, cap, h1, h2, h3, hd1, hd2⟩

theorem keep_split (m k : Nat) (l : List E) (h : total (l.take k) ≤ m) : keep m l = l.take k ++ keep (m - total (l.take k)) (l.drop k) := by
  induction k generalizing m l with
  | zero => simp [total]
  | succ k ih =>
    cases l with
    | nil => simp [keep]
    | cons e r =>
      simp only [List.take_succ_cons, total, List.drop_succ_cons, List.cons_append] at h ⊢
      rw [keep, if_pos (by omega), ih (m - esz e) r (by omega), Nat.sub_sub]

/-- The last ones that fit. -/
def lastS (l : List E) (m : Nat) : List E := (keep m l.reverse).reverse

theorem lastS_of (l : List E) (m k : Nat) (h : keep m l.reverse = l.reverse.take k) (_hk : k ≤ l.length) : lastS l m = l.drop (l.length - k) := by
  unfold lastS
  rw [h, List.take_reverse, List.reverse_reverse]

/-- A max that a table may have. -/
def boundS (a : Int) : Nat := if a < 0 then ((-(a + 1)) % 65537).toNat else (a % 65537).toNat

theorem boundS_le (a : Int) : boundS a ≤ 65536 := by unfold boundS; split <;> omega

set_option maxHeartbeats 400000 in
theorem bounded_any (a : Int) (w : World) (h0 : -9223372036854775808 ≤ a) (h1 : a ≤ 9223372036854775807) :
    Calls Try.prog 14 #[.int .i64 a] w fun e w' => e = .returned (.int .i64 (boundS a : Int)) ∧ w' = w := by
  unfold boundS
  by_cases h : a < 0
  · rw [if_pos h]
    have hm : (((-(a + 1)) % 65537).toNat : Int) = -((a + 1).tmod 65537) := by
      rw [← Int.neg_tmod, Int.tmod_eq_emod_of_nonneg (by omega)]; omega
    rw [hm]
    clear hm
    go_enter Try.func14, Try.ntmps14
    go_wp2
    go_ret
    exact ⟨rfl, rfl⟩
  · rw [if_neg h]
    have hm : ((a % 65537).toNat : Int) = a % 65537 := by omega
    rw [hm]
    clear hm
    go_enter Try.func14, Try.ntmps14
    go_wp2
    go_ret
    exact ⟨rfl, rfl⟩

theorem rev_get (l : List E) (k : Nat) (h : k < l.length) : l.reverse.take (k + 1) = l.reverse.take k ++ [l[l.length - 1 - k]] := by
  rw [take_snoc _ _ (by simpa using h), List.getElem_reverse]

theorem cellsOf_drop (l : List E) (d : Nat) : cellsOf (l.drop d) = (cellsOf l).drop (d * 2) := by
  induction l generalizing d with
  | nil => simp [cellsOf]
  | cons e r ih =>
    cases d with
    | zero => simp
    | succ d => rw [show (d + 1) * 2 = d * 2 + 1 + 1 by omega]; simp [cellsOf, ih]

theorem Ents.drop {W : World} {g off cap : Nat} {l : List E} (h : Ents W (.slice (some ⟨g, off, none⟩) l.length cap) l) (d n : Nat) (hd : d ≤ l.length) (hn : n = l.length - d) : Ents W (.slice (some ⟨g, off + d * 2, none⟩) n (cap - d)) (l.drop d) := by
  rcases h with ⟨h, _⟩ | ⟨a, cap', h1, h2, h3, _, h5⟩
  · cases h
  · cases h1
    refine .inr ⟨_, cap - d, by rw [List.length_drop, hn], by rw [List.length_drop]; omega, by omega, .inr rfl, fun j u hj => ?_⟩
    rw [cellsOf_drop, List.getElem?_drop] at hj
    have := h5 _ _ hj
    rw [Addr.add_lit] at this ⊢
    rw [Nat.add_assoc]
    exact this

theorem ents_none {W : World} {a : Addr} {n : Nat} (h : n = 0) : Ents W (.slice (some a) n 0) [] :=
  .inr ⟨a, 0, by rw [h]; rfl, by simp, by omega, .inl rfl, fun j u hj => by simp [cellsOf] at hj⟩

/-- An entry's size, the cells of which were read. -/
theorem size_at {w : World} (x y : ByteArray) (h : x.size + y.size + 32 ≤ 4611686018427387904) (p q : Addr) (W : World) (hB : Below w.heap.size w W) (hp : W.cell? p = some (.string x)) (hq : W.cell? q = some (.string y)) :
    Calls Try.prog 33 #[.agg #[.string x, .string y]] W fun e W' => e = .returned (.int .i64 ((esz (x, y) : Nat) : Int)) ∧ W'.cell? p = some (.string x) ∧ W'.cell? q = some (.string y) ∧ Below w.heap.size w W' := by
  refine (size_law x y W (by omega)).mono ?_
  rintro e W' ⟨rfl, hb⟩
  exact ⟨rfl, (hb.cell (World.block_lt_of_cell? _ _ hp)).trans hp, (hb.cell (World.block_lt_of_cell? _ _ hq)).trans hq, hB.trans (hb.mono hB.size)⟩

set_option maxRecDepth 100000 in
set_option maxHeartbeats 1000000 in
theorem last_strong (w : World) (v : Value) (l : List E) (hE : Ents w v l) (hf : Fine l) (m : Nat) (hm : m ≤ 65536) :
    Calls Try.prog 15 #[v, .int .i64 (m : Int)] w fun e w' => ∃ v', e = .returned v' ∧ (∀ W, Ents W v l → Ents W v' (lastS l m)) ∧ Below w.heap.size w w' := by
  obtain ⟨base, cap, rfl, hl63⟩ := hE.slice
  have H : Hid (Ents w (.slice base l.length cap) l) := hE
  clear hE
  go_enter Try.func15, Try.ntmps15
  go_wp2
  go_loopw [5, 6] (fun x y wr => ∃ k : Nat, k ≤ l.length ∧ x = .int .i64 (k : Int) ∧ y = .int .i64 (total (l.reverse.take k) : Int) ∧ total (l.reverse.take k) ≤ m ∧ Below w.heap.size w wr) (fun x _ _ => l.length - (intOf x).toNat)
  case atStart => exact ⟨0, by omega, rfl, by simp [total], by simp [total], Below.refl _ _⟩
  case round =>
    obtain ⟨k, hk, rfl, rfl, htot, hB⟩ := hrel
    by_cases hlt : k < l.length
    · have hE := H.out.below hB
      obtain ⟨i, x, y, g, off, hi, hil, hbase, hc1, hc2, hd1, hd2, hmem, hrg⟩ : ∃ (i : Nat) (x y : ByteArray) (g off : Nat), (l.length : Int) - 1 - (k : Int) = (i : Int) ∧ i < l.length ∧ base = some ⟨g, off, none⟩ ∧ l.length ≤ cap ∧ cap ≤ 9223372036854775807 ∧
          wr.cell? ⟨g, off + i * 2, none⟩ = some (.string x) ∧ wr.cell? ⟨g, off + i * 2 + 1, none⟩ = some (.string y) ∧ x.size + y.size + 32 ≤ 4611686018427387904 ∧ l.reverse.take (k + 1) = l.reverse.take k ++ [(x, y)] := by
        obtain ⟨g, off, cap', h1, hc1, hc2, hd1, hd2⟩ := hE.at (l.length - 1 - k) (by omega)
        cases h1
        exact ⟨l.length - 1 - k, _, _, g, off, by omega, by omega, rfl, hc1, hc2, hd1, hd2, hf _ (List.getElem_mem _), rev_get l k hlt⟩
      subst hbase
      have hadd : total (l.reverse.take (k + 1)) = total (l.reverse.take k) + esz (x, y) := by rw [hrg, total_append]; simp [total]
      obtain ⟨s, hs⟩ : ∃ s, s = esz (x, y) := ⟨_, rfl⟩
      have hs' : s ≤ 4611686018427387904 := by rw [hs]; exact hmem
      rw [← hs] at hadd
      have hsz := fun W hB hp hq => size_at (w := w) x y hmem ⟨g, off + i * 2, none⟩ ⟨g, off + i * 2 + 1, none⟩ W hB hp hq
      rw [← hs] at hsz
      replace hsz : Hid _ := hsz
      have hexit : ¬ (total (l.reverse.take k) + s ≤ m) → Hid (keep m l.reverse = l.reverse.take k) := fun h => by
        show keep m l.reverse = l.reverse.take k
        have hdr : l.reverse.drop k = (x, y) :: l.reverse.drop (k + 1) := by
          have h1 := List.take_append_drop k l.reverse
          have h2 := List.take_append_drop (k + 1) l.reverse
          rw [hrg, List.append_assoc] at h2
          exact List.append_cancel_left (h1.trans h2.symm)
        rw [keep_split m k _ htot, hdr, keep, if_neg (by rw [← hs]; omega), List.append_nil]
      obtain ⟨T, hT⟩ : ∃ T, total (l.reverse.take k) = T := ⟨_, rfl⟩
      obtain ⟨T', hT'⟩ : ∃ T', total (l.reverse.take (k + 1)) = T' := ⟨_, rfl⟩
      rw [hT] at hadd hexit htot ⊢
      rw [hT'] at hadd
      have hfin : T' ≤ m → Hid (∀ W, Below w.heap.size w W → ∃ k' : Nat, k' ≤ l.length ∧ Value.int .i64 ((k : Int) + 1) = .int .i64 (k' : Int) ∧ Value.int .i64 (T' : Int) = .int .i64 (total (l.reverse.take k') : Int) ∧ total (l.reverse.take k') ≤ m ∧ Below w.heap.size w W) := fun h W hW =>
        ⟨k + 1, by omega, by simp, by rw [hT'], by rw [hT']; exact h, hW⟩
      have hsum : (T : Int) + (s : Int) = (T' : Int) := by omega
      clear hrg hE hs hmem hT hT' hf
      by_cases hfit : T + s ≤ m
      · have hfit' : (T' : Int) ≤ (m : Int) := by omega
        replace hfin := hfin (by omega)
        clear hexit hadd
        go_wp2_with (go_at_call 33; refine (hsz.out _ hB hd1 hd2).mono ?_; clear hB hd1 hd2; rintro e w2 ⟨rfl, hd1, hd2, hB⟩)
        go_roundw
        case rel => exact hfin.out _ hB
        case measure => simp [intOf]; omega
      · have hfit' : ¬ (T' : Int) ≤ (m : Int) := by omega
        replace hexit := hexit hfit
        clear hfin hadd
        go_wp2_with (go_at_call 33; refine (hsz.out _ hB hd1 hd2).mono ?_; clear hB hd1 hd2; rintro e w2 ⟨rfl, hd1, hd2, hB⟩)
        all_goals
          go_ret
          refine ⟨_, rfl, fun W hW => ?_, hB⟩
          rw [lastS_of l m k hexit.out hk]
        · rw [show l.length - k = l.length by omega, List.drop_length]
          exact ents_none (by omega)
        · exact hW.drop _ _ (by omega) (by omega)
    · obtain rfl : k = l.length := by omega
      have hall : Hid (lastS l m = l) := by
        show lastS l m = l
        rw [lastS_of l m l.length (by rw [keep_whole _ _ (by rw [List.take_of_length_le (by simp)] at htot; exact htot), List.take_of_length_le (by simp)]) (by omega)]
        simp
      go_wp2
      go_ret
      exact ⟨_, rfl, fun W hW => by rw [hall.out]; exact hW, hB⟩

theorem last_any (w : World) (v : Value) (l : List E) (hE : Ents w v l) (hf : Fine l) (m : Nat) (hm : m ≤ 65536) :
    Calls Try.prog 15 #[v, .int .i64 (m : Int)] w fun e w' => ∃ v', e = .returned v' ∧ Ents w' v' (lastS l m) ∧ Below w.heap.size w w' := by
  refine (last_strong w v l hE hf m hm).mono ?_
  rintro e w' ⟨v', rfl, h, hb⟩
  exact ⟨v', rfl, (h w hE).below hb, hb⟩

end Go.Proofs.Ytlfbnhdcgldopaa
