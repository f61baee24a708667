/- A book in memory; NewBook, Acked, Waiting, last. -/
import Derived.Test.YtfkimdgbkfogcaaDoorA3
namespace Go.Proofs.YtfkimdgbkfogcaaDoor
open Go.RowKit
set_option linter.unusedVariables false
set_option linter.unusedSimpArgs false

/-- the cells of a book -/
def bcs (c : Bool) (s : St) (v : Value) : Array Value := #[.bool c, .int .i64 s.tab, .int .i64 s.psh, .int .i64 s.str, .int .i64 s.win, .int .i64 s.frm, .int .i64 s.lst, v]
/-- Block b is a book: its kind, what is acknowledged, the sets that wait. -/
structure Bk (w : World) (b : Nat) (c : Bool) (s : St) (v : Value) (L : List St) : Prop where
  blk : w.heap[b]? = some (.cells (bcs c s v) 61 (0, 0))
  row : R ES w v L
  len : L.length ≤ 64
theorem Bk.lt {w : World} {b : Nat} {c : Bool} {s : St} {v : Value} {L : List St} (h : Bk w b c s v L) : b < w.heap.size := heap_lt h.blk
theorem Bk.ne {w : World} {b : Nat} {c : Bool} {s : St} {v : Value} {L : List St} (h : Bk w b c s v L) : v.ownBlock ≠ some b := fun e => by
  obtain ⟨cs, hc⟩ := h.row.ty b e
  rw [h.blk] at hc
  simp [ES] at hc
/-- what a book's own memory is -/
def Own (b : Nat) (v : Value) (k : Nat) : Prop := k = b ∨ v.ownBlock = some k
theorem Bk.keep {A : Nat → Prop} {w w' : World} {b : Nat} {c : Bool} {s : St} {v : Value} {L : List St} (h : Bk w b c s v L) (hk : Ks A w w') (ho : ∀ k, Own b v k → ¬ A k) : Bk w' b c s v L :=
  ⟨(hk.block b h.lt (ho b (.inl rfl))).trans h.blk, h.row.stays fun k e hl => hk.block k hl (ho k (.inr e)), h.len⟩
theorem Bk.below {w w' : World} {b : Nat} {c : Bool} {s : St} {v : Value} {L : List St} (h : Bk w b c s v L) (hb : Below w.heap.size w w') : Bk w' b c s v L :=
  ⟨(hb.block b h.lt).trans h.blk, h.row.below hb, h.len⟩
structure Bc (w : World) (b : Nat) (c : Bool) (s : St) (v : Value) : Prop where
  c0 : w.cell? ⟨b, 0, none⟩ = some (.bool c)
  c1 : w.cell? ⟨b, 1, none⟩ = some (.int .i64 s.tab)
  c2 : w.cell? ⟨b, 2, none⟩ = some (.int .i64 s.psh)
  c3 : w.cell? ⟨b, 3, none⟩ = some (.int .i64 s.str)
  c4 : w.cell? ⟨b, 4, none⟩ = some (.int .i64 s.win)
  c5 : w.cell? ⟨b, 5, none⟩ = some (.int .i64 s.frm)
  c6 : w.cell? ⟨b, 6, none⟩ = some (.int .i64 s.lst)
  c7 : w.cell? ⟨b, 7, none⟩ = some v
theorem Bk.cells {w : World} {b : Nat} {c : Bool} {s : St} {v : Value} {L : List St} (h : Bk w b c s v L) : Bc w b c s v :=
  ⟨cell_blk h.blk 0, cell_blk h.blk 1, cell_blk h.blk 2, cell_blk h.blk 3, cell_blk h.blk 4, cell_blk h.blk 5, cell_blk h.blk 6, cell_blk h.blk 7⟩
theorem Bk.frozen {w : World} {b : Nat} {c : Bool} {s : St} {v : Value} {L : List St} (h : Bk w b c s v L) (i : Nat) : w.frozen? ⟨b, i, none⟩ = false := frozen_blk h.blk i

def lastS (s : St) (L : List St) : St := L.getLastD s

theorem Std.below {w w' : World} (h : Std w) (hb : Below w.heap.size w w') : Std w' := by
  obtain ⟨t, h⟩ := h
  exact ⟨t, (hb.block 0 (heap_lt h)).trans h⟩
theorem Std.lt {w : World} (h : Std w) : 0 < w.heap.size := by
  obtain ⟨t, h⟩ := h
  exact heap_lt h
theorem dflt {w : World} (h : Std w) : Calls Tryd.prog 10 #[] w fun e w' => e = .returned (.agg St.dfl.a) ∧ w' = w.alloc (.cells St.dfl.a 27) := by
  obtain ⟨t, h⟩ := h
  exact default_any w t h

set_option maxRecDepth 100000 in
set_option maxHeartbeats 1000000 in
theorem new_any (c : Bool) (w : World) (h : Std w) :
    Calls Tryd.prog 8 #[.bool c] w fun e w' => ∃ b, e = .returned (.pointer (some ⟨b, 0, none⟩)) ∧ Bk w' b c St.dfl (.slice none 0 0) [] ∧ w.heap.size ≤ b ∧ Below w.heap.size w w' := by
  have hd := fun W (hW : Std W) => dflt hW
  simp only [St.a, St.dfl] at hd
  go_enter Tryd.func8, Tryd.ntmps8
  go_wp2_with (go_at_call 10; refine (hd _ h).mono ?_; rintro e w' ⟨rfl, rfl⟩)
  go_ret
  refine ⟨_, rfl, ⟨fresh2 _ _ _, R.nil _ _, by simp⟩, by omega, bel2 _ _ _⟩

set_option maxRecDepth 100000 in
set_option maxHeartbeats 1000000 in
theorem acked_any (w : World) (b : Nat) (c : Bool) (s : St) (v : Value) (L : List St) (h : Bk w b c s v L) :
    Calls Tryd.prog 14 #[.pointer (some ⟨b, 0, none⟩)] w fun e w' => e = .returned (.agg s.a) ∧ Below w.heap.size w w' := by
  obtain ⟨c0, c1, c2, c3, c4, c5, c6, c7⟩ := h.cells
  have hl := h.lt
  clear h
  unfold St.a
  go_enter Tryd.func14, Tryd.ntmps14
  go_wp2
  refine bodyPost_ret (results_cell_row (p := 2) (ty := 27) rfl _ _ w.heap.size 27 _ (0, 0) _ rfl (heap_alloc_new _ _) Tryd.underlying27 rfl (by kernel_rfl)) rfl ⟨rfl, bel1 _ _⟩

set_option maxRecDepth 100000 in
set_option maxHeartbeats 1000000 in
theorem waiting_any (w : World) (b : Nat) (c : Bool) (s : St) (v : Value) (L : List St) (h : Bk w b c s v L) :
    Calls Tryd.prog 15 #[.pointer (some ⟨b, 0, none⟩)] w fun e w' => e = .returned (.int .i64 (L.length : Int)) ∧ w' = w := by
  obtain ⟨c0, c1, c2, c3, c4, c5, c6, c7⟩ := h.cells
  obtain ⟨vb, vc, rfl, h1, h2⟩ := h.row.slice
  clear h
  go_enter Tryd.func15, Tryd.ntmps15
  go_wp2
  go_ret
  exact ⟨rfl, rfl⟩

/-- the cells of the set with number k -/
theorem In.set {w : World} {v : Value} {l : List St} (h : In ES w v l) (k : Nat) (hk : k < l.length) : ∃ B off cap, v = .slice (some ⟨B, off, none⟩) l.length cap ∧ B < w.heap.size ∧ w.cell? ⟨B, off + k * 6, none⟩ = some (.int .i64 l[k].tab) ∧ w.cell? ⟨B, off + k * 6 + 1, none⟩ = some (.int .i64 l[k].psh) ∧ w.cell? ⟨B, off + k * 6 + 2, none⟩ = some (.int .i64 l[k].str) ∧ w.cell? ⟨B, off + k * 6 + 3, none⟩ = some (.int .i64 l[k].win) ∧ w.cell? ⟨B, off + k * 6 + 4, none⟩ = some (.int .i64 l[k].frm) ∧ w.cell? ⟨B, off + k * 6 + 5, none⟩ = some (.int .i64 l[k].lst) := by
  obtain ⟨B, off, cap, h1, h2, h3⟩ := h.get okS k hk
  exact ⟨B, off, cap, h1, h2, h3 0 _ rfl, h3 1 _ rfl, h3 2 _ rfl, h3 3 _ rfl, h3 4 _ rfl, h3 5 _ rfl⟩
theorem R.zero_off {α : Type} {E : El α} {w : World} {B off n cap : Nat} {l : List α} (h : R E w (.slice (some ⟨B, off, none⟩) n cap) l) : off = 0 ∧ n = l.length ∧ n ≤ cap ∧ cap ≤ 9223372036854775807 := by
  rcases h.2 with ⟨hv, h0⟩ | ⟨g, cap', cur, hv, hb, hg, hn, hm, hs, ht⟩
  · cases hv
  · injection hv with e1 e2 e3
    injection e1 with e1
    injection e1 with e1 e4 e5
    unfold maxLen at hm
    exact ⟨e4, e2, by omega, by omega⟩

set_option maxRecDepth 100000 in
set_option maxHeartbeats 1000000 in
theorem last_any (w : World) (b : Nat) (c : Bool) (s : St) (v : Value) (L : List St) (h : Bk w b c s v L) :
    Calls Tryd.prog 36 #[.pointer (some ⟨b, 0, none⟩)] w fun e w' => e = .returned (.agg (lastS s L).a) ∧ Below w.heap.size w w' := by
  obtain ⟨c0, c1, c2, c3, c4, c5, c6, c7⟩ := h.cells
  have hl := h.lt
  by_cases hL : L = []
  · subst hL
    obtain ⟨vb, vc, rfl, h1, h2⟩ := h.row.slice
    clear h
    unfold St.a lastS
    simp only [List.getLastD_nil, List.length_nil] at c7 ⊢
    go_enter Tryd.func36, Tryd.ntmps36
    go_wp2
    refine bodyPost_ret (results_cell_row (p := 2) (ty := 27) rfl _ _ w.heap.size 27 _ (0, 0) _ rfl (heap_alloc_new _ _) Tryd.underlying27 rfl (by kernel_rfl)) rfl ⟨rfl, bel1 _ _⟩
  · have hpos : 0 < L.length := List.length_pos_iff.2 hL
    obtain ⟨B, off, cap, hv, hBl, d0, d1, d2, d3, d4, d5⟩ := h.row.isIn.set (L.length - 1) (by omega)
    have hz := h.row
    rw [hv] at hz
    obtain ⟨rfl, _, h1, h2⟩ := hz.zero_off
    have hla : lastS s L = L[L.length - 1]'(by omega) := by
      unfold lastS
      rw [List.getLastD_eq_getLast?, List.getLast?_eq_getElem?, List.getElem?_eq_getElem (by omega)]
      rfl
    rw [hla]
    obtain ⟨x, hx⟩ : ∃ x, L[L.length - 1]'(by omega) = x := ⟨_, rfl⟩
    rw [hx] at d0 d1 d2 d3 d4 d5 ⊢
    subst hv
    have h64 := h.len
    obtain ⟨n, hn⟩ : ∃ n, L.length = n + 1 := ⟨L.length - 1, by omega⟩
    rw [hn] at d0 d1 d2 d3 d4 d5 c7 h1 h64
    simp only [Nat.add_sub_cancel, Nat.zero_add] at d0 d1 d2 d3 d4 d5
    have hs1 : ((n + 1 : Nat) : Int) - 1 = (n : Int) := by omega
    have hne : (((n + 1 : Nat) : Int) == 0) = false := by simp; omega
    have hlt : (n : Int) < ((n + 1 : Nat) : Int) := by omega
    obtain ⟨m, hm⟩ : ∃ m, n + 1 = m := ⟨_, rfl⟩
    rw [hm] at c7 h1 h64 hs1 hne hlt
    clear h hz hla hx hn hpos hL hm
    unfold St.a
    go_enter Tryd.func36, Tryd.ntmps36
    go_wp2
    go_region
    all_goals
      go_wp2
      refine bodyPost_ret (results_cell_row (p := 2) (ty := 27) rfl _ _ w.heap.size 27 _ (0, 0) _ rfl (heap_alloc_new _ _) Tryd.underlying27 rfl (by kernel_rfl)) rfl ⟨rfl, ?_⟩
      first | exact bel1 _ _ | exact (bel1 _ _).drew
end Go.Proofs.YtfkimdgbkfogcaaDoor
