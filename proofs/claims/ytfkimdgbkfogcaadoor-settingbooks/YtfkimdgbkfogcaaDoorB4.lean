/- Send. -/
import Derived.Test.YtfkimdgbkfogcaaDoorB3
import Derived.Deep.RegionHeld3
import Derived.Deep.Cut
import Derived.Deep.CutRange
namespace Go.Proofs.YtfkimdgbkfogcaaDoor
open Go.RowKit
set_option linter.unusedVariables false
set_option linter.unusedSimpArgs false

def sendC (c : Bool) (s : St) (L : List St) (l : List (Int × Int)) : Int := if (applyS (lastS s L) l c).2 = 0 then (if L.length = 64 then 6 else 0) else 1
def sendL (c : Bool) (s : St) (L : List St) (l : List (Int × Int)) : List St := if (applyS (lastS s L) l c).2 = 0 then (if L.length = 64 then L else L ++ [(applyS (lastS s L) l c).1]) else L

/-- what all calls of Send keep -/
def Sq (w : World) (b : Nat) (c : Bool) (s : St) (v : Value) (L : List St) (lv : Value) (l : List (Int × Int)) (W : World) : Prop := Bk W b c s v L ∧ In EP W lv l ∧ Below w.heap.size w W
theorem Sq.below {w : World} {b : Nat} {c : Bool} {s : St} {v : Value} {L : List St} {lv : Value} {l : List (Int × Int)} {W V : World} (h : Sq w b c s v L lv l W) (hb : Below W.heap.size W V) : Sq w b c s v L lv l V :=
  ⟨h.1.below hb, h.2.1.below hb, h.2.2.trans (hb.mono h.2.2.size)⟩

set_option maxRecDepth 100000 in
set_option maxHeartbeats 8000000 in
theorem send_any (w : World) (b : Nat) (c : Bool) (s : St) (v : Value) (L : List St) (h : Bk w b c s v L) (lv : Value) (l : List (Int × Int)) (hl : In EP w lv l) :
    Calls Tryd.prog 12 #[.pointer (some ⟨b, 0, none⟩), lv] w fun e w' => e = .returned (.int .i64 (sendC c s L l)) ∧ ∃ v', Bk w' b c s v' (sendL c s L l) ∧ Ks (Own b v) w w' ∧ (∀ k, v'.ownBlock = some k → v.ownBlock = some k ∨ w.heap.size ≤ k) := by
  have hbw := h.lt
  have hvw := h.row.lt
  obtain ⟨lb, lc, rfl, _, _⟩ := hl.slice
  obtain ⟨n, hn⟩ : ∃ n, l.length = n := ⟨_, rfl⟩
  rw [hn] at hl ⊢
  clear hn
  have hI0 : Sq w b c s v L (.slice lb n lc) l w := ⟨h, hl, Below.refl _ _⟩
  have hal : Hid (∀ W (o : Obj), Sq w b c s v L (.slice lb n lc) l W → Sq w b c s v L (.slice lb n lc) l (W.alloc o)) := fun W o hW => hW.below (bel1 _ _)
  have hfull : Hid (∀ W, Sq w b c s v L (.slice lb n lc) l W → (fun W => W.cell? ⟨b, 0, none⟩ = some (.bool c) ∧ Sq w b c s v L (.slice lb n lc) l W) W) := fun W hW => ⟨hW.1.cells.c0, hW⟩
  obtain ⟨r, hr⟩ : ∃ r, lastS s L = r := ⟨_, rfl⟩
  have hlast : Hid (∀ W, Sq w b c s v L (.slice lb n lc) l W → Calls Tryd.prog 36 #[.pointer (some ⟨b, 0, none⟩)] W fun e w' => e = .returned (.agg r.a) ∧ (∀ k, k < W.heap.size → w'.heap[k]? = W.heap[k]?) ∧ Sq w b c s v L (.slice lb n lc) l w') := fun W hW => by
    refine (last_any W b c s v L hW.1).mono ?_
    rintro e w' ⟨rfl, hb⟩
    exact ⟨by rw [hr], fun k hk => hb.block k hk, hW.below hb⟩
  obtain ⟨A, hA⟩ : ∃ A, applyS r l c = A := ⟨_, rfl⟩
  have happ : Hid (∀ W, Sq w b c s v L (.slice lb n lc) l W → Calls Tryd.prog 11 #[.agg r.a, .slice lb n lc, .bool c] W fun e w' => e = .returned (.tuple #[.agg A.1.a, .int .i64 A.2]) ∧ (∀ k, k < W.heap.size → w'.heap[k]? = W.heap[k]?) ∧ Sq w b c s v L (.slice lb n lc) l w') := fun W hW => by
    refine (apply_any r _ l c W hW.2.1).mono ?_
    rintro e w' ⟨rfl, hb⟩
    exact ⟨by rw [hA], fun k hk => hb.block k hk, hW.below hb⟩
  have hres : Hid (applyS (lastS s L) l c = A) := by rw [hr]; exact hA
  obtain ⟨⟨q1, q2, q3, q4, q5, q6⟩, code⟩ := A
  obtain ⟨r1, r2, r3, r4, r5, r6⟩ := r
  have hst : Hid (∀ (W : World) (a5 : Nat), W.heap[a5]? = some (.cells St.zero.a 27 (0, 0)) → w.heap.size ≤ a5 → Sq w b c s v L (.slice lb n lc) l W → (set6 W a5 (St.mk q1 q2 q3 q4 q5 q6)).heap[a5]? = some (.cells (St.mk q1 q2 q3 q4 q5 q6).a 27 (0, 0)) ∧ Sq w b c s v L (.slice lb n lc) l (set6 W a5 (St.mk q1 q2 q3 q4 q5 q6))) := by
    intro W a5 h5 hb5 hW
    have hks := set6_ks W a5 (St.mk q1 q2 q3 q4 q5 q6)
    have hbel : Below w.heap.size W (set6 W a5 (St.mk q1 q2 q3 q4 q5 q6)) := hks.below hW.2.2.size (fun i hi => by omega)
    refine ⟨set6_blk _ h5, hW.1.keep hks ?_, ?_, hW.2.2.trans hbel⟩
    · intro k hk e
      subst e
      rcases hk with hk | hk
      · omega
      · have := hvw k hk; omega
    · exact hl.below (hW.2.2.trans hbel)
  clear hr hA
  simp only [St.a] at hlast happ
  go_enter Tryd.func12, Tryd.ntmps12
  go_wp2_with fail
  go_cut [5, 6] from 7 (fun x5 x6 wx => ∃ a5 : Nat, x5 = .pointer (some ⟨a5, 0, none⟩) ∧ x6 = .int .i64 code ∧ wx.heap[a5]? = some (.cells (St.mk q1 q2 q3 q4 q5 q6).a 27 (0, 0)) ∧ w.heap.size ≤ a5 ∧ Sq w b c s v L (.slice lb n lc) l wx)
  case rest =>
    obtain ⟨a5, rfl, rfl, h5, hb5, hS⟩ := hcut
    obtain ⟨hB, hIn, hBel⟩ := hS
    clear hI0 hal hfull hlast happ hst
    by_cases hc0 : code = 0
    · subst hc0
      obtain ⟨c0, c1, c2, c3, c4, c5, c6', c7⟩ := hB.cells
      obtain ⟨vb, vc, hv, hv1, hv2⟩ := hB.row.slice
      have h64 := hB.len
      by_cases hL : L.length = 64
      · have hfin : Hid ((6 : Int) = sendC c s L l ∧ ∃ v', Bk wc b c s v' (sendL c s L l) ∧ Ks (Own b v) w wc ∧ (∀ k, v'.ownBlock = some k → v.ownBlock = some k ∨ w.heap.size ≤ k)) := by
          unfold sendC sendL
          rw [hres.out]
          simp only [if_true, hL, true_and]
          exact ⟨v, hB, Ks.of_below hBel, fun k hk => .inl hk⟩
        rw [hL] at hv
        subst hv
        clear hB hIn hBel hres hL h64 h5 hv1 hl h
        go_wp2_with fail
        go_ret
        exact ⟨congrArg (fun x => Ending.returned (Value.int .i64 x)) hfin.out.1, hfin.out.2⟩
      · have hBk : ((wc.alloc (.cells #[.int .i64 q1, .int .i64 q2, .int .i64 q3, .int .i64 q4, .int .i64 q5, .int .i64 q6] 27)).drew).heap[wc.heap.size]? = some (.cells #[.int .i64 q1, .int .i64 q2, .int .i64 q3, .int .i64 q4, .int .i64 q5, .int .i64 q6] 27 (0, 0)) := heap_alloc_new wc _
        have hb1 : Below wc.heap.size wc ((wc.alloc (.cells #[.int .i64 q1, .int .i64 q2, .int .i64 q3, .int .i64 q4, .int .i64 q5, .int .i64 q6] 27)).drew) := (bel1 _ _).drew
        have hIn1 := in_one (E := ES) _ wc.heap.size (St.mk q1 q2 q3 q4 q5 q6) _ 27 (0, 0) hBk rfl
        have hB1 := hB.below hb1
        have hne := hB1.ne
        obtain ⟨base, cap, w3, hrun, hR3, hG3⟩ := app okS _ _ _ hB1.row _ _ hIn1 (by simp only [ES, List.length_cons, List.length_nil]; omega)
        simp only [List.length_cons, List.length_nil, Nat.zero_add] at hrun hR3 hG3
        have hblk3 : w3.heap[b]? = some (.cells (bcs c s v) 61 (0, 0)) := (hG3.block b hB1.lt hne).trans hB1.blk
        have hown3 : ∀ k, (Value.slice base (L.length + 1) cap).ownBlock = some k → v.ownBlock = some k ∨ w.heap.size ≤ k := fun k hk => (hG3.own k hk).imp id fun hh => by
          have := hBel.size
          rw [size_dr, size_al] at hh
          omega
        have hne3 : (Value.slice base (L.length + 1) cap).ownBlock ≠ some b := fun e => (hown3 b e).elim hne (fun hh => by omega)
        have hfin : Hid ((0 : Int) = sendC c s L l ∧ ∃ v', Bk (w3.setCell ⟨b, 7, none⟩ (.slice base (L.length + 1) cap)) b c s v' (sendL c s L l) ∧ Ks (Own b v) w (w3.setCell ⟨b, 7, none⟩ (.slice base (L.length + 1) cap)) ∧ (∀ k, v'.ownBlock = some k → v.ownBlock = some k ∨ w.heap.size ≤ k)) := by
          unfold sendC sendL
          rw [hres.out]
          simp only [if_true, hL, if_false, true_and]
          refine ⟨_, ⟨setCell_block _ _ _ _ _ _ _ hblk3, hR3.stays fun k hk _ => setCell_other _ _ _ _ _ (fun e => hne3 (e ▸ hk)), by simp; omega⟩, ?_, hown3⟩
          refine (Ks.of_below (A := Own b v) (hBel.trans (hb1.mono hBel.size))).trans ((Ks.of_gr hG3).trans (Ks.setCell (Own b v) w3 b 7 _ (.inl rfl)) (C := Own b v) (fun _ _ e => .inr e) (fun _ _ e => e)) (fun _ _ e => e) (fun _ _ e => e)
        have d7 : w3.cell? ⟨b, 7, none⟩ = some v := cell_blk hblk3 7
        have f7 := frozen_blk hblk3 7
        have hbx : b < wc.heap.size := hB.lt
        obtain ⟨m0, m1, m2, m3, m4, m5⟩ := c6 h5
        simp only at m0 m1 m2 m3 m4 m5
        have hLb : (((L.length : Nat) : Int) == 64) = false := by simp; omega
        have ha5 : a5 < wc.heap.size := heap_lt h5
        subst hv
        obtain ⟨k, hk⟩ : ∃ k, L.length = k := ⟨_, rfl⟩
        rw [hk] at hrun hfin c7 d7 hLb hv1
        have HK : Hid (L.length = k) := hk
        obtain ⟨k1, hk1⟩ : ∃ k1, k + 1 = k1 := ⟨_, rfl⟩
        rw [hk1] at hrun hfin
        simp only [ES] at hrun
        replace hrun : Hid _ := hrun
        clear hB hIn hBel hres hL h64 h5 hBk hb1 hIn1 hB1 hne hR3 hG3 hblk3 hown3 hne3 hl h hk hk1
        go_wp2_with fail
        go_region_law (refine step_append_run rfl (.tmp 30) (.tmp 32) 59 59 rfl hrun.out (by simp [Act.eval]) (by simp [Act.eval]) ?_)
        all_goals
          go_wp2_with fail
          go_ret
          exact ⟨congrArg (fun x => Ending.returned (Value.int .i64 x)) hfin.out.1, by rw [HK.out]; exact hfin.out.2⟩
    · have hfin : Hid ((1 : Int) = sendC c s L l ∧ ∃ v', Bk wc b c s v' (sendL c s L l) ∧ Ks (Own b v) w wc ∧ (∀ k, v'.ownBlock = some k → v.ownBlock = some k ∨ w.heap.size ≤ k)) := by
        unfold sendC sendL
        rw [hres.out]
        simp only [hc0, if_false, true_and]
        exact ⟨v, hB, Ks.of_below hBel, fun k hk => .inl hk⟩
      have hcb : (code != 0) = true := by simpa using hc0
      clear hB hIn hBel hres hc0 h5 hl h
      go_wp2_with fail
      go_ret
      exact ⟨congrArg (fun x => Ending.returned (Value.int .i64 x)) hfin.out.1, hfin.out.2⟩
  have hIW : Sq w b c s v L (.slice lb n lc) l w.drew := hI0.below (Below.refl _ w).drew
  refine wp_region_held_drew (S := fun W => W.cell? ⟨b, 0, none⟩ = some (.bool c) ∧ Sq w b c s v L (.slice lb n lc) l W) (by kernel_rfl) (hfull.out _ hIW) (fun hHeld => ?_)
  generalize hWg : World.drew _ = W at hIW hHeld ⊢
  clear hWg hI0 h hl
  refine wpAnyH_take (i := 0) (oi := { dst := some 8, op := Op.move (Operand.tmp 0), type := 23, pos := "book.go:25", after := #[], guard := none }) (v := ?vv1) rfl (by kernel_rfl) (by kernel_rfl) (by kernel_rfl) (fun _ _ _ h => h) (Or.inl ⟨by rfl, ?hy1⟩) (by assumption) ?_
  case hy1 => (intro w hSw; (try dsimp only at hSw); go_simp; all_goals with_reducible rfl)
  try simp only [Act.put, List.setIfInBounds_toArray, List.set_cons_zero, List.set_cons_succ]
  refine wpAnyH_take (i := 2) (oi := { dst := some 10, op := Op.move (Operand.tmp 1), type := 30, pos := "book.go:25", after := #[], guard := none }) (v := ?vv2) rfl (by kernel_rfl) (by kernel_rfl) (by kernel_rfl) (fun _ _ _ h => h) (Or.inl ⟨by rfl, ?hy2⟩) (by assumption) ?_
  case hy2 => (intro w hSw; (try dsimp only at hSw); go_simp; all_goals with_reducible rfl)
  try simp only [Act.put, List.setIfInBounds_toArray, List.set_cons_zero, List.set_cons_succ]
  refine wpAnyH_take (i := 3) (oi := { dst := some 11, op := Op.move (Operand.tmp 0), type := 23, pos := "book.go:25", after := #[], guard := none }) (v := ?vv3) rfl (by kernel_rfl) (by kernel_rfl) (by kernel_rfl) (fun _ _ _ h => h) (Or.inl ⟨by rfl, ?hy3⟩) (by assumption) ?_
  case hy3 => (intro w hSw; (try dsimp only at hSw); go_simp; all_goals with_reducible rfl)
  try simp only [Act.put, List.setIfInBounds_toArray, List.set_cons_zero, List.set_cons_succ]
  refine wpAnyH_take (i := 4) (oi := { dst := some 12, op := Op.nilCheck (Operand.tmp 11), type := 0, pos := "book.go:25", after := #[{ on := 3, ground := Ground.data }], guard := none }) (v := ?vv4) rfl (by kernel_rfl) (by kernel_rfl) (by kernel_rfl) (fun _ _ _ h => h) (Or.inl ⟨by rfl, ?hy4⟩) (by assumption) ?_
  case hy4 => (intro w hSw; (try dsimp only at hSw); go_simp; all_goals with_reducible rfl)
  try simp only [Act.put, List.setIfInBounds_toArray, List.set_cons_zero, List.set_cons_succ]
  refine wpAnyH_take (i := 5) (oi := { dst := some 13, op := Op.fieldAddr 61 (Operand.tmp 12) 0, type := 0, pos := "book.go:25", after := #[{ on := 4, ground := Ground.data }], guard := none }) (v := ?vv5) rfl (by kernel_rfl) (by kernel_rfl) (by kernel_rfl) (fun _ _ _ h => h) (Or.inl ⟨by rfl, ?hy5⟩) (by assumption) ?_
  case hy5 => (intro w hSw; (try dsimp only at hSw); go_simp; all_goals with_reducible rfl)
  try simp only [Act.put, List.setIfInBounds_toArray, List.set_cons_zero, List.set_cons_succ]
  refine wpAnyH_take (i := 6) (oi := { dst := some 14, op := Op.load 4 (Operand.tmp 13), type := 4, pos := "book.go:25", after := #[{ on := 5, ground := Ground.data }], guard := none }) (v := ?vv6) rfl (by kernel_rfl) (by kernel_rfl) (by kernel_rfl) (fun _ _ _ h => h) (Or.inl ⟨by rfl, ?hy6⟩) (by assumption) ?_
  case hy6 => (intro w hSw; (try dsimp only at hSw); go_simp; all_goals with_reducible rfl)
  try simp only [Act.put, List.setIfInBounds_toArray, List.set_cons_zero, List.set_cons_succ]
  refine wpAnyH_ready (rs := [1, 11]) (by kernel_rfl) (by simp) ?_
  refine AllReadyH.cons (o := { dst := some 9, op := Op.call { callee := Callee.value (Operand.func 36), args := #[Operand.tmp 8], argTypes := #[23] }, type := 27, pos := "book.go:25", after := #[{ on := 0, ground := Ground.data }], guard := none }) rfl (fun K hK => ?_) ?_
  · go_simp
    refine (hlast.out _ hIW).mono ?_
    rintro e' Wx ⟨rfl, hO, hIWx⟩
    go_wp2_with fail
    refine hK.out _ _ (hfull.out _ hIWx) (fun hHeld => ?_)
    clear hK K hO hIW
    try simp only [Act.put, List.setIfInBounds_toArray, List.set_cons_zero, List.set_cons_succ]
    refine wpAnyH_ready (rs := [7, 11]) (by kernel_rfl) (by simp) ?_
    refine AllReadyH.cons (o := { dst := some 15, op := Op.call { callee := Callee.value (Operand.func 11), args := #[Operand.tmp 9, Operand.tmp 10, Operand.tmp 14], argTypes := #[27, 30, 4] }, type := 33, pos := "book.go:25", after := #[{ on := 1, ground := Ground.data }, { on := 2, ground := Ground.data }, { on := 6, ground := Ground.data }, { on := 1, ground := Ground.chain }], guard := none }) rfl (fun K hK => ?_) ?_
    · go_simp
      refine (happ.out _ hIWx).mono ?_
      rintro e' Wxx ⟨rfl, hO, hIWxx⟩
      go_wp2_with fail
      refine hK.out _ _ (hfull.out _ hIWxx) (fun hHeld => ?_)
      clear hK K hO hIWx
      try simp only [Act.put, List.setIfInBounds_toArray, List.set_cons_zero, List.set_cons_succ]
      refine wpAnyH_take (i := 8) (oi := { dst := some 7, op := Op.move (Operand.tmp 15), type := 33, pos := "book.go:25", after := #[{ on := 7, ground := Ground.data }], guard := none }) (v := ?vv7) rfl (by kernel_rfl) (by kernel_rfl) (by kernel_rfl) (fun _ _ _ h => h) (Or.inl ⟨by rfl, ?hy7⟩) (by assumption) ?_
      case hy7 => (intro w hSw; (try dsimp only at hSw); go_simp; all_goals with_reducible rfl)
      try simp only [Act.put, List.setIfInBounds_toArray, List.set_cons_zero, List.set_cons_succ]
      refine wpAnyH_take (i := 9) (oi := { dst := some 16, op := Op.extract (Operand.tmp 7) 0, type := 27, pos := "book.go:25", after := #[{ on := 8, ground := Ground.data }], guard := none }) (v := ?vv8) rfl (by kernel_rfl) (by kernel_rfl) (by kernel_rfl) (fun _ _ _ h => h) (Or.inl ⟨by rfl, ?hy8⟩) (by assumption) ?_
      case hy8 => (intro w hSw; (try dsimp only at hSw); go_simp; all_goals with_reducible rfl)
      try simp only [Act.put, List.setIfInBounds_toArray, List.set_cons_zero, List.set_cons_succ]
      refine wpAnyH_take (i := 10) (oi := { dst := some 17, op := Op.extract (Operand.tmp 7) 1, type := 2, pos := "book.go:25", after := #[{ on := 8, ground := Ground.data }, { on := 12, ground := Ground.gcOnly Departure.lateStores }], guard := none }) (v := ?vv9) rfl (by kernel_rfl) (by kernel_rfl) (by kernel_rfl) (fun _ _ _ h => h) (Or.inl ⟨by rfl, ?hy9⟩) (by assumption) ?_
      case hy9 => (intro w hSw; (try dsimp only at hSw); go_simp; all_goals with_reducible rfl)
      try simp only [Act.put, List.setIfInBounds_toArray, List.set_cons_zero, List.set_cons_succ]
      refine wpAnyH_ready (rs := [11]) (by kernel_rfl) (by simp) ?_
      refine AllReadyH.cons (o := { dst := some 5, op := Op.alloc 27, type := 0, pos := "book.go:25", after := #[], guard := none }) rfl (fun K hK => ?_) AllReadyH.nil
      go_simp
      obtain ⟨Wxxx, hV⟩ : ∃ Wxxx, Wxxx = Wxx.alloc (.cells #[.int .i64 0, .int .i64 0, .int .i64 0, .int .i64 0, .int .i64 0, .int .i64 0] 27) := ⟨_, rfl⟩
      obtain ⟨a5, ha5⟩ : ∃ a5, a5 = Wxx.heap.size := ⟨_, rfl⟩
      have h5 : Wxxx.heap[a5]? = some (.cells St.zero.a 27 (0, 0)) := by rw [hV, ha5]; exact heap_alloc_new _ _
      have hIWxxx := hal.out _ (.cells #[.int .i64 0, .int .i64 0, .int .i64 0, .int .i64 0, .int .i64 0, .int .i64 0] 27) hIWxx
      rw [← hV] at hIWxxx
      have hO : ∀ k, k < Wxx.heap.size → Wxxx.heap[k]? = Wxx.heap[k]? := fun k hk => by rw [hV]; exact heap_alloc_old _ _ hk
      have hb5 : w.heap.size ≤ a5 := by rw [ha5]; exact hIWxx.2.2.size
      rw [← hV, ← ha5]
      clear hV ha5
      refine hK.out _ _ (hfull.out _ hIWxxx) (fun hHeld => ?_)
      clear hK K hO hIWxx
      try simp only [Act.put, List.setIfInBounds_toArray, List.set_cons_zero, List.set_cons_succ]
      refine wpAnyH_ready (rs := [12]) (by kernel_rfl) (by simp) ?_
      refine AllReadyH.cons (o := { dst := none, op := Op.store 27 (Operand.tmp 5) (Operand.tmp 16), type := 0, pos := "book.go:25", after := #[{ on := 11, ground := Ground.data }, { on := 9, ground := Ground.data }, { on := 7, ground := Ground.chain }, { on := 0, ground := Ground.phase }, { on := 1, ground := Ground.phase }, { on := 2, ground := Ground.phase }, { on := 3, ground := Ground.phase }, { on := 4, ground := Ground.phase }, { on := 5, ground := Ground.phase }, { on := 6, ground := Ground.phase }, { on := 7, ground := Ground.phase }, { on := 8, ground := Ground.phase }, { on := 9, ground := Ground.phase }, { on := 10, ground := Ground.textOnly Departure.lateStores }, { on := 11, ground := Ground.phase }], guard := none }) rfl (fun K hK => ?_) AllReadyH.nil
      obtain ⟨z0, z1, z2, z3, z4, z5⟩ := c6 h5
      obtain ⟨y0, y1, y2, y3, y4, y5⟩ := f6 h5
      simp only [St.zero] at z0 z1 z2 z3 z4 z5
      go_simp
      change K _ (set6 Wxxx a5 (St.mk q1 q2 q3 q4 q5 q6))
      obtain ⟨x1, x2⟩ := hst.out Wxxx a5 h5 hb5 hIWxxx
      refine hK.out _ _ (hfull.out _ x2) (fun hHeld => ?_)
      generalize hWn : set6 Wxxx a5 (St.mk q1 q2 q3 q4 q5 q6) = Wxxxx at x1 x2 hHeld ⊢
      clear hWn z0 z1 z2 z3 z4 z5 y0 y1 y2 y3 y4 y5 hK K
      try simp only [Act.put, List.setIfInBounds_toArray, List.set_cons_zero, List.set_cons_succ]
      refine wpAnyH_take (i := 13) (oi := { dst := some 6, op := Op.assign (Operand.tmp 17), type := 2, pos := "book.go:25", after := #[{ on := 10, ground := Ground.data }, { on := 12, ground := Ground.chain }, { on := 0, ground := Ground.phase }, { on := 1, ground := Ground.phase }, { on := 2, ground := Ground.phase }, { on := 3, ground := Ground.phase }, { on := 4, ground := Ground.phase }, { on := 5, ground := Ground.phase }, { on := 6, ground := Ground.phase }, { on := 7, ground := Ground.phase }, { on := 8, ground := Ground.phase }, { on := 9, ground := Ground.phase }, { on := 10, ground := Ground.phase }, { on := 11, ground := Ground.phase }, { on := 12, ground := Ground.phase }], guard := none }) (v := ?vv10) rfl (by kernel_rfl) (by kernel_rfl) (by kernel_rfl) (fun _ _ _ h => h) (Or.inl ⟨by rfl, ?hy10⟩) (by assumption) ?_
      case hy10 => (intro w hSw; (try dsimp only at hSw); go_simp; all_goals with_reducible rfl)
      try simp only [Act.put, List.setIfInBounds_toArray, List.set_cons_zero, List.set_cons_succ]
      refine wpAnyH_done (by kernel_rfl) ?_ _
      go_wp2_with fail
      go_meet
      case rel => exact ⟨a5, rfl, rfl, x1, hb5, x2⟩
    refine AllReadyH.cons (o := { dst := some 5, op := Op.alloc 27, type := 0, pos := "book.go:25", after := #[], guard := none }) rfl (fun K hK => ?_) AllReadyH.nil
    go_simp
    obtain ⟨Wxx, hV⟩ : ∃ Wxx, Wxx = Wx.alloc (.cells #[.int .i64 0, .int .i64 0, .int .i64 0, .int .i64 0, .int .i64 0, .int .i64 0] 27) := ⟨_, rfl⟩
    obtain ⟨a5, ha5⟩ : ∃ a5, a5 = Wx.heap.size := ⟨_, rfl⟩
    have h5 : Wxx.heap[a5]? = some (.cells St.zero.a 27 (0, 0)) := by rw [hV, ha5]; exact heap_alloc_new _ _
    have hIWxx := hal.out _ (.cells #[.int .i64 0, .int .i64 0, .int .i64 0, .int .i64 0, .int .i64 0, .int .i64 0] 27) hIWx
    rw [← hV] at hIWxx
    have hO : ∀ k, k < Wx.heap.size → Wxx.heap[k]? = Wx.heap[k]? := fun k hk => by rw [hV]; exact heap_alloc_old _ _ hk
    have hb5 : w.heap.size ≤ a5 := by rw [ha5]; exact hIWx.2.2.size
    rw [← hV, ← ha5]
    clear hV ha5
    refine hK.out _ _ (hfull.out _ hIWxx) (fun hHeld => ?_)
    clear hK K hO hIWx
    try simp only [Act.put, List.setIfInBounds_toArray, List.set_cons_zero, List.set_cons_succ]
    refine wpAnyH_ready (rs := [7]) (by kernel_rfl) (by simp) ?_
    refine AllReadyH.cons (o := { dst := some 15, op := Op.call { callee := Callee.value (Operand.func 11), args := #[Operand.tmp 9, Operand.tmp 10, Operand.tmp 14], argTypes := #[27, 30, 4] }, type := 33, pos := "book.go:25", after := #[{ on := 1, ground := Ground.data }, { on := 2, ground := Ground.data }, { on := 6, ground := Ground.data }, { on := 1, ground := Ground.chain }], guard := none }) rfl (fun K hK => ?_) AllReadyH.nil
    go_simp
    refine (happ.out _ hIWxx).mono ?_
    rintro e' Wxxx ⟨rfl, hO, hIWxxx⟩
    go_wp2_with fail
    refine hK.out _ _ (hfull.out _ hIWxxx) (fun hHeld => ?_)
    replace h5 := (hO _ (heap_lt h5)).trans h5
    clear hK K hO hIWxx
    try simp only [Act.put, List.setIfInBounds_toArray, List.set_cons_zero, List.set_cons_succ]
    refine wpAnyH_take (i := 8) (oi := { dst := some 7, op := Op.move (Operand.tmp 15), type := 33, pos := "book.go:25", after := #[{ on := 7, ground := Ground.data }], guard := none }) (v := ?vv11) rfl (by kernel_rfl) (by kernel_rfl) (by kernel_rfl) (fun _ _ _ h => h) (Or.inl ⟨by rfl, ?hy11⟩) (by assumption) ?_
    case hy11 => (intro w hSw; (try dsimp only at hSw); go_simp; all_goals with_reducible rfl)
    try simp only [Act.put, List.setIfInBounds_toArray, List.set_cons_zero, List.set_cons_succ]
    refine wpAnyH_take (i := 9) (oi := { dst := some 16, op := Op.extract (Operand.tmp 7) 0, type := 27, pos := "book.go:25", after := #[{ on := 8, ground := Ground.data }], guard := none }) (v := ?vv12) rfl (by kernel_rfl) (by kernel_rfl) (by kernel_rfl) (fun _ _ _ h => h) (Or.inl ⟨by rfl, ?hy12⟩) (by assumption) ?_
    case hy12 => (intro w hSw; (try dsimp only at hSw); go_simp; all_goals with_reducible rfl)
    try simp only [Act.put, List.setIfInBounds_toArray, List.set_cons_zero, List.set_cons_succ]
    refine wpAnyH_take (i := 10) (oi := { dst := some 17, op := Op.extract (Operand.tmp 7) 1, type := 2, pos := "book.go:25", after := #[{ on := 8, ground := Ground.data }, { on := 12, ground := Ground.gcOnly Departure.lateStores }], guard := none }) (v := ?vv13) rfl (by kernel_rfl) (by kernel_rfl) (by kernel_rfl) (fun _ _ _ h => h) (Or.inl ⟨by rfl, ?hy13⟩) (by assumption) ?_
    case hy13 => (intro w hSw; (try dsimp only at hSw); go_simp; all_goals with_reducible rfl)
    try simp only [Act.put, List.setIfInBounds_toArray, List.set_cons_zero, List.set_cons_succ]
    refine wpAnyH_ready (rs := [12]) (by kernel_rfl) (by simp) ?_
    refine AllReadyH.cons (o := { dst := none, op := Op.store 27 (Operand.tmp 5) (Operand.tmp 16), type := 0, pos := "book.go:25", after := #[{ on := 11, ground := Ground.data }, { on := 9, ground := Ground.data }, { on := 7, ground := Ground.chain }, { on := 0, ground := Ground.phase }, { on := 1, ground := Ground.phase }, { on := 2, ground := Ground.phase }, { on := 3, ground := Ground.phase }, { on := 4, ground := Ground.phase }, { on := 5, ground := Ground.phase }, { on := 6, ground := Ground.phase }, { on := 7, ground := Ground.phase }, { on := 8, ground := Ground.phase }, { on := 9, ground := Ground.phase }, { on := 10, ground := Ground.textOnly Departure.lateStores }, { on := 11, ground := Ground.phase }], guard := none }) rfl (fun K hK => ?_) AllReadyH.nil
    obtain ⟨z0, z1, z2, z3, z4, z5⟩ := c6 h5
    obtain ⟨y0, y1, y2, y3, y4, y5⟩ := f6 h5
    simp only [St.zero] at z0 z1 z2 z3 z4 z5
    go_simp
    change K _ (set6 Wxxx a5 (St.mk q1 q2 q3 q4 q5 q6))
    obtain ⟨x1, x2⟩ := hst.out Wxxx a5 h5 hb5 hIWxxx
    refine hK.out _ _ (hfull.out _ x2) (fun hHeld => ?_)
    generalize hWn : set6 Wxxx a5 (St.mk q1 q2 q3 q4 q5 q6) = Wxxxx at x1 x2 hHeld ⊢
    clear hWn z0 z1 z2 z3 z4 z5 y0 y1 y2 y3 y4 y5 hK K
    try simp only [Act.put, List.setIfInBounds_toArray, List.set_cons_zero, List.set_cons_succ]
    refine wpAnyH_take (i := 13) (oi := { dst := some 6, op := Op.assign (Operand.tmp 17), type := 2, pos := "book.go:25", after := #[{ on := 10, ground := Ground.data }, { on := 12, ground := Ground.chain }, { on := 0, ground := Ground.phase }, { on := 1, ground := Ground.phase }, { on := 2, ground := Ground.phase }, { on := 3, ground := Ground.phase }, { on := 4, ground := Ground.phase }, { on := 5, ground := Ground.phase }, { on := 6, ground := Ground.phase }, { on := 7, ground := Ground.phase }, { on := 8, ground := Ground.phase }, { on := 9, ground := Ground.phase }, { on := 10, ground := Ground.phase }, { on := 11, ground := Ground.phase }, { on := 12, ground := Ground.phase }], guard := none }) (v := ?vv14) rfl (by kernel_rfl) (by kernel_rfl) (by kernel_rfl) (fun _ _ _ h => h) (Or.inl ⟨by rfl, ?hy14⟩) (by assumption) ?_
    case hy14 => (intro w hSw; (try dsimp only at hSw); go_simp; all_goals with_reducible rfl)
    try simp only [Act.put, List.setIfInBounds_toArray, List.set_cons_zero, List.set_cons_succ]
    refine wpAnyH_done (by kernel_rfl) ?_ _
    go_wp2_with fail
    go_meet
    case rel => exact ⟨a5, rfl, rfl, x1, hb5, x2⟩
  refine AllReadyH.cons (o := { dst := some 5, op := Op.alloc 27, type := 0, pos := "book.go:25", after := #[], guard := none }) rfl (fun K hK => ?_) AllReadyH.nil
  go_simp
  obtain ⟨Wx, hV⟩ : ∃ Wx, Wx = W.alloc (.cells #[.int .i64 0, .int .i64 0, .int .i64 0, .int .i64 0, .int .i64 0, .int .i64 0] 27) := ⟨_, rfl⟩
  obtain ⟨a5, ha5⟩ : ∃ a5, a5 = W.heap.size := ⟨_, rfl⟩
  have h5 : Wx.heap[a5]? = some (.cells St.zero.a 27 (0, 0)) := by rw [hV, ha5]; exact heap_alloc_new _ _
  have hIWx := hal.out _ (.cells #[.int .i64 0, .int .i64 0, .int .i64 0, .int .i64 0, .int .i64 0, .int .i64 0] 27) hIW
  rw [← hV] at hIWx
  have hO : ∀ k, k < W.heap.size → Wx.heap[k]? = W.heap[k]? := fun k hk => by rw [hV]; exact heap_alloc_old _ _ hk
  have hb5 : w.heap.size ≤ a5 := by rw [ha5]; exact hIW.2.2.size
  rw [← hV, ← ha5]
  clear hV ha5
  refine hK.out _ _ (hfull.out _ hIWx) (fun hHeld => ?_)
  clear hK K hO hIW
  try simp only [Act.put, List.setIfInBounds_toArray, List.set_cons_zero, List.set_cons_succ]
  refine wpAnyH_ready (rs := [1]) (by kernel_rfl) (by simp) ?_
  refine AllReadyH.cons (o := { dst := some 9, op := Op.call { callee := Callee.value (Operand.func 36), args := #[Operand.tmp 8], argTypes := #[23] }, type := 27, pos := "book.go:25", after := #[{ on := 0, ground := Ground.data }], guard := none }) rfl (fun K hK => ?_) AllReadyH.nil
  go_simp
  refine (hlast.out _ hIWx).mono ?_
  rintro e' Wxx ⟨rfl, hO, hIWxx⟩
  go_wp2_with fail
  refine hK.out _ _ (hfull.out _ hIWxx) (fun hHeld => ?_)
  replace h5 := (hO _ (heap_lt h5)).trans h5
  clear hK K hO hIWx
  try simp only [Act.put, List.setIfInBounds_toArray, List.set_cons_zero, List.set_cons_succ]
  refine wpAnyH_ready (rs := [7]) (by kernel_rfl) (by simp) ?_
  refine AllReadyH.cons (o := { dst := some 15, op := Op.call { callee := Callee.value (Operand.func 11), args := #[Operand.tmp 9, Operand.tmp 10, Operand.tmp 14], argTypes := #[27, 30, 4] }, type := 33, pos := "book.go:25", after := #[{ on := 1, ground := Ground.data }, { on := 2, ground := Ground.data }, { on := 6, ground := Ground.data }, { on := 1, ground := Ground.chain }], guard := none }) rfl (fun K hK => ?_) AllReadyH.nil
  go_simp
  refine (happ.out _ hIWxx).mono ?_
  rintro e' Wxxx ⟨rfl, hO, hIWxxx⟩
  go_wp2_with fail
  refine hK.out _ _ (hfull.out _ hIWxxx) (fun hHeld => ?_)
  replace h5 := (hO _ (heap_lt h5)).trans h5
  clear hK K hO hIWxx
  try simp only [Act.put, List.setIfInBounds_toArray, List.set_cons_zero, List.set_cons_succ]
  refine wpAnyH_take (i := 8) (oi := { dst := some 7, op := Op.move (Operand.tmp 15), type := 33, pos := "book.go:25", after := #[{ on := 7, ground := Ground.data }], guard := none }) (v := ?vv15) rfl (by kernel_rfl) (by kernel_rfl) (by kernel_rfl) (fun _ _ _ h => h) (Or.inl ⟨by rfl, ?hy15⟩) (by assumption) ?_
  case hy15 => (intro w hSw; (try dsimp only at hSw); go_simp; all_goals with_reducible rfl)
  try simp only [Act.put, List.setIfInBounds_toArray, List.set_cons_zero, List.set_cons_succ]
  refine wpAnyH_take (i := 9) (oi := { dst := some 16, op := Op.extract (Operand.tmp 7) 0, type := 27, pos := "book.go:25", after := #[{ on := 8, ground := Ground.data }], guard := none }) (v := ?vv16) rfl (by kernel_rfl) (by kernel_rfl) (by kernel_rfl) (fun _ _ _ h => h) (Or.inl ⟨by rfl, ?hy16⟩) (by assumption) ?_
  case hy16 => (intro w hSw; (try dsimp only at hSw); go_simp; all_goals with_reducible rfl)
  try simp only [Act.put, List.setIfInBounds_toArray, List.set_cons_zero, List.set_cons_succ]
  refine wpAnyH_take (i := 10) (oi := { dst := some 17, op := Op.extract (Operand.tmp 7) 1, type := 2, pos := "book.go:25", after := #[{ on := 8, ground := Ground.data }, { on := 12, ground := Ground.gcOnly Departure.lateStores }], guard := none }) (v := ?vv17) rfl (by kernel_rfl) (by kernel_rfl) (by kernel_rfl) (fun _ _ _ h => h) (Or.inl ⟨by rfl, ?hy17⟩) (by assumption) ?_
  case hy17 => (intro w hSw; (try dsimp only at hSw); go_simp; all_goals with_reducible rfl)
  try simp only [Act.put, List.setIfInBounds_toArray, List.set_cons_zero, List.set_cons_succ]
  refine wpAnyH_ready (rs := [12]) (by kernel_rfl) (by simp) ?_
  refine AllReadyH.cons (o := { dst := none, op := Op.store 27 (Operand.tmp 5) (Operand.tmp 16), type := 0, pos := "book.go:25", after := #[{ on := 11, ground := Ground.data }, { on := 9, ground := Ground.data }, { on := 7, ground := Ground.chain }, { on := 0, ground := Ground.phase }, { on := 1, ground := Ground.phase }, { on := 2, ground := Ground.phase }, { on := 3, ground := Ground.phase }, { on := 4, ground := Ground.phase }, { on := 5, ground := Ground.phase }, { on := 6, ground := Ground.phase }, { on := 7, ground := Ground.phase }, { on := 8, ground := Ground.phase }, { on := 9, ground := Ground.phase }, { on := 10, ground := Ground.textOnly Departure.lateStores }, { on := 11, ground := Ground.phase }], guard := none }) rfl (fun K hK => ?_) AllReadyH.nil
  obtain ⟨z0, z1, z2, z3, z4, z5⟩ := c6 h5
  obtain ⟨y0, y1, y2, y3, y4, y5⟩ := f6 h5
  simp only [St.zero] at z0 z1 z2 z3 z4 z5
  go_simp
  change K _ (set6 Wxxx a5 (St.mk q1 q2 q3 q4 q5 q6))
  obtain ⟨x1, x2⟩ := hst.out Wxxx a5 h5 hb5 hIWxxx
  refine hK.out _ _ (hfull.out _ x2) (fun hHeld => ?_)
  generalize hWn : set6 Wxxx a5 (St.mk q1 q2 q3 q4 q5 q6) = Wxxxx at x1 x2 hHeld ⊢
  clear hWn z0 z1 z2 z3 z4 z5 y0 y1 y2 y3 y4 y5 hK K
  try simp only [Act.put, List.setIfInBounds_toArray, List.set_cons_zero, List.set_cons_succ]
  refine wpAnyH_take (i := 13) (oi := { dst := some 6, op := Op.assign (Operand.tmp 17), type := 2, pos := "book.go:25", after := #[{ on := 10, ground := Ground.data }, { on := 12, ground := Ground.chain }, { on := 0, ground := Ground.phase }, { on := 1, ground := Ground.phase }, { on := 2, ground := Ground.phase }, { on := 3, ground := Ground.phase }, { on := 4, ground := Ground.phase }, { on := 5, ground := Ground.phase }, { on := 6, ground := Ground.phase }, { on := 7, ground := Ground.phase }, { on := 8, ground := Ground.phase }, { on := 9, ground := Ground.phase }, { on := 10, ground := Ground.phase }, { on := 11, ground := Ground.phase }, { on := 12, ground := Ground.phase }], guard := none }) (v := ?vv18) rfl (by kernel_rfl) (by kernel_rfl) (by kernel_rfl) (fun _ _ _ h => h) (Or.inl ⟨by rfl, ?hy18⟩) (by assumption) ?_
  case hy18 => (intro w hSw; (try dsimp only at hSw); go_simp; all_goals with_reducible rfl)
  try simp only [Act.put, List.setIfInBounds_toArray, List.set_cons_zero, List.set_cons_succ]
  refine wpAnyH_done (by kernel_rfl) ?_ _
  go_wp2_with fail
  go_meet
  case rel => exact ⟨a5, rfl, rfl, x1, hb5, x2⟩
end Go.Proofs.YtfkimdgbkfogcaaDoor
