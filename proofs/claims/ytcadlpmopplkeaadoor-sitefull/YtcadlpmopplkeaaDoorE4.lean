/- site: answer. -/
import Derived.Test.YtcadlpmopplkeaaDoorE3
import Derived.Deep.Cut
namespace Go.Proofs.YtcadlpmopplkeaaDoor
open Go.RowKit Go.Maps
open Go.Shelf
set_option linter.unusedVariables false
set_option linter.unusedSimpArgs false

def vyF (v : ByteArray) : Fd := ⟨⟨#[118, 97, 114, 121]⟩, v, false⟩
def vyL (v : ByteArray) : List Fd := if v.toList.isEmpty = true then [] else [vyF v]
def anB (m b : ByteArray) : ByteArray := if (m.toList == [71, 69, 84]) = true then b else ⟨#[]⟩
/-- a response that is told anew -/
def RsNew (w : World) (n : Int) (l : List Fd) (b : ByteArray) (v : Value) (w' : World) : Prop := ∃ y : SV, v = .agg (rsv n (sv y) b) ∧ R EFd w' (sv y) l ∧ ∀ k, (sv y).ownBlock = some k → w.heap.size ≤ k
/-- a response that is being made, in a box of its own -/
structure An (W0 wx : World) (q : Nat) (n : Int) (y : SV) (l : List Fd) : Prop where
  bel : Below W0.heap.size W0 wx
  blk : wx.heap[q]? = some (.cells #[.int .i64 n, sv y, .string ⟨#[]⟩] 37 (0, 0))
  row : R EFd wx (sv y) l
  new : ∀ k, (sv y).ownBlock = some k → W0.heap.size ≤ k
  hq : W0.heap.size ≤ q
theorem row_not {w : World} {q : Nat} {y : SV} {l : List Fd} {c : Array Value} {t : TypeId} (hr : R EFd w (sv y) l) (hb : w.heap[q]? = some (.cells c t (0, 0))) (ht : t ≠ 44) : (sv y).ownBlock ≠ some q := fun e => by
  obtain ⟨cc, hc⟩ := hr.ty q e
  rw [hb] at hc
  injection hc with hc
  injection hc with _ hc
  exact ht hc
theorem An.below {W0 wx wy : World} {q : Nat} {n : Int} {y : SV} {l : List Fd} (h : An W0 wx q n y l) (hb : Below wx.heap.size wx wy) : An W0 wy q n y l :=
  ⟨h.bel.trans (hb.mono h.bel.size), (hb.block _ (heap_lt h.blk)).trans h.blk, h.row.below hb, h.new, h.hq⟩
theorem An.mk3 {W0 W : World} {q : Nat} {n : Int} {y : SV} {l : List Fd} {c0 c1 c2 : Value} (hb : Below W0.heap.size W0 W) (hblk : W.heap[q]? = some (.cells #[c0, c1, c2] 37 (0, 0))) (hr : R EFd W (sv y) l) (hn : ∀ k, (sv y).ownBlock = some k → W0.heap.size ≤ k) (hq : W0.heap.size ≤ q) :
    An W0 (((W.setCell ⟨q, 0, none⟩ (.int .i64 n)).setCell ⟨q, 1, none⟩ (sv y)).setCell ⟨q, 2, none⟩ (.string ⟨#[]⟩)) q n y l := by
  refine ⟨hb.trans (rs_below _ _ _ hq _ _ _), ?_, hr.stays fun k hk hl => rs_other _ _ _ (fun e => row_not hr hblk (by decide) (by rw [← e]; exact hk)) _ _ _, hn, hq⟩
  rw [setCell_block _ _ _ _ _ _ _ (setCell_block _ _ _ _ _ _ _ (setCell_block _ _ _ _ _ _ _ hblk))]
  rfl
theorem An.app {W0 w : World} {q : Nat} {n : Int} {y : SV} {l : List Fd} (h : An W0 w q n y l) (f : Fd) (x : Value) (hx : In EFd w x [f]) (hz : (l.length + 1) * 40 ≤ 140737488355328) :
    ∃ bs c w2, (Builtin.append_ #[35, 35] 35 #[sv y, x]).run Tryd.prog w = .ok (.slice bs (l.length + 1) c) w2 ∧ Below W0.heap.size W0 w2 ∧ w2.heap[q]? = some (.cells #[.int .i64 n, sv y, .string ⟨#[]⟩] 37 (0, 0)) ∧ An W0 (w2.setCell ⟨q, 1, none⟩ (.slice bs (l.length + 1) c)) q n (bs, l.length + 1, c) (l ++ [f]) := by
  obtain ⟨bs, c, w2, hrun, hR, hG⟩ := Go.Proofs.YtcadlpmopplkeaaDoor.app okFd w (sv y) l h.row x [f] hx (by simpa [EFd] using hz)
  simp only [List.length_singleton] at hrun hR hG
  have hB2 : Below W0.heap.size w w2 := hG.belowB h.bel.size h.new
  have hq2 : w2.heap[q]? = some (.cells #[.int .i64 n, sv y, .string ⟨#[]⟩] 37 (0, 0)) := (hG.block q (heap_lt h.blk) (row_not h.row h.blk (by decide))).trans h.blk
  refine ⟨bs, c, w2, hrun, h.bel.trans hB2, hq2, ⟨(h.bel.trans hB2).setCell (p := ⟨q, 1, none⟩) h.hq _, ?_, ?_, ?_, h.hq⟩⟩
  · rw [setCell_block _ _ _ _ _ _ _ hq2]
    rfl
  · exact R.stays (o := sv (bs, l.length + 1, c)) hR fun k hk hl => setCell_other _ _ _ _ _ fun e => row_not (y := (bs, l.length + 1, c)) hR hq2 (by decide) (by rw [← e]; exact hk)
  · intro k hk
    rcases hG.own k hk with h' | h'
    · exact h.new k h'
    · have := h.bel.size; omega
theorem field29 (a b : ByteArray) (w : World) : (Instr.field 29 (.agg #[.string a, .string b]) 1).run Tryd.prog w = .ok (.string b) w := by kernel_rfl
set_option maxHeartbeats 8000000 in
set_option maxRecDepth 100000 in
theorem answer_any (e : Ed) (m s a p : ByteArray) (x : SV) (bd : ByteArray) (fs : List Fd) (w : World) (hE : In ECh w (sv e.y) e.l) (hne : e.l ≠ []) (hI : In EFd w (sv x) fs) (ht : Tab w) (hz : e.v.size ≤ 281474976710656) (hbz : (chS e fs).b.size ≤ 281474976710656) :
    Calls Tryd.prog 39 #[.agg (edv e), .agg (rqv m s a p (sv x) bd)] w fun r w' => (∃ v, r = .returned v ∧ RsNew w e.n (szF ((chS e fs).b.size : Int) :: vyL e.v) (anB m (chS e fs).b) v w') ∧ Below w.heap.size w w' := by
  obtain ⟨⟨cv, cb⟩, hcs⟩ : ∃ c, chS e fs = c := ⟨_, rfl⟩
  have HCH : Hid (∀ V, Below w.heap.size w V → Calls Tryd.prog 59 #[.agg (edv e), sv x] V fun r w' => r = .returned (.agg #[.string cv, .string cb]) ∧ Below V.heap.size V w') := fun V hV => by
    have h := choice_any e x fs V (hE.below hV) hne (hI.below hV)
    rw [hcs] at h
    exact h
  rw [hcs] at hbz ⊢
  simp only at hbz ⊢
  obtain ⟨k, hk⟩ : ∃ k : Nat, k = cb.size := ⟨_, rfl⟩
  rw [← hk] at hbz ⊢
  obtain ⟨es, n, v, ⟨eb, el, ec⟩, ll⟩ := e
  obtain ⟨xb, xl, xc⟩ := x
  simp only at hz ⊢
  unfold edv at HCH ⊢
  unfold rqv
  simp only [sv] at HCH ⊢
  obtain ⟨W0, hW0⟩ : ∃ W0, W0 = ((w.alloc (.cells #[.int .i64 es, .int .i64 n, .string v, .slice eb el ec] 83)).alloc (.cells #[.string m, .string s, .string a, .string p, .slice xb xl xc, .string bd] 41)).alloc (.cells #[.int .i64 0, .slice none 0 0, .string ⟨#[]⟩] 37) := ⟨_, rfl⟩
  have HB0 : Hid (Below w.heap.size w W0) := by rw [hW0]; exact bel3 _ _ _ _
  obtain ⟨n0, hn0⟩ : ∃ n0, n0 = w.heap.size := ⟨_, rfl⟩
  obtain ⟨n1, hn1⟩ : ∃ n1, n1 = w.heap.size + 1 := ⟨_, rfl⟩
  obtain ⟨n2, hn2⟩ : ∃ n2, n2 = w.heap.size + 1 + 1 := ⟨_, rfl⟩
  have HF0 : Hid (W0.heap[n0]? = some (.cells #[.int .i64 es, .int .i64 n, .string v, .slice eb el ec] 83 (0, 0))) := by
    show _ = _
    rw [hW0, hn0, heap_al, if_neg (by simp; omega), heap_al, if_neg (by simp), heap_al, if_pos rfl]
  have HF1 : Hid (W0.heap[n1]? = some (.cells #[.string m, .string s, .string a, .string p, .slice xb xl xc, .string bd] 41 (0, 0))) := by
    show _ = _
    rw [hW0, hn1, heap_al, if_neg (by simp), heap_al, if_pos (by simp)]
  have HF2 : Hid (W0.heap[n2]? = some (.cells #[.int .i64 0, .slice none 0 0, .string ⟨#[]⟩] 37 (0, 0))) := by
    show _ = _
    rw [hW0, hn2, heap_al, if_pos (by simp)]
  have HN2 : Hid (w.heap.size ≤ n2 ∧ n2 < W0.heap.size) := ⟨by omega, heap_lt HF2.out⟩
  have HSZ : Hid (∀ V, Below W0.heap.size W0 V → Calls Tryd.prog 38 #[.int .i64 (k : Int)] V fun e w' => ∃ y : SV, e = .returned (sv y) ∧ Below V.heap.size V w' ∧ R EFd w' (sv y) [szF (k : Int)] ∧ ∀ j, (sv y).ownBlock = some j → V.heap.size ≤ j) := fun V hV => sized_any (k : Int) (by omega) (by omega) V (ht.below (HB0.out.trans (hV.mono HB0.out.size)))
  have HZV : Hid (v.size ≤ 281474976710656) := hz
  have HZB : Hid (cb.size ≤ 281474976710656) := by rw [hk] at hbz; exact hbz
  have hCell : Hid (∀ V, Below W0.heap.size W0 V → V.cell? ⟨n0, 1, none⟩ = some (.int .i64 n) ∧ V.cell? ⟨n0, 2, none⟩ = some (.string v)) := fun V hV => ⟨cell_blk ((hV.block _ (heap_lt HF0.out)).trans HF0.out) 1, cell_blk ((hV.block _ (heap_lt HF0.out)).trans HF0.out) 2⟩
  have HM : Hid (∀ V, Below W0.heap.size W0 V → V.cell? ⟨n1, 0, none⟩ = some (.string m)) := fun V hV => cell_blk ((hV.block _ (heap_lt HF1.out)).trans HF1.out) 0
  have c0 := cell_blk HF0.out 0
  have c1 := cell_blk HF0.out 1
  have c2 := cell_blk HF0.out 2
  have c3 := cell_blk HF0.out 3
  have c4 := cell_blk HF1.out 4
  simp at c0 c1 c2 c3 c4
  have hk' : (cb.size : Int) = (k : Int) := by rw [hk]
  clear hE hne hI ht hz hbz hcs hk
  go_enter Tryd.func39, Tryd.ntmps39
  go_upto_region 1 with fail
  rw [← hW0, ← hn2, ← hn1, ← hn0]
  clear hW0 hn0 hn1 hn2
  go_wp2_with fail
  go_at_call 59
  refine (HCH.out _ HB0.out).mono ?_
  rintro e' W1 ⟨rfl, hb1⟩
  have HB1 : Hid (Below W0.heap.size W0 W1) := hb1
  clear hb1 c0 c1 c2 c3 c4
  have hfl := field29 cv cb W1
  go_upto_region 2 with fail
  clear hfl
  go_cut [6] from 7 (fun tv wx => ∃ (q : Nat) (y : SV), tv = .pointer (some ⟨q, 0, none⟩) ∧ Hid (An W0 wx q n y [szF (k : Int)]))
  case first =>
    have hbW : Below W0.heap.size W0 W1.drew := HB1.out.drew
    refine wp_region_held_drew (S := (fun V => V.cell? ⟨n0, 1, none⟩ = some (.int .i64 n) ∧ V.cell? ⟨n0, 2, none⟩ = some (.string v))) (by kernel_rfl) (hCell.out _ hbW) (fun hHeld => ?_)
    generalize hWg : World.drew _ = W at hbW hHeld ⊢
    clear hWg
    refine wpAnyH_take (i := 0) (oi := { dst := some 12, op := Op.fieldAddr 83 (Operand.tmp 2) 1, type := 0, pos := "site.go:115", after := #[], guard := none }) (v := ?vv1) rfl (by kernel_rfl) (by kernel_rfl) (by kernel_rfl) (fun _ _ _ h => h) (Or.inl ⟨by rfl, ?hy1⟩) (by assumption) ?_
    case hy1 => (intro w hSw; (try dsimp only at hSw); go_simp; all_goals with_reducible rfl)
    try simp only [Act.put, List.setIfInBounds_toArray, List.set_cons_zero, List.set_cons_succ]
    refine wpAnyH_take (i := 1) (oi := { dst := some 13, op := Op.load 3 (Operand.tmp 12), type := 3, pos := "site.go:115", after := #[{ on := 0, ground := Ground.data }], guard := none }) (v := ?vv2) rfl (by kernel_rfl) (by kernel_rfl) (by kernel_rfl) (fun _ _ _ h => h) (Or.inl ⟨by rfl, ?hy2⟩) (by assumption) ?_
    case hy2 => (intro w hSw; (try dsimp only at hSw); go_simp; all_goals with_reducible rfl)
    try simp only [Act.put, List.setIfInBounds_toArray, List.set_cons_zero, List.set_cons_succ]
    refine wpAnyH_take (i := 2) (oi := { dst := some 14, op := Op.move (Operand.tmp 5), type := 9, pos := "site.go:115", after := #[], guard := none }) (v := ?vv3) rfl (by kernel_rfl) (by kernel_rfl) (by kernel_rfl) (fun _ _ _ h => h) (Or.inl ⟨by rfl, ?hy3⟩) (by assumption) ?_
    case hy3 => (intro w hSw; (try dsimp only at hSw); go_simp; all_goals with_reducible rfl)
    try simp only [Act.put, List.setIfInBounds_toArray, List.set_cons_zero, List.set_cons_succ]
    refine wpAnyH_take (i := 3) (oi := { dst := some 15, op := Op.call { callee := Callee.builtin Builtin.len, args := #[Operand.tmp 14], argTypes := #[9] }, type := 3, pos := "site.go:115", after := #[{ on := 2, ground := Ground.data }], guard := none }) (v := ?vv4) rfl (by kernel_rfl) (by kernel_rfl) (by kernel_rfl) (fun _ _ _ h => h) (Or.inl ⟨by rfl, ?hy4⟩) (by assumption) ?_
    case hy4 => (intro w hSw; (try dsimp only at hSw); go_simp; all_goals with_reducible rfl)
    try simp only [Act.put, List.setIfInBounds_toArray, List.set_cons_zero, List.set_cons_succ]
    refine wpAnyH_ready (rs := [4, 6]) (by kernel_rfl) (by simp) ?_
    refine AllReadyH.cons (o := { dst := some 16, op := Op.call { callee := Callee.value (Operand.func 38), args := #[Operand.tmp 15], argTypes := #[3] }, type := 35, pos := "site.go:115", after := #[{ on := 3, ground := Ground.data }], guard := none }) rfl (fun K hK => ?_) ?_
    · go_simp
      refine (HSZ.out _ hbW).mono ?_
      rintro e' Wx ⟨⟨yb, yl, yc⟩, rfl, bX, hRz, hnz⟩
      have hbWx : Below W0.heap.size W0 Wx := hbW.trans (bX.mono hbW.size)
      have rWx : Hid (R EFd Wx (sv (yb, yl, yc)) [szF (k : Int)]) := hRz
      have HNW : Hid (∀ j, (sv (yb, yl, yc)).ownBlock = some j → W0.heap.size ≤ j) := fun j hj => Nat.le_trans hbW.size (hnz j hj)
      clear bX hRz hnz
      simp only [sv] at HNW ⊢
      go_wp2_with fail
      refine hK.out _ _ (hCell.out _ hbWx) (fun hHeld => ?_)
      clear hK K
      try simp only [Act.put, List.setIfInBounds_toArray, List.set_cons_zero, List.set_cons_succ]
      refine wpAnyH_take (i := 5) (oi := { dst := some 17, op := Op.build 37 #[(0, Operand.tmp 13), (1, Operand.tmp 16)], type := 37, pos := "site.go:115", after := #[{ on := 1, ground := Ground.data }, { on := 4, ground := Ground.data }], guard := none }) (v := ?vv5) rfl (by kernel_rfl) (by kernel_rfl) (by kernel_rfl) (fun _ _ _ h => h) (Or.inl ⟨by rfl, ?hy5⟩) (by assumption) ?_
      case hy5 => (intro w hSw; (try dsimp only at hSw); go_simp; all_goals with_reducible rfl)
      try simp only [Act.put, List.setIfInBounds_toArray, List.set_cons_zero, List.set_cons_succ]
      refine wpAnyH_ready (rs := [6]) (by kernel_rfl) (by simp) ?_
      refine AllReadyH.cons (o := { dst := some 6, op := Op.alloc 37, type := 0, pos := "site.go:115", after := #[], guard := none }) rfl (fun K hK => ?_) AllReadyH.nil
      obtain ⟨Wxx, hvWxx⟩ : ∃ Wxx, Wxx = Wx.alloc (.cells #[.int .i64 0, .slice none 0 0, .string ⟨#[]⟩] 37) := ⟨_, rfl⟩
      obtain ⟨q, hqe⟩ : ∃ q, q = Wx.heap.size := ⟨_, rfl⟩
      have hbWxx : Below W0.heap.size W0 Wxx := by rw [hvWxx]; exact hbWx.trans ((bel1 _ _).mono hbWx.size)
      have hqWxx : Hid (Wxx.heap[q]? = some (.cells #[.int .i64 0, .slice none 0 0, .string ⟨#[]⟩] 37 (0, 0))) := by show _ = _; rw [hvWxx, hqe, heap_al, if_pos rfl]
      have HQ : Hid (W0.heap.size ≤ q) := by rw [hqe]; exact hbWx.size
      have rWxx : Hid (R EFd Wxx (sv (yb, yl, yc)) [szF (k : Int)]) := by rw [hvWxx]; exact rWx.out.below (bel1 _ _)
      go_simp
      go_wp2_with fail
      rw [← hvWxx, ← hqe]
      refine hK.out _ _ (hCell.out _ hbWxx) (fun hHeld => ?_)
      clear hK K hvWxx hqe
      try simp only [Act.put, List.setIfInBounds_toArray, List.set_cons_zero, List.set_cons_succ]
      refine wpAnyH_ready (rs := [7]) (by kernel_rfl) (by simp) ?_
      refine AllReadyH.cons (o := { dst := none, op := Op.store 37 (Operand.tmp 6) (Operand.tmp 17), type := 0, pos := "site.go:115", after := #[{ on := 6, ground := Ground.data }, { on := 5, ground := Ground.data }, { on := 4, ground := Ground.chain }, { on := 0, ground := Ground.phase }, { on := 1, ground := Ground.phase }, { on := 2, ground := Ground.phase }, { on := 3, ground := Ground.phase }, { on := 4, ground := Ground.phase }, { on := 5, ground := Ground.phase }, { on := 6, ground := Ground.phase }], guard := none }) rfl (fun K hK => ?_) AllReadyH.nil
      have f0 := cell_blk hqWxx.out 0
      have f1 := cell_blk hqWxx.out 1
      have f2 := cell_blk hqWxx.out 2
      have z0 := frozen_blk hqWxx.out 0
      have z1 := frozen_blk hqWxx.out 1
      have z2 := frozen_blk hqWxx.out 2
      simp at f0 f1 f2
      have HA : Hid (An W0 (((Wxx.setCell ⟨q, 0, none⟩ (.int .i64 n)).setCell ⟨q, 1, none⟩ (.slice yb yl yc)).setCell ⟨q, 2, none⟩ (.string ⟨#[]⟩)) q n (yb, yl, yc) [szF (k : Int)]) := An.mk3 hbWxx hqWxx.out rWxx.out HNW.out HQ.out
      go_simp
      go_wp2_with fail
      refine hK.out _ _ (hCell.out _ HA.out.bel) (fun hHeld => ?_)
      clear hK K f0 f1 f2 z0 z1 z2
      try simp only [Act.put, List.setIfInBounds_toArray, List.set_cons_zero, List.set_cons_succ]
      refine wpAnyH_done (by kernel_rfl) ?_ _
      go_wp2_with fail
      go_meet
      case rel => exact ⟨q, (yb, yl, yc), rfl, HA.out⟩
    refine AllReadyH.cons (o := { dst := some 6, op := Op.alloc 37, type := 0, pos := "site.go:115", after := #[], guard := none }) rfl (fun K hK => ?_) AllReadyH.nil
    obtain ⟨Wx, hvWx⟩ : ∃ Wx, Wx = W.alloc (.cells #[.int .i64 0, .slice none 0 0, .string ⟨#[]⟩] 37) := ⟨_, rfl⟩
    obtain ⟨q, hqe⟩ : ∃ q, q = W.heap.size := ⟨_, rfl⟩
    have hbWx : Below W0.heap.size W0 Wx := by rw [hvWx]; exact hbW.trans ((bel1 _ _).mono hbW.size)
    have hqWx : Hid (Wx.heap[q]? = some (.cells #[.int .i64 0, .slice none 0 0, .string ⟨#[]⟩] 37 (0, 0))) := by show _ = _; rw [hvWx, hqe, heap_al, if_pos rfl]
    have HQ : Hid (W0.heap.size ≤ q) := by rw [hqe]; exact hbW.size
    go_simp
    go_wp2_with fail
    rw [← hvWx, ← hqe]
    refine hK.out _ _ (hCell.out _ hbWx) (fun hHeld => ?_)
    clear hK K hvWx hqe
    try simp only [Act.put, List.setIfInBounds_toArray, List.set_cons_zero, List.set_cons_succ]
    refine wpAnyH_ready (rs := [4]) (by kernel_rfl) (by simp) ?_
    refine AllReadyH.cons (o := { dst := some 16, op := Op.call { callee := Callee.value (Operand.func 38), args := #[Operand.tmp 15], argTypes := #[3] }, type := 35, pos := "site.go:115", after := #[{ on := 3, ground := Ground.data }], guard := none }) rfl (fun K hK => ?_) AllReadyH.nil
    go_simp
    refine (HSZ.out _ hbWx).mono ?_
    rintro e' Wxx ⟨⟨yb, yl, yc⟩, rfl, bX, hRz, hnz⟩
    have hbWxx : Below W0.heap.size W0 Wxx := hbWx.trans (bX.mono hbWx.size)
    have rWxx : Hid (R EFd Wxx (sv (yb, yl, yc)) [szF (k : Int)]) := hRz
    have HNW : Hid (∀ j, (sv (yb, yl, yc)).ownBlock = some j → W0.heap.size ≤ j) := fun j hj => Nat.le_trans hbWx.size (hnz j hj)
    have hqWxx : Hid (Wxx.heap[q]? = some (.cells #[.int .i64 0, .slice none 0 0, .string ⟨#[]⟩] 37 (0, 0))) := (bX.block _ (heap_lt hqWx.out)).trans hqWx.out
    clear bX hRz hnz
    simp only [sv] at HNW ⊢
    go_wp2_with fail
    refine hK.out _ _ (hCell.out _ hbWxx) (fun hHeld => ?_)
    clear hK K
    try simp only [Act.put, List.setIfInBounds_toArray, List.set_cons_zero, List.set_cons_succ]
    refine wpAnyH_take (i := 5) (oi := { dst := some 17, op := Op.build 37 #[(0, Operand.tmp 13), (1, Operand.tmp 16)], type := 37, pos := "site.go:115", after := #[{ on := 1, ground := Ground.data }, { on := 4, ground := Ground.data }], guard := none }) (v := ?vv6) rfl (by kernel_rfl) (by kernel_rfl) (by kernel_rfl) (fun _ _ _ h => h) (Or.inl ⟨by rfl, ?hy6⟩) (by assumption) ?_
    case hy6 => (intro w hSw; (try dsimp only at hSw); go_simp; all_goals with_reducible rfl)
    try simp only [Act.put, List.setIfInBounds_toArray, List.set_cons_zero, List.set_cons_succ]
    refine wpAnyH_ready (rs := [7]) (by kernel_rfl) (by simp) ?_
    refine AllReadyH.cons (o := { dst := none, op := Op.store 37 (Operand.tmp 6) (Operand.tmp 17), type := 0, pos := "site.go:115", after := #[{ on := 6, ground := Ground.data }, { on := 5, ground := Ground.data }, { on := 4, ground := Ground.chain }, { on := 0, ground := Ground.phase }, { on := 1, ground := Ground.phase }, { on := 2, ground := Ground.phase }, { on := 3, ground := Ground.phase }, { on := 4, ground := Ground.phase }, { on := 5, ground := Ground.phase }, { on := 6, ground := Ground.phase }], guard := none }) rfl (fun K hK => ?_) AllReadyH.nil
    have f0 := cell_blk hqWxx.out 0
    have f1 := cell_blk hqWxx.out 1
    have f2 := cell_blk hqWxx.out 2
    have z0 := frozen_blk hqWxx.out 0
    have z1 := frozen_blk hqWxx.out 1
    have z2 := frozen_blk hqWxx.out 2
    simp at f0 f1 f2
    have HA : Hid (An W0 (((Wxx.setCell ⟨q, 0, none⟩ (.int .i64 n)).setCell ⟨q, 1, none⟩ (.slice yb yl yc)).setCell ⟨q, 2, none⟩ (.string ⟨#[]⟩)) q n (yb, yl, yc) [szF (k : Int)]) := An.mk3 hbWxx hqWxx.out rWxx.out HNW.out HQ.out
    go_simp
    go_wp2_with fail
    refine hK.out _ _ (hCell.out _ HA.out.bel) (fun hHeld => ?_)
    clear hK K f0 f1 f2 z0 z1 z2
    try simp only [Act.put, List.setIfInBounds_toArray, List.set_cons_zero, List.set_cons_succ]
    refine wpAnyH_done (by kernel_rfl) ?_ _
    go_wp2_with fail
    go_meet
    case rel => exact ⟨q, (yb, yl, yc), rfl, HA.out⟩
  case rest =>
    obtain ⟨q, y, rfl, hA⟩ := hcut
    obtain ⟨i1, i2⟩ := hCell.out _ hA.out.bel
    go_upto_if 20 with fail
    go_cut [6] from 7 (fun tv wx => ∃ (y : SV), tv = .pointer (some ⟨q, 0, none⟩) ∧ Hid (An W0 wx q n y (szF (k : Int) :: vyL v)))
    case first =>
      cases hv : v.toList.isEmpty
      · have HV : Hid (vyL v = [vyF v]) := by show _ = _; unfold vyL; rw [hv]; rfl
        obtain ⟨yb, yl, yc⟩ := y
        go_upto_region 4 with fail
        have aW : Hid (An W0 wc.drew q n (yb, yl, yc) [szF (k : Int)]) := hA.out.below (Below.refl _ _).drew
        refine wp_region_held_drew (S := (fun V => V.cell? ⟨n0, 1, none⟩ = some (.int .i64 n) ∧ V.cell? ⟨n0, 2, none⟩ = some (.string v))) (by kernel_rfl) (hCell.out _ aW.out.bel) (fun hHeld => ?_)
        generalize hWg : World.drew _ = W at aW hHeld ⊢
        clear hWg
        refine wpAnyH_take (i := 0) (oi := { dst := some 21, op := Op.fieldAddr 37 (Operand.tmp 6) 1, type := 0, pos := "site.go:117", after := #[], guard := none }) (v := ?vv7) rfl (by kernel_rfl) (by kernel_rfl) (by kernel_rfl) (fun _ _ _ h => h) (Or.inl ⟨by rfl, ?hy7⟩) (by assumption) ?_
        case hy7 => (intro w hSw; (try dsimp only at hSw); go_simp; all_goals with_reducible rfl)
        try simp only [Act.put, List.setIfInBounds_toArray, List.set_cons_zero, List.set_cons_succ]
        refine wpAnyH_take (i := 2) (oi := { dst := some 23, op := Op.fieldAddr 83 (Operand.tmp 2) 2, type := 0, pos := "site.go:117", after := #[], guard := none }) (v := ?vv8) rfl (by kernel_rfl) (by kernel_rfl) (by kernel_rfl) (fun _ _ _ h => h) (Or.inl ⟨by rfl, ?hy8⟩) (by assumption) ?_
        case hy8 => (intro w hSw; (try dsimp only at hSw); go_simp; all_goals with_reducible rfl)
        try simp only [Act.put, List.setIfInBounds_toArray, List.set_cons_zero, List.set_cons_succ]
        refine wpAnyH_take (i := 3) (oi := { dst := some 24, op := Op.load 9 (Operand.tmp 23), type := 9, pos := "site.go:117", after := #[{ on := 2, ground := Ground.data }], guard := none }) (v := ?vv9) rfl (by kernel_rfl) (by kernel_rfl) (by kernel_rfl) (fun _ _ _ h => h) (Or.inl ⟨by rfl, ?hy9⟩) (by assumption) ?_
        case hy9 => (intro w hSw; (try dsimp only at hSw); go_simp; all_goals with_reducible rfl)
        try simp only [Act.put, List.setIfInBounds_toArray, List.set_cons_zero, List.set_cons_succ]
        refine wpAnyH_ready (rs := [1, 4]) (by kernel_rfl) (by simp) ?_
        refine AllReadyH.cons (o := { dst := some 22, op := Op.load 35 (Operand.tmp 21), type := 35, pos := "site.go:117", after := #[{ on := 0, ground := Ground.data }], guard := none }) rfl (fun K hK => ?_) ?_
        · have f1 := cell_blk aW.out.blk 1
          simp only [sv] at f1
          simp at f1
          go_simp
          go_wp2_with fail
          refine hK.out _ _ (hCell.out _ aW.out.bel) (fun hHeld => ?_)
          clear hK K f1
          try simp only [Act.put, List.setIfInBounds_toArray, List.set_cons_zero, List.set_cons_succ]
          refine wpAnyH_ready (rs := [4]) (by kernel_rfl) (by simp) ?_
          refine AllReadyH.cons (o := { dst := some 25, op := Op.call { callee := Callee.value (Operand.func 55), args := #[Operand.tmp 24], argTypes := #[9] }, type := 9, pos := "site.go:117", after := #[{ on := 3, ground := Ground.data }], guard := none }) rfl (fun K hK => ?_) AllReadyH.nil
          go_simp
          refine (sclone_any v _ HZV.out).mono ?_
          rintro e' Wx ⟨rfl, bX⟩
          have aWx : Hid (An W0 Wx q n (yb, yl, yc) [szF (k : Int)]) := aW.out.below bX
          clear bX
          go_wp2_with fail
          refine hK.out _ _ (hCell.out _ aWx.out.bel) (fun hHeld => ?_)
          clear hK K
          try simp only [Act.put, List.setIfInBounds_toArray, List.set_cons_zero, List.set_cons_succ]
          refine wpAnyH_take (i := 5) (oi := { dst := some 26, op := Op.build 44 #[(0, Operand.const (Value.string { data := #[118, 97, 114, 121] })), (1, Operand.tmp 25)], type := 44, pos := "site.go:117", after := #[{ on := 4, ground := Ground.data }], guard := none }) (v := ?vv10) rfl (by kernel_rfl) (by kernel_rfl) (by kernel_rfl) (fun _ _ _ h => h) (Or.inl ⟨by rfl, ?hy10⟩) (by assumption) ?_
          case hy10 => (intro w hSw; (try dsimp only at hSw); go_simp; all_goals with_reducible rfl)
          try simp only [Act.put, List.setIfInBounds_toArray, List.set_cons_zero, List.set_cons_succ]
          refine wpAnyH_ready (rs := [6]) (by kernel_rfl) (by simp) ?_
          refine AllReadyH.cons (o := { dst := some 27, op := Op.buildSlice 35 1 #[(0, Operand.tmp 26)], type := 35, pos := "site.go:117", after := #[{ on := 5, ground := Ground.data }], guard := none }) rfl (fun K hK => ?_) AllReadyH.nil
          obtain ⟨Wxx, hvWxx⟩ : ∃ Wxx, Wxx = Wx.alloc (.cells #[.string ⟨#[118, 97, 114, 121]⟩, .string v, .bool false] 44) := ⟨_, rfl⟩
          have aWxx : Hid (An W0 Wxx q n (yb, yl, yc) [szF (k : Int)]) := by rw [hvWxx]; exact aWx.out.below (bel1 _ _)
          have HIV : Hid (In EFd Wxx (.slice (some ⟨Wx.heap.size, 0, none⟩) 1 1) [vyF v]) := in_one (E := EFd) _ _ (vyF v) #[.string ⟨#[118, 97, 114, 121]⟩, .string v, .bool false] 44 (0, 0) (by rw [hvWxx, heap_al, if_pos rfl]) rfl
          go_simp
          go_wp2_with fail
          rw [← hvWxx]
          refine hK.out _ _ (hCell.out _ aWxx.out.bel) (fun hHeld => ?_)
          clear hK K hvWxx
          try simp only [Act.put, List.setIfInBounds_toArray, List.set_cons_zero, List.set_cons_succ]
          refine wpAnyH_ready (rs := [7]) (by kernel_rfl) (by simp) ?_
          refine AllReadyH.cons (o := { dst := some 28, op := Op.call { callee := Callee.builtin Builtin.append, args := #[Operand.tmp 22, Operand.tmp 27], argTypes := #[35, 35] }, type := 35, pos := "site.go:117", after := #[{ on := 1, ground := Ground.data }, { on := 6, ground := Ground.data }, { on := 4, ground := Ground.chain }], guard := none }) rfl (fun K hK => ?_) AllReadyH.nil
          obtain ⟨bs, c, Wxxx, hrun, hbWxxx, hqWxxx', hA9⟩ := aWxx.out.app (vyF v) _ HIV.out (by simp)
          have hqWxxx : Hid (Wxxx.heap[q]? = some (.cells #[.int .i64 n, .slice yb yl yc, .string ⟨#[]⟩] 37 (0, 0))) := hqWxxx'
          have HA9 : Hid (An W0 (Wxxx.setCell ⟨q, 1, none⟩ (.slice bs ([szF (k : Int)].length + 1) c)) q n (bs, [szF (k : Int)].length + 1, c) (szF (k : Int) :: vyL v)) := by rw [HV.out]; exact hA9
          simp only [List.length_singleton] at hrun HA9
          clear hA9 hqWxxx'
          simp only [sv] at hrun
          refine step_append_run rfl (.tmp 22) (.tmp 27) 35 35 rfl hrun (by first | rfl | simp [Act.eval, Act.put]) (by first | rfl | simp [Act.eval, Act.put]) ?_
          refine hK.out _ _ (hCell.out _ hbWxxx) (fun hHeld => ?_)
          clear hK K hrun
          try simp only [Act.put, List.setIfInBounds_toArray, List.set_cons_zero, List.set_cons_succ]
          refine wpAnyH_take (i := 8) (oi := { dst := some 29, op := Op.fieldAddr 37 (Operand.tmp 6) 1, type := 0, pos := "site.go:117", after := #[{ on := 0, ground := Ground.phase }, { on := 1, ground := Ground.phase }, { on := 2, ground := Ground.phase }, { on := 3, ground := Ground.phase }, { on := 4, ground := Ground.phase }, { on := 5, ground := Ground.phase }, { on := 6, ground := Ground.phase }, { on := 7, ground := Ground.phase }], guard := none }) (v := ?vv11) rfl (by kernel_rfl) (by kernel_rfl) (by kernel_rfl) (fun _ _ _ h => h) (Or.inl ⟨by rfl, ?hy11⟩) (by assumption) ?_
          case hy11 => (intro w hSw; (try dsimp only at hSw); go_simp; all_goals with_reducible rfl)
          try simp only [Act.put, List.setIfInBounds_toArray, List.set_cons_zero, List.set_cons_succ]
          refine wpAnyH_ready (rs := [9]) (by kernel_rfl) (by simp) ?_
          refine AllReadyH.cons (o := { dst := none, op := Op.store 35 (Operand.tmp 29) (Operand.tmp 28), type := 0, pos := "site.go:117", after := #[{ on := 8, ground := Ground.data }, { on := 7, ground := Ground.data }, { on := 7, ground := Ground.chain }, { on := 0, ground := Ground.phase }, { on := 1, ground := Ground.phase }, { on := 2, ground := Ground.phase }, { on := 3, ground := Ground.phase }, { on := 4, ground := Ground.phase }, { on := 5, ground := Ground.phase }, { on := 6, ground := Ground.phase }, { on := 7, ground := Ground.phase }], guard := none }) rfl (fun K hK => ?_) AllReadyH.nil
          have f1 := cell_blk hqWxxx.out 1
          have z1 := frozen_blk hqWxxx.out 1
          simp at f1
          go_simp
          go_wp2_with fail
          refine hK.out _ _ (hCell.out _ HA9.out.bel) (fun hHeld => ?_)
          clear hK K f1 z1
          try simp only [Act.put, List.setIfInBounds_toArray, List.set_cons_zero, List.set_cons_succ]
          refine wpAnyH_done (by kernel_rfl) ?_ _
          go_wp2_with fail
          go_meet
          case rel => exact ⟨_, rfl, HA9.out⟩
        refine AllReadyH.cons (o := { dst := some 25, op := Op.call { callee := Callee.value (Operand.func 55), args := #[Operand.tmp 24], argTypes := #[9] }, type := 9, pos := "site.go:117", after := #[{ on := 3, ground := Ground.data }], guard := none }) rfl (fun K hK => ?_) AllReadyH.nil
        go_simp
        refine (sclone_any v _ HZV.out).mono ?_
        rintro e' Wx ⟨rfl, bX⟩
        have aWx : Hid (An W0 Wx q n (yb, yl, yc) [szF (k : Int)]) := aW.out.below bX
        clear bX
        go_wp2_with fail
        refine hK.out _ _ (hCell.out _ aWx.out.bel) (fun hHeld => ?_)
        clear hK K
        try simp only [Act.put, List.setIfInBounds_toArray, List.set_cons_zero, List.set_cons_succ]
        refine wpAnyH_take (i := 5) (oi := { dst := some 26, op := Op.build 44 #[(0, Operand.const (Value.string { data := #[118, 97, 114, 121] })), (1, Operand.tmp 25)], type := 44, pos := "site.go:117", after := #[{ on := 4, ground := Ground.data }], guard := none }) (v := ?vv12) rfl (by kernel_rfl) (by kernel_rfl) (by kernel_rfl) (fun _ _ _ h => h) (Or.inl ⟨by rfl, ?hy12⟩) (by assumption) ?_
        case hy12 => (intro w hSw; (try dsimp only at hSw); go_simp; all_goals with_reducible rfl)
        try simp only [Act.put, List.setIfInBounds_toArray, List.set_cons_zero, List.set_cons_succ]
        refine wpAnyH_ready (rs := [1, 6]) (by kernel_rfl) (by simp) ?_
        refine AllReadyH.cons (o := { dst := some 22, op := Op.load 35 (Operand.tmp 21), type := 35, pos := "site.go:117", after := #[{ on := 0, ground := Ground.data }], guard := none }) rfl (fun K hK => ?_) ?_
        · have f1 := cell_blk aWx.out.blk 1
          simp only [sv] at f1
          simp at f1
          go_simp
          go_wp2_with fail
          refine hK.out _ _ (hCell.out _ aWx.out.bel) (fun hHeld => ?_)
          clear hK K f1
          try simp only [Act.put, List.setIfInBounds_toArray, List.set_cons_zero, List.set_cons_succ]
          refine wpAnyH_ready (rs := [6]) (by kernel_rfl) (by simp) ?_
          refine AllReadyH.cons (o := { dst := some 27, op := Op.buildSlice 35 1 #[(0, Operand.tmp 26)], type := 35, pos := "site.go:117", after := #[{ on := 5, ground := Ground.data }], guard := none }) rfl (fun K hK => ?_) AllReadyH.nil
          obtain ⟨Wxx, hvWxx⟩ : ∃ Wxx, Wxx = Wx.alloc (.cells #[.string ⟨#[118, 97, 114, 121]⟩, .string v, .bool false] 44) := ⟨_, rfl⟩
          have aWxx : Hid (An W0 Wxx q n (yb, yl, yc) [szF (k : Int)]) := by rw [hvWxx]; exact aWx.out.below (bel1 _ _)
          have HIV : Hid (In EFd Wxx (.slice (some ⟨Wx.heap.size, 0, none⟩) 1 1) [vyF v]) := in_one (E := EFd) _ _ (vyF v) #[.string ⟨#[118, 97, 114, 121]⟩, .string v, .bool false] 44 (0, 0) (by rw [hvWxx, heap_al, if_pos rfl]) rfl
          go_simp
          go_wp2_with fail
          rw [← hvWxx]
          refine hK.out _ _ (hCell.out _ aWxx.out.bel) (fun hHeld => ?_)
          clear hK K hvWxx
          try simp only [Act.put, List.setIfInBounds_toArray, List.set_cons_zero, List.set_cons_succ]
          refine wpAnyH_ready (rs := [7]) (by kernel_rfl) (by simp) ?_
          refine AllReadyH.cons (o := { dst := some 28, op := Op.call { callee := Callee.builtin Builtin.append, args := #[Operand.tmp 22, Operand.tmp 27], argTypes := #[35, 35] }, type := 35, pos := "site.go:117", after := #[{ on := 1, ground := Ground.data }, { on := 6, ground := Ground.data }, { on := 4, ground := Ground.chain }], guard := none }) rfl (fun K hK => ?_) AllReadyH.nil
          obtain ⟨bs, c, Wxxx, hrun, hbWxxx, hqWxxx', hA9⟩ := aWxx.out.app (vyF v) _ HIV.out (by simp)
          have hqWxxx : Hid (Wxxx.heap[q]? = some (.cells #[.int .i64 n, .slice yb yl yc, .string ⟨#[]⟩] 37 (0, 0))) := hqWxxx'
          have HA9 : Hid (An W0 (Wxxx.setCell ⟨q, 1, none⟩ (.slice bs ([szF (k : Int)].length + 1) c)) q n (bs, [szF (k : Int)].length + 1, c) (szF (k : Int) :: vyL v)) := by rw [HV.out]; exact hA9
          simp only [List.length_singleton] at hrun HA9
          clear hA9 hqWxxx'
          simp only [sv] at hrun
          refine step_append_run rfl (.tmp 22) (.tmp 27) 35 35 rfl hrun (by first | rfl | simp [Act.eval, Act.put]) (by first | rfl | simp [Act.eval, Act.put]) ?_
          refine hK.out _ _ (hCell.out _ hbWxxx) (fun hHeld => ?_)
          clear hK K hrun
          try simp only [Act.put, List.setIfInBounds_toArray, List.set_cons_zero, List.set_cons_succ]
          refine wpAnyH_take (i := 8) (oi := { dst := some 29, op := Op.fieldAddr 37 (Operand.tmp 6) 1, type := 0, pos := "site.go:117", after := #[{ on := 0, ground := Ground.phase }, { on := 1, ground := Ground.phase }, { on := 2, ground := Ground.phase }, { on := 3, ground := Ground.phase }, { on := 4, ground := Ground.phase }, { on := 5, ground := Ground.phase }, { on := 6, ground := Ground.phase }, { on := 7, ground := Ground.phase }], guard := none }) (v := ?vv13) rfl (by kernel_rfl) (by kernel_rfl) (by kernel_rfl) (fun _ _ _ h => h) (Or.inl ⟨by rfl, ?hy13⟩) (by assumption) ?_
          case hy13 => (intro w hSw; (try dsimp only at hSw); go_simp; all_goals with_reducible rfl)
          try simp only [Act.put, List.setIfInBounds_toArray, List.set_cons_zero, List.set_cons_succ]
          refine wpAnyH_ready (rs := [9]) (by kernel_rfl) (by simp) ?_
          refine AllReadyH.cons (o := { dst := none, op := Op.store 35 (Operand.tmp 29) (Operand.tmp 28), type := 0, pos := "site.go:117", after := #[{ on := 8, ground := Ground.data }, { on := 7, ground := Ground.data }, { on := 7, ground := Ground.chain }, { on := 0, ground := Ground.phase }, { on := 1, ground := Ground.phase }, { on := 2, ground := Ground.phase }, { on := 3, ground := Ground.phase }, { on := 4, ground := Ground.phase }, { on := 5, ground := Ground.phase }, { on := 6, ground := Ground.phase }, { on := 7, ground := Ground.phase }], guard := none }) rfl (fun K hK => ?_) AllReadyH.nil
          have f1 := cell_blk hqWxxx.out 1
          have z1 := frozen_blk hqWxxx.out 1
          simp at f1
          go_simp
          go_wp2_with fail
          refine hK.out _ _ (hCell.out _ HA9.out.bel) (fun hHeld => ?_)
          clear hK K f1 z1
          try simp only [Act.put, List.setIfInBounds_toArray, List.set_cons_zero, List.set_cons_succ]
          refine wpAnyH_done (by kernel_rfl) ?_ _
          go_wp2_with fail
          go_meet
          case rel => exact ⟨_, rfl, HA9.out⟩
        refine AllReadyH.cons (o := { dst := some 27, op := Op.buildSlice 35 1 #[(0, Operand.tmp 26)], type := 35, pos := "site.go:117", after := #[{ on := 5, ground := Ground.data }], guard := none }) rfl (fun K hK => ?_) AllReadyH.nil
        obtain ⟨Wxx, hvWxx⟩ : ∃ Wxx, Wxx = Wx.alloc (.cells #[.string ⟨#[118, 97, 114, 121]⟩, .string v, .bool false] 44) := ⟨_, rfl⟩
        have aWxx : Hid (An W0 Wxx q n (yb, yl, yc) [szF (k : Int)]) := by rw [hvWxx]; exact aWx.out.below (bel1 _ _)
        have HIV : Hid (In EFd Wxx (.slice (some ⟨Wx.heap.size, 0, none⟩) 1 1) [vyF v]) := in_one (E := EFd) _ _ (vyF v) #[.string ⟨#[118, 97, 114, 121]⟩, .string v, .bool false] 44 (0, 0) (by rw [hvWxx, heap_al, if_pos rfl]) rfl
        go_simp
        go_wp2_with fail
        rw [← hvWxx]
        refine hK.out _ _ (hCell.out _ aWxx.out.bel) (fun hHeld => ?_)
        clear hK K hvWxx
        try simp only [Act.put, List.setIfInBounds_toArray, List.set_cons_zero, List.set_cons_succ]
        refine wpAnyH_ready (rs := [1]) (by kernel_rfl) (by simp) ?_
        refine AllReadyH.cons (o := { dst := some 22, op := Op.load 35 (Operand.tmp 21), type := 35, pos := "site.go:117", after := #[{ on := 0, ground := Ground.data }], guard := none }) rfl (fun K hK => ?_) AllReadyH.nil
        have f1 := cell_blk aWxx.out.blk 1
        simp only [sv] at f1
        simp at f1
        go_simp
        go_wp2_with fail
        refine hK.out _ _ (hCell.out _ aWxx.out.bel) (fun hHeld => ?_)
        clear hK K f1
        try simp only [Act.put, List.setIfInBounds_toArray, List.set_cons_zero, List.set_cons_succ]
        refine wpAnyH_ready (rs := [7]) (by kernel_rfl) (by simp) ?_
        refine AllReadyH.cons (o := { dst := some 28, op := Op.call { callee := Callee.builtin Builtin.append, args := #[Operand.tmp 22, Operand.tmp 27], argTypes := #[35, 35] }, type := 35, pos := "site.go:117", after := #[{ on := 1, ground := Ground.data }, { on := 6, ground := Ground.data }, { on := 4, ground := Ground.chain }], guard := none }) rfl (fun K hK => ?_) AllReadyH.nil
        obtain ⟨bs, c, Wxxx, hrun, hbWxxx, hqWxxx', hA9⟩ := aWxx.out.app (vyF v) _ HIV.out (by simp)
        have hqWxxx : Hid (Wxxx.heap[q]? = some (.cells #[.int .i64 n, .slice yb yl yc, .string ⟨#[]⟩] 37 (0, 0))) := hqWxxx'
        have HA9 : Hid (An W0 (Wxxx.setCell ⟨q, 1, none⟩ (.slice bs ([szF (k : Int)].length + 1) c)) q n (bs, [szF (k : Int)].length + 1, c) (szF (k : Int) :: vyL v)) := by rw [HV.out]; exact hA9
        simp only [List.length_singleton] at hrun HA9
        clear hA9 hqWxxx'
        simp only [sv] at hrun
        refine step_append_run rfl (.tmp 22) (.tmp 27) 35 35 rfl hrun (by first | rfl | simp [Act.eval, Act.put]) (by first | rfl | simp [Act.eval, Act.put]) ?_
        refine hK.out _ _ (hCell.out _ hbWxxx) (fun hHeld => ?_)
        clear hK K hrun
        try simp only [Act.put, List.setIfInBounds_toArray, List.set_cons_zero, List.set_cons_succ]
        refine wpAnyH_take (i := 8) (oi := { dst := some 29, op := Op.fieldAddr 37 (Operand.tmp 6) 1, type := 0, pos := "site.go:117", after := #[{ on := 0, ground := Ground.phase }, { on := 1, ground := Ground.phase }, { on := 2, ground := Ground.phase }, { on := 3, ground := Ground.phase }, { on := 4, ground := Ground.phase }, { on := 5, ground := Ground.phase }, { on := 6, ground := Ground.phase }, { on := 7, ground := Ground.phase }], guard := none }) (v := ?vv14) rfl (by kernel_rfl) (by kernel_rfl) (by kernel_rfl) (fun _ _ _ h => h) (Or.inl ⟨by rfl, ?hy14⟩) (by assumption) ?_
        case hy14 => (intro w hSw; (try dsimp only at hSw); go_simp; all_goals with_reducible rfl)
        try simp only [Act.put, List.setIfInBounds_toArray, List.set_cons_zero, List.set_cons_succ]
        refine wpAnyH_ready (rs := [9]) (by kernel_rfl) (by simp) ?_
        refine AllReadyH.cons (o := { dst := none, op := Op.store 35 (Operand.tmp 29) (Operand.tmp 28), type := 0, pos := "site.go:117", after := #[{ on := 8, ground := Ground.data }, { on := 7, ground := Ground.data }, { on := 7, ground := Ground.chain }, { on := 0, ground := Ground.phase }, { on := 1, ground := Ground.phase }, { on := 2, ground := Ground.phase }, { on := 3, ground := Ground.phase }, { on := 4, ground := Ground.phase }, { on := 5, ground := Ground.phase }, { on := 6, ground := Ground.phase }, { on := 7, ground := Ground.phase }], guard := none }) rfl (fun K hK => ?_) AllReadyH.nil
        have f1 := cell_blk hqWxxx.out 1
        have z1 := frozen_blk hqWxxx.out 1
        simp at f1
        go_simp
        go_wp2_with fail
        refine hK.out _ _ (hCell.out _ HA9.out.bel) (fun hHeld => ?_)
        clear hK K f1 z1
        try simp only [Act.put, List.setIfInBounds_toArray, List.set_cons_zero, List.set_cons_succ]
        refine wpAnyH_done (by kernel_rfl) ?_ _
        go_wp2_with fail
        go_meet
        case rel => exact ⟨_, rfl, HA9.out⟩
      · have HV : Hid (vyL v = []) := by show _ = _; unfold vyL; rw [if_pos hv]
        go_wp2_with fail
        go_meet
        case rel => exact ⟨y, rfl, by rw [HV.out]; exact hA.out⟩
    case rest =>
      obtain ⟨y2, rfl, hA2⟩ := hcut
      clear hA i1 i2
      obtain ⟨yb, yl, yc⟩ := y2
      have i0 := HM.out _ hA2.out.bel
      have hqn : q ≠ n2 := by have := hA2.out.hq; have := HN2.out; omega
      have hnq : n2 ≠ q := Ne.symm hqn
      cases hm : (m.toList == [71, 69, 84])
      · have HBB : Hid (anB m cb = ⟨#[]⟩) := by show _ = _; unfold anB; rw [hm]; rfl
        have hq0 := hA2.out.blk
        simp only [sv] at hq0
        have q0 := cell_blk hq0 0
        have q1 := cell_blk hq0 1
        have q2 := cell_blk hq0 2
        have hp0 := (hA2.out.bel.block _ (heap_lt HF2.out)).trans HF2.out
        have p0 := cell_blk hp0 0
        have p1 := cell_blk hp0 1
        have p2 := cell_blk hp0 2
        have z0 := frozen_blk hp0 0
        have z1 := frozen_blk hp0 1
        have z2 := frozen_blk hp0 2
        simp at q0 q1 q2 p0 p1 p2
        have HP0 : Hid (RsB wc n2 0 (.slice none 0 0) ⟨#[]⟩) := hp0
        clear hq0 hp0
        go_wp2_with fail
        have hX := rs_sets HP0.out n (.slice yb yl yc) ⟨#[]⟩
        unfold RsB at hX
        refine bodyPost_ret (results_cell_row (p := 4) (ty := 37) rfl _ _ n2 37 _ (0, 0) _ rfl hX Tryd.underlying37 rfl (by kernel_rfl)) rfl ?_
        refine ⟨⟨_, rfl, (yb, yl, yc), by rw [HBB.out]; rfl, hA2.out.row.stays fun j hj hl => rs_other _ _ _ (fun e => row_not hA2.out.row HP0.out (by decide) (by rw [← e]; exact hj)) _ _ _, fun j hj => Nat.le_trans HB0.out.size (hA2.out.new j hj)⟩, ?_⟩
        exact (HB0.out.trans (hA2.out.bel.mono HB0.out.size)).trans (rs_below _ _ _ HN2.out.1 _ _ _)
      · have HBB : Hid (anB m cb = cb) := by show _ = _; unfold anB; rw [if_pos hm]
        have HC : Hid (Calls Tryd.prog 55 #[.string cb] wc fun e w' => e = .returned (.string cb) ∧ Below wc.heap.size wc w') := sclone_any cb wc HZB.out
        go_wp2_with fail
        go_at_call 55
        refine HC.out.mono ?_
        rintro e' w1 ⟨rfl, hb1⟩
        have hA3 : Hid (An W0 w1 q n (yb, yl, yc) (szF (k : Int) :: vyL v)) := hA2.out.below hb1
        clear hb1 HC i0
        have hq0 := hA3.out.blk
        simp only [sv] at hq0
        have q0 := cell_blk hq0 0
        have q1 := cell_blk hq0 1
        have q2 := cell_blk hq0 2
        have y2 := frozen_blk hq0 2
        have hp0 := (hA3.out.bel.block _ (heap_lt HF2.out)).trans HF2.out
        have p0 := cell_blk hp0 0
        have p1 := cell_blk hp0 1
        have p2 := cell_blk hp0 2
        have z0 := frozen_blk hp0 0
        have z1 := frozen_blk hp0 1
        have z2 := frozen_blk hp0 2
        simp at q0 q1 q2 p0 p1 p2
        have HP0 : Hid (RsB w1 n2 0 (.slice none 0 0) ⟨#[]⟩) := hp0
        clear hq0 hp0
        go_wp2_with fail
        have hX := rs_sets (w := w1.setCell ⟨q, 2, none⟩ (.string cb)) (g := n2) (show RsB _ n2 0 (.slice none 0 0) ⟨#[]⟩ from (setCell_other _ _ _ _ _ hnq).trans HP0.out) n (.slice yb yl yc) cb
        unfold RsB at hX
        refine bodyPost_ret (results_cell_row (p := 4) (ty := 37) rfl _ _ n2 37 _ (0, 0) _ rfl hX Tryd.underlying37 rfl (by kernel_rfl)) rfl ?_
        refine ⟨⟨_, rfl, (yb, yl, yc), by rw [HBB.out]; rfl, hA3.out.row.stays fun j hj hl => (rs_other _ _ _ (fun e => row_not hA3.out.row HP0.out (by decide) (by rw [← e]; exact hj)) _ _ _).trans (setCell_other _ _ _ _ _ fun e => row_not hA3.out.row hA3.out.blk (by decide) (by rw [← e]; exact hj)), fun j hj => Nat.le_trans HB0.out.size (hA3.out.new j hj)⟩, ?_⟩
        exact ((HB0.out.trans (hA3.out.bel.mono HB0.out.size)).setCell (p := ⟨q, 2, none⟩) (Nat.le_trans HB0.out.size hA3.out.hq) _).trans (rs_below _ _ _ HN2.out.1 _ _ _)
end Go.Proofs.YtcadlpmopplkeaaDoor
