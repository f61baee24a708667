/- copiedResponse. -/
import Derived.Test.YtfponcdhaefkdaaDoorC8
namespace Go.Proofs.YtfponcdhaefkdaaDoor
open Go.RowKit
set_option linter.unusedVariables false
set_option linter.unusedSimpArgs false
/-- it is being made, in a box of its own -/
structure Cr (B wr : World) (o : Nat) (n : Int) (b : ByteArray) (y : SV) (l : List Fd) : Prop where
  bel : Below B.heap.size B wr
  blk : wr.heap[o]? = some (.cells #[.int .i64 n, sv y, .string b] 26 (0, 0))
  row : R EFd wr (sv y) l
  new : ∀ k, (sv y).ownBlock = some k → B.heap.size ≤ k
  ho : B.heap.size ≤ o
theorem Cr.below {B W W' : World} {o : Nat} {n : Int} {b : ByteArray} {y : SV} {l : List Fd} (h : Cr B W o n b y l) (hb : Below W.heap.size W W') : Cr B W' o n b y l :=
  ⟨h.bel.trans (hb.mono h.bel.size), (hb.block _ (heap_lt h.blk)).trans h.blk, h.row.below hb, h.new, h.ho⟩
theorem Cr.cell {B W : World} {o : Nat} {n : Int} {b : ByteArray} {y : SV} {l : List Fd} (h : Cr B W o n b y l) : W.cell? ⟨o, 1, none⟩ = some (sv y) := cell_blk h.blk 1
theorem Cr.app {B W : World} {o : Nat} {n : Int} {b : ByteArray} {fb : Option Addr} {fl fc : Nat} {l : List Fd} (h : Cr B W o n b (fb, fl, fc) l) (f : Fd) (x : Value) (hx : In EFd W x [f]) (hl : l.length ≤ 1099511627776) :
    ∃ b2 c2 w2, (Builtin.append_ #[22, 22] 22 #[.slice fb fl fc, x]).run Tryd.prog W = .ok (.slice b2 (fl + 1) c2) w2 ∧ w2.heap[o]? = some (.cells #[.int .i64 n, .slice fb fl fc, .string b] 26 (0, 0)) ∧ (∀ k, k < W.heap.size → (Value.slice fb fl fc).ownBlock ≠ some k → w2.heap[k]? = W.heap[k]?) ∧ Cr B (w2.setCell ⟨o, 1, none⟩ (.slice b2 (fl + 1) c2)) o n b (b2, fl + 1, c2) (l ++ [f]) := by
  obtain ⟨b2, c2, w2, hrun, hR, hG⟩ := Go.Proofs.YtfponcdhaefkdaaDoor.app okFd W (.slice fb fl fc) l h.row x [f] hx (by simp only [EFd, List.length_singleton]; omega)
  have hfl : fl = l.length := by
    obtain ⟨_, _, e, _, _⟩ := h.row.slice
    simp only [sv] at e
    injection e
  have el : l.length + [f].length = fl + 1 := by rw [hfl]; rfl
  rw [el] at hrun hR hG
  have hne : (Value.slice fb fl fc).ownBlock ≠ some o := fun e => by
    obtain ⟨cc, hc⟩ := h.row.ty o e
    rw [h.blk] at hc
    injection hc with hc; injection hc with _ hc; cases hc
  have ho2 : w2.heap[o]? = some (.cells #[.int .i64 n, .slice fb fl fc, .string b] 26 (0, 0)) := (hG.block o (heap_lt h.blk) hne).trans h.blk
  refine ⟨b2, c2, w2, hrun, ho2, hG.block, ⟨(h.bel.trans (hG.belowB h.bel.size h.new)).setCell (p := ⟨o, 1, none⟩) h.ho _, ?_, ?_, ?_, h.ho⟩⟩
  · rw [setCell_block _ _ _ _ _ _ _ ho2]
    rfl
  · refine R.stays (o := sv (b2, fl + 1, c2)) hR fun k hk hl => setCell_other _ _ _ _ _ fun e => ?_
    obtain ⟨cc, hc⟩ := R.ty (o := sv (b2, fl + 1, c2)) hR k hk
    rw [e, ho2] at hc
    injection hc with hc; injection hc with _ hc; cases hc
  · intro k hk
    rcases hG.own k hk with e | e
    · exact h.new k e
    · exact Nat.le_trans h.bel.size e
set_option maxHeartbeats 8000000 in
set_option maxRecDepth 100000 in
theorem copiedResponse_any (n : Int) (y : SV) (b : ByteArray) (l : List Fd) (w : World) (hI : In EFd w (sv y) l) (hl : l.length ≤ 1099511627776) (hz : ∀ f ∈ l, fz f) (hb : b.size ≤ 281474976710656) :
    Calls Tryd.prog 39 #[.agg (rsv n (sv y) b)] w fun e w' => ∃ z : SV, e = .returned (.agg (rsv n (sv z) b)) ∧ Below w.heap.size w w' ∧ R EFd w' (sv z) l ∧ ∀ k, (sv z).ownBlock = some k → w.heap.size ≤ k := by
  have HZb : Hid (b.size ≤ 281474976710656) := hb
  unfold rsv
  have HI : Hid (In EFd w (sv y) l) := hI
  have HZ : Hid (∀ f ∈ l, fz f) := hz
  have HLl : Hid (l.length ≤ 1099511627776) := hl
  obtain ⟨sb, sl, sc⟩ := y
  simp only [sv] at HI ⊢
  have hsl : sl = l.length := by obtain ⟨_, _, e, _⟩ := hI.slice; simp only [sv] at e; injection e
  have hcap : l.length ≤ sc ∧ sc ≤ 9223372036854775807 := by obtain ⟨_, _, e, q1, q2⟩ := hI.slice; simp only [sv] at e; injection e with _ _ e; subst e; exact ⟨q1, q2⟩
  obtain ⟨N, hN⟩ : ∃ N, l.length = N := ⟨_, rfl⟩
  rw [hN] at hsl hcap
  subst hsl
  have HN : Hid (l.length = sl) := hN
  obtain ⟨hc1, hc2⟩ := hcap
  obtain ⟨B, hB⟩ : ∃ B, (w.alloc (.cells #[.int .i64 n, .slice sb sl sc, .string b] 26)).alloc (.cells #[.int .i64 0, .slice none 0 0, .string ⟨#[]⟩] 26) = B := ⟨_, rfl⟩
  obtain ⟨q, hq⟩ : ∃ q, w.heap.size = q := ⟨_, rfl⟩
  obtain ⟨r, hr⟩ : ∃ r, q + 1 = r := ⟨_, rfl⟩
  have HQ : Hid (B.heap[q]? = some (.cells #[.int .i64 n, .slice sb sl sc, .string b] 26 (0, 0))) := by show _ = _; rw [← hB, ← hq, heap_al, if_neg (by simp), heap_al, if_pos rfl]
  have HR : Hid (B.heap[r]? = some (.cells #[.int .i64 0, .slice none 0 0, .string ⟨#[]⟩] 26 (0, 0))) := by show _ = _; rw [← hB, ← hr, ← hq]; exact fresh2 _ _ _
  have HB : Hid (Below w.heap.size w B) := by rw [← hB]; exact bel2 _ _ _
  have HRw : Hid (w.heap.size ≤ r ∧ r < B.heap.size) := ⟨by omega, heap_lt HR.out⟩
  have hS : Hid (∀ V, Below B.heap.size B V → V.cell? ⟨q, 0, none⟩ = some (.int .i64 n) ∧ V.cell? ⟨q, 1, none⟩ = some (.slice sb sl sc) ∧ V.cell? ⟨q, 2, none⟩ = some (.string b)) := fun V hV => by
    have h := (hV.block q (heap_lt HQ.out)).trans HQ.out
    exact ⟨cell_blk h 0, cell_blk h 1, cell_blk h 2⟩
  clear hz hl hI hb hN
  go_enter Tryd.func39, Tryd.ntmps39
  go_upto_region 1 with fail
  try rw [hB]
  try rw [hq]
  try rw [hr]
  clear hB hq hr
  apply cut_rest
  · intro hrest
    have hIW : Below B.heap.size B B.drew := (Below.refl _ _).drew
    refine wp_region_held_drew (S := (fun V => V.cell? ⟨q, 0, none⟩ = some (.int .i64 n) ∧ V.cell? ⟨q, 1, none⟩ = some (.slice sb sl sc) ∧ V.cell? ⟨q, 2, none⟩ = some (.string b))) (by kernel_rfl) (hS.out _ hIW) (fun hHeld => ?_)
    generalize hWg : World.drew _ = W at hIW hHeld ⊢
    clear hWg
    refine wpAnyH_take (i := 0) (oi := { dst := some 6, op := Op.fieldAddr 26 (Operand.tmp 1) 0, type := 0, pos := "cache.go:157", after := #[], guard := none }) (v := ?vv1) rfl (by kernel_rfl) (by kernel_rfl) (by kernel_rfl) (fun _ _ _ h => h) (Or.inl ⟨by rfl, ?hy1⟩) (by assumption) ?_
    case hy1 => (intro w hSw; (try dsimp only at hSw); go_simp; all_goals with_reducible rfl)
    try simp only [Act.put, List.setIfInBounds_toArray, List.set_cons_zero, List.set_cons_succ]
    refine wpAnyH_take (i := 1) (oi := { dst := some 7, op := Op.load 3 (Operand.tmp 6), type := 3, pos := "cache.go:157", after := #[{ on := 0, ground := Ground.data }], guard := none }) (v := ?vv2) rfl (by kernel_rfl) (by kernel_rfl) (by kernel_rfl) (fun _ _ _ h => h) (Or.inl ⟨by rfl, ?hy2⟩) (by assumption) ?_
    case hy2 => (intro w hSw; (try dsimp only at hSw); go_simp; all_goals with_reducible rfl)
    try simp only [Act.put, List.setIfInBounds_toArray, List.set_cons_zero, List.set_cons_succ]
    refine wpAnyH_take (i := 2) (oi := { dst := some 8, op := Op.fieldAddr 26 (Operand.tmp 1) 2, type := 0, pos := "cache.go:157", after := #[], guard := none }) (v := ?vv3) rfl (by kernel_rfl) (by kernel_rfl) (by kernel_rfl) (fun _ _ _ h => h) (Or.inl ⟨by rfl, ?hy3⟩) (by assumption) ?_
    case hy3 => (intro w hSw; (try dsimp only at hSw); go_simp; all_goals with_reducible rfl)
    try simp only [Act.put, List.setIfInBounds_toArray, List.set_cons_zero, List.set_cons_succ]
    refine wpAnyH_take (i := 3) (oi := { dst := some 9, op := Op.load 9 (Operand.tmp 8), type := 9, pos := "cache.go:157", after := #[{ on := 2, ground := Ground.data }], guard := none }) (v := ?vv4) rfl (by kernel_rfl) (by kernel_rfl) (by kernel_rfl) (fun _ _ _ h => h) (Or.inl ⟨by rfl, ?hy4⟩) (by assumption) ?_
    case hy4 => (intro w hSw; (try dsimp only at hSw); go_simp; all_goals with_reducible rfl)
    try simp only [Act.put, List.setIfInBounds_toArray, List.set_cons_zero, List.set_cons_succ]
    refine wpAnyH_ready (rs := [4, 6]) (by kernel_rfl) (by simp) ?_
    refine AllReadyH.cons (o := { dst := some 10, op := Op.call { callee := Callee.value (Operand.func 65), args := #[Operand.tmp 9], argTypes := #[9] }, type := 9, pos := "cache.go:157", after := #[{ on := 3, ground := Ground.data }], guard := none }) rfl (fun K hK => ?_) ?_
    · go_simp
      refine (sclone_any b _ HZb.out).mono ?_
      rintro e' Wx ⟨rfl, bX⟩
      have hWx : Below B.heap.size B Wx := hIW.trans (bX.mono hIW.size)
      clear bX
      go_wp2_with fail
      refine hK.out _ _ (hS.out _ hWx) (fun hHeld => ?_)
      clear hK K
      try simp only [Act.put, List.setIfInBounds_toArray, List.set_cons_zero, List.set_cons_succ]
      refine wpAnyH_take (i := 5) (oi := { dst := some 11, op := Op.build 26 #[(0, Operand.tmp 7), (2, Operand.tmp 10)], type := 26, pos := "cache.go:157", after := #[{ on := 1, ground := Ground.data }, { on := 4, ground := Ground.data }], guard := none }) (v := ?vv5) rfl (by kernel_rfl) (by kernel_rfl) (by kernel_rfl) (fun _ _ _ h => h) (Or.inl ⟨by rfl, ?hy5⟩) (by assumption) ?_
      case hy5 => (intro w hSw; (try dsimp only at hSw); go_simp; all_goals with_reducible rfl)
      try simp only [Act.put, List.setIfInBounds_toArray, List.set_cons_zero, List.set_cons_succ]
      refine wpAnyH_ready (rs := [6]) (by kernel_rfl) (by simp) ?_
      refine AllReadyH.cons (o := { dst := some 3, op := Op.alloc 26, type := 0, pos := "cache.go:157", after := #[], guard := none }) rfl (fun K hK => ?_) AllReadyH.nil
      obtain ⟨o, ho⟩ : ∃ o, Wx.heap.size = o := ⟨_, rfl⟩
      obtain ⟨Wxx, hV0⟩ : ∃ V, Wx.alloc (.cells #[.int .i64 0, .slice none 0 0, .string ⟨#[]⟩] 26) = V := ⟨_, rfl⟩
      have hWxx : Below B.heap.size B Wxx := by rw [← hV0]; exact hWx.trans ((bel1 _ _).mono hWx.size)
      have oWxx : Wxx.heap[o]? = some (.cells #[.int .i64 0, .slice none 0 0, .string ⟨#[]⟩] 26 (0, 0)) := by rw [← hV0, ← ho, heap_al, if_pos rfl]
      have HO : Hid (B.heap.size ≤ o) := by rw [← ho]; exact hWx.size
      go_simp
      go_wp2_with fail
      try rw [hV0]
      try rw [ho]
      refine hK.out _ _ (hS.out _ hWxx) (fun hHeld => ?_)
      clear hK K hV0 ho
      try simp only [Act.put, List.setIfInBounds_toArray, List.set_cons_zero, List.set_cons_succ]
      refine wpAnyH_ready (rs := [7]) (by kernel_rfl) (by simp) ?_
      refine AllReadyH.cons (o := { dst := none, op := Op.store 26 (Operand.tmp 3) (Operand.tmp 11), type := 0, pos := "cache.go:157", after := #[{ on := 6, ground := Ground.data }, { on := 5, ground := Ground.data }, { on := 4, ground := Ground.chain }, { on := 0, ground := Ground.phase }, { on := 1, ground := Ground.phase }, { on := 2, ground := Ground.phase }, { on := 3, ground := Ground.phase }, { on := 4, ground := Ground.phase }, { on := 5, ground := Ground.phase }, { on := 6, ground := Ground.phase }], guard := none }) rfl (fun K hK => ?_) AllReadyH.nil
      have p0 := cell_blk oWxx 0
      have z0 := frozen_blk oWxx 0
      have p1 := cell_blk oWxx 1
      have z1 := frozen_blk oWxx 1
      have p2 := cell_blk oWxx 2
      have z2 := frozen_blk oWxx 2
      simp only [List.getElem?_toArray, List.getElem?_cons_succ, List.getElem?_cons_zero] at p0 p1 p2
      obtain ⟨E, hE⟩ : ∃ E, ((Wxx.setCell ⟨o, 0, none⟩ (.int .i64 n)).setCell ⟨o, 1, none⟩ (.slice none 0 0)).setCell ⟨o, 2, none⟩ (.string b) = E := ⟨_, rfl⟩
      have hEb : Below B.heap.size B E := by rw [← hE]; exact (((hWxx.setCell (p := ⟨o, 0, none⟩) HO.out _).setCell (p := ⟨o, 1, none⟩) HO.out _).setCell (p := ⟨o, 2, none⟩) HO.out _)
      have HC : Hid (Cr B E o n b (none, 0, 0) []) := by
        refine ⟨hEb, ?_, R.nil _ _, fun k hk => by simp [sv, Value.ownBlock] at hk, HO.out⟩
        rw [← hE, (setCell_block _ _ _ _ _ _ _ (setCell_block _ _ _ _ _ _ _ (setCell_block _ _ _ _ _ _ _ oWxx)))]
        rfl
      go_simp
      go_wp2_with fail
      try rw [hE]
      refine hK.out _ _ (hS.out _ hEb) (fun hHeld => ?_)
      clear hK K p0 z0 p1 z1 p2 z2 hE hEb
      try simp only [Act.put, List.setIfInBounds_toArray, List.set_cons_zero, List.set_cons_succ]
      refine wpAnyH_done (by kernel_rfl) ?_ _
      clear hHeld
      revert HC
      revert E
      clear oWxx HO
      revert o
      exact hrest.out
    refine AllReadyH.cons (o := { dst := some 3, op := Op.alloc 26, type := 0, pos := "cache.go:157", after := #[], guard := none }) rfl (fun K hK => ?_) AllReadyH.nil
    obtain ⟨o, ho⟩ : ∃ o, W.heap.size = o := ⟨_, rfl⟩
    obtain ⟨Wx, hV0⟩ : ∃ V, W.alloc (.cells #[.int .i64 0, .slice none 0 0, .string ⟨#[]⟩] 26) = V := ⟨_, rfl⟩
    have hWx : Below B.heap.size B Wx := by rw [← hV0]; exact hIW.trans ((bel1 _ _).mono hIW.size)
    have oWx : Wx.heap[o]? = some (.cells #[.int .i64 0, .slice none 0 0, .string ⟨#[]⟩] 26 (0, 0)) := by rw [← hV0, ← ho, heap_al, if_pos rfl]
    have HO : Hid (B.heap.size ≤ o) := by rw [← ho]; exact hIW.size
    go_simp
    go_wp2_with fail
    try rw [hV0]
    try rw [ho]
    refine hK.out _ _ (hS.out _ hWx) (fun hHeld => ?_)
    clear hK K hV0 ho
    try simp only [Act.put, List.setIfInBounds_toArray, List.set_cons_zero, List.set_cons_succ]
    refine wpAnyH_ready (rs := [4]) (by kernel_rfl) (by simp) ?_
    refine AllReadyH.cons (o := { dst := some 10, op := Op.call { callee := Callee.value (Operand.func 65), args := #[Operand.tmp 9], argTypes := #[9] }, type := 9, pos := "cache.go:157", after := #[{ on := 3, ground := Ground.data }], guard := none }) rfl (fun K hK => ?_) AllReadyH.nil
    go_simp
    refine (sclone_any b _ HZb.out).mono ?_
    rintro e' Wxx ⟨rfl, bX⟩
    have hWxx : Below B.heap.size B Wxx := hWx.trans (bX.mono hWx.size)
    have oWxx : Wxx.heap[o]? = some (.cells #[.int .i64 0, .slice none 0 0, .string ⟨#[]⟩] 26 (0, 0)) := (bX.block o (heap_lt oWx)).trans oWx
    clear oWx
    clear bX
    go_wp2_with fail
    refine hK.out _ _ (hS.out _ hWxx) (fun hHeld => ?_)
    clear hK K
    try simp only [Act.put, List.setIfInBounds_toArray, List.set_cons_zero, List.set_cons_succ]
    refine wpAnyH_take (i := 5) (oi := { dst := some 11, op := Op.build 26 #[(0, Operand.tmp 7), (2, Operand.tmp 10)], type := 26, pos := "cache.go:157", after := #[{ on := 1, ground := Ground.data }, { on := 4, ground := Ground.data }], guard := none }) (v := ?vv6) rfl (by kernel_rfl) (by kernel_rfl) (by kernel_rfl) (fun _ _ _ h => h) (Or.inl ⟨by rfl, ?hy6⟩) (by assumption) ?_
    case hy6 => (intro w hSw; (try dsimp only at hSw); go_simp; all_goals with_reducible rfl)
    try simp only [Act.put, List.setIfInBounds_toArray, List.set_cons_zero, List.set_cons_succ]
    refine wpAnyH_ready (rs := [7]) (by kernel_rfl) (by simp) ?_
    refine AllReadyH.cons (o := { dst := none, op := Op.store 26 (Operand.tmp 3) (Operand.tmp 11), type := 0, pos := "cache.go:157", after := #[{ on := 6, ground := Ground.data }, { on := 5, ground := Ground.data }, { on := 4, ground := Ground.chain }, { on := 0, ground := Ground.phase }, { on := 1, ground := Ground.phase }, { on := 2, ground := Ground.phase }, { on := 3, ground := Ground.phase }, { on := 4, ground := Ground.phase }, { on := 5, ground := Ground.phase }, { on := 6, ground := Ground.phase }], guard := none }) rfl (fun K hK => ?_) AllReadyH.nil
    have p0 := cell_blk oWxx 0
    have z0 := frozen_blk oWxx 0
    have p1 := cell_blk oWxx 1
    have z1 := frozen_blk oWxx 1
    have p2 := cell_blk oWxx 2
    have z2 := frozen_blk oWxx 2
    simp only [List.getElem?_toArray, List.getElem?_cons_succ, List.getElem?_cons_zero] at p0 p1 p2
    obtain ⟨E, hE⟩ : ∃ E, ((Wxx.setCell ⟨o, 0, none⟩ (.int .i64 n)).setCell ⟨o, 1, none⟩ (.slice none 0 0)).setCell ⟨o, 2, none⟩ (.string b) = E := ⟨_, rfl⟩
    have hEb : Below B.heap.size B E := by rw [← hE]; exact (((hWxx.setCell (p := ⟨o, 0, none⟩) HO.out _).setCell (p := ⟨o, 1, none⟩) HO.out _).setCell (p := ⟨o, 2, none⟩) HO.out _)
    have HC : Hid (Cr B E o n b (none, 0, 0) []) := by
      refine ⟨hEb, ?_, R.nil _ _, fun k hk => by simp [sv, Value.ownBlock] at hk, HO.out⟩
      rw [← hE, (setCell_block _ _ _ _ _ _ _ (setCell_block _ _ _ _ _ _ _ (setCell_block _ _ _ _ _ _ _ oWxx)))]
      rfl
    go_simp
    go_wp2_with fail
    try rw [hE]
    refine hK.out _ _ (hS.out _ hEb) (fun hHeld => ?_)
    clear hK K p0 z0 p1 z1 p2 z2 hE hEb
    try simp only [Act.put, List.setIfInBounds_toArray, List.set_cons_zero, List.set_cons_succ]
    refine wpAnyH_done (by kernel_rfl) ?_ _
    clear hHeld
    revert HC
    revert E
    clear oWxx HO
    revert o
    exact hrest.out
  · intro o E HC
    obtain ⟨p0, p1, p2⟩ := hS.out _ HC.out.bel
    go_wp2_with fail
    clear p0 p1 p2
    go_loopw [5, 15] (fun _ kv wr => ∃ (k : Nat) (fb : Option Addr) (fl fc : Nat), kv = .int .i64 (k : Int) ∧ k ≤ sl ∧ Hid (Cr B wr o n b (fb, fl, fc) (l.take k))) (fun _ kv _ => sl - (intOf kv).toNat)
    case atStart => exact ⟨0, none, 0, 0, rfl, by omega, by have h := HC.out; show Cr _ _ _ n b _ _; simpa using h⟩
    case round =>
      clear HC
      obtain ⟨k, fb, fl, fc, rfl, hk, hC⟩ := hrel
      by_cases hlt : k < sl
      · have hkl : k < l.length := by rw [HN.out]; exact hlt
        obtain ⟨Bk, off, cap, e, hc⟩ := HI.out.fd k hkl
        injection e with e1 e2 e3
        clear e2 e3
        subst e1
        obtain ⟨c0, c1, c2⟩ := hc wr (HB.out.trans (hC.out.bel.mono HB.out.size))
        obtain ⟨f, hf⟩ : ∃ f, l[k] = f := ⟨_, rfl⟩
        rw [hf] at c0 c1 c2
        have HZf : Hid (fz f) := HZ.out f (by rw [← hf]; exact List.getElem_mem hkl)
        have l1 : (k : Int) < (sl : Int) := by omega
        obtain ⟨qf, hqf⟩ : ∃ q, wr.heap.size = q := ⟨_, rfl⟩
        obtain ⟨B5, hB5⟩ : ∃ V, wr.alloc (.cells #[.string f.n, .string f.v, .bool f.nv] 51) = V := ⟨_, rfl⟩
        have HC5 : Hid (Cr B B5 o n b (fb, fl, fc) (l.take k)) := by rw [← hB5]; exact hC.out.below (bel1 _ _)
        have HFb : Hid (B5.heap[qf]? = some (.cells #[.string f.n, .string f.v, .bool f.nv] 51 (0, 0))) := by show _ = _; rw [← hB5, ← hqf, heap_al, if_pos rfl]
        have HQf : Hid (qf < B5.heap.size ∧ (Value.slice fb fl fc).ownBlock ≠ some qf) := ⟨heap_lt HFb.out, fun e => by have := hC.out.row.lt qf e; omega⟩
        have HQo : Hid (qf ≠ o) := fun e => by have := heap_lt hC.out.blk; omega
        have hS5 : Hid (∀ V, Below B5.heap.size B5 V → V.cell? ⟨qf, 0, none⟩ = some (.string f.n) ∧ V.cell? ⟨qf, 1, none⟩ = some (.string f.v) ∧ V.cell? ⟨qf, 2, none⟩ = some (.bool f.nv)) := fun V hV => by
          have h := (hV.block qf (heap_lt HFb.out)).trans HFb.out
          exact ⟨cell_blk h 0, cell_blk h 1, cell_blk h 2⟩
        have HTk : Hid (l.take (k + 1) = l.take k ++ [f]) := by show _ = _; rw [List.take_succ_eq_append_getElem hkl, hf]
        have HLn : Hid ((l.take k).length ≤ 1099511627776) := by show _ ≤ _; rw [List.length_take]; have := HLl.out; omega
        obtain ⟨L, hL⟩ : ∃ L, l.take k = L := ⟨_, rfl⟩
        rw [hL] at HC5 HTk HLn
        clear hC hc hf hL
        go_upto_region 5 with fail
        try rw [hB5]
        try rw [hqf]
        clear hB5 hqf c0 c1 c2
        have hIW : Below B5.heap.size B5 B5.drew := (Below.refl _ _).drew
        have HC5d : Hid (Cr B B5.drew o n b (fb, fl, fc) L) := HC5.out.below (Below.refl _ _).drew
        refine wp_region_held_drew (S := (fun V => V.cell? ⟨qf, 0, none⟩ = some (.string f.n) ∧ V.cell? ⟨qf, 1, none⟩ = some (.string f.v) ∧ V.cell? ⟨qf, 2, none⟩ = some (.bool f.nv))) (by kernel_rfl) (hS5.out _ hIW) (fun hHeld => ?_)
        generalize hWg : World.drew _ = W5 at hIW hHeld HC5d ⊢
        clear hWg HC5
        refine wpAnyH_take (i := 0) (oi := { dst := some 19, op := Op.fieldAddr 26 (Operand.tmp 3) 1, type := 0, pos := "cache.go:159", after := #[], guard := none }) (v := ?vv7) rfl (by kernel_rfl) (by kernel_rfl) (by kernel_rfl) (fun _ _ _ h => h) (Or.inl ⟨by rfl, ?hy7⟩) (by assumption) ?_
        case hy7 => (intro w hSw; (try dsimp only at hSw); go_simp; all_goals with_reducible rfl)
        try simp only [Act.put, List.setIfInBounds_toArray, List.set_cons_zero, List.set_cons_succ]
        refine wpAnyH_take (i := 2) (oi := { dst := some 21, op := Op.load 51 (Operand.tmp 5), type := 51, pos := "cache.go:159", after := #[], guard := none }) (v := ?vv8) rfl (by kernel_rfl) (by kernel_rfl) (by kernel_rfl) (fun _ _ _ h => h) (Or.inl ⟨by rfl, ?hy8⟩) (by assumption) ?_
        case hy8 => (intro w hSw; (try dsimp only at hSw); go_simp; all_goals with_reducible rfl)
        try simp only [Act.put, List.setIfInBounds_toArray, List.set_cons_zero, List.set_cons_succ]
        refine wpAnyH_ready (rs := [1, 3]) (by kernel_rfl) (by simp) ?_
        refine AllReadyH.cons (o := { dst := some 20, op := Op.load 22 (Operand.tmp 19), type := 22, pos := "cache.go:159", after := #[{ on := 0, ground := Ground.data }], guard := none }) rfl (fun K hK => ?_) ?_
        · have pc : W5.cell? ⟨o, 1, none⟩ = some (.slice fb fl fc) := HC5d.out.cell
          go_simp
          go_wp2_with fail
          refine hK.out _ _ (hS5.out _ hIW) (fun hHeld => ?_)
          clear hK K pc
          try simp only [Act.put, List.setIfInBounds_toArray, List.set_cons_zero, List.set_cons_succ]
          refine wpAnyH_ready (rs := [3]) (by kernel_rfl) (by simp) ?_
          refine AllReadyH.cons (o := { dst := some 22, op := Op.call { callee := Callee.value (Operand.func 67), args := #[Operand.tmp 21], argTypes := #[51] }, type := 51, pos := "cache.go:159", after := #[{ on := 2, ground := Ground.data }], guard := none }) rfl (fun K hK => ?_) AllReadyH.nil
          go_simp
          refine (copiedField_any f _ HZf.out).mono ?_
          rintro e' W5x ⟨rfl, bX⟩
          have hW5x : Below B5.heap.size B5 W5x := hIW.trans (bX.mono hIW.size)
          have CW5x : Hid (Cr B W5x o n b (fb, fl, fc) L) := HC5d.out.below bX
          clear bX
          go_wp2_with fail
          refine hK.out _ _ (hS5.out _ hW5x) (fun hHeld => ?_)
          clear hK K
          try simp only [Act.put, List.setIfInBounds_toArray, List.set_cons_zero, List.set_cons_succ]
          refine wpAnyH_ready (rs := [4]) (by kernel_rfl) (by simp) ?_
          refine AllReadyH.cons (o := { dst := some 23, op := Op.buildSlice 22 1 #[(0, Operand.tmp 22)], type := 22, pos := "cache.go:159", after := #[{ on := 3, ground := Ground.data }], guard := none }) rfl (fun K hK => ?_) AllReadyH.nil
          obtain ⟨q4, hq4⟩ : ∃ q, W5x.heap.size = q := ⟨_, rfl⟩
          obtain ⟨W5xx, hV0⟩ : ∃ V, W5x.alloc (.cells #[.string f.n, .string f.v, .bool f.nv] 51) = V := ⟨_, rfl⟩
          have hW5xx : Below B5.heap.size B5 W5xx := by rw [← hV0]; exact hW5x.trans ((bel1 _ _).mono hW5x.size)
          have CW5xx : Hid (Cr B W5xx o n b (fb, fl, fc) L) := by rw [← hV0]; exact CW5x.out.below (bel1 _ _)
          have HI4 : Hid (In EFd W5xx (.slice (some ⟨q4, 0, none⟩) 1 1) [f]) := by rw [← hV0, ← hq4]; exact in_one (E := EFd) _ _ f #[.string f.n, .string f.v, .bool f.nv] 51 (0, 0) (by rw [heap_al, if_pos rfl]) rfl
          go_simp
          go_wp2_with fail
          try rw [hV0]
          try rw [hq4]
          refine hK.out _ _ (hS5.out _ hW5xx) (fun hHeld => ?_)
          clear hK K hV0 hq4
          try simp only [Act.put, List.setIfInBounds_toArray, List.set_cons_zero, List.set_cons_succ]
          refine wpAnyH_ready (rs := [5]) (by kernel_rfl) (by simp) ?_
          refine AllReadyH.cons (o := { dst := some 24, op := Op.call { callee := Callee.builtin Builtin.append, args := #[Operand.tmp 20, Operand.tmp 23], argTypes := #[22, 22] }, type := 22, pos := "cache.go:159", after := #[{ on := 1, ground := Ground.data }, { on := 4, ground := Ground.data }, { on := 3, ground := Ground.chain }], guard := none }) rfl (fun K hK => ?_) AllReadyH.nil
          obtain ⟨b2, c2, w2, hrun, ho2, hoth, hfin⟩ := CW5xx.out.app f (.slice (some ⟨q4, 0, none⟩) 1 1) HI4.out HLn.out
          have HSn : Hid ((fun V => V.cell? ⟨qf, 0, none⟩ = some (.string f.n) ∧ V.cell? ⟨qf, 1, none⟩ = some (.string f.v) ∧ V.cell? ⟨qf, 2, none⟩ = some (.bool f.nv)) w2) := by
            have hq := hS5.out _ hW5xx
            have he : w2.heap[qf]? = W5xx.heap[qf]? := hoth qf (Nat.lt_of_lt_of_le HQf.out.1 hW5xx.size) (fun e => HQf.out.2 e)
            refine ⟨?_, ?_, ?_⟩
            · have := hq.1; unfold World.cell? at this ⊢; rw [he]; exact this
            · have := hq.2.1; unfold World.cell? at this ⊢; rw [he]; exact this
            · have := hq.2.2; unfold World.cell? at this ⊢; rw [he]; exact this
          refine step_append_run rfl (.tmp 20) (.tmp 23) 22 22 rfl hrun (by first | rfl | simp [Act.eval, Act.put]) (by first | rfl | simp [Act.eval, Act.put]) ?_
          refine hK.out _ _ HSn.out (fun hHeld => ?_)
          clear hK K hrun hoth
          try simp only [Act.put, List.setIfInBounds_toArray, List.set_cons_zero, List.set_cons_succ]
          refine wpAnyH_take (i := 6) (oi := { dst := some 25, op := Op.fieldAddr 26 (Operand.tmp 3) 1, type := 0, pos := "cache.go:159", after := #[{ on := 0, ground := Ground.phase }, { on := 1, ground := Ground.phase }, { on := 2, ground := Ground.phase }, { on := 3, ground := Ground.phase }, { on := 4, ground := Ground.phase }, { on := 5, ground := Ground.phase }], guard := none }) (v := ?vv9) rfl (by kernel_rfl) (by kernel_rfl) (by kernel_rfl) (fun _ _ _ h => h) (Or.inl ⟨by rfl, ?hy9⟩) (by assumption) ?_
          case hy9 => (intro w hSw; (try dsimp only at hSw); go_simp; all_goals with_reducible rfl)
          try simp only [Act.put, List.setIfInBounds_toArray, List.set_cons_zero, List.set_cons_succ]
          refine wpAnyH_ready (rs := [7]) (by kernel_rfl) (by simp) ?_
          refine AllReadyH.cons (o := { dst := none, op := Op.store 22 (Operand.tmp 25) (Operand.tmp 24), type := 0, pos := "cache.go:159", after := #[{ on := 6, ground := Ground.data }, { on := 5, ground := Ground.data }, { on := 5, ground := Ground.chain }, { on := 0, ground := Ground.phase }, { on := 1, ground := Ground.phase }, { on := 2, ground := Ground.phase }, { on := 3, ground := Ground.phase }, { on := 4, ground := Ground.phase }, { on := 5, ground := Ground.phase }], guard := none }) rfl (fun K hK => ?_) AllReadyH.nil
          obtain ⟨E5, hE5⟩ : ∃ E, w2.setCell ⟨o, 1, none⟩ (.slice b2 (fl + 1) c2) = E := ⟨_, rfl⟩
          rw [hE5] at hfin
          have HC5 : Hid (Cr B E5 o n b (b2, fl + 1, c2) (L ++ [f])) := hfin
          have HSe : Hid ((fun V => V.cell? ⟨qf, 0, none⟩ = some (.string f.n) ∧ V.cell? ⟨qf, 1, none⟩ = some (.string f.v) ∧ V.cell? ⟨qf, 2, none⟩ = some (.bool f.nv)) E5) := by
            have hq := HSn.out
            have he : E5.heap[qf]? = w2.heap[qf]? := by rw [← hE5]; exact setCell_other _ _ _ _ _ HQo.out
            refine ⟨?_, ?_, ?_⟩
            · have := hq.1; unfold World.cell? at this ⊢; rw [he]; exact this
            · have := hq.2.1; unfold World.cell? at this ⊢; rw [he]; exact this
            · have := hq.2.2; unfold World.cell? at this ⊢; rw [he]; exact this
          have po := cell_blk ho2 1
          have pz := frozen_blk ho2 1
          simp only [List.getElem?_toArray, List.getElem?_cons_succ, List.getElem?_cons_zero] at po
          clear hfin
          go_simp
          go_wp2_with fail
          try rw [hE5]
          refine hK.out _ _ HSe.out (fun hHeld => ?_)
          clear hK K po pz hE5 HSn ho2
          try simp only [Act.put, List.setIfInBounds_toArray, List.set_cons_zero, List.set_cons_succ]
          refine wpAnyH_done (by kernel_rfl) ?_ _
          go_wp2_with fail
          go_roundw
          case rel => exact ⟨k + 1, b2, fl + 1, c2, by simp, by omega, by rw [HTk.out]; exact HC5.out⟩
          case measure => simp [intOf]; omega
        refine AllReadyH.cons (o := { dst := some 22, op := Op.call { callee := Callee.value (Operand.func 67), args := #[Operand.tmp 21], argTypes := #[51] }, type := 51, pos := "cache.go:159", after := #[{ on := 2, ground := Ground.data }], guard := none }) rfl (fun K hK => ?_) AllReadyH.nil
        go_simp
        refine (copiedField_any f _ HZf.out).mono ?_
        rintro e' W5x ⟨rfl, bX⟩
        have hW5x : Below B5.heap.size B5 W5x := hIW.trans (bX.mono hIW.size)
        have CW5x : Hid (Cr B W5x o n b (fb, fl, fc) L) := HC5d.out.below bX
        clear bX
        go_wp2_with fail
        refine hK.out _ _ (hS5.out _ hW5x) (fun hHeld => ?_)
        clear hK K
        try simp only [Act.put, List.setIfInBounds_toArray, List.set_cons_zero, List.set_cons_succ]
        refine wpAnyH_ready (rs := [1, 4]) (by kernel_rfl) (by simp) ?_
        refine AllReadyH.cons (o := { dst := some 20, op := Op.load 22 (Operand.tmp 19), type := 22, pos := "cache.go:159", after := #[{ on := 0, ground := Ground.data }], guard := none }) rfl (fun K hK => ?_) ?_
        · have pc : W5x.cell? ⟨o, 1, none⟩ = some (.slice fb fl fc) := CW5x.out.cell
          go_simp
          go_wp2_with fail
          refine hK.out _ _ (hS5.out _ hW5x) (fun hHeld => ?_)
          clear hK K pc
          try simp only [Act.put, List.setIfInBounds_toArray, List.set_cons_zero, List.set_cons_succ]
          refine wpAnyH_ready (rs := [4]) (by kernel_rfl) (by simp) ?_
          refine AllReadyH.cons (o := { dst := some 23, op := Op.buildSlice 22 1 #[(0, Operand.tmp 22)], type := 22, pos := "cache.go:159", after := #[{ on := 3, ground := Ground.data }], guard := none }) rfl (fun K hK => ?_) AllReadyH.nil
          obtain ⟨q4, hq4⟩ : ∃ q, W5x.heap.size = q := ⟨_, rfl⟩
          obtain ⟨W5xx, hV0⟩ : ∃ V, W5x.alloc (.cells #[.string f.n, .string f.v, .bool f.nv] 51) = V := ⟨_, rfl⟩
          have hW5xx : Below B5.heap.size B5 W5xx := by rw [← hV0]; exact hW5x.trans ((bel1 _ _).mono hW5x.size)
          have CW5xx : Hid (Cr B W5xx o n b (fb, fl, fc) L) := by rw [← hV0]; exact CW5x.out.below (bel1 _ _)
          have HI4 : Hid (In EFd W5xx (.slice (some ⟨q4, 0, none⟩) 1 1) [f]) := by rw [← hV0, ← hq4]; exact in_one (E := EFd) _ _ f #[.string f.n, .string f.v, .bool f.nv] 51 (0, 0) (by rw [heap_al, if_pos rfl]) rfl
          go_simp
          go_wp2_with fail
          try rw [hV0]
          try rw [hq4]
          refine hK.out _ _ (hS5.out _ hW5xx) (fun hHeld => ?_)
          clear hK K hV0 hq4
          try simp only [Act.put, List.setIfInBounds_toArray, List.set_cons_zero, List.set_cons_succ]
          refine wpAnyH_ready (rs := [5]) (by kernel_rfl) (by simp) ?_
          refine AllReadyH.cons (o := { dst := some 24, op := Op.call { callee := Callee.builtin Builtin.append, args := #[Operand.tmp 20, Operand.tmp 23], argTypes := #[22, 22] }, type := 22, pos := "cache.go:159", after := #[{ on := 1, ground := Ground.data }, { on := 4, ground := Ground.data }, { on := 3, ground := Ground.chain }], guard := none }) rfl (fun K hK => ?_) AllReadyH.nil
          obtain ⟨b2, c2, w2, hrun, ho2, hoth, hfin⟩ := CW5xx.out.app f (.slice (some ⟨q4, 0, none⟩) 1 1) HI4.out HLn.out
          have HSn : Hid ((fun V => V.cell? ⟨qf, 0, none⟩ = some (.string f.n) ∧ V.cell? ⟨qf, 1, none⟩ = some (.string f.v) ∧ V.cell? ⟨qf, 2, none⟩ = some (.bool f.nv)) w2) := by
            have hq := hS5.out _ hW5xx
            have he : w2.heap[qf]? = W5xx.heap[qf]? := hoth qf (Nat.lt_of_lt_of_le HQf.out.1 hW5xx.size) (fun e => HQf.out.2 e)
            refine ⟨?_, ?_, ?_⟩
            · have := hq.1; unfold World.cell? at this ⊢; rw [he]; exact this
            · have := hq.2.1; unfold World.cell? at this ⊢; rw [he]; exact this
            · have := hq.2.2; unfold World.cell? at this ⊢; rw [he]; exact this
          refine step_append_run rfl (.tmp 20) (.tmp 23) 22 22 rfl hrun (by first | rfl | simp [Act.eval, Act.put]) (by first | rfl | simp [Act.eval, Act.put]) ?_
          refine hK.out _ _ HSn.out (fun hHeld => ?_)
          clear hK K hrun hoth
          try simp only [Act.put, List.setIfInBounds_toArray, List.set_cons_zero, List.set_cons_succ]
          refine wpAnyH_take (i := 6) (oi := { dst := some 25, op := Op.fieldAddr 26 (Operand.tmp 3) 1, type := 0, pos := "cache.go:159", after := #[{ on := 0, ground := Ground.phase }, { on := 1, ground := Ground.phase }, { on := 2, ground := Ground.phase }, { on := 3, ground := Ground.phase }, { on := 4, ground := Ground.phase }, { on := 5, ground := Ground.phase }], guard := none }) (v := ?vv10) rfl (by kernel_rfl) (by kernel_rfl) (by kernel_rfl) (fun _ _ _ h => h) (Or.inl ⟨by rfl, ?hy10⟩) (by assumption) ?_
          case hy10 => (intro w hSw; (try dsimp only at hSw); go_simp; all_goals with_reducible rfl)
          try simp only [Act.put, List.setIfInBounds_toArray, List.set_cons_zero, List.set_cons_succ]
          refine wpAnyH_ready (rs := [7]) (by kernel_rfl) (by simp) ?_
          refine AllReadyH.cons (o := { dst := none, op := Op.store 22 (Operand.tmp 25) (Operand.tmp 24), type := 0, pos := "cache.go:159", after := #[{ on := 6, ground := Ground.data }, { on := 5, ground := Ground.data }, { on := 5, ground := Ground.chain }, { on := 0, ground := Ground.phase }, { on := 1, ground := Ground.phase }, { on := 2, ground := Ground.phase }, { on := 3, ground := Ground.phase }, { on := 4, ground := Ground.phase }, { on := 5, ground := Ground.phase }], guard := none }) rfl (fun K hK => ?_) AllReadyH.nil
          obtain ⟨E5, hE5⟩ : ∃ E, w2.setCell ⟨o, 1, none⟩ (.slice b2 (fl + 1) c2) = E := ⟨_, rfl⟩
          rw [hE5] at hfin
          have HC5 : Hid (Cr B E5 o n b (b2, fl + 1, c2) (L ++ [f])) := hfin
          have HSe : Hid ((fun V => V.cell? ⟨qf, 0, none⟩ = some (.string f.n) ∧ V.cell? ⟨qf, 1, none⟩ = some (.string f.v) ∧ V.cell? ⟨qf, 2, none⟩ = some (.bool f.nv)) E5) := by
            have hq := HSn.out
            have he : E5.heap[qf]? = w2.heap[qf]? := by rw [← hE5]; exact setCell_other _ _ _ _ _ HQo.out
            refine ⟨?_, ?_, ?_⟩
            · have := hq.1; unfold World.cell? at this ⊢; rw [he]; exact this
            · have := hq.2.1; unfold World.cell? at this ⊢; rw [he]; exact this
            · have := hq.2.2; unfold World.cell? at this ⊢; rw [he]; exact this
          have po := cell_blk ho2 1
          have pz := frozen_blk ho2 1
          simp only [List.getElem?_toArray, List.getElem?_cons_succ, List.getElem?_cons_zero] at po
          clear hfin
          go_simp
          go_wp2_with fail
          try rw [hE5]
          refine hK.out _ _ HSe.out (fun hHeld => ?_)
          clear hK K po pz hE5 HSn ho2
          try simp only [Act.put, List.setIfInBounds_toArray, List.set_cons_zero, List.set_cons_succ]
          refine wpAnyH_done (by kernel_rfl) ?_ _
          go_wp2_with fail
          go_roundw
          case rel => exact ⟨k + 1, b2, fl + 1, c2, by simp, by omega, by rw [HTk.out]; exact HC5.out⟩
          case measure => simp [intOf]; omega
        refine AllReadyH.cons (o := { dst := some 23, op := Op.buildSlice 22 1 #[(0, Operand.tmp 22)], type := 22, pos := "cache.go:159", after := #[{ on := 3, ground := Ground.data }], guard := none }) rfl (fun K hK => ?_) AllReadyH.nil
        obtain ⟨q4, hq4⟩ : ∃ q, W5x.heap.size = q := ⟨_, rfl⟩
        obtain ⟨W5xx, hV0⟩ : ∃ V, W5x.alloc (.cells #[.string f.n, .string f.v, .bool f.nv] 51) = V := ⟨_, rfl⟩
        have hW5xx : Below B5.heap.size B5 W5xx := by rw [← hV0]; exact hW5x.trans ((bel1 _ _).mono hW5x.size)
        have CW5xx : Hid (Cr B W5xx o n b (fb, fl, fc) L) := by rw [← hV0]; exact CW5x.out.below (bel1 _ _)
        have HI4 : Hid (In EFd W5xx (.slice (some ⟨q4, 0, none⟩) 1 1) [f]) := by rw [← hV0, ← hq4]; exact in_one (E := EFd) _ _ f #[.string f.n, .string f.v, .bool f.nv] 51 (0, 0) (by rw [heap_al, if_pos rfl]) rfl
        go_simp
        go_wp2_with fail
        try rw [hV0]
        try rw [hq4]
        refine hK.out _ _ (hS5.out _ hW5xx) (fun hHeld => ?_)
        clear hK K hV0 hq4
        try simp only [Act.put, List.setIfInBounds_toArray, List.set_cons_zero, List.set_cons_succ]
        refine wpAnyH_ready (rs := [1]) (by kernel_rfl) (by simp) ?_
        refine AllReadyH.cons (o := { dst := some 20, op := Op.load 22 (Operand.tmp 19), type := 22, pos := "cache.go:159", after := #[{ on := 0, ground := Ground.data }], guard := none }) rfl (fun K hK => ?_) AllReadyH.nil
        have pc : W5xx.cell? ⟨o, 1, none⟩ = some (.slice fb fl fc) := CW5xx.out.cell
        go_simp
        go_wp2_with fail
        refine hK.out _ _ (hS5.out _ hW5xx) (fun hHeld => ?_)
        clear hK K pc
        try simp only [Act.put, List.setIfInBounds_toArray, List.set_cons_zero, List.set_cons_succ]
        refine wpAnyH_ready (rs := [5]) (by kernel_rfl) (by simp) ?_
        refine AllReadyH.cons (o := { dst := some 24, op := Op.call { callee := Callee.builtin Builtin.append, args := #[Operand.tmp 20, Operand.tmp 23], argTypes := #[22, 22] }, type := 22, pos := "cache.go:159", after := #[{ on := 1, ground := Ground.data }, { on := 4, ground := Ground.data }, { on := 3, ground := Ground.chain }], guard := none }) rfl (fun K hK => ?_) AllReadyH.nil
        obtain ⟨b2, c2, w2, hrun, ho2, hoth, hfin⟩ := CW5xx.out.app f (.slice (some ⟨q4, 0, none⟩) 1 1) HI4.out HLn.out
        have HSn : Hid ((fun V => V.cell? ⟨qf, 0, none⟩ = some (.string f.n) ∧ V.cell? ⟨qf, 1, none⟩ = some (.string f.v) ∧ V.cell? ⟨qf, 2, none⟩ = some (.bool f.nv)) w2) := by
          have hq := hS5.out _ hW5xx
          have he : w2.heap[qf]? = W5xx.heap[qf]? := hoth qf (Nat.lt_of_lt_of_le HQf.out.1 hW5xx.size) (fun e => HQf.out.2 e)
          refine ⟨?_, ?_, ?_⟩
          · have := hq.1; unfold World.cell? at this ⊢; rw [he]; exact this
          · have := hq.2.1; unfold World.cell? at this ⊢; rw [he]; exact this
          · have := hq.2.2; unfold World.cell? at this ⊢; rw [he]; exact this
        refine step_append_run rfl (.tmp 20) (.tmp 23) 22 22 rfl hrun (by first | rfl | simp [Act.eval, Act.put]) (by first | rfl | simp [Act.eval, Act.put]) ?_
        refine hK.out _ _ HSn.out (fun hHeld => ?_)
        clear hK K hrun hoth
        try simp only [Act.put, List.setIfInBounds_toArray, List.set_cons_zero, List.set_cons_succ]
        refine wpAnyH_take (i := 6) (oi := { dst := some 25, op := Op.fieldAddr 26 (Operand.tmp 3) 1, type := 0, pos := "cache.go:159", after := #[{ on := 0, ground := Ground.phase }, { on := 1, ground := Ground.phase }, { on := 2, ground := Ground.phase }, { on := 3, ground := Ground.phase }, { on := 4, ground := Ground.phase }, { on := 5, ground := Ground.phase }], guard := none }) (v := ?vv11) rfl (by kernel_rfl) (by kernel_rfl) (by kernel_rfl) (fun _ _ _ h => h) (Or.inl ⟨by rfl, ?hy11⟩) (by assumption) ?_
        case hy11 => (intro w hSw; (try dsimp only at hSw); go_simp; all_goals with_reducible rfl)
        try simp only [Act.put, List.setIfInBounds_toArray, List.set_cons_zero, List.set_cons_succ]
        refine wpAnyH_ready (rs := [7]) (by kernel_rfl) (by simp) ?_
        refine AllReadyH.cons (o := { dst := none, op := Op.store 22 (Operand.tmp 25) (Operand.tmp 24), type := 0, pos := "cache.go:159", after := #[{ on := 6, ground := Ground.data }, { on := 5, ground := Ground.data }, { on := 5, ground := Ground.chain }, { on := 0, ground := Ground.phase }, { on := 1, ground := Ground.phase }, { on := 2, ground := Ground.phase }, { on := 3, ground := Ground.phase }, { on := 4, ground := Ground.phase }, { on := 5, ground := Ground.phase }], guard := none }) rfl (fun K hK => ?_) AllReadyH.nil
        obtain ⟨E5, hE5⟩ : ∃ E, w2.setCell ⟨o, 1, none⟩ (.slice b2 (fl + 1) c2) = E := ⟨_, rfl⟩
        rw [hE5] at hfin
        have HC5 : Hid (Cr B E5 o n b (b2, fl + 1, c2) (L ++ [f])) := hfin
        have HSe : Hid ((fun V => V.cell? ⟨qf, 0, none⟩ = some (.string f.n) ∧ V.cell? ⟨qf, 1, none⟩ = some (.string f.v) ∧ V.cell? ⟨qf, 2, none⟩ = some (.bool f.nv)) E5) := by
          have hq := HSn.out
          have he : E5.heap[qf]? = w2.heap[qf]? := by rw [← hE5]; exact setCell_other _ _ _ _ _ HQo.out
          refine ⟨?_, ?_, ?_⟩
          · have := hq.1; unfold World.cell? at this ⊢; rw [he]; exact this
          · have := hq.2.1; unfold World.cell? at this ⊢; rw [he]; exact this
          · have := hq.2.2; unfold World.cell? at this ⊢; rw [he]; exact this
        have po := cell_blk ho2 1
        have pz := frozen_blk ho2 1
        simp only [List.getElem?_toArray, List.getElem?_cons_succ, List.getElem?_cons_zero] at po
        clear hfin
        go_simp
        go_wp2_with fail
        try rw [hE5]
        refine hK.out _ _ HSe.out (fun hHeld => ?_)
        clear hK K po pz hE5 HSn ho2
        try simp only [Act.put, List.setIfInBounds_toArray, List.set_cons_zero, List.set_cons_succ]
        refine wpAnyH_done (by kernel_rfl) ?_ _
        go_wp2_with fail
        go_roundw
        case rel => exact ⟨k + 1, b2, fl + 1, c2, by simp, by omega, by rw [HTk.out]; exact HC5.out⟩
        case measure => simp [intOf]; omega
      · have l1 : ¬ (k : Int) < (sl : Int) := by omega
        have hE : l.take k = l := by rw [List.take_of_length_le (by rw [HN.out]; omega)]
        rw [hE] at hC
        have hr2 : wr.heap[r]? = some (.cells #[.int .i64 0, .slice none 0 0, .string ⟨#[]⟩] 26 (0, 0)) := (hC.out.bel.block r HRw.out.2).trans HR.out
        have z0 := frozen_blk hr2 0
        have y0 := cell_blk hr2 0
        have p0 := cell_blk hC.out.blk 0
        have z1 := frozen_blk hr2 1
        have y1 := cell_blk hr2 1
        have p1 := cell_blk hC.out.blk 1
        have z2 := frozen_blk hr2 2
        have y2 := cell_blk hr2 2
        have p2 := cell_blk hC.out.blk 2
        simp only [List.getElem?_toArray, List.getElem?_cons_succ, List.getElem?_cons_zero, sv] at y0 p0 y1 p1 y2 p2
        obtain ⟨Z, hZ⟩ : ∃ E, ((wr.setCell ⟨r, 0, none⟩ (.int .i64 n)).setCell ⟨r, 1, none⟩ (.slice fb fl fc)).setCell ⟨r, 2, none⟩ (.string b) = E := ⟨_, rfl⟩
        have HZb2 : Hid (Z.heap[r]? = some (.cells #[.int .i64 n, .slice fb fl fc, .string b] 26 (0, 0))) := by
          show _ = _
          rw [← hZ, (setCell_block _ _ _ _ _ _ _ (setCell_block _ _ _ _ _ _ _ (setCell_block _ _ _ _ _ _ _ hr2)))]
          rfl
        have HBz : Hid (Below w.heap.size w Z) := by rw [← hZ]; exact ((((HB.out.trans (hC.out.bel.mono HB.out.size)).setCell (p := ⟨r, 0, none⟩) HRw.out.1 _).setCell (p := ⟨r, 1, none⟩) HRw.out.1 _).setCell (p := ⟨r, 2, none⟩) HRw.out.1 _)
        have HRz : Hid (R EFd Z (sv (fb, fl, fc)) (l)) := by
          refine hC.out.row.stays fun k2 hk2 hl2 => ?_
          have hne : k2 ≠ r := fun e => by have := hC.out.new k2 hk2; have := HRw.out.2; omega
          rw [← hZ, setCell_other _ _ _ _ _ hne, setCell_other _ _ _ _ _ hne, setCell_other _ _ _ _ _ hne]
        have HNz : Hid (∀ k2, (sv (fb, fl, fc)).ownBlock = some k2 → w.heap.size ≤ k2) := fun k2 hk2 => Nat.le_trans HB.out.size (hC.out.new k2 hk2)
        clear hC hr2 hE
        go_wp2_with fail
        try rw [hZ]
        refine bodyPost_ret (results_cell_row (p := 2) (ty := 26) rfl _ _ r 26 _ (0, 0) _ rfl HZb2.out Tryd.underlying26 rfl (by kernel_rfl)) rfl ?_
        first | exact ⟨(fb, fl, fc), rfl, HBz.out, HRz.out, HNz.out⟩ | exact ⟨fb, fl, fc, rfl, HBz.out, HRz.out, HNz.out⟩
end Go.Proofs.YtfponcdhaefkdaaDoor
