/- site: lay. -/
import Derived.Test.YtcadlpmopplkeaaDoorDq
import Derived.Deep.Cut
namespace Go.Proofs.YtcadlpmopplkeaaDoor
open Go.RowKit Go.Maps
open Go.Shelf
set_option linter.unusedVariables false
set_option linter.unusedSimpArgs false

/-- all blocks of cells but a site's own and editions are as they were -/
def Kt (w w' : World) : Prop := ∀ (k : Nat) (cc : Array Value) (tt : TypeId), w.heap[k]? = some (Obj.cells cc tt (0, 0)) → tt ≠ 79 → tt ≠ 83 → w'.heap[k]? = w.heap[k]?
theorem Kt.of {w w' : World} (h : Below w.heap.size w w') : Kt w w' := fun k _ _ hk _ _ => h.block k (heap_lt hk)
theorem Kt.trans {a b c : World} (h : Kt a b) (k : Kt b c) : Kt a c := fun i cc tt hi h1 h2 => (k i cc tt ((h i cc tt hi h1 h2).trans hi) h1 h2).trans (h i cc tt hi h1 h2)
theorem Kt.set {w : World} {g o : Nat} {c : Array Value} (v : Value) (h : w.heap[g]? = some (Obj.cells c 79 (0, 0))) : Kt w (w.setCell ⟨g, o, none⟩ v) := fun i cc tt hi h1 _ => setCell_other _ _ _ _ _ fun e => h1 (by rw [e, h] at hi; injection hi with hi; injection hi with _ hi; exact hi.symm)
def LyPost (lo g b N : Nat) (nv : Int) (L : List Te) (p : Pg) (cs : List Ch) (w : World) (e : Ending) (w' : World) : Prop :=
  e = .returned (.tuple #[]) ∧ (Below lo w w' ∧ Kt w w') ∧ ∃ y z : SV, Si w' lo g b (N + 1) nv (upd L ⟨(p.a, p.p), y, edL L (p.a, p.p) ++ [⟨nv, p.n, p.v, z, cs⟩]⟩)
set_option maxHeartbeats 16000000 in
set_option maxRecDepth 100000 in
theorem lay_any (lo g b N : Nat) (nv : Int) (L : List Te) (p : Pg) (cs : List Ch) (w : World) (hS : Si w lo g b N nv L) (hN : N < maxLen) (hlo : lo ≤ w.heap.size) (hI : In ECh w (sv p.ys) cs) (hne : cs ≠ []) (h8 : cs.length ≤ 8) (hz : tz (p.a, p.p) ∧ p.v.size ≤ 281474976710656) (hcz : ∀ c ∈ cs, c.v.size ≤ 140737488355328 ∧ c.b.size ≤ 140737488355328) (hl : ((edL L (p.a, p.p)).length + 1) * 56 ≤ 140737488355328) :
    Calls Tryd.prog 35 #[.pointer (some ⟨g, 0, none⟩), .agg (pgv p)] w fun e w' => LyPost lo g b N nv L p cs w e w' := by
  obtain ⟨pa, pp, pn, pv, ⟨yb, yl, yc⟩⟩ := p
  simp only at hz hl
  have HS : Hid (Si w lo g b N nv L) := hS
  have HN : Hid (N < maxLen) := hN
  have HLO : Hid (lo ≤ w.heap.size) := hlo
  have HZ1 : Hid (pa.size ≤ 281474976710656) := hz.1.1
  have HZ2 : Hid (pp.size ≤ 281474976710656) := hz.1.2
  have HZ3 : Hid (pv.size ≤ 281474976710656) := hz.2
  have HTZ : Hid (tz (pa, pp)) := hz.1
  have HL0 : Hid (((edL L (pa, pp)).length + 1) * 56 ≤ 140737488355328) := hl
  have HNE : Hid (cs ≠ []) := hne
  have HCP : Hid (∀ W, Below w.heap.size w W → Calls Tryd.prog 56 #[.slice yb yl yc] W fun e w' => CpPost cs W e w') := fun W hW => copied_any (yb, yl, yc) cs W (hI.below hW) h8 hcz
  unfold pgv
  simp only [sv]
  obtain ⟨W0, hW0⟩ : ∃ W0, W0 = w.alloc (.cells #[.string pa, .string pp, .int .i64 pn, .string pv, .slice yb yl yc] 26) := ⟨_, rfl⟩
  obtain ⟨N0, hN0⟩ : ∃ N0, N0 = w.heap.size := ⟨_, rfl⟩
  have HB0 : Hid (Below w.heap.size w W0) := by rw [hW0]; exact bel1 _ _
  have hF0 : W0.heap[N0]? = some (.cells #[.string pa, .string pp, .int .i64 pn, .string pv, .slice yb yl yc] 26 (0, 0)) := by rw [hW0, hN0, heap_al, if_pos rfl]
  have hG0 : W0.heap[g]? = some (.cells #[.int .i64 nv, .map (some b)] 79 (0, 0)) := (HB0.out.block _ (heap_lt hS.hg)).trans hS.hg
  have hCell : Hid (∀ V, Below W0.heap.size W0 V → V.cell? ⟨N0, 0, none⟩ = some (.string pa) ∧ V.cell? ⟨N0, 1, none⟩ = some (.string pp)) := fun V hV => ⟨cell_blk ((hV.block _ (heap_lt hF0)).trans hF0) 0, cell_blk ((hV.block _ (heap_lt hF0)).trans hF0) 1⟩
  have hC2 : Hid (∀ V, Below W0.heap.size W0 V → V.cell? ⟨N0, 2, none⟩ = some (.int .i64 pn) ∧ V.cell? ⟨N0, 3, none⟩ = some (.string pv) ∧ V.cell? ⟨N0, 4, none⟩ = some (.slice yb yl yc) ∧ V.cell? ⟨g, 0, none⟩ = some (.int .i64 nv) ∧ V.cell? ⟨g, 1, none⟩ = some (.map (some b))) := fun V hV => ⟨cell_blk ((hV.block _ (heap_lt hF0)).trans hF0) 2, cell_blk ((hV.block _ (heap_lt hF0)).trans hF0) 3, cell_blk ((hV.block _ (heap_lt hF0)).trans hF0) 4, cell_blk ((hV.block _ (heap_lt hG0)).trans hG0) 0, cell_blk ((hV.block _ (heap_lt hG0)).trans hG0) 1⟩
  have HF0 : Hid (W0.heap[N0]? = some (.cells #[.string pa, .string pp, .int .i64 pn, .string pv, .slice yb yl yc] 26 (0, 0))) := hF0
  have HG0 : Hid (W0.heap[g]? = some (.cells #[.int .i64 nv, .map (some b)] 79 (0, 0))) := hG0
  clear hS hN hlo hI hne h8 hz hcz hl hF0 hG0
  go_enter Tryd.func35, Tryd.ntmps35
  go_upto_region 1 with fail
  rw [← hW0, ← hN0]
  clear hW0 hN0
  go_cut [4] from 5 (fun tv wx => ∃ q : Nat, tv = .pointer (some ⟨q, 0, none⟩) ∧ Hid (wx.heap[q]? = some (.cells #[.string pa, .string pp] 87 (0, 0))) ∧ Hid (Below W0.heap.size W0 wx))
  case first =>
    have hbW : Below W0.heap.size W0 W0.drew := (Below.refl _ _).drew
    refine wp_region_held_drew (S := (fun V => V.cell? ⟨N0, 0, none⟩ = some (.string pa) ∧ V.cell? ⟨N0, 1, none⟩ = some (.string pp))) (by kernel_rfl) (hCell.out _ hbW) (fun hHeld => ?_)
    generalize hWg : World.drew _ = W at hbW hHeld ⊢
    clear hWg
    refine wpAnyH_take (i := 0) (oi := { dst := some 5, op := Op.fieldAddr 26 (Operand.tmp 3) 0, type := 0, pos := "site.go:96", after := #[], guard := none }) (v := ?vv1) rfl (by kernel_rfl) (by kernel_rfl) (by kernel_rfl) (fun _ _ _ h => h) (Or.inl ⟨by rfl, ?hy1⟩) (by assumption) ?_
    case hy1 => (intro w hSw; (try dsimp only at hSw); go_simp; all_goals with_reducible rfl)
    try simp only [Act.put, List.setIfInBounds_toArray, List.set_cons_zero, List.set_cons_succ]
    refine wpAnyH_take (i := 1) (oi := { dst := some 6, op := Op.load 9 (Operand.tmp 5), type := 9, pos := "site.go:96", after := #[{ on := 0, ground := Ground.data }], guard := none }) (v := ?vv2) rfl (by kernel_rfl) (by kernel_rfl) (by kernel_rfl) (fun _ _ _ h => h) (Or.inl ⟨by rfl, ?hy2⟩) (by assumption) ?_
    case hy2 => (intro w hSw; (try dsimp only at hSw); go_simp; all_goals with_reducible rfl)
    try simp only [Act.put, List.setIfInBounds_toArray, List.set_cons_zero, List.set_cons_succ]
    refine wpAnyH_take (i := 3) (oi := { dst := some 8, op := Op.fieldAddr 26 (Operand.tmp 3) 1, type := 0, pos := "site.go:96", after := #[], guard := none }) (v := ?vv3) rfl (by kernel_rfl) (by kernel_rfl) (by kernel_rfl) (fun _ _ _ h => h) (Or.inl ⟨by rfl, ?hy3⟩) (by assumption) ?_
    case hy3 => (intro w hSw; (try dsimp only at hSw); go_simp; all_goals with_reducible rfl)
    try simp only [Act.put, List.setIfInBounds_toArray, List.set_cons_zero, List.set_cons_succ]
    refine wpAnyH_take (i := 4) (oi := { dst := some 9, op := Op.load 9 (Operand.tmp 8), type := 9, pos := "site.go:96", after := #[{ on := 3, ground := Ground.data }], guard := none }) (v := ?vv4) rfl (by kernel_rfl) (by kernel_rfl) (by kernel_rfl) (fun _ _ _ h => h) (Or.inl ⟨by rfl, ?hy4⟩) (by assumption) ?_
    case hy4 => (intro w hSw; (try dsimp only at hSw); go_simp; all_goals with_reducible rfl)
    try simp only [Act.put, List.setIfInBounds_toArray, List.set_cons_zero, List.set_cons_succ]
    refine wpAnyH_ready (rs := [2, 7]) (by kernel_rfl) (by simp) ?_
    refine AllReadyH.cons (o := { dst := some 7, op := Op.call { callee := Callee.value (Operand.func 55), args := #[Operand.tmp 6], argTypes := #[9] }, type := 9, pos := "site.go:96", after := #[{ on := 1, ground := Ground.data }], guard := none }) rfl (fun K hK => ?_) ?_
    · go_simp
      refine (sclone_any pa _ HZ1.out).mono ?_
      rintro e' Wx ⟨rfl, bX⟩
      have hbWx : Below W0.heap.size W0 Wx := hbW.trans (bX.mono hbW.size)
      clear bX
      go_wp2_with fail
      refine hK.out _ _ (hCell.out _ hbWx) (fun hHeld => ?_)
      clear hK K
      try simp only [Act.put, List.setIfInBounds_toArray, List.set_cons_zero, List.set_cons_succ]
      refine wpAnyH_ready (rs := [5, 7]) (by kernel_rfl) (by simp) ?_
      refine AllReadyH.cons (o := { dst := some 10, op := Op.call { callee := Callee.value (Operand.func 55), args := #[Operand.tmp 9], argTypes := #[9] }, type := 9, pos := "site.go:96", after := #[{ on := 4, ground := Ground.data }, { on := 2, ground := Ground.chain }], guard := none }) rfl (fun K hK => ?_) ?_
      · go_simp
        refine (sclone_any pp _ HZ2.out).mono ?_
        rintro e' Wxx ⟨rfl, bX⟩
        have hbWxx : Below W0.heap.size W0 Wxx := hbWx.trans (bX.mono hbWx.size)
        clear bX
        go_wp2_with fail
        refine hK.out _ _ (hCell.out _ hbWxx) (fun hHeld => ?_)
        clear hK K
        try simp only [Act.put, List.setIfInBounds_toArray, List.set_cons_zero, List.set_cons_succ]
        refine wpAnyH_take (i := 6) (oi := { dst := some 11, op := Op.build 87 #[(0, Operand.tmp 7), (1, Operand.tmp 10)], type := 87, pos := "site.go:96", after := #[{ on := 2, ground := Ground.data }, { on := 5, ground := Ground.data }], guard := none }) (v := ?vv5) rfl (by kernel_rfl) (by kernel_rfl) (by kernel_rfl) (fun _ _ _ h => h) (Or.inl ⟨by rfl, ?hy5⟩) (by assumption) ?_
        case hy5 => (intro w hSw; (try dsimp only at hSw); go_simp; all_goals with_reducible rfl)
        try simp only [Act.put, List.setIfInBounds_toArray, List.set_cons_zero, List.set_cons_succ]
        refine wpAnyH_ready (rs := [7]) (by kernel_rfl) (by simp) ?_
        refine AllReadyH.cons (o := { dst := some 4, op := Op.alloc 87, type := 0, pos := "site.go:96", after := #[], guard := none }) rfl (fun K hK => ?_) AllReadyH.nil
        obtain ⟨Wxxx, hvWxxx⟩ : ∃ Wxxx, Wxxx = Wxx.alloc (.cells #[.string ⟨#[]⟩, .string ⟨#[]⟩] 87) := ⟨_, rfl⟩
        have hbWxxx : Below W0.heap.size W0 Wxxx := by rw [hvWxxx]; exact hbWxx.trans ((bel1 _ _).mono hbWxx.size)
        have hqWxxx : Hid (Wxxx.heap[Wxx.heap.size]? = some (.cells #[.string ⟨#[]⟩, .string ⟨#[]⟩] 87 (0, 0))) := by show _ = _; rw [hvWxxx, heap_al, if_pos rfl]
        have hsWxxx : Hid (W0.heap.size ≤ Wxx.heap.size) := hbWxx.size
        go_simp
        go_wp2_with fail
        rw [← hvWxxx]
        refine hK.out _ _ (hCell.out _ hbWxxx) (fun hHeld => ?_)
        clear hK K hvWxxx
        try simp only [Act.put, List.setIfInBounds_toArray, List.set_cons_zero, List.set_cons_succ]
        refine wpAnyH_ready (rs := [8]) (by kernel_rfl) (by simp) ?_
        refine AllReadyH.cons (o := { dst := none, op := Op.store 87 (Operand.tmp 4) (Operand.tmp 11), type := 0, pos := "site.go:96", after := #[{ on := 7, ground := Ground.data }, { on := 6, ground := Ground.data }, { on := 5, ground := Ground.chain }, { on := 0, ground := Ground.phase }, { on := 1, ground := Ground.phase }, { on := 2, ground := Ground.phase }, { on := 3, ground := Ground.phase }, { on := 4, ground := Ground.phase }, { on := 5, ground := Ground.phase }, { on := 6, ground := Ground.phase }, { on := 7, ground := Ground.phase }], guard := none }) rfl (fun K hK => ?_) AllReadyH.nil
        have f0 := cell_blk hqWxxx.out 0
        have f1 := cell_blk hqWxxx.out 1
        have f2 := frozen_blk hqWxxx.out 0
        have f3 := frozen_blk hqWxxx.out 1
        simp at f0 f1
        have HQF : Hid (((Wxxx.setCell ⟨Wxx.heap.size, 0, none⟩ (.string pa)).setCell ⟨Wxx.heap.size, 1, none⟩ (.string pp)).heap[Wxx.heap.size]? = some (.cells #[.string pa, .string pp] 87 (0, 0))) := by
          show _ = _
          rw [setCell_block _ _ _ _ _ _ _ (setCell_block _ _ _ _ _ _ _ hqWxxx.out)]
          rfl
        have HBF : Hid (Below W0.heap.size W0 ((Wxxx.setCell ⟨Wxx.heap.size, 0, none⟩ (.string pa)).setCell ⟨Wxx.heap.size, 1, none⟩ (.string pp))) := (hbWxxx.setCell (p := ⟨Wxx.heap.size, 0, none⟩) hsWxxx.out _).setCell (p := ⟨Wxx.heap.size, 1, none⟩) hsWxxx.out _
        go_simp
        go_wp2_with fail
        refine hK.out _ _ (hCell.out _ HBF.out) (fun hHeld => ?_)
        clear hK K f0 f1 f2 f3
        try simp only [Act.put, List.setIfInBounds_toArray, List.set_cons_zero, List.set_cons_succ]
        refine wpAnyH_done (by kernel_rfl) ?_ _
        go_wp2_with fail
        go_meet
        case rel => exact ⟨_, rfl, HQF.out, HBF.out⟩
      refine AllReadyH.cons (o := { dst := some 4, op := Op.alloc 87, type := 0, pos := "site.go:96", after := #[], guard := none }) rfl (fun K hK => ?_) AllReadyH.nil
      obtain ⟨Wxx, hvWxx⟩ : ∃ Wxx, Wxx = Wx.alloc (.cells #[.string ⟨#[]⟩, .string ⟨#[]⟩] 87) := ⟨_, rfl⟩
      have hbWxx : Below W0.heap.size W0 Wxx := by rw [hvWxx]; exact hbWx.trans ((bel1 _ _).mono hbWx.size)
      have hqWxx : Hid (Wxx.heap[Wx.heap.size]? = some (.cells #[.string ⟨#[]⟩, .string ⟨#[]⟩] 87 (0, 0))) := by show _ = _; rw [hvWxx, heap_al, if_pos rfl]
      have hsWxx : Hid (W0.heap.size ≤ Wx.heap.size) := hbWx.size
      go_simp
      go_wp2_with fail
      rw [← hvWxx]
      refine hK.out _ _ (hCell.out _ hbWxx) (fun hHeld => ?_)
      clear hK K hvWxx
      try simp only [Act.put, List.setIfInBounds_toArray, List.set_cons_zero, List.set_cons_succ]
      refine wpAnyH_ready (rs := [5]) (by kernel_rfl) (by simp) ?_
      refine AllReadyH.cons (o := { dst := some 10, op := Op.call { callee := Callee.value (Operand.func 55), args := #[Operand.tmp 9], argTypes := #[9] }, type := 9, pos := "site.go:96", after := #[{ on := 4, ground := Ground.data }, { on := 2, ground := Ground.chain }], guard := none }) rfl (fun K hK => ?_) AllReadyH.nil
      go_simp
      refine (sclone_any pp _ HZ2.out).mono ?_
      rintro e' Wxxx ⟨rfl, bX⟩
      have hbWxxx : Below W0.heap.size W0 Wxxx := hbWxx.trans (bX.mono hbWxx.size)
      have hqWxxx : Hid (Wxxx.heap[Wx.heap.size]? = some (.cells #[.string ⟨#[]⟩, .string ⟨#[]⟩] 87 (0, 0))) := (bX.block _ (heap_lt hqWxx.out)).trans hqWxx.out
      clear bX
      go_wp2_with fail
      refine hK.out _ _ (hCell.out _ hbWxxx) (fun hHeld => ?_)
      clear hK K
      try simp only [Act.put, List.setIfInBounds_toArray, List.set_cons_zero, List.set_cons_succ]
      refine wpAnyH_take (i := 6) (oi := { dst := some 11, op := Op.build 87 #[(0, Operand.tmp 7), (1, Operand.tmp 10)], type := 87, pos := "site.go:96", after := #[{ on := 2, ground := Ground.data }, { on := 5, ground := Ground.data }], guard := none }) (v := ?vv6) rfl (by kernel_rfl) (by kernel_rfl) (by kernel_rfl) (fun _ _ _ h => h) (Or.inl ⟨by rfl, ?hy6⟩) (by assumption) ?_
      case hy6 => (intro w hSw; (try dsimp only at hSw); go_simp; all_goals with_reducible rfl)
      try simp only [Act.put, List.setIfInBounds_toArray, List.set_cons_zero, List.set_cons_succ]
      refine wpAnyH_ready (rs := [8]) (by kernel_rfl) (by simp) ?_
      refine AllReadyH.cons (o := { dst := none, op := Op.store 87 (Operand.tmp 4) (Operand.tmp 11), type := 0, pos := "site.go:96", after := #[{ on := 7, ground := Ground.data }, { on := 6, ground := Ground.data }, { on := 5, ground := Ground.chain }, { on := 0, ground := Ground.phase }, { on := 1, ground := Ground.phase }, { on := 2, ground := Ground.phase }, { on := 3, ground := Ground.phase }, { on := 4, ground := Ground.phase }, { on := 5, ground := Ground.phase }, { on := 6, ground := Ground.phase }, { on := 7, ground := Ground.phase }], guard := none }) rfl (fun K hK => ?_) AllReadyH.nil
      have f0 := cell_blk hqWxxx.out 0
      have f1 := cell_blk hqWxxx.out 1
      have f2 := frozen_blk hqWxxx.out 0
      have f3 := frozen_blk hqWxxx.out 1
      simp at f0 f1
      have HQF : Hid (((Wxxx.setCell ⟨Wx.heap.size, 0, none⟩ (.string pa)).setCell ⟨Wx.heap.size, 1, none⟩ (.string pp)).heap[Wx.heap.size]? = some (.cells #[.string pa, .string pp] 87 (0, 0))) := by
        show _ = _
        rw [setCell_block _ _ _ _ _ _ _ (setCell_block _ _ _ _ _ _ _ hqWxxx.out)]
        rfl
      have HBF : Hid (Below W0.heap.size W0 ((Wxxx.setCell ⟨Wx.heap.size, 0, none⟩ (.string pa)).setCell ⟨Wx.heap.size, 1, none⟩ (.string pp))) := (hbWxxx.setCell (p := ⟨Wx.heap.size, 0, none⟩) hsWxx.out _).setCell (p := ⟨Wx.heap.size, 1, none⟩) hsWxx.out _
      go_simp
      go_wp2_with fail
      refine hK.out _ _ (hCell.out _ HBF.out) (fun hHeld => ?_)
      clear hK K f0 f1 f2 f3
      try simp only [Act.put, List.setIfInBounds_toArray, List.set_cons_zero, List.set_cons_succ]
      refine wpAnyH_done (by kernel_rfl) ?_ _
      go_wp2_with fail
      go_meet
      case rel => exact ⟨_, rfl, HQF.out, HBF.out⟩
    refine AllReadyH.cons (o := { dst := some 4, op := Op.alloc 87, type := 0, pos := "site.go:96", after := #[], guard := none }) rfl (fun K hK => ?_) AllReadyH.nil
    obtain ⟨Wx, hvWx⟩ : ∃ Wx, Wx = W.alloc (.cells #[.string ⟨#[]⟩, .string ⟨#[]⟩] 87) := ⟨_, rfl⟩
    have hbWx : Below W0.heap.size W0 Wx := by rw [hvWx]; exact hbW.trans ((bel1 _ _).mono hbW.size)
    have hqWx : Hid (Wx.heap[W.heap.size]? = some (.cells #[.string ⟨#[]⟩, .string ⟨#[]⟩] 87 (0, 0))) := by show _ = _; rw [hvWx, heap_al, if_pos rfl]
    have hsWx : Hid (W0.heap.size ≤ W.heap.size) := hbW.size
    go_simp
    go_wp2_with fail
    rw [← hvWx]
    refine hK.out _ _ (hCell.out _ hbWx) (fun hHeld => ?_)
    clear hK K hvWx
    try simp only [Act.put, List.setIfInBounds_toArray, List.set_cons_zero, List.set_cons_succ]
    refine wpAnyH_ready (rs := [2]) (by kernel_rfl) (by simp) ?_
    refine AllReadyH.cons (o := { dst := some 7, op := Op.call { callee := Callee.value (Operand.func 55), args := #[Operand.tmp 6], argTypes := #[9] }, type := 9, pos := "site.go:96", after := #[{ on := 1, ground := Ground.data }], guard := none }) rfl (fun K hK => ?_) AllReadyH.nil
    go_simp
    refine (sclone_any pa _ HZ1.out).mono ?_
    rintro e' Wxx ⟨rfl, bX⟩
    have hbWxx : Below W0.heap.size W0 Wxx := hbWx.trans (bX.mono hbWx.size)
    have hqWxx : Hid (Wxx.heap[W.heap.size]? = some (.cells #[.string ⟨#[]⟩, .string ⟨#[]⟩] 87 (0, 0))) := (bX.block _ (heap_lt hqWx.out)).trans hqWx.out
    clear bX
    go_wp2_with fail
    refine hK.out _ _ (hCell.out _ hbWxx) (fun hHeld => ?_)
    clear hK K
    try simp only [Act.put, List.setIfInBounds_toArray, List.set_cons_zero, List.set_cons_succ]
    refine wpAnyH_ready (rs := [5]) (by kernel_rfl) (by simp) ?_
    refine AllReadyH.cons (o := { dst := some 10, op := Op.call { callee := Callee.value (Operand.func 55), args := #[Operand.tmp 9], argTypes := #[9] }, type := 9, pos := "site.go:96", after := #[{ on := 4, ground := Ground.data }, { on := 2, ground := Ground.chain }], guard := none }) rfl (fun K hK => ?_) AllReadyH.nil
    go_simp
    refine (sclone_any pp _ HZ2.out).mono ?_
    rintro e' Wxxx ⟨rfl, bX⟩
    have hbWxxx : Below W0.heap.size W0 Wxxx := hbWxx.trans (bX.mono hbWxx.size)
    have hqWxxx : Hid (Wxxx.heap[W.heap.size]? = some (.cells #[.string ⟨#[]⟩, .string ⟨#[]⟩] 87 (0, 0))) := (bX.block _ (heap_lt hqWxx.out)).trans hqWxx.out
    clear bX
    go_wp2_with fail
    refine hK.out _ _ (hCell.out _ hbWxxx) (fun hHeld => ?_)
    clear hK K
    try simp only [Act.put, List.setIfInBounds_toArray, List.set_cons_zero, List.set_cons_succ]
    refine wpAnyH_take (i := 6) (oi := { dst := some 11, op := Op.build 87 #[(0, Operand.tmp 7), (1, Operand.tmp 10)], type := 87, pos := "site.go:96", after := #[{ on := 2, ground := Ground.data }, { on := 5, ground := Ground.data }], guard := none }) (v := ?vv7) rfl (by kernel_rfl) (by kernel_rfl) (by kernel_rfl) (fun _ _ _ h => h) (Or.inl ⟨by rfl, ?hy7⟩) (by assumption) ?_
    case hy7 => (intro w hSw; (try dsimp only at hSw); go_simp; all_goals with_reducible rfl)
    try simp only [Act.put, List.setIfInBounds_toArray, List.set_cons_zero, List.set_cons_succ]
    refine wpAnyH_ready (rs := [8]) (by kernel_rfl) (by simp) ?_
    refine AllReadyH.cons (o := { dst := none, op := Op.store 87 (Operand.tmp 4) (Operand.tmp 11), type := 0, pos := "site.go:96", after := #[{ on := 7, ground := Ground.data }, { on := 6, ground := Ground.data }, { on := 5, ground := Ground.chain }, { on := 0, ground := Ground.phase }, { on := 1, ground := Ground.phase }, { on := 2, ground := Ground.phase }, { on := 3, ground := Ground.phase }, { on := 4, ground := Ground.phase }, { on := 5, ground := Ground.phase }, { on := 6, ground := Ground.phase }, { on := 7, ground := Ground.phase }], guard := none }) rfl (fun K hK => ?_) AllReadyH.nil
    have f0 := cell_blk hqWxxx.out 0
    have f1 := cell_blk hqWxxx.out 1
    have f2 := frozen_blk hqWxxx.out 0
    have f3 := frozen_blk hqWxxx.out 1
    simp at f0 f1
    have HQF : Hid (((Wxxx.setCell ⟨W.heap.size, 0, none⟩ (.string pa)).setCell ⟨W.heap.size, 1, none⟩ (.string pp)).heap[W.heap.size]? = some (.cells #[.string pa, .string pp] 87 (0, 0))) := by
      show _ = _
      rw [setCell_block _ _ _ _ _ _ _ (setCell_block _ _ _ _ _ _ _ hqWxxx.out)]
      rfl
    have HBF : Hid (Below W0.heap.size W0 ((Wxxx.setCell ⟨W.heap.size, 0, none⟩ (.string pa)).setCell ⟨W.heap.size, 1, none⟩ (.string pp))) := (hbWxxx.setCell (p := ⟨W.heap.size, 0, none⟩) hsWx.out _).setCell (p := ⟨W.heap.size, 1, none⟩) hsWx.out _
    go_simp
    go_wp2_with fail
    refine hK.out _ _ (hCell.out _ HBF.out) (fun hHeld => ?_)
    clear hK K f0 f1 f2 f3
    try simp only [Act.put, List.setIfInBounds_toArray, List.set_cons_zero, List.set_cons_succ]
    refine wpAnyH_done (by kernel_rfl) ?_ _
    go_wp2_with fail
    go_meet
    case rel => exact ⟨_, rfl, HQF.out, HBF.out⟩
  case rest =>
    obtain ⟨q, rfl, hQ, hBq⟩ := hcut
    have HBw : Hid (∀ V, Below wc.heap.size wc V → Below w.heap.size w V) := fun V hV => HB0.out.trans ((hBq.out.trans (hV.mono hBq.out.size)).mono HB0.out.size)
    have HBl : Hid (∀ V, Below wc.heap.size wc V → Below lo w V) := fun V hV => ⟨(HBw.out V hV).os, (HBw.out V hV).tape, (HBw.out V hV).output, (HBw.out V hV).size, fun k hk => (HBw.out V hV).block k (by have := HLO.out; omega)⟩
    have HSc : Hid (∀ (V : World), (∀ (k : Nat) (cc : Array Value) (tt : TypeId), wc.heap[k]? = some (Obj.cells cc tt (0, 0)) → tt ≠ 83 → V.heap[k]? = wc.heap[k]?) → (V.cell? ⟨N0, 2, none⟩ = some (.int .i64 pn) ∧ V.cell? ⟨N0, 3, none⟩ = some (.string pv) ∧ V.cell? ⟨N0, 4, none⟩ = some (.slice yb yl yc) ∧ V.cell? ⟨g, 0, none⟩ = some (.int .i64 nv) ∧ V.cell? ⟨g, 1, none⟩ = some (.map (some b))) ∧ V.cell? ⟨q, 0, none⟩ = some (.string pa) ∧ V.cell? ⟨q, 1, none⟩ = some (.string pp)) := fun V hV => by
      have a1 : V.heap[N0]? = _ := (hV _ _ _ ((hBq.out.block _ (heap_lt HF0.out)).trans HF0.out) (by decide)).trans ((hBq.out.block _ (heap_lt HF0.out)).trans HF0.out)
      have a2 : V.heap[g]? = _ := (hV _ _ _ ((hBq.out.block _ (heap_lt HG0.out)).trans HG0.out) (by decide)).trans ((hBq.out.block _ (heap_lt HG0.out)).trans HG0.out)
      have a3 : V.heap[q]? = _ := (hV _ _ _ hQ.out (by decide)).trans hQ.out
      exact ⟨⟨cell_blk a1 2, cell_blk a1 3, cell_blk a1 4, cell_blk a2 0, cell_blk a2 1⟩, cell_blk a3 0, cell_blk a3 1⟩
    have HSC : Hid (Si wc lo g b N nv L) := HS.out.below (HBw.out wc (Below.refl _ _))
    go_wp2_with fail
    have hbW : Below wc.heap.size wc wc.drew := (Below.refl _ _).drew
    refine wp_region_held_drew (S := (fun V => (V.cell? ⟨N0, 2, none⟩ = some (.int .i64 pn) ∧ V.cell? ⟨N0, 3, none⟩ = some (.string pv) ∧ V.cell? ⟨N0, 4, none⟩ = some (.slice yb yl yc) ∧ V.cell? ⟨g, 0, none⟩ = some (.int .i64 nv) ∧ V.cell? ⟨g, 1, none⟩ = some (.map (some b))) ∧ V.cell? ⟨q, 0, none⟩ = some (.string pa) ∧ V.cell? ⟨q, 1, none⟩ = some (.string pp))) (by kernel_rfl) (HSc.out _ (fun k cc tt hk _ => hbW.block k (heap_lt hk))) (fun hHeld => ?_)
    generalize hWg : World.drew _ = W at hbW hHeld ⊢
    clear hWg
    refine wpAnyH_take (i := 0) (oi := { dst := some 12, op := Op.move (Operand.tmp 0), type := 30, pos := "site.go:97", after := #[], guard := none }) (v := ?vv8) rfl (by kernel_rfl) (by kernel_rfl) (by kernel_rfl) (fun _ _ _ h => h) (Or.inl ⟨by rfl, ?hy8⟩) (by assumption) ?_
    case hy8 => (intro w hSw; (try dsimp only at hSw); go_simp; all_goals with_reducible rfl)
    try simp only [Act.put, List.setIfInBounds_toArray, List.set_cons_zero, List.set_cons_succ]
    refine wpAnyH_take (i := 1) (oi := { dst := some 13, op := Op.nilCheck (Operand.tmp 12), type := 0, pos := "site.go:97", after := #[{ on := 0, ground := Ground.data }], guard := none }) (v := ?vv9) rfl (by kernel_rfl) (by kernel_rfl) (by kernel_rfl) (fun _ _ _ h => h) (Or.inl ⟨by rfl, ?hy9⟩) (by assumption) ?_
    case hy9 => (intro w hSw; (try dsimp only at hSw); go_simp; all_goals with_reducible rfl)
    try simp only [Act.put, List.setIfInBounds_toArray, List.set_cons_zero, List.set_cons_succ]
    refine wpAnyH_take (i := 2) (oi := { dst := some 14, op := Op.fieldAddr 79 (Operand.tmp 13) 1, type := 0, pos := "site.go:97", after := #[{ on := 1, ground := Ground.data }], guard := none }) (v := ?vv10) rfl (by kernel_rfl) (by kernel_rfl) (by kernel_rfl) (fun _ _ _ h => h) (Or.inl ⟨by rfl, ?hy10⟩) (by assumption) ?_
    case hy10 => (intro w hSw; (try dsimp only at hSw); go_simp; all_goals with_reducible rfl)
    try simp only [Act.put, List.setIfInBounds_toArray, List.set_cons_zero, List.set_cons_succ]
    refine wpAnyH_take (i := 3) (oi := { dst := some 15, op := Op.load 77 (Operand.tmp 14), type := 77, pos := "site.go:97", after := #[{ on := 2, ground := Ground.data }], guard := none }) (v := ?vv11) rfl (by kernel_rfl) (by kernel_rfl) (by kernel_rfl) (fun _ _ _ h => h) (Or.inl ⟨by rfl, ?hy11⟩) (by assumption) ?_
    case hy11 => (intro w hSw; (try dsimp only at hSw); go_simp; all_goals with_reducible rfl)
    try simp only [Act.put, List.setIfInBounds_toArray, List.set_cons_zero, List.set_cons_succ]
    refine wpAnyH_take (i := 4) (oi := { dst := some 16, op := Op.load 87 (Operand.tmp 4), type := 87, pos := "site.go:97", after := #[], guard := none }) (v := ?vv12) rfl (by kernel_rfl) (by kernel_rfl) (by kernel_rfl) (fun _ _ _ h => h) (Or.inl ⟨by rfl, ?hy12⟩) (by assumption) ?_
    case hy12 => (intro w hSw; (try dsimp only at hSw); go_simp; all_goals with_reducible rfl)
    try simp only [Act.put, List.setIfInBounds_toArray, List.set_cons_zero, List.set_cons_succ]
    refine wpAnyH_take (i := 5) (oi := { dst := some 18, op := Op.move (Operand.tmp 0), type := 30, pos := "site.go:97", after := #[], guard := none }) (v := ?vv13) rfl (by kernel_rfl) (by kernel_rfl) (by kernel_rfl) (fun _ _ _ h => h) (Or.inl ⟨by rfl, ?hy13⟩) (by assumption) ?_
    case hy13 => (intro w hSw; (try dsimp only at hSw); go_simp; all_goals with_reducible rfl)
    try simp only [Act.put, List.setIfInBounds_toArray, List.set_cons_zero, List.set_cons_succ]
    refine wpAnyH_take (i := 6) (oi := { dst := some 19, op := Op.nilCheck (Operand.tmp 18), type := 0, pos := "site.go:97", after := #[{ on := 5, ground := Ground.data }], guard := none }) (v := ?vv14) rfl (by kernel_rfl) (by kernel_rfl) (by kernel_rfl) (fun _ _ _ h => h) (Or.inl ⟨by rfl, ?hy14⟩) (by assumption) ?_
    case hy14 => (intro w hSw; (try dsimp only at hSw); go_simp; all_goals with_reducible rfl)
    try simp only [Act.put, List.setIfInBounds_toArray, List.set_cons_zero, List.set_cons_succ]
    refine wpAnyH_take (i := 7) (oi := { dst := some 20, op := Op.fieldAddr 79 (Operand.tmp 19) 0, type := 0, pos := "site.go:97", after := #[{ on := 6, ground := Ground.data }], guard := none }) (v := ?vv15) rfl (by kernel_rfl) (by kernel_rfl) (by kernel_rfl) (fun _ _ _ h => h) (Or.inl ⟨by rfl, ?hy15⟩) (by assumption) ?_
    case hy15 => (intro w hSw; (try dsimp only at hSw); go_simp; all_goals with_reducible rfl)
    try simp only [Act.put, List.setIfInBounds_toArray, List.set_cons_zero, List.set_cons_succ]
    refine wpAnyH_take (i := 8) (oi := { dst := some 21, op := Op.load 2 (Operand.tmp 20), type := 2, pos := "site.go:97", after := #[{ on := 7, ground := Ground.data }], guard := none }) (v := ?vv16) rfl (by kernel_rfl) (by kernel_rfl) (by kernel_rfl) (fun _ _ _ h => h) (Or.inl ⟨by rfl, ?hy16⟩) (by assumption) ?_
    case hy16 => (intro w hSw; (try dsimp only at hSw); go_simp; all_goals with_reducible rfl)
    try simp only [Act.put, List.setIfInBounds_toArray, List.set_cons_zero, List.set_cons_succ]
    refine wpAnyH_take (i := 9) (oi := { dst := some 22, op := Op.fieldAddr 26 (Operand.tmp 3) 2, type := 0, pos := "site.go:97", after := #[], guard := none }) (v := ?vv17) rfl (by kernel_rfl) (by kernel_rfl) (by kernel_rfl) (fun _ _ _ h => h) (Or.inl ⟨by rfl, ?hy17⟩) (by assumption) ?_
    case hy17 => (intro w hSw; (try dsimp only at hSw); go_simp; all_goals with_reducible rfl)
    try simp only [Act.put, List.setIfInBounds_toArray, List.set_cons_zero, List.set_cons_succ]
    refine wpAnyH_take (i := 10) (oi := { dst := some 23, op := Op.load 3 (Operand.tmp 22), type := 3, pos := "site.go:97", after := #[{ on := 9, ground := Ground.data }], guard := none }) (v := ?vv18) rfl (by kernel_rfl) (by kernel_rfl) (by kernel_rfl) (fun _ _ _ h => h) (Or.inl ⟨by rfl, ?hy18⟩) (by assumption) ?_
    case hy18 => (intro w hSw; (try dsimp only at hSw); go_simp; all_goals with_reducible rfl)
    try simp only [Act.put, List.setIfInBounds_toArray, List.set_cons_zero, List.set_cons_succ]
    refine wpAnyH_take (i := 11) (oi := { dst := some 24, op := Op.fieldAddr 26 (Operand.tmp 3) 3, type := 0, pos := "site.go:97", after := #[], guard := none }) (v := ?vv19) rfl (by kernel_rfl) (by kernel_rfl) (by kernel_rfl) (fun _ _ _ h => h) (Or.inl ⟨by rfl, ?hy19⟩) (by assumption) ?_
    case hy19 => (intro w hSw; (try dsimp only at hSw); go_simp; all_goals with_reducible rfl)
    try simp only [Act.put, List.setIfInBounds_toArray, List.set_cons_zero, List.set_cons_succ]
    refine wpAnyH_take (i := 12) (oi := { dst := some 25, op := Op.load 9 (Operand.tmp 24), type := 9, pos := "site.go:97", after := #[{ on := 11, ground := Ground.data }], guard := none }) (v := ?vv20) rfl (by kernel_rfl) (by kernel_rfl) (by kernel_rfl) (fun _ _ _ h => h) (Or.inl ⟨by rfl, ?hy20⟩) (by assumption) ?_
    case hy20 => (intro w hSw; (try dsimp only at hSw); go_simp; all_goals with_reducible rfl)
    try simp only [Act.put, List.setIfInBounds_toArray, List.set_cons_zero, List.set_cons_succ]
    refine wpAnyH_take (i := 14) (oi := { dst := some 27, op := Op.fieldAddr 26 (Operand.tmp 3) 4, type := 0, pos := "site.go:97", after := #[], guard := none }) (v := ?vv21) rfl (by kernel_rfl) (by kernel_rfl) (by kernel_rfl) (fun _ _ _ h => h) (Or.inl ⟨by rfl, ?hy21⟩) (by assumption) ?_
    case hy21 => (intro w hSw; (try dsimp only at hSw); go_simp; all_goals with_reducible rfl)
    try simp only [Act.put, List.setIfInBounds_toArray, List.set_cons_zero, List.set_cons_succ]
    refine wpAnyH_take (i := 15) (oi := { dst := some 28, op := Op.load 24 (Operand.tmp 27), type := 24, pos := "site.go:97", after := #[{ on := 14, ground := Ground.data }], guard := none }) (v := ?vv22) rfl (by kernel_rfl) (by kernel_rfl) (by kernel_rfl) (fun _ _ _ h => h) (Or.inl ⟨by rfl, ?hy22⟩) (by assumption) ?_
    case hy22 => (intro w hSw; (try dsimp only at hSw); go_simp; all_goals with_reducible rfl)
    try simp only [Act.put, List.setIfInBounds_toArray, List.set_cons_zero, List.set_cons_succ]
    refine wpAnyH_ready (rs := [13]) (by kernel_rfl) (by simp) ?_
    refine AllReadyH.cons (o := { dst := some 26, op := Op.call { callee := Callee.value (Operand.func 55), args := #[Operand.tmp 25], argTypes := #[9] }, type := 9, pos := "site.go:97", after := #[{ on := 12, ground := Ground.data }], guard := none }) rfl (fun K hK => ?_) AllReadyH.nil
    go_simp
    refine (sclone_any pv _ HZ3.out).mono ?_
    rintro e' Wx ⟨rfl, bX⟩
    have hbWx : Below wc.heap.size wc Wx := hbW.trans (bX.mono hbW.size)
    clear bX
    go_wp2_with fail
    refine hK.out _ _ (HSc.out _ (fun k cc tt hk _ => hbWx.block k (heap_lt hk))) (fun hHeld => ?_)
    clear hK K
    try simp only [Act.put, List.setIfInBounds_toArray, List.set_cons_zero, List.set_cons_succ]
    refine wpAnyH_ready (rs := [16]) (by kernel_rfl) (by simp) ?_
    refine AllReadyH.cons (o := { dst := some 29, op := Op.call { callee := Callee.value (Operand.func 56), args := #[Operand.tmp 28], argTypes := #[24] }, type := 24, pos := "site.go:97", after := #[{ on := 15, ground := Ground.data }, { on := 13, ground := Ground.chain }], guard := none }) rfl (fun K hK => ?_) AllReadyH.nil
    go_simp
    refine (HCP.out _ (HBw.out _ hbWx)).mono ?_
    rintro e' Wxx ⟨⟨zb, zl, zc⟩, rfl, bX, hRz, hnz⟩
    have hbWxx : Below wc.heap.size wc Wxx := hbWx.trans (bX.mono hbWx.size)
    have rWxx : Hid (R ECh Wxx (sv (zb, zl, zc)) cs) := hRz
    have HNZ : Hid (∀ k, (sv (zb, zl, zc)).ownBlock = some k → lo ≤ k) := fun k hk => by have := hnz k hk; have := (HBw.out _ hbWx).size; have := HLO.out; omega
    clear bX hRz hnz
    simp only [sv] at HNZ ⊢
    go_wp2_with fail
    refine hK.out _ _ (HSc.out _ (fun k cc tt hk _ => hbWxx.block k (heap_lt hk))) (fun hHeld => ?_)
    clear hK K
    try simp only [Act.put, List.setIfInBounds_toArray, List.set_cons_zero, List.set_cons_succ]
    refine wpAnyH_take (i := 17) (oi := { dst := some 30, op := Op.build 83 #[(0, Operand.tmp 21), (1, Operand.tmp 23), (2, Operand.tmp 26), (3, Operand.tmp 29)], type := 83, pos := "site.go:97", after := #[{ on := 8, ground := Ground.data }, { on := 10, ground := Ground.data }, { on := 13, ground := Ground.data }, { on := 16, ground := Ground.data }], guard := none }) (v := ?vv23) rfl (by kernel_rfl) (by kernel_rfl) (by kernel_rfl) (fun _ _ _ h => h) (Or.inl ⟨by rfl, ?hy23⟩) (by assumption) ?_
    case hy23 => (intro w hSw; (try dsimp only at hSw); go_simp; all_goals with_reducible rfl)
    try simp only [Act.put, List.setIfInBounds_toArray, List.set_cons_zero, List.set_cons_succ]
    refine wpAnyH_ready (rs := [18]) (by kernel_rfl) (by simp) ?_
    refine AllReadyH.cons (o := { dst := some 31, op := Op.buildSlice 108 1 #[(0, Operand.tmp 30)], type := 108, pos := "site.go:97", after := #[{ on := 17, ground := Ground.data }], guard := none }) rfl (fun K hK => ?_) AllReadyH.nil
    obtain ⟨Wxxx, hvWxxx⟩ : ∃ Wxxx, Wxxx = Wxx.alloc (.cells #[.int .i64 nv, .int .i64 pn, .string pv, .slice zb zl zc] 83) := ⟨_, rfl⟩
    have hbWxxx : Below wc.heap.size wc Wxxx := by rw [hvWxxx]; exact hbWxx.trans ((bel1 _ _).mono hbWxx.size)
    have rWxxx : Hid (R ECh Wxxx (sv (zb, zl, zc)) cs) := by rw [hvWxxx]; exact rWxx.out.below (bel1 _ _)
    have HBk : Hid (Wxxx.heap[Wxx.heap.size]? = some (.cells #[.int .i64 nv, .int .i64 pn, .string pv, .slice zb zl zc] 83 (0, 0))) := by show _ = _; rw [hvWxxx, heap_al, if_pos rfl]
    go_simp
    go_wp2_with fail
    rw [← hvWxxx]
    refine hK.out _ _ (HSc.out _ (fun k cc tt hk _ => hbWxxx.block k (heap_lt hk))) (fun hHeld => ?_)
    clear hK K hvWxxx
    try simp only [Act.put, List.setIfInBounds_toArray, List.set_cons_zero, List.set_cons_succ]
    refine wpAnyH_ready (rs := [19]) (by kernel_rfl) (by simp) ?_
    refine AllReadyH.cons (o := { dst := some 32, op := Op.mapEntry 77 (Operand.tmp 15) (Operand.tmp 16), type := 0, pos := "site.go:97", after := #[{ on := 3, ground := Ground.data }, { on := 4, ground := Ground.data }, { on := 16, ground := Ground.chain }, { on := 0, ground := Ground.phase }, { on := 1, ground := Ground.phase }, { on := 2, ground := Ground.phase }, { on := 3, ground := Ground.phase }, { on := 4, ground := Ground.phase }, { on := 5, ground := Ground.phase }, { on := 6, ground := Ground.phase }, { on := 7, ground := Ground.phase }, { on := 8, ground := Ground.phase }, { on := 9, ground := Ground.phase }, { on := 10, ground := Ground.phase }, { on := 11, ground := Ground.phase }, { on := 12, ground := Ground.phase }, { on := 13, ground := Ground.phase }, { on := 14, ground := Ground.phase }, { on := 15, ground := Ground.phase }, { on := 16, ground := Ground.phase }, { on := 17, ground := Ground.phase }, { on := 18, ground := Ground.phase }], guard := none }) rfl (fun K hK => ?_) AllReadyH.nil
    obtain ⟨st, Wxxxx, hrun, hMid, hks⟩ := (HSC.out.below hbWxxx).entry HN.out (pa, pp) HTZ.out
    obtain ⟨esx, ckx, hmb⟩ := (HSC.out.below hbWxxx).map
    have HMid : Hid (Mid Wxxxx lo g b N nv L (pa, pp) st (edY L (pa, pp)) (edL L (pa, pp))) := hMid
    have HKK : Hid (∀ (k : Nat) (cc : Array Value) (tt : TypeId), Wxxx.heap[k]? = some (Obj.cells cc tt (0, 0)) → Wxxxx.heap[k]? = Wxxx.heap[k]?) := fun k cc tt hk => hks.block k (heap_lt hk) fun e => by rw [e, hmb] at hk; cases hk
    have HSZ : Hid (Wxxx.heap.size ≤ Wxxxx.heap.size) := hks.size
    have HLB : Hid (Below lo Wxxx Wxxxx) := hks.below (by have := (HBl.out _ hbWxxx).size; have := HLO.out; omega) fun i hi e => by have := HS.out.lg.2; omega
    have HInV : Hid (In EEd Wxxxx (.slice (some ⟨Wxx.heap.size, 0, none⟩) 1 1) [⟨nv, pn, pv, (zb, zl, zc), cs⟩]) := in_one (E := EEd) _ _ (⟨nv, pn, pv, (zb, zl, zc), cs⟩ : Ed) #[.int .i64 nv, .int .i64 pn, .string pv, .slice zb zl zc] 83 (0, 0) ((HKK.out _ _ _ HBk.out).trans HBk.out) rfl
    have HLBw : Hid (Below lo w Wxxxx) := (HBl.out _ hbWxxx).trans HLB.out
    have rV : Hid (R ECh Wxxxx (sv (zb, zl, zc)) cs) := rWxxx.out.stays fun k hk hl => by
      obtain ⟨cc, hcc⟩ := rWxxx.out.ty k hk
      exact HKK.out k cc _ hcc
    clear hMid hks hmb
    unfold tgv at hrun
    simp only [sv] at hrun
    go_simp
    go_wp2_with fail
    refine hK.out _ _ (HSc.out _ (fun k cc tt hk _ => by rw [HKK.out k cc tt ((hbWxxx.block k (heap_lt hk)).trans hk)]; exact hbWxxx.block k (heap_lt hk))) (fun hHeld => ?_)
    clear hK K hrun
    try simp only [Act.put, List.setIfInBounds_toArray, List.set_cons_zero, List.set_cons_succ]
    refine wpAnyH_take (i := 20) (oi := { dst := some 17, op := Op.extract (Operand.tmp 32) 0, type := 108, pos := "site.go:97", after := #[{ on := 19, ground := Ground.data }], guard := none }) (v := ?vv24) rfl (by kernel_rfl) (by kernel_rfl) (by kernel_rfl) (fun _ _ _ h => h) (Or.inl ⟨by rfl, ?hy24⟩) (by assumption) ?_
    case hy24 => (intro w hSw; (try dsimp only at hSw); go_simp; all_goals with_reducible rfl)
    try simp only [Act.put, List.setIfInBounds_toArray, List.set_cons_zero, List.set_cons_succ]
    refine wpAnyH_take (i := 22) (oi := { dst := some 34, op := Op.extract (Operand.tmp 32) 1, type := 3, pos := "site.go:97", after := #[{ on := 19, ground := Ground.data }], guard := none }) (v := ?vv25) rfl (by kernel_rfl) (by kernel_rfl) (by kernel_rfl) (fun _ _ _ h => h) (Or.inl ⟨by rfl, ?hy25⟩) (by assumption) ?_
    case hy25 => (intro w hSw; (try dsimp only at hSw); go_simp; all_goals with_reducible rfl)
    try simp only [Act.put, List.setIfInBounds_toArray, List.set_cons_zero, List.set_cons_succ]
    refine wpAnyH_ready (rs := [21]) (by kernel_rfl) (by simp) ?_
    refine AllReadyH.cons (o := { dst := some 33, op := Op.call { callee := Callee.builtin Builtin.append, args := #[Operand.tmp 17, Operand.tmp 31], argTypes := #[108, 108] }, type := 108, pos := "site.go:97", after := #[{ on := 20, ground := Ground.data }, { on := 18, ground := Ground.data }, { on := 19, ground := Ground.chain }], guard := none }) rfl (fun K hK => ?_) AllReadyH.nil
    obtain ⟨ebs, ec, Wxxxxx, w9, hrun, hst, hSi, hBl, hkp⟩ := HMid.out.fin (by have := HLBw.out.size; have := HLO.out; omega) ⟨nv, pn, pv, (zb, zl, zc), cs⟩ _ HInV.out ⟨rV.out, HNE.out, by simpa [sv] using HNZ.out⟩ HL0.out
    have HST : Hid ((Instr.entryStore 77 (.map (some b)) (goInt st) (.slice ebs ((edL L (pa, pp)).length + 1) ec)).run Tryd.prog Wxxxxx = .ok () w9) := hst
    have HK2 : Hid (∀ (k : Nat) (cc : Array Value) (tt : TypeId), wc.heap[k]? = some (Obj.cells cc tt (0, 0)) → tt ≠ 83 → Wxxxxx.heap[k]? = wc.heap[k]? ∧ w9.heap[k]? = wc.heap[k]?) := fun k cc tt hk ht => by
      have e1 := hbWxxx.block k (heap_lt hk)
      have e2 := HKK.out k cc tt (e1.trans hk)
      have e3 := hkp k cc tt (e2.trans (e1.trans hk)) ht
      exact ⟨e3.1.trans (e2.trans e1), e3.2.trans (e2.trans e1)⟩
    have HFin : Hid (LyPost lo g b N nv L ⟨pa, pp, pn, pv, (yb, yl, yc)⟩ cs w (.returned (.tuple #[])) w9) := ⟨rfl, ⟨HLBw.out.trans hBl, (Kt.of (HBw.out wc (Below.refl _ _))).trans fun k cc tt hk _ ht => (HK2.out k cc tt hk ht).2⟩, _, _, hSi⟩
    clear hst hSi hBl hkp
    simp only [sv] at hrun
    refine step_append_run rfl (.tmp 17) (.tmp 31) 108 108 rfl hrun (by first | rfl | simp [Act.eval, Act.put]) (by first | rfl | simp [Act.eval, Act.put]) ?_
    refine hK.out _ _ (HSc.out _ (fun k cc tt hk ht => (HK2.out k cc tt hk ht).1)) (fun hHeld => ?_)
    clear hK K hrun
    try simp only [Act.put, List.setIfInBounds_toArray, List.set_cons_zero, List.set_cons_succ]
    refine wpAnyH_ready (rs := [23]) (by kernel_rfl) (by simp) ?_
    refine AllReadyH.cons (o := { dst := none, op := Op.entryStore 77 (Operand.tmp 15) (Operand.tmp 34) (Operand.tmp 33), type := 0, pos := "site.go:97", after := #[{ on := 3, ground := Ground.data }, { on := 22, ground := Ground.data }, { on := 21, ground := Ground.data }, { on := 21, ground := Ground.chain }, { on := 0, ground := Ground.phase }, { on := 1, ground := Ground.phase }, { on := 2, ground := Ground.phase }, { on := 3, ground := Ground.phase }, { on := 4, ground := Ground.phase }, { on := 5, ground := Ground.phase }, { on := 6, ground := Ground.phase }, { on := 7, ground := Ground.phase }, { on := 8, ground := Ground.phase }, { on := 9, ground := Ground.phase }, { on := 10, ground := Ground.phase }, { on := 11, ground := Ground.phase }, { on := 12, ground := Ground.phase }, { on := 13, ground := Ground.phase }, { on := 14, ground := Ground.phase }, { on := 15, ground := Ground.phase }, { on := 16, ground := Ground.phase }, { on := 17, ground := Ground.phase }, { on := 18, ground := Ground.phase }, { on := 19, ground := Ground.phase }, { on := 20, ground := Ground.phase }, { on := 21, ground := Ground.phase }, { on := 22, ground := Ground.phase }], guard := none }) rfl (fun K hK => ?_) AllReadyH.nil
    have hrun : (Instr.entryStore 77 (.map (some b)) (.int .i64 (st : Int)) (.slice ebs ((edL L (pa, pp)).length + 1) ec)).run Tryd.prog Wxxxxx = .ok () w9 := HST.out
    go_simp
    go_wp2_with fail
    refine hK.out _ _ (HSc.out _ (fun k cc tt hk ht => (HK2.out k cc tt hk ht).2)) (fun hHeld => ?_)
    clear hK K hrun
    try simp only [Act.put, List.setIfInBounds_toArray, List.set_cons_zero, List.set_cons_succ]
    refine wpAnyH_done (by kernel_rfl) ?_ _
    go_wp2_with fail
    refine bodyPost_end (results_none rfl _ _ _) rfl ?_
    exact HFin.out
end Go.Proofs.YtcadlpmopplkeaaDoor
