/- site: at. -/
import Derived.Test.YtcadlpmopplkeaaDoorDr
import Derived.Deep.Cut
namespace Go.Proofs.YtcadlpmopplkeaaDoor
open Go.RowKit Go.Maps
open Go.Shelf
set_option linter.unusedVariables false
set_option linter.unusedSimpArgs false

/-- the edition at a place, or none -/
def AtR (l : List Ed) (v : Int) (e : Ending) : Prop := ∃ r, Pl l v r ∧ ((r = 0 ∧ e = .returned (.tuple #[.agg #[.int .i64 0, .int .i64 0, .string ⟨#[]⟩, .slice none 0 0], .bool false])) ∨ ∃ (k : Nat) (h : k < l.length), r = k + 1 ∧ e = .returned (.tuple #[.agg (edv l[k]), .bool true]))
abbrev st4 (w : World) (g : Nat) (a b c d : Value) : World := (((w.setCell ⟨g, 0, none⟩ a).setCell ⟨g, 1, none⟩ b).setCell ⟨g, 2, none⟩ c).setCell ⟨g, 3, none⟩ d
theorem st4_block {w : World} {g : Nat} {x y z u : Value} (h : w.heap[g]? = some (.cells #[x, y, z, u] 83 (0, 0))) (a b c d : Value) : (st4 w g a b c d).heap[g]? = some (.cells #[a, b, c, d] 83 (0, 0)) := by
  rw [setCell_block _ _ _ _ _ _ _ (setCell_block _ _ _ _ _ _ _ (setCell_block _ _ _ _ _ _ _ (setCell_block _ _ _ _ _ _ _ h)))]
  rfl
theorem st4_below {w w1 : World} {n g : Nat} (h : Below n w w1) (hg : n ≤ g) (a b c d : Value) : Below n w (st4 w1 g a b c d) :=
  (((h.setCell (p := ⟨g, 0, none⟩) hg _).setCell (p := ⟨g, 1, none⟩) hg _).setCell (p := ⟨g, 2, none⟩) hg _).setCell (p := ⟨g, 3, none⟩) hg _
set_option maxHeartbeats 8000000 in
set_option maxRecDepth 100000 in
theorem at_any (lo g b N : Nat) (nv v : Int) (L : List Te) (t : Tg) (w : World) (hS : Si w lo g b N nv L) (ht : tz t) (hz : (edL L t).length ≤ 140737488355328) :
    Calls Tryd.prog 37 #[.pointer (some ⟨g, 0, none⟩), .int .i64 v, .agg (tgv t)] w fun e w' => AtR (edL L t) v e ∧ Below w.heap.size w w' := by
  obtain ⟨ta, tp⟩ := t
  obtain ⟨W0, hW0⟩ : ∃ W0, W0 = ((w.alloc (.cells #[.int .i64 v] 2)).alloc (.cells #[.string ta, .string tp] 87)).alloc (.cells #[.int .i64 0, .int .i64 0, .string ⟨#[]⟩, .slice none 0 0] 83) := ⟨_, rfl⟩
  have HB0 : Hid (Below w.heap.size w W0) := by rw [hW0]; exact (bel1 _ _).trans (((bel1 _ _).trans ((bel1 _ _).mono (bel1 _ _).size)).mono (bel1 _ _).size)
  have HS : Hid (Si W0 lo g b N nv L) := hS.below HB0.out
  obtain ⟨n1, hn1⟩ : ∃ n1, n1 = w.heap.size + 1 := ⟨_, rfl⟩
  obtain ⟨n0, hn0⟩ : ∃ n0, n0 = w.heap.size := ⟨_, rfl⟩
  obtain ⟨n2, hn2⟩ : ∃ n2, n2 = w.heap.size + 1 + 1 := ⟨_, rfl⟩
  have HF0 : Hid (W0.heap[n0]? = some (.cells #[.int .i64 v] 2 (0, 0))) := by
    show _ = _
    rw [hW0, hn0, heap_al, if_neg (by simp; omega), heap_al, if_neg (by simp), heap_al, if_pos rfl]
  have HF1 : Hid (W0.heap[n1]? = some (.cells #[.string ta, .string tp] 87 (0, 0))) := by
    show _ = _
    rw [hW0, hn1, heap_al, if_neg (by simp), heap_al, if_pos (by simp)]
  have HF2 : Hid (W0.heap[n2]? = some (.cells #[.int .i64 0, .int .i64 0, .string ⟨#[]⟩, .slice none 0 0] 83 (0, 0))) := by
    show _ = _
    rw [hW0, hn2, heap_al, if_pos (by simp)]
  have HN2 : Hid (w.heap.size ≤ n2) := by show _ ≤ _; omega
  have HZ : Hid ((edL L (ta, tp)).length ≤ 140737488355328) := hz
  obtain ⟨yb, yl, yc, hY⟩ : ∃ yb yl yc, edY L (ta, tp) = (yb, yl, yc) := ⟨_, _, _, rfl⟩
  have HLK : Hid (∀ V, Below W0.heap.size W0 V → (Instr.lookup 77 (.map (some b)) (.agg #[.string ta, .string tp]) false).run Tryd.prog V = .ok (.slice yb yl yc) V ∧ In EEd V (.slice yb yl yc) (edL L (ta, tp))) := fun V hV => by
    have h := (HS.out.below hV).look (ta, tp) ht
    rw [hY] at h
    exact ⟨h.1, h.2.isIn⟩
  have hCell : Hid (∀ V, Below W0.heap.size W0 V → V.cell? ⟨n1, 0, none⟩ = some (.string ta) ∧ V.cell? ⟨n1, 1, none⟩ = some (.string tp) ∧ V.cell? ⟨g, 1, none⟩ = some (.map (some b)) ∧ (Instr.lookup 77 (.map (some b)) (.agg #[.string ta, .string tp]) false).run Tryd.prog V = .ok (.slice yb yl yc) V) := fun V hV => ⟨cell_blk ((hV.block _ (heap_lt HF1.out)).trans HF1.out) 0, cell_blk ((hV.block _ (heap_lt HF1.out)).trans HF1.out) 1, cell_blk (HS.out.below hV).hg 1, (HLK.out V hV).1⟩
  unfold tgv
  clear hS hz hY ht
  go_enter Tryd.func37, Tryd.ntmps37
  go_upto_region 1 with fail
  rw [← hW0, ← hn2, ← hn1, ← hn0]
  clear hW0 hn0 hn1 hn2
  go_cut [8] from 9 (fun tv wx => ∃ q : Nat, tv = .pointer (some ⟨q, 0, none⟩) ∧ Hid (wx.heap[q]? = some (.cells #[.slice yb yl yc] 108 (0, 0))) ∧ Hid (Below W0.heap.size W0 wx))
  case first =>
    have hbW : Below W0.heap.size W0 W0.drew := (Below.refl _ _).drew
    refine wp_region_held_drew (S := (fun V => V.cell? ⟨n1, 0, none⟩ = some (.string ta) ∧ V.cell? ⟨n1, 1, none⟩ = some (.string tp) ∧ V.cell? ⟨g, 1, none⟩ = some (.map (some b)) ∧ (Instr.lookup 77 (.map (some b)) (.agg #[.string ta, .string tp]) false).run Tryd.prog V = .ok (.slice yb yl yc) V)) (by kernel_rfl) (hCell.out _ hbW) (fun hHeld => ?_)
    generalize hWg : World.drew _ = W at hbW hHeld ⊢
    clear hWg
    refine wpAnyH_take (i := 0) (oi := { dst := some 10, op := Op.move (Operand.tmp 0), type := 30, pos := "site.go:104", after := #[], guard := none }) (v := ?vv1) rfl (by kernel_rfl) (by kernel_rfl) (by kernel_rfl) (fun _ _ _ h => h) (Or.inl ⟨by rfl, ?hy1⟩) (by assumption) ?_
    case hy1 => (intro w hSw; (try dsimp only at hSw); go_simp; all_goals with_reducible rfl)
    try simp only [Act.put, List.setIfInBounds_toArray, List.set_cons_zero, List.set_cons_succ]
    refine wpAnyH_take (i := 1) (oi := { dst := some 11, op := Op.nilCheck (Operand.tmp 10), type := 0, pos := "site.go:104", after := #[{ on := 0, ground := Ground.data }], guard := none }) (v := ?vv2) rfl (by kernel_rfl) (by kernel_rfl) (by kernel_rfl) (fun _ _ _ h => h) (Or.inl ⟨by rfl, ?hy2⟩) (by assumption) ?_
    case hy2 => (intro w hSw; (try dsimp only at hSw); go_simp; all_goals with_reducible rfl)
    try simp only [Act.put, List.setIfInBounds_toArray, List.set_cons_zero, List.set_cons_succ]
    refine wpAnyH_take (i := 2) (oi := { dst := some 12, op := Op.fieldAddr 79 (Operand.tmp 11) 1, type := 0, pos := "site.go:104", after := #[{ on := 1, ground := Ground.data }], guard := none }) (v := ?vv3) rfl (by kernel_rfl) (by kernel_rfl) (by kernel_rfl) (fun _ _ _ h => h) (Or.inl ⟨by rfl, ?hy3⟩) (by assumption) ?_
    case hy3 => (intro w hSw; (try dsimp only at hSw); go_simp; all_goals with_reducible rfl)
    try simp only [Act.put, List.setIfInBounds_toArray, List.set_cons_zero, List.set_cons_succ]
    refine wpAnyH_take (i := 3) (oi := { dst := some 13, op := Op.load 77 (Operand.tmp 12), type := 77, pos := "site.go:104", after := #[{ on := 2, ground := Ground.data }], guard := none }) (v := ?vv4) rfl (by kernel_rfl) (by kernel_rfl) (by kernel_rfl) (fun _ _ _ h => h) (Or.inl ⟨by rfl, ?hy4⟩) (by assumption) ?_
    case hy4 => (intro w hSw; (try dsimp only at hSw); go_simp; all_goals with_reducible rfl)
    try simp only [Act.put, List.setIfInBounds_toArray, List.set_cons_zero, List.set_cons_succ]
    refine wpAnyH_take (i := 4) (oi := { dst := some 14, op := Op.load 87 (Operand.tmp 5), type := 87, pos := "site.go:104", after := #[], guard := none }) (v := ?vv5) rfl (by kernel_rfl) (by kernel_rfl) (by kernel_rfl) (fun _ _ _ h => h) (Or.inl ⟨by rfl, ?hy5⟩) (by assumption) ?_
    case hy5 => (intro w hSw; (try dsimp only at hSw); go_simp; all_goals with_reducible rfl)
    try simp only [Act.put, List.setIfInBounds_toArray, List.set_cons_zero, List.set_cons_succ]
    refine wpAnyH_take (i := 5) (oi := { dst := some 15, op := Op.lookup 77 (Operand.tmp 13) (Operand.tmp 14) false, type := 108, pos := "site.go:104", after := #[{ on := 3, ground := Ground.data }, { on := 4, ground := Ground.data }], guard := none }) (v := ?vv6) rfl (by kernel_rfl) (by kernel_rfl) (by kernel_rfl) (fun _ _ _ h => h) (Or.inl ⟨by rfl, ?hy6⟩) (by assumption) ?_
    case hy6 => (intro w hSw; (try dsimp only at hSw); go_simp; all_goals with_reducible rfl)
    try simp only [Act.put, List.setIfInBounds_toArray, List.set_cons_zero, List.set_cons_succ]
    refine wpAnyH_ready (rs := [6]) (by kernel_rfl) (by simp) ?_
    refine AllReadyH.cons (o := { dst := some 8, op := Op.alloc 108, type := 0, pos := "site.go:104", after := #[], guard := none }) rfl (fun K hK => ?_) AllReadyH.nil
    obtain ⟨Wx, hvWx⟩ : ∃ Wx, Wx = W.alloc (.cells #[.slice none 0 0] 108) := ⟨_, rfl⟩
    have hbWx : Below W0.heap.size W0 Wx := by rw [hvWx]; exact hbW.trans ((bel1 _ _).mono hbW.size)
    have hqWx : Hid (Wx.heap[W.heap.size]? = some (.cells #[.slice none 0 0] 108 (0, 0))) := by show _ = _; rw [hvWx, heap_al, if_pos rfl]
    have hsWx : Hid (W0.heap.size ≤ W.heap.size) := hbW.size
    go_simp
    go_wp2_with fail
    rw [← hvWx]
    refine hK.out _ _ (hCell.out _ hbWx) (fun hHeld => ?_)
    clear hK K hvWx
    try simp only [Act.put, List.setIfInBounds_toArray, List.set_cons_zero, List.set_cons_succ]
    refine wpAnyH_ready (rs := [7]) (by kernel_rfl) (by simp) ?_
    refine AllReadyH.cons (o := { dst := none, op := Op.store 108 (Operand.tmp 8) (Operand.tmp 15), type := 0, pos := "site.go:104", after := #[{ on := 6, ground := Ground.data }, { on := 5, ground := Ground.data }, { on := 0, ground := Ground.phase }, { on := 1, ground := Ground.phase }, { on := 2, ground := Ground.phase }, { on := 3, ground := Ground.phase }, { on := 4, ground := Ground.phase }, { on := 5, ground := Ground.phase }, { on := 6, ground := Ground.phase }], guard := none }) rfl (fun K hK => ?_) AllReadyH.nil
    have f0 := cell_blk hqWx.out 0
    have f2 := frozen_blk hqWx.out 0
    simp at f0
    have HQF : Hid ((Wx.setCell ⟨W.heap.size, 0, none⟩ (.slice yb yl yc)).heap[W.heap.size]? = some (.cells #[.slice yb yl yc] 108 (0, 0))) := by
      show _ = _
      rw [setCell_block _ _ _ _ _ _ _ hqWx.out]
      rfl
    have HBF : Hid (Below W0.heap.size W0 (Wx.setCell ⟨W.heap.size, 0, none⟩ (.slice yb yl yc))) := hbWx.setCell (p := ⟨W.heap.size, 0, none⟩) hsWx.out _
    go_simp
    go_wp2_with fail
    refine hK.out _ _ (hCell.out _ HBF.out) (fun hHeld => ?_)
    clear hK K f0 f2
    try simp only [Act.put, List.setIfInBounds_toArray, List.set_cons_zero, List.set_cons_succ]
    refine wpAnyH_done (by kernel_rfl) ?_ _
    go_wp2_with fail
    go_meet
    case rel => exact ⟨_, rfl, HQF.out, HBF.out⟩
  case rest =>
    obtain ⟨q, rfl, hQ, hBq⟩ := hcut
    have c0 := cell_blk hQ.out 0
    simp at c0
    have hI := (HLK.out _ hBq.out).2
    obtain ⟨b0, k0, e0, m1, m2⟩ := hI.slice
    injection e0 with e1 e2 e3
    subst e2
    have hC : Hid (Calls Tryd.prog 57 #[.int .i64 ((edL L (ta, tp)).length : Int), .func (.func 58) #[] #[.pointer (some ⟨q, 0, none⟩), .pointer (some ⟨n0, 0, none⟩)]] wc fun e w' => (∃ r : Nat, e = .returned (.int .i64 (r : Int)) ∧ Pl (edL L (ta, tp)) v r) ∧ Below wc.heap.size wc w') := search_any (yb, _, yc) (edL L (ta, tp)) v q n0 wc hI HZ.out c0 (cell_blk ((hBq.out.block _ (heap_lt HF0.out)).trans HF0.out) 0)
    have HI : Hid (In EEd wc (.slice yb (edL L (ta, tp)).length yc) (edL L (ta, tp))) := hI
    have HQ1 : Hid (wc.heap[q]? = some (.cells #[.slice yb (edL L (ta, tp)).length yc] 108 (0, 0))) := hQ
    have HG2 : Hid (wc.heap[n2]? = some (.cells #[.int .i64 0, .int .i64 0, .string ⟨#[]⟩, .slice none 0 0] 83 (0, 0))) := (hBq.out.block _ (heap_lt HF2.out)).trans HF2.out
    clear hI hQ HLK hCell e1 e3 HS
    go_wp2_with fail
    go_at_call 57
    refine hC.out.mono ?_
    rintro e w1 ⟨⟨r, rfl, hPl⟩, hb1⟩
    have HPl : Hid (Pl (edL L (ta, tp)) v r) := hPl
    have HB1 : Hid (Below wc.heap.size wc w1) := hb1
    have HB2 : Hid (Below W0.heap.size W0 w1) := hBq.out.trans (hb1.mono hBq.out.size)
    clear hC c0
    have c0 := cell_blk ((hb1.block _ (heap_lt HQ1.out)).trans HQ1.out) 0
    have G2 := (hb1.block _ (heap_lt HG2.out)).trans HG2.out
    have g0 := cell_blk G2 0
    have g1 := cell_blk G2 1
    have g2 := cell_blk G2 2
    have g3 := cell_blk G2 3
    have z0 := frozen_blk G2 0
    have z1 := frozen_blk G2 1
    have z2 := frozen_blk G2 2
    have z3 := frozen_blk G2 3
    simp at c0 g0 g1 g2 g3
    have HG3 : Hid (w1.heap[n2]? = some (.cells #[.int .i64 0, .int .i64 0, .string ⟨#[]⟩, .slice none 0 0] 83 (0, 0))) := G2
    clear hb1 hPl G2
    have HBw : Hid (Below w.heap.size w w1) := HB0.out.trans (HB2.out.mono HB0.out.size)
    rcases r with _ | k
    · go_wp2_with fail
      refine bodyPost_ret (results_ct (p := 6) (ty := 83) (r := 7) rfl _ _ n2 83 #[.int .i64 0, .int .i64 0, .string ⟨#[]⟩, .slice none 0 0] (0, 0) _ rfl (st4_block HG3.out _ _ _ _) Tryd.underlying83 rfl (by kernel_rfl)) rfl ?_
      exact ⟨⟨0, HPl.out, .inl ⟨rfl, rfl⟩⟩, st4_below HBw.out HN2.out _ _ _ _⟩
    · have hkl : k < (edL L (ta, tp)).length := by have := HPl.out.1; omega
      obtain ⟨B, off, cap, ek, hc⟩ := HI.out.ed k hkl
      injection ek with e1 e2 e3
      subst e1
      obtain ⟨i0, i1, i2, i3⟩ := hc w1 HB1.out
      obtain ⟨y, hy⟩ : ∃ y, (edL L (ta, tp))[k] = y := ⟨_, rfl⟩
      rw [hy] at i0 i1 i2 i3
      have Hy : Hid ((edL L (ta, tp))[k] = y) := hy
      obtain ⟨ys, yn, yv, ⟨ya, yd, ye⟩, yl⟩ := y
      simp only [sv] at i0 i1 i2 i3
      have h1 : ¬ ((k + 1 : Nat) : Int) = 0 := by omega
      have h2 : ((k + 1 : Nat) : Int) - 1 = (k : Int) := by omega
      have h3 : (k : Int) < ((edL L (ta, tp)).length : Int) := by omega
      have h4 : k ≤ 140737488355328 := by have := HZ.out; omega
      clear hc hy e2 e3
      go_wp2_with fail
      refine bodyPost_ret (results_ct (p := 6) (ty := 83) (r := 7) rfl _ _ n2 83 #[.int .i64 ys, .int .i64 yn, .string yv, .slice ya yd ye] (0, 0) _ rfl (st4_block HG3.out _ _ _ _) Tryd.underlying83 rfl (by kernel_rfl)) rfl ?_
      exact ⟨⟨k + 1, HPl.out, .inr ⟨k, hkl, rfl, by rw [Hy.out]; rfl⟩⟩, st4_below HBw.out HN2.out _ _ _ _⟩
end Go.Proofs.YtcadlpmopplkeaaDoor
