/- site: Put. -/
import Derived.Test.YtcadlpmopplkeaaDoorEq
namespace Go.Proofs.YtcadlpmopplkeaaDoor
open Go.RowKit Go.Maps
open Go.Shelf
set_option linter.unusedVariables false
set_option linter.unusedSimpArgs false

theorem ch_str {l : List Ch} {j : Nat} {u : Value} (h : (ECh.cs l)[j]? = some u) : ∃ s, u = .string s := by
  have hm := List.mem_of_getElem? h
  unfold El.cs at hm
  obtain ⟨c, _, hc⟩ := List.mem_flatMap.1 hm
  simp only [ECh, chv, List.mem_cons, List.not_mem_nil, or_false] at hc
  rcases hc with rfl | rfl <;> exact ⟨_, rfl⟩
theorem In.bump {w : World} {v x : Value} {l : List Ch} {g : Nat} {n : Int} (h : In ECh w v l) (hg : w.cell? ⟨g, 0, none⟩ = some (.int .i64 n)) : In ECh (w.setCell ⟨g, 0, none⟩ x) v l := by
  rcases h with h | ⟨a, cap, h1, h2, h3, h5⟩
  · exact .inl h
  · refine .inr ⟨a, cap, h1, h2, h3, fun j u hu => ?_⟩
    have := h5 j u hu
    rw [World.cell?_setCell_other _ _ _ _ (fun e => ?_), this]
    obtain ⟨s, rfl⟩ := ch_str hu
    first
      | (rw [e, hg] at this; cases this)
      | (rw [← e] at this; rw [hg] at this; cases this)
/-- what a put leaves -/
def PtPost (lo g b N : Nat) (nv : Int) (L : List Te) (p : Pg) (cs : List Ch) (w : World) (e : Ending) (w' : World) : Prop :=
  (Below lo w w' ∧ Kt w w') ∧ ((e = .returned (.int .i64 170) ∧ pgB p cs = false ∧ Si w' lo g b N nv L) ∨
    (e = .returned (.int .i64 6) ∧ pgB p cs = true ∧ 64 ≤ L.length ∧ Pl (edL L (p.a, p.p)) nv 0 ∧ Si w' lo g b N nv L) ∨
    (e = .returned (.int .i64 0) ∧ pgB p cs = true ∧ (L.length < 64 ∨ ∃ r, Pl (edL L (p.a, p.p)) nv (r + 1)) ∧ ∃ y z : SV, Si w' lo g b (N + 1) (nv + 1) (upd L ⟨(p.a, p.p), y, edL L (p.a, p.p) ++ [⟨nv + 1, p.n, p.v, z, cs⟩]⟩)))
set_option maxHeartbeats 16000000 in
set_option maxRecDepth 100000 in
theorem put_any (lo g b N : Nat) (nv : Int) (L : List Te) (p : Pg) (cs : List Ch) (w : World) (hS : Si w lo g b N nv L) (hN : N < maxLen) (hnv : 1 ≤ nv ∧ nv ≤ 140737488355328) (hlo : lo ≤ w.heap.size) (hI : In ECh w (sv p.ys) cs) (h8 : pgB p cs = true → cs ≠ [] ∧ cs.length ≤ 8) (hz : tz (p.a, p.p) ∧ p.v.size ≤ 281474976710656) (hcz : ∀ c ∈ cs, c.v.size ≤ 140737488355328 ∧ c.b.size ≤ 140737488355328) (hl : ((edL L (p.a, p.p)).length + 1) * 56 ≤ 140737488355328) :
    Calls Tryd.prog 14 #[.pointer (some ⟨g, 0, none⟩), .agg (pgv p)] w fun e w' => PtPost lo g b N nv L p cs w e w' := by
  obtain ⟨pa, pp, pn, pv, ⟨yb, yl, yc⟩⟩ := p
  simp only at hz hl
  have HS : Hid (Si w lo g b N nv L) := hS
  obtain ⟨V0, hV0⟩ : ∃ V0, V0 = w.alloc (.cells #[.string pa, .string pp, .int .i64 pn, .string pv, .slice yb yl yc] 26) := ⟨_, rfl⟩
  obtain ⟨n0, hn0⟩ : ∃ n0, n0 = w.heap.size := ⟨_, rfl⟩
  have HB0 : Hid (Below w.heap.size w V0) := by rw [hV0]; exact bel1 _ _
  have HF0 : Hid (V0.heap[n0]? = some (.cells #[.string pa, .string pp, .int .i64 pn, .string pv, .slice yb yl yc] 26 (0, 0))) := by
    show _ = _
    rw [hV0, hn0, heap_al, if_pos rfl]
  have HS0 : Hid (Si V0 lo g b N nv L) := hS.below HB0.out
  have HW : Hid (Calls Tryd.prog 34 #[.agg #[.string pa, .string pp, .int .i64 pn, .string pv, .slice yb yl yc]] V0 fun e w' => e = .returned (.bool (!pgB ⟨pa, pp, pn, pv, (yb, yl, yc)⟩ cs)) ∧ Below V0.heap.size V0 w') := isWrong_any ⟨pa, pp, pn, pv, (yb, yl, yc)⟩ cs V0 (hI.below HB0.out)
  have H1 := cell_blk HF0.out 0
  have H2 := cell_blk HF0.out 1
  have H3 := cell_blk HF0.out 2
  have H4 := cell_blk HF0.out 3
  have H5 := cell_blk HF0.out 4
  simp at H1 H2 H3 H4 H5
  have HNV : Hid (1 ≤ nv ∧ nv ≤ 140737488355328) := hnv
  have HLAY : Hid (pgB ⟨pa, pp, pn, pv, (yb, yl, yc)⟩ cs = true → ∀ V m, lo ≤ V.heap.size → In ECh V (sv (yb, yl, yc)) cs → Si V lo g b N m L → Calls Tryd.prog 35 #[.pointer (some ⟨g, 0, none⟩), .agg #[.string pa, .string pp, .int .i64 pn, .string pv, .slice yb yl yc]] V fun e w' => LyPost lo g b N m L ⟨pa, pp, pn, pv, (yb, yl, yc)⟩ cs V e w') := fun hp V m hV hIV hSV => lay_any lo g b N m L ⟨pa, pp, pn, pv, (yb, yl, yc)⟩ cs V hSV hN hV hIV (h8 hp).1 (h8 hp).2 hz hcz hl
  have HIw : Hid (∀ V, Below w.heap.size w V → In ECh V (sv (yb, yl, yc)) cs) := fun V hV => hI.below hV
  have HHS : Hid (∀ V, Si V lo g b N nv L → Calls Tryd.prog 16 #[.pointer (some ⟨g, 0, none⟩), .int .i64 nv, .string pa, .string pp] V fun e w' => (∃ r, Pl (edL L (pa, pp)) nv r ∧ e = .returned (.bool (decide (0 < r) && ivB nv nv))) ∧ Below V.heap.size V w') := fun V hV => has_any lo g b N nv nv L (pa, pp) V hV hz.1 (by omega)
  have HLO : Hid (lo ≤ w.heap.size) := hlo
  clear hS hN hnv hlo hI h8 hz hcz hl
  unfold pgv
  simp only [sv]
  go_enter Tryd.func14, Tryd.ntmps14
  go_upto_region 1 with fail
  rw [← hV0, ← hn0]
  clear hV0 hn0
  go_wp2_with fail
  go_at_call 34
  refine HW.out.mono ?_
  rintro e W0 ⟨rfl, hb1⟩
  have HBw : Hid (Below w.heap.size w W0) := HB0.out.trans (hb1.mono HB0.out.size)
  have HS1 : Hid (Si W0 lo g b N nv L) := HS0.out.below hb1
  have HF1 : Hid (W0.heap[n0]? = some (.cells #[.string pa, .string pp, .int .i64 pn, .string pv, .slice yb yl yc] 26 (0, 0))) := (hb1.block _ (heap_lt HF0.out)).trans HF0.out
  have HBl : Hid (Below lo w W0) := ⟨HBw.out.os, HBw.out.tape, HBw.out.output, HBw.out.size, fun k hk => HBw.out.block k (by have := HLO.out; omega)⟩
  clear HW HB0 hb1 HF0 HS0 HS H1 H2 H3 H4 H5
  cases hpg : pgB ⟨pa, pp, pn, pv, (yb, yl, yc)⟩ cs
  · have HPG : Hid (pgB ⟨pa, pp, pn, pv, (yb, yl, yc)⟩ cs = false) := hpg
    clear hpg
    simp only [Bool.not_false]
    go_wp2_with fail
    refine bodyPost_ret (results_tmp rfl _ _ _) rfl ?_
    exact ⟨⟨HBl.out, Kt.of HBw.out⟩, .inl ⟨rfl, HPG.out, HS1.out⟩⟩
  · have HPG : Hid (pgB ⟨pa, pp, pn, pv, (yb, yl, yc)⟩ cs = true) := hpg
    clear hpg
    simp only [Bool.not_true]
    have HHas : Hid (∀ V, Below W0.heap.size W0 V → Calls Tryd.prog 16 #[.pointer (some ⟨g, 0, none⟩), .int .i64 nv, .string pa, .string pp] V fun e w' => (∃ r, Pl (edL L (pa, pp)) nv r ∧ e = .returned (.bool (decide (0 < r) && ivB nv nv))) ∧ Below V.heap.size V w') := fun V hV => HHS.out V (HS1.out.below hV)
    have hCell : Hid (∀ V, Below W0.heap.size W0 V → (Builtin.len_ #[77] 3 #[.map (some b)]).run Tryd.prog V = .ok (.int .i64 (L.length : Int)) V ∧ V.cell? ⟨g, 1, none⟩ = some (.map (some b)) ∧ V.cell? ⟨g, 0, none⟩ = some (.int .i64 nv) ∧ V.cell? ⟨n0, 0, none⟩ = some (.string pa) ∧ V.cell? ⟨n0, 1, none⟩ = some (.string pp)) := fun V hV => ⟨(HS1.out.below hV).len, cell_blk (HS1.out.below hV).hg 1, cell_blk (HS1.out.below hV).hg 0, cell_blk ((hV.block _ (heap_lt HF1.out)).trans HF1.out) 0, cell_blk ((hV.block _ (heap_lt HF1.out)).trans HF1.out) 1⟩
    go_upto_region 3 with fail
    by_cases h64 : 64 ≤ L.length
    · have h64' : (64 : Int) ≤ (L.length : Int) := by omega
      have hbW : Below W0.heap.size W0 W0.drew := (Below.refl _ _).drew
      refine wp_region_held_drew (S := (fun V => (Builtin.len_ #[77] 3 #[.map (some b)]).run Tryd.prog V = .ok (.int .i64 (L.length : Int)) V ∧ V.cell? ⟨g, 1, none⟩ = some (.map (some b)) ∧ V.cell? ⟨g, 0, none⟩ = some (.int .i64 nv) ∧ V.cell? ⟨n0, 0, none⟩ = some (.string pa) ∧ V.cell? ⟨n0, 1, none⟩ = some (.string pp))) (by kernel_rfl) (hCell.out _ hbW) (fun hHeld => ?_)
      generalize hWg : World.drew _ = W at hbW hHeld ⊢
      clear hWg
      refine wpAnyH_take (i := 0) (oi := { dst := some 9, op := Op.move (Operand.tmp 0), type := 30, pos := "site.go:62", after := #[], guard := none }) (v := ?vv10) rfl (by kernel_rfl) (by kernel_rfl) (by kernel_rfl) (fun _ _ _ h => h) (Or.inl ⟨by rfl, ?hy10⟩) (by assumption) ?_
      case hy10 => (intro w hSw; (try dsimp only at hSw); go_simp; all_goals with_reducible rfl)
      try simp only [Act.put, List.setIfInBounds_toArray, List.set_cons_zero, List.set_cons_succ]
      refine wpAnyH_take (i := 1) (oi := { dst := some 10, op := Op.nilCheck (Operand.tmp 9), type := 0, pos := "site.go:62", after := #[{ on := 0, ground := Ground.data }], guard := none }) (v := ?vv11) rfl (by kernel_rfl) (by kernel_rfl) (by kernel_rfl) (fun _ _ _ h => h) (Or.inl ⟨by rfl, ?hy11⟩) (by assumption) ?_
      case hy11 => (intro w hSw; (try dsimp only at hSw); go_simp; all_goals with_reducible rfl)
      try simp only [Act.put, List.setIfInBounds_toArray, List.set_cons_zero, List.set_cons_succ]
      refine wpAnyH_take (i := 2) (oi := { dst := some 11, op := Op.fieldAddr 79 (Operand.tmp 10) 1, type := 0, pos := "site.go:62", after := #[{ on := 1, ground := Ground.data }], guard := none }) (v := ?vv12) rfl (by kernel_rfl) (by kernel_rfl) (by kernel_rfl) (fun _ _ _ h => h) (Or.inl ⟨by rfl, ?hy12⟩) (by assumption) ?_
      case hy12 => (intro w hSw; (try dsimp only at hSw); go_simp; all_goals with_reducible rfl)
      try simp only [Act.put, List.setIfInBounds_toArray, List.set_cons_zero, List.set_cons_succ]
      refine wpAnyH_take (i := 3) (oi := { dst := some 12, op := Op.load 77 (Operand.tmp 11), type := 77, pos := "site.go:62", after := #[{ on := 2, ground := Ground.data }], guard := none }) (v := ?vv13) rfl (by kernel_rfl) (by kernel_rfl) (by kernel_rfl) (fun _ _ _ h => h) (Or.inl ⟨by rfl, ?hy13⟩) (by assumption) ?_
      case hy13 => (intro w hSw; (try dsimp only at hSw); go_simp; all_goals with_reducible rfl)
      try simp only [Act.put, List.setIfInBounds_toArray, List.set_cons_zero, List.set_cons_succ]
      refine wpAnyH_take (i := 4) (oi := { dst := some 13, op := Op.call { callee := Callee.builtin Builtin.len, args := #[Operand.tmp 12], argTypes := #[77] }, type := 3, pos := "site.go:62", after := #[{ on := 3, ground := Ground.data }], guard := none }) (v := ?vv14) rfl (by kernel_rfl) (by kernel_rfl) (by kernel_rfl) (fun _ _ _ h => h) (Or.inl ⟨by rfl, ?hy14⟩) (by assumption) ?_
      case hy14 => (intro w hSw; (try dsimp only at hSw); go_simp; all_goals with_reducible rfl)
      try simp only [Act.put, List.setIfInBounds_toArray, List.set_cons_zero, List.set_cons_succ]
      refine wpAnyH_take (i := 5) (oi := { dst := some 14, op := Op.binOp BinOp.geq 3 (Operand.tmp 13) (Operand.const (Value.int IntKind.i64 64)) 3, type := 4, pos := "site.go:62", after := #[{ on := 4, ground := Ground.data }], guard := none }) (v := ?vv15) rfl (by kernel_rfl) (by kernel_rfl) (by kernel_rfl) (fun _ _ _ h => h) (Or.inl ⟨by rfl, ?hy15⟩) (by assumption) ?_
      case hy15 => (intro w hSw; (try dsimp only at hSw); go_simp; all_goals with_reducible rfl)
      try simp only [Act.put, List.setIfInBounds_toArray, List.set_cons_zero, List.set_cons_succ]
      refine wpAnyH_take (i := 6) (oi := { dst := some 15, op := Op.move (Operand.tmp 14), type := 4, pos := "site.go:62", after := #[{ on := 5, ground := Ground.data }, { on := 4, ground := Ground.chain }], guard := none }) (v := ?vv16) rfl (by kernel_rfl) (by kernel_rfl) (by kernel_rfl) (fun _ _ _ h => h) (Or.inl ⟨by rfl, ?hy16⟩) (by assumption) ?_
      case hy16 => (intro w hSw; (try dsimp only at hSw); go_simp; all_goals with_reducible rfl)
      try simp only [Act.put, List.setIfInBounds_toArray, List.set_cons_zero, List.set_cons_succ]
      refine wpAnyH_take (i := 7) (oi := { dst := some 16, op := Op.move (Operand.tmp 0), type := 30, pos := "site.go:62", after := #[{ on := 6, ground := Ground.guard }], guard := some (6, true) }) (v := ?vv17) rfl (by kernel_rfl) (by kernel_rfl) (by kernel_rfl) (fun _ _ _ h => h) (Or.inl ⟨by rfl, ?hy17⟩) (by assumption) ?_
      case hy17 => (intro w hSw; (try dsimp only at hSw); go_simp; all_goals with_reducible rfl)
      try simp only [Act.put, List.setIfInBounds_toArray, List.set_cons_zero, List.set_cons_succ]
      refine wpAnyH_take (i := 8) (oi := { dst := some 17, op := Op.move (Operand.tmp 0), type := 30, pos := "site.go:62", after := #[{ on := 6, ground := Ground.guard }], guard := some (6, true) }) (v := ?vv18) rfl (by kernel_rfl) (by kernel_rfl) (by kernel_rfl) (fun _ _ _ h => h) (Or.inl ⟨by rfl, ?hy18⟩) (by assumption) ?_
      case hy18 => (intro w hSw; (try dsimp only at hSw); go_simp; all_goals with_reducible rfl)
      try simp only [Act.put, List.setIfInBounds_toArray, List.set_cons_zero, List.set_cons_succ]
      refine wpAnyH_take (i := 9) (oi := { dst := some 18, op := Op.nilCheck (Operand.tmp 17), type := 0, pos := "site.go:62", after := #[{ on := 8, ground := Ground.data }, { on := 6, ground := Ground.guard }], guard := some (6, true) }) (v := ?vv19) rfl (by kernel_rfl) (by kernel_rfl) (by kernel_rfl) (fun _ _ _ h => h) (Or.inl ⟨by rfl, ?hy19⟩) (by assumption) ?_
      case hy19 => (intro w hSw; (try dsimp only at hSw); go_simp; all_goals with_reducible rfl)
      try simp only [Act.put, List.setIfInBounds_toArray, List.set_cons_zero, List.set_cons_succ]
      refine wpAnyH_take (i := 10) (oi := { dst := some 19, op := Op.fieldAddr 79 (Operand.tmp 18) 0, type := 0, pos := "site.go:62", after := #[{ on := 9, ground := Ground.data }, { on := 6, ground := Ground.guard }], guard := some (6, true) }) (v := ?vv20) rfl (by kernel_rfl) (by kernel_rfl) (by kernel_rfl) (fun _ _ _ h => h) (Or.inl ⟨by rfl, ?hy20⟩) (by assumption) ?_
      case hy20 => (intro w hSw; (try dsimp only at hSw); go_simp; all_goals with_reducible rfl)
      try simp only [Act.put, List.setIfInBounds_toArray, List.set_cons_zero, List.set_cons_succ]
      refine wpAnyH_take (i := 11) (oi := { dst := some 20, op := Op.load 2 (Operand.tmp 19), type := 2, pos := "site.go:62", after := #[{ on := 10, ground := Ground.data }, { on := 6, ground := Ground.guard }], guard := some (6, true) }) (v := ?vv21) rfl (by kernel_rfl) (by kernel_rfl) (by kernel_rfl) (fun _ _ _ h => h) (Or.inl ⟨by rfl, ?hy21⟩) (by assumption) ?_
      case hy21 => (intro w hSw; (try dsimp only at hSw); go_simp; all_goals with_reducible rfl)
      try simp only [Act.put, List.setIfInBounds_toArray, List.set_cons_zero, List.set_cons_succ]
      refine wpAnyH_take (i := 12) (oi := { dst := some 21, op := Op.fieldAddr 26 (Operand.tmp 3) 0, type := 0, pos := "site.go:62", after := #[{ on := 6, ground := Ground.guard }], guard := some (6, true) }) (v := ?vv22) rfl (by kernel_rfl) (by kernel_rfl) (by kernel_rfl) (fun _ _ _ h => h) (Or.inl ⟨by rfl, ?hy22⟩) (by assumption) ?_
      case hy22 => (intro w hSw; (try dsimp only at hSw); go_simp; all_goals with_reducible rfl)
      try simp only [Act.put, List.setIfInBounds_toArray, List.set_cons_zero, List.set_cons_succ]
      refine wpAnyH_take (i := 13) (oi := { dst := some 22, op := Op.load 9 (Operand.tmp 21), type := 9, pos := "site.go:62", after := #[{ on := 12, ground := Ground.data }, { on := 6, ground := Ground.guard }], guard := some (6, true) }) (v := ?vv23) rfl (by kernel_rfl) (by kernel_rfl) (by kernel_rfl) (fun _ _ _ h => h) (Or.inl ⟨by rfl, ?hy23⟩) (by assumption) ?_
      case hy23 => (intro w hSw; (try dsimp only at hSw); go_simp; all_goals with_reducible rfl)
      try simp only [Act.put, List.setIfInBounds_toArray, List.set_cons_zero, List.set_cons_succ]
      refine wpAnyH_take (i := 14) (oi := { dst := some 23, op := Op.fieldAddr 26 (Operand.tmp 3) 1, type := 0, pos := "site.go:62", after := #[{ on := 6, ground := Ground.guard }], guard := some (6, true) }) (v := ?vv24) rfl (by kernel_rfl) (by kernel_rfl) (by kernel_rfl) (fun _ _ _ h => h) (Or.inl ⟨by rfl, ?hy24⟩) (by assumption) ?_
      case hy24 => (intro w hSw; (try dsimp only at hSw); go_simp; all_goals with_reducible rfl)
      try simp only [Act.put, List.setIfInBounds_toArray, List.set_cons_zero, List.set_cons_succ]
      refine wpAnyH_take (i := 15) (oi := { dst := some 24, op := Op.load 9 (Operand.tmp 23), type := 9, pos := "site.go:62", after := #[{ on := 14, ground := Ground.data }, { on := 6, ground := Ground.guard }], guard := some (6, true) }) (v := ?vv25) rfl (by kernel_rfl) (by kernel_rfl) (by kernel_rfl) (fun _ _ _ h => h) (Or.inl ⟨by rfl, ?hy25⟩) (by assumption) ?_
      case hy25 => (intro w hSw; (try dsimp only at hSw); go_simp; all_goals with_reducible rfl)
      try simp only [Act.put, List.setIfInBounds_toArray, List.set_cons_zero, List.set_cons_succ]
      refine wpAnyH_ready (rs := [16]) (by kernel_rfl) (by simp) ?_
      refine AllReadyH.cons (o := { dst := some 25, op := Op.call { callee := Callee.value (Operand.func 16), args := #[Operand.tmp 16, Operand.tmp 20, Operand.tmp 22, Operand.tmp 24], argTypes := #[30, 2, 9, 9] }, type := 4, pos := "site.go:62", after := #[{ on := 7, ground := Ground.data }, { on := 11, ground := Ground.data }, { on := 13, ground := Ground.data }, { on := 15, ground := Ground.data }, { on := 6, ground := Ground.chain }, { on := 6, ground := Ground.guard }], guard := some (6, true) }) rfl (fun K hK => ?_) AllReadyH.nil
      go_simp
      refine (HHas.out _ hbW).mono ?_
      rintro e Wx ⟨⟨r, HPl', rfl⟩, bX⟩
      have hbWx : Below W0.heap.size W0 Wx := hbW.trans (bX.mono hbW.size)
      have HPl : Hid (Pl (edL L (pa, pp)) nv r) := HPl'
      clear bX HPl'
      go_wp2_with fail
      refine hK.out _ _ (hCell.out _ hbWx) (fun hHeld => ?_)
      clear hK K
      try simp only [Act.put, List.setIfInBounds_toArray, List.set_cons_zero, List.set_cons_succ]
      refine wpAnyH_take (i := 17) (oi := { dst := some 26, op := Op.unOp UnOp.not 4 (Operand.tmp 25), type := 4, pos := "site.go:62", after := #[{ on := 16, ground := Ground.data }, { on := 6, ground := Ground.guard }], guard := some (6, true) }) (v := ?vv26) rfl (by kernel_rfl) (by kernel_rfl) (by kernel_rfl) (fun _ _ _ h => h) (Or.inl ⟨by rfl, ?hy26⟩) (by assumption) ?_
      case hy26 => (intro w hSw; (try dsimp only at hSw); go_simp; all_goals with_reducible rfl)
      try simp only [Act.put, List.setIfInBounds_toArray, List.set_cons_zero, List.set_cons_succ]
      refine wpAnyH_take (i := 18) (oi := { dst := some 27, op := Op.pick (Operand.tmp 15) (Operand.tmp 26) (Operand.const (Value.bool false)), type := 4, pos := "site.go:62", after := #[{ on := 6, ground := Ground.data }, { on := 17, ground := Ground.data }], guard := none }) (v := ?vv27) rfl (by kernel_rfl) (by kernel_rfl) (by kernel_rfl) (fun _ _ _ h => h) (Or.inl ⟨by rfl, ?hy27⟩) (by assumption) ?_
      case hy27 => (intro w hSw; (try dsimp only at hSw); go_simp; all_goals with_reducible rfl)
      try simp only [Act.put, List.setIfInBounds_toArray, List.set_cons_zero, List.set_cons_succ]
      refine wpAnyH_take (i := 19) (oi := { dst := some 8, op := Op.assign (Operand.tmp 27), type := 4, pos := "site.go:62", after := #[{ on := 18, ground := Ground.data }, { on := 16, ground := Ground.chain }], guard := none }) (v := ?vv28) rfl (by kernel_rfl) (by kernel_rfl) (by kernel_rfl) (fun _ _ _ h => h) (Or.inl ⟨by rfl, ?hy28⟩) (by assumption) ?_
      case hy28 => (intro w hSw; (try dsimp only at hSw); go_simp; all_goals with_reducible rfl)
      try simp only [Act.put, List.setIfInBounds_toArray, List.set_cons_zero, List.set_cons_succ]
      refine wpAnyH_done (by kernel_rfl) ?_ _
      have eiv : ivB nv nv = true := by have := HNV.out; simp [ivB]; omega
      rw [eiv]
      clear eiv
      rcases r with _ | r
      · have HE : Hid (PtPost lo g b N nv L ⟨pa, pp, pn, pv, (yb, yl, yc)⟩ cs w (.returned (.int .i64 6)) Wx) := ⟨⟨HBl.out.trans (hbWx.mono (Nat.le_trans HLO.out HBw.out.size)), Kt.of (HBw.out.trans (hbWx.mono HBw.out.size))⟩, .inr (.inl ⟨rfl, HPG.out, h64, HPl.out, HS1.out.below hbWx⟩)⟩
        simp only [Nat.lt_irrefl, decide_false, Bool.false_and, Bool.not_false]
        go_wp2_with fail
        refine bodyPost_ret (results_tmp rfl _ _ _) rfl ?_
        exact HE.out
      · simp only [Nat.zero_lt_succ, decide_true, Bool.true_and, Bool.not_true]
        have hSW := HS1.out.below hbWx
        have hgn : n0 ≠ g := fun e => by have h := HS1.out.hg; rw [← e, HF1.out] at h; cases h
        have f0 := cell_blk hSW.hg 0
        have f1 := frozen_blk hSW.hg 0
        simp at f0
        obtain ⟨hS2, hB2⟩ := hSW.bump (nv + 1)
        have hF2 : (Wx.setCell ⟨g, 0, none⟩ (.int .i64 (nv + 1))).heap[n0]? = some (.cells #[.string pa, .string pp, .int .i64 pn, .string pv, .slice yb yl yc] 26 (0, 0)) := by
          have h1 : (Wx.setCell ⟨g, 0, none⟩ (.int .i64 (nv + 1))).heap[n0]? = Wx.heap[n0]? := by simp [World.setCell, Array.getElem?_modify, Ne.symm hgn]
          exact h1.trans ((hbWx.block _ (heap_lt HF1.out)).trans HF1.out)
        have c0 := cell_blk hF2 0
        have c1 := cell_blk hF2 1
        have c2 := cell_blk hF2 2
        have c3 := cell_blk hF2 3
        have c4 := cell_blk hF2 4
        simp at c0 c1 c2 c3 c4
        have HBL : Hid (Below lo w (Wx.setCell ⟨g, 0, none⟩ (.int .i64 (nv + 1)))) := (HBl.out.trans (hbWx.mono (Nat.le_trans HLO.out HBw.out.size))).trans hB2
        have HKT : Hid (Kt w (Wx.setCell ⟨g, 0, none⟩ (.int .i64 (nv + 1)))) := (Kt.of (HBw.out.trans (hbWx.mono HBw.out.size))).trans (Kt.set _ hSW.hg)
        have HC : Hid (Calls Tryd.prog 35 #[.pointer (some ⟨g, 0, none⟩), .agg #[.string pa, .string pp, .int .i64 pn, .string pv, .slice yb yl yc]] (Wx.setCell ⟨g, 0, none⟩ (.int .i64 (nv + 1))) fun e w' => LyPost lo g b N (nv + 1) L ⟨pa, pp, pn, pv, (yb, yl, yc)⟩ cs (Wx.setCell ⟨g, 0, none⟩ (.int .i64 (nv + 1))) e w') := HLAY.out HPG.out _ (nv + 1) (Nat.le_trans HLO.out HBL.out.size) ((HIw.out _ (HBw.out.trans (hbWx.mono HBw.out.size))).bump f0) hS2
        have h9 := HNV.out
        have h91 := h9.1
        have h92 := h9.2
        clear hS2 hB2 hF2 hSW hgn h9 hHeld
        go_wp2_with fail
        go_at_call 35
        refine HC.out.mono ?_
        rintro e w2 ⟨rfl, hbl, y, z, hSi⟩
        have HE : Hid (PtPost lo g b N nv L ⟨pa, pp, pn, pv, (yb, yl, yc)⟩ cs w (.returned (.int .i64 0)) w2) := ⟨⟨HBL.out.trans hbl.1, HKT.out.trans hbl.2⟩, .inr (.inr ⟨rfl, HPG.out, .inr ⟨r, HPl.out⟩, y, z, hSi⟩)⟩
        clear hSi hbl HC c0 c1 c2 c3 c4 f0 f1
        go_wp2_with fail
        refine bodyPost_ret (results_tmp rfl _ _ _) rfl ?_
        exact HE.out
    · have h64' : ¬ (64 : Int) ≤ (L.length : Int) := by omega
      have hbW : Below W0.heap.size W0 W0.drew := (Below.refl _ _).drew
      refine wp_region_held_drew (S := (fun V => (Builtin.len_ #[77] 3 #[.map (some b)]).run Tryd.prog V = .ok (.int .i64 (L.length : Int)) V ∧ V.cell? ⟨g, 1, none⟩ = some (.map (some b)) ∧ V.cell? ⟨g, 0, none⟩ = some (.int .i64 nv) ∧ V.cell? ⟨n0, 0, none⟩ = some (.string pa) ∧ V.cell? ⟨n0, 1, none⟩ = some (.string pp))) (by kernel_rfl) (hCell.out _ hbW) (fun hHeld => ?_)
      generalize hWg : World.drew _ = W at hbW hHeld ⊢
      clear hWg
      refine wpAnyH_take (i := 0) (oi := { dst := some 9, op := Op.move (Operand.tmp 0), type := 30, pos := "site.go:62", after := #[], guard := none }) (v := ?vv1) rfl (by kernel_rfl) (by kernel_rfl) (by kernel_rfl) (fun _ _ _ h => h) (Or.inl ⟨by rfl, ?hy1⟩) (by assumption) ?_
      case hy1 => (intro w hSw; (try dsimp only at hSw); go_simp; all_goals with_reducible rfl)
      try simp only [Act.put, List.setIfInBounds_toArray, List.set_cons_zero, List.set_cons_succ]
      refine wpAnyH_take (i := 1) (oi := { dst := some 10, op := Op.nilCheck (Operand.tmp 9), type := 0, pos := "site.go:62", after := #[{ on := 0, ground := Ground.data }], guard := none }) (v := ?vv2) rfl (by kernel_rfl) (by kernel_rfl) (by kernel_rfl) (fun _ _ _ h => h) (Or.inl ⟨by rfl, ?hy2⟩) (by assumption) ?_
      case hy2 => (intro w hSw; (try dsimp only at hSw); go_simp; all_goals with_reducible rfl)
      try simp only [Act.put, List.setIfInBounds_toArray, List.set_cons_zero, List.set_cons_succ]
      refine wpAnyH_take (i := 2) (oi := { dst := some 11, op := Op.fieldAddr 79 (Operand.tmp 10) 1, type := 0, pos := "site.go:62", after := #[{ on := 1, ground := Ground.data }], guard := none }) (v := ?vv3) rfl (by kernel_rfl) (by kernel_rfl) (by kernel_rfl) (fun _ _ _ h => h) (Or.inl ⟨by rfl, ?hy3⟩) (by assumption) ?_
      case hy3 => (intro w hSw; (try dsimp only at hSw); go_simp; all_goals with_reducible rfl)
      try simp only [Act.put, List.setIfInBounds_toArray, List.set_cons_zero, List.set_cons_succ]
      refine wpAnyH_take (i := 3) (oi := { dst := some 12, op := Op.load 77 (Operand.tmp 11), type := 77, pos := "site.go:62", after := #[{ on := 2, ground := Ground.data }], guard := none }) (v := ?vv4) rfl (by kernel_rfl) (by kernel_rfl) (by kernel_rfl) (fun _ _ _ h => h) (Or.inl ⟨by rfl, ?hy4⟩) (by assumption) ?_
      case hy4 => (intro w hSw; (try dsimp only at hSw); go_simp; all_goals with_reducible rfl)
      try simp only [Act.put, List.setIfInBounds_toArray, List.set_cons_zero, List.set_cons_succ]
      refine wpAnyH_take (i := 4) (oi := { dst := some 13, op := Op.call { callee := Callee.builtin Builtin.len, args := #[Operand.tmp 12], argTypes := #[77] }, type := 3, pos := "site.go:62", after := #[{ on := 3, ground := Ground.data }], guard := none }) (v := ?vv5) rfl (by kernel_rfl) (by kernel_rfl) (by kernel_rfl) (fun _ _ _ h => h) (Or.inl ⟨by rfl, ?hy5⟩) (by assumption) ?_
      case hy5 => (intro w hSw; (try dsimp only at hSw); go_simp; all_goals with_reducible rfl)
      try simp only [Act.put, List.setIfInBounds_toArray, List.set_cons_zero, List.set_cons_succ]
      refine wpAnyH_take (i := 5) (oi := { dst := some 14, op := Op.binOp BinOp.geq 3 (Operand.tmp 13) (Operand.const (Value.int IntKind.i64 64)) 3, type := 4, pos := "site.go:62", after := #[{ on := 4, ground := Ground.data }], guard := none }) (v := ?vv6) rfl (by kernel_rfl) (by kernel_rfl) (by kernel_rfl) (fun _ _ _ h => h) (Or.inl ⟨by rfl, ?hy6⟩) (by assumption) ?_
      case hy6 => (intro w hSw; (try dsimp only at hSw); go_simp; all_goals with_reducible rfl)
      try simp only [Act.put, List.setIfInBounds_toArray, List.set_cons_zero, List.set_cons_succ]
      refine wpAnyH_take (i := 6) (oi := { dst := some 15, op := Op.move (Operand.tmp 14), type := 4, pos := "site.go:62", after := #[{ on := 5, ground := Ground.data }, { on := 4, ground := Ground.chain }], guard := none }) (v := ?vv7) rfl (by kernel_rfl) (by kernel_rfl) (by kernel_rfl) (fun _ _ _ h => h) (Or.inl ⟨by rfl, ?hy7⟩) (by assumption) ?_
      case hy7 => (intro w hSw; (try dsimp only at hSw); go_simp; all_goals with_reducible rfl)
      try simp only [Act.put, List.setIfInBounds_toArray, List.set_cons_zero, List.set_cons_succ]
      refine wpAnyH_take (i := 7) (oi := { dst := some 16, op := Op.move (Operand.tmp 0), type := 30, pos := "site.go:62", after := #[{ on := 6, ground := Ground.guard }], guard := some (6, true) }) (v := undef) rfl (by kernel_rfl) (by kernel_rfl) (by kernel_rfl) (fun _ _ _ h => h) (Or.inr ⟨by rfl, rfl⟩) (by assumption) ?_
      try simp only [Act.put, List.setIfInBounds_toArray, List.set_cons_zero, List.set_cons_succ]
      refine wpAnyH_take (i := 8) (oi := { dst := some 17, op := Op.move (Operand.tmp 0), type := 30, pos := "site.go:62", after := #[{ on := 6, ground := Ground.guard }], guard := some (6, true) }) (v := undef) rfl (by kernel_rfl) (by kernel_rfl) (by kernel_rfl) (fun _ _ _ h => h) (Or.inr ⟨by rfl, rfl⟩) (by assumption) ?_
      try simp only [Act.put, List.setIfInBounds_toArray, List.set_cons_zero, List.set_cons_succ]
      refine wpAnyH_take (i := 9) (oi := { dst := some 18, op := Op.nilCheck (Operand.tmp 17), type := 0, pos := "site.go:62", after := #[{ on := 8, ground := Ground.data }, { on := 6, ground := Ground.guard }], guard := some (6, true) }) (v := undef) rfl (by kernel_rfl) (by kernel_rfl) (by kernel_rfl) (fun _ _ _ h => h) (Or.inr ⟨by rfl, rfl⟩) (by assumption) ?_
      try simp only [Act.put, List.setIfInBounds_toArray, List.set_cons_zero, List.set_cons_succ]
      refine wpAnyH_take (i := 10) (oi := { dst := some 19, op := Op.fieldAddr 79 (Operand.tmp 18) 0, type := 0, pos := "site.go:62", after := #[{ on := 9, ground := Ground.data }, { on := 6, ground := Ground.guard }], guard := some (6, true) }) (v := undef) rfl (by kernel_rfl) (by kernel_rfl) (by kernel_rfl) (fun _ _ _ h => h) (Or.inr ⟨by rfl, rfl⟩) (by assumption) ?_
      try simp only [Act.put, List.setIfInBounds_toArray, List.set_cons_zero, List.set_cons_succ]
      refine wpAnyH_take (i := 11) (oi := { dst := some 20, op := Op.load 2 (Operand.tmp 19), type := 2, pos := "site.go:62", after := #[{ on := 10, ground := Ground.data }, { on := 6, ground := Ground.guard }], guard := some (6, true) }) (v := undef) rfl (by kernel_rfl) (by kernel_rfl) (by kernel_rfl) (fun _ _ _ h => h) (Or.inr ⟨by rfl, rfl⟩) (by assumption) ?_
      try simp only [Act.put, List.setIfInBounds_toArray, List.set_cons_zero, List.set_cons_succ]
      refine wpAnyH_take (i := 12) (oi := { dst := some 21, op := Op.fieldAddr 26 (Operand.tmp 3) 0, type := 0, pos := "site.go:62", after := #[{ on := 6, ground := Ground.guard }], guard := some (6, true) }) (v := undef) rfl (by kernel_rfl) (by kernel_rfl) (by kernel_rfl) (fun _ _ _ h => h) (Or.inr ⟨by rfl, rfl⟩) (by assumption) ?_
      try simp only [Act.put, List.setIfInBounds_toArray, List.set_cons_zero, List.set_cons_succ]
      refine wpAnyH_take (i := 13) (oi := { dst := some 22, op := Op.load 9 (Operand.tmp 21), type := 9, pos := "site.go:62", after := #[{ on := 12, ground := Ground.data }, { on := 6, ground := Ground.guard }], guard := some (6, true) }) (v := undef) rfl (by kernel_rfl) (by kernel_rfl) (by kernel_rfl) (fun _ _ _ h => h) (Or.inr ⟨by rfl, rfl⟩) (by assumption) ?_
      try simp only [Act.put, List.setIfInBounds_toArray, List.set_cons_zero, List.set_cons_succ]
      refine wpAnyH_take (i := 14) (oi := { dst := some 23, op := Op.fieldAddr 26 (Operand.tmp 3) 1, type := 0, pos := "site.go:62", after := #[{ on := 6, ground := Ground.guard }], guard := some (6, true) }) (v := undef) rfl (by kernel_rfl) (by kernel_rfl) (by kernel_rfl) (fun _ _ _ h => h) (Or.inr ⟨by rfl, rfl⟩) (by assumption) ?_
      try simp only [Act.put, List.setIfInBounds_toArray, List.set_cons_zero, List.set_cons_succ]
      refine wpAnyH_take (i := 15) (oi := { dst := some 24, op := Op.load 9 (Operand.tmp 23), type := 9, pos := "site.go:62", after := #[{ on := 14, ground := Ground.data }, { on := 6, ground := Ground.guard }], guard := some (6, true) }) (v := undef) rfl (by kernel_rfl) (by kernel_rfl) (by kernel_rfl) (fun _ _ _ h => h) (Or.inr ⟨by rfl, rfl⟩) (by assumption) ?_
      try simp only [Act.put, List.setIfInBounds_toArray, List.set_cons_zero, List.set_cons_succ]
      refine wpAnyH_take (i := 16) (oi := { dst := some 25, op := Op.call { callee := Callee.value (Operand.func 16), args := #[Operand.tmp 16, Operand.tmp 20, Operand.tmp 22, Operand.tmp 24], argTypes := #[30, 2, 9, 9] }, type := 4, pos := "site.go:62", after := #[{ on := 7, ground := Ground.data }, { on := 11, ground := Ground.data }, { on := 13, ground := Ground.data }, { on := 15, ground := Ground.data }, { on := 6, ground := Ground.chain }, { on := 6, ground := Ground.guard }], guard := some (6, true) }) (v := undef) rfl (by kernel_rfl) (by kernel_rfl) (by kernel_rfl) (fun _ _ _ h => h) (Or.inr ⟨by rfl, rfl⟩) (by assumption) ?_
      try simp only [Act.put, List.setIfInBounds_toArray, List.set_cons_zero, List.set_cons_succ]
      refine wpAnyH_take (i := 17) (oi := { dst := some 26, op := Op.unOp UnOp.not 4 (Operand.tmp 25), type := 4, pos := "site.go:62", after := #[{ on := 16, ground := Ground.data }, { on := 6, ground := Ground.guard }], guard := some (6, true) }) (v := undef) rfl (by kernel_rfl) (by kernel_rfl) (by kernel_rfl) (fun _ _ _ h => h) (Or.inr ⟨by rfl, rfl⟩) (by assumption) ?_
      try simp only [Act.put, List.setIfInBounds_toArray, List.set_cons_zero, List.set_cons_succ]
      refine wpAnyH_take (i := 18) (oi := { dst := some 27, op := Op.pick (Operand.tmp 15) (Operand.tmp 26) (Operand.const (Value.bool false)), type := 4, pos := "site.go:62", after := #[{ on := 6, ground := Ground.data }, { on := 17, ground := Ground.data }], guard := none }) (v := ?vv8) rfl (by kernel_rfl) (by kernel_rfl) (by kernel_rfl) (fun _ _ _ h => h) (Or.inl ⟨by rfl, ?hy8⟩) (by assumption) ?_
      case hy8 => (intro w hSw; (try dsimp only at hSw); go_simp; all_goals with_reducible rfl)
      try simp only [Act.put, List.setIfInBounds_toArray, List.set_cons_zero, List.set_cons_succ]
      refine wpAnyH_take (i := 19) (oi := { dst := some 8, op := Op.assign (Operand.tmp 27), type := 4, pos := "site.go:62", after := #[{ on := 18, ground := Ground.data }, { on := 16, ground := Ground.chain }], guard := none }) (v := ?vv9) rfl (by kernel_rfl) (by kernel_rfl) (by kernel_rfl) (fun _ _ _ h => h) (Or.inl ⟨by rfl, ?hy9⟩) (by assumption) ?_
      case hy9 => (intro w hSw; (try dsimp only at hSw); go_simp; all_goals with_reducible rfl)
      try simp only [Act.put, List.setIfInBounds_toArray, List.set_cons_zero, List.set_cons_succ]
      refine wpAnyH_done (by kernel_rfl) ?_ _
      have hSW := HS1.out.below hbW
      have hgn : n0 ≠ g := fun e => by have h := HS1.out.hg; rw [← e, HF1.out] at h; cases h
      have f0 := cell_blk hSW.hg 0
      have f1 := frozen_blk hSW.hg 0
      simp at f0
      obtain ⟨hS2, hB2⟩ := hSW.bump (nv + 1)
      have hF2 : (W.setCell ⟨g, 0, none⟩ (.int .i64 (nv + 1))).heap[n0]? = some (.cells #[.string pa, .string pp, .int .i64 pn, .string pv, .slice yb yl yc] 26 (0, 0)) := by
        have h1 : (W.setCell ⟨g, 0, none⟩ (.int .i64 (nv + 1))).heap[n0]? = W.heap[n0]? := by simp [World.setCell, Array.getElem?_modify, Ne.symm hgn]
        exact h1.trans ((hbW.block _ (heap_lt HF1.out)).trans HF1.out)
      have c0 := cell_blk hF2 0
      have c1 := cell_blk hF2 1
      have c2 := cell_blk hF2 2
      have c3 := cell_blk hF2 3
      have c4 := cell_blk hF2 4
      simp at c0 c1 c2 c3 c4
      have HBL : Hid (Below lo w (W.setCell ⟨g, 0, none⟩ (.int .i64 (nv + 1)))) := (HBl.out.trans (hbW.mono (Nat.le_trans HLO.out HBw.out.size))).trans hB2
      have HKT : Hid (Kt w (W.setCell ⟨g, 0, none⟩ (.int .i64 (nv + 1)))) := (Kt.of (HBw.out.trans (hbW.mono HBw.out.size))).trans (Kt.set _ hSW.hg)
      have HC : Hid (Calls Tryd.prog 35 #[.pointer (some ⟨g, 0, none⟩), .agg #[.string pa, .string pp, .int .i64 pn, .string pv, .slice yb yl yc]] (W.setCell ⟨g, 0, none⟩ (.int .i64 (nv + 1))) fun e w' => LyPost lo g b N (nv + 1) L ⟨pa, pp, pn, pv, (yb, yl, yc)⟩ cs (W.setCell ⟨g, 0, none⟩ (.int .i64 (nv + 1))) e w') := HLAY.out HPG.out _ (nv + 1) (Nat.le_trans HLO.out HBL.out.size) ((HIw.out _ (HBw.out.trans (hbW.mono HBw.out.size))).bump f0) hS2
      have h9 := HNV.out
      have h91 := h9.1
      have h92 := h9.2
      clear hS2 hB2 hF2 hSW hgn h9 hHeld
      go_wp2_with fail
      go_at_call 35
      refine HC.out.mono ?_
      rintro e w2 ⟨rfl, hbl, y, z, hSi⟩
      have HE : Hid (PtPost lo g b N nv L ⟨pa, pp, pn, pv, (yb, yl, yc)⟩ cs w (.returned (.int .i64 0)) w2) := ⟨⟨HBL.out.trans hbl.1, HKT.out.trans hbl.2⟩, .inr (.inr ⟨rfl, HPG.out, .inl (by omega), y, z, hSi⟩)⟩
      clear hSi hbl HC c0 c1 c2 c3 c4 f0 f1
      go_wp2_with fail
      refine bodyPost_ret (results_tmp rfl _ _ _) rfl ?_
      exact HE.out
end Go.Proofs.YtcadlpmopplkeaaDoor
