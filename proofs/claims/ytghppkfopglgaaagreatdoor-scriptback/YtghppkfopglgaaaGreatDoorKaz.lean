/- The law's cleared. Lines, plain. few, ended. ScriptLines: what its loop makes, plain; Parse of every text. -/
import Derived.Test.YtghppkfopglgaaaGreatDoorOb
import Derived.Test.YtghppkfopglgaaaGreatDoorTg
import Derived.Test.YtghppkfopglgaaaGreatDoorKap
import Derived.Test.YtghppkfopglgaaaGreatDoorKaf
import Derived.Deep.CutRange
import Derived.Test.YtghppkfopglgaaaGreatDoorKaw
namespace Go.Proofs.YtghppkfopglgaaaGreatDoor
open Go.RowKit
set_option linter.unusedVariables false
set_option linter.unusedSimpArgs false
theorem wpList_load_cells {P : Program} {ops : Array Oper} {rest : List Oper} {o : Oper} {a : Act} {w : World} {Q : Exit → Act → World → Prop} (hgd : o.guard = none) (ty : TypeId) (x : Operand) (ho : o.op = .load ty x)
    (g off : Nat) (vs : Array Value) (hx : a.eval x = .pointer (some ⟨g, off, none⟩)) (d : TypeDesc) (hc : ∀ j u, vs[j]? = some u → w.cell? ⟨g, off + j, none⟩ = some u)
    (hu : P.underlying ty = some d) (hd : (match d with | .struct _ | .array _ _ => true | _ => false) = true) (hi : (P.info? ty).map (·.size) = some vs.size)
    (h : wpList P ops Q rest (a.put o.dst (.agg vs)) w) : wpList P ops Q (o :: rest) a w :=
  wpList_plain hgd fun _ hK => by
    unfold Oper.wp
    simp only [exec_load_cells (P := P) (ev := a.eval) ty x ho g off vs hx d hc hu hd hi]
    exact hK _ _ h
/-- are its kinds kinds? -/
def kokB (c : Cm) : Bool := decide (1 ≤ c.k) && decide (c.k ≤ 10) && (!(c.k == 2) || (decide (1 ≤ c.m.k) && decide (c.m.k ≤ 10)))
theorem kokB_iff (c : Cm) : kokB c = true ↔ KOk c := by
  unfold kokB KOk
  by_cases h : c.k = 2 <;> simp [h] <;> omega
theorem cl_1 (c : Cm) (h : c.k = 1) : c.cl = { Cm.of 1 with w := c.w } := by unfold Cm.cl; rw [h]; rfl
theorem cl_2 (c : Cm) (h : c.k = 2) : c.cl = { Cm.of 2 with m := c.m.cl } := by unfold Cm.cl; rw [h]; rfl
theorem cl_3 (c : Cm) (h : c.k = 3) : c.cl = { Cm.of 3 with n := c.n } := by unfold Cm.cl; rw [h]; rfl
theorem cl_10 (c : Cm) (h : c.k = 10) : c.cl = { Cm.of 10 with sv := c.sv } := by unfold Cm.cl; rw [h]; rfl
theorem cl_n (c : Cm) (h1 : 4 ≤ c.k) (h2 : c.k ≤ 9) : c.cl = Cm.of c.k := by
  rcases (show c.k = 4 ∨ c.k = 5 ∨ c.k = 6 ∨ c.k = 7 ∨ c.k = 8 ∨ c.k = 9 by omega) with h | h | h | h | h | h <;> (unfold Cm.cl; rw [h]; rfl)
/-- a command being made, behind others -/
structure ClB (g : Nat) (c : Array Value) (w : World) (v : Value) (ys : List (Cm × CmS)) (V : World) : Prop where
  bel : Below w.heap.size w V
  b : V.heap[g]? = some (.cells c 47 (0, 0))
  row : R ECm V v ys
theorem ClB.below {g : Nat} {c : Array Value} {w : World} {v : Value} {ys : List (Cm × CmS)} {V V' : World} (h : ClB g c w v ys V) (hb : Below V.heap.size V V') : ClB g c w v ys V' :=
  ⟨h.bel.trans (hb.mono h.bel.size), (hb.block _ (heap_lt h.b)).trans h.b, h.row.below hb⟩
theorem ClB.setRow {g : Nat} {c : Array Value} {w : World} {v : Value} {ys : List (Cm × CmS)} {V : World} (h : ClB g c w v ys V) (hw : w.heap.size ≤ g) (hv : ∀ k, v.ownBlock = some k → k < g) (c' : Array Value) : ClB g c' w v ys (V.setRow g c') := by
  have hk := Ks.setRow (fun k => k = g) V g c' rfl
  exact ⟨h.bel.trans (hk.below h.bel.size (fun i hi e => by subst e; omega)), setRow_blk h.b, h.row.stays fun k e hl => hk.block k hl (by have := hv k e; omega)⟩
theorem ClB.setCell {g : Nat} {c : Array Value} {w : World} {v : Value} {ys : List (Cm × CmS)} {V : World} (h : ClB g c w v ys V) (hw : w.heap.size ≤ g) (hv : ∀ k, v.ownBlock = some k → k < g) (i : Nat) (u : Value) : ClB g (c.setIfInBounds i u) w v ys (V.setCell ⟨g, i, none⟩ u) := by
  have hk := Ks.setCell (fun k => k = g) V g i u rfl
  exact ⟨h.bel.trans (hk.below h.bel.size (fun i hi e => by subst e; omega)), setCell_block _ _ _ _ _ _ _ h.b, h.row.stays fun k e hl => hk.block k hl (by have := hv k e; omega)⟩
theorem wpList_store_clb {g : Nat} {c : Array Value} {w : World} {v : Value} {ys : List (Cm × CmS)} {V : World} (hJ : ClB g c w v ys V) (hw : w.heap.size ≤ g) (hv : ∀ k, v.ownBlock = some k → k < g)
    {ops : Array Oper} {rest : List Oper} {o : Oper} {a : Act} {Q : Exit → Act → World → Prop} (hgd : o.guard = none) (sty : TypeId) (x y : Operand) (ho : o.op = .store sty x y)
    (off : Nat) (vs : Array Value) (hx : a.eval x = .pointer (some ⟨g, off, none⟩)) (hy : a.eval y = .agg vs) (hi : (Tryz.prog.info? sty).map (·.size) = some vs.size)
    (hle : off + vs.size ≤ c.size) (h1 : vs.toList.all (·.oneCell') = true) (c' : Array Value) (hc : part c off vs = c')
    (h : ∀ V', ClB g c' w v ys V' → wpList Tryz.prog ops Q rest (a.put o.dst undef) V') : wpList Tryz.prog ops Q (o :: rest) a V :=
  wpList_store_part hgd sty x y ho g off vs hx hy 47 c hJ.b hi hle (by rw [← h1, Array.all_toList]) (h _ (hc ▸ hJ.setRow hw hv _))
/-- behind k commands -/
structure ClJ (w : World) (xs : List (Cm × CmS)) (W : World) (v : Value) (k : Nat) (ys : List (Cm × CmS)) : Prop where
  row : R ECm W v ys
  eq : ys.map (·.1) = (xs.take k).map (fun q => q.1.cl)
  ok : ∀ q ∈ xs.take k, KOk q.1
  own : Own w.heap.size v
  bel : Below w.heap.size w W
  rd : ∀ y ∈ ys, CmRd w y
theorem ClJ.new {w : World} {xs : List (Cm × CmS)} {W : World} {v : Value} {k : Nat} {ys : List (Cm × CmS)} (h : ClJ w xs W v k ys) (c : Array Value) : ClB W.heap.size c w v ys (W.alloc (.cells c 47)) :=
  ⟨h.bel.trans ((bel1 _ _).mono h.bel.size), by rw [heap_al, if_pos rfl], h.row.below (bel1 _ _)⟩
theorem ClJ.put {w : World} {xs : List (Cm × CmS)} {W V : World} {v : Value} {k : Nat} {ys : List (Cm × CmS)} (h : ClJ w xs W v k ys) {g : Nat} {y : Cm} {t : CmS} (hB : ClB g (cmA y t) w v ys V) (hk : k < xs.length) {x : Cm × CmS} (hx : xs[k]'hk = x) (hlen : xs.length * 488 ≤ 140737488351232) (hy : y = x.1.cl) (hok : KOk x.1) (hrd : CmRd w (y, t)) :
    ∃ base m cap V', (Builtin.append_ #[25, 25] 25 #[v, .slice (some ⟨V.heap.size, 0, none⟩) 1 1]).run Tryz.prog (V.alloc (.cells (cmA y t) 47)) = .ok (.slice base m cap) V' ∧ ClJ w xs V' (.slice base m cap) (k + 1) (ys ++ [(y, t)]) := by
  obtain ⟨V2, hV2⟩ : ∃ V2, V.alloc (.cells (cmA y t) 47) = V2 := ⟨_, rfl⟩
  have b2 : Below V.heap.size V V2 := by rw [← hV2]; exact bel1 _ _
  have g2 : V2.heap[V.heap.size]? = some (.cells (cmA y t) 47 (0, 0)) := by rw [← hV2, heap_al, if_pos rfl]
  have hkl : ys.length + 1 ≤ xs.length := by have := congrArg List.length h.eq; simp only [List.length_map, List.length_take] at this; omega
  obtain ⟨base, cap, V', hrun, hR, hG⟩ := app okCm V2 v ys (hB.row.below b2) (.slice (some ⟨V.heap.size, 0, none⟩) 1 1) [(y, t)] (in_one (E := ECm) V2 _ (y, t) _ 47 (0, 0) g2 rfl) (by
    exact Nat.le_trans (Nat.mul_le_mul_right 488 hkl) (Nat.le_trans hlen (Nat.le_of_ble_eq_true rfl)))
  have hw2 : w.heap.size ≤ V2.heap.size := Nat.le_trans hB.bel.size b2.size
  have ht : xs.take (k + 1) = xs.take k ++ [x] := by rw [← hx]; exact (List.take_append_getElem hk).symm
  rw [hV2]
  refine ⟨base, _, cap, V', hrun, hR, ?_, ?_, own_gr hG h.own hw2, ?_, ?_⟩
  · rw [ht, List.map_append, List.map_append, h.eq, hy]; rfl
  · intro q hq
    rw [ht] at hq
    rcases List.mem_append.1 hq with hq | hq
    · exact h.ok q hq
    · rw [List.mem_singleton] at hq; subst hq; exact hok
  · exact (hB.bel.trans (b2.mono hB.bel.size)).trans ((Ks.of_gr hG).below hw2 (fun i hi e => by have := h.own i e; omega))
  · intro q hq
    rcases List.mem_append.1 hq with hq | hq
    · exact h.rd q hq
    · rw [List.mem_singleton] at hq; subst hq; exact hrd
theorem wz_rd (w : World) : WoRd w Wo.z Sl.z Sl.z Sl.z := (WoN.z w 0).read
set_option maxRecDepth 100000 in
set_option maxHeartbeats 32000000 in
theorem cleared_any (va : Value) (xs : List (Cm × CmS)) (w : World) (hA : R ECm w va xs) (nA : ∀ q ∈ xs, CmRd w q) (hlen : xs.length * 488 ≤ 140737488351232) : Calls Tryz.prog 19 #[va] w fun e w' => ∃ b n c, e = .returned (.tuple #[.slice b n c, .bool (xs.all fun q => kokB q.1)]) ∧ Below w.heap.size w w' ∧ ((∀ q ∈ xs, KOk q.1) → ∃ ys : List (Cm × CmS), ys.map (·.1) = xs.map (fun q => q.1.cl) ∧ R ECm w' (.slice b n c) ys ∧ ∀ y ∈ ys, CmRd w' y) := by
  obtain ⟨ba, ca, rfl, q1, q2⟩ := hA.slice
  obtain ⟨n, hn⟩ : ∃ n, xs.length = n := ⟨_, rfl⟩
  rw [hn] at hA ⊢
  have hn9 : n ≤ 9223372036854775807 := by omega
  have HN : Hid (n = xs.length) := hid hn.symm
  have HA := hid hA
  have HNA := hid nA
  have HL := hid hlen
  obtain ⟨BB, hBB⟩ : ∃ b, (xs.all fun q => kokB q.1) = b := ⟨_, rfl⟩
  rw [hBB]
  have HBB := hid hBB
  clear hn hA nA q1 q2 hlen hBB
  go_enter Tryz.func19, Tryz.ntmps19
  go_wp2_with fail
  go_loopw [4, 5, 6] (fun mv iv pv wr => ∃ k : Nat, iv = .int .i64 (k : Int) ∧ k ≤ n ∧ ∃ b m c, mv = .slice b m c ∧ ∃ ys, Hid (ClJ w xs wr (.slice b m c) k ys)) (fun _ iv _ _ => n - (intOf iv).toNat)
  case atStart => exact ⟨0, rfl, Nat.zero_le _, none, 0, 0, rfl, [], hid ⟨R.nil _ _, rfl, fun q hq => absurd hq (by simp), Own.z _, Below.refl _ _, fun q hq => absurd hq (by simp)⟩⟩
  case round =>
    obtain ⟨k, rfl, hk, vb, vm, vc, rfl, ys, HJ⟩ := hrel
    by_cases hlt : k < n
    · have hltI : (k : Int) < (n : Int) := by omega
      have hk1 : k < xs.length := by have := HN.out; omega
      obtain ⟨B1, rfl, hB1, hc1⟩ := HA.out.at42 (Below.refl _ _) k hk1
      have hrd := HNA.out (xs[k]'hk1) (List.getElem_mem _)
      have hmem : xs[k]'hk1 ∈ xs := List.getElem_mem _
      obtain ⟨⟨x, s⟩, hx1⟩ : ∃ x, xs[k]'hk1 = x := ⟨_, rfl⟩
      rw [hx1] at hc1 hrd hmem
      simp only at hc1
      have HME := hid hmem
      have HRD := hid hrd
      have HC1 := hid hc1
      have HX1 := hid hx1
      obtain ⟨kI, hkI⟩ : ∃ kI, x.k = kI := ⟨_, rfl⟩
      obtain ⟨mI, hmI⟩ : ∃ kI, x.m.k = kI := ⟨_, rfl⟩
      have HKI := hid hkI
      have HMI := hid hmI
      have u0 : wr.cell? ⟨B1, k * 42, none⟩ = some (.int .i64 kI) := cell_below HJ.out.bel (by have := hc1 0 (.int .i64 x.k) rfl; rw [hkI] at this; exact this)
      have HU20 : Hid (∀ V, Below w.heap.size w V → V.cell? ⟨B1, k * 42 + 20, none⟩ = some (.int .i64 mI)) := hid (fun V hV => cell_below hV (by have := hc1 20 (.int .i64 x.m.k) rfl; rw [hmI] at this; exact this))
      have HU40 : Hid (∀ V, Below w.heap.size w V → V.cell? ⟨B1, k * 42 + 40, none⟩ = some (.int .i64 x.n)) := hid (fun V hV => cell_below hV (hc1 40 (.int .i64 x.n) rfl))
      have HU41 : Hid (∀ V, Below w.heap.size w V → V.cell? ⟨B1, k * 42 + 41, none⟩ = some (.bool x.sv)) := hid (fun V hV => cell_below hV (hc1 41 (.bool x.sv) rfl))
      have HW1 : Hid (∀ V, Below w.heap.size w V → ∀ j u, (woA x.w s.sp s.su s.so)[j]? = some u → V.cell? ⟨B1, k * 42 + 1 + j, none⟩ = some u) := hid (fun V hV j u hu => cell_below hV (by rw [Nat.add_assoc]; exact HC1.out _ u (part_get (cs := cmA x s) (off := 1) rfl j u hu)))
      have HM1 : Hid (∀ V, Below w.heap.size w V → ∀ j u, (mvA x.m s.sf.v s.sc.v)[j]? = some u → V.cell? ⟨B1, k * 42 + 20 + j, none⟩ = some u) := hid (fun V hV j u hu => cell_below hV (by rw [Nat.add_assoc]; exact HC1.out _ u (part_get (cs := cmA x s) (off := 20) rfl j u hu)))
      obtain ⟨g, hg⟩ : ∃ g, wr.heap.size = g := ⟨_, rfl⟩
      have HBN : Hid (ClB g #[.int .i64 0, .int .i64 0, .int .i64 0, .int .i64 0, .int .i64 0, .int .i64 0, .int .i64 0, .int .i64 0, .int .i64 0, .int .i64 0, .int .i64 0, .int .i64 0, .int .i64 0, .int .i64 0, .int .i64 0, .int .i64 0, .int .i64 0, .slice none 0 0, .slice none 0 0, .slice none 0 0, .int .i64 0, .int .i64 0, .string ⟨#[]⟩, .string ⟨#[]⟩, .string ⟨#[]⟩, .string ⟨#[]⟩, .slice none 0 0, .string ⟨#[]⟩, .string ⟨#[]⟩, .string ⟨#[]⟩, .int .i64 0, .string ⟨#[]⟩, .slice none 0 0, .int .i64 0, .int .i64 0, .int .i64 0, .int .i64 0, .int .i64 0, .int .i64 0, .string ⟨#[]⟩, .int .i64 0, .bool false] w (.slice vb vm vc) ys (wr.alloc (.cells #[.int .i64 0, .int .i64 0, .int .i64 0, .int .i64 0, .int .i64 0, .int .i64 0, .int .i64 0, .int .i64 0, .int .i64 0, .int .i64 0, .int .i64 0, .int .i64 0, .int .i64 0, .int .i64 0, .int .i64 0, .int .i64 0, .int .i64 0, .slice none 0 0, .slice none 0 0, .slice none 0 0, .int .i64 0, .int .i64 0, .string ⟨#[]⟩, .string ⟨#[]⟩, .string ⟨#[]⟩, .string ⟨#[]⟩, .slice none 0 0, .string ⟨#[]⟩, .string ⟨#[]⟩, .string ⟨#[]⟩, .int .i64 0, .string ⟨#[]⟩, .slice none 0 0, .int .i64 0, .int .i64 0, .int .i64 0, .int .i64 0, .int .i64 0, .int .i64 0, .string ⟨#[]⟩, .int .i64 0, .bool false] 47))) := hid (by rw [← hg]; exact HJ.out.new _)
      have HG := hid hg
      have hwg : w.heap.size ≤ g := by have := HJ.out.bel.size; omega
      have hvg : ∀ k, (Value.slice vb vm vc).ownBlock = some k → k < g := fun k e => by have := HJ.out.row.lt k e; omega
      have HVG := hid hvg
      have HBG : Hid (B1 < g) := hid (by omega)
      clear hc1 hx1 hrd hmem hkI hmI hg hvg
      go_upto_region 6 with (refine wpList_store_clb HBN.out hwg HVG.out rfl 47 (.tmp 6) (.tmp 18) rfl 0 (cmK kI) (by rw [← HG.out]; rfl) rfl (by kernel_rfl) (Nat.le_refl _) rfl (cmK kI) rfl ?_; intro V HB1)
      try rw [HG.out]
      replace HB1 := hid HB1
      clear u0 HBN
      have a0 : V.cell? ⟨g, 0, none⟩ = some (.int .i64 kI) := cell_blk HB1.out.b 0
      have l0 := heap_lt HB1.out.b
      have f0 := frozen_blk HB1.out.b
      have l1 : B1 < V.heap.size := by have := HBG.out; omega
      by_cases e1 : kI = 1
      · subst e1
        have HCL := hid (cl_1 x HKI.out)
        go_upto_region 18 with (first
          | (refine wpList_load_cells rfl 45 (.tmp 26) rfl B1 (k * 42 + 1) (woA x.w s.sp s.su s.so) (by rfl) _ (HW1.out _ HB1.out.bel) Tryz.underlying45 rfl (by kernel_rfl) ?_)
          | (refine wpList_store_clb HB1.out hwg HVG.out rfl 45 (.tmp 28) (.tmp 27) rfl 1 (woA x.w s.sp s.su s.so) (by first | rfl | (rw [← HG.out]; rfl)) rfl (by kernel_rfl) (Nat.le_of_ble_eq_true rfl) rfl (cmA { Cm.of 1 with w := x.w } ⟨s.sp, s.su, s.so, Sl.z, Sl.z⟩) rfl ?_; intro V2 HB2; replace HB2 := hid HB2))
        have HPUT := HJ.out.put (g := g) (y := { Cm.of 1 with w := x.w }) (t := ⟨s.sp, s.su, s.so, Sl.z, Sl.z⟩) HB2.out hk1 HX1.out HL.out (HCL.out.symm) (by unfold KOk; have := HKI.out; simp only; omega) (⟨HRD.out.wo, .inl ⟨rfl, rfl⟩, .inl ⟨rfl, rfl⟩⟩)
        obtain ⟨base, vm2, cap, Y, hrun, hJ2⟩ := HPUT
        have HRUN := hid hrun
        have HJ2 := hid hJ2
        clear hrun hJ2
        go_wp2_with (first
          | (refine wpList_load_row rfl 47 (.tmp 6) rfl g (by first | rfl | (rw [← HG.out]; rfl)) 47 _ (0, 0) _ HB2.out.b Tryz.underlying47 rfl (by kernel_rfl) ?_)
          | (refine wpList_build_one rfl 25 47 (.tmp 86) rfl (cmA ({ Cm.of 1 with w := x.w }) ⟨s.sp, s.su, s.so, Sl.z, Sl.z⟩) rfl Tryz.underlying25 (by kernel_rfl) (Nat.lt_of_lt_of_le (by decide) (Nat.le_refl 42)) (Nat.le_of_ble_eq_true rfl) ?_)
          | (at_builtin; refine Lib.wpList_append_run _ rfl (.tmp 85) (.tmp 87) 25 25 rfl _ _ rfl rfl _ _ HRUN.out ?_))
        go_roundw
        case rel => exact ⟨k + 1, rfl, by omega, _, _, _, rfl, _, HJ2⟩
        case measure => show n - ((k : Int) + 1).toNat < n - ((k : Nat) : Int).toNat; omega
      by_cases e2 : kI = 2
      · subst e2
        have HCL := hid (cl_2 x HKI.out)
        have u20 := HU20.out V HB1.out.bel
        by_cases m1 : mI < 1
        · go_wp2_with fail
          go_ret2
          have hbf : BB = false := by
            rw [← HBB.out, Bool.eq_false_iff]
            intro hh
            have := (kokB_iff _).1 (List.all_eq_true.1 hh _ HME.out)
            unfold KOk at this
            have h1 := HKI.out
            have h2 := HMI.out
            simp only at this
            omega
          rw [hbf]
          refine ⟨_, _, _, rfl, HB1.out.bel, fun hh => ?_⟩
          have hK : KOk x := by first | exact hh _ HME.out | exact hh _ _ HME.out
          unfold KOk at hK
          have h1 := HKI.out
          have h2 := HMI.out
          exact absurd hK (by omega)
        by_cases m2 : mI > 10
        · go_wp2_with fail
          go_ret2
          have hbf : BB = false := by
            rw [← HBB.out, Bool.eq_false_iff]
            intro hh
            have := (kokB_iff _).1 (List.all_eq_true.1 hh _ HME.out)
            unfold KOk at this
            have h1 := HKI.out
            have h2 := HMI.out
            simp only at this
            omega
          rw [hbf]
          refine ⟨_, _, _, rfl, HB1.out.bel, fun hh => ?_⟩
          have hK : KOk x := by first | exact hh _ HME.out | exact hh _ _ HME.out
          unfold KOk at hK
          have h1 := HKI.out
          have h2 := HMI.out
          exact absurd hK (by omega)
        · have HPL := hid (fun V (h1 : 1 ≤ x.m.k) (h2 : x.m.k ≤ 10) => plainMv_any x.m s.sf s.sc V h1 h2)
          go_upto_region 11 with fail
          go_wp2_with (refine wpList_load_cells rfl 38 (.tmp 52) rfl B1 (k * 42 + 20) (mvA x.m s.sf.v s.sc.v) (by rfl) _ (HM1.out _ HB1.out.bel) Tryz.underlying38 rfl (by kernel_rfl) ?_)
          go_at_call 38
          refine (HPL.out _ (by have := HMI.out; omega) (by have := HMI.out; omega)).mono ?_
          rintro e V1 ⟨tf, tc, rfl, i1, i2, hbv⟩
          have HBv := hid (HB1.out.below hbv)
          have HI1 := hid i1
          have HI2 := hid i2
          clear hbv i1 i2 u20
          go_upto_region 18 with (refine wpList_store_clb HBv.out hwg HVG.out rfl 38 (.tmp 55) (.tmp 54) rfl 20 (mvA x.m.cl tf.v tc.v) (by first | rfl | (rw [← HG.out]; rfl)) rfl (by kernel_rfl) (Nat.le_of_ble_eq_true rfl) rfl (cmA { Cm.of 2 with m := x.m.cl } ⟨Sl.z, Sl.z, Sl.z, tf, tc⟩) rfl ?_; intro V2 HB2; replace HB2 := hid HB2)
          have HPUT := HJ.out.put (g := g) (y := { Cm.of 2 with m := x.m.cl }) (t := ⟨Sl.z, Sl.z, Sl.z, tf, tc⟩) HB2.out hk1 HX1.out HL.out (HCL.out.symm) (by unfold KOk; have := HKI.out; have := HMI.out; simp only; omega) (⟨wz_rd w, HI1.out _ HRD.out.fd, HI2.out _ HRD.out.ch⟩)
          obtain ⟨base, vm2, cap, Y, hrun, hJ2⟩ := HPUT
          have HRUN := hid hrun
          have HJ2 := hid hJ2
          clear hrun hJ2
          go_wp2_with (first
            | (refine wpList_load_row rfl 47 (.tmp 6) rfl g (by first | rfl | (rw [← HG.out]; rfl)) 47 _ (0, 0) _ HB2.out.b Tryz.underlying47 rfl (by kernel_rfl) ?_)
            | (refine wpList_build_one rfl 25 47 (.tmp 86) rfl (cmA ({ Cm.of 2 with m := x.m.cl }) ⟨Sl.z, Sl.z, Sl.z, tf, tc⟩) rfl Tryz.underlying25 (by kernel_rfl) (Nat.lt_of_lt_of_le (by decide) (Nat.le_refl 42)) (Nat.le_of_ble_eq_true rfl) ?_)
            | (at_builtin; refine Lib.wpList_append_run _ rfl (.tmp 85) (.tmp 87) 25 25 rfl _ _ rfl rfl _ _ HRUN.out ?_))
          go_roundw
          case rel => exact ⟨k + 1, rfl, by omega, _, _, _, rfl, _, HJ2⟩
          case measure => show n - ((k : Int) + 1).toNat < n - ((k : Nat) : Int).toNat; omega
      by_cases e3 : kI = 3
      · subst e3
        have HCL := hid (cl_3 x HKI.out)
        have uu := HU40.out V HB1.out.bel
        have b0 : V.cell? ⟨g, 40, none⟩ = some (.int .i64 0) := cell_blk HB1.out.b 40
        have HB2 := hid (HB1.out.setCell hwg HVG.out 40 (.int .i64 x.n))
        rw [show (cmK 3).setIfInBounds 40 (.int .i64 x.n) = cmA { Cm.of 3 with n := x.n } CmS.z from rfl] at HB2
        go_upto_region 18 with fail
        clear uu b0
        have HPUT := HJ.out.put (g := g) (y := { Cm.of 3 with n := x.n }) (t := CmS.z) HB2.out hk1 HX1.out HL.out (HCL.out.symm) (by unfold KOk; have := HKI.out; simp only; omega) (⟨wz_rd w, .inl ⟨rfl, rfl⟩, .inl ⟨rfl, rfl⟩⟩)
        obtain ⟨base, vm2, cap, Y, hrun, hJ2⟩ := HPUT
        have HRUN := hid hrun
        have HJ2 := hid hJ2
        clear hrun hJ2
        go_wp2_with (first
          | (refine wpList_load_row rfl 47 (.tmp 6) rfl g (by first | rfl | (rw [← HG.out]; rfl)) 47 _ (0, 0) _ HB2.out.b Tryz.underlying47 rfl (by kernel_rfl) ?_)
          | (refine wpList_build_one rfl 25 47 (.tmp 86) rfl (cmA ({ Cm.of 3 with n := x.n }) CmS.z) rfl Tryz.underlying25 (by kernel_rfl) (Nat.lt_of_lt_of_le (by decide) (Nat.le_refl 42)) (Nat.le_of_ble_eq_true rfl) ?_)
          | (at_builtin; refine Lib.wpList_append_run _ rfl (.tmp 85) (.tmp 87) 25 25 rfl _ _ rfl rfl _ _ HRUN.out ?_))
        go_roundw
        case rel => exact ⟨k + 1, rfl, by omega, _, _, _, rfl, _, HJ2⟩
        case measure => show n - ((k : Int) + 1).toNat < n - ((k : Nat) : Int).toNat; omega
      by_cases e10 : kI = 10
      · subst e10
        have HCL := hid (cl_10 x HKI.out)
        have uu := HU41.out V HB1.out.bel
        have b0 : V.cell? ⟨g, 41, none⟩ = some (.bool false) := cell_blk HB1.out.b 41
        have HB2 := hid (HB1.out.setCell hwg HVG.out 41 (.bool x.sv))
        rw [show (cmK 10).setIfInBounds 41 (.bool x.sv) = cmA { Cm.of 10 with sv := x.sv } CmS.z from rfl] at HB2
        go_upto_region 18 with fail
        clear uu b0
        have HPUT := HJ.out.put (g := g) (y := { Cm.of 10 with sv := x.sv }) (t := CmS.z) HB2.out hk1 HX1.out HL.out (HCL.out.symm) (by unfold KOk; have := HKI.out; simp only; omega) (⟨wz_rd w, .inl ⟨rfl, rfl⟩, .inl ⟨rfl, rfl⟩⟩)
        obtain ⟨base, vm2, cap, Y, hrun, hJ2⟩ := HPUT
        have HRUN := hid hrun
        have HJ2 := hid hJ2
        clear hrun hJ2
        go_wp2_with (first
          | (refine wpList_load_row rfl 47 (.tmp 6) rfl g (by first | rfl | (rw [← HG.out]; rfl)) 47 _ (0, 0) _ HB2.out.b Tryz.underlying47 rfl (by kernel_rfl) ?_)
          | (refine wpList_build_one rfl 25 47 (.tmp 86) rfl (cmA ({ Cm.of 10 with sv := x.sv }) CmS.z) rfl Tryz.underlying25 (by kernel_rfl) (Nat.lt_of_lt_of_le (by decide) (Nat.le_refl 42)) (Nat.le_of_ble_eq_true rfl) ?_)
          | (at_builtin; refine Lib.wpList_append_run _ rfl (.tmp 85) (.tmp 87) 25 25 rfl _ _ rfl rfl _ _ HRUN.out ?_))
        go_roundw
        case rel => exact ⟨k + 1, rfl, by omega, _, _, _, rfl, _, HJ2⟩
        case measure => show n - ((k : Int) + 1).toNat < n - ((k : Nat) : Int).toNat; omega
      by_cases lo : kI < 1
      · go_wp2_with fail
        go_ret2
        have hbf : BB = false := by
          rw [← HBB.out, Bool.eq_false_iff]
          intro hh
          have := (kokB_iff _).1 (List.all_eq_true.1 hh _ HME.out)
          unfold KOk at this
          have h1 := HKI.out
          have h2 := HMI.out
          simp only at this
          omega
        rw [hbf]
        refine ⟨_, _, _, rfl, HB1.out.bel, fun hh => ?_⟩
        have hK : KOk x := by first | exact hh _ HME.out | exact hh _ _ HME.out
        unfold KOk at hK
        have h1 := HKI.out
        have h2 := HMI.out
        exact absurd hK (by omega)
      by_cases hi : kI > 10
      · go_wp2_with fail
        go_ret2
        have hbf : BB = false := by
          rw [← HBB.out, Bool.eq_false_iff]
          intro hh
          have := (kokB_iff _).1 (List.all_eq_true.1 hh _ HME.out)
          unfold KOk at this
          have h1 := HKI.out
          have h2 := HMI.out
          simp only at this
          omega
        rw [hbf]
        refine ⟨_, _, _, rfl, HB1.out.bel, fun hh => ?_⟩
        have hK : KOk x := by first | exact hh _ HME.out | exact hh _ _ HME.out
        unfold KOk at hK
        have h1 := HKI.out
        have h2 := HMI.out
        exact absurd hK (by omega)
      · have d1 : (kI == 1) = false := by simpa using e1
        have d2 : (kI == 2) = false := by simpa using e2
        have d3 : (kI == 3) = false := by simpa using e3
        have d10 : (kI == 10) = false := by simpa using e10
        have HCL := hid (cl_n x (by have := HKI.out; omega) (by have := HKI.out; omega))
        have HB2 : Hid (ClB g (cmA (Cm.of kI) CmS.z) w (.slice vb vm vc) ys V) := HB1
        go_upto_region 18 with fail
        have HPUT := HJ.out.put (g := g) (y := Cm.of kI) (t := CmS.z) HB2.out hk1 HX1.out HL.out (by rw [← HKI.out]; exact HCL.out.symm) (by unfold KOk; have := HKI.out; simp only; omega) (⟨wz_rd w, .inl ⟨rfl, rfl⟩, .inl ⟨rfl, rfl⟩⟩)
        obtain ⟨base, vm2, cap, Y, hrun, hJ2⟩ := HPUT
        have HRUN := hid hrun
        have HJ2 := hid hJ2
        clear hrun hJ2
        go_wp2_with (first
          | (refine wpList_load_row rfl 47 (.tmp 6) rfl g (by first | rfl | (rw [← HG.out]; rfl)) 47 _ (0, 0) _ HB2.out.b Tryz.underlying47 rfl (by kernel_rfl) ?_)
          | (refine wpList_build_one rfl 25 47 (.tmp 86) rfl (cmA (Cm.of kI) CmS.z) rfl Tryz.underlying25 (by kernel_rfl) (Nat.lt_of_lt_of_le (by decide) (Nat.le_refl 42)) (Nat.le_of_ble_eq_true rfl) ?_)
          | (at_builtin; refine Lib.wpList_append_run _ rfl (.tmp 85) (.tmp 87) 25 25 rfl _ _ rfl rfl _ _ HRUN.out ?_))
        go_roundw
        case rel => exact ⟨k + 1, rfl, by omega, _, _, _, rfl, _, HJ2⟩
        case measure => show n - ((k : Int) + 1).toNat < n - ((k : Nat) : Int).toNat; omega
    · have hnl : ¬ (k : Int) < (n : Int) := by omega
      have hkn : k = n := by omega
      subst hkn
      go_wp2_with fail
      go_ret2
      have h1 := HJ.out.ok
      have h2 := HJ.out.eq
      rw [HN.out, List.take_length] at h1 h2
      have hb : BB = true := by
        rw [← HBB.out, List.all_eq_true]
        exact fun q hq => (kokB_iff _).2 (h1 q hq)
      rw [hb]
      exact ⟨_, _, _, rfl, HJ.out.bel, fun _ => ⟨ys, h2, HJ.out.row, by first | exact fun y hy => (HJ.out.rd y hy).below HJ.out.bel | exact fun y s hy => (HJ.out.rd (y, s) hy).below HJ.out.bel⟩⟩
end Go.Proofs.YtghppkfopglgaaaGreatDoor
namespace Go.Proofs.YtghppkfopglgaaaGreatDoor
open Go.RowKit
set_option linter.unusedVariables false
set_option linter.unusedSimpArgs false
def tls (s : List UInt8) : List (List UInt8) := (lns s).map trimN
theorem trim_c (c : UInt8) (l : List UInt8) (h : c ≠ 10) : trimN (c :: l) = c :: trimN l := by
  rcases List.eq_nil_or_concat l with rfl | ⟨x, d, rfl⟩
  · rw [trimN_no [c] (fun e he => by rw [List.mem_singleton] at he; subst he; exact h), trimN_no [] (fun e he => absurd he (by simp))]
  · rw [List.concat_eq_append]
    by_cases hd : d = 10
    · subst hd
      rw [← List.cons_append, trimN_ln, trimN_ln]
    · have h1 : ∀ y : List UInt8, trimN (y ++ [d]) = y ++ [d] := by
        intro y
        unfold trimN Lib.trimSuffix
        rw [if_neg]
        intro e
        unfold Lib.hasSuffix at e
        simp at e
        exact hd (by first | exact e | exact e.symm)
      rw [← List.cons_append, h1, h1, List.cons_append]
theorem tls_nil : tls [] = [] := rfl
theorem tls_10 (r : List UInt8) : tls (10 :: r) = [] :: tls r := by
  unfold tls
  rw [show lns (10 :: r) = [10] :: lns r from by conv => { lhs; unfold lns }; rw [if_pos rfl], List.map_cons, show trimN [10] = [] from by rw [show [(10 : UInt8)] = [] ++ [10] from rfl, trimN_ln]]
theorem tls_c (c : UInt8) (r : List UInt8) (h : c ≠ 10) : tls (c :: r) = addC c (tls r) := by
  unfold tls
  rw [show lns (c :: r) = addC c (lns r) from by conv => { lhs; unfold lns }; rw [if_neg h]]
  cases lns r with
  | nil => show [trimN [c]] = _; rw [trim_c c [] h]; rfl
  | cons l ls => show trimN (c :: l) :: _ = _; rw [trim_c c l h]; rfl
def silW (l : List UInt8) : List Wd := if silB l then [] else (wol l).getD [] ++ [⟨2, noS⟩]
theorem wds_tls (s : List UInt8) : wds s = (tls s).flatMap silW := rfl
theorem long_tls (s : List UInt8) : longB s = (decide (65536 < s.length) || (tls s).any (fun l => decide (4096 < l.length)) || decide (1024 < (tls s).length)) := by
  unfold longB tls
  rw [List.any_map, List.length_map]
  rfl
theorem long_no (s : List UInt8) (h1 : s.length ≤ 65536) (h2 : ∀ l ∈ tls s, l.length ≤ 4096) (h3 : (tls s).length ≤ 1024) : longB s = false := by
  rw [long_tls, decide_eq_false (by omega), decide_eq_false (by omega), Bool.false_or, Bool.or_false]
  rw [List.any_eq_false]
  intro l hl
  have := h2 l hl
  simpa using this
/-- lines, each with its end -/
def unl (ls : List (List UInt8)) : List UInt8 := ls.flatMap (· ++ [10])
theorem unl_cons (l : List UInt8) (ls : List (List UInt8)) : unl (l :: ls) = l ++ 10 :: unl ls := by unfold unl; simp
theorem tls_unl : ∀ (ls : List (List UInt8)) (b : List UInt8), (∀ l ∈ ls, ∀ c ∈ l, c ≠ 10) → tls (unl ls ++ b) = ls ++ tls b
  | [], b, _ => rfl
  | l :: ls, b, h => by
    rw [unl_cons, List.append_assoc, List.cons_append]
    have hl := h l (by simp)
    have ih := tls_unl ls b fun x hx => h x (by simp [hx])
    unfold tls at ih ⊢
    rw [lns_line l _ hl, List.map_cons, trimN_ln, ih]
    rfl
def endL (s : List UInt8) : List UInt8 := if s = [] ∨ s.getLast? = some 10 then s else s ++ [10]
theorem addC_10 {c : UInt8} (h : c ≠ 10) {ls : List (List UInt8)} (hl : ∀ l ∈ ls, ∀ c ∈ l, c ≠ (10 : UInt8)) : ∀ l ∈ addC c ls, ∀ c ∈ l, c ≠ (10 : UInt8) := by
  cases ls with
  | nil => intro l hl' d hd; simp [addC] at hl'; subst hl'; rw [List.mem_singleton] at hd; subst hd; exact h
  | cons x xs =>
    intro l hl' d hd
    rcases List.mem_cons.1 hl' with rfl | hl'
    · rcases List.mem_cons.1 hd with rfl | hd
      · exact h
      · exact hl x (by simp) d hd
    · exact hl l (by simp [hl']) d hd
theorem tls_10s : ∀ (s : List UInt8), ∀ l ∈ tls s, ∀ c ∈ l, c ≠ (10 : UInt8)
  | [] => fun l hl => absurd hl (by simp [tls_nil])
  | c :: r => by
    by_cases h : c = 10
    · subst h
      rw [tls_10]
      intro l hl
      rcases List.mem_cons.1 hl with rfl | hl
      · exact fun c hc => absurd hc (by simp)
      · exact tls_10s r l hl
    · rw [tls_c c r h]
      exact addC_10 h (tls_10s r)
theorem tls_ne : ∀ (s : List UInt8), s ≠ [] → tls s ≠ []
  | [], h => absurd rfl h
  | c :: r, _ => by
    by_cases h : c = 10
    · subst h; rw [tls_10]; simp
    · rw [tls_c c r h]
      cases tls r <;> simp [addC]
theorem endL_unl : ∀ (s : List UInt8), endL s = unl (tls s)
  | [] => rfl
  | [c] => by
    by_cases h : c = 10
    · subst h; rw [tls_10]; rfl
    · rw [tls_c c [] h]
      unfold endL
      rw [if_neg (by simp [h])]
      rfl
  | c :: d :: r => by
    have ih := endL_unl (d :: r)
    have e : endL (c :: d :: r) = c :: endL (d :: r) := by
      unfold endL
      rw [show (c :: d :: r).getLast? = (d :: r).getLast? from by simp [List.getLast?_cons]]
      simp only [reduceCtorEq, false_or]
      split <;> simp
    rw [e, ih]
    by_cases h : c = 10
    · subst h
      rw [tls_10, unl_cons]
      rfl
    · rw [tls_c c _ h]
      cases hl : tls (d :: r) with
      | nil => exact absurd hl (tls_ne _ (by simp))
      | cons x xs =>
        show c :: unl (x :: xs) = unl ((c :: x) :: xs)
        rw [unl_cons, unl_cons]
        rfl
theorem tls_end (s : List UInt8) : tls (endL s) = tls s := by
  have := tls_unl (tls s) [] (tls_10s s)
  rw [List.append_nil, tls_nil, List.append_nil] at this
  rw [endL_unl, this]
theorem tls_end_app (s b : List UInt8) : tls (endL s ++ b) = tls s ++ tls b := by
  rw [endL_unl, tls_unl _ _ (tls_10s s)]
theorem endL_len (s : List UInt8) : (endL s).length ≤ s.length + 1 := by
  unfold endL
  split
  · omega
  · simp
/-- does nothing come near a limit? -/
def fewL : List UInt8 → Nat → Nat → Bool
  | [], b, n => decide (n < 300)
  | c :: r, b, n => if c = 10 then fewL r 0 (n + 1) else if 4000 < b + 1 then false else fewL r (b + 1) n
def fewB (s : List UInt8) : Bool := decide (s.length ≤ 30000) && fewL s 0 0
theorem few_lns : ∀ (s : List UInt8) (b n : Nat), b ≤ 4000 → fewL s b n = true → n + (tls s).length ≤ 300 ∧ (∀ l ∈ tls s, l.length ≤ 4000) ∧ (∀ l ls, tls s = l :: ls → b + l.length ≤ 4000)
  | [], b, n, hb, h => by
    refine ⟨?_, fun l hl => absurd hl (by simp [tls_nil]), fun l ls e => absurd e (by simp [tls_nil])⟩
    have := of_decide_eq_true h
    rw [tls_nil]
    simp
    omega
  | c :: r, b, n, hb, h => by
    unfold fewL at h
    by_cases hc : c = 10
    · rw [if_pos hc] at h
      subst hc
      obtain ⟨h1, h2, h3⟩ := few_lns r 0 (n + 1) (by omega) h
      rw [tls_10]
      refine ⟨by simp; omega, fun l hl => ?_, fun l ls e => ?_⟩
      · rcases List.mem_cons.1 hl with rfl | hl
        · simp
        · exact h2 l hl
      · rw [← (List.cons.inj e).1]
        simpa using hb
    · rw [if_neg hc] at h
      by_cases h4 : 4000 < b + 1
      · rw [if_pos h4] at h; cases h
      · rw [if_neg h4] at h
        obtain ⟨h1, h2, h3⟩ := few_lns r (b + 1) n (by omega) h
        rw [tls_c c r hc]
        cases ht : tls r with
        | nil =>
          rw [ht] at h1
          have hn : n < 300 := by
            cases r with
            | nil => exact of_decide_eq_true h
            | cons d r => exact absurd ht (tls_ne _ (by simp))
          refine ⟨by simp [addC]; omega, fun l hl => ?_, fun l ls e => ?_⟩
          · simp [addC] at hl
            subst hl
            simp
          · simp [addC] at e
            rw [← e.1]
            simp
            omega
        | cons x xs =>
          rw [ht] at h1 h2
          have h5 := h3 x xs ht
          refine ⟨by simpa [addC] using h1, fun l hl => ?_, fun l ls e => ?_⟩
          · rcases List.mem_cons.1 hl with rfl | hl
            · simp; omega
            · exact h2 l (by simp [hl])
          · rw [← (List.cons.inj e).1]
            simp
            omega
theorem few_all {s : List UInt8} (h : fewB s = true) : s.length ≤ 30000 ∧ (tls s).length ≤ 300 ∧ ∀ l ∈ tls s, l.length ≤ 4000 := by
  unfold fewB at h
  rw [Bool.and_eq_true] at h
  obtain ⟨h1, h2, _⟩ := few_lns s 0 0 (by omega) h.2
  exact ⟨of_decide_eq_true h.1, by omega, h2⟩
theorem parse_few {s : List UInt8} (h : longB s = false) : parseL s = if (cmsL (wds s)).2 then ((cmsL (wds s)).1, 0) else ([], 260) := by
  unfold parseL
  rw [h, if_neg (by simp)]
theorem few_long {s : List UInt8} (h : fewB s = true) : longB s = false := by
  obtain ⟨h1, h2, h3⟩ := few_all h
  exact long_no s (by omega) (fun l hl => by have := h3 l hl; omega) (by omega)
/-- a line that says nothing ahead of every line -/
def silX (m : List UInt8) (ls : List (List UInt8)) : List UInt8 := ls.flatMap fun l => 10 :: 35 :: (m ++ 10 :: (l ++ [10]))
theorem silX_unl (m : List UInt8) : ∀ ls, silX m ls = unl (ls.flatMap fun l => [[], 35 :: m, l])
  | [] => rfl
  | l :: ls => by
    have ih := silX_unl m ls
    unfold silX at ih ⊢
    rw [List.flatMap_cons, ih, List.flatMap_cons]
    unfold unl
    simp
theorem silX_len (m : List UInt8) (ls : List (List UInt8)) : (silX m ls).length = (unl ls).length + ls.length * (m.length + 3) := by
  induction ls with
  | nil => simp [silX, unl]
  | cons l ls ih =>
    unfold silX at ih ⊢
    rw [List.flatMap_cons, List.length_append, ih, unl_cons]
    simp only [List.length_append, List.length_cons, List.length_nil, Nat.succ_mul]
    omega
theorem lines_facts (one two m : List UInt8) (h1 : fewB one = true) (h2 : fewB two = true) (hm : m.length ≤ 20) (h10 : ∀ c ∈ m, c ≠ 10) :
    parseL (endL one) = parseL one ∧ parseL (silX m (tls one)) = parseL one ∧ ((parseL one).2 = 0 ∨ (parseL one).1 = []) ∧
    (∀ a b, parseL one = (a, 0) → parseL two = (b, 0) → parseL (endL one ++ two) = (a ++ b, 0)) ∧ (silX m (tls one)).length ≤ 37000 ∧ (endL one ++ two).length ≤ 60001 ∧ (endL one).length ≤ 30001 := by
  obtain ⟨a1, a2, a3⟩ := few_all h1
  obtain ⟨b1, b2, b3⟩ := few_all h2
  have hel := endL_len one
  have hxl : (silX m (tls one)).length ≤ 37000 := by
    rw [silX_len, ← endL_unl]
    have : (tls one).length * (m.length + 3) ≤ 300 * 23 := Nat.mul_le_mul a2 (by omega)
    omega
  have t1 := tls_end one
  have t2 : tls (silX m (tls one)) = (tls one).flatMap fun l => [[], 35 :: m, l] := by
    rw [silX_unl]
    have := tls_unl ((tls one).flatMap fun l => [[], 35 :: m, l]) [] (by
      intro l hl c hc
      obtain ⟨x, hx, hl⟩ := List.mem_flatMap.1 hl
      simp only [List.mem_cons, List.not_mem_nil, or_false] at hl
      rcases hl with rfl | rfl | rfl
      · exact absurd hc (by simp)
      · rcases List.mem_cons.1 hc with rfl | hc
        · decide
        · exact h10 c hc
      · exact tls_10s one _ hx c hc)
    rw [List.append_nil, tls_nil, List.append_nil] at this
    exact this
  have w1 : wds (endL one) = wds one := by rw [wds_tls, wds_tls, t1]
  have w2 : wds (silX m (tls one)) = wds one := by
    rw [wds_tls, wds_tls, t2, List.flatMap_assoc]
    have : (fun x : List UInt8 => List.flatMap silW [[], 35 :: m, x]) = silW := by
      funext x
      simp [silW, silB]
    rw [this]
  have l0 := few_long h1
  have l1 : longB (endL one) = false := long_no _ (by omega) (fun l hl => by rw [t1] at hl; have := a3 l hl; omega) (by rw [t1]; omega)
  have l2 : longB (silX m (tls one)) = false := by
    refine long_no _ (by omega) (fun l hl => ?_) ?_
    · rw [t2] at hl
      obtain ⟨x, hx, hl⟩ := List.mem_flatMap.1 hl
      simp only [List.mem_cons, List.not_mem_nil, or_false] at hl
      rcases hl with rfl | rfl | rfl
      · simp
      · simp; omega
      · have := a3 _ hx; omega
    · rw [t2]
      have : ∀ ls : List (List UInt8), (ls.flatMap fun l => [[], 35 :: m, l]).length = 3 * ls.length := by
        intro ls
        induction ls with
        | nil => rfl
        | cons x xs ih => rw [List.flatMap_cons, List.length_append, ih]; simp; omega
      rw [this]
      omega
  have hlen : (endL one ++ two).length ≤ 60001 := by rw [List.length_append]; omega
  refine ⟨?_, ?_, ?_, ?_, hxl, hlen, by omega⟩
  · rw [parse_few l1, parse_few l0, w1]
  · rw [parse_few l2, parse_few l0, w2]
  · rw [parse_few l0]
    split
    · exact .inl rfl
    · exact .inr rfl
  · intro a b ha hb
    have l3 : longB (endL one ++ two) = false := by
      refine long_no _ (by omega) (fun l hl => ?_) ?_
      · rw [tls_end_app] at hl
        rcases List.mem_append.1 hl with hl | hl
        · have := a3 l hl; omega
        · have := b3 l hl; omega
      · rw [tls_end_app, List.length_append]; omega
    rw [parse_few l0] at ha
    rw [parse_few (few_long h2)] at hb
    have c1 : (cmsL (wds one)).2 = true := by
      cases hc : (cmsL (wds one)).2 with
      | true => rfl
      | false => rw [hc, if_neg (by simp)] at ha; cases ha
    have c2 : (cmsL (wds two)).2 = true := by
      cases hc : (cmsL (wds two)).2 with
      | true => rfl
      | false => rw [hc, if_neg (by simp)] at hb; cases hb
    rw [c1, if_pos rfl] at ha
    rw [c2, if_pos rfl] at hb
    have e : wds (endL one ++ two) = wds one ++ wds two := by
      rw [wds_tls, wds_tls, wds_tls, tls_end_app, List.flatMap_append]
    have hcms := cms_app (wds one) (wds two) (wds_ew one) (wds_ew two) c1 c2
    rw [parse_few l3, e, hcms, if_pos rfl, (Prod.mk.inj ha).1, (Prod.mk.inj hb).1]
end Go.Proofs.YtghppkfopglgaaaGreatDoor
namespace Go.Proofs.YtghppkfopglgaaaGreatDoor
open Go.RowKit
set_option linter.unusedVariables false
set_option linter.unusedSimpArgs false
theorem dropL_at (l : List UInt8) (i : Nat) (h : i < l.length) : l.drop i = l[i] :: l.drop (i + 1) := List.drop_eq_getElem_cons h
theorem fewL_10 (r : List UInt8) (b n : Nat) : fewL (10 :: r) b n = fewL r 0 (n + 1) := by
  conv => { lhs; unfold fewL }
  rw [if_pos rfl]
theorem fewL_no (c : UInt8) (r : List UInt8) (b n : Nat) (h : c ≠ 10) (hb : 4000 < b + 1) : fewL (c :: r) b n = false := by
  conv => { lhs; unfold fewL }
  rw [if_neg h, if_pos hb]
theorem fewL_c (c : UInt8) (r : List UInt8) (b n : Nat) (h : c ≠ 10) (hb : ¬ 4000 < b + 1) : fewL (c :: r) b n = fewL r (b + 1) n := by
  conv => { lhs; unfold fewL }
  rw [if_neg h, if_neg hb]
set_option maxRecDepth 100000 in
set_option maxHeartbeats 8000000 in
theorem few_any (s : ByteArray) (w : World) (hs : s.size ≤ 140737488355328) : Calls Tryz.prog 16 #[.string s] w fun e w' => e = .returned (.bool (fewB s.data.toList)) ∧ w' = w := by
  obtain ⟨m, hm⟩ : ∃ m, s.size = m := ⟨_, rfl⟩
  have HM := hid hm
  obtain ⟨l, hl⟩ : ∃ l, s.data.toList = l := ⟨_, rfl⟩
  have HL := hid hl
  have hml : m = l.length := by rw [← hm, ← hl, sz_eq]
  have HML := hid hml
  rw [hl]
  by_cases h3 : 30000 < m
  · have h3I : (30000 : Int) < (m : Int) := by omega
    have HF : Hid (fewB l = false) := hid (by unfold fewB; rw [decide_eq_false (by omega)]; rfl)
    have h3S : (30000 : Int) < (s.size : Int) := by omega
    clear hm hl hml
    go_enter Tryz.func16, Tryz.ntmps16
    go_wp2_with fail
    go_ret
    exact ⟨by rw [HF.out]; rfl, rfl⟩
  · have h3I : ¬ (30000 : Int) < (m : Int) := by omega
    have h3S : ¬ (30000 : Int) < (s.size : Int) := by omega
    obtain ⟨F, hF⟩ : ∃ F, fewL l 0 0 = F := ⟨_, rfl⟩
    have HF : Hid (fewB l = F) := hid (by unfold fewB; rw [decide_eq_true (by omega), hF]; rfl)
    have hm3 : m ≤ 30000 := by omega
    have HJ0 := hid hF
    clear hm hl hml hF
    go_enter Tryz.func16, Tryz.ntmps16
    go_wp2_with fail
    go_loopw [3, 4, 5] (fun nv bv iv wr => ∃ n b i : Nat, nv = .int .i64 (n : Int) ∧ bv = .int .i64 (b : Int) ∧ iv = .int .i64 (i : Int) ∧ n ≤ i ∧ b ≤ 4000 ∧ i ≤ m ∧ wr = w ∧ Hid (fewL (l.drop i) b n = F)) (fun _ _ iv _ => m - (intOf iv).toNat)
    case atStart => exact ⟨0, 0, 0, rfl, rfl, rfl, Nat.le_refl _, Nat.zero_le _, Nat.zero_le _, rfl, HJ0⟩
    case round =>
      obtain ⟨n, b, i, rfl, rfl, rfl, hn, hb, hi, rfl, HJ⟩ := hrel
      by_cases hlt : i < m
      · have hltS : (i : Int) < (s.size : Int) := by have := HM.out; omega
        have hiS : i < s.size := by have := HM.out; omega
        have hil : i < l.length := by have := HML.out; omega
        obtain ⟨c, hc⟩ : ∃ c, s[i]'hiS = c := ⟨_, rfl⟩
        have hlc : l[i]'hil = c := by
          rw [← hc]
          have := HL.out
          subst this
          rfl
        have HD := HJ.out
        rw [dropL_at l i hil, hlc] at HD
        by_cases h10 : c = 10
        · subst h10
          rw [fewL_10] at HD
          have HN := hid HD
          clear HD hlc HJ hil
          go_wp2_with fail
          go_roundw
          case rel => exact ⟨n + 1, 0, i + 1, by first | rfl | simp, rfl, by first | rfl | simp, by omega, by omega, by omega, by first | rfl | trivial, HN⟩
          case measure => show m - ((i : Int) + 1).toNat < m - ((i : Nat) : Int).toNat; omega
        · have t1 : ((c.toNat : Int) == 10) = false := by simpa using fun e : (c.toNat : Int) = 10 => h10 (UInt8.toNat_inj.1 (by show c.toNat = 10; omega))
          have t2 : (c.toNat == 10) = false := by simpa using fun e => h10 (UInt8.toNat_inj.1 e)
          by_cases h4 : 4000 < b + 1
          · rw [fewL_no c _ b n h10 h4] at HD
            have HN := hid HD
            have h4I : (4000 : Int) < (b : Int) + 1 := by omega
            clear HD hlc HJ hil h10
            go_wp2_with fail
            go_ret
            exact ⟨by rw [HF.out, ← HN.out]; rfl, rfl⟩
          · rw [fewL_c c _ b n h10 h4] at HD
            have HN := hid HD
            have h4I : ¬ (4000 : Int) < (b : Int) + 1 := by omega
            clear HD hlc HJ hil h10
            go_wp2_with fail
            go_roundw
            case rel => exact ⟨n, b + 1, i + 1, rfl, by first | rfl | simp, by first | rfl | simp, by omega, by omega, by omega, by first | rfl | trivial, HN⟩
            case measure => show m - ((i : Int) + 1).toNat < m - ((i : Nat) : Int).toNat; omega
      · have hnS : ¬ (i : Int) < (s.size : Int) := by have := HM.out; omega
        have HN : Hid (decide (n < 300) = F) := hid (by
          have := HJ.out
          rw [List.drop_of_length_le (by have := HML.out; omega)] at this
          exact this)
        clear HJ
        cases h9 : decide (n < 300) with
        | true =>
          have h9I : (n : Int) < 300 := by have := of_decide_eq_true h9; omega
          have hF2 := HN.out
          rw [h9] at hF2
          have HF2 := hid hF2
          clear HN h9 hF2
          go_wp2_with fail
          go_ret
          exact ⟨by rw [HF.out, ← HF2.out]; first | rfl | simp [h9I], rfl⟩
        | false =>
          have h9I : ¬ (n : Int) < 300 := by have := of_decide_eq_false h9; omega
          have hF2 := HN.out
          rw [h9] at hF2
          have HF2 := hid hF2
          clear HN h9 hF2
          go_wp2_with fail
          go_ret
          exact ⟨by rw [HF.out, ← HF2.out]; first | rfl | simp [h9I], rfl⟩
set_option maxRecDepth 100000 in
set_option maxHeartbeats 8000000 in
theorem ended_any (s : ByteArray) (w : World) (hs : s.size ≤ 140737488355328) : Calls Tryz.prog 17 #[.string s] w fun e w' => e = .returned (.string (bt (endL s.data.toList))) ∧ w' = w := by
  by_cases h0 : s.size = 0
  · obtain rfl : s = ⟨#[]⟩ := ba_eq (by
      have : s.data.toList.length = 0 := by rw [← sz_eq]; exact h0
      rw [List.eq_nil_of_length_eq_zero this])
    go_enter Tryz.func17, Tryz.ntmps17
    go_wp2_with fail
    go_ret
    exact ⟨rfl, rfl⟩
  · obtain ⟨k, hk⟩ : ∃ k, s.size = k + 1 := ⟨s.size - 1, by omega⟩
    have hkS : k < s.size := by omega
    obtain ⟨c, hc⟩ : ∃ c, s[k]'hkS = c := ⟨_, rfl⟩
    have hkI : (s.size : Int) - 1 = (k : Int) := by omega
    have he : (s.toList == ([] : List UInt8)) = false := by
      rw [beq_eq_false_iff_ne, ByteArray.toList_eq]
      intro e
      have := congrArg List.length e
      rw [← sz_eq, List.length_nil] at this
      omega
    have hlast : s.data.toList.getLast? = some c := by
      rw [List.getLast?_eq_getElem?, ← sz_eq, hk, Nat.add_sub_cancel, List.getElem?_eq_getElem (by rw [← sz_eq]; exact hkS)]
      exact congrArg some hc
    have hne : s.data.toList ≠ [] := by
      intro e
      rw [e] at hlast
      cases hlast
    by_cases h10 : c = 10
    · subst h10
      have HE : Hid (endL s.data.toList = s.data.toList) := hid (by unfold endL; rw [if_pos (.inr hlast)])
      clear hlast hne
      go_enter Tryz.func17, Tryz.ntmps17
      have hkk : (0 : Int) ≤ (k : Int) := by omega
      go_wp2_with fail
      go_ret
      exact ⟨by rw [HE.out, bt_data]; rfl, rfl⟩
    · have t1 : ((c.toNat : Int) == 10) = false := by simpa using fun e : (c.toNat : Int) = 10 => h10 (UInt8.toNat_inj.1 (by show c.toNat = 10; omega))
      have t2 : (c.toNat == 10) = false := by simpa using fun e => h10 (UInt8.toNat_inj.1 e)
      have HE : Hid (bt (endL s.data.toList) = s ++ ⟨#[10]⟩) := hid (by
        unfold endL
        rw [if_neg (by rintro (e | e); exact hne e; rw [hlast] at e; exact h10 (Option.some.inj e))]
        refine ba_eq ?_
        rw [bt_toList, ByteArray.data_append, Array.toList_append])
      have hsz : ¬ 9223372036854775807 < s.size + 1 := by omega
      clear hlast hne h10
      go_enter Tryz.func17, Tryz.ntmps17
      go_wp2_with fail
      go_ret
      exact ⟨by rw [HE.out]; rfl, rfl⟩
end Go.Proofs.YtghppkfopglgaaaGreatDoor
namespace Go.Proofs.YtghppkfopglgaaaGreatDoor
open Go.RowKit
set_option linter.unusedVariables false
set_option linter.unusedSimpArgs false
theorem unl_app (a b : List (List UInt8)) : unl (a ++ b) = unl a ++ unl b := List.flatMap_append
theorem silX_app (m : List UInt8) (a b : List (List UInt8)) : silX m (a ++ b) = silX m a ++ silX m b := List.flatMap_append
theorem unl_at (ls : List (List UInt8)) (j : Nat) (h : j < ls.length) : unl ls = unl (ls.take j) ++ (ls[j] ++ 10 :: unl (ls.drop (j + 1))) := by
  conv => { lhs; rw [← List.take_append_drop j ls] }
  rw [unl_app, List.drop_eq_getElem_cons h, unl_cons]
theorem unl_get (ls : List (List UInt8)) (h10 : ∀ l ∈ ls, ∀ c ∈ l, c ≠ (10 : UInt8)) (j p : Nat) (h : j < ls.length) (hp : p ≤ ls[j].length) (hi : (unl (ls.take j)).length + p < (unl ls).length) : (p < ls[j].length → (unl ls)[(unl (ls.take j)).length + p]'hi ≠ 10) ∧ (p = ls[j].length → (unl ls)[(unl (ls.take j)).length + p]'hi = 10) := by
  have e : (unl ls)[(unl (ls.take j)).length + p]? = (ls[j] ++ 10 :: unl (ls.drop (j + 1)))[p]? := by
    rw [unl_at ls j h, List.getElem?_append_right (by omega), Nat.add_sub_cancel_left]
  rw [List.getElem?_eq_getElem hi] at e
  refine ⟨fun hlt hc => ?_, fun heq => ?_⟩
  · rw [List.getElem?_append_left hlt, List.getElem?_eq_getElem hlt] at e
    exact h10 _ (List.getElem_mem h) _ (List.getElem_mem hlt) ((Option.some.inj e).symm.trans hc)
  · subst heq
    rw [List.getElem?_append_right (Nat.le_refl _), Nat.sub_self] at e
    exact Option.some.inj e
theorem unl_in (ls : List (List UInt8)) (j p : Nat) (h : j < ls.length) (hp : p ≤ ls[j].length) : (unl (ls.take j)).length + p < (unl ls).length := by
  rw [unl_at ls j h]
  simp only [List.length_append, List.length_cons]
  omega
theorem unl_next (ls : List (List UInt8)) (j : Nat) (h : j < ls.length) : unl (ls.take (j + 1)) = unl (ls.take j) ++ (ls[j] ++ [10]) := by
  rw [List.take_add_one, List.getElem?_eq_getElem h, unl_app]
  show _ ++ unl [ls[j]] = _
  rw [unl_cons]
  rfl
theorem unl_cut (ls : List (List UInt8)) (j : Nat) (h : j < ls.length) : ((unl ls).drop (unl (ls.take j)).length).take (ls[j].length + 1) = ls[j] ++ [10] := by
  rw [unl_at ls j h, List.drop_append_of_le_length (by omega), List.drop_length, List.nil_append]
  rw [show ls[j] ++ 10 :: unl (ls.drop (j + 1)) = (ls[j] ++ [10]) ++ unl (ls.drop (j + 1)) from by simp]
  rw [List.take_append_of_le_length (by simp), List.take_of_length_le (by simp)]
theorem silX_next (m : List UInt8) (ls : List (List UInt8)) (j : Nat) (h : j < ls.length) : silX m (ls.take (j + 1)) = silX m (ls.take j) ++ (10 :: 35 :: (m ++ 10 :: (ls[j] ++ [10]))) := by
  rw [List.take_add_one, List.getElem?_eq_getElem h, silX_app]
  unfold silX
  simp
theorem silX_le (m : List UInt8) (ls : List (List UInt8)) (j : Nat) : (silX m (ls.take j)).length ≤ (silX m ls).length := by
  conv => { rhs; rw [← List.take_append_drop j ls, silX_app, List.length_append] }
  omega
theorem loop_len {α : Type} (f : Rd → Option (α × Rd)) : ∀ (n : Nat) (r : Rd), (loopR f n r).1.length ≤ n
  | 0, r => Nat.le_refl _
  | n + 1, r => by
    unfold loopR
    cases f r with
    | none => exact Nat.zero_le _
    | some p =>
      have := loop_len f n p.2
      simp
      omega
theorem parse_count (s : ByteArray) : (parseL s.data.toList).1.length ≤ 1073741824 := by
  unfold parseL
  split
  · exact Nat.zero_le _
  · rename_i h
    split
    · have h1 : (cmsL (wds s.data.toList)).1.length ≤ (wds s.data.toList).length := loop_len cmR _ _
      have h2 := (wds_len s (by simpa using h)).1
      simp only
      omega
    · exact Nat.zero_le _
/-- commands that can be read, in a row -/
structure PR (W : World) (v : Value) (cs : List (Cm × CmS)) : Prop where
  row : R ECm W v cs
  rd : ∀ q ∈ cs, CmRd W q
theorem PR.below {W W' : World} {v : Value} {cs : List (Cm × CmS)} (h : PR W v cs) (hb : Below W.heap.size W W') : PR W' v cs := ⟨h.row.below hb, fun q hq => (h.rd q hq).below hb⟩
theorem parse_w (s : ByteArray) (hs : s.size ≤ 140737488355328) (w : World) (hE : Env w) : Calls Tryz.prog 11 #[.string s] w fun e w' => ∃ (a : Option Addr) (n c : Nat) (cs : List (Cm × CmS)), e = .returned (.tuple #[.slice a n c, .int .i64 (parseL s.data.toList).2]) ∧ n = cs.length ∧ cs.map (·.1) = (parseL s.data.toList).1 ∧ PR w' (.slice a n c) cs ∧ Below w.heap.size w w' := by
  refine (Parse_any s hs w hE (.inl world_any)).mono ?_
  rintro e w' ⟨v, rfl, cs, hm, hR, _, hN, hb⟩
  obtain ⟨a, c, rfl, _⟩ := hR.slice
  exact ⟨a, _, c, cs, rfl, rfl, hm, ⟨hR, fun q hq => (hN q hq).read⟩, hb⟩
end Go.Proofs.YtghppkfopglgaaaGreatDoor
