/- The law's own rows of the document's commands. -/
import Derived.Test.YtghppkfopglgaaaGreatDoorKaw
import Derived.Test.YtghppkfopglgaaaGreatDoorRx
namespace Go.Proofs.YtghppkfopglgaaaGreatDoor
open Go.RowKit
set_option linter.unusedVariables false
set_option linter.unusedSimpArgs false
/-- a slice literal of one struct, as a step of a region -/
theorem step_build_one {P : Program} {ops : Array Oper} {o : Oper} {a : Act} {w : World} {K : Act → World → Prop} {Q : Exit → Act → World → Prop} {R : Prop} (hg : o.guard = none) (t e : TypeId) (x : Operand) (ho : o.op = .buildSlice t 1 #[(0, x)])
    (cs : Array Value) (hx : a.eval x = .agg cs) (hu : P.underlying t = some (.slice e)) (hi : (P.info? e).map (fun i => (i.size, i.zero.isSome)) = some (cs.size, true)) (hpos : 0 < cs.size) (hle : cs.size ≤ 2 ^ 24)
    (h : K (a.put o.dst (.slice (some ⟨w.heap.size, 0, none⟩) 1 1)) (w.alloc (.cells cs e))) : if Region.wanted o (yielded ops a.tmps) = true then Oper.wp P o a w K Q else R := by
  have hw : Region.wanted o (yielded ops a.tmps) = true := by simp [Region.wanted, hg]
  rw [if_pos hw]
  cases hie : P.info? e with
  | none => simp [hie] at hi
  | some ie =>
    simp only [hie, Option.map_some, Option.some.injEq, Prod.mk.injEq] at hi
    obtain ⟨hsz, hz⟩ := hi
    obtain ⟨z, hzz⟩ := Option.isSome_iff_exists.1 hz
    refine wp_buildSlice t e 1 _ ho cs ie z hu hie hzz (by rw [hsz]; omega) (by rw [hsz]; omega) ?_ h
    have := Great.fill_whole (s := cs.size) hpos [.agg cs] ((Array.range (1 * ie.size)).map (z.cells[· % z.cells.size]!)) (fun v hv => by rw [List.mem_singleton] at hv; subst hv; rfl) (by simp [hsz])
    simp only [hx, List.map_toArray, List.map_cons, List.map_nil] at this ⊢
    rw [hsz] at this ⊢
    simpa [Value.cells] using this
theorem exec_build_to {P : Program} {o : Oper} {ev : Operand → Value} {w : World} (t : TypeId) (parts : Array (Nat × Operand)) (ho : o.op = .build t parts) (cells : Array Value)
    (hf : P.built t (parts.map fun (i, x) => (i, ev x)).toList = some cells) : (execOp ev o).run P w = .ok (.value (.agg cells)) w := by
  unfold execOp
  simp only [ho, Sem.run_bind, run_build w t _ cells hf, Result.andThen_ok, Sem.run_pure]
/-- the document's commands in memory -/
def EC2 : El (Cm × CmS) := ⟨71, 102, 42, 488, fun x => (cmA x.1 x.2).toList⟩
theorem okC2 : EC2.Ok := ⟨Tryz.underlying71, by kernel_rfl, by decide, by decide, fun _ => rfl, fun x u hu => okCm.one x u hu⟩
/-- behind k commands -/
structure OwJ (w : World) (xs : List (Cm × CmS)) (W : World) (v : Value) (k : Nat) : Prop where
  row : R ECm W v (xs.take k)
  own : Own w.heap.size v
  bel : Below w.heap.size w W
theorem OwJ.drew {w W : World} {xs : List (Cm × CmS)} {v : Value} {k : Nat} (h : OwJ w xs W v k) : OwJ w xs W.drew v k :=
  have kW : Below W.heap.size W W.drew := (Below.refl _ _).drew
  ⟨h.row.below kW, h.own, h.bel.trans (kW.mono h.bel.size)⟩
theorem OwJ.put {w : World} {xs : List (Cm × CmS)} {V : World} {v : Value} {k : Nat} (h : OwJ w xs V v k) (hk : k < xs.length) (x : Cm × CmS) (hx : xs[k]'hk = x) (hlen : xs.length * 488 ≤ 140737488351232) :
    ∃ base m cap V', (Builtin.append_ #[25, 25] 25 #[v, .slice (some ⟨V.heap.size, 0, none⟩) 1 1]).run Tryz.prog (V.alloc (.cells (cmA x.1 x.2) 47)) = .ok (.slice base m cap) V' ∧ OwJ w xs V' (.slice base m cap) (k + 1) := by
  obtain ⟨V2, hV2⟩ : ∃ V2, V.alloc (.cells (cmA x.1 x.2) 47) = V2 := ⟨_, rfl⟩
  have b2 : Below V.heap.size V V2 := by rw [← hV2]; exact bel1 _ _
  have g2 : V2.heap[V.heap.size]? = some (.cells (cmA x.1 x.2) 47 (0, 0)) := by rw [← hV2, heap_al, if_pos rfl]
  obtain ⟨base, cap, V', hrun, hR, hG⟩ := app okCm V2 v (xs.take k) (h.row.below b2) (.slice (some ⟨V.heap.size, 0, none⟩) 1 1) [x] (in_one (E := ECm) V2 _ x _ 47 (0, 0) g2 rfl) (by
    have h1 : (xs.take k).length + 1 ≤ xs.length := by rw [List.length_take]; omega
    exact Nat.le_trans (Nat.mul_le_mul_right 488 h1) (Nat.le_trans hlen (Nat.le_of_ble_eq_true rfl)))
  have hw2 : w.heap.size ≤ V2.heap.size := Nat.le_trans h.bel.size b2.size
  have ht : xs.take k ++ [x] = xs.take (k + 1) := by rw [← hx]; exact List.take_append_getElem hk
  rw [ht] at hR
  rw [hV2]
  refine ⟨base, _, cap, V', hrun, hR, own_gr hG h.own hw2, ?_⟩
  exact (h.bel.trans (b2.mono h.bel.size)).trans ((Ks.of_gr hG).below hw2 (fun i hi e => by have := h.own i e; omega))
set_option maxRecDepth 100000 in
set_option maxHeartbeats 32000000 in
theorem own_any (v : Value) (xs : List (Cm × CmS)) (w : World) (hI : In EC2 w v xs) (hlen : xs.length * 488 ≤ 140737488351232) : Calls Tryz.prog 18 #[v] w fun e w' => ∃ b n c, e = .returned (.slice b n c) ∧ R ECm w' (.slice b n c) xs ∧ Own w.heap.size (.slice b n c) ∧ Below w.heap.size w w' := by
  obtain ⟨ba, n, ca, rfl, hn⟩ : ∃ b n c, v = .slice b n c ∧ n = xs.length := by
    rcases hI with ⟨rfl, rfl⟩ | ⟨a, cap, rfl, _⟩
    · exact ⟨_, _, _, rfl, rfl⟩
    · exact ⟨_, _, _, rfl, rfl⟩
  have hn9 : n ≤ 9223372036854775807 := by omega
  have HN : Hid (n = xs.length) := hid hn
  have HI := hid hI
  have HL := hid hlen
  clear hn hI hlen
  go_enter Tryz.func18, Tryz.ntmps18
  go_wp2_with fail
  go_loopw [3, 4] (fun mv iv wr => ∃ k : Nat, iv = .int .i64 (k : Int) ∧ k ≤ n ∧ ∃ b m c, mv = .slice b m c ∧ Hid (OwJ w xs wr (.slice b m c) k)) (fun _ iv _ => n - (intOf iv).toNat)
  case atStart => exact ⟨0, rfl, Nat.zero_le _, none, 0, 0, rfl, hid ⟨R.nil _ _, Own.z _, Below.refl _ _⟩⟩
  case round =>
    obtain ⟨k, rfl, hk, vb, vm, vc, rfl, HJ⟩ := hrel
    by_cases hlt : k < n
    · have hltI : (k : Int) < (n : Int) := by omega
      have hk1 : k < xs.length := by have := HN.out; omega
      obtain ⟨B1, o1, rfl, hB1, hc1⟩ := HI.out.at okC2 (Below.refl _ _) k hk1
      obtain ⟨⟨x, s⟩, hx1⟩ : ∃ x, xs[k]'hk1 = x := ⟨_, rfl⟩
      rw [hx1] at hc1
      have hc1 : ∀ j u, (cmA x s)[j]? = some u → w.cell? ⟨B1, o1 + k * 42 + j, none⟩ = some u := fun j u hu => hc1 j u (by rw [← hu, ← Array.getElem?_toList]; rfl)
      have HC1 := hid hc1
      have HX1 := hid hx1
      have u0 := hc1 0 (.int .i64 x.k) rfl
      have u1 := hc1 40 (.int .i64 x.n) rfl
      have u2 := hc1 41 (.bool x.sv) rfl
      simp only [Nat.add_zero] at u0
      have HW1 : Hid (∀ V, Below w.heap.size w V → ∀ j u, (woA x.w s.sp s.su s.so)[j]? = some u → V.cell? ⟨B1, o1 + k * 42 + 1 + j, none⟩ = some u) := hid (fun V hV j u hu => cell_below hV (by rw [Nat.add_assoc]; exact HC1.out _ u (part_get (cs := cmA x s) (off := 1) rfl j u hu)))
      have HM1 : Hid (∀ V, Below w.heap.size w V → ∀ j u, (mvA x.m s.sf.v s.sc.v)[j]? = some u → V.cell? ⟨B1, o1 + k * 42 + 20 + j, none⟩ = some u) := hid (fun V hV j u hu => cell_below hV (by rw [Nat.add_assoc]; exact HC1.out _ u (part_get (cs := cmA x s) (off := 20) rfl j u hu)))
      clear hc1 hx1
      have HCP : Hid (∀ V, Below w.heap.size w V → (fun W => W.cell? ⟨B1, o1 + k * 42, none⟩ = some (.int .i64 x.k) ∧ W.cell? ⟨B1, o1 + k * 42 + 40, none⟩ = some (.int .i64 x.n) ∧ W.cell? ⟨B1, o1 + k * 42 + 41, none⟩ = some (.bool x.sv) ∧ Hid (Below w.heap.size w W)) V) := hid (fun V h => ⟨cell_below h u0, cell_below h u1, cell_below h u2, hid h⟩)
      have HJd := hid HJ.out.drew
      clear HJ
      go_upto_region 5 with fail
      clear u0 u1 u2
      have kW : Below w.heap.size w wr.drew := HJd.out.bel
      obtain ⟨Z, hZ⟩ : ∃ Z, wr.drew = Z := ⟨_, rfl⟩
      rw [hZ] at kW HJd
      refine wp_region_held_drew (S := (fun W => W.cell? ⟨B1, o1 + k * 42, none⟩ = some (.int .i64 x.k) ∧ W.cell? ⟨B1, o1 + k * 42 + 40, none⟩ = some (.int .i64 x.n) ∧ W.cell? ⟨B1, o1 + k * 42 + 41, none⟩ = some (.bool x.sv) ∧ Hid (Below w.heap.size w W))) (by kernel_rfl) (HCP.out _ (by rw [hZ]; exact kW)) (fun hHeld => ?_)
      rw [hZ] at hHeld ⊢
      clear hZ
      refine wpAnyH_take (i := 0) (oi := { dst := some 11, op := Op.move (Operand.tmp 3), type := 25, pos := "law.go:26", after := #[], guard := none }) (v := ?vv1) rfl (by kernel_rfl) (by kernel_rfl) (by kernel_rfl) (fun _ _ _ h => h) (Or.inl ⟨by rfl, ?hy1⟩) (by assumption) ?_
      case hy1 => (intro w hSw; (try dsimp only at hSw); go_simp; all_goals with_reducible rfl)
      try simp only [Act.put, List.setIfInBounds_toArray, List.set_cons_zero, List.set_cons_succ]
      refine wpAnyH_take (i := 1) (oi := { dst := some 12, op := Op.move (Operand.tmp 0), type := 71, pos := "law.go:26", after := #[], guard := none }) (v := ?vv2) rfl (by kernel_rfl) (by kernel_rfl) (by kernel_rfl) (fun _ _ _ h => h) (Or.inl ⟨by rfl, ?hy2⟩) (by assumption) ?_
      case hy2 => (intro w hSw; (try dsimp only at hSw); go_simp; all_goals with_reducible rfl)
      try simp only [Act.put, List.setIfInBounds_toArray, List.set_cons_zero, List.set_cons_succ]
      refine wpAnyH_take (i := 2) (oi := { dst := some 13, op := Op.move (Operand.tmp 4), type := 3, pos := "law.go:26", after := #[], guard := none }) (v := ?vv3) rfl (by kernel_rfl) (by kernel_rfl) (by kernel_rfl) (fun _ _ _ h => h) (Or.inl ⟨by rfl, ?hy3⟩) (by assumption) ?_
      case hy3 => (intro w hSw; (try dsimp only at hSw); go_simp; all_goals with_reducible rfl)
      try simp only [Act.put, List.setIfInBounds_toArray, List.set_cons_zero, List.set_cons_succ]
      refine wpAnyH_take (i := 3) (oi := { dst := some 14, op := Op.indexAddr 71 (Operand.tmp 12) (Operand.tmp 13), type := 0, pos := "law.go:26", after := #[{ on := 1, ground := Ground.data }, { on := 2, ground := Ground.data }], guard := none }) (v := ?vv4) rfl (by kernel_rfl) (by kernel_rfl) (by kernel_rfl) (fun _ _ _ h => h) (Or.inl ⟨by rfl, ?hy4⟩) (by assumption) ?_
      case hy4 => (intro w hSw; (try dsimp only at hSw); go_simp; all_goals with_reducible rfl)
      try simp only [Act.put, List.setIfInBounds_toArray, List.set_cons_zero, List.set_cons_succ]
      refine wpAnyH_take (i := 4) (oi := { dst := some 15, op := Op.fieldAddr 102 (Operand.tmp 14) 0, type := 0, pos := "law.go:26", after := #[{ on := 3, ground := Ground.data }], guard := none }) (v := ?vv5) rfl (by kernel_rfl) (by kernel_rfl) (by kernel_rfl) (fun _ _ _ h => h) (Or.inl ⟨by rfl, ?hy5⟩) (by assumption) ?_
      case hy5 => (intro w hSw; (try dsimp only at hSw); go_simp; all_goals with_reducible rfl)
      try simp only [Act.put, List.setIfInBounds_toArray, List.set_cons_zero, List.set_cons_succ]
      refine wpAnyH_take (i := 5) (oi := { dst := some 16, op := Op.load 3 (Operand.tmp 15), type := 3, pos := "law.go:26", after := #[{ on := 4, ground := Ground.data }], guard := none }) (v := ?vv6) rfl (by kernel_rfl) (by kernel_rfl) (by kernel_rfl) (fun _ _ _ h => h) (Or.inl ⟨by rfl, ?hy6⟩) (by assumption) ?_
      case hy6 => (intro w hSw; (try dsimp only at hSw); go_simp; all_goals with_reducible rfl)
      try simp only [Act.put, List.setIfInBounds_toArray, List.set_cons_zero, List.set_cons_succ]
      refine wpAnyH_take (i := 6) (oi := { dst := some 17, op := Op.move (Operand.tmp 0), type := 71, pos := "law.go:26", after := #[], guard := none }) (v := ?vv7) rfl (by kernel_rfl) (by kernel_rfl) (by kernel_rfl) (fun _ _ _ h => h) (Or.inl ⟨by rfl, ?hy7⟩) (by assumption) ?_
      case hy7 => (intro w hSw; (try dsimp only at hSw); go_simp; all_goals with_reducible rfl)
      try simp only [Act.put, List.setIfInBounds_toArray, List.set_cons_zero, List.set_cons_succ]
      refine wpAnyH_take (i := 7) (oi := { dst := some 18, op := Op.move (Operand.tmp 4), type := 3, pos := "law.go:26", after := #[], guard := none }) (v := ?vv8) rfl (by kernel_rfl) (by kernel_rfl) (by kernel_rfl) (fun _ _ _ h => h) (Or.inl ⟨by rfl, ?hy8⟩) (by assumption) ?_
      case hy8 => (intro w hSw; (try dsimp only at hSw); go_simp; all_goals with_reducible rfl)
      try simp only [Act.put, List.setIfInBounds_toArray, List.set_cons_zero, List.set_cons_succ]
      refine wpAnyH_take (i := 8) (oi := { dst := some 19, op := Op.indexAddr 71 (Operand.tmp 17) (Operand.tmp 18), type := 0, pos := "law.go:26", after := #[{ on := 6, ground := Ground.data }, { on := 7, ground := Ground.data }], guard := none }) (v := ?vv9) rfl (by kernel_rfl) (by kernel_rfl) (by kernel_rfl) (fun _ _ _ h => h) (Or.inl ⟨by rfl, ?hy9⟩) (by assumption) ?_
      case hy9 => (intro w hSw; (try dsimp only at hSw); go_simp; all_goals with_reducible rfl)
      try simp only [Act.put, List.setIfInBounds_toArray, List.set_cons_zero, List.set_cons_succ]
      refine wpAnyH_take (i := 9) (oi := { dst := some 20, op := Op.fieldAddr 102 (Operand.tmp 19) 1, type := 0, pos := "law.go:26", after := #[{ on := 8, ground := Ground.data }], guard := none }) (v := ?vv10) rfl (by kernel_rfl) (by kernel_rfl) (by kernel_rfl) (fun _ _ _ h => h) (Or.inl ⟨by rfl, ?hy10⟩) (by assumption) ?_
      case hy10 => (intro w hSw; (try dsimp only at hSw); go_simp; all_goals with_reducible rfl)
      try simp only [Act.put, List.setIfInBounds_toArray, List.set_cons_zero, List.set_cons_succ]
      refine wpAnyH_take (i := 10) (oi := { dst := some 21, op := Op.load 45 (Operand.tmp 20), type := 45, pos := "law.go:26", after := #[{ on := 9, ground := Ground.data }], guard := none }) (v := ?vv11) rfl (by kernel_rfl) (by kernel_rfl) (by kernel_rfl) (fun _ _ _ h => h) (Or.inl ⟨by rfl, ?hy11⟩) (by assumption) ?_
      case hy11 => (intro w hSw; refine Eq.trans (exec_load_cells 45 (.tmp 20) (by rfl) B1 (o1 + k * 42 + 1) (woA x.w s.sp s.su s.so) (by rfl) _ (HW1.out _ hSw.2.2.2.out) Tryz.underlying45 rfl (by kernel_rfl)) ?_; with_reducible rfl)
      try simp only [Act.put, List.setIfInBounds_toArray, List.set_cons_zero, List.set_cons_succ]
      refine wpAnyH_take (i := 11) (oi := { dst := some 22, op := Op.move (Operand.tmp 0), type := 71, pos := "law.go:26", after := #[], guard := none }) (v := ?vv12) rfl (by kernel_rfl) (by kernel_rfl) (by kernel_rfl) (fun _ _ _ h => h) (Or.inl ⟨by rfl, ?hy12⟩) (by assumption) ?_
      case hy12 => (intro w hSw; (try dsimp only at hSw); go_simp; all_goals with_reducible rfl)
      try simp only [Act.put, List.setIfInBounds_toArray, List.set_cons_zero, List.set_cons_succ]
      refine wpAnyH_take (i := 12) (oi := { dst := some 23, op := Op.move (Operand.tmp 4), type := 3, pos := "law.go:26", after := #[], guard := none }) (v := ?vv13) rfl (by kernel_rfl) (by kernel_rfl) (by kernel_rfl) (fun _ _ _ h => h) (Or.inl ⟨by rfl, ?hy13⟩) (by assumption) ?_
      case hy13 => (intro w hSw; (try dsimp only at hSw); go_simp; all_goals with_reducible rfl)
      try simp only [Act.put, List.setIfInBounds_toArray, List.set_cons_zero, List.set_cons_succ]
      refine wpAnyH_take (i := 13) (oi := { dst := some 24, op := Op.indexAddr 71 (Operand.tmp 22) (Operand.tmp 23), type := 0, pos := "law.go:26", after := #[{ on := 11, ground := Ground.data }, { on := 12, ground := Ground.data }], guard := none }) (v := ?vv14) rfl (by kernel_rfl) (by kernel_rfl) (by kernel_rfl) (fun _ _ _ h => h) (Or.inl ⟨by rfl, ?hy14⟩) (by assumption) ?_
      case hy14 => (intro w hSw; (try dsimp only at hSw); go_simp; all_goals with_reducible rfl)
      try simp only [Act.put, List.setIfInBounds_toArray, List.set_cons_zero, List.set_cons_succ]
      refine wpAnyH_take (i := 14) (oi := { dst := some 25, op := Op.fieldAddr 102 (Operand.tmp 24) 2, type := 0, pos := "law.go:26", after := #[{ on := 13, ground := Ground.data }], guard := none }) (v := ?vv15) rfl (by kernel_rfl) (by kernel_rfl) (by kernel_rfl) (fun _ _ _ h => h) (Or.inl ⟨by rfl, ?hy15⟩) (by assumption) ?_
      case hy15 => (intro w hSw; (try dsimp only at hSw); go_simp; all_goals with_reducible rfl)
      try simp only [Act.put, List.setIfInBounds_toArray, List.set_cons_zero, List.set_cons_succ]
      refine wpAnyH_take (i := 15) (oi := { dst := some 26, op := Op.load 38 (Operand.tmp 25), type := 38, pos := "law.go:26", after := #[{ on := 14, ground := Ground.data }], guard := none }) (v := ?vv16) rfl (by kernel_rfl) (by kernel_rfl) (by kernel_rfl) (fun _ _ _ h => h) (Or.inl ⟨by rfl, ?hy16⟩) (by assumption) ?_
      case hy16 => (intro w hSw; refine Eq.trans (exec_load_cells 38 (.tmp 25) (by rfl) B1 (o1 + k * 42 + 20) (mvA x.m s.sf.v s.sc.v) (by rfl) _ (HM1.out _ hSw.2.2.2.out) Tryz.underlying38 rfl (by kernel_rfl)) ?_; with_reducible rfl)
      try simp only [Act.put, List.setIfInBounds_toArray, List.set_cons_zero, List.set_cons_succ]
      refine wpAnyH_take (i := 16) (oi := { dst := some 27, op := Op.move (Operand.tmp 0), type := 71, pos := "law.go:26", after := #[], guard := none }) (v := ?vv17) rfl (by kernel_rfl) (by kernel_rfl) (by kernel_rfl) (fun _ _ _ h => h) (Or.inl ⟨by rfl, ?hy17⟩) (by assumption) ?_
      case hy17 => (intro w hSw; (try dsimp only at hSw); go_simp; all_goals with_reducible rfl)
      try simp only [Act.put, List.setIfInBounds_toArray, List.set_cons_zero, List.set_cons_succ]
      refine wpAnyH_take (i := 17) (oi := { dst := some 28, op := Op.move (Operand.tmp 4), type := 3, pos := "law.go:26", after := #[], guard := none }) (v := ?vv18) rfl (by kernel_rfl) (by kernel_rfl) (by kernel_rfl) (fun _ _ _ h => h) (Or.inl ⟨by rfl, ?hy18⟩) (by assumption) ?_
      case hy18 => (intro w hSw; (try dsimp only at hSw); go_simp; all_goals with_reducible rfl)
      try simp only [Act.put, List.setIfInBounds_toArray, List.set_cons_zero, List.set_cons_succ]
      refine wpAnyH_take (i := 18) (oi := { dst := some 29, op := Op.indexAddr 71 (Operand.tmp 27) (Operand.tmp 28), type := 0, pos := "law.go:26", after := #[{ on := 16, ground := Ground.data }, { on := 17, ground := Ground.data }], guard := none }) (v := ?vv19) rfl (by kernel_rfl) (by kernel_rfl) (by kernel_rfl) (fun _ _ _ h => h) (Or.inl ⟨by rfl, ?hy19⟩) (by assumption) ?_
      case hy19 => (intro w hSw; (try dsimp only at hSw); go_simp; all_goals with_reducible rfl)
      try simp only [Act.put, List.setIfInBounds_toArray, List.set_cons_zero, List.set_cons_succ]
      refine wpAnyH_take (i := 19) (oi := { dst := some 30, op := Op.fieldAddr 102 (Operand.tmp 29) 3, type := 0, pos := "law.go:26", after := #[{ on := 18, ground := Ground.data }], guard := none }) (v := ?vv20) rfl (by kernel_rfl) (by kernel_rfl) (by kernel_rfl) (fun _ _ _ h => h) (Or.inl ⟨by rfl, ?hy20⟩) (by assumption) ?_
      case hy20 => (intro w hSw; (try dsimp only at hSw); go_simp; all_goals with_reducible rfl)
      try simp only [Act.put, List.setIfInBounds_toArray, List.set_cons_zero, List.set_cons_succ]
      refine wpAnyH_take (i := 20) (oi := { dst := some 31, op := Op.load 2 (Operand.tmp 30), type := 2, pos := "law.go:26", after := #[{ on := 19, ground := Ground.data }], guard := none }) (v := ?vv21) rfl (by kernel_rfl) (by kernel_rfl) (by kernel_rfl) (fun _ _ _ h => h) (Or.inl ⟨by rfl, ?hy21⟩) (by assumption) ?_
      case hy21 => (intro w hSw; (try dsimp only at hSw); go_simp; all_goals with_reducible rfl)
      try simp only [Act.put, List.setIfInBounds_toArray, List.set_cons_zero, List.set_cons_succ]
      refine wpAnyH_take (i := 21) (oi := { dst := some 32, op := Op.move (Operand.tmp 0), type := 71, pos := "law.go:26", after := #[], guard := none }) (v := ?vv22) rfl (by kernel_rfl) (by kernel_rfl) (by kernel_rfl) (fun _ _ _ h => h) (Or.inl ⟨by rfl, ?hy22⟩) (by assumption) ?_
      case hy22 => (intro w hSw; (try dsimp only at hSw); go_simp; all_goals with_reducible rfl)
      try simp only [Act.put, List.setIfInBounds_toArray, List.set_cons_zero, List.set_cons_succ]
      refine wpAnyH_take (i := 22) (oi := { dst := some 33, op := Op.move (Operand.tmp 4), type := 3, pos := "law.go:26", after := #[], guard := none }) (v := ?vv23) rfl (by kernel_rfl) (by kernel_rfl) (by kernel_rfl) (fun _ _ _ h => h) (Or.inl ⟨by rfl, ?hy23⟩) (by assumption) ?_
      case hy23 => (intro w hSw; (try dsimp only at hSw); go_simp; all_goals with_reducible rfl)
      try simp only [Act.put, List.setIfInBounds_toArray, List.set_cons_zero, List.set_cons_succ]
      refine wpAnyH_take (i := 23) (oi := { dst := some 34, op := Op.indexAddr 71 (Operand.tmp 32) (Operand.tmp 33), type := 0, pos := "law.go:26", after := #[{ on := 21, ground := Ground.data }, { on := 22, ground := Ground.data }], guard := none }) (v := ?vv24) rfl (by kernel_rfl) (by kernel_rfl) (by kernel_rfl) (fun _ _ _ h => h) (Or.inl ⟨by rfl, ?hy24⟩) (by assumption) ?_
      case hy24 => (intro w hSw; (try dsimp only at hSw); go_simp; all_goals with_reducible rfl)
      try simp only [Act.put, List.setIfInBounds_toArray, List.set_cons_zero, List.set_cons_succ]
      refine wpAnyH_take (i := 24) (oi := { dst := some 35, op := Op.fieldAddr 102 (Operand.tmp 34) 4, type := 0, pos := "law.go:26", after := #[{ on := 23, ground := Ground.data }], guard := none }) (v := ?vv25) rfl (by kernel_rfl) (by kernel_rfl) (by kernel_rfl) (fun _ _ _ h => h) (Or.inl ⟨by rfl, ?hy25⟩) (by assumption) ?_
      case hy25 => (intro w hSw; (try dsimp only at hSw); go_simp; all_goals with_reducible rfl)
      try simp only [Act.put, List.setIfInBounds_toArray, List.set_cons_zero, List.set_cons_succ]
      refine wpAnyH_take (i := 25) (oi := { dst := some 36, op := Op.load 4 (Operand.tmp 35), type := 4, pos := "law.go:26", after := #[{ on := 24, ground := Ground.data }], guard := none }) (v := ?vv26) rfl (by kernel_rfl) (by kernel_rfl) (by kernel_rfl) (fun _ _ _ h => h) (Or.inl ⟨by rfl, ?hy26⟩) (by assumption) ?_
      case hy26 => (intro w hSw; (try dsimp only at hSw); go_simp; all_goals with_reducible rfl)
      try simp only [Act.put, List.setIfInBounds_toArray, List.set_cons_zero, List.set_cons_succ]
      refine wpAnyH_take (i := 26) (oi := { dst := some 37, op := Op.build 47 #[(0, Operand.tmp 16), (1, Operand.tmp 21), (2, Operand.tmp 26), (3, Operand.tmp 31), (4, Operand.tmp 36)], type := 47, pos := "law.go:26", after := #[{ on := 5, ground := Ground.data }, { on := 10, ground := Ground.data }, { on := 15, ground := Ground.data }, { on := 20, ground := Ground.data }, { on := 25, ground := Ground.data }], guard := none }) (v := ?vv27) rfl (by kernel_rfl) (by kernel_rfl) (by kernel_rfl) (fun _ _ _ h => h) (Or.inl ⟨by rfl, ?hy27⟩) (by assumption) ?_
      case hy27 => (intro w hSw; refine Eq.trans (exec_build_to 47 _ (by rfl) (cmA x s) (by kernel_rfl)) ?_; with_reducible rfl)
      try simp only [Act.put, List.setIfInBounds_toArray, List.set_cons_zero, List.set_cons_succ]
      refine wpAnyH_ready (rs := [27]) (by kernel_rfl) (by simp) ?_
      refine AllReadyH.cons (o := { dst := some 38, op := Op.buildSlice 25 1 #[(0, Operand.tmp 37)], type := 25, pos := "law.go:26", after := #[{ on := 26, ground := Ground.data }], guard := none }) rfl (fun K hK => ?_) AllReadyH.nil
      obtain ⟨vb2, vm2, vc2, Y, hrun, hJ2⟩ := HJd.out.put hk1 (x, s) HX1.out HL.out
      have HJ2 := hid hJ2
      clear hJ2 HJd
      refine step_build_one rfl 25 47 (.tmp 37) rfl (cmA x s) (by first | rfl | simp [Act.eval, Act.put]) Tryz.underlying25 (by kernel_rfl) (Nat.lt_of_lt_of_le (by decide) (Nat.le_refl 42)) (Nat.le_of_ble_eq_true rfl) ?_
      refine hK.out _ _ (HCP.out _ (kW.trans ((bel1 _ _).mono kW.size))) (fun hHeld => ?_)
      clear hK K
      try simp only [Act.put, List.setIfInBounds_toArray, List.set_cons_zero, List.set_cons_succ]
      refine wpAnyH_ready (rs := [28]) (by kernel_rfl) (by simp) ?_
      refine AllReadyH.cons (o := { dst := some 39, op := Op.call { callee := Callee.builtin Builtin.append, args := #[Operand.tmp 11, Operand.tmp 38], argTypes := #[25, 25] }, type := 25, pos := "law.go:26", after := #[{ on := 0, ground := Ground.data }, { on := 27, ground := Ground.data }], guard := none }) rfl (fun K hK => ?_) AllReadyH.nil
      refine step_append_run rfl (.tmp 11) (.tmp 38) 25 25 rfl hrun (by first | rfl | simp [Act.eval, Act.put]) (by first | rfl | simp [Act.eval, Act.put]) ?_
      refine hK.out _ _ (HCP.out _ HJ2.out.bel) (fun hHeld => ?_)
      clear hK K hrun
      try simp only [Act.put, List.setIfInBounds_toArray, List.set_cons_zero, List.set_cons_succ]
      refine wpAnyH_take (i := 29) (oi := { dst := some 3, op := Op.assign (Operand.tmp 39), type := 25, pos := "law.go:26", after := #[{ on := 28, ground := Ground.data }, { on := 28, ground := Ground.chain }, { on := 0, ground := Ground.phase }, { on := 1, ground := Ground.phase }, { on := 2, ground := Ground.phase }, { on := 3, ground := Ground.phase }, { on := 4, ground := Ground.phase }, { on := 5, ground := Ground.phase }, { on := 6, ground := Ground.phase }, { on := 7, ground := Ground.phase }, { on := 8, ground := Ground.phase }, { on := 9, ground := Ground.phase }, { on := 10, ground := Ground.phase }, { on := 11, ground := Ground.phase }, { on := 12, ground := Ground.phase }, { on := 13, ground := Ground.phase }, { on := 14, ground := Ground.phase }, { on := 15, ground := Ground.phase }, { on := 16, ground := Ground.phase }, { on := 17, ground := Ground.phase }, { on := 18, ground := Ground.phase }, { on := 19, ground := Ground.phase }, { on := 20, ground := Ground.phase }, { on := 21, ground := Ground.phase }, { on := 22, ground := Ground.phase }, { on := 23, ground := Ground.phase }, { on := 24, ground := Ground.phase }, { on := 25, ground := Ground.phase }, { on := 26, ground := Ground.phase }, { on := 27, ground := Ground.phase }, { on := 28, ground := Ground.phase }], guard := none }) (v := ?vv28) rfl (by kernel_rfl) (by kernel_rfl) (by kernel_rfl) (fun _ _ _ h => h) (Or.inl ⟨by rfl, ?hy28⟩) (by assumption) ?_
      case hy28 => (intro w hSw; (try dsimp only at hSw); go_simp; all_goals with_reducible rfl)
      try simp only [Act.put, List.setIfInBounds_toArray, List.set_cons_zero, List.set_cons_succ]
      refine wpAnyH_done (by kernel_rfl) ?_ _
      clear hHeld kW
      go_wp2_with fail
      go_roundw
      case rel => exact ⟨k + 1, rfl, by omega, _, _, _, rfl, HJ2⟩
      case measure => show n - ((k : Int) + 1).toNat < n - ((k : Nat) : Int).toNat; omega
    · have hnl : ¬ (k : Int) < (n : Int) := by omega
      have hkn : k = n := by omega
      subst hkn
      go_wp2_with fail
      go_ret
      refine ⟨_, _, _, rfl, ?_, HJ.out.own, HJ.out.bel⟩
      have := HJ.out.row
      rw [HN.out, List.take_length] at this
      exact this
end Go.Proofs.YtghppkfopglgaaaGreatDoor
