/- The document's Right. -/
import Derived.Test.YtjigjckclpccmaaDoorX4
import Derived.Deep.CutRange
namespace Go.Proofs.YtjigjckclpccmaaDoor
open Go.RowKit
set_option linter.unusedVariables false
set_option linter.unusedSimpArgs false

/-- the first test of Right -/
def bad1 (ty fl st : Int) : Bool := decide (ty < 0) || (decide (255 < ty) || (decide (fl < 0) || (decide (255 < fl) || (!decide (bits .andNot .i64 fl (kflags (min ty 10).toNat) = 0) || (!wiS st 2147483647 || !srS ty.toNat st)))))
/-- the others, where it does not tell -/
def rt2 (f : Fr) (ps : List (Int × Int)) (T X : Nat) : Bool :=
  wiS f.pad 255 && ((!decide (0 < f.pad) || mpS T X) && ((if wgS T X then wiS f.dep 2147483647 && (!decide (f.wt < 1) && !decide (256 < f.wt)) else decide (f.dep = 0) && (!f.excl && decide (f.wt = 0))) && (nuB f && liB f ps)))
def rtB (f : Fr) (ps : List (Int × Int)) : Bool := if bad1 f.ty f.fl f.st then false else rt2 f ps f.ty.toNat f.fl.toNat
/-- the frame's box, and what was there ahead of it -/
structure Bx (w : World) (g : Nat) (cs : Array Value) (W : World) : Prop where
  blk : W.heap[g]? = some (.cells cs 28 (0, 0))
  bel : Below w.heap.size w W
theorem Bx.below {w W W' : World} {g : Nat} {cs : Array Value} (h : Bx w g cs W) (hb : Below W.heap.size W W') : Bx w g cs W' := ⟨(hb.block _ (Array.getElem?_eq_some_iff.1 h.1).1).trans h.1, h.2.trans (hb.mono h.2.size)⟩

theorem bel_al {W W1 : World} {o : Obj} (h : W1 = W.alloc o) : Below W.heap.size W W1 := by rw [h]; exact (Below.refl _ W).alloc (Nat.le_refl _) o

set_option maxRecDepth 100000 in
set_option maxHeartbeats 16000000 in
theorem right_any (f : Fr) (p : Value) (ps : List (Int × Int)) (w : World) (hp : PIn w p ps) (hn : ps.length ≤ 9223372036854775807) :
    Calls Tryd.prog 33 #[.agg (fv f p)] w fun e w' => e = .returned (.bool (rtB f ps)) ∧ Below w.heap.size w w' := by
  obtain ⟨R, hR⟩ : ∃ R, rtB f ps = R := ⟨_, rfl⟩
  rw [hR]
  have HNu := fun (W : World) => numbers_any f p W
  have HLi := fun (W : World) (hW : PIn W p ps) => lists_any f p ps W hW hn
  obtain ⟨nu, hnu⟩ : ∃ b, nuB f = b := ⟨_, rfl⟩
  obtain ⟨li, hli⟩ : ∃ b, liB f ps = b := ⟨_, rfl⟩
  rw [hnu] at HNu
  rw [hli] at HLi
  have HLi : Hid (∀ W, Below w.heap.size w W → Calls Tryd.prog 47 #[.agg (fv f p)] W fun e w' => e = .returned (.bool li) ∧ Below W.heap.size W w') := fun W hb => HLi W (hp.below hb)
  have HNu : Hid (∀ W, Calls Tryd.prog 46 #[.agg (fv f p)] W fun e w' => e = .returned (.bool nu) ∧ w' = W.alloc (.cells (fv f p) 28)) := HNu
  obtain ⟨pb, pc, rfl⟩ := hp.sl
  obtain ⟨n, hnn⟩ : ∃ n, ps.length = n := ⟨_, rfl⟩
  rw [hnn] at HLi HNu ⊢
  have HWg : Hid (∀ (T X : Nat), f.ty = (T : Int) → f.fl = (X : Int) → X < 256 → ∀ W : World, Calls Tryd.prog 44 #[.agg (fv f (.slice pb n pc))] W fun e w' => e = .returned (.bool (wgS T X)) ∧ w' = W.alloc (.cells (fv f (.slice pb n pc)) 28)) := fun T X h1 h2 h3 W => weighed_any f _ T X h1 h2 h3 W
  unfold rtB at hR
  obtain ⟨bad, hbad⟩ : ∃ b, bad1 f.ty f.fl f.st = b := ⟨_, rfl⟩
  rw [hbad] at hR
  have hR2 : rt2 f ps f.ty.toNat f.fl.toNat = (wiS f.pad 255 && ((!decide (0 < f.pad) || mpS f.ty.toNat f.fl.toNat) && ((if wgS f.ty.toNat f.fl.toNat then wiS f.dep 2147483647 && (!decide (f.wt < 1) && !decide (256 < f.wt)) else decide (f.dep = 0) && (!f.excl && decide (f.wt = 0))) && (nu && li)))) := by unfold rt2; rw [hnu, hli]
  clear hnu hli hp hn hnn
  obtain ⟨ty, fl, st, data, pad, dep, excl, wt, code, last⟩ := f
  unfold fv at *
  simp only at *
  have hbadT : Hid ((ty < 0 ∨ 255 < ty ∨ fl < 0 ∨ 255 < fl) → bad = true) := fun h => by
    rw [← hbad]
    unfold bad1
    rcases h with h | h | h | h <;> simp [h]
  have hbad5 : Hid (¬ ty < 0 → ¬ 255 < ty → ¬ fl < 0 → ¬ 255 < fl → bad = (!decide (bits .andNot .i64 fl (kflags (min ty 10).toNat) = 0) || (!wiS st 2147483647 || !srS ty.toNat st))) := fun a1 a2 a3 a4 => by
    rw [← hbad]
    unfold bad1
    rw [decide_eq_false a1, decide_eq_false a2, decide_eq_false a3, decide_eq_false a4]
    rfl
  have hok : Hid (bad = false → 0 ≤ ty ∧ ty ≤ 255 ∧ 0 ≤ fl ∧ fl ≤ 255) := fun h => by
    rw [← hbad] at h
    unfold bad1 at h
    simp at h
    omega
  have hRb : Hid (bad = true → R = false) := fun h => by rw [← hR, h]; rfl
  have hRo : Hid (bad = false → R = (wiS pad 255 && ((!decide (0 < pad) || mpS ty.toNat fl.toNat) && ((if wgS ty.toNat fl.toNat then wiS dep 2147483647 && (!decide (wt < 1) && !decide (256 < wt)) else decide (dep = 0) && (!excl && decide (wt = 0))) && (nu && li))))) := fun h => by rw [← hR, h, ← hR2]; rfl
  clear hR hR2 hbad
  have HB0 : Hid (Bx w w.heap.size #[.int .i64 ty, .int .i64 fl, .int .i64 st, .string data, .int .i64 pad, .int .i64 dep, .bool excl, .int .i64 wt, .int .i64 code, .int .i64 last, .slice pb n pc] (w.alloc (.cells #[.int .i64 ty, .int .i64 fl, .int .i64 st, .string data, .int .i64 pad, .int .i64 dep, .bool excl, .int .i64 wt, .int .i64 code, .int .i64 last, .slice pb n pc] 28))) := ⟨heap_alloc_new _ _, (Below.refl _ w).alloc (Nat.le_refl _) _⟩
  obtain ⟨g, hg⟩ : ∃ g, w.heap.size = g := ⟨_, rfl⟩
  have HG : Hid _ := hg
  rw [hg] at HB0
  clear hg
  have hfull : Hid (∀ W, Bx w g #[.int .i64 ty, .int .i64 fl, .int .i64 st, .string data, .int .i64 pad, .int .i64 dep, .bool excl, .int .i64 wt, .int .i64 code, .int .i64 last, .slice pb n pc] W → (fun W => W.cell? ⟨g, 0, none⟩ = some (.int .i64 ty) ∧ W.cell? ⟨g, 1, none⟩ = some (.int .i64 fl) ∧ W.cell? ⟨g, 2, none⟩ = some (.int .i64 st)) W) := fun W h => ⟨cell_of_row _ _ _ _ _ _ h.1, cell_of_row _ _ _ _ _ _ h.1, cell_of_row _ _ _ _ _ _ h.1⟩
  go_enter Tryd.func33, Tryd.ntmps33
  go_upto_region 1 with fail
  rw [HG.out]
  generalize w.alloc _ = W1 at HB0 ⊢
  go_cut [43] from 3 to 42 (fun b wx => b = .bool bad ∧ Bx w g #[.int .i64 ty, .int .i64 fl, .int .i64 st, .string data, .int .i64 pad, .int .i64 dep, .bool excl, .int .i64 wt, .int .i64 code, .int .i64 last, .slice pb n pc] wx)
  case first =>
    have hI := HB0.out.below (Below.refl _ _).drew
    clear HB0
    by_cases a1 : ty < 0
    · obtain rfl : bad = true := hbadT.out (.inl a1)
      refine wp_region_held_drew (S := (fun W => W.cell? ⟨g, 0, none⟩ = some (.int .i64 ty) ∧ W.cell? ⟨g, 1, none⟩ = some (.int .i64 fl) ∧ W.cell? ⟨g, 2, none⟩ = some (.int .i64 st))) (by kernel_rfl) (hfull.out _ hI) (fun hHeld => ?_)
      generalize hWg : World.drew _ = W at hI hHeld ⊢
      clear hWg
      refine wpAnyH_take (i := 0) (oi := { dst := some 3, op := Op.fieldAddr 28 (Operand.tmp 1) 0, type := 0, pos := "ref.go:71", after := #[], guard := none }) (v := ?vv1) rfl (by kernel_rfl) (by kernel_rfl) (by kernel_rfl) (fun _ _ _ h => h) (Or.inl ⟨by rfl, ?hy1⟩) (by assumption) ?_
      case hy1 => (intro w hSw; (try dsimp only at hSw); go_simp; all_goals with_reducible rfl)
      try simp only [Act.put, List.setIfInBounds_toArray, List.set_cons_zero, List.set_cons_succ]
      refine wpAnyH_take (i := 1) (oi := { dst := some 4, op := Op.load 3 (Operand.tmp 3), type := 3, pos := "ref.go:71", after := #[{ on := 0, ground := Ground.data }], guard := none }) (v := ?vv2) rfl (by kernel_rfl) (by kernel_rfl) (by kernel_rfl) (fun _ _ _ h => h) (Or.inl ⟨by rfl, ?hy2⟩) (by assumption) ?_
      case hy2 => (intro w hSw; (try dsimp only at hSw); go_simp; all_goals with_reducible rfl)
      try simp only [Act.put, List.setIfInBounds_toArray, List.set_cons_zero, List.set_cons_succ]
      refine wpAnyH_take (i := 2) (oi := { dst := some 5, op := Op.binOp BinOp.lss 3 (Operand.tmp 4) (Operand.const (Value.int IntKind.i64 0)) 3, type := 4, pos := "ref.go:71", after := #[{ on := 1, ground := Ground.data }], guard := none }) (v := ?vv3) rfl (by kernel_rfl) (by kernel_rfl) (by kernel_rfl) (fun _ _ _ h => h) (Or.inl ⟨by rfl, ?hy3⟩) (by assumption) ?_
      case hy3 => (intro w hSw; (try dsimp only at hSw); go_simp; all_goals with_reducible rfl)
      try simp only [Act.put, List.setIfInBounds_toArray, List.set_cons_zero, List.set_cons_succ]
      refine wpAnyH_take (i := 3) (oi := { dst := some 6, op := Op.move (Operand.tmp 5), type := 4, pos := "ref.go:71", after := #[{ on := 2, ground := Ground.data }], guard := none }) (v := ?vv4) rfl (by kernel_rfl) (by kernel_rfl) (by kernel_rfl) (fun _ _ _ h => h) (Or.inl ⟨by rfl, ?hy4⟩) (by assumption) ?_
      case hy4 => (intro w hSw; (try dsimp only at hSw); go_simp; all_goals with_reducible rfl)
      try simp only [Act.put, List.setIfInBounds_toArray, List.set_cons_zero, List.set_cons_succ]
      refine wpAnyH_take (i := 4) (oi := { dst := some 7, op := Op.fieldAddr 28 (Operand.tmp 1) 0, type := 0, pos := "ref.go:71", after := #[{ on := 3, ground := Ground.guard }], guard := some (3, false) }) (v := undef) rfl (by kernel_rfl) (by kernel_rfl) (by kernel_rfl) (fun _ _ _ h => h) (Or.inr ⟨by rfl, rfl⟩) (by assumption) ?_
      try simp only [Act.put, List.setIfInBounds_toArray, List.set_cons_zero, List.set_cons_succ]
      refine wpAnyH_take (i := 5) (oi := { dst := some 8, op := Op.load 3 (Operand.tmp 7), type := 3, pos := "ref.go:71", after := #[{ on := 4, ground := Ground.data }, { on := 3, ground := Ground.guard }], guard := some (3, false) }) (v := undef) rfl (by kernel_rfl) (by kernel_rfl) (by kernel_rfl) (fun _ _ _ h => h) (Or.inr ⟨by rfl, rfl⟩) (by assumption) ?_
      try simp only [Act.put, List.setIfInBounds_toArray, List.set_cons_zero, List.set_cons_succ]
      refine wpAnyH_take (i := 6) (oi := { dst := some 9, op := Op.binOp BinOp.gtr 3 (Operand.tmp 8) (Operand.const (Value.int IntKind.i64 255)) 3, type := 4, pos := "ref.go:71", after := #[{ on := 5, ground := Ground.data }, { on := 3, ground := Ground.guard }], guard := some (3, false) }) (v := undef) rfl (by kernel_rfl) (by kernel_rfl) (by kernel_rfl) (fun _ _ _ h => h) (Or.inr ⟨by rfl, rfl⟩) (by assumption) ?_
      try simp only [Act.put, List.setIfInBounds_toArray, List.set_cons_zero, List.set_cons_succ]
      refine wpAnyH_take (i := 7) (oi := { dst := some 10, op := Op.pick (Operand.tmp 6) (Operand.const (Value.bool true)) (Operand.tmp 9), type := 4, pos := "ref.go:71", after := #[{ on := 3, ground := Ground.data }, { on := 6, ground := Ground.data }], guard := none }) (v := ?vv5) rfl (by kernel_rfl) (by kernel_rfl) (by kernel_rfl) (fun _ _ _ h => h) (Or.inl ⟨by rfl, ?hy5⟩) (by assumption) ?_
      case hy5 => (intro w hSw; (try dsimp only at hSw); go_simp; all_goals with_reducible rfl)
      try simp only [Act.put, List.setIfInBounds_toArray, List.set_cons_zero, List.set_cons_succ]
      refine wpAnyH_take (i := 8) (oi := { dst := some 11, op := Op.move (Operand.tmp 10), type := 4, pos := "ref.go:71", after := #[{ on := 7, ground := Ground.data }, { on := 3, ground := Ground.chain }], guard := none }) (v := ?vv6) rfl (by kernel_rfl) (by kernel_rfl) (by kernel_rfl) (fun _ _ _ h => h) (Or.inl ⟨by rfl, ?hy6⟩) (by assumption) ?_
      case hy6 => (intro w hSw; (try dsimp only at hSw); go_simp; all_goals with_reducible rfl)
      try simp only [Act.put, List.setIfInBounds_toArray, List.set_cons_zero, List.set_cons_succ]
      refine wpAnyH_take (i := 9) (oi := { dst := some 12, op := Op.fieldAddr 28 (Operand.tmp 1) 1, type := 0, pos := "ref.go:71", after := #[{ on := 8, ground := Ground.guard }], guard := some (8, false) }) (v := undef) rfl (by kernel_rfl) (by kernel_rfl) (by kernel_rfl) (fun _ _ _ h => h) (Or.inr ⟨by rfl, rfl⟩) (by assumption) ?_
      try simp only [Act.put, List.setIfInBounds_toArray, List.set_cons_zero, List.set_cons_succ]
      refine wpAnyH_take (i := 10) (oi := { dst := some 13, op := Op.load 3 (Operand.tmp 12), type := 3, pos := "ref.go:71", after := #[{ on := 9, ground := Ground.data }, { on := 8, ground := Ground.guard }], guard := some (8, false) }) (v := undef) rfl (by kernel_rfl) (by kernel_rfl) (by kernel_rfl) (fun _ _ _ h => h) (Or.inr ⟨by rfl, rfl⟩) (by assumption) ?_
      try simp only [Act.put, List.setIfInBounds_toArray, List.set_cons_zero, List.set_cons_succ]
      refine wpAnyH_take (i := 11) (oi := { dst := some 14, op := Op.binOp BinOp.lss 3 (Operand.tmp 13) (Operand.const (Value.int IntKind.i64 0)) 3, type := 4, pos := "ref.go:71", after := #[{ on := 10, ground := Ground.data }, { on := 8, ground := Ground.guard }], guard := some (8, false) }) (v := undef) rfl (by kernel_rfl) (by kernel_rfl) (by kernel_rfl) (fun _ _ _ h => h) (Or.inr ⟨by rfl, rfl⟩) (by assumption) ?_
      try simp only [Act.put, List.setIfInBounds_toArray, List.set_cons_zero, List.set_cons_succ]
      refine wpAnyH_take (i := 12) (oi := { dst := some 15, op := Op.pick (Operand.tmp 11) (Operand.const (Value.bool true)) (Operand.tmp 14), type := 4, pos := "ref.go:71", after := #[{ on := 8, ground := Ground.data }, { on := 11, ground := Ground.data }], guard := none }) (v := ?vv7) rfl (by kernel_rfl) (by kernel_rfl) (by kernel_rfl) (fun _ _ _ h => h) (Or.inl ⟨by rfl, ?hy7⟩) (by assumption) ?_
      case hy7 => (intro w hSw; (try dsimp only at hSw); go_simp; all_goals with_reducible rfl)
      try simp only [Act.put, List.setIfInBounds_toArray, List.set_cons_zero, List.set_cons_succ]
      refine wpAnyH_take (i := 13) (oi := { dst := some 16, op := Op.move (Operand.tmp 15), type := 4, pos := "ref.go:71", after := #[{ on := 12, ground := Ground.data }, { on := 8, ground := Ground.chain }], guard := none }) (v := ?vv8) rfl (by kernel_rfl) (by kernel_rfl) (by kernel_rfl) (fun _ _ _ h => h) (Or.inl ⟨by rfl, ?hy8⟩) (by assumption) ?_
      case hy8 => (intro w hSw; (try dsimp only at hSw); go_simp; all_goals with_reducible rfl)
      try simp only [Act.put, List.setIfInBounds_toArray, List.set_cons_zero, List.set_cons_succ]
      refine wpAnyH_take (i := 14) (oi := { dst := some 17, op := Op.fieldAddr 28 (Operand.tmp 1) 1, type := 0, pos := "ref.go:71", after := #[{ on := 13, ground := Ground.guard }], guard := some (13, false) }) (v := undef) rfl (by kernel_rfl) (by kernel_rfl) (by kernel_rfl) (fun _ _ _ h => h) (Or.inr ⟨by rfl, rfl⟩) (by assumption) ?_
      try simp only [Act.put, List.setIfInBounds_toArray, List.set_cons_zero, List.set_cons_succ]
      refine wpAnyH_take (i := 15) (oi := { dst := some 18, op := Op.load 3 (Operand.tmp 17), type := 3, pos := "ref.go:71", after := #[{ on := 14, ground := Ground.data }, { on := 13, ground := Ground.guard }], guard := some (13, false) }) (v := undef) rfl (by kernel_rfl) (by kernel_rfl) (by kernel_rfl) (fun _ _ _ h => h) (Or.inr ⟨by rfl, rfl⟩) (by assumption) ?_
      try simp only [Act.put, List.setIfInBounds_toArray, List.set_cons_zero, List.set_cons_succ]
      refine wpAnyH_take (i := 16) (oi := { dst := some 19, op := Op.binOp BinOp.gtr 3 (Operand.tmp 18) (Operand.const (Value.int IntKind.i64 255)) 3, type := 4, pos := "ref.go:71", after := #[{ on := 15, ground := Ground.data }, { on := 13, ground := Ground.guard }], guard := some (13, false) }) (v := undef) rfl (by kernel_rfl) (by kernel_rfl) (by kernel_rfl) (fun _ _ _ h => h) (Or.inr ⟨by rfl, rfl⟩) (by assumption) ?_
      try simp only [Act.put, List.setIfInBounds_toArray, List.set_cons_zero, List.set_cons_succ]
      refine wpAnyH_take (i := 17) (oi := { dst := some 20, op := Op.pick (Operand.tmp 16) (Operand.const (Value.bool true)) (Operand.tmp 19), type := 4, pos := "ref.go:71", after := #[{ on := 13, ground := Ground.data }, { on := 16, ground := Ground.data }], guard := none }) (v := ?vv9) rfl (by kernel_rfl) (by kernel_rfl) (by kernel_rfl) (fun _ _ _ h => h) (Or.inl ⟨by rfl, ?hy9⟩) (by assumption) ?_
      case hy9 => (intro w hSw; (try dsimp only at hSw); go_simp; all_goals with_reducible rfl)
      try simp only [Act.put, List.setIfInBounds_toArray, List.set_cons_zero, List.set_cons_succ]
      refine wpAnyH_take (i := 18) (oi := { dst := some 21, op := Op.move (Operand.tmp 20), type := 4, pos := "ref.go:71", after := #[{ on := 17, ground := Ground.data }, { on := 13, ground := Ground.chain }], guard := none }) (v := ?vv10) rfl (by kernel_rfl) (by kernel_rfl) (by kernel_rfl) (fun _ _ _ h => h) (Or.inl ⟨by rfl, ?hy10⟩) (by assumption) ?_
      case hy10 => (intro w hSw; (try dsimp only at hSw); go_simp; all_goals with_reducible rfl)
      try simp only [Act.put, List.setIfInBounds_toArray, List.set_cons_zero, List.set_cons_succ]
      refine wpAnyH_take (i := 19) (oi := { dst := some 22, op := Op.fieldAddr 28 (Operand.tmp 1) 1, type := 0, pos := "ref.go:71", after := #[{ on := 18, ground := Ground.guard }], guard := some (18, false) }) (v := undef) rfl (by kernel_rfl) (by kernel_rfl) (by kernel_rfl) (fun _ _ _ h => h) (Or.inr ⟨by rfl, rfl⟩) (by assumption) ?_
      try simp only [Act.put, List.setIfInBounds_toArray, List.set_cons_zero, List.set_cons_succ]
      refine wpAnyH_take (i := 20) (oi := { dst := some 23, op := Op.load 3 (Operand.tmp 22), type := 3, pos := "ref.go:71", after := #[{ on := 19, ground := Ground.data }, { on := 18, ground := Ground.guard }], guard := some (18, false) }) (v := undef) rfl (by kernel_rfl) (by kernel_rfl) (by kernel_rfl) (fun _ _ _ h => h) (Or.inr ⟨by rfl, rfl⟩) (by assumption) ?_
      try simp only [Act.put, List.setIfInBounds_toArray, List.set_cons_zero, List.set_cons_succ]
      refine wpAnyH_take (i := 21) (oi := { dst := some 24, op := Op.fieldAddr 28 (Operand.tmp 1) 0, type := 0, pos := "ref.go:71", after := #[{ on := 18, ground := Ground.guard }], guard := some (18, false) }) (v := undef) rfl (by kernel_rfl) (by kernel_rfl) (by kernel_rfl) (fun _ _ _ h => h) (Or.inr ⟨by rfl, rfl⟩) (by assumption) ?_
      try simp only [Act.put, List.setIfInBounds_toArray, List.set_cons_zero, List.set_cons_succ]
      refine wpAnyH_take (i := 22) (oi := { dst := some 25, op := Op.load 3 (Operand.tmp 24), type := 3, pos := "ref.go:71", after := #[{ on := 21, ground := Ground.data }, { on := 18, ground := Ground.guard }], guard := some (18, false) }) (v := undef) rfl (by kernel_rfl) (by kernel_rfl) (by kernel_rfl) (fun _ _ _ h => h) (Or.inr ⟨by rfl, rfl⟩) (by assumption) ?_
      try simp only [Act.put, List.setIfInBounds_toArray, List.set_cons_zero, List.set_cons_succ]
      refine wpAnyH_take (i := 23) (oi := { dst := some 26, op := Op.call { callee := Callee.value (Operand.func 29), args := #[Operand.tmp 25], argTypes := #[3] }, type := 3, pos := "ref.go:71", after := #[{ on := 22, ground := Ground.data }, { on := 18, ground := Ground.chain }, { on := 18, ground := Ground.guard }], guard := some (18, false) }) (v := undef) rfl (by kernel_rfl) (by kernel_rfl) (by kernel_rfl) (fun _ _ _ h => h) (Or.inr ⟨by rfl, rfl⟩) (by assumption) ?_
      try simp only [Act.put, List.setIfInBounds_toArray, List.set_cons_zero, List.set_cons_succ]
      refine wpAnyH_take (i := 24) (oi := { dst := some 27, op := Op.binOp BinOp.andNot 3 (Operand.tmp 23) (Operand.tmp 26) 3, type := 3, pos := "ref.go:71", after := #[{ on := 20, ground := Ground.data }, { on := 23, ground := Ground.data }, { on := 18, ground := Ground.guard }], guard := some (18, false) }) (v := undef) rfl (by kernel_rfl) (by kernel_rfl) (by kernel_rfl) (fun _ _ _ h => h) (Or.inr ⟨by rfl, rfl⟩) (by assumption) ?_
      try simp only [Act.put, List.setIfInBounds_toArray, List.set_cons_zero, List.set_cons_succ]
      refine wpAnyH_take (i := 25) (oi := { dst := some 28, op := Op.binOp BinOp.neq 3 (Operand.tmp 27) (Operand.const (Value.int IntKind.i64 0)) 3, type := 4, pos := "ref.go:71", after := #[{ on := 24, ground := Ground.data }, { on := 18, ground := Ground.guard }], guard := some (18, false) }) (v := undef) rfl (by kernel_rfl) (by kernel_rfl) (by kernel_rfl) (fun _ _ _ h => h) (Or.inr ⟨by rfl, rfl⟩) (by assumption) ?_
      try simp only [Act.put, List.setIfInBounds_toArray, List.set_cons_zero, List.set_cons_succ]
      refine wpAnyH_take (i := 26) (oi := { dst := some 29, op := Op.pick (Operand.tmp 21) (Operand.const (Value.bool true)) (Operand.tmp 28), type := 4, pos := "ref.go:71", after := #[{ on := 18, ground := Ground.data }, { on := 25, ground := Ground.data }], guard := none }) (v := ?vv11) rfl (by kernel_rfl) (by kernel_rfl) (by kernel_rfl) (fun _ _ _ h => h) (Or.inl ⟨by rfl, ?hy11⟩) (by assumption) ?_
      case hy11 => (intro w hSw; (try dsimp only at hSw); go_simp; all_goals with_reducible rfl)
      try simp only [Act.put, List.setIfInBounds_toArray, List.set_cons_zero, List.set_cons_succ]
      refine wpAnyH_take (i := 27) (oi := { dst := some 30, op := Op.move (Operand.tmp 29), type := 4, pos := "ref.go:71", after := #[{ on := 26, ground := Ground.data }, { on := 23, ground := Ground.chain }], guard := none }) (v := ?vv12) rfl (by kernel_rfl) (by kernel_rfl) (by kernel_rfl) (fun _ _ _ h => h) (Or.inl ⟨by rfl, ?hy12⟩) (by assumption) ?_
      case hy12 => (intro w hSw; (try dsimp only at hSw); go_simp; all_goals with_reducible rfl)
      try simp only [Act.put, List.setIfInBounds_toArray, List.set_cons_zero, List.set_cons_succ]
      refine wpAnyH_take (i := 28) (oi := { dst := some 31, op := Op.fieldAddr 28 (Operand.tmp 1) 2, type := 0, pos := "ref.go:71", after := #[{ on := 27, ground := Ground.guard }], guard := some (27, false) }) (v := undef) rfl (by kernel_rfl) (by kernel_rfl) (by kernel_rfl) (fun _ _ _ h => h) (Or.inr ⟨by rfl, rfl⟩) (by assumption) ?_
      try simp only [Act.put, List.setIfInBounds_toArray, List.set_cons_zero, List.set_cons_succ]
      refine wpAnyH_take (i := 29) (oi := { dst := some 32, op := Op.load 2 (Operand.tmp 31), type := 2, pos := "ref.go:71", after := #[{ on := 28, ground := Ground.data }, { on := 27, ground := Ground.guard }], guard := some (27, false) }) (v := undef) rfl (by kernel_rfl) (by kernel_rfl) (by kernel_rfl) (fun _ _ _ h => h) (Or.inr ⟨by rfl, rfl⟩) (by assumption) ?_
      try simp only [Act.put, List.setIfInBounds_toArray, List.set_cons_zero, List.set_cons_succ]
      refine wpAnyH_take (i := 30) (oi := { dst := some 33, op := Op.call { callee := Callee.value (Operand.func 45), args := #[Operand.tmp 32, Operand.const (Value.int IntKind.i64 2147483647)], argTypes := #[2, 2] }, type := 4, pos := "ref.go:71", after := #[{ on := 29, ground := Ground.data }, { on := 27, ground := Ground.chain }, { on := 27, ground := Ground.guard }], guard := some (27, false) }) (v := undef) rfl (by kernel_rfl) (by kernel_rfl) (by kernel_rfl) (fun _ _ _ h => h) (Or.inr ⟨by rfl, rfl⟩) (by assumption) ?_
      try simp only [Act.put, List.setIfInBounds_toArray, List.set_cons_zero, List.set_cons_succ]
      refine wpAnyH_take (i := 31) (oi := { dst := some 34, op := Op.unOp UnOp.not 4 (Operand.tmp 33), type := 4, pos := "ref.go:71", after := #[{ on := 30, ground := Ground.data }, { on := 27, ground := Ground.guard }], guard := some (27, false) }) (v := undef) rfl (by kernel_rfl) (by kernel_rfl) (by kernel_rfl) (fun _ _ _ h => h) (Or.inr ⟨by rfl, rfl⟩) (by assumption) ?_
      try simp only [Act.put, List.setIfInBounds_toArray, List.set_cons_zero, List.set_cons_succ]
      refine wpAnyH_take (i := 32) (oi := { dst := some 35, op := Op.pick (Operand.tmp 30) (Operand.const (Value.bool true)) (Operand.tmp 34), type := 4, pos := "ref.go:71", after := #[{ on := 27, ground := Ground.data }, { on := 31, ground := Ground.data }], guard := none }) (v := ?vv13) rfl (by kernel_rfl) (by kernel_rfl) (by kernel_rfl) (fun _ _ _ h => h) (Or.inl ⟨by rfl, ?hy13⟩) (by assumption) ?_
      case hy13 => (intro w hSw; (try dsimp only at hSw); go_simp; all_goals with_reducible rfl)
      try simp only [Act.put, List.setIfInBounds_toArray, List.set_cons_zero, List.set_cons_succ]
      refine wpAnyH_take (i := 33) (oi := { dst := some 36, op := Op.move (Operand.tmp 35), type := 4, pos := "ref.go:71", after := #[{ on := 32, ground := Ground.data }, { on := 30, ground := Ground.chain }], guard := none }) (v := ?vv14) rfl (by kernel_rfl) (by kernel_rfl) (by kernel_rfl) (fun _ _ _ h => h) (Or.inl ⟨by rfl, ?hy14⟩) (by assumption) ?_
      case hy14 => (intro w hSw; (try dsimp only at hSw); go_simp; all_goals with_reducible rfl)
      try simp only [Act.put, List.setIfInBounds_toArray, List.set_cons_zero, List.set_cons_succ]
      refine wpAnyH_take (i := 34) (oi := { dst := some 37, op := Op.fieldAddr 28 (Operand.tmp 1) 0, type := 0, pos := "ref.go:71", after := #[{ on := 33, ground := Ground.guard }], guard := some (33, false) }) (v := undef) rfl (by kernel_rfl) (by kernel_rfl) (by kernel_rfl) (fun _ _ _ h => h) (Or.inr ⟨by rfl, rfl⟩) (by assumption) ?_
      try simp only [Act.put, List.setIfInBounds_toArray, List.set_cons_zero, List.set_cons_succ]
      refine wpAnyH_take (i := 35) (oi := { dst := some 38, op := Op.load 3 (Operand.tmp 37), type := 3, pos := "ref.go:71", after := #[{ on := 34, ground := Ground.data }, { on := 33, ground := Ground.guard }], guard := some (33, false) }) (v := undef) rfl (by kernel_rfl) (by kernel_rfl) (by kernel_rfl) (fun _ _ _ h => h) (Or.inr ⟨by rfl, rfl⟩) (by assumption) ?_
      try simp only [Act.put, List.setIfInBounds_toArray, List.set_cons_zero, List.set_cons_succ]
      refine wpAnyH_take (i := 36) (oi := { dst := some 39, op := Op.fieldAddr 28 (Operand.tmp 1) 2, type := 0, pos := "ref.go:71", after := #[{ on := 33, ground := Ground.guard }], guard := some (33, false) }) (v := undef) rfl (by kernel_rfl) (by kernel_rfl) (by kernel_rfl) (fun _ _ _ h => h) (Or.inr ⟨by rfl, rfl⟩) (by assumption) ?_
      try simp only [Act.put, List.setIfInBounds_toArray, List.set_cons_zero, List.set_cons_succ]
      refine wpAnyH_take (i := 37) (oi := { dst := some 40, op := Op.load 2 (Operand.tmp 39), type := 2, pos := "ref.go:71", after := #[{ on := 36, ground := Ground.data }, { on := 33, ground := Ground.guard }], guard := some (33, false) }) (v := undef) rfl (by kernel_rfl) (by kernel_rfl) (by kernel_rfl) (fun _ _ _ h => h) (Or.inr ⟨by rfl, rfl⟩) (by assumption) ?_
      try simp only [Act.put, List.setIfInBounds_toArray, List.set_cons_zero, List.set_cons_succ]
      refine wpAnyH_take (i := 38) (oi := { dst := some 41, op := Op.call { callee := Callee.value (Operand.func 30), args := #[Operand.tmp 38, Operand.tmp 40], argTypes := #[3, 2] }, type := 4, pos := "ref.go:71", after := #[{ on := 35, ground := Ground.data }, { on := 37, ground := Ground.data }, { on := 33, ground := Ground.chain }, { on := 33, ground := Ground.guard }], guard := some (33, false) }) (v := undef) rfl (by kernel_rfl) (by kernel_rfl) (by kernel_rfl) (fun _ _ _ h => h) (Or.inr ⟨by rfl, rfl⟩) (by assumption) ?_
      try simp only [Act.put, List.setIfInBounds_toArray, List.set_cons_zero, List.set_cons_succ]
      refine wpAnyH_take (i := 39) (oi := { dst := some 42, op := Op.unOp UnOp.not 4 (Operand.tmp 41), type := 4, pos := "ref.go:71", after := #[{ on := 38, ground := Ground.data }, { on := 33, ground := Ground.guard }], guard := some (33, false) }) (v := undef) rfl (by kernel_rfl) (by kernel_rfl) (by kernel_rfl) (fun _ _ _ h => h) (Or.inr ⟨by rfl, rfl⟩) (by assumption) ?_
      try simp only [Act.put, List.setIfInBounds_toArray, List.set_cons_zero, List.set_cons_succ]
      refine wpAnyH_take (i := 40) (oi := { dst := some 43, op := Op.pick (Operand.tmp 36) (Operand.const (Value.bool true)) (Operand.tmp 42), type := 4, pos := "ref.go:71", after := #[{ on := 33, ground := Ground.data }, { on := 39, ground := Ground.data }], guard := none }) (v := ?vv15) rfl (by kernel_rfl) (by kernel_rfl) (by kernel_rfl) (fun _ _ _ h => h) (Or.inl ⟨by rfl, ?hy15⟩) (by assumption) ?_
      case hy15 => (intro w hSw; (try dsimp only at hSw); go_simp; all_goals with_reducible rfl)
      try simp only [Act.put, List.setIfInBounds_toArray, List.set_cons_zero, List.set_cons_succ]
      refine wpAnyH_done (by kernel_rfl) ?_ _
      go_wp2_with fail
      go_meet
      case rel => exact ⟨rfl, hI⟩
    by_cases a2 : 255 < ty
    · obtain rfl : bad = true := hbadT.out (.inr (.inl a2))
      refine wp_region_held_drew (S := (fun W => W.cell? ⟨g, 0, none⟩ = some (.int .i64 ty) ∧ W.cell? ⟨g, 1, none⟩ = some (.int .i64 fl) ∧ W.cell? ⟨g, 2, none⟩ = some (.int .i64 st))) (by kernel_rfl) (hfull.out _ hI) (fun hHeld => ?_)
      generalize hWg : World.drew _ = W at hI hHeld ⊢
      clear hWg
      refine wpAnyH_take (i := 0) (oi := { dst := some 3, op := Op.fieldAddr 28 (Operand.tmp 1) 0, type := 0, pos := "ref.go:71", after := #[], guard := none }) (v := ?vv16) rfl (by kernel_rfl) (by kernel_rfl) (by kernel_rfl) (fun _ _ _ h => h) (Or.inl ⟨by rfl, ?hy16⟩) (by assumption) ?_
      case hy16 => (intro w hSw; (try dsimp only at hSw); go_simp; all_goals with_reducible rfl)
      try simp only [Act.put, List.setIfInBounds_toArray, List.set_cons_zero, List.set_cons_succ]
      refine wpAnyH_take (i := 1) (oi := { dst := some 4, op := Op.load 3 (Operand.tmp 3), type := 3, pos := "ref.go:71", after := #[{ on := 0, ground := Ground.data }], guard := none }) (v := ?vv17) rfl (by kernel_rfl) (by kernel_rfl) (by kernel_rfl) (fun _ _ _ h => h) (Or.inl ⟨by rfl, ?hy17⟩) (by assumption) ?_
      case hy17 => (intro w hSw; (try dsimp only at hSw); go_simp; all_goals with_reducible rfl)
      try simp only [Act.put, List.setIfInBounds_toArray, List.set_cons_zero, List.set_cons_succ]
      refine wpAnyH_take (i := 2) (oi := { dst := some 5, op := Op.binOp BinOp.lss 3 (Operand.tmp 4) (Operand.const (Value.int IntKind.i64 0)) 3, type := 4, pos := "ref.go:71", after := #[{ on := 1, ground := Ground.data }], guard := none }) (v := ?vv18) rfl (by kernel_rfl) (by kernel_rfl) (by kernel_rfl) (fun _ _ _ h => h) (Or.inl ⟨by rfl, ?hy18⟩) (by assumption) ?_
      case hy18 => (intro w hSw; (try dsimp only at hSw); go_simp; all_goals with_reducible rfl)
      try simp only [Act.put, List.setIfInBounds_toArray, List.set_cons_zero, List.set_cons_succ]
      refine wpAnyH_take (i := 3) (oi := { dst := some 6, op := Op.move (Operand.tmp 5), type := 4, pos := "ref.go:71", after := #[{ on := 2, ground := Ground.data }], guard := none }) (v := ?vv19) rfl (by kernel_rfl) (by kernel_rfl) (by kernel_rfl) (fun _ _ _ h => h) (Or.inl ⟨by rfl, ?hy19⟩) (by assumption) ?_
      case hy19 => (intro w hSw; (try dsimp only at hSw); go_simp; all_goals with_reducible rfl)
      try simp only [Act.put, List.setIfInBounds_toArray, List.set_cons_zero, List.set_cons_succ]
      refine wpAnyH_take (i := 4) (oi := { dst := some 7, op := Op.fieldAddr 28 (Operand.tmp 1) 0, type := 0, pos := "ref.go:71", after := #[{ on := 3, ground := Ground.guard }], guard := some (3, false) }) (v := ?vv20) rfl (by kernel_rfl) (by kernel_rfl) (by kernel_rfl) (fun _ _ _ h => h) (Or.inl ⟨by rfl, ?hy20⟩) (by assumption) ?_
      case hy20 => (intro w hSw; (try dsimp only at hSw); go_simp; all_goals with_reducible rfl)
      try simp only [Act.put, List.setIfInBounds_toArray, List.set_cons_zero, List.set_cons_succ]
      refine wpAnyH_take (i := 5) (oi := { dst := some 8, op := Op.load 3 (Operand.tmp 7), type := 3, pos := "ref.go:71", after := #[{ on := 4, ground := Ground.data }, { on := 3, ground := Ground.guard }], guard := some (3, false) }) (v := ?vv21) rfl (by kernel_rfl) (by kernel_rfl) (by kernel_rfl) (fun _ _ _ h => h) (Or.inl ⟨by rfl, ?hy21⟩) (by assumption) ?_
      case hy21 => (intro w hSw; (try dsimp only at hSw); go_simp; all_goals with_reducible rfl)
      try simp only [Act.put, List.setIfInBounds_toArray, List.set_cons_zero, List.set_cons_succ]
      refine wpAnyH_take (i := 6) (oi := { dst := some 9, op := Op.binOp BinOp.gtr 3 (Operand.tmp 8) (Operand.const (Value.int IntKind.i64 255)) 3, type := 4, pos := "ref.go:71", after := #[{ on := 5, ground := Ground.data }, { on := 3, ground := Ground.guard }], guard := some (3, false) }) (v := ?vv22) rfl (by kernel_rfl) (by kernel_rfl) (by kernel_rfl) (fun _ _ _ h => h) (Or.inl ⟨by rfl, ?hy22⟩) (by assumption) ?_
      case hy22 => (intro w hSw; (try dsimp only at hSw); go_simp; all_goals with_reducible rfl)
      try simp only [Act.put, List.setIfInBounds_toArray, List.set_cons_zero, List.set_cons_succ]
      refine wpAnyH_take (i := 7) (oi := { dst := some 10, op := Op.pick (Operand.tmp 6) (Operand.const (Value.bool true)) (Operand.tmp 9), type := 4, pos := "ref.go:71", after := #[{ on := 3, ground := Ground.data }, { on := 6, ground := Ground.data }], guard := none }) (v := ?vv23) rfl (by kernel_rfl) (by kernel_rfl) (by kernel_rfl) (fun _ _ _ h => h) (Or.inl ⟨by rfl, ?hy23⟩) (by assumption) ?_
      case hy23 => (intro w hSw; (try dsimp only at hSw); go_simp; all_goals with_reducible rfl)
      try simp only [Act.put, List.setIfInBounds_toArray, List.set_cons_zero, List.set_cons_succ]
      refine wpAnyH_take (i := 8) (oi := { dst := some 11, op := Op.move (Operand.tmp 10), type := 4, pos := "ref.go:71", after := #[{ on := 7, ground := Ground.data }, { on := 3, ground := Ground.chain }], guard := none }) (v := ?vv24) rfl (by kernel_rfl) (by kernel_rfl) (by kernel_rfl) (fun _ _ _ h => h) (Or.inl ⟨by rfl, ?hy24⟩) (by assumption) ?_
      case hy24 => (intro w hSw; (try dsimp only at hSw); go_simp; all_goals with_reducible rfl)
      try simp only [Act.put, List.setIfInBounds_toArray, List.set_cons_zero, List.set_cons_succ]
      refine wpAnyH_take (i := 9) (oi := { dst := some 12, op := Op.fieldAddr 28 (Operand.tmp 1) 1, type := 0, pos := "ref.go:71", after := #[{ on := 8, ground := Ground.guard }], guard := some (8, false) }) (v := undef) rfl (by kernel_rfl) (by kernel_rfl) (by kernel_rfl) (fun _ _ _ h => h) (Or.inr ⟨by rfl, rfl⟩) (by assumption) ?_
      try simp only [Act.put, List.setIfInBounds_toArray, List.set_cons_zero, List.set_cons_succ]
      refine wpAnyH_take (i := 10) (oi := { dst := some 13, op := Op.load 3 (Operand.tmp 12), type := 3, pos := "ref.go:71", after := #[{ on := 9, ground := Ground.data }, { on := 8, ground := Ground.guard }], guard := some (8, false) }) (v := undef) rfl (by kernel_rfl) (by kernel_rfl) (by kernel_rfl) (fun _ _ _ h => h) (Or.inr ⟨by rfl, rfl⟩) (by assumption) ?_
      try simp only [Act.put, List.setIfInBounds_toArray, List.set_cons_zero, List.set_cons_succ]
      refine wpAnyH_take (i := 11) (oi := { dst := some 14, op := Op.binOp BinOp.lss 3 (Operand.tmp 13) (Operand.const (Value.int IntKind.i64 0)) 3, type := 4, pos := "ref.go:71", after := #[{ on := 10, ground := Ground.data }, { on := 8, ground := Ground.guard }], guard := some (8, false) }) (v := undef) rfl (by kernel_rfl) (by kernel_rfl) (by kernel_rfl) (fun _ _ _ h => h) (Or.inr ⟨by rfl, rfl⟩) (by assumption) ?_
      try simp only [Act.put, List.setIfInBounds_toArray, List.set_cons_zero, List.set_cons_succ]
      refine wpAnyH_take (i := 12) (oi := { dst := some 15, op := Op.pick (Operand.tmp 11) (Operand.const (Value.bool true)) (Operand.tmp 14), type := 4, pos := "ref.go:71", after := #[{ on := 8, ground := Ground.data }, { on := 11, ground := Ground.data }], guard := none }) (v := ?vv25) rfl (by kernel_rfl) (by kernel_rfl) (by kernel_rfl) (fun _ _ _ h => h) (Or.inl ⟨by rfl, ?hy25⟩) (by assumption) ?_
      case hy25 => (intro w hSw; (try dsimp only at hSw); go_simp; all_goals with_reducible rfl)
      try simp only [Act.put, List.setIfInBounds_toArray, List.set_cons_zero, List.set_cons_succ]
      refine wpAnyH_take (i := 13) (oi := { dst := some 16, op := Op.move (Operand.tmp 15), type := 4, pos := "ref.go:71", after := #[{ on := 12, ground := Ground.data }, { on := 8, ground := Ground.chain }], guard := none }) (v := ?vv26) rfl (by kernel_rfl) (by kernel_rfl) (by kernel_rfl) (fun _ _ _ h => h) (Or.inl ⟨by rfl, ?hy26⟩) (by assumption) ?_
      case hy26 => (intro w hSw; (try dsimp only at hSw); go_simp; all_goals with_reducible rfl)
      try simp only [Act.put, List.setIfInBounds_toArray, List.set_cons_zero, List.set_cons_succ]
      refine wpAnyH_take (i := 14) (oi := { dst := some 17, op := Op.fieldAddr 28 (Operand.tmp 1) 1, type := 0, pos := "ref.go:71", after := #[{ on := 13, ground := Ground.guard }], guard := some (13, false) }) (v := undef) rfl (by kernel_rfl) (by kernel_rfl) (by kernel_rfl) (fun _ _ _ h => h) (Or.inr ⟨by rfl, rfl⟩) (by assumption) ?_
      try simp only [Act.put, List.setIfInBounds_toArray, List.set_cons_zero, List.set_cons_succ]
      refine wpAnyH_take (i := 15) (oi := { dst := some 18, op := Op.load 3 (Operand.tmp 17), type := 3, pos := "ref.go:71", after := #[{ on := 14, ground := Ground.data }, { on := 13, ground := Ground.guard }], guard := some (13, false) }) (v := undef) rfl (by kernel_rfl) (by kernel_rfl) (by kernel_rfl) (fun _ _ _ h => h) (Or.inr ⟨by rfl, rfl⟩) (by assumption) ?_
      try simp only [Act.put, List.setIfInBounds_toArray, List.set_cons_zero, List.set_cons_succ]
      refine wpAnyH_take (i := 16) (oi := { dst := some 19, op := Op.binOp BinOp.gtr 3 (Operand.tmp 18) (Operand.const (Value.int IntKind.i64 255)) 3, type := 4, pos := "ref.go:71", after := #[{ on := 15, ground := Ground.data }, { on := 13, ground := Ground.guard }], guard := some (13, false) }) (v := undef) rfl (by kernel_rfl) (by kernel_rfl) (by kernel_rfl) (fun _ _ _ h => h) (Or.inr ⟨by rfl, rfl⟩) (by assumption) ?_
      try simp only [Act.put, List.setIfInBounds_toArray, List.set_cons_zero, List.set_cons_succ]
      refine wpAnyH_take (i := 17) (oi := { dst := some 20, op := Op.pick (Operand.tmp 16) (Operand.const (Value.bool true)) (Operand.tmp 19), type := 4, pos := "ref.go:71", after := #[{ on := 13, ground := Ground.data }, { on := 16, ground := Ground.data }], guard := none }) (v := ?vv27) rfl (by kernel_rfl) (by kernel_rfl) (by kernel_rfl) (fun _ _ _ h => h) (Or.inl ⟨by rfl, ?hy27⟩) (by assumption) ?_
      case hy27 => (intro w hSw; (try dsimp only at hSw); go_simp; all_goals with_reducible rfl)
      try simp only [Act.put, List.setIfInBounds_toArray, List.set_cons_zero, List.set_cons_succ]
      refine wpAnyH_take (i := 18) (oi := { dst := some 21, op := Op.move (Operand.tmp 20), type := 4, pos := "ref.go:71", after := #[{ on := 17, ground := Ground.data }, { on := 13, ground := Ground.chain }], guard := none }) (v := ?vv28) rfl (by kernel_rfl) (by kernel_rfl) (by kernel_rfl) (fun _ _ _ h => h) (Or.inl ⟨by rfl, ?hy28⟩) (by assumption) ?_
      case hy28 => (intro w hSw; (try dsimp only at hSw); go_simp; all_goals with_reducible rfl)
      try simp only [Act.put, List.setIfInBounds_toArray, List.set_cons_zero, List.set_cons_succ]
      refine wpAnyH_take (i := 19) (oi := { dst := some 22, op := Op.fieldAddr 28 (Operand.tmp 1) 1, type := 0, pos := "ref.go:71", after := #[{ on := 18, ground := Ground.guard }], guard := some (18, false) }) (v := undef) rfl (by kernel_rfl) (by kernel_rfl) (by kernel_rfl) (fun _ _ _ h => h) (Or.inr ⟨by rfl, rfl⟩) (by assumption) ?_
      try simp only [Act.put, List.setIfInBounds_toArray, List.set_cons_zero, List.set_cons_succ]
      refine wpAnyH_take (i := 20) (oi := { dst := some 23, op := Op.load 3 (Operand.tmp 22), type := 3, pos := "ref.go:71", after := #[{ on := 19, ground := Ground.data }, { on := 18, ground := Ground.guard }], guard := some (18, false) }) (v := undef) rfl (by kernel_rfl) (by kernel_rfl) (by kernel_rfl) (fun _ _ _ h => h) (Or.inr ⟨by rfl, rfl⟩) (by assumption) ?_
      try simp only [Act.put, List.setIfInBounds_toArray, List.set_cons_zero, List.set_cons_succ]
      refine wpAnyH_take (i := 21) (oi := { dst := some 24, op := Op.fieldAddr 28 (Operand.tmp 1) 0, type := 0, pos := "ref.go:71", after := #[{ on := 18, ground := Ground.guard }], guard := some (18, false) }) (v := undef) rfl (by kernel_rfl) (by kernel_rfl) (by kernel_rfl) (fun _ _ _ h => h) (Or.inr ⟨by rfl, rfl⟩) (by assumption) ?_
      try simp only [Act.put, List.setIfInBounds_toArray, List.set_cons_zero, List.set_cons_succ]
      refine wpAnyH_take (i := 22) (oi := { dst := some 25, op := Op.load 3 (Operand.tmp 24), type := 3, pos := "ref.go:71", after := #[{ on := 21, ground := Ground.data }, { on := 18, ground := Ground.guard }], guard := some (18, false) }) (v := undef) rfl (by kernel_rfl) (by kernel_rfl) (by kernel_rfl) (fun _ _ _ h => h) (Or.inr ⟨by rfl, rfl⟩) (by assumption) ?_
      try simp only [Act.put, List.setIfInBounds_toArray, List.set_cons_zero, List.set_cons_succ]
      refine wpAnyH_take (i := 23) (oi := { dst := some 26, op := Op.call { callee := Callee.value (Operand.func 29), args := #[Operand.tmp 25], argTypes := #[3] }, type := 3, pos := "ref.go:71", after := #[{ on := 22, ground := Ground.data }, { on := 18, ground := Ground.chain }, { on := 18, ground := Ground.guard }], guard := some (18, false) }) (v := undef) rfl (by kernel_rfl) (by kernel_rfl) (by kernel_rfl) (fun _ _ _ h => h) (Or.inr ⟨by rfl, rfl⟩) (by assumption) ?_
      try simp only [Act.put, List.setIfInBounds_toArray, List.set_cons_zero, List.set_cons_succ]
      refine wpAnyH_take (i := 24) (oi := { dst := some 27, op := Op.binOp BinOp.andNot 3 (Operand.tmp 23) (Operand.tmp 26) 3, type := 3, pos := "ref.go:71", after := #[{ on := 20, ground := Ground.data }, { on := 23, ground := Ground.data }, { on := 18, ground := Ground.guard }], guard := some (18, false) }) (v := undef) rfl (by kernel_rfl) (by kernel_rfl) (by kernel_rfl) (fun _ _ _ h => h) (Or.inr ⟨by rfl, rfl⟩) (by assumption) ?_
      try simp only [Act.put, List.setIfInBounds_toArray, List.set_cons_zero, List.set_cons_succ]
      refine wpAnyH_take (i := 25) (oi := { dst := some 28, op := Op.binOp BinOp.neq 3 (Operand.tmp 27) (Operand.const (Value.int IntKind.i64 0)) 3, type := 4, pos := "ref.go:71", after := #[{ on := 24, ground := Ground.data }, { on := 18, ground := Ground.guard }], guard := some (18, false) }) (v := undef) rfl (by kernel_rfl) (by kernel_rfl) (by kernel_rfl) (fun _ _ _ h => h) (Or.inr ⟨by rfl, rfl⟩) (by assumption) ?_
      try simp only [Act.put, List.setIfInBounds_toArray, List.set_cons_zero, List.set_cons_succ]
      refine wpAnyH_take (i := 26) (oi := { dst := some 29, op := Op.pick (Operand.tmp 21) (Operand.const (Value.bool true)) (Operand.tmp 28), type := 4, pos := "ref.go:71", after := #[{ on := 18, ground := Ground.data }, { on := 25, ground := Ground.data }], guard := none }) (v := ?vv29) rfl (by kernel_rfl) (by kernel_rfl) (by kernel_rfl) (fun _ _ _ h => h) (Or.inl ⟨by rfl, ?hy29⟩) (by assumption) ?_
      case hy29 => (intro w hSw; (try dsimp only at hSw); go_simp; all_goals with_reducible rfl)
      try simp only [Act.put, List.setIfInBounds_toArray, List.set_cons_zero, List.set_cons_succ]
      refine wpAnyH_take (i := 27) (oi := { dst := some 30, op := Op.move (Operand.tmp 29), type := 4, pos := "ref.go:71", after := #[{ on := 26, ground := Ground.data }, { on := 23, ground := Ground.chain }], guard := none }) (v := ?vv30) rfl (by kernel_rfl) (by kernel_rfl) (by kernel_rfl) (fun _ _ _ h => h) (Or.inl ⟨by rfl, ?hy30⟩) (by assumption) ?_
      case hy30 => (intro w hSw; (try dsimp only at hSw); go_simp; all_goals with_reducible rfl)
      try simp only [Act.put, List.setIfInBounds_toArray, List.set_cons_zero, List.set_cons_succ]
      refine wpAnyH_take (i := 28) (oi := { dst := some 31, op := Op.fieldAddr 28 (Operand.tmp 1) 2, type := 0, pos := "ref.go:71", after := #[{ on := 27, ground := Ground.guard }], guard := some (27, false) }) (v := undef) rfl (by kernel_rfl) (by kernel_rfl) (by kernel_rfl) (fun _ _ _ h => h) (Or.inr ⟨by rfl, rfl⟩) (by assumption) ?_
      try simp only [Act.put, List.setIfInBounds_toArray, List.set_cons_zero, List.set_cons_succ]
      refine wpAnyH_take (i := 29) (oi := { dst := some 32, op := Op.load 2 (Operand.tmp 31), type := 2, pos := "ref.go:71", after := #[{ on := 28, ground := Ground.data }, { on := 27, ground := Ground.guard }], guard := some (27, false) }) (v := undef) rfl (by kernel_rfl) (by kernel_rfl) (by kernel_rfl) (fun _ _ _ h => h) (Or.inr ⟨by rfl, rfl⟩) (by assumption) ?_
      try simp only [Act.put, List.setIfInBounds_toArray, List.set_cons_zero, List.set_cons_succ]
      refine wpAnyH_take (i := 30) (oi := { dst := some 33, op := Op.call { callee := Callee.value (Operand.func 45), args := #[Operand.tmp 32, Operand.const (Value.int IntKind.i64 2147483647)], argTypes := #[2, 2] }, type := 4, pos := "ref.go:71", after := #[{ on := 29, ground := Ground.data }, { on := 27, ground := Ground.chain }, { on := 27, ground := Ground.guard }], guard := some (27, false) }) (v := undef) rfl (by kernel_rfl) (by kernel_rfl) (by kernel_rfl) (fun _ _ _ h => h) (Or.inr ⟨by rfl, rfl⟩) (by assumption) ?_
      try simp only [Act.put, List.setIfInBounds_toArray, List.set_cons_zero, List.set_cons_succ]
      refine wpAnyH_take (i := 31) (oi := { dst := some 34, op := Op.unOp UnOp.not 4 (Operand.tmp 33), type := 4, pos := "ref.go:71", after := #[{ on := 30, ground := Ground.data }, { on := 27, ground := Ground.guard }], guard := some (27, false) }) (v := undef) rfl (by kernel_rfl) (by kernel_rfl) (by kernel_rfl) (fun _ _ _ h => h) (Or.inr ⟨by rfl, rfl⟩) (by assumption) ?_
      try simp only [Act.put, List.setIfInBounds_toArray, List.set_cons_zero, List.set_cons_succ]
      refine wpAnyH_take (i := 32) (oi := { dst := some 35, op := Op.pick (Operand.tmp 30) (Operand.const (Value.bool true)) (Operand.tmp 34), type := 4, pos := "ref.go:71", after := #[{ on := 27, ground := Ground.data }, { on := 31, ground := Ground.data }], guard := none }) (v := ?vv31) rfl (by kernel_rfl) (by kernel_rfl) (by kernel_rfl) (fun _ _ _ h => h) (Or.inl ⟨by rfl, ?hy31⟩) (by assumption) ?_
      case hy31 => (intro w hSw; (try dsimp only at hSw); go_simp; all_goals with_reducible rfl)
      try simp only [Act.put, List.setIfInBounds_toArray, List.set_cons_zero, List.set_cons_succ]
      refine wpAnyH_take (i := 33) (oi := { dst := some 36, op := Op.move (Operand.tmp 35), type := 4, pos := "ref.go:71", after := #[{ on := 32, ground := Ground.data }, { on := 30, ground := Ground.chain }], guard := none }) (v := ?vv32) rfl (by kernel_rfl) (by kernel_rfl) (by kernel_rfl) (fun _ _ _ h => h) (Or.inl ⟨by rfl, ?hy32⟩) (by assumption) ?_
      case hy32 => (intro w hSw; (try dsimp only at hSw); go_simp; all_goals with_reducible rfl)
      try simp only [Act.put, List.setIfInBounds_toArray, List.set_cons_zero, List.set_cons_succ]
      refine wpAnyH_take (i := 34) (oi := { dst := some 37, op := Op.fieldAddr 28 (Operand.tmp 1) 0, type := 0, pos := "ref.go:71", after := #[{ on := 33, ground := Ground.guard }], guard := some (33, false) }) (v := undef) rfl (by kernel_rfl) (by kernel_rfl) (by kernel_rfl) (fun _ _ _ h => h) (Or.inr ⟨by rfl, rfl⟩) (by assumption) ?_
      try simp only [Act.put, List.setIfInBounds_toArray, List.set_cons_zero, List.set_cons_succ]
      refine wpAnyH_take (i := 35) (oi := { dst := some 38, op := Op.load 3 (Operand.tmp 37), type := 3, pos := "ref.go:71", after := #[{ on := 34, ground := Ground.data }, { on := 33, ground := Ground.guard }], guard := some (33, false) }) (v := undef) rfl (by kernel_rfl) (by kernel_rfl) (by kernel_rfl) (fun _ _ _ h => h) (Or.inr ⟨by rfl, rfl⟩) (by assumption) ?_
      try simp only [Act.put, List.setIfInBounds_toArray, List.set_cons_zero, List.set_cons_succ]
      refine wpAnyH_take (i := 36) (oi := { dst := some 39, op := Op.fieldAddr 28 (Operand.tmp 1) 2, type := 0, pos := "ref.go:71", after := #[{ on := 33, ground := Ground.guard }], guard := some (33, false) }) (v := undef) rfl (by kernel_rfl) (by kernel_rfl) (by kernel_rfl) (fun _ _ _ h => h) (Or.inr ⟨by rfl, rfl⟩) (by assumption) ?_
      try simp only [Act.put, List.setIfInBounds_toArray, List.set_cons_zero, List.set_cons_succ]
      refine wpAnyH_take (i := 37) (oi := { dst := some 40, op := Op.load 2 (Operand.tmp 39), type := 2, pos := "ref.go:71", after := #[{ on := 36, ground := Ground.data }, { on := 33, ground := Ground.guard }], guard := some (33, false) }) (v := undef) rfl (by kernel_rfl) (by kernel_rfl) (by kernel_rfl) (fun _ _ _ h => h) (Or.inr ⟨by rfl, rfl⟩) (by assumption) ?_
      try simp only [Act.put, List.setIfInBounds_toArray, List.set_cons_zero, List.set_cons_succ]
      refine wpAnyH_take (i := 38) (oi := { dst := some 41, op := Op.call { callee := Callee.value (Operand.func 30), args := #[Operand.tmp 38, Operand.tmp 40], argTypes := #[3, 2] }, type := 4, pos := "ref.go:71", after := #[{ on := 35, ground := Ground.data }, { on := 37, ground := Ground.data }, { on := 33, ground := Ground.chain }, { on := 33, ground := Ground.guard }], guard := some (33, false) }) (v := undef) rfl (by kernel_rfl) (by kernel_rfl) (by kernel_rfl) (fun _ _ _ h => h) (Or.inr ⟨by rfl, rfl⟩) (by assumption) ?_
      try simp only [Act.put, List.setIfInBounds_toArray, List.set_cons_zero, List.set_cons_succ]
      refine wpAnyH_take (i := 39) (oi := { dst := some 42, op := Op.unOp UnOp.not 4 (Operand.tmp 41), type := 4, pos := "ref.go:71", after := #[{ on := 38, ground := Ground.data }, { on := 33, ground := Ground.guard }], guard := some (33, false) }) (v := undef) rfl (by kernel_rfl) (by kernel_rfl) (by kernel_rfl) (fun _ _ _ h => h) (Or.inr ⟨by rfl, rfl⟩) (by assumption) ?_
      try simp only [Act.put, List.setIfInBounds_toArray, List.set_cons_zero, List.set_cons_succ]
      refine wpAnyH_take (i := 40) (oi := { dst := some 43, op := Op.pick (Operand.tmp 36) (Operand.const (Value.bool true)) (Operand.tmp 42), type := 4, pos := "ref.go:71", after := #[{ on := 33, ground := Ground.data }, { on := 39, ground := Ground.data }], guard := none }) (v := ?vv33) rfl (by kernel_rfl) (by kernel_rfl) (by kernel_rfl) (fun _ _ _ h => h) (Or.inl ⟨by rfl, ?hy33⟩) (by assumption) ?_
      case hy33 => (intro w hSw; (try dsimp only at hSw); go_simp; all_goals with_reducible rfl)
      try simp only [Act.put, List.setIfInBounds_toArray, List.set_cons_zero, List.set_cons_succ]
      refine wpAnyH_done (by kernel_rfl) ?_ _
      go_wp2_with fail
      go_meet
      case rel => exact ⟨rfl, hI⟩
    by_cases a3 : fl < 0
    · obtain rfl : bad = true := hbadT.out (.inr (.inr (.inl a3)))
      refine wp_region_held_drew (S := (fun W => W.cell? ⟨g, 0, none⟩ = some (.int .i64 ty) ∧ W.cell? ⟨g, 1, none⟩ = some (.int .i64 fl) ∧ W.cell? ⟨g, 2, none⟩ = some (.int .i64 st))) (by kernel_rfl) (hfull.out _ hI) (fun hHeld => ?_)
      generalize hWg : World.drew _ = W at hI hHeld ⊢
      clear hWg
      refine wpAnyH_take (i := 0) (oi := { dst := some 3, op := Op.fieldAddr 28 (Operand.tmp 1) 0, type := 0, pos := "ref.go:71", after := #[], guard := none }) (v := ?vv34) rfl (by kernel_rfl) (by kernel_rfl) (by kernel_rfl) (fun _ _ _ h => h) (Or.inl ⟨by rfl, ?hy34⟩) (by assumption) ?_
      case hy34 => (intro w hSw; (try dsimp only at hSw); go_simp; all_goals with_reducible rfl)
      try simp only [Act.put, List.setIfInBounds_toArray, List.set_cons_zero, List.set_cons_succ]
      refine wpAnyH_take (i := 1) (oi := { dst := some 4, op := Op.load 3 (Operand.tmp 3), type := 3, pos := "ref.go:71", after := #[{ on := 0, ground := Ground.data }], guard := none }) (v := ?vv35) rfl (by kernel_rfl) (by kernel_rfl) (by kernel_rfl) (fun _ _ _ h => h) (Or.inl ⟨by rfl, ?hy35⟩) (by assumption) ?_
      case hy35 => (intro w hSw; (try dsimp only at hSw); go_simp; all_goals with_reducible rfl)
      try simp only [Act.put, List.setIfInBounds_toArray, List.set_cons_zero, List.set_cons_succ]
      refine wpAnyH_take (i := 2) (oi := { dst := some 5, op := Op.binOp BinOp.lss 3 (Operand.tmp 4) (Operand.const (Value.int IntKind.i64 0)) 3, type := 4, pos := "ref.go:71", after := #[{ on := 1, ground := Ground.data }], guard := none }) (v := ?vv36) rfl (by kernel_rfl) (by kernel_rfl) (by kernel_rfl) (fun _ _ _ h => h) (Or.inl ⟨by rfl, ?hy36⟩) (by assumption) ?_
      case hy36 => (intro w hSw; (try dsimp only at hSw); go_simp; all_goals with_reducible rfl)
      try simp only [Act.put, List.setIfInBounds_toArray, List.set_cons_zero, List.set_cons_succ]
      refine wpAnyH_take (i := 3) (oi := { dst := some 6, op := Op.move (Operand.tmp 5), type := 4, pos := "ref.go:71", after := #[{ on := 2, ground := Ground.data }], guard := none }) (v := ?vv37) rfl (by kernel_rfl) (by kernel_rfl) (by kernel_rfl) (fun _ _ _ h => h) (Or.inl ⟨by rfl, ?hy37⟩) (by assumption) ?_
      case hy37 => (intro w hSw; (try dsimp only at hSw); go_simp; all_goals with_reducible rfl)
      try simp only [Act.put, List.setIfInBounds_toArray, List.set_cons_zero, List.set_cons_succ]
      refine wpAnyH_take (i := 4) (oi := { dst := some 7, op := Op.fieldAddr 28 (Operand.tmp 1) 0, type := 0, pos := "ref.go:71", after := #[{ on := 3, ground := Ground.guard }], guard := some (3, false) }) (v := ?vv38) rfl (by kernel_rfl) (by kernel_rfl) (by kernel_rfl) (fun _ _ _ h => h) (Or.inl ⟨by rfl, ?hy38⟩) (by assumption) ?_
      case hy38 => (intro w hSw; (try dsimp only at hSw); go_simp; all_goals with_reducible rfl)
      try simp only [Act.put, List.setIfInBounds_toArray, List.set_cons_zero, List.set_cons_succ]
      refine wpAnyH_take (i := 5) (oi := { dst := some 8, op := Op.load 3 (Operand.tmp 7), type := 3, pos := "ref.go:71", after := #[{ on := 4, ground := Ground.data }, { on := 3, ground := Ground.guard }], guard := some (3, false) }) (v := ?vv39) rfl (by kernel_rfl) (by kernel_rfl) (by kernel_rfl) (fun _ _ _ h => h) (Or.inl ⟨by rfl, ?hy39⟩) (by assumption) ?_
      case hy39 => (intro w hSw; (try dsimp only at hSw); go_simp; all_goals with_reducible rfl)
      try simp only [Act.put, List.setIfInBounds_toArray, List.set_cons_zero, List.set_cons_succ]
      refine wpAnyH_take (i := 6) (oi := { dst := some 9, op := Op.binOp BinOp.gtr 3 (Operand.tmp 8) (Operand.const (Value.int IntKind.i64 255)) 3, type := 4, pos := "ref.go:71", after := #[{ on := 5, ground := Ground.data }, { on := 3, ground := Ground.guard }], guard := some (3, false) }) (v := ?vv40) rfl (by kernel_rfl) (by kernel_rfl) (by kernel_rfl) (fun _ _ _ h => h) (Or.inl ⟨by rfl, ?hy40⟩) (by assumption) ?_
      case hy40 => (intro w hSw; (try dsimp only at hSw); go_simp; all_goals with_reducible rfl)
      try simp only [Act.put, List.setIfInBounds_toArray, List.set_cons_zero, List.set_cons_succ]
      refine wpAnyH_take (i := 7) (oi := { dst := some 10, op := Op.pick (Operand.tmp 6) (Operand.const (Value.bool true)) (Operand.tmp 9), type := 4, pos := "ref.go:71", after := #[{ on := 3, ground := Ground.data }, { on := 6, ground := Ground.data }], guard := none }) (v := ?vv41) rfl (by kernel_rfl) (by kernel_rfl) (by kernel_rfl) (fun _ _ _ h => h) (Or.inl ⟨by rfl, ?hy41⟩) (by assumption) ?_
      case hy41 => (intro w hSw; (try dsimp only at hSw); go_simp; all_goals with_reducible rfl)
      try simp only [Act.put, List.setIfInBounds_toArray, List.set_cons_zero, List.set_cons_succ]
      refine wpAnyH_take (i := 8) (oi := { dst := some 11, op := Op.move (Operand.tmp 10), type := 4, pos := "ref.go:71", after := #[{ on := 7, ground := Ground.data }, { on := 3, ground := Ground.chain }], guard := none }) (v := ?vv42) rfl (by kernel_rfl) (by kernel_rfl) (by kernel_rfl) (fun _ _ _ h => h) (Or.inl ⟨by rfl, ?hy42⟩) (by assumption) ?_
      case hy42 => (intro w hSw; (try dsimp only at hSw); go_simp; all_goals with_reducible rfl)
      try simp only [Act.put, List.setIfInBounds_toArray, List.set_cons_zero, List.set_cons_succ]
      refine wpAnyH_take (i := 9) (oi := { dst := some 12, op := Op.fieldAddr 28 (Operand.tmp 1) 1, type := 0, pos := "ref.go:71", after := #[{ on := 8, ground := Ground.guard }], guard := some (8, false) }) (v := ?vv43) rfl (by kernel_rfl) (by kernel_rfl) (by kernel_rfl) (fun _ _ _ h => h) (Or.inl ⟨by rfl, ?hy43⟩) (by assumption) ?_
      case hy43 => (intro w hSw; (try dsimp only at hSw); go_simp; all_goals with_reducible rfl)
      try simp only [Act.put, List.setIfInBounds_toArray, List.set_cons_zero, List.set_cons_succ]
      refine wpAnyH_take (i := 10) (oi := { dst := some 13, op := Op.load 3 (Operand.tmp 12), type := 3, pos := "ref.go:71", after := #[{ on := 9, ground := Ground.data }, { on := 8, ground := Ground.guard }], guard := some (8, false) }) (v := ?vv44) rfl (by kernel_rfl) (by kernel_rfl) (by kernel_rfl) (fun _ _ _ h => h) (Or.inl ⟨by rfl, ?hy44⟩) (by assumption) ?_
      case hy44 => (intro w hSw; (try dsimp only at hSw); go_simp; all_goals with_reducible rfl)
      try simp only [Act.put, List.setIfInBounds_toArray, List.set_cons_zero, List.set_cons_succ]
      refine wpAnyH_take (i := 11) (oi := { dst := some 14, op := Op.binOp BinOp.lss 3 (Operand.tmp 13) (Operand.const (Value.int IntKind.i64 0)) 3, type := 4, pos := "ref.go:71", after := #[{ on := 10, ground := Ground.data }, { on := 8, ground := Ground.guard }], guard := some (8, false) }) (v := ?vv45) rfl (by kernel_rfl) (by kernel_rfl) (by kernel_rfl) (fun _ _ _ h => h) (Or.inl ⟨by rfl, ?hy45⟩) (by assumption) ?_
      case hy45 => (intro w hSw; (try dsimp only at hSw); go_simp; all_goals with_reducible rfl)
      try simp only [Act.put, List.setIfInBounds_toArray, List.set_cons_zero, List.set_cons_succ]
      refine wpAnyH_take (i := 12) (oi := { dst := some 15, op := Op.pick (Operand.tmp 11) (Operand.const (Value.bool true)) (Operand.tmp 14), type := 4, pos := "ref.go:71", after := #[{ on := 8, ground := Ground.data }, { on := 11, ground := Ground.data }], guard := none }) (v := ?vv46) rfl (by kernel_rfl) (by kernel_rfl) (by kernel_rfl) (fun _ _ _ h => h) (Or.inl ⟨by rfl, ?hy46⟩) (by assumption) ?_
      case hy46 => (intro w hSw; (try dsimp only at hSw); go_simp; all_goals with_reducible rfl)
      try simp only [Act.put, List.setIfInBounds_toArray, List.set_cons_zero, List.set_cons_succ]
      refine wpAnyH_take (i := 13) (oi := { dst := some 16, op := Op.move (Operand.tmp 15), type := 4, pos := "ref.go:71", after := #[{ on := 12, ground := Ground.data }, { on := 8, ground := Ground.chain }], guard := none }) (v := ?vv47) rfl (by kernel_rfl) (by kernel_rfl) (by kernel_rfl) (fun _ _ _ h => h) (Or.inl ⟨by rfl, ?hy47⟩) (by assumption) ?_
      case hy47 => (intro w hSw; (try dsimp only at hSw); go_simp; all_goals with_reducible rfl)
      try simp only [Act.put, List.setIfInBounds_toArray, List.set_cons_zero, List.set_cons_succ]
      refine wpAnyH_take (i := 14) (oi := { dst := some 17, op := Op.fieldAddr 28 (Operand.tmp 1) 1, type := 0, pos := "ref.go:71", after := #[{ on := 13, ground := Ground.guard }], guard := some (13, false) }) (v := undef) rfl (by kernel_rfl) (by kernel_rfl) (by kernel_rfl) (fun _ _ _ h => h) (Or.inr ⟨by rfl, rfl⟩) (by assumption) ?_
      try simp only [Act.put, List.setIfInBounds_toArray, List.set_cons_zero, List.set_cons_succ]
      refine wpAnyH_take (i := 15) (oi := { dst := some 18, op := Op.load 3 (Operand.tmp 17), type := 3, pos := "ref.go:71", after := #[{ on := 14, ground := Ground.data }, { on := 13, ground := Ground.guard }], guard := some (13, false) }) (v := undef) rfl (by kernel_rfl) (by kernel_rfl) (by kernel_rfl) (fun _ _ _ h => h) (Or.inr ⟨by rfl, rfl⟩) (by assumption) ?_
      try simp only [Act.put, List.setIfInBounds_toArray, List.set_cons_zero, List.set_cons_succ]
      refine wpAnyH_take (i := 16) (oi := { dst := some 19, op := Op.binOp BinOp.gtr 3 (Operand.tmp 18) (Operand.const (Value.int IntKind.i64 255)) 3, type := 4, pos := "ref.go:71", after := #[{ on := 15, ground := Ground.data }, { on := 13, ground := Ground.guard }], guard := some (13, false) }) (v := undef) rfl (by kernel_rfl) (by kernel_rfl) (by kernel_rfl) (fun _ _ _ h => h) (Or.inr ⟨by rfl, rfl⟩) (by assumption) ?_
      try simp only [Act.put, List.setIfInBounds_toArray, List.set_cons_zero, List.set_cons_succ]
      refine wpAnyH_take (i := 17) (oi := { dst := some 20, op := Op.pick (Operand.tmp 16) (Operand.const (Value.bool true)) (Operand.tmp 19), type := 4, pos := "ref.go:71", after := #[{ on := 13, ground := Ground.data }, { on := 16, ground := Ground.data }], guard := none }) (v := ?vv48) rfl (by kernel_rfl) (by kernel_rfl) (by kernel_rfl) (fun _ _ _ h => h) (Or.inl ⟨by rfl, ?hy48⟩) (by assumption) ?_
      case hy48 => (intro w hSw; (try dsimp only at hSw); go_simp; all_goals with_reducible rfl)
      try simp only [Act.put, List.setIfInBounds_toArray, List.set_cons_zero, List.set_cons_succ]
      refine wpAnyH_take (i := 18) (oi := { dst := some 21, op := Op.move (Operand.tmp 20), type := 4, pos := "ref.go:71", after := #[{ on := 17, ground := Ground.data }, { on := 13, ground := Ground.chain }], guard := none }) (v := ?vv49) rfl (by kernel_rfl) (by kernel_rfl) (by kernel_rfl) (fun _ _ _ h => h) (Or.inl ⟨by rfl, ?hy49⟩) (by assumption) ?_
      case hy49 => (intro w hSw; (try dsimp only at hSw); go_simp; all_goals with_reducible rfl)
      try simp only [Act.put, List.setIfInBounds_toArray, List.set_cons_zero, List.set_cons_succ]
      refine wpAnyH_take (i := 19) (oi := { dst := some 22, op := Op.fieldAddr 28 (Operand.tmp 1) 1, type := 0, pos := "ref.go:71", after := #[{ on := 18, ground := Ground.guard }], guard := some (18, false) }) (v := undef) rfl (by kernel_rfl) (by kernel_rfl) (by kernel_rfl) (fun _ _ _ h => h) (Or.inr ⟨by rfl, rfl⟩) (by assumption) ?_
      try simp only [Act.put, List.setIfInBounds_toArray, List.set_cons_zero, List.set_cons_succ]
      refine wpAnyH_take (i := 20) (oi := { dst := some 23, op := Op.load 3 (Operand.tmp 22), type := 3, pos := "ref.go:71", after := #[{ on := 19, ground := Ground.data }, { on := 18, ground := Ground.guard }], guard := some (18, false) }) (v := undef) rfl (by kernel_rfl) (by kernel_rfl) (by kernel_rfl) (fun _ _ _ h => h) (Or.inr ⟨by rfl, rfl⟩) (by assumption) ?_
      try simp only [Act.put, List.setIfInBounds_toArray, List.set_cons_zero, List.set_cons_succ]
      refine wpAnyH_take (i := 21) (oi := { dst := some 24, op := Op.fieldAddr 28 (Operand.tmp 1) 0, type := 0, pos := "ref.go:71", after := #[{ on := 18, ground := Ground.guard }], guard := some (18, false) }) (v := undef) rfl (by kernel_rfl) (by kernel_rfl) (by kernel_rfl) (fun _ _ _ h => h) (Or.inr ⟨by rfl, rfl⟩) (by assumption) ?_
      try simp only [Act.put, List.setIfInBounds_toArray, List.set_cons_zero, List.set_cons_succ]
      refine wpAnyH_take (i := 22) (oi := { dst := some 25, op := Op.load 3 (Operand.tmp 24), type := 3, pos := "ref.go:71", after := #[{ on := 21, ground := Ground.data }, { on := 18, ground := Ground.guard }], guard := some (18, false) }) (v := undef) rfl (by kernel_rfl) (by kernel_rfl) (by kernel_rfl) (fun _ _ _ h => h) (Or.inr ⟨by rfl, rfl⟩) (by assumption) ?_
      try simp only [Act.put, List.setIfInBounds_toArray, List.set_cons_zero, List.set_cons_succ]
      refine wpAnyH_take (i := 23) (oi := { dst := some 26, op := Op.call { callee := Callee.value (Operand.func 29), args := #[Operand.tmp 25], argTypes := #[3] }, type := 3, pos := "ref.go:71", after := #[{ on := 22, ground := Ground.data }, { on := 18, ground := Ground.chain }, { on := 18, ground := Ground.guard }], guard := some (18, false) }) (v := undef) rfl (by kernel_rfl) (by kernel_rfl) (by kernel_rfl) (fun _ _ _ h => h) (Or.inr ⟨by rfl, rfl⟩) (by assumption) ?_
      try simp only [Act.put, List.setIfInBounds_toArray, List.set_cons_zero, List.set_cons_succ]
      refine wpAnyH_take (i := 24) (oi := { dst := some 27, op := Op.binOp BinOp.andNot 3 (Operand.tmp 23) (Operand.tmp 26) 3, type := 3, pos := "ref.go:71", after := #[{ on := 20, ground := Ground.data }, { on := 23, ground := Ground.data }, { on := 18, ground := Ground.guard }], guard := some (18, false) }) (v := undef) rfl (by kernel_rfl) (by kernel_rfl) (by kernel_rfl) (fun _ _ _ h => h) (Or.inr ⟨by rfl, rfl⟩) (by assumption) ?_
      try simp only [Act.put, List.setIfInBounds_toArray, List.set_cons_zero, List.set_cons_succ]
      refine wpAnyH_take (i := 25) (oi := { dst := some 28, op := Op.binOp BinOp.neq 3 (Operand.tmp 27) (Operand.const (Value.int IntKind.i64 0)) 3, type := 4, pos := "ref.go:71", after := #[{ on := 24, ground := Ground.data }, { on := 18, ground := Ground.guard }], guard := some (18, false) }) (v := undef) rfl (by kernel_rfl) (by kernel_rfl) (by kernel_rfl) (fun _ _ _ h => h) (Or.inr ⟨by rfl, rfl⟩) (by assumption) ?_
      try simp only [Act.put, List.setIfInBounds_toArray, List.set_cons_zero, List.set_cons_succ]
      refine wpAnyH_take (i := 26) (oi := { dst := some 29, op := Op.pick (Operand.tmp 21) (Operand.const (Value.bool true)) (Operand.tmp 28), type := 4, pos := "ref.go:71", after := #[{ on := 18, ground := Ground.data }, { on := 25, ground := Ground.data }], guard := none }) (v := ?vv50) rfl (by kernel_rfl) (by kernel_rfl) (by kernel_rfl) (fun _ _ _ h => h) (Or.inl ⟨by rfl, ?hy50⟩) (by assumption) ?_
      case hy50 => (intro w hSw; (try dsimp only at hSw); go_simp; all_goals with_reducible rfl)
      try simp only [Act.put, List.setIfInBounds_toArray, List.set_cons_zero, List.set_cons_succ]
      refine wpAnyH_take (i := 27) (oi := { dst := some 30, op := Op.move (Operand.tmp 29), type := 4, pos := "ref.go:71", after := #[{ on := 26, ground := Ground.data }, { on := 23, ground := Ground.chain }], guard := none }) (v := ?vv51) rfl (by kernel_rfl) (by kernel_rfl) (by kernel_rfl) (fun _ _ _ h => h) (Or.inl ⟨by rfl, ?hy51⟩) (by assumption) ?_
      case hy51 => (intro w hSw; (try dsimp only at hSw); go_simp; all_goals with_reducible rfl)
      try simp only [Act.put, List.setIfInBounds_toArray, List.set_cons_zero, List.set_cons_succ]
      refine wpAnyH_take (i := 28) (oi := { dst := some 31, op := Op.fieldAddr 28 (Operand.tmp 1) 2, type := 0, pos := "ref.go:71", after := #[{ on := 27, ground := Ground.guard }], guard := some (27, false) }) (v := undef) rfl (by kernel_rfl) (by kernel_rfl) (by kernel_rfl) (fun _ _ _ h => h) (Or.inr ⟨by rfl, rfl⟩) (by assumption) ?_
      try simp only [Act.put, List.setIfInBounds_toArray, List.set_cons_zero, List.set_cons_succ]
      refine wpAnyH_take (i := 29) (oi := { dst := some 32, op := Op.load 2 (Operand.tmp 31), type := 2, pos := "ref.go:71", after := #[{ on := 28, ground := Ground.data }, { on := 27, ground := Ground.guard }], guard := some (27, false) }) (v := undef) rfl (by kernel_rfl) (by kernel_rfl) (by kernel_rfl) (fun _ _ _ h => h) (Or.inr ⟨by rfl, rfl⟩) (by assumption) ?_
      try simp only [Act.put, List.setIfInBounds_toArray, List.set_cons_zero, List.set_cons_succ]
      refine wpAnyH_take (i := 30) (oi := { dst := some 33, op := Op.call { callee := Callee.value (Operand.func 45), args := #[Operand.tmp 32, Operand.const (Value.int IntKind.i64 2147483647)], argTypes := #[2, 2] }, type := 4, pos := "ref.go:71", after := #[{ on := 29, ground := Ground.data }, { on := 27, ground := Ground.chain }, { on := 27, ground := Ground.guard }], guard := some (27, false) }) (v := undef) rfl (by kernel_rfl) (by kernel_rfl) (by kernel_rfl) (fun _ _ _ h => h) (Or.inr ⟨by rfl, rfl⟩) (by assumption) ?_
      try simp only [Act.put, List.setIfInBounds_toArray, List.set_cons_zero, List.set_cons_succ]
      refine wpAnyH_take (i := 31) (oi := { dst := some 34, op := Op.unOp UnOp.not 4 (Operand.tmp 33), type := 4, pos := "ref.go:71", after := #[{ on := 30, ground := Ground.data }, { on := 27, ground := Ground.guard }], guard := some (27, false) }) (v := undef) rfl (by kernel_rfl) (by kernel_rfl) (by kernel_rfl) (fun _ _ _ h => h) (Or.inr ⟨by rfl, rfl⟩) (by assumption) ?_
      try simp only [Act.put, List.setIfInBounds_toArray, List.set_cons_zero, List.set_cons_succ]
      refine wpAnyH_take (i := 32) (oi := { dst := some 35, op := Op.pick (Operand.tmp 30) (Operand.const (Value.bool true)) (Operand.tmp 34), type := 4, pos := "ref.go:71", after := #[{ on := 27, ground := Ground.data }, { on := 31, ground := Ground.data }], guard := none }) (v := ?vv52) rfl (by kernel_rfl) (by kernel_rfl) (by kernel_rfl) (fun _ _ _ h => h) (Or.inl ⟨by rfl, ?hy52⟩) (by assumption) ?_
      case hy52 => (intro w hSw; (try dsimp only at hSw); go_simp; all_goals with_reducible rfl)
      try simp only [Act.put, List.setIfInBounds_toArray, List.set_cons_zero, List.set_cons_succ]
      refine wpAnyH_take (i := 33) (oi := { dst := some 36, op := Op.move (Operand.tmp 35), type := 4, pos := "ref.go:71", after := #[{ on := 32, ground := Ground.data }, { on := 30, ground := Ground.chain }], guard := none }) (v := ?vv53) rfl (by kernel_rfl) (by kernel_rfl) (by kernel_rfl) (fun _ _ _ h => h) (Or.inl ⟨by rfl, ?hy53⟩) (by assumption) ?_
      case hy53 => (intro w hSw; (try dsimp only at hSw); go_simp; all_goals with_reducible rfl)
      try simp only [Act.put, List.setIfInBounds_toArray, List.set_cons_zero, List.set_cons_succ]
      refine wpAnyH_take (i := 34) (oi := { dst := some 37, op := Op.fieldAddr 28 (Operand.tmp 1) 0, type := 0, pos := "ref.go:71", after := #[{ on := 33, ground := Ground.guard }], guard := some (33, false) }) (v := undef) rfl (by kernel_rfl) (by kernel_rfl) (by kernel_rfl) (fun _ _ _ h => h) (Or.inr ⟨by rfl, rfl⟩) (by assumption) ?_
      try simp only [Act.put, List.setIfInBounds_toArray, List.set_cons_zero, List.set_cons_succ]
      refine wpAnyH_take (i := 35) (oi := { dst := some 38, op := Op.load 3 (Operand.tmp 37), type := 3, pos := "ref.go:71", after := #[{ on := 34, ground := Ground.data }, { on := 33, ground := Ground.guard }], guard := some (33, false) }) (v := undef) rfl (by kernel_rfl) (by kernel_rfl) (by kernel_rfl) (fun _ _ _ h => h) (Or.inr ⟨by rfl, rfl⟩) (by assumption) ?_
      try simp only [Act.put, List.setIfInBounds_toArray, List.set_cons_zero, List.set_cons_succ]
      refine wpAnyH_take (i := 36) (oi := { dst := some 39, op := Op.fieldAddr 28 (Operand.tmp 1) 2, type := 0, pos := "ref.go:71", after := #[{ on := 33, ground := Ground.guard }], guard := some (33, false) }) (v := undef) rfl (by kernel_rfl) (by kernel_rfl) (by kernel_rfl) (fun _ _ _ h => h) (Or.inr ⟨by rfl, rfl⟩) (by assumption) ?_
      try simp only [Act.put, List.setIfInBounds_toArray, List.set_cons_zero, List.set_cons_succ]
      refine wpAnyH_take (i := 37) (oi := { dst := some 40, op := Op.load 2 (Operand.tmp 39), type := 2, pos := "ref.go:71", after := #[{ on := 36, ground := Ground.data }, { on := 33, ground := Ground.guard }], guard := some (33, false) }) (v := undef) rfl (by kernel_rfl) (by kernel_rfl) (by kernel_rfl) (fun _ _ _ h => h) (Or.inr ⟨by rfl, rfl⟩) (by assumption) ?_
      try simp only [Act.put, List.setIfInBounds_toArray, List.set_cons_zero, List.set_cons_succ]
      refine wpAnyH_take (i := 38) (oi := { dst := some 41, op := Op.call { callee := Callee.value (Operand.func 30), args := #[Operand.tmp 38, Operand.tmp 40], argTypes := #[3, 2] }, type := 4, pos := "ref.go:71", after := #[{ on := 35, ground := Ground.data }, { on := 37, ground := Ground.data }, { on := 33, ground := Ground.chain }, { on := 33, ground := Ground.guard }], guard := some (33, false) }) (v := undef) rfl (by kernel_rfl) (by kernel_rfl) (by kernel_rfl) (fun _ _ _ h => h) (Or.inr ⟨by rfl, rfl⟩) (by assumption) ?_
      try simp only [Act.put, List.setIfInBounds_toArray, List.set_cons_zero, List.set_cons_succ]
      refine wpAnyH_take (i := 39) (oi := { dst := some 42, op := Op.unOp UnOp.not 4 (Operand.tmp 41), type := 4, pos := "ref.go:71", after := #[{ on := 38, ground := Ground.data }, { on := 33, ground := Ground.guard }], guard := some (33, false) }) (v := undef) rfl (by kernel_rfl) (by kernel_rfl) (by kernel_rfl) (fun _ _ _ h => h) (Or.inr ⟨by rfl, rfl⟩) (by assumption) ?_
      try simp only [Act.put, List.setIfInBounds_toArray, List.set_cons_zero, List.set_cons_succ]
      refine wpAnyH_take (i := 40) (oi := { dst := some 43, op := Op.pick (Operand.tmp 36) (Operand.const (Value.bool true)) (Operand.tmp 42), type := 4, pos := "ref.go:71", after := #[{ on := 33, ground := Ground.data }, { on := 39, ground := Ground.data }], guard := none }) (v := ?vv54) rfl (by kernel_rfl) (by kernel_rfl) (by kernel_rfl) (fun _ _ _ h => h) (Or.inl ⟨by rfl, ?hy54⟩) (by assumption) ?_
      case hy54 => (intro w hSw; (try dsimp only at hSw); go_simp; all_goals with_reducible rfl)
      try simp only [Act.put, List.setIfInBounds_toArray, List.set_cons_zero, List.set_cons_succ]
      refine wpAnyH_done (by kernel_rfl) ?_ _
      go_wp2_with fail
      go_meet
      case rel => exact ⟨rfl, hI⟩
    by_cases a4 : 255 < fl
    · obtain rfl : bad = true := hbadT.out (.inr (.inr (.inr a4)))
      refine wp_region_held_drew (S := (fun W => W.cell? ⟨g, 0, none⟩ = some (.int .i64 ty) ∧ W.cell? ⟨g, 1, none⟩ = some (.int .i64 fl) ∧ W.cell? ⟨g, 2, none⟩ = some (.int .i64 st))) (by kernel_rfl) (hfull.out _ hI) (fun hHeld => ?_)
      generalize hWg : World.drew _ = W at hI hHeld ⊢
      clear hWg
      refine wpAnyH_take (i := 0) (oi := { dst := some 3, op := Op.fieldAddr 28 (Operand.tmp 1) 0, type := 0, pos := "ref.go:71", after := #[], guard := none }) (v := ?vv55) rfl (by kernel_rfl) (by kernel_rfl) (by kernel_rfl) (fun _ _ _ h => h) (Or.inl ⟨by rfl, ?hy55⟩) (by assumption) ?_
      case hy55 => (intro w hSw; (try dsimp only at hSw); go_simp; all_goals with_reducible rfl)
      try simp only [Act.put, List.setIfInBounds_toArray, List.set_cons_zero, List.set_cons_succ]
      refine wpAnyH_take (i := 1) (oi := { dst := some 4, op := Op.load 3 (Operand.tmp 3), type := 3, pos := "ref.go:71", after := #[{ on := 0, ground := Ground.data }], guard := none }) (v := ?vv56) rfl (by kernel_rfl) (by kernel_rfl) (by kernel_rfl) (fun _ _ _ h => h) (Or.inl ⟨by rfl, ?hy56⟩) (by assumption) ?_
      case hy56 => (intro w hSw; (try dsimp only at hSw); go_simp; all_goals with_reducible rfl)
      try simp only [Act.put, List.setIfInBounds_toArray, List.set_cons_zero, List.set_cons_succ]
      refine wpAnyH_take (i := 2) (oi := { dst := some 5, op := Op.binOp BinOp.lss 3 (Operand.tmp 4) (Operand.const (Value.int IntKind.i64 0)) 3, type := 4, pos := "ref.go:71", after := #[{ on := 1, ground := Ground.data }], guard := none }) (v := ?vv57) rfl (by kernel_rfl) (by kernel_rfl) (by kernel_rfl) (fun _ _ _ h => h) (Or.inl ⟨by rfl, ?hy57⟩) (by assumption) ?_
      case hy57 => (intro w hSw; (try dsimp only at hSw); go_simp; all_goals with_reducible rfl)
      try simp only [Act.put, List.setIfInBounds_toArray, List.set_cons_zero, List.set_cons_succ]
      refine wpAnyH_take (i := 3) (oi := { dst := some 6, op := Op.move (Operand.tmp 5), type := 4, pos := "ref.go:71", after := #[{ on := 2, ground := Ground.data }], guard := none }) (v := ?vv58) rfl (by kernel_rfl) (by kernel_rfl) (by kernel_rfl) (fun _ _ _ h => h) (Or.inl ⟨by rfl, ?hy58⟩) (by assumption) ?_
      case hy58 => (intro w hSw; (try dsimp only at hSw); go_simp; all_goals with_reducible rfl)
      try simp only [Act.put, List.setIfInBounds_toArray, List.set_cons_zero, List.set_cons_succ]
      refine wpAnyH_take (i := 4) (oi := { dst := some 7, op := Op.fieldAddr 28 (Operand.tmp 1) 0, type := 0, pos := "ref.go:71", after := #[{ on := 3, ground := Ground.guard }], guard := some (3, false) }) (v := ?vv59) rfl (by kernel_rfl) (by kernel_rfl) (by kernel_rfl) (fun _ _ _ h => h) (Or.inl ⟨by rfl, ?hy59⟩) (by assumption) ?_
      case hy59 => (intro w hSw; (try dsimp only at hSw); go_simp; all_goals with_reducible rfl)
      try simp only [Act.put, List.setIfInBounds_toArray, List.set_cons_zero, List.set_cons_succ]
      refine wpAnyH_take (i := 5) (oi := { dst := some 8, op := Op.load 3 (Operand.tmp 7), type := 3, pos := "ref.go:71", after := #[{ on := 4, ground := Ground.data }, { on := 3, ground := Ground.guard }], guard := some (3, false) }) (v := ?vv60) rfl (by kernel_rfl) (by kernel_rfl) (by kernel_rfl) (fun _ _ _ h => h) (Or.inl ⟨by rfl, ?hy60⟩) (by assumption) ?_
      case hy60 => (intro w hSw; (try dsimp only at hSw); go_simp; all_goals with_reducible rfl)
      try simp only [Act.put, List.setIfInBounds_toArray, List.set_cons_zero, List.set_cons_succ]
      refine wpAnyH_take (i := 6) (oi := { dst := some 9, op := Op.binOp BinOp.gtr 3 (Operand.tmp 8) (Operand.const (Value.int IntKind.i64 255)) 3, type := 4, pos := "ref.go:71", after := #[{ on := 5, ground := Ground.data }, { on := 3, ground := Ground.guard }], guard := some (3, false) }) (v := ?vv61) rfl (by kernel_rfl) (by kernel_rfl) (by kernel_rfl) (fun _ _ _ h => h) (Or.inl ⟨by rfl, ?hy61⟩) (by assumption) ?_
      case hy61 => (intro w hSw; (try dsimp only at hSw); go_simp; all_goals with_reducible rfl)
      try simp only [Act.put, List.setIfInBounds_toArray, List.set_cons_zero, List.set_cons_succ]
      refine wpAnyH_take (i := 7) (oi := { dst := some 10, op := Op.pick (Operand.tmp 6) (Operand.const (Value.bool true)) (Operand.tmp 9), type := 4, pos := "ref.go:71", after := #[{ on := 3, ground := Ground.data }, { on := 6, ground := Ground.data }], guard := none }) (v := ?vv62) rfl (by kernel_rfl) (by kernel_rfl) (by kernel_rfl) (fun _ _ _ h => h) (Or.inl ⟨by rfl, ?hy62⟩) (by assumption) ?_
      case hy62 => (intro w hSw; (try dsimp only at hSw); go_simp; all_goals with_reducible rfl)
      try simp only [Act.put, List.setIfInBounds_toArray, List.set_cons_zero, List.set_cons_succ]
      refine wpAnyH_take (i := 8) (oi := { dst := some 11, op := Op.move (Operand.tmp 10), type := 4, pos := "ref.go:71", after := #[{ on := 7, ground := Ground.data }, { on := 3, ground := Ground.chain }], guard := none }) (v := ?vv63) rfl (by kernel_rfl) (by kernel_rfl) (by kernel_rfl) (fun _ _ _ h => h) (Or.inl ⟨by rfl, ?hy63⟩) (by assumption) ?_
      case hy63 => (intro w hSw; (try dsimp only at hSw); go_simp; all_goals with_reducible rfl)
      try simp only [Act.put, List.setIfInBounds_toArray, List.set_cons_zero, List.set_cons_succ]
      refine wpAnyH_take (i := 9) (oi := { dst := some 12, op := Op.fieldAddr 28 (Operand.tmp 1) 1, type := 0, pos := "ref.go:71", after := #[{ on := 8, ground := Ground.guard }], guard := some (8, false) }) (v := ?vv64) rfl (by kernel_rfl) (by kernel_rfl) (by kernel_rfl) (fun _ _ _ h => h) (Or.inl ⟨by rfl, ?hy64⟩) (by assumption) ?_
      case hy64 => (intro w hSw; (try dsimp only at hSw); go_simp; all_goals with_reducible rfl)
      try simp only [Act.put, List.setIfInBounds_toArray, List.set_cons_zero, List.set_cons_succ]
      refine wpAnyH_take (i := 10) (oi := { dst := some 13, op := Op.load 3 (Operand.tmp 12), type := 3, pos := "ref.go:71", after := #[{ on := 9, ground := Ground.data }, { on := 8, ground := Ground.guard }], guard := some (8, false) }) (v := ?vv65) rfl (by kernel_rfl) (by kernel_rfl) (by kernel_rfl) (fun _ _ _ h => h) (Or.inl ⟨by rfl, ?hy65⟩) (by assumption) ?_
      case hy65 => (intro w hSw; (try dsimp only at hSw); go_simp; all_goals with_reducible rfl)
      try simp only [Act.put, List.setIfInBounds_toArray, List.set_cons_zero, List.set_cons_succ]
      refine wpAnyH_take (i := 11) (oi := { dst := some 14, op := Op.binOp BinOp.lss 3 (Operand.tmp 13) (Operand.const (Value.int IntKind.i64 0)) 3, type := 4, pos := "ref.go:71", after := #[{ on := 10, ground := Ground.data }, { on := 8, ground := Ground.guard }], guard := some (8, false) }) (v := ?vv66) rfl (by kernel_rfl) (by kernel_rfl) (by kernel_rfl) (fun _ _ _ h => h) (Or.inl ⟨by rfl, ?hy66⟩) (by assumption) ?_
      case hy66 => (intro w hSw; (try dsimp only at hSw); go_simp; all_goals with_reducible rfl)
      try simp only [Act.put, List.setIfInBounds_toArray, List.set_cons_zero, List.set_cons_succ]
      refine wpAnyH_take (i := 12) (oi := { dst := some 15, op := Op.pick (Operand.tmp 11) (Operand.const (Value.bool true)) (Operand.tmp 14), type := 4, pos := "ref.go:71", after := #[{ on := 8, ground := Ground.data }, { on := 11, ground := Ground.data }], guard := none }) (v := ?vv67) rfl (by kernel_rfl) (by kernel_rfl) (by kernel_rfl) (fun _ _ _ h => h) (Or.inl ⟨by rfl, ?hy67⟩) (by assumption) ?_
      case hy67 => (intro w hSw; (try dsimp only at hSw); go_simp; all_goals with_reducible rfl)
      try simp only [Act.put, List.setIfInBounds_toArray, List.set_cons_zero, List.set_cons_succ]
      refine wpAnyH_take (i := 13) (oi := { dst := some 16, op := Op.move (Operand.tmp 15), type := 4, pos := "ref.go:71", after := #[{ on := 12, ground := Ground.data }, { on := 8, ground := Ground.chain }], guard := none }) (v := ?vv68) rfl (by kernel_rfl) (by kernel_rfl) (by kernel_rfl) (fun _ _ _ h => h) (Or.inl ⟨by rfl, ?hy68⟩) (by assumption) ?_
      case hy68 => (intro w hSw; (try dsimp only at hSw); go_simp; all_goals with_reducible rfl)
      try simp only [Act.put, List.setIfInBounds_toArray, List.set_cons_zero, List.set_cons_succ]
      refine wpAnyH_take (i := 14) (oi := { dst := some 17, op := Op.fieldAddr 28 (Operand.tmp 1) 1, type := 0, pos := "ref.go:71", after := #[{ on := 13, ground := Ground.guard }], guard := some (13, false) }) (v := ?vv69) rfl (by kernel_rfl) (by kernel_rfl) (by kernel_rfl) (fun _ _ _ h => h) (Or.inl ⟨by rfl, ?hy69⟩) (by assumption) ?_
      case hy69 => (intro w hSw; (try dsimp only at hSw); go_simp; all_goals with_reducible rfl)
      try simp only [Act.put, List.setIfInBounds_toArray, List.set_cons_zero, List.set_cons_succ]
      refine wpAnyH_take (i := 15) (oi := { dst := some 18, op := Op.load 3 (Operand.tmp 17), type := 3, pos := "ref.go:71", after := #[{ on := 14, ground := Ground.data }, { on := 13, ground := Ground.guard }], guard := some (13, false) }) (v := ?vv70) rfl (by kernel_rfl) (by kernel_rfl) (by kernel_rfl) (fun _ _ _ h => h) (Or.inl ⟨by rfl, ?hy70⟩) (by assumption) ?_
      case hy70 => (intro w hSw; (try dsimp only at hSw); go_simp; all_goals with_reducible rfl)
      try simp only [Act.put, List.setIfInBounds_toArray, List.set_cons_zero, List.set_cons_succ]
      refine wpAnyH_take (i := 16) (oi := { dst := some 19, op := Op.binOp BinOp.gtr 3 (Operand.tmp 18) (Operand.const (Value.int IntKind.i64 255)) 3, type := 4, pos := "ref.go:71", after := #[{ on := 15, ground := Ground.data }, { on := 13, ground := Ground.guard }], guard := some (13, false) }) (v := ?vv71) rfl (by kernel_rfl) (by kernel_rfl) (by kernel_rfl) (fun _ _ _ h => h) (Or.inl ⟨by rfl, ?hy71⟩) (by assumption) ?_
      case hy71 => (intro w hSw; (try dsimp only at hSw); go_simp; all_goals with_reducible rfl)
      try simp only [Act.put, List.setIfInBounds_toArray, List.set_cons_zero, List.set_cons_succ]
      refine wpAnyH_take (i := 17) (oi := { dst := some 20, op := Op.pick (Operand.tmp 16) (Operand.const (Value.bool true)) (Operand.tmp 19), type := 4, pos := "ref.go:71", after := #[{ on := 13, ground := Ground.data }, { on := 16, ground := Ground.data }], guard := none }) (v := ?vv72) rfl (by kernel_rfl) (by kernel_rfl) (by kernel_rfl) (fun _ _ _ h => h) (Or.inl ⟨by rfl, ?hy72⟩) (by assumption) ?_
      case hy72 => (intro w hSw; (try dsimp only at hSw); go_simp; all_goals with_reducible rfl)
      try simp only [Act.put, List.setIfInBounds_toArray, List.set_cons_zero, List.set_cons_succ]
      refine wpAnyH_take (i := 18) (oi := { dst := some 21, op := Op.move (Operand.tmp 20), type := 4, pos := "ref.go:71", after := #[{ on := 17, ground := Ground.data }, { on := 13, ground := Ground.chain }], guard := none }) (v := ?vv73) rfl (by kernel_rfl) (by kernel_rfl) (by kernel_rfl) (fun _ _ _ h => h) (Or.inl ⟨by rfl, ?hy73⟩) (by assumption) ?_
      case hy73 => (intro w hSw; (try dsimp only at hSw); go_simp; all_goals with_reducible rfl)
      try simp only [Act.put, List.setIfInBounds_toArray, List.set_cons_zero, List.set_cons_succ]
      refine wpAnyH_take (i := 19) (oi := { dst := some 22, op := Op.fieldAddr 28 (Operand.tmp 1) 1, type := 0, pos := "ref.go:71", after := #[{ on := 18, ground := Ground.guard }], guard := some (18, false) }) (v := undef) rfl (by kernel_rfl) (by kernel_rfl) (by kernel_rfl) (fun _ _ _ h => h) (Or.inr ⟨by rfl, rfl⟩) (by assumption) ?_
      try simp only [Act.put, List.setIfInBounds_toArray, List.set_cons_zero, List.set_cons_succ]
      refine wpAnyH_take (i := 20) (oi := { dst := some 23, op := Op.load 3 (Operand.tmp 22), type := 3, pos := "ref.go:71", after := #[{ on := 19, ground := Ground.data }, { on := 18, ground := Ground.guard }], guard := some (18, false) }) (v := undef) rfl (by kernel_rfl) (by kernel_rfl) (by kernel_rfl) (fun _ _ _ h => h) (Or.inr ⟨by rfl, rfl⟩) (by assumption) ?_
      try simp only [Act.put, List.setIfInBounds_toArray, List.set_cons_zero, List.set_cons_succ]
      refine wpAnyH_take (i := 21) (oi := { dst := some 24, op := Op.fieldAddr 28 (Operand.tmp 1) 0, type := 0, pos := "ref.go:71", after := #[{ on := 18, ground := Ground.guard }], guard := some (18, false) }) (v := undef) rfl (by kernel_rfl) (by kernel_rfl) (by kernel_rfl) (fun _ _ _ h => h) (Or.inr ⟨by rfl, rfl⟩) (by assumption) ?_
      try simp only [Act.put, List.setIfInBounds_toArray, List.set_cons_zero, List.set_cons_succ]
      refine wpAnyH_take (i := 22) (oi := { dst := some 25, op := Op.load 3 (Operand.tmp 24), type := 3, pos := "ref.go:71", after := #[{ on := 21, ground := Ground.data }, { on := 18, ground := Ground.guard }], guard := some (18, false) }) (v := undef) rfl (by kernel_rfl) (by kernel_rfl) (by kernel_rfl) (fun _ _ _ h => h) (Or.inr ⟨by rfl, rfl⟩) (by assumption) ?_
      try simp only [Act.put, List.setIfInBounds_toArray, List.set_cons_zero, List.set_cons_succ]
      refine wpAnyH_take (i := 23) (oi := { dst := some 26, op := Op.call { callee := Callee.value (Operand.func 29), args := #[Operand.tmp 25], argTypes := #[3] }, type := 3, pos := "ref.go:71", after := #[{ on := 22, ground := Ground.data }, { on := 18, ground := Ground.chain }, { on := 18, ground := Ground.guard }], guard := some (18, false) }) (v := undef) rfl (by kernel_rfl) (by kernel_rfl) (by kernel_rfl) (fun _ _ _ h => h) (Or.inr ⟨by rfl, rfl⟩) (by assumption) ?_
      try simp only [Act.put, List.setIfInBounds_toArray, List.set_cons_zero, List.set_cons_succ]
      refine wpAnyH_take (i := 24) (oi := { dst := some 27, op := Op.binOp BinOp.andNot 3 (Operand.tmp 23) (Operand.tmp 26) 3, type := 3, pos := "ref.go:71", after := #[{ on := 20, ground := Ground.data }, { on := 23, ground := Ground.data }, { on := 18, ground := Ground.guard }], guard := some (18, false) }) (v := undef) rfl (by kernel_rfl) (by kernel_rfl) (by kernel_rfl) (fun _ _ _ h => h) (Or.inr ⟨by rfl, rfl⟩) (by assumption) ?_
      try simp only [Act.put, List.setIfInBounds_toArray, List.set_cons_zero, List.set_cons_succ]
      refine wpAnyH_take (i := 25) (oi := { dst := some 28, op := Op.binOp BinOp.neq 3 (Operand.tmp 27) (Operand.const (Value.int IntKind.i64 0)) 3, type := 4, pos := "ref.go:71", after := #[{ on := 24, ground := Ground.data }, { on := 18, ground := Ground.guard }], guard := some (18, false) }) (v := undef) rfl (by kernel_rfl) (by kernel_rfl) (by kernel_rfl) (fun _ _ _ h => h) (Or.inr ⟨by rfl, rfl⟩) (by assumption) ?_
      try simp only [Act.put, List.setIfInBounds_toArray, List.set_cons_zero, List.set_cons_succ]
      refine wpAnyH_take (i := 26) (oi := { dst := some 29, op := Op.pick (Operand.tmp 21) (Operand.const (Value.bool true)) (Operand.tmp 28), type := 4, pos := "ref.go:71", after := #[{ on := 18, ground := Ground.data }, { on := 25, ground := Ground.data }], guard := none }) (v := ?vv74) rfl (by kernel_rfl) (by kernel_rfl) (by kernel_rfl) (fun _ _ _ h => h) (Or.inl ⟨by rfl, ?hy74⟩) (by assumption) ?_
      case hy74 => (intro w hSw; (try dsimp only at hSw); go_simp; all_goals with_reducible rfl)
      try simp only [Act.put, List.setIfInBounds_toArray, List.set_cons_zero, List.set_cons_succ]
      refine wpAnyH_take (i := 27) (oi := { dst := some 30, op := Op.move (Operand.tmp 29), type := 4, pos := "ref.go:71", after := #[{ on := 26, ground := Ground.data }, { on := 23, ground := Ground.chain }], guard := none }) (v := ?vv75) rfl (by kernel_rfl) (by kernel_rfl) (by kernel_rfl) (fun _ _ _ h => h) (Or.inl ⟨by rfl, ?hy75⟩) (by assumption) ?_
      case hy75 => (intro w hSw; (try dsimp only at hSw); go_simp; all_goals with_reducible rfl)
      try simp only [Act.put, List.setIfInBounds_toArray, List.set_cons_zero, List.set_cons_succ]
      refine wpAnyH_take (i := 28) (oi := { dst := some 31, op := Op.fieldAddr 28 (Operand.tmp 1) 2, type := 0, pos := "ref.go:71", after := #[{ on := 27, ground := Ground.guard }], guard := some (27, false) }) (v := undef) rfl (by kernel_rfl) (by kernel_rfl) (by kernel_rfl) (fun _ _ _ h => h) (Or.inr ⟨by rfl, rfl⟩) (by assumption) ?_
      try simp only [Act.put, List.setIfInBounds_toArray, List.set_cons_zero, List.set_cons_succ]
      refine wpAnyH_take (i := 29) (oi := { dst := some 32, op := Op.load 2 (Operand.tmp 31), type := 2, pos := "ref.go:71", after := #[{ on := 28, ground := Ground.data }, { on := 27, ground := Ground.guard }], guard := some (27, false) }) (v := undef) rfl (by kernel_rfl) (by kernel_rfl) (by kernel_rfl) (fun _ _ _ h => h) (Or.inr ⟨by rfl, rfl⟩) (by assumption) ?_
      try simp only [Act.put, List.setIfInBounds_toArray, List.set_cons_zero, List.set_cons_succ]
      refine wpAnyH_take (i := 30) (oi := { dst := some 33, op := Op.call { callee := Callee.value (Operand.func 45), args := #[Operand.tmp 32, Operand.const (Value.int IntKind.i64 2147483647)], argTypes := #[2, 2] }, type := 4, pos := "ref.go:71", after := #[{ on := 29, ground := Ground.data }, { on := 27, ground := Ground.chain }, { on := 27, ground := Ground.guard }], guard := some (27, false) }) (v := undef) rfl (by kernel_rfl) (by kernel_rfl) (by kernel_rfl) (fun _ _ _ h => h) (Or.inr ⟨by rfl, rfl⟩) (by assumption) ?_
      try simp only [Act.put, List.setIfInBounds_toArray, List.set_cons_zero, List.set_cons_succ]
      refine wpAnyH_take (i := 31) (oi := { dst := some 34, op := Op.unOp UnOp.not 4 (Operand.tmp 33), type := 4, pos := "ref.go:71", after := #[{ on := 30, ground := Ground.data }, { on := 27, ground := Ground.guard }], guard := some (27, false) }) (v := undef) rfl (by kernel_rfl) (by kernel_rfl) (by kernel_rfl) (fun _ _ _ h => h) (Or.inr ⟨by rfl, rfl⟩) (by assumption) ?_
      try simp only [Act.put, List.setIfInBounds_toArray, List.set_cons_zero, List.set_cons_succ]
      refine wpAnyH_take (i := 32) (oi := { dst := some 35, op := Op.pick (Operand.tmp 30) (Operand.const (Value.bool true)) (Operand.tmp 34), type := 4, pos := "ref.go:71", after := #[{ on := 27, ground := Ground.data }, { on := 31, ground := Ground.data }], guard := none }) (v := ?vv76) rfl (by kernel_rfl) (by kernel_rfl) (by kernel_rfl) (fun _ _ _ h => h) (Or.inl ⟨by rfl, ?hy76⟩) (by assumption) ?_
      case hy76 => (intro w hSw; (try dsimp only at hSw); go_simp; all_goals with_reducible rfl)
      try simp only [Act.put, List.setIfInBounds_toArray, List.set_cons_zero, List.set_cons_succ]
      refine wpAnyH_take (i := 33) (oi := { dst := some 36, op := Op.move (Operand.tmp 35), type := 4, pos := "ref.go:71", after := #[{ on := 32, ground := Ground.data }, { on := 30, ground := Ground.chain }], guard := none }) (v := ?vv77) rfl (by kernel_rfl) (by kernel_rfl) (by kernel_rfl) (fun _ _ _ h => h) (Or.inl ⟨by rfl, ?hy77⟩) (by assumption) ?_
      case hy77 => (intro w hSw; (try dsimp only at hSw); go_simp; all_goals with_reducible rfl)
      try simp only [Act.put, List.setIfInBounds_toArray, List.set_cons_zero, List.set_cons_succ]
      refine wpAnyH_take (i := 34) (oi := { dst := some 37, op := Op.fieldAddr 28 (Operand.tmp 1) 0, type := 0, pos := "ref.go:71", after := #[{ on := 33, ground := Ground.guard }], guard := some (33, false) }) (v := undef) rfl (by kernel_rfl) (by kernel_rfl) (by kernel_rfl) (fun _ _ _ h => h) (Or.inr ⟨by rfl, rfl⟩) (by assumption) ?_
      try simp only [Act.put, List.setIfInBounds_toArray, List.set_cons_zero, List.set_cons_succ]
      refine wpAnyH_take (i := 35) (oi := { dst := some 38, op := Op.load 3 (Operand.tmp 37), type := 3, pos := "ref.go:71", after := #[{ on := 34, ground := Ground.data }, { on := 33, ground := Ground.guard }], guard := some (33, false) }) (v := undef) rfl (by kernel_rfl) (by kernel_rfl) (by kernel_rfl) (fun _ _ _ h => h) (Or.inr ⟨by rfl, rfl⟩) (by assumption) ?_
      try simp only [Act.put, List.setIfInBounds_toArray, List.set_cons_zero, List.set_cons_succ]
      refine wpAnyH_take (i := 36) (oi := { dst := some 39, op := Op.fieldAddr 28 (Operand.tmp 1) 2, type := 0, pos := "ref.go:71", after := #[{ on := 33, ground := Ground.guard }], guard := some (33, false) }) (v := undef) rfl (by kernel_rfl) (by kernel_rfl) (by kernel_rfl) (fun _ _ _ h => h) (Or.inr ⟨by rfl, rfl⟩) (by assumption) ?_
      try simp only [Act.put, List.setIfInBounds_toArray, List.set_cons_zero, List.set_cons_succ]
      refine wpAnyH_take (i := 37) (oi := { dst := some 40, op := Op.load 2 (Operand.tmp 39), type := 2, pos := "ref.go:71", after := #[{ on := 36, ground := Ground.data }, { on := 33, ground := Ground.guard }], guard := some (33, false) }) (v := undef) rfl (by kernel_rfl) (by kernel_rfl) (by kernel_rfl) (fun _ _ _ h => h) (Or.inr ⟨by rfl, rfl⟩) (by assumption) ?_
      try simp only [Act.put, List.setIfInBounds_toArray, List.set_cons_zero, List.set_cons_succ]
      refine wpAnyH_take (i := 38) (oi := { dst := some 41, op := Op.call { callee := Callee.value (Operand.func 30), args := #[Operand.tmp 38, Operand.tmp 40], argTypes := #[3, 2] }, type := 4, pos := "ref.go:71", after := #[{ on := 35, ground := Ground.data }, { on := 37, ground := Ground.data }, { on := 33, ground := Ground.chain }, { on := 33, ground := Ground.guard }], guard := some (33, false) }) (v := undef) rfl (by kernel_rfl) (by kernel_rfl) (by kernel_rfl) (fun _ _ _ h => h) (Or.inr ⟨by rfl, rfl⟩) (by assumption) ?_
      try simp only [Act.put, List.setIfInBounds_toArray, List.set_cons_zero, List.set_cons_succ]
      refine wpAnyH_take (i := 39) (oi := { dst := some 42, op := Op.unOp UnOp.not 4 (Operand.tmp 41), type := 4, pos := "ref.go:71", after := #[{ on := 38, ground := Ground.data }, { on := 33, ground := Ground.guard }], guard := some (33, false) }) (v := undef) rfl (by kernel_rfl) (by kernel_rfl) (by kernel_rfl) (fun _ _ _ h => h) (Or.inr ⟨by rfl, rfl⟩) (by assumption) ?_
      try simp only [Act.put, List.setIfInBounds_toArray, List.set_cons_zero, List.set_cons_succ]
      refine wpAnyH_take (i := 40) (oi := { dst := some 43, op := Op.pick (Operand.tmp 36) (Operand.const (Value.bool true)) (Operand.tmp 42), type := 4, pos := "ref.go:71", after := #[{ on := 33, ground := Ground.data }, { on := 39, ground := Ground.data }], guard := none }) (v := ?vv78) rfl (by kernel_rfl) (by kernel_rfl) (by kernel_rfl) (fun _ _ _ h => h) (Or.inl ⟨by rfl, ?hy78⟩) (by assumption) ?_
      case hy78 => (intro w hSw; (try dsimp only at hSw); go_simp; all_goals with_reducible rfl)
      try simp only [Act.put, List.setIfInBounds_toArray, List.set_cons_zero, List.set_cons_succ]
      refine wpAnyH_done (by kernel_rfl) ?_ _
      go_wp2_with fail
      go_meet
      case rel => exact ⟨rfl, hI⟩
    obtain ⟨T, hT⟩ : ∃ T : Nat, ty = (T : Int) := ⟨ty.toNat, by omega⟩
    obtain ⟨kf, hkf⟩ : ∃ kf, kflags (min ty 10).toNat = kf := ⟨_, rfl⟩
    obtain ⟨sw, hsw⟩ : ∃ sw, wiS st 2147483647 = sw := ⟨_, rfl⟩
    obtain ⟨sr, hsr⟩ : ∃ sr, srS ty.toNat st = sr := ⟨_, rfl⟩
    have c29 : Hid (∀ W : World, Calls Tryd.prog 29 #[.int .i64 ty] W fun e w' => e = .returned (.int .i64 kf) ∧ w' = W) := fun W => by
      have := flags_ref T W
      rw [← hT, hkf] at this
      exact this
    have c45 : Hid (∀ W : World, Calls Tryd.prog 45 #[.int .i64 st, .int .i64 2147483647] W fun e w' => e = .returned (.bool sw) ∧ w' = W) := fun W => by
      rw [← hsw]
      exact within_any _ _ _
    have c30 : Hid (∀ W : World, Calls Tryd.prog 30 #[.int .i64 ty, .int .i64 st] W fun e w' => e = .returned (.bool sr) ∧ w' = W) := fun W => by
      have := streamRight_any T st W
      rw [← hT, show T = ty.toNat by omega, hsr] at this
      exact this
    have hb5 := hbad5.out a1 a2 a3 a4
    rw [hkf, hsw, hsr] at hb5
    obtain ⟨d5, hd5⟩ : ∃ d, decide (bits .andNot .i64 fl kf = 0) = d := ⟨_, rfl⟩
    rw [hd5] at hb5
    clear hkf hsw hsr hT T hbadT hbad5
    by_cases a5 : bits .andNot .i64 fl kf = 0
    · have b5 : (bits .andNot .i64 fl kf != 0) = false := bne_eq_false_iff_eq.2 a5
      rw [decide_eq_true a5] at hd5
      subst hd5
      clear a5
      cases sw
      · obtain rfl : bad = true := hb5
        refine wp_region_held_drew (S := (fun W => W.cell? ⟨g, 0, none⟩ = some (.int .i64 ty) ∧ W.cell? ⟨g, 1, none⟩ = some (.int .i64 fl) ∧ W.cell? ⟨g, 2, none⟩ = some (.int .i64 st))) (by kernel_rfl) (hfull.out _ hI) (fun hHeld => ?_)
        generalize hWg : World.drew _ = W at hI hHeld ⊢
        clear hWg
        refine wpAnyH_take (i := 0) (oi := { dst := some 3, op := Op.fieldAddr 28 (Operand.tmp 1) 0, type := 0, pos := "ref.go:71", after := #[], guard := none }) (v := ?vv79) rfl (by kernel_rfl) (by kernel_rfl) (by kernel_rfl) (fun _ _ _ h => h) (Or.inl ⟨by rfl, ?hy79⟩) (by assumption) ?_
        case hy79 => (intro w hSw; (try dsimp only at hSw); go_simp; all_goals with_reducible rfl)
        try simp only [Act.put, List.setIfInBounds_toArray, List.set_cons_zero, List.set_cons_succ]
        refine wpAnyH_take (i := 1) (oi := { dst := some 4, op := Op.load 3 (Operand.tmp 3), type := 3, pos := "ref.go:71", after := #[{ on := 0, ground := Ground.data }], guard := none }) (v := ?vv80) rfl (by kernel_rfl) (by kernel_rfl) (by kernel_rfl) (fun _ _ _ h => h) (Or.inl ⟨by rfl, ?hy80⟩) (by assumption) ?_
        case hy80 => (intro w hSw; (try dsimp only at hSw); go_simp; all_goals with_reducible rfl)
        try simp only [Act.put, List.setIfInBounds_toArray, List.set_cons_zero, List.set_cons_succ]
        refine wpAnyH_take (i := 2) (oi := { dst := some 5, op := Op.binOp BinOp.lss 3 (Operand.tmp 4) (Operand.const (Value.int IntKind.i64 0)) 3, type := 4, pos := "ref.go:71", after := #[{ on := 1, ground := Ground.data }], guard := none }) (v := ?vv81) rfl (by kernel_rfl) (by kernel_rfl) (by kernel_rfl) (fun _ _ _ h => h) (Or.inl ⟨by rfl, ?hy81⟩) (by assumption) ?_
        case hy81 => (intro w hSw; (try dsimp only at hSw); go_simp; all_goals with_reducible rfl)
        try simp only [Act.put, List.setIfInBounds_toArray, List.set_cons_zero, List.set_cons_succ]
        refine wpAnyH_take (i := 3) (oi := { dst := some 6, op := Op.move (Operand.tmp 5), type := 4, pos := "ref.go:71", after := #[{ on := 2, ground := Ground.data }], guard := none }) (v := ?vv82) rfl (by kernel_rfl) (by kernel_rfl) (by kernel_rfl) (fun _ _ _ h => h) (Or.inl ⟨by rfl, ?hy82⟩) (by assumption) ?_
        case hy82 => (intro w hSw; (try dsimp only at hSw); go_simp; all_goals with_reducible rfl)
        try simp only [Act.put, List.setIfInBounds_toArray, List.set_cons_zero, List.set_cons_succ]
        refine wpAnyH_take (i := 4) (oi := { dst := some 7, op := Op.fieldAddr 28 (Operand.tmp 1) 0, type := 0, pos := "ref.go:71", after := #[{ on := 3, ground := Ground.guard }], guard := some (3, false) }) (v := ?vv83) rfl (by kernel_rfl) (by kernel_rfl) (by kernel_rfl) (fun _ _ _ h => h) (Or.inl ⟨by rfl, ?hy83⟩) (by assumption) ?_
        case hy83 => (intro w hSw; (try dsimp only at hSw); go_simp; all_goals with_reducible rfl)
        try simp only [Act.put, List.setIfInBounds_toArray, List.set_cons_zero, List.set_cons_succ]
        refine wpAnyH_take (i := 5) (oi := { dst := some 8, op := Op.load 3 (Operand.tmp 7), type := 3, pos := "ref.go:71", after := #[{ on := 4, ground := Ground.data }, { on := 3, ground := Ground.guard }], guard := some (3, false) }) (v := ?vv84) rfl (by kernel_rfl) (by kernel_rfl) (by kernel_rfl) (fun _ _ _ h => h) (Or.inl ⟨by rfl, ?hy84⟩) (by assumption) ?_
        case hy84 => (intro w hSw; (try dsimp only at hSw); go_simp; all_goals with_reducible rfl)
        try simp only [Act.put, List.setIfInBounds_toArray, List.set_cons_zero, List.set_cons_succ]
        refine wpAnyH_take (i := 6) (oi := { dst := some 9, op := Op.binOp BinOp.gtr 3 (Operand.tmp 8) (Operand.const (Value.int IntKind.i64 255)) 3, type := 4, pos := "ref.go:71", after := #[{ on := 5, ground := Ground.data }, { on := 3, ground := Ground.guard }], guard := some (3, false) }) (v := ?vv85) rfl (by kernel_rfl) (by kernel_rfl) (by kernel_rfl) (fun _ _ _ h => h) (Or.inl ⟨by rfl, ?hy85⟩) (by assumption) ?_
        case hy85 => (intro w hSw; (try dsimp only at hSw); go_simp; all_goals with_reducible rfl)
        try simp only [Act.put, List.setIfInBounds_toArray, List.set_cons_zero, List.set_cons_succ]
        refine wpAnyH_take (i := 7) (oi := { dst := some 10, op := Op.pick (Operand.tmp 6) (Operand.const (Value.bool true)) (Operand.tmp 9), type := 4, pos := "ref.go:71", after := #[{ on := 3, ground := Ground.data }, { on := 6, ground := Ground.data }], guard := none }) (v := ?vv86) rfl (by kernel_rfl) (by kernel_rfl) (by kernel_rfl) (fun _ _ _ h => h) (Or.inl ⟨by rfl, ?hy86⟩) (by assumption) ?_
        case hy86 => (intro w hSw; (try dsimp only at hSw); go_simp; all_goals with_reducible rfl)
        try simp only [Act.put, List.setIfInBounds_toArray, List.set_cons_zero, List.set_cons_succ]
        refine wpAnyH_take (i := 8) (oi := { dst := some 11, op := Op.move (Operand.tmp 10), type := 4, pos := "ref.go:71", after := #[{ on := 7, ground := Ground.data }, { on := 3, ground := Ground.chain }], guard := none }) (v := ?vv87) rfl (by kernel_rfl) (by kernel_rfl) (by kernel_rfl) (fun _ _ _ h => h) (Or.inl ⟨by rfl, ?hy87⟩) (by assumption) ?_
        case hy87 => (intro w hSw; (try dsimp only at hSw); go_simp; all_goals with_reducible rfl)
        try simp only [Act.put, List.setIfInBounds_toArray, List.set_cons_zero, List.set_cons_succ]
        refine wpAnyH_take (i := 9) (oi := { dst := some 12, op := Op.fieldAddr 28 (Operand.tmp 1) 1, type := 0, pos := "ref.go:71", after := #[{ on := 8, ground := Ground.guard }], guard := some (8, false) }) (v := ?vv88) rfl (by kernel_rfl) (by kernel_rfl) (by kernel_rfl) (fun _ _ _ h => h) (Or.inl ⟨by rfl, ?hy88⟩) (by assumption) ?_
        case hy88 => (intro w hSw; (try dsimp only at hSw); go_simp; all_goals with_reducible rfl)
        try simp only [Act.put, List.setIfInBounds_toArray, List.set_cons_zero, List.set_cons_succ]
        refine wpAnyH_take (i := 10) (oi := { dst := some 13, op := Op.load 3 (Operand.tmp 12), type := 3, pos := "ref.go:71", after := #[{ on := 9, ground := Ground.data }, { on := 8, ground := Ground.guard }], guard := some (8, false) }) (v := ?vv89) rfl (by kernel_rfl) (by kernel_rfl) (by kernel_rfl) (fun _ _ _ h => h) (Or.inl ⟨by rfl, ?hy89⟩) (by assumption) ?_
        case hy89 => (intro w hSw; (try dsimp only at hSw); go_simp; all_goals with_reducible rfl)
        try simp only [Act.put, List.setIfInBounds_toArray, List.set_cons_zero, List.set_cons_succ]
        refine wpAnyH_take (i := 11) (oi := { dst := some 14, op := Op.binOp BinOp.lss 3 (Operand.tmp 13) (Operand.const (Value.int IntKind.i64 0)) 3, type := 4, pos := "ref.go:71", after := #[{ on := 10, ground := Ground.data }, { on := 8, ground := Ground.guard }], guard := some (8, false) }) (v := ?vv90) rfl (by kernel_rfl) (by kernel_rfl) (by kernel_rfl) (fun _ _ _ h => h) (Or.inl ⟨by rfl, ?hy90⟩) (by assumption) ?_
        case hy90 => (intro w hSw; (try dsimp only at hSw); go_simp; all_goals with_reducible rfl)
        try simp only [Act.put, List.setIfInBounds_toArray, List.set_cons_zero, List.set_cons_succ]
        refine wpAnyH_take (i := 12) (oi := { dst := some 15, op := Op.pick (Operand.tmp 11) (Operand.const (Value.bool true)) (Operand.tmp 14), type := 4, pos := "ref.go:71", after := #[{ on := 8, ground := Ground.data }, { on := 11, ground := Ground.data }], guard := none }) (v := ?vv91) rfl (by kernel_rfl) (by kernel_rfl) (by kernel_rfl) (fun _ _ _ h => h) (Or.inl ⟨by rfl, ?hy91⟩) (by assumption) ?_
        case hy91 => (intro w hSw; (try dsimp only at hSw); go_simp; all_goals with_reducible rfl)
        try simp only [Act.put, List.setIfInBounds_toArray, List.set_cons_zero, List.set_cons_succ]
        refine wpAnyH_take (i := 13) (oi := { dst := some 16, op := Op.move (Operand.tmp 15), type := 4, pos := "ref.go:71", after := #[{ on := 12, ground := Ground.data }, { on := 8, ground := Ground.chain }], guard := none }) (v := ?vv92) rfl (by kernel_rfl) (by kernel_rfl) (by kernel_rfl) (fun _ _ _ h => h) (Or.inl ⟨by rfl, ?hy92⟩) (by assumption) ?_
        case hy92 => (intro w hSw; (try dsimp only at hSw); go_simp; all_goals with_reducible rfl)
        try simp only [Act.put, List.setIfInBounds_toArray, List.set_cons_zero, List.set_cons_succ]
        refine wpAnyH_take (i := 14) (oi := { dst := some 17, op := Op.fieldAddr 28 (Operand.tmp 1) 1, type := 0, pos := "ref.go:71", after := #[{ on := 13, ground := Ground.guard }], guard := some (13, false) }) (v := ?vv93) rfl (by kernel_rfl) (by kernel_rfl) (by kernel_rfl) (fun _ _ _ h => h) (Or.inl ⟨by rfl, ?hy93⟩) (by assumption) ?_
        case hy93 => (intro w hSw; (try dsimp only at hSw); go_simp; all_goals with_reducible rfl)
        try simp only [Act.put, List.setIfInBounds_toArray, List.set_cons_zero, List.set_cons_succ]
        refine wpAnyH_take (i := 15) (oi := { dst := some 18, op := Op.load 3 (Operand.tmp 17), type := 3, pos := "ref.go:71", after := #[{ on := 14, ground := Ground.data }, { on := 13, ground := Ground.guard }], guard := some (13, false) }) (v := ?vv94) rfl (by kernel_rfl) (by kernel_rfl) (by kernel_rfl) (fun _ _ _ h => h) (Or.inl ⟨by rfl, ?hy94⟩) (by assumption) ?_
        case hy94 => (intro w hSw; (try dsimp only at hSw); go_simp; all_goals with_reducible rfl)
        try simp only [Act.put, List.setIfInBounds_toArray, List.set_cons_zero, List.set_cons_succ]
        refine wpAnyH_take (i := 16) (oi := { dst := some 19, op := Op.binOp BinOp.gtr 3 (Operand.tmp 18) (Operand.const (Value.int IntKind.i64 255)) 3, type := 4, pos := "ref.go:71", after := #[{ on := 15, ground := Ground.data }, { on := 13, ground := Ground.guard }], guard := some (13, false) }) (v := ?vv95) rfl (by kernel_rfl) (by kernel_rfl) (by kernel_rfl) (fun _ _ _ h => h) (Or.inl ⟨by rfl, ?hy95⟩) (by assumption) ?_
        case hy95 => (intro w hSw; (try dsimp only at hSw); go_simp; all_goals with_reducible rfl)
        try simp only [Act.put, List.setIfInBounds_toArray, List.set_cons_zero, List.set_cons_succ]
        refine wpAnyH_take (i := 17) (oi := { dst := some 20, op := Op.pick (Operand.tmp 16) (Operand.const (Value.bool true)) (Operand.tmp 19), type := 4, pos := "ref.go:71", after := #[{ on := 13, ground := Ground.data }, { on := 16, ground := Ground.data }], guard := none }) (v := ?vv96) rfl (by kernel_rfl) (by kernel_rfl) (by kernel_rfl) (fun _ _ _ h => h) (Or.inl ⟨by rfl, ?hy96⟩) (by assumption) ?_
        case hy96 => (intro w hSw; (try dsimp only at hSw); go_simp; all_goals with_reducible rfl)
        try simp only [Act.put, List.setIfInBounds_toArray, List.set_cons_zero, List.set_cons_succ]
        refine wpAnyH_take (i := 18) (oi := { dst := some 21, op := Op.move (Operand.tmp 20), type := 4, pos := "ref.go:71", after := #[{ on := 17, ground := Ground.data }, { on := 13, ground := Ground.chain }], guard := none }) (v := ?vv97) rfl (by kernel_rfl) (by kernel_rfl) (by kernel_rfl) (fun _ _ _ h => h) (Or.inl ⟨by rfl, ?hy97⟩) (by assumption) ?_
        case hy97 => (intro w hSw; (try dsimp only at hSw); go_simp; all_goals with_reducible rfl)
        try simp only [Act.put, List.setIfInBounds_toArray, List.set_cons_zero, List.set_cons_succ]
        refine wpAnyH_take (i := 19) (oi := { dst := some 22, op := Op.fieldAddr 28 (Operand.tmp 1) 1, type := 0, pos := "ref.go:71", after := #[{ on := 18, ground := Ground.guard }], guard := some (18, false) }) (v := ?vv98) rfl (by kernel_rfl) (by kernel_rfl) (by kernel_rfl) (fun _ _ _ h => h) (Or.inl ⟨by rfl, ?hy98⟩) (by assumption) ?_
        case hy98 => (intro w hSw; (try dsimp only at hSw); go_simp; all_goals with_reducible rfl)
        try simp only [Act.put, List.setIfInBounds_toArray, List.set_cons_zero, List.set_cons_succ]
        refine wpAnyH_take (i := 20) (oi := { dst := some 23, op := Op.load 3 (Operand.tmp 22), type := 3, pos := "ref.go:71", after := #[{ on := 19, ground := Ground.data }, { on := 18, ground := Ground.guard }], guard := some (18, false) }) (v := ?vv99) rfl (by kernel_rfl) (by kernel_rfl) (by kernel_rfl) (fun _ _ _ h => h) (Or.inl ⟨by rfl, ?hy99⟩) (by assumption) ?_
        case hy99 => (intro w hSw; (try dsimp only at hSw); go_simp; all_goals with_reducible rfl)
        try simp only [Act.put, List.setIfInBounds_toArray, List.set_cons_zero, List.set_cons_succ]
        refine wpAnyH_take (i := 21) (oi := { dst := some 24, op := Op.fieldAddr 28 (Operand.tmp 1) 0, type := 0, pos := "ref.go:71", after := #[{ on := 18, ground := Ground.guard }], guard := some (18, false) }) (v := ?vv100) rfl (by kernel_rfl) (by kernel_rfl) (by kernel_rfl) (fun _ _ _ h => h) (Or.inl ⟨by rfl, ?hy100⟩) (by assumption) ?_
        case hy100 => (intro w hSw; (try dsimp only at hSw); go_simp; all_goals with_reducible rfl)
        try simp only [Act.put, List.setIfInBounds_toArray, List.set_cons_zero, List.set_cons_succ]
        refine wpAnyH_take (i := 22) (oi := { dst := some 25, op := Op.load 3 (Operand.tmp 24), type := 3, pos := "ref.go:71", after := #[{ on := 21, ground := Ground.data }, { on := 18, ground := Ground.guard }], guard := some (18, false) }) (v := ?vv101) rfl (by kernel_rfl) (by kernel_rfl) (by kernel_rfl) (fun _ _ _ h => h) (Or.inl ⟨by rfl, ?hy101⟩) (by assumption) ?_
        case hy101 => (intro w hSw; (try dsimp only at hSw); go_simp; all_goals with_reducible rfl)
        try simp only [Act.put, List.setIfInBounds_toArray, List.set_cons_zero, List.set_cons_succ]
        refine wpAnyH_ready (rs := [23]) (by kernel_rfl) (by simp) ?_
        refine AllReadyH.cons (o := { dst := some 26, op := Op.call { callee := Callee.value (Operand.func 29), args := #[Operand.tmp 25], argTypes := #[3] }, type := 3, pos := "ref.go:71", after := #[{ on := 22, ground := Ground.data }, { on := 18, ground := Ground.chain }, { on := 18, ground := Ground.guard }], guard := some (18, false) }) rfl (fun K hK => ?_) AllReadyH.nil
        go_simp
        refine (c29.out W).mono ?_
        rintro e' Wx ⟨rfl, hVWx⟩
        rw [hVWx]
        clear hVWx Wx
        go_wp2_with fail
        refine hK.out _ _ (hfull.out _ hI) (fun hHeld => ?_)
        clear hK K
        try simp only [Act.put, List.setIfInBounds_toArray, List.set_cons_zero, List.set_cons_succ]
        refine wpAnyH_take (i := 24) (oi := { dst := some 27, op := Op.binOp BinOp.andNot 3 (Operand.tmp 23) (Operand.tmp 26) 3, type := 3, pos := "ref.go:71", after := #[{ on := 20, ground := Ground.data }, { on := 23, ground := Ground.data }, { on := 18, ground := Ground.guard }], guard := some (18, false) }) (v := ?vv102) rfl (by kernel_rfl) (by kernel_rfl) (by kernel_rfl) (fun _ _ _ h => h) (Or.inl ⟨by rfl, ?hy102⟩) (by assumption) ?_
        case hy102 => (intro w hSw; (try dsimp only at hSw); go_simp; all_goals with_reducible rfl)
        try simp only [Act.put, List.setIfInBounds_toArray, List.set_cons_zero, List.set_cons_succ]
        refine wpAnyH_take (i := 25) (oi := { dst := some 28, op := Op.binOp BinOp.neq 3 (Operand.tmp 27) (Operand.const (Value.int IntKind.i64 0)) 3, type := 4, pos := "ref.go:71", after := #[{ on := 24, ground := Ground.data }, { on := 18, ground := Ground.guard }], guard := some (18, false) }) (v := ?vv103) rfl (by kernel_rfl) (by kernel_rfl) (by kernel_rfl) (fun _ _ _ h => h) (Or.inl ⟨by rfl, ?hy103⟩) (by assumption) ?_
        case hy103 => (intro w hSw; (try dsimp only at hSw); go_simp; all_goals with_reducible rfl)
        try simp only [Act.put, List.setIfInBounds_toArray, List.set_cons_zero, List.set_cons_succ]
        refine wpAnyH_take (i := 26) (oi := { dst := some 29, op := Op.pick (Operand.tmp 21) (Operand.const (Value.bool true)) (Operand.tmp 28), type := 4, pos := "ref.go:71", after := #[{ on := 18, ground := Ground.data }, { on := 25, ground := Ground.data }], guard := none }) (v := ?vv104) rfl (by kernel_rfl) (by kernel_rfl) (by kernel_rfl) (fun _ _ _ h => h) (Or.inl ⟨by rfl, ?hy104⟩) (by assumption) ?_
        case hy104 => (intro w hSw; (try dsimp only at hSw); go_simp; all_goals with_reducible rfl)
        try simp only [Act.put, List.setIfInBounds_toArray, List.set_cons_zero, List.set_cons_succ]
        refine wpAnyH_take (i := 27) (oi := { dst := some 30, op := Op.move (Operand.tmp 29), type := 4, pos := "ref.go:71", after := #[{ on := 26, ground := Ground.data }, { on := 23, ground := Ground.chain }], guard := none }) (v := ?vv105) rfl (by kernel_rfl) (by kernel_rfl) (by kernel_rfl) (fun _ _ _ h => h) (Or.inl ⟨by rfl, ?hy105⟩) (by assumption) ?_
        case hy105 => (intro w hSw; (try dsimp only at hSw); go_simp; all_goals with_reducible rfl)
        try simp only [Act.put, List.setIfInBounds_toArray, List.set_cons_zero, List.set_cons_succ]
        refine wpAnyH_take (i := 28) (oi := { dst := some 31, op := Op.fieldAddr 28 (Operand.tmp 1) 2, type := 0, pos := "ref.go:71", after := #[{ on := 27, ground := Ground.guard }], guard := some (27, false) }) (v := ?vv106) rfl (by kernel_rfl) (by kernel_rfl) (by kernel_rfl) (fun _ _ _ h => h) (Or.inl ⟨by rfl, ?hy106⟩) (by assumption) ?_
        case hy106 => (intro w hSw; (try dsimp only at hSw); go_simp; all_goals with_reducible rfl)
        try simp only [Act.put, List.setIfInBounds_toArray, List.set_cons_zero, List.set_cons_succ]
        refine wpAnyH_take (i := 29) (oi := { dst := some 32, op := Op.load 2 (Operand.tmp 31), type := 2, pos := "ref.go:71", after := #[{ on := 28, ground := Ground.data }, { on := 27, ground := Ground.guard }], guard := some (27, false) }) (v := ?vv107) rfl (by kernel_rfl) (by kernel_rfl) (by kernel_rfl) (fun _ _ _ h => h) (Or.inl ⟨by rfl, ?hy107⟩) (by assumption) ?_
        case hy107 => (intro w hSw; (try dsimp only at hSw); go_simp; all_goals with_reducible rfl)
        try simp only [Act.put, List.setIfInBounds_toArray, List.set_cons_zero, List.set_cons_succ]
        refine wpAnyH_ready (rs := [30]) (by kernel_rfl) (by simp) ?_
        refine AllReadyH.cons (o := { dst := some 33, op := Op.call { callee := Callee.value (Operand.func 45), args := #[Operand.tmp 32, Operand.const (Value.int IntKind.i64 2147483647)], argTypes := #[2, 2] }, type := 4, pos := "ref.go:71", after := #[{ on := 29, ground := Ground.data }, { on := 27, ground := Ground.chain }, { on := 27, ground := Ground.guard }], guard := some (27, false) }) rfl (fun K hK => ?_) AllReadyH.nil
        go_simp
        refine (c45.out W).mono ?_
        rintro e' Wx ⟨rfl, hVWx⟩
        rw [hVWx]
        clear hVWx Wx
        go_wp2_with fail
        refine hK.out _ _ (hfull.out _ hI) (fun hHeld => ?_)
        clear hK K
        try simp only [Act.put, List.setIfInBounds_toArray, List.set_cons_zero, List.set_cons_succ]
        refine wpAnyH_take (i := 31) (oi := { dst := some 34, op := Op.unOp UnOp.not 4 (Operand.tmp 33), type := 4, pos := "ref.go:71", after := #[{ on := 30, ground := Ground.data }, { on := 27, ground := Ground.guard }], guard := some (27, false) }) (v := ?vv108) rfl (by kernel_rfl) (by kernel_rfl) (by kernel_rfl) (fun _ _ _ h => h) (Or.inl ⟨by rfl, ?hy108⟩) (by assumption) ?_
        case hy108 => (intro w hSw; (try dsimp only at hSw); go_simp; all_goals with_reducible rfl)
        try simp only [Act.put, List.setIfInBounds_toArray, List.set_cons_zero, List.set_cons_succ]
        refine wpAnyH_take (i := 32) (oi := { dst := some 35, op := Op.pick (Operand.tmp 30) (Operand.const (Value.bool true)) (Operand.tmp 34), type := 4, pos := "ref.go:71", after := #[{ on := 27, ground := Ground.data }, { on := 31, ground := Ground.data }], guard := none }) (v := ?vv109) rfl (by kernel_rfl) (by kernel_rfl) (by kernel_rfl) (fun _ _ _ h => h) (Or.inl ⟨by rfl, ?hy109⟩) (by assumption) ?_
        case hy109 => (intro w hSw; (try dsimp only at hSw); go_simp; all_goals with_reducible rfl)
        try simp only [Act.put, List.setIfInBounds_toArray, List.set_cons_zero, List.set_cons_succ]
        refine wpAnyH_take (i := 33) (oi := { dst := some 36, op := Op.move (Operand.tmp 35), type := 4, pos := "ref.go:71", after := #[{ on := 32, ground := Ground.data }, { on := 30, ground := Ground.chain }], guard := none }) (v := ?vv110) rfl (by kernel_rfl) (by kernel_rfl) (by kernel_rfl) (fun _ _ _ h => h) (Or.inl ⟨by rfl, ?hy110⟩) (by assumption) ?_
        case hy110 => (intro w hSw; (try dsimp only at hSw); go_simp; all_goals with_reducible rfl)
        try simp only [Act.put, List.setIfInBounds_toArray, List.set_cons_zero, List.set_cons_succ]
        refine wpAnyH_take (i := 34) (oi := { dst := some 37, op := Op.fieldAddr 28 (Operand.tmp 1) 0, type := 0, pos := "ref.go:71", after := #[{ on := 33, ground := Ground.guard }], guard := some (33, false) }) (v := undef) rfl (by kernel_rfl) (by kernel_rfl) (by kernel_rfl) (fun _ _ _ h => h) (Or.inr ⟨by rfl, rfl⟩) (by assumption) ?_
        try simp only [Act.put, List.setIfInBounds_toArray, List.set_cons_zero, List.set_cons_succ]
        refine wpAnyH_take (i := 35) (oi := { dst := some 38, op := Op.load 3 (Operand.tmp 37), type := 3, pos := "ref.go:71", after := #[{ on := 34, ground := Ground.data }, { on := 33, ground := Ground.guard }], guard := some (33, false) }) (v := undef) rfl (by kernel_rfl) (by kernel_rfl) (by kernel_rfl) (fun _ _ _ h => h) (Or.inr ⟨by rfl, rfl⟩) (by assumption) ?_
        try simp only [Act.put, List.setIfInBounds_toArray, List.set_cons_zero, List.set_cons_succ]
        refine wpAnyH_take (i := 36) (oi := { dst := some 39, op := Op.fieldAddr 28 (Operand.tmp 1) 2, type := 0, pos := "ref.go:71", after := #[{ on := 33, ground := Ground.guard }], guard := some (33, false) }) (v := undef) rfl (by kernel_rfl) (by kernel_rfl) (by kernel_rfl) (fun _ _ _ h => h) (Or.inr ⟨by rfl, rfl⟩) (by assumption) ?_
        try simp only [Act.put, List.setIfInBounds_toArray, List.set_cons_zero, List.set_cons_succ]
        refine wpAnyH_take (i := 37) (oi := { dst := some 40, op := Op.load 2 (Operand.tmp 39), type := 2, pos := "ref.go:71", after := #[{ on := 36, ground := Ground.data }, { on := 33, ground := Ground.guard }], guard := some (33, false) }) (v := undef) rfl (by kernel_rfl) (by kernel_rfl) (by kernel_rfl) (fun _ _ _ h => h) (Or.inr ⟨by rfl, rfl⟩) (by assumption) ?_
        try simp only [Act.put, List.setIfInBounds_toArray, List.set_cons_zero, List.set_cons_succ]
        refine wpAnyH_take (i := 38) (oi := { dst := some 41, op := Op.call { callee := Callee.value (Operand.func 30), args := #[Operand.tmp 38, Operand.tmp 40], argTypes := #[3, 2] }, type := 4, pos := "ref.go:71", after := #[{ on := 35, ground := Ground.data }, { on := 37, ground := Ground.data }, { on := 33, ground := Ground.chain }, { on := 33, ground := Ground.guard }], guard := some (33, false) }) (v := undef) rfl (by kernel_rfl) (by kernel_rfl) (by kernel_rfl) (fun _ _ _ h => h) (Or.inr ⟨by rfl, rfl⟩) (by assumption) ?_
        try simp only [Act.put, List.setIfInBounds_toArray, List.set_cons_zero, List.set_cons_succ]
        refine wpAnyH_take (i := 39) (oi := { dst := some 42, op := Op.unOp UnOp.not 4 (Operand.tmp 41), type := 4, pos := "ref.go:71", after := #[{ on := 38, ground := Ground.data }, { on := 33, ground := Ground.guard }], guard := some (33, false) }) (v := undef) rfl (by kernel_rfl) (by kernel_rfl) (by kernel_rfl) (fun _ _ _ h => h) (Or.inr ⟨by rfl, rfl⟩) (by assumption) ?_
        try simp only [Act.put, List.setIfInBounds_toArray, List.set_cons_zero, List.set_cons_succ]
        refine wpAnyH_take (i := 40) (oi := { dst := some 43, op := Op.pick (Operand.tmp 36) (Operand.const (Value.bool true)) (Operand.tmp 42), type := 4, pos := "ref.go:71", after := #[{ on := 33, ground := Ground.data }, { on := 39, ground := Ground.data }], guard := none }) (v := ?vv111) rfl (by kernel_rfl) (by kernel_rfl) (by kernel_rfl) (fun _ _ _ h => h) (Or.inl ⟨by rfl, ?hy111⟩) (by assumption) ?_
        case hy111 => (intro w hSw; (try dsimp only at hSw); go_simp; all_goals with_reducible rfl)
        try simp only [Act.put, List.setIfInBounds_toArray, List.set_cons_zero, List.set_cons_succ]
        refine wpAnyH_done (by kernel_rfl) ?_ _
        go_wp2_with fail
        go_meet
        case rel => exact ⟨rfl, hI⟩
      · cases sr
        · obtain rfl : bad = true := hb5
          refine wp_region_held_drew (S := (fun W => W.cell? ⟨g, 0, none⟩ = some (.int .i64 ty) ∧ W.cell? ⟨g, 1, none⟩ = some (.int .i64 fl) ∧ W.cell? ⟨g, 2, none⟩ = some (.int .i64 st))) (by kernel_rfl) (hfull.out _ hI) (fun hHeld => ?_)
          generalize hWg : World.drew _ = W at hI hHeld ⊢
          clear hWg
          refine wpAnyH_take (i := 0) (oi := { dst := some 3, op := Op.fieldAddr 28 (Operand.tmp 1) 0, type := 0, pos := "ref.go:71", after := #[], guard := none }) (v := ?vv112) rfl (by kernel_rfl) (by kernel_rfl) (by kernel_rfl) (fun _ _ _ h => h) (Or.inl ⟨by rfl, ?hy112⟩) (by assumption) ?_
          case hy112 => (intro w hSw; (try dsimp only at hSw); go_simp; all_goals with_reducible rfl)
          try simp only [Act.put, List.setIfInBounds_toArray, List.set_cons_zero, List.set_cons_succ]
          refine wpAnyH_take (i := 1) (oi := { dst := some 4, op := Op.load 3 (Operand.tmp 3), type := 3, pos := "ref.go:71", after := #[{ on := 0, ground := Ground.data }], guard := none }) (v := ?vv113) rfl (by kernel_rfl) (by kernel_rfl) (by kernel_rfl) (fun _ _ _ h => h) (Or.inl ⟨by rfl, ?hy113⟩) (by assumption) ?_
          case hy113 => (intro w hSw; (try dsimp only at hSw); go_simp; all_goals with_reducible rfl)
          try simp only [Act.put, List.setIfInBounds_toArray, List.set_cons_zero, List.set_cons_succ]
          refine wpAnyH_take (i := 2) (oi := { dst := some 5, op := Op.binOp BinOp.lss 3 (Operand.tmp 4) (Operand.const (Value.int IntKind.i64 0)) 3, type := 4, pos := "ref.go:71", after := #[{ on := 1, ground := Ground.data }], guard := none }) (v := ?vv114) rfl (by kernel_rfl) (by kernel_rfl) (by kernel_rfl) (fun _ _ _ h => h) (Or.inl ⟨by rfl, ?hy114⟩) (by assumption) ?_
          case hy114 => (intro w hSw; (try dsimp only at hSw); go_simp; all_goals with_reducible rfl)
          try simp only [Act.put, List.setIfInBounds_toArray, List.set_cons_zero, List.set_cons_succ]
          refine wpAnyH_take (i := 3) (oi := { dst := some 6, op := Op.move (Operand.tmp 5), type := 4, pos := "ref.go:71", after := #[{ on := 2, ground := Ground.data }], guard := none }) (v := ?vv115) rfl (by kernel_rfl) (by kernel_rfl) (by kernel_rfl) (fun _ _ _ h => h) (Or.inl ⟨by rfl, ?hy115⟩) (by assumption) ?_
          case hy115 => (intro w hSw; (try dsimp only at hSw); go_simp; all_goals with_reducible rfl)
          try simp only [Act.put, List.setIfInBounds_toArray, List.set_cons_zero, List.set_cons_succ]
          refine wpAnyH_take (i := 4) (oi := { dst := some 7, op := Op.fieldAddr 28 (Operand.tmp 1) 0, type := 0, pos := "ref.go:71", after := #[{ on := 3, ground := Ground.guard }], guard := some (3, false) }) (v := ?vv116) rfl (by kernel_rfl) (by kernel_rfl) (by kernel_rfl) (fun _ _ _ h => h) (Or.inl ⟨by rfl, ?hy116⟩) (by assumption) ?_
          case hy116 => (intro w hSw; (try dsimp only at hSw); go_simp; all_goals with_reducible rfl)
          try simp only [Act.put, List.setIfInBounds_toArray, List.set_cons_zero, List.set_cons_succ]
          refine wpAnyH_take (i := 5) (oi := { dst := some 8, op := Op.load 3 (Operand.tmp 7), type := 3, pos := "ref.go:71", after := #[{ on := 4, ground := Ground.data }, { on := 3, ground := Ground.guard }], guard := some (3, false) }) (v := ?vv117) rfl (by kernel_rfl) (by kernel_rfl) (by kernel_rfl) (fun _ _ _ h => h) (Or.inl ⟨by rfl, ?hy117⟩) (by assumption) ?_
          case hy117 => (intro w hSw; (try dsimp only at hSw); go_simp; all_goals with_reducible rfl)
          try simp only [Act.put, List.setIfInBounds_toArray, List.set_cons_zero, List.set_cons_succ]
          refine wpAnyH_take (i := 6) (oi := { dst := some 9, op := Op.binOp BinOp.gtr 3 (Operand.tmp 8) (Operand.const (Value.int IntKind.i64 255)) 3, type := 4, pos := "ref.go:71", after := #[{ on := 5, ground := Ground.data }, { on := 3, ground := Ground.guard }], guard := some (3, false) }) (v := ?vv118) rfl (by kernel_rfl) (by kernel_rfl) (by kernel_rfl) (fun _ _ _ h => h) (Or.inl ⟨by rfl, ?hy118⟩) (by assumption) ?_
          case hy118 => (intro w hSw; (try dsimp only at hSw); go_simp; all_goals with_reducible rfl)
          try simp only [Act.put, List.setIfInBounds_toArray, List.set_cons_zero, List.set_cons_succ]
          refine wpAnyH_take (i := 7) (oi := { dst := some 10, op := Op.pick (Operand.tmp 6) (Operand.const (Value.bool true)) (Operand.tmp 9), type := 4, pos := "ref.go:71", after := #[{ on := 3, ground := Ground.data }, { on := 6, ground := Ground.data }], guard := none }) (v := ?vv119) rfl (by kernel_rfl) (by kernel_rfl) (by kernel_rfl) (fun _ _ _ h => h) (Or.inl ⟨by rfl, ?hy119⟩) (by assumption) ?_
          case hy119 => (intro w hSw; (try dsimp only at hSw); go_simp; all_goals with_reducible rfl)
          try simp only [Act.put, List.setIfInBounds_toArray, List.set_cons_zero, List.set_cons_succ]
          refine wpAnyH_take (i := 8) (oi := { dst := some 11, op := Op.move (Operand.tmp 10), type := 4, pos := "ref.go:71", after := #[{ on := 7, ground := Ground.data }, { on := 3, ground := Ground.chain }], guard := none }) (v := ?vv120) rfl (by kernel_rfl) (by kernel_rfl) (by kernel_rfl) (fun _ _ _ h => h) (Or.inl ⟨by rfl, ?hy120⟩) (by assumption) ?_
          case hy120 => (intro w hSw; (try dsimp only at hSw); go_simp; all_goals with_reducible rfl)
          try simp only [Act.put, List.setIfInBounds_toArray, List.set_cons_zero, List.set_cons_succ]
          refine wpAnyH_take (i := 9) (oi := { dst := some 12, op := Op.fieldAddr 28 (Operand.tmp 1) 1, type := 0, pos := "ref.go:71", after := #[{ on := 8, ground := Ground.guard }], guard := some (8, false) }) (v := ?vv121) rfl (by kernel_rfl) (by kernel_rfl) (by kernel_rfl) (fun _ _ _ h => h) (Or.inl ⟨by rfl, ?hy121⟩) (by assumption) ?_
          case hy121 => (intro w hSw; (try dsimp only at hSw); go_simp; all_goals with_reducible rfl)
          try simp only [Act.put, List.setIfInBounds_toArray, List.set_cons_zero, List.set_cons_succ]
          refine wpAnyH_take (i := 10) (oi := { dst := some 13, op := Op.load 3 (Operand.tmp 12), type := 3, pos := "ref.go:71", after := #[{ on := 9, ground := Ground.data }, { on := 8, ground := Ground.guard }], guard := some (8, false) }) (v := ?vv122) rfl (by kernel_rfl) (by kernel_rfl) (by kernel_rfl) (fun _ _ _ h => h) (Or.inl ⟨by rfl, ?hy122⟩) (by assumption) ?_
          case hy122 => (intro w hSw; (try dsimp only at hSw); go_simp; all_goals with_reducible rfl)
          try simp only [Act.put, List.setIfInBounds_toArray, List.set_cons_zero, List.set_cons_succ]
          refine wpAnyH_take (i := 11) (oi := { dst := some 14, op := Op.binOp BinOp.lss 3 (Operand.tmp 13) (Operand.const (Value.int IntKind.i64 0)) 3, type := 4, pos := "ref.go:71", after := #[{ on := 10, ground := Ground.data }, { on := 8, ground := Ground.guard }], guard := some (8, false) }) (v := ?vv123) rfl (by kernel_rfl) (by kernel_rfl) (by kernel_rfl) (fun _ _ _ h => h) (Or.inl ⟨by rfl, ?hy123⟩) (by assumption) ?_
          case hy123 => (intro w hSw; (try dsimp only at hSw); go_simp; all_goals with_reducible rfl)
          try simp only [Act.put, List.setIfInBounds_toArray, List.set_cons_zero, List.set_cons_succ]
          refine wpAnyH_take (i := 12) (oi := { dst := some 15, op := Op.pick (Operand.tmp 11) (Operand.const (Value.bool true)) (Operand.tmp 14), type := 4, pos := "ref.go:71", after := #[{ on := 8, ground := Ground.data }, { on := 11, ground := Ground.data }], guard := none }) (v := ?vv124) rfl (by kernel_rfl) (by kernel_rfl) (by kernel_rfl) (fun _ _ _ h => h) (Or.inl ⟨by rfl, ?hy124⟩) (by assumption) ?_
          case hy124 => (intro w hSw; (try dsimp only at hSw); go_simp; all_goals with_reducible rfl)
          try simp only [Act.put, List.setIfInBounds_toArray, List.set_cons_zero, List.set_cons_succ]
          refine wpAnyH_take (i := 13) (oi := { dst := some 16, op := Op.move (Operand.tmp 15), type := 4, pos := "ref.go:71", after := #[{ on := 12, ground := Ground.data }, { on := 8, ground := Ground.chain }], guard := none }) (v := ?vv125) rfl (by kernel_rfl) (by kernel_rfl) (by kernel_rfl) (fun _ _ _ h => h) (Or.inl ⟨by rfl, ?hy125⟩) (by assumption) ?_
          case hy125 => (intro w hSw; (try dsimp only at hSw); go_simp; all_goals with_reducible rfl)
          try simp only [Act.put, List.setIfInBounds_toArray, List.set_cons_zero, List.set_cons_succ]
          refine wpAnyH_take (i := 14) (oi := { dst := some 17, op := Op.fieldAddr 28 (Operand.tmp 1) 1, type := 0, pos := "ref.go:71", after := #[{ on := 13, ground := Ground.guard }], guard := some (13, false) }) (v := ?vv126) rfl (by kernel_rfl) (by kernel_rfl) (by kernel_rfl) (fun _ _ _ h => h) (Or.inl ⟨by rfl, ?hy126⟩) (by assumption) ?_
          case hy126 => (intro w hSw; (try dsimp only at hSw); go_simp; all_goals with_reducible rfl)
          try simp only [Act.put, List.setIfInBounds_toArray, List.set_cons_zero, List.set_cons_succ]
          refine wpAnyH_take (i := 15) (oi := { dst := some 18, op := Op.load 3 (Operand.tmp 17), type := 3, pos := "ref.go:71", after := #[{ on := 14, ground := Ground.data }, { on := 13, ground := Ground.guard }], guard := some (13, false) }) (v := ?vv127) rfl (by kernel_rfl) (by kernel_rfl) (by kernel_rfl) (fun _ _ _ h => h) (Or.inl ⟨by rfl, ?hy127⟩) (by assumption) ?_
          case hy127 => (intro w hSw; (try dsimp only at hSw); go_simp; all_goals with_reducible rfl)
          try simp only [Act.put, List.setIfInBounds_toArray, List.set_cons_zero, List.set_cons_succ]
          refine wpAnyH_take (i := 16) (oi := { dst := some 19, op := Op.binOp BinOp.gtr 3 (Operand.tmp 18) (Operand.const (Value.int IntKind.i64 255)) 3, type := 4, pos := "ref.go:71", after := #[{ on := 15, ground := Ground.data }, { on := 13, ground := Ground.guard }], guard := some (13, false) }) (v := ?vv128) rfl (by kernel_rfl) (by kernel_rfl) (by kernel_rfl) (fun _ _ _ h => h) (Or.inl ⟨by rfl, ?hy128⟩) (by assumption) ?_
          case hy128 => (intro w hSw; (try dsimp only at hSw); go_simp; all_goals with_reducible rfl)
          try simp only [Act.put, List.setIfInBounds_toArray, List.set_cons_zero, List.set_cons_succ]
          refine wpAnyH_take (i := 17) (oi := { dst := some 20, op := Op.pick (Operand.tmp 16) (Operand.const (Value.bool true)) (Operand.tmp 19), type := 4, pos := "ref.go:71", after := #[{ on := 13, ground := Ground.data }, { on := 16, ground := Ground.data }], guard := none }) (v := ?vv129) rfl (by kernel_rfl) (by kernel_rfl) (by kernel_rfl) (fun _ _ _ h => h) (Or.inl ⟨by rfl, ?hy129⟩) (by assumption) ?_
          case hy129 => (intro w hSw; (try dsimp only at hSw); go_simp; all_goals with_reducible rfl)
          try simp only [Act.put, List.setIfInBounds_toArray, List.set_cons_zero, List.set_cons_succ]
          refine wpAnyH_take (i := 18) (oi := { dst := some 21, op := Op.move (Operand.tmp 20), type := 4, pos := "ref.go:71", after := #[{ on := 17, ground := Ground.data }, { on := 13, ground := Ground.chain }], guard := none }) (v := ?vv130) rfl (by kernel_rfl) (by kernel_rfl) (by kernel_rfl) (fun _ _ _ h => h) (Or.inl ⟨by rfl, ?hy130⟩) (by assumption) ?_
          case hy130 => (intro w hSw; (try dsimp only at hSw); go_simp; all_goals with_reducible rfl)
          try simp only [Act.put, List.setIfInBounds_toArray, List.set_cons_zero, List.set_cons_succ]
          refine wpAnyH_take (i := 19) (oi := { dst := some 22, op := Op.fieldAddr 28 (Operand.tmp 1) 1, type := 0, pos := "ref.go:71", after := #[{ on := 18, ground := Ground.guard }], guard := some (18, false) }) (v := ?vv131) rfl (by kernel_rfl) (by kernel_rfl) (by kernel_rfl) (fun _ _ _ h => h) (Or.inl ⟨by rfl, ?hy131⟩) (by assumption) ?_
          case hy131 => (intro w hSw; (try dsimp only at hSw); go_simp; all_goals with_reducible rfl)
          try simp only [Act.put, List.setIfInBounds_toArray, List.set_cons_zero, List.set_cons_succ]
          refine wpAnyH_take (i := 20) (oi := { dst := some 23, op := Op.load 3 (Operand.tmp 22), type := 3, pos := "ref.go:71", after := #[{ on := 19, ground := Ground.data }, { on := 18, ground := Ground.guard }], guard := some (18, false) }) (v := ?vv132) rfl (by kernel_rfl) (by kernel_rfl) (by kernel_rfl) (fun _ _ _ h => h) (Or.inl ⟨by rfl, ?hy132⟩) (by assumption) ?_
          case hy132 => (intro w hSw; (try dsimp only at hSw); go_simp; all_goals with_reducible rfl)
          try simp only [Act.put, List.setIfInBounds_toArray, List.set_cons_zero, List.set_cons_succ]
          refine wpAnyH_take (i := 21) (oi := { dst := some 24, op := Op.fieldAddr 28 (Operand.tmp 1) 0, type := 0, pos := "ref.go:71", after := #[{ on := 18, ground := Ground.guard }], guard := some (18, false) }) (v := ?vv133) rfl (by kernel_rfl) (by kernel_rfl) (by kernel_rfl) (fun _ _ _ h => h) (Or.inl ⟨by rfl, ?hy133⟩) (by assumption) ?_
          case hy133 => (intro w hSw; (try dsimp only at hSw); go_simp; all_goals with_reducible rfl)
          try simp only [Act.put, List.setIfInBounds_toArray, List.set_cons_zero, List.set_cons_succ]
          refine wpAnyH_take (i := 22) (oi := { dst := some 25, op := Op.load 3 (Operand.tmp 24), type := 3, pos := "ref.go:71", after := #[{ on := 21, ground := Ground.data }, { on := 18, ground := Ground.guard }], guard := some (18, false) }) (v := ?vv134) rfl (by kernel_rfl) (by kernel_rfl) (by kernel_rfl) (fun _ _ _ h => h) (Or.inl ⟨by rfl, ?hy134⟩) (by assumption) ?_
          case hy134 => (intro w hSw; (try dsimp only at hSw); go_simp; all_goals with_reducible rfl)
          try simp only [Act.put, List.setIfInBounds_toArray, List.set_cons_zero, List.set_cons_succ]
          refine wpAnyH_ready (rs := [23]) (by kernel_rfl) (by simp) ?_
          refine AllReadyH.cons (o := { dst := some 26, op := Op.call { callee := Callee.value (Operand.func 29), args := #[Operand.tmp 25], argTypes := #[3] }, type := 3, pos := "ref.go:71", after := #[{ on := 22, ground := Ground.data }, { on := 18, ground := Ground.chain }, { on := 18, ground := Ground.guard }], guard := some (18, false) }) rfl (fun K hK => ?_) AllReadyH.nil
          go_simp
          refine (c29.out W).mono ?_
          rintro e' Wx ⟨rfl, hVWx⟩
          rw [hVWx]
          clear hVWx Wx
          go_wp2_with fail
          refine hK.out _ _ (hfull.out _ hI) (fun hHeld => ?_)
          clear hK K
          try simp only [Act.put, List.setIfInBounds_toArray, List.set_cons_zero, List.set_cons_succ]
          refine wpAnyH_take (i := 24) (oi := { dst := some 27, op := Op.binOp BinOp.andNot 3 (Operand.tmp 23) (Operand.tmp 26) 3, type := 3, pos := "ref.go:71", after := #[{ on := 20, ground := Ground.data }, { on := 23, ground := Ground.data }, { on := 18, ground := Ground.guard }], guard := some (18, false) }) (v := ?vv135) rfl (by kernel_rfl) (by kernel_rfl) (by kernel_rfl) (fun _ _ _ h => h) (Or.inl ⟨by rfl, ?hy135⟩) (by assumption) ?_
          case hy135 => (intro w hSw; (try dsimp only at hSw); go_simp; all_goals with_reducible rfl)
          try simp only [Act.put, List.setIfInBounds_toArray, List.set_cons_zero, List.set_cons_succ]
          refine wpAnyH_take (i := 25) (oi := { dst := some 28, op := Op.binOp BinOp.neq 3 (Operand.tmp 27) (Operand.const (Value.int IntKind.i64 0)) 3, type := 4, pos := "ref.go:71", after := #[{ on := 24, ground := Ground.data }, { on := 18, ground := Ground.guard }], guard := some (18, false) }) (v := ?vv136) rfl (by kernel_rfl) (by kernel_rfl) (by kernel_rfl) (fun _ _ _ h => h) (Or.inl ⟨by rfl, ?hy136⟩) (by assumption) ?_
          case hy136 => (intro w hSw; (try dsimp only at hSw); go_simp; all_goals with_reducible rfl)
          try simp only [Act.put, List.setIfInBounds_toArray, List.set_cons_zero, List.set_cons_succ]
          refine wpAnyH_take (i := 26) (oi := { dst := some 29, op := Op.pick (Operand.tmp 21) (Operand.const (Value.bool true)) (Operand.tmp 28), type := 4, pos := "ref.go:71", after := #[{ on := 18, ground := Ground.data }, { on := 25, ground := Ground.data }], guard := none }) (v := ?vv137) rfl (by kernel_rfl) (by kernel_rfl) (by kernel_rfl) (fun _ _ _ h => h) (Or.inl ⟨by rfl, ?hy137⟩) (by assumption) ?_
          case hy137 => (intro w hSw; (try dsimp only at hSw); go_simp; all_goals with_reducible rfl)
          try simp only [Act.put, List.setIfInBounds_toArray, List.set_cons_zero, List.set_cons_succ]
          refine wpAnyH_take (i := 27) (oi := { dst := some 30, op := Op.move (Operand.tmp 29), type := 4, pos := "ref.go:71", after := #[{ on := 26, ground := Ground.data }, { on := 23, ground := Ground.chain }], guard := none }) (v := ?vv138) rfl (by kernel_rfl) (by kernel_rfl) (by kernel_rfl) (fun _ _ _ h => h) (Or.inl ⟨by rfl, ?hy138⟩) (by assumption) ?_
          case hy138 => (intro w hSw; (try dsimp only at hSw); go_simp; all_goals with_reducible rfl)
          try simp only [Act.put, List.setIfInBounds_toArray, List.set_cons_zero, List.set_cons_succ]
          refine wpAnyH_take (i := 28) (oi := { dst := some 31, op := Op.fieldAddr 28 (Operand.tmp 1) 2, type := 0, pos := "ref.go:71", after := #[{ on := 27, ground := Ground.guard }], guard := some (27, false) }) (v := ?vv139) rfl (by kernel_rfl) (by kernel_rfl) (by kernel_rfl) (fun _ _ _ h => h) (Or.inl ⟨by rfl, ?hy139⟩) (by assumption) ?_
          case hy139 => (intro w hSw; (try dsimp only at hSw); go_simp; all_goals with_reducible rfl)
          try simp only [Act.put, List.setIfInBounds_toArray, List.set_cons_zero, List.set_cons_succ]
          refine wpAnyH_take (i := 29) (oi := { dst := some 32, op := Op.load 2 (Operand.tmp 31), type := 2, pos := "ref.go:71", after := #[{ on := 28, ground := Ground.data }, { on := 27, ground := Ground.guard }], guard := some (27, false) }) (v := ?vv140) rfl (by kernel_rfl) (by kernel_rfl) (by kernel_rfl) (fun _ _ _ h => h) (Or.inl ⟨by rfl, ?hy140⟩) (by assumption) ?_
          case hy140 => (intro w hSw; (try dsimp only at hSw); go_simp; all_goals with_reducible rfl)
          try simp only [Act.put, List.setIfInBounds_toArray, List.set_cons_zero, List.set_cons_succ]
          refine wpAnyH_ready (rs := [30]) (by kernel_rfl) (by simp) ?_
          refine AllReadyH.cons (o := { dst := some 33, op := Op.call { callee := Callee.value (Operand.func 45), args := #[Operand.tmp 32, Operand.const (Value.int IntKind.i64 2147483647)], argTypes := #[2, 2] }, type := 4, pos := "ref.go:71", after := #[{ on := 29, ground := Ground.data }, { on := 27, ground := Ground.chain }, { on := 27, ground := Ground.guard }], guard := some (27, false) }) rfl (fun K hK => ?_) AllReadyH.nil
          go_simp
          refine (c45.out W).mono ?_
          rintro e' Wx ⟨rfl, hVWx⟩
          rw [hVWx]
          clear hVWx Wx
          go_wp2_with fail
          refine hK.out _ _ (hfull.out _ hI) (fun hHeld => ?_)
          clear hK K
          try simp only [Act.put, List.setIfInBounds_toArray, List.set_cons_zero, List.set_cons_succ]
          refine wpAnyH_take (i := 31) (oi := { dst := some 34, op := Op.unOp UnOp.not 4 (Operand.tmp 33), type := 4, pos := "ref.go:71", after := #[{ on := 30, ground := Ground.data }, { on := 27, ground := Ground.guard }], guard := some (27, false) }) (v := ?vv141) rfl (by kernel_rfl) (by kernel_rfl) (by kernel_rfl) (fun _ _ _ h => h) (Or.inl ⟨by rfl, ?hy141⟩) (by assumption) ?_
          case hy141 => (intro w hSw; (try dsimp only at hSw); go_simp; all_goals with_reducible rfl)
          try simp only [Act.put, List.setIfInBounds_toArray, List.set_cons_zero, List.set_cons_succ]
          refine wpAnyH_take (i := 32) (oi := { dst := some 35, op := Op.pick (Operand.tmp 30) (Operand.const (Value.bool true)) (Operand.tmp 34), type := 4, pos := "ref.go:71", after := #[{ on := 27, ground := Ground.data }, { on := 31, ground := Ground.data }], guard := none }) (v := ?vv142) rfl (by kernel_rfl) (by kernel_rfl) (by kernel_rfl) (fun _ _ _ h => h) (Or.inl ⟨by rfl, ?hy142⟩) (by assumption) ?_
          case hy142 => (intro w hSw; (try dsimp only at hSw); go_simp; all_goals with_reducible rfl)
          try simp only [Act.put, List.setIfInBounds_toArray, List.set_cons_zero, List.set_cons_succ]
          refine wpAnyH_take (i := 33) (oi := { dst := some 36, op := Op.move (Operand.tmp 35), type := 4, pos := "ref.go:71", after := #[{ on := 32, ground := Ground.data }, { on := 30, ground := Ground.chain }], guard := none }) (v := ?vv143) rfl (by kernel_rfl) (by kernel_rfl) (by kernel_rfl) (fun _ _ _ h => h) (Or.inl ⟨by rfl, ?hy143⟩) (by assumption) ?_
          case hy143 => (intro w hSw; (try dsimp only at hSw); go_simp; all_goals with_reducible rfl)
          try simp only [Act.put, List.setIfInBounds_toArray, List.set_cons_zero, List.set_cons_succ]
          refine wpAnyH_take (i := 34) (oi := { dst := some 37, op := Op.fieldAddr 28 (Operand.tmp 1) 0, type := 0, pos := "ref.go:71", after := #[{ on := 33, ground := Ground.guard }], guard := some (33, false) }) (v := ?vv144) rfl (by kernel_rfl) (by kernel_rfl) (by kernel_rfl) (fun _ _ _ h => h) (Or.inl ⟨by rfl, ?hy144⟩) (by assumption) ?_
          case hy144 => (intro w hSw; (try dsimp only at hSw); go_simp; all_goals with_reducible rfl)
          try simp only [Act.put, List.setIfInBounds_toArray, List.set_cons_zero, List.set_cons_succ]
          refine wpAnyH_take (i := 35) (oi := { dst := some 38, op := Op.load 3 (Operand.tmp 37), type := 3, pos := "ref.go:71", after := #[{ on := 34, ground := Ground.data }, { on := 33, ground := Ground.guard }], guard := some (33, false) }) (v := ?vv145) rfl (by kernel_rfl) (by kernel_rfl) (by kernel_rfl) (fun _ _ _ h => h) (Or.inl ⟨by rfl, ?hy145⟩) (by assumption) ?_
          case hy145 => (intro w hSw; (try dsimp only at hSw); go_simp; all_goals with_reducible rfl)
          try simp only [Act.put, List.setIfInBounds_toArray, List.set_cons_zero, List.set_cons_succ]
          refine wpAnyH_take (i := 36) (oi := { dst := some 39, op := Op.fieldAddr 28 (Operand.tmp 1) 2, type := 0, pos := "ref.go:71", after := #[{ on := 33, ground := Ground.guard }], guard := some (33, false) }) (v := ?vv146) rfl (by kernel_rfl) (by kernel_rfl) (by kernel_rfl) (fun _ _ _ h => h) (Or.inl ⟨by rfl, ?hy146⟩) (by assumption) ?_
          case hy146 => (intro w hSw; (try dsimp only at hSw); go_simp; all_goals with_reducible rfl)
          try simp only [Act.put, List.setIfInBounds_toArray, List.set_cons_zero, List.set_cons_succ]
          refine wpAnyH_take (i := 37) (oi := { dst := some 40, op := Op.load 2 (Operand.tmp 39), type := 2, pos := "ref.go:71", after := #[{ on := 36, ground := Ground.data }, { on := 33, ground := Ground.guard }], guard := some (33, false) }) (v := ?vv147) rfl (by kernel_rfl) (by kernel_rfl) (by kernel_rfl) (fun _ _ _ h => h) (Or.inl ⟨by rfl, ?hy147⟩) (by assumption) ?_
          case hy147 => (intro w hSw; (try dsimp only at hSw); go_simp; all_goals with_reducible rfl)
          try simp only [Act.put, List.setIfInBounds_toArray, List.set_cons_zero, List.set_cons_succ]
          refine wpAnyH_ready (rs := [38]) (by kernel_rfl) (by simp) ?_
          refine AllReadyH.cons (o := { dst := some 41, op := Op.call { callee := Callee.value (Operand.func 30), args := #[Operand.tmp 38, Operand.tmp 40], argTypes := #[3, 2] }, type := 4, pos := "ref.go:71", after := #[{ on := 35, ground := Ground.data }, { on := 37, ground := Ground.data }, { on := 33, ground := Ground.chain }, { on := 33, ground := Ground.guard }], guard := some (33, false) }) rfl (fun K hK => ?_) AllReadyH.nil
          go_simp
          refine (c30.out W).mono ?_
          rintro e' Wx ⟨rfl, hVWx⟩
          rw [hVWx]
          clear hVWx Wx
          go_wp2_with fail
          refine hK.out _ _ (hfull.out _ hI) (fun hHeld => ?_)
          clear hK K
          try simp only [Act.put, List.setIfInBounds_toArray, List.set_cons_zero, List.set_cons_succ]
          refine wpAnyH_take (i := 39) (oi := { dst := some 42, op := Op.unOp UnOp.not 4 (Operand.tmp 41), type := 4, pos := "ref.go:71", after := #[{ on := 38, ground := Ground.data }, { on := 33, ground := Ground.guard }], guard := some (33, false) }) (v := ?vv148) rfl (by kernel_rfl) (by kernel_rfl) (by kernel_rfl) (fun _ _ _ h => h) (Or.inl ⟨by rfl, ?hy148⟩) (by assumption) ?_
          case hy148 => (intro w hSw; (try dsimp only at hSw); go_simp; all_goals with_reducible rfl)
          try simp only [Act.put, List.setIfInBounds_toArray, List.set_cons_zero, List.set_cons_succ]
          refine wpAnyH_take (i := 40) (oi := { dst := some 43, op := Op.pick (Operand.tmp 36) (Operand.const (Value.bool true)) (Operand.tmp 42), type := 4, pos := "ref.go:71", after := #[{ on := 33, ground := Ground.data }, { on := 39, ground := Ground.data }], guard := none }) (v := ?vv149) rfl (by kernel_rfl) (by kernel_rfl) (by kernel_rfl) (fun _ _ _ h => h) (Or.inl ⟨by rfl, ?hy149⟩) (by assumption) ?_
          case hy149 => (intro w hSw; (try dsimp only at hSw); go_simp; all_goals with_reducible rfl)
          try simp only [Act.put, List.setIfInBounds_toArray, List.set_cons_zero, List.set_cons_succ]
          refine wpAnyH_done (by kernel_rfl) ?_ _
          go_wp2_with fail
          go_meet
          case rel => exact ⟨rfl, hI⟩
        · obtain rfl : bad = false := hb5
          refine wp_region_held_drew (S := (fun W => W.cell? ⟨g, 0, none⟩ = some (.int .i64 ty) ∧ W.cell? ⟨g, 1, none⟩ = some (.int .i64 fl) ∧ W.cell? ⟨g, 2, none⟩ = some (.int .i64 st))) (by kernel_rfl) (hfull.out _ hI) (fun hHeld => ?_)
          generalize hWg : World.drew _ = W at hI hHeld ⊢
          clear hWg
          refine wpAnyH_take (i := 0) (oi := { dst := some 3, op := Op.fieldAddr 28 (Operand.tmp 1) 0, type := 0, pos := "ref.go:71", after := #[], guard := none }) (v := ?vv150) rfl (by kernel_rfl) (by kernel_rfl) (by kernel_rfl) (fun _ _ _ h => h) (Or.inl ⟨by rfl, ?hy150⟩) (by assumption) ?_
          case hy150 => (intro w hSw; (try dsimp only at hSw); go_simp; all_goals with_reducible rfl)
          try simp only [Act.put, List.setIfInBounds_toArray, List.set_cons_zero, List.set_cons_succ]
          refine wpAnyH_take (i := 1) (oi := { dst := some 4, op := Op.load 3 (Operand.tmp 3), type := 3, pos := "ref.go:71", after := #[{ on := 0, ground := Ground.data }], guard := none }) (v := ?vv151) rfl (by kernel_rfl) (by kernel_rfl) (by kernel_rfl) (fun _ _ _ h => h) (Or.inl ⟨by rfl, ?hy151⟩) (by assumption) ?_
          case hy151 => (intro w hSw; (try dsimp only at hSw); go_simp; all_goals with_reducible rfl)
          try simp only [Act.put, List.setIfInBounds_toArray, List.set_cons_zero, List.set_cons_succ]
          refine wpAnyH_take (i := 2) (oi := { dst := some 5, op := Op.binOp BinOp.lss 3 (Operand.tmp 4) (Operand.const (Value.int IntKind.i64 0)) 3, type := 4, pos := "ref.go:71", after := #[{ on := 1, ground := Ground.data }], guard := none }) (v := ?vv152) rfl (by kernel_rfl) (by kernel_rfl) (by kernel_rfl) (fun _ _ _ h => h) (Or.inl ⟨by rfl, ?hy152⟩) (by assumption) ?_
          case hy152 => (intro w hSw; (try dsimp only at hSw); go_simp; all_goals with_reducible rfl)
          try simp only [Act.put, List.setIfInBounds_toArray, List.set_cons_zero, List.set_cons_succ]
          refine wpAnyH_take (i := 3) (oi := { dst := some 6, op := Op.move (Operand.tmp 5), type := 4, pos := "ref.go:71", after := #[{ on := 2, ground := Ground.data }], guard := none }) (v := ?vv153) rfl (by kernel_rfl) (by kernel_rfl) (by kernel_rfl) (fun _ _ _ h => h) (Or.inl ⟨by rfl, ?hy153⟩) (by assumption) ?_
          case hy153 => (intro w hSw; (try dsimp only at hSw); go_simp; all_goals with_reducible rfl)
          try simp only [Act.put, List.setIfInBounds_toArray, List.set_cons_zero, List.set_cons_succ]
          refine wpAnyH_take (i := 4) (oi := { dst := some 7, op := Op.fieldAddr 28 (Operand.tmp 1) 0, type := 0, pos := "ref.go:71", after := #[{ on := 3, ground := Ground.guard }], guard := some (3, false) }) (v := ?vv154) rfl (by kernel_rfl) (by kernel_rfl) (by kernel_rfl) (fun _ _ _ h => h) (Or.inl ⟨by rfl, ?hy154⟩) (by assumption) ?_
          case hy154 => (intro w hSw; (try dsimp only at hSw); go_simp; all_goals with_reducible rfl)
          try simp only [Act.put, List.setIfInBounds_toArray, List.set_cons_zero, List.set_cons_succ]
          refine wpAnyH_take (i := 5) (oi := { dst := some 8, op := Op.load 3 (Operand.tmp 7), type := 3, pos := "ref.go:71", after := #[{ on := 4, ground := Ground.data }, { on := 3, ground := Ground.guard }], guard := some (3, false) }) (v := ?vv155) rfl (by kernel_rfl) (by kernel_rfl) (by kernel_rfl) (fun _ _ _ h => h) (Or.inl ⟨by rfl, ?hy155⟩) (by assumption) ?_
          case hy155 => (intro w hSw; (try dsimp only at hSw); go_simp; all_goals with_reducible rfl)
          try simp only [Act.put, List.setIfInBounds_toArray, List.set_cons_zero, List.set_cons_succ]
          refine wpAnyH_take (i := 6) (oi := { dst := some 9, op := Op.binOp BinOp.gtr 3 (Operand.tmp 8) (Operand.const (Value.int IntKind.i64 255)) 3, type := 4, pos := "ref.go:71", after := #[{ on := 5, ground := Ground.data }, { on := 3, ground := Ground.guard }], guard := some (3, false) }) (v := ?vv156) rfl (by kernel_rfl) (by kernel_rfl) (by kernel_rfl) (fun _ _ _ h => h) (Or.inl ⟨by rfl, ?hy156⟩) (by assumption) ?_
          case hy156 => (intro w hSw; (try dsimp only at hSw); go_simp; all_goals with_reducible rfl)
          try simp only [Act.put, List.setIfInBounds_toArray, List.set_cons_zero, List.set_cons_succ]
          refine wpAnyH_take (i := 7) (oi := { dst := some 10, op := Op.pick (Operand.tmp 6) (Operand.const (Value.bool true)) (Operand.tmp 9), type := 4, pos := "ref.go:71", after := #[{ on := 3, ground := Ground.data }, { on := 6, ground := Ground.data }], guard := none }) (v := ?vv157) rfl (by kernel_rfl) (by kernel_rfl) (by kernel_rfl) (fun _ _ _ h => h) (Or.inl ⟨by rfl, ?hy157⟩) (by assumption) ?_
          case hy157 => (intro w hSw; (try dsimp only at hSw); go_simp; all_goals with_reducible rfl)
          try simp only [Act.put, List.setIfInBounds_toArray, List.set_cons_zero, List.set_cons_succ]
          refine wpAnyH_take (i := 8) (oi := { dst := some 11, op := Op.move (Operand.tmp 10), type := 4, pos := "ref.go:71", after := #[{ on := 7, ground := Ground.data }, { on := 3, ground := Ground.chain }], guard := none }) (v := ?vv158) rfl (by kernel_rfl) (by kernel_rfl) (by kernel_rfl) (fun _ _ _ h => h) (Or.inl ⟨by rfl, ?hy158⟩) (by assumption) ?_
          case hy158 => (intro w hSw; (try dsimp only at hSw); go_simp; all_goals with_reducible rfl)
          try simp only [Act.put, List.setIfInBounds_toArray, List.set_cons_zero, List.set_cons_succ]
          refine wpAnyH_take (i := 9) (oi := { dst := some 12, op := Op.fieldAddr 28 (Operand.tmp 1) 1, type := 0, pos := "ref.go:71", after := #[{ on := 8, ground := Ground.guard }], guard := some (8, false) }) (v := ?vv159) rfl (by kernel_rfl) (by kernel_rfl) (by kernel_rfl) (fun _ _ _ h => h) (Or.inl ⟨by rfl, ?hy159⟩) (by assumption) ?_
          case hy159 => (intro w hSw; (try dsimp only at hSw); go_simp; all_goals with_reducible rfl)
          try simp only [Act.put, List.setIfInBounds_toArray, List.set_cons_zero, List.set_cons_succ]
          refine wpAnyH_take (i := 10) (oi := { dst := some 13, op := Op.load 3 (Operand.tmp 12), type := 3, pos := "ref.go:71", after := #[{ on := 9, ground := Ground.data }, { on := 8, ground := Ground.guard }], guard := some (8, false) }) (v := ?vv160) rfl (by kernel_rfl) (by kernel_rfl) (by kernel_rfl) (fun _ _ _ h => h) (Or.inl ⟨by rfl, ?hy160⟩) (by assumption) ?_
          case hy160 => (intro w hSw; (try dsimp only at hSw); go_simp; all_goals with_reducible rfl)
          try simp only [Act.put, List.setIfInBounds_toArray, List.set_cons_zero, List.set_cons_succ]
          refine wpAnyH_take (i := 11) (oi := { dst := some 14, op := Op.binOp BinOp.lss 3 (Operand.tmp 13) (Operand.const (Value.int IntKind.i64 0)) 3, type := 4, pos := "ref.go:71", after := #[{ on := 10, ground := Ground.data }, { on := 8, ground := Ground.guard }], guard := some (8, false) }) (v := ?vv161) rfl (by kernel_rfl) (by kernel_rfl) (by kernel_rfl) (fun _ _ _ h => h) (Or.inl ⟨by rfl, ?hy161⟩) (by assumption) ?_
          case hy161 => (intro w hSw; (try dsimp only at hSw); go_simp; all_goals with_reducible rfl)
          try simp only [Act.put, List.setIfInBounds_toArray, List.set_cons_zero, List.set_cons_succ]
          refine wpAnyH_take (i := 12) (oi := { dst := some 15, op := Op.pick (Operand.tmp 11) (Operand.const (Value.bool true)) (Operand.tmp 14), type := 4, pos := "ref.go:71", after := #[{ on := 8, ground := Ground.data }, { on := 11, ground := Ground.data }], guard := none }) (v := ?vv162) rfl (by kernel_rfl) (by kernel_rfl) (by kernel_rfl) (fun _ _ _ h => h) (Or.inl ⟨by rfl, ?hy162⟩) (by assumption) ?_
          case hy162 => (intro w hSw; (try dsimp only at hSw); go_simp; all_goals with_reducible rfl)
          try simp only [Act.put, List.setIfInBounds_toArray, List.set_cons_zero, List.set_cons_succ]
          refine wpAnyH_take (i := 13) (oi := { dst := some 16, op := Op.move (Operand.tmp 15), type := 4, pos := "ref.go:71", after := #[{ on := 12, ground := Ground.data }, { on := 8, ground := Ground.chain }], guard := none }) (v := ?vv163) rfl (by kernel_rfl) (by kernel_rfl) (by kernel_rfl) (fun _ _ _ h => h) (Or.inl ⟨by rfl, ?hy163⟩) (by assumption) ?_
          case hy163 => (intro w hSw; (try dsimp only at hSw); go_simp; all_goals with_reducible rfl)
          try simp only [Act.put, List.setIfInBounds_toArray, List.set_cons_zero, List.set_cons_succ]
          refine wpAnyH_take (i := 14) (oi := { dst := some 17, op := Op.fieldAddr 28 (Operand.tmp 1) 1, type := 0, pos := "ref.go:71", after := #[{ on := 13, ground := Ground.guard }], guard := some (13, false) }) (v := ?vv164) rfl (by kernel_rfl) (by kernel_rfl) (by kernel_rfl) (fun _ _ _ h => h) (Or.inl ⟨by rfl, ?hy164⟩) (by assumption) ?_
          case hy164 => (intro w hSw; (try dsimp only at hSw); go_simp; all_goals with_reducible rfl)
          try simp only [Act.put, List.setIfInBounds_toArray, List.set_cons_zero, List.set_cons_succ]
          refine wpAnyH_take (i := 15) (oi := { dst := some 18, op := Op.load 3 (Operand.tmp 17), type := 3, pos := "ref.go:71", after := #[{ on := 14, ground := Ground.data }, { on := 13, ground := Ground.guard }], guard := some (13, false) }) (v := ?vv165) rfl (by kernel_rfl) (by kernel_rfl) (by kernel_rfl) (fun _ _ _ h => h) (Or.inl ⟨by rfl, ?hy165⟩) (by assumption) ?_
          case hy165 => (intro w hSw; (try dsimp only at hSw); go_simp; all_goals with_reducible rfl)
          try simp only [Act.put, List.setIfInBounds_toArray, List.set_cons_zero, List.set_cons_succ]
          refine wpAnyH_take (i := 16) (oi := { dst := some 19, op := Op.binOp BinOp.gtr 3 (Operand.tmp 18) (Operand.const (Value.int IntKind.i64 255)) 3, type := 4, pos := "ref.go:71", after := #[{ on := 15, ground := Ground.data }, { on := 13, ground := Ground.guard }], guard := some (13, false) }) (v := ?vv166) rfl (by kernel_rfl) (by kernel_rfl) (by kernel_rfl) (fun _ _ _ h => h) (Or.inl ⟨by rfl, ?hy166⟩) (by assumption) ?_
          case hy166 => (intro w hSw; (try dsimp only at hSw); go_simp; all_goals with_reducible rfl)
          try simp only [Act.put, List.setIfInBounds_toArray, List.set_cons_zero, List.set_cons_succ]
          refine wpAnyH_take (i := 17) (oi := { dst := some 20, op := Op.pick (Operand.tmp 16) (Operand.const (Value.bool true)) (Operand.tmp 19), type := 4, pos := "ref.go:71", after := #[{ on := 13, ground := Ground.data }, { on := 16, ground := Ground.data }], guard := none }) (v := ?vv167) rfl (by kernel_rfl) (by kernel_rfl) (by kernel_rfl) (fun _ _ _ h => h) (Or.inl ⟨by rfl, ?hy167⟩) (by assumption) ?_
          case hy167 => (intro w hSw; (try dsimp only at hSw); go_simp; all_goals with_reducible rfl)
          try simp only [Act.put, List.setIfInBounds_toArray, List.set_cons_zero, List.set_cons_succ]
          refine wpAnyH_take (i := 18) (oi := { dst := some 21, op := Op.move (Operand.tmp 20), type := 4, pos := "ref.go:71", after := #[{ on := 17, ground := Ground.data }, { on := 13, ground := Ground.chain }], guard := none }) (v := ?vv168) rfl (by kernel_rfl) (by kernel_rfl) (by kernel_rfl) (fun _ _ _ h => h) (Or.inl ⟨by rfl, ?hy168⟩) (by assumption) ?_
          case hy168 => (intro w hSw; (try dsimp only at hSw); go_simp; all_goals with_reducible rfl)
          try simp only [Act.put, List.setIfInBounds_toArray, List.set_cons_zero, List.set_cons_succ]
          refine wpAnyH_take (i := 19) (oi := { dst := some 22, op := Op.fieldAddr 28 (Operand.tmp 1) 1, type := 0, pos := "ref.go:71", after := #[{ on := 18, ground := Ground.guard }], guard := some (18, false) }) (v := ?vv169) rfl (by kernel_rfl) (by kernel_rfl) (by kernel_rfl) (fun _ _ _ h => h) (Or.inl ⟨by rfl, ?hy169⟩) (by assumption) ?_
          case hy169 => (intro w hSw; (try dsimp only at hSw); go_simp; all_goals with_reducible rfl)
          try simp only [Act.put, List.setIfInBounds_toArray, List.set_cons_zero, List.set_cons_succ]
          refine wpAnyH_take (i := 20) (oi := { dst := some 23, op := Op.load 3 (Operand.tmp 22), type := 3, pos := "ref.go:71", after := #[{ on := 19, ground := Ground.data }, { on := 18, ground := Ground.guard }], guard := some (18, false) }) (v := ?vv170) rfl (by kernel_rfl) (by kernel_rfl) (by kernel_rfl) (fun _ _ _ h => h) (Or.inl ⟨by rfl, ?hy170⟩) (by assumption) ?_
          case hy170 => (intro w hSw; (try dsimp only at hSw); go_simp; all_goals with_reducible rfl)
          try simp only [Act.put, List.setIfInBounds_toArray, List.set_cons_zero, List.set_cons_succ]
          refine wpAnyH_take (i := 21) (oi := { dst := some 24, op := Op.fieldAddr 28 (Operand.tmp 1) 0, type := 0, pos := "ref.go:71", after := #[{ on := 18, ground := Ground.guard }], guard := some (18, false) }) (v := ?vv171) rfl (by kernel_rfl) (by kernel_rfl) (by kernel_rfl) (fun _ _ _ h => h) (Or.inl ⟨by rfl, ?hy171⟩) (by assumption) ?_
          case hy171 => (intro w hSw; (try dsimp only at hSw); go_simp; all_goals with_reducible rfl)
          try simp only [Act.put, List.setIfInBounds_toArray, List.set_cons_zero, List.set_cons_succ]
          refine wpAnyH_take (i := 22) (oi := { dst := some 25, op := Op.load 3 (Operand.tmp 24), type := 3, pos := "ref.go:71", after := #[{ on := 21, ground := Ground.data }, { on := 18, ground := Ground.guard }], guard := some (18, false) }) (v := ?vv172) rfl (by kernel_rfl) (by kernel_rfl) (by kernel_rfl) (fun _ _ _ h => h) (Or.inl ⟨by rfl, ?hy172⟩) (by assumption) ?_
          case hy172 => (intro w hSw; (try dsimp only at hSw); go_simp; all_goals with_reducible rfl)
          try simp only [Act.put, List.setIfInBounds_toArray, List.set_cons_zero, List.set_cons_succ]
          refine wpAnyH_ready (rs := [23]) (by kernel_rfl) (by simp) ?_
          refine AllReadyH.cons (o := { dst := some 26, op := Op.call { callee := Callee.value (Operand.func 29), args := #[Operand.tmp 25], argTypes := #[3] }, type := 3, pos := "ref.go:71", after := #[{ on := 22, ground := Ground.data }, { on := 18, ground := Ground.chain }, { on := 18, ground := Ground.guard }], guard := some (18, false) }) rfl (fun K hK => ?_) AllReadyH.nil
          go_simp
          refine (c29.out W).mono ?_
          rintro e' Wx ⟨rfl, hVWx⟩
          rw [hVWx]
          clear hVWx Wx
          go_wp2_with fail
          refine hK.out _ _ (hfull.out _ hI) (fun hHeld => ?_)
          clear hK K
          try simp only [Act.put, List.setIfInBounds_toArray, List.set_cons_zero, List.set_cons_succ]
          refine wpAnyH_take (i := 24) (oi := { dst := some 27, op := Op.binOp BinOp.andNot 3 (Operand.tmp 23) (Operand.tmp 26) 3, type := 3, pos := "ref.go:71", after := #[{ on := 20, ground := Ground.data }, { on := 23, ground := Ground.data }, { on := 18, ground := Ground.guard }], guard := some (18, false) }) (v := ?vv173) rfl (by kernel_rfl) (by kernel_rfl) (by kernel_rfl) (fun _ _ _ h => h) (Or.inl ⟨by rfl, ?hy173⟩) (by assumption) ?_
          case hy173 => (intro w hSw; (try dsimp only at hSw); go_simp; all_goals with_reducible rfl)
          try simp only [Act.put, List.setIfInBounds_toArray, List.set_cons_zero, List.set_cons_succ]
          refine wpAnyH_take (i := 25) (oi := { dst := some 28, op := Op.binOp BinOp.neq 3 (Operand.tmp 27) (Operand.const (Value.int IntKind.i64 0)) 3, type := 4, pos := "ref.go:71", after := #[{ on := 24, ground := Ground.data }, { on := 18, ground := Ground.guard }], guard := some (18, false) }) (v := ?vv174) rfl (by kernel_rfl) (by kernel_rfl) (by kernel_rfl) (fun _ _ _ h => h) (Or.inl ⟨by rfl, ?hy174⟩) (by assumption) ?_
          case hy174 => (intro w hSw; (try dsimp only at hSw); go_simp; all_goals with_reducible rfl)
          try simp only [Act.put, List.setIfInBounds_toArray, List.set_cons_zero, List.set_cons_succ]
          refine wpAnyH_take (i := 26) (oi := { dst := some 29, op := Op.pick (Operand.tmp 21) (Operand.const (Value.bool true)) (Operand.tmp 28), type := 4, pos := "ref.go:71", after := #[{ on := 18, ground := Ground.data }, { on := 25, ground := Ground.data }], guard := none }) (v := ?vv175) rfl (by kernel_rfl) (by kernel_rfl) (by kernel_rfl) (fun _ _ _ h => h) (Or.inl ⟨by rfl, ?hy175⟩) (by assumption) ?_
          case hy175 => (intro w hSw; (try dsimp only at hSw); go_simp; all_goals with_reducible rfl)
          try simp only [Act.put, List.setIfInBounds_toArray, List.set_cons_zero, List.set_cons_succ]
          refine wpAnyH_take (i := 27) (oi := { dst := some 30, op := Op.move (Operand.tmp 29), type := 4, pos := "ref.go:71", after := #[{ on := 26, ground := Ground.data }, { on := 23, ground := Ground.chain }], guard := none }) (v := ?vv176) rfl (by kernel_rfl) (by kernel_rfl) (by kernel_rfl) (fun _ _ _ h => h) (Or.inl ⟨by rfl, ?hy176⟩) (by assumption) ?_
          case hy176 => (intro w hSw; (try dsimp only at hSw); go_simp; all_goals with_reducible rfl)
          try simp only [Act.put, List.setIfInBounds_toArray, List.set_cons_zero, List.set_cons_succ]
          refine wpAnyH_take (i := 28) (oi := { dst := some 31, op := Op.fieldAddr 28 (Operand.tmp 1) 2, type := 0, pos := "ref.go:71", after := #[{ on := 27, ground := Ground.guard }], guard := some (27, false) }) (v := ?vv177) rfl (by kernel_rfl) (by kernel_rfl) (by kernel_rfl) (fun _ _ _ h => h) (Or.inl ⟨by rfl, ?hy177⟩) (by assumption) ?_
          case hy177 => (intro w hSw; (try dsimp only at hSw); go_simp; all_goals with_reducible rfl)
          try simp only [Act.put, List.setIfInBounds_toArray, List.set_cons_zero, List.set_cons_succ]
          refine wpAnyH_take (i := 29) (oi := { dst := some 32, op := Op.load 2 (Operand.tmp 31), type := 2, pos := "ref.go:71", after := #[{ on := 28, ground := Ground.data }, { on := 27, ground := Ground.guard }], guard := some (27, false) }) (v := ?vv178) rfl (by kernel_rfl) (by kernel_rfl) (by kernel_rfl) (fun _ _ _ h => h) (Or.inl ⟨by rfl, ?hy178⟩) (by assumption) ?_
          case hy178 => (intro w hSw; (try dsimp only at hSw); go_simp; all_goals with_reducible rfl)
          try simp only [Act.put, List.setIfInBounds_toArray, List.set_cons_zero, List.set_cons_succ]
          refine wpAnyH_ready (rs := [30]) (by kernel_rfl) (by simp) ?_
          refine AllReadyH.cons (o := { dst := some 33, op := Op.call { callee := Callee.value (Operand.func 45), args := #[Operand.tmp 32, Operand.const (Value.int IntKind.i64 2147483647)], argTypes := #[2, 2] }, type := 4, pos := "ref.go:71", after := #[{ on := 29, ground := Ground.data }, { on := 27, ground := Ground.chain }, { on := 27, ground := Ground.guard }], guard := some (27, false) }) rfl (fun K hK => ?_) AllReadyH.nil
          go_simp
          refine (c45.out W).mono ?_
          rintro e' Wx ⟨rfl, hVWx⟩
          rw [hVWx]
          clear hVWx Wx
          go_wp2_with fail
          refine hK.out _ _ (hfull.out _ hI) (fun hHeld => ?_)
          clear hK K
          try simp only [Act.put, List.setIfInBounds_toArray, List.set_cons_zero, List.set_cons_succ]
          refine wpAnyH_take (i := 31) (oi := { dst := some 34, op := Op.unOp UnOp.not 4 (Operand.tmp 33), type := 4, pos := "ref.go:71", after := #[{ on := 30, ground := Ground.data }, { on := 27, ground := Ground.guard }], guard := some (27, false) }) (v := ?vv179) rfl (by kernel_rfl) (by kernel_rfl) (by kernel_rfl) (fun _ _ _ h => h) (Or.inl ⟨by rfl, ?hy179⟩) (by assumption) ?_
          case hy179 => (intro w hSw; (try dsimp only at hSw); go_simp; all_goals with_reducible rfl)
          try simp only [Act.put, List.setIfInBounds_toArray, List.set_cons_zero, List.set_cons_succ]
          refine wpAnyH_take (i := 32) (oi := { dst := some 35, op := Op.pick (Operand.tmp 30) (Operand.const (Value.bool true)) (Operand.tmp 34), type := 4, pos := "ref.go:71", after := #[{ on := 27, ground := Ground.data }, { on := 31, ground := Ground.data }], guard := none }) (v := ?vv180) rfl (by kernel_rfl) (by kernel_rfl) (by kernel_rfl) (fun _ _ _ h => h) (Or.inl ⟨by rfl, ?hy180⟩) (by assumption) ?_
          case hy180 => (intro w hSw; (try dsimp only at hSw); go_simp; all_goals with_reducible rfl)
          try simp only [Act.put, List.setIfInBounds_toArray, List.set_cons_zero, List.set_cons_succ]
          refine wpAnyH_take (i := 33) (oi := { dst := some 36, op := Op.move (Operand.tmp 35), type := 4, pos := "ref.go:71", after := #[{ on := 32, ground := Ground.data }, { on := 30, ground := Ground.chain }], guard := none }) (v := ?vv181) rfl (by kernel_rfl) (by kernel_rfl) (by kernel_rfl) (fun _ _ _ h => h) (Or.inl ⟨by rfl, ?hy181⟩) (by assumption) ?_
          case hy181 => (intro w hSw; (try dsimp only at hSw); go_simp; all_goals with_reducible rfl)
          try simp only [Act.put, List.setIfInBounds_toArray, List.set_cons_zero, List.set_cons_succ]
          refine wpAnyH_take (i := 34) (oi := { dst := some 37, op := Op.fieldAddr 28 (Operand.tmp 1) 0, type := 0, pos := "ref.go:71", after := #[{ on := 33, ground := Ground.guard }], guard := some (33, false) }) (v := ?vv182) rfl (by kernel_rfl) (by kernel_rfl) (by kernel_rfl) (fun _ _ _ h => h) (Or.inl ⟨by rfl, ?hy182⟩) (by assumption) ?_
          case hy182 => (intro w hSw; (try dsimp only at hSw); go_simp; all_goals with_reducible rfl)
          try simp only [Act.put, List.setIfInBounds_toArray, List.set_cons_zero, List.set_cons_succ]
          refine wpAnyH_take (i := 35) (oi := { dst := some 38, op := Op.load 3 (Operand.tmp 37), type := 3, pos := "ref.go:71", after := #[{ on := 34, ground := Ground.data }, { on := 33, ground := Ground.guard }], guard := some (33, false) }) (v := ?vv183) rfl (by kernel_rfl) (by kernel_rfl) (by kernel_rfl) (fun _ _ _ h => h) (Or.inl ⟨by rfl, ?hy183⟩) (by assumption) ?_
          case hy183 => (intro w hSw; (try dsimp only at hSw); go_simp; all_goals with_reducible rfl)
          try simp only [Act.put, List.setIfInBounds_toArray, List.set_cons_zero, List.set_cons_succ]
          refine wpAnyH_take (i := 36) (oi := { dst := some 39, op := Op.fieldAddr 28 (Operand.tmp 1) 2, type := 0, pos := "ref.go:71", after := #[{ on := 33, ground := Ground.guard }], guard := some (33, false) }) (v := ?vv184) rfl (by kernel_rfl) (by kernel_rfl) (by kernel_rfl) (fun _ _ _ h => h) (Or.inl ⟨by rfl, ?hy184⟩) (by assumption) ?_
          case hy184 => (intro w hSw; (try dsimp only at hSw); go_simp; all_goals with_reducible rfl)
          try simp only [Act.put, List.setIfInBounds_toArray, List.set_cons_zero, List.set_cons_succ]
          refine wpAnyH_take (i := 37) (oi := { dst := some 40, op := Op.load 2 (Operand.tmp 39), type := 2, pos := "ref.go:71", after := #[{ on := 36, ground := Ground.data }, { on := 33, ground := Ground.guard }], guard := some (33, false) }) (v := ?vv185) rfl (by kernel_rfl) (by kernel_rfl) (by kernel_rfl) (fun _ _ _ h => h) (Or.inl ⟨by rfl, ?hy185⟩) (by assumption) ?_
          case hy185 => (intro w hSw; (try dsimp only at hSw); go_simp; all_goals with_reducible rfl)
          try simp only [Act.put, List.setIfInBounds_toArray, List.set_cons_zero, List.set_cons_succ]
          refine wpAnyH_ready (rs := [38]) (by kernel_rfl) (by simp) ?_
          refine AllReadyH.cons (o := { dst := some 41, op := Op.call { callee := Callee.value (Operand.func 30), args := #[Operand.tmp 38, Operand.tmp 40], argTypes := #[3, 2] }, type := 4, pos := "ref.go:71", after := #[{ on := 35, ground := Ground.data }, { on := 37, ground := Ground.data }, { on := 33, ground := Ground.chain }, { on := 33, ground := Ground.guard }], guard := some (33, false) }) rfl (fun K hK => ?_) AllReadyH.nil
          go_simp
          refine (c30.out W).mono ?_
          rintro e' Wx ⟨rfl, hVWx⟩
          rw [hVWx]
          clear hVWx Wx
          go_wp2_with fail
          refine hK.out _ _ (hfull.out _ hI) (fun hHeld => ?_)
          clear hK K
          try simp only [Act.put, List.setIfInBounds_toArray, List.set_cons_zero, List.set_cons_succ]
          refine wpAnyH_take (i := 39) (oi := { dst := some 42, op := Op.unOp UnOp.not 4 (Operand.tmp 41), type := 4, pos := "ref.go:71", after := #[{ on := 38, ground := Ground.data }, { on := 33, ground := Ground.guard }], guard := some (33, false) }) (v := ?vv186) rfl (by kernel_rfl) (by kernel_rfl) (by kernel_rfl) (fun _ _ _ h => h) (Or.inl ⟨by rfl, ?hy186⟩) (by assumption) ?_
          case hy186 => (intro w hSw; (try dsimp only at hSw); go_simp; all_goals with_reducible rfl)
          try simp only [Act.put, List.setIfInBounds_toArray, List.set_cons_zero, List.set_cons_succ]
          refine wpAnyH_take (i := 40) (oi := { dst := some 43, op := Op.pick (Operand.tmp 36) (Operand.const (Value.bool true)) (Operand.tmp 42), type := 4, pos := "ref.go:71", after := #[{ on := 33, ground := Ground.data }, { on := 39, ground := Ground.data }], guard := none }) (v := ?vv187) rfl (by kernel_rfl) (by kernel_rfl) (by kernel_rfl) (fun _ _ _ h => h) (Or.inl ⟨by rfl, ?hy187⟩) (by assumption) ?_
          case hy187 => (intro w hSw; (try dsimp only at hSw); go_simp; all_goals with_reducible rfl)
          try simp only [Act.put, List.setIfInBounds_toArray, List.set_cons_zero, List.set_cons_succ]
          refine wpAnyH_done (by kernel_rfl) ?_ _
          go_wp2_with fail
          go_meet
          case rel => exact ⟨rfl, hI⟩
    · have b5 : (bits .andNot .i64 fl kf != 0) = true := bne_iff_ne.2 a5
      rw [decide_eq_false a5] at hd5
      subst hd5
      obtain rfl : bad = true := hb5
      clear a5
      refine wp_region_held_drew (S := (fun W => W.cell? ⟨g, 0, none⟩ = some (.int .i64 ty) ∧ W.cell? ⟨g, 1, none⟩ = some (.int .i64 fl) ∧ W.cell? ⟨g, 2, none⟩ = some (.int .i64 st))) (by kernel_rfl) (hfull.out _ hI) (fun hHeld => ?_)
      generalize hWg : World.drew _ = W at hI hHeld ⊢
      clear hWg
      refine wpAnyH_take (i := 0) (oi := { dst := some 3, op := Op.fieldAddr 28 (Operand.tmp 1) 0, type := 0, pos := "ref.go:71", after := #[], guard := none }) (v := ?vv188) rfl (by kernel_rfl) (by kernel_rfl) (by kernel_rfl) (fun _ _ _ h => h) (Or.inl ⟨by rfl, ?hy188⟩) (by assumption) ?_
      case hy188 => (intro w hSw; (try dsimp only at hSw); go_simp; all_goals with_reducible rfl)
      try simp only [Act.put, List.setIfInBounds_toArray, List.set_cons_zero, List.set_cons_succ]
      refine wpAnyH_take (i := 1) (oi := { dst := some 4, op := Op.load 3 (Operand.tmp 3), type := 3, pos := "ref.go:71", after := #[{ on := 0, ground := Ground.data }], guard := none }) (v := ?vv189) rfl (by kernel_rfl) (by kernel_rfl) (by kernel_rfl) (fun _ _ _ h => h) (Or.inl ⟨by rfl, ?hy189⟩) (by assumption) ?_
      case hy189 => (intro w hSw; (try dsimp only at hSw); go_simp; all_goals with_reducible rfl)
      try simp only [Act.put, List.setIfInBounds_toArray, List.set_cons_zero, List.set_cons_succ]
      refine wpAnyH_take (i := 2) (oi := { dst := some 5, op := Op.binOp BinOp.lss 3 (Operand.tmp 4) (Operand.const (Value.int IntKind.i64 0)) 3, type := 4, pos := "ref.go:71", after := #[{ on := 1, ground := Ground.data }], guard := none }) (v := ?vv190) rfl (by kernel_rfl) (by kernel_rfl) (by kernel_rfl) (fun _ _ _ h => h) (Or.inl ⟨by rfl, ?hy190⟩) (by assumption) ?_
      case hy190 => (intro w hSw; (try dsimp only at hSw); go_simp; all_goals with_reducible rfl)
      try simp only [Act.put, List.setIfInBounds_toArray, List.set_cons_zero, List.set_cons_succ]
      refine wpAnyH_take (i := 3) (oi := { dst := some 6, op := Op.move (Operand.tmp 5), type := 4, pos := "ref.go:71", after := #[{ on := 2, ground := Ground.data }], guard := none }) (v := ?vv191) rfl (by kernel_rfl) (by kernel_rfl) (by kernel_rfl) (fun _ _ _ h => h) (Or.inl ⟨by rfl, ?hy191⟩) (by assumption) ?_
      case hy191 => (intro w hSw; (try dsimp only at hSw); go_simp; all_goals with_reducible rfl)
      try simp only [Act.put, List.setIfInBounds_toArray, List.set_cons_zero, List.set_cons_succ]
      refine wpAnyH_take (i := 4) (oi := { dst := some 7, op := Op.fieldAddr 28 (Operand.tmp 1) 0, type := 0, pos := "ref.go:71", after := #[{ on := 3, ground := Ground.guard }], guard := some (3, false) }) (v := ?vv192) rfl (by kernel_rfl) (by kernel_rfl) (by kernel_rfl) (fun _ _ _ h => h) (Or.inl ⟨by rfl, ?hy192⟩) (by assumption) ?_
      case hy192 => (intro w hSw; (try dsimp only at hSw); go_simp; all_goals with_reducible rfl)
      try simp only [Act.put, List.setIfInBounds_toArray, List.set_cons_zero, List.set_cons_succ]
      refine wpAnyH_take (i := 5) (oi := { dst := some 8, op := Op.load 3 (Operand.tmp 7), type := 3, pos := "ref.go:71", after := #[{ on := 4, ground := Ground.data }, { on := 3, ground := Ground.guard }], guard := some (3, false) }) (v := ?vv193) rfl (by kernel_rfl) (by kernel_rfl) (by kernel_rfl) (fun _ _ _ h => h) (Or.inl ⟨by rfl, ?hy193⟩) (by assumption) ?_
      case hy193 => (intro w hSw; (try dsimp only at hSw); go_simp; all_goals with_reducible rfl)
      try simp only [Act.put, List.setIfInBounds_toArray, List.set_cons_zero, List.set_cons_succ]
      refine wpAnyH_take (i := 6) (oi := { dst := some 9, op := Op.binOp BinOp.gtr 3 (Operand.tmp 8) (Operand.const (Value.int IntKind.i64 255)) 3, type := 4, pos := "ref.go:71", after := #[{ on := 5, ground := Ground.data }, { on := 3, ground := Ground.guard }], guard := some (3, false) }) (v := ?vv194) rfl (by kernel_rfl) (by kernel_rfl) (by kernel_rfl) (fun _ _ _ h => h) (Or.inl ⟨by rfl, ?hy194⟩) (by assumption) ?_
      case hy194 => (intro w hSw; (try dsimp only at hSw); go_simp; all_goals with_reducible rfl)
      try simp only [Act.put, List.setIfInBounds_toArray, List.set_cons_zero, List.set_cons_succ]
      refine wpAnyH_take (i := 7) (oi := { dst := some 10, op := Op.pick (Operand.tmp 6) (Operand.const (Value.bool true)) (Operand.tmp 9), type := 4, pos := "ref.go:71", after := #[{ on := 3, ground := Ground.data }, { on := 6, ground := Ground.data }], guard := none }) (v := ?vv195) rfl (by kernel_rfl) (by kernel_rfl) (by kernel_rfl) (fun _ _ _ h => h) (Or.inl ⟨by rfl, ?hy195⟩) (by assumption) ?_
      case hy195 => (intro w hSw; (try dsimp only at hSw); go_simp; all_goals with_reducible rfl)
      try simp only [Act.put, List.setIfInBounds_toArray, List.set_cons_zero, List.set_cons_succ]
      refine wpAnyH_take (i := 8) (oi := { dst := some 11, op := Op.move (Operand.tmp 10), type := 4, pos := "ref.go:71", after := #[{ on := 7, ground := Ground.data }, { on := 3, ground := Ground.chain }], guard := none }) (v := ?vv196) rfl (by kernel_rfl) (by kernel_rfl) (by kernel_rfl) (fun _ _ _ h => h) (Or.inl ⟨by rfl, ?hy196⟩) (by assumption) ?_
      case hy196 => (intro w hSw; (try dsimp only at hSw); go_simp; all_goals with_reducible rfl)
      try simp only [Act.put, List.setIfInBounds_toArray, List.set_cons_zero, List.set_cons_succ]
      refine wpAnyH_take (i := 9) (oi := { dst := some 12, op := Op.fieldAddr 28 (Operand.tmp 1) 1, type := 0, pos := "ref.go:71", after := #[{ on := 8, ground := Ground.guard }], guard := some (8, false) }) (v := ?vv197) rfl (by kernel_rfl) (by kernel_rfl) (by kernel_rfl) (fun _ _ _ h => h) (Or.inl ⟨by rfl, ?hy197⟩) (by assumption) ?_
      case hy197 => (intro w hSw; (try dsimp only at hSw); go_simp; all_goals with_reducible rfl)
      try simp only [Act.put, List.setIfInBounds_toArray, List.set_cons_zero, List.set_cons_succ]
      refine wpAnyH_take (i := 10) (oi := { dst := some 13, op := Op.load 3 (Operand.tmp 12), type := 3, pos := "ref.go:71", after := #[{ on := 9, ground := Ground.data }, { on := 8, ground := Ground.guard }], guard := some (8, false) }) (v := ?vv198) rfl (by kernel_rfl) (by kernel_rfl) (by kernel_rfl) (fun _ _ _ h => h) (Or.inl ⟨by rfl, ?hy198⟩) (by assumption) ?_
      case hy198 => (intro w hSw; (try dsimp only at hSw); go_simp; all_goals with_reducible rfl)
      try simp only [Act.put, List.setIfInBounds_toArray, List.set_cons_zero, List.set_cons_succ]
      refine wpAnyH_take (i := 11) (oi := { dst := some 14, op := Op.binOp BinOp.lss 3 (Operand.tmp 13) (Operand.const (Value.int IntKind.i64 0)) 3, type := 4, pos := "ref.go:71", after := #[{ on := 10, ground := Ground.data }, { on := 8, ground := Ground.guard }], guard := some (8, false) }) (v := ?vv199) rfl (by kernel_rfl) (by kernel_rfl) (by kernel_rfl) (fun _ _ _ h => h) (Or.inl ⟨by rfl, ?hy199⟩) (by assumption) ?_
      case hy199 => (intro w hSw; (try dsimp only at hSw); go_simp; all_goals with_reducible rfl)
      try simp only [Act.put, List.setIfInBounds_toArray, List.set_cons_zero, List.set_cons_succ]
      refine wpAnyH_take (i := 12) (oi := { dst := some 15, op := Op.pick (Operand.tmp 11) (Operand.const (Value.bool true)) (Operand.tmp 14), type := 4, pos := "ref.go:71", after := #[{ on := 8, ground := Ground.data }, { on := 11, ground := Ground.data }], guard := none }) (v := ?vv200) rfl (by kernel_rfl) (by kernel_rfl) (by kernel_rfl) (fun _ _ _ h => h) (Or.inl ⟨by rfl, ?hy200⟩) (by assumption) ?_
      case hy200 => (intro w hSw; (try dsimp only at hSw); go_simp; all_goals with_reducible rfl)
      try simp only [Act.put, List.setIfInBounds_toArray, List.set_cons_zero, List.set_cons_succ]
      refine wpAnyH_take (i := 13) (oi := { dst := some 16, op := Op.move (Operand.tmp 15), type := 4, pos := "ref.go:71", after := #[{ on := 12, ground := Ground.data }, { on := 8, ground := Ground.chain }], guard := none }) (v := ?vv201) rfl (by kernel_rfl) (by kernel_rfl) (by kernel_rfl) (fun _ _ _ h => h) (Or.inl ⟨by rfl, ?hy201⟩) (by assumption) ?_
      case hy201 => (intro w hSw; (try dsimp only at hSw); go_simp; all_goals with_reducible rfl)
      try simp only [Act.put, List.setIfInBounds_toArray, List.set_cons_zero, List.set_cons_succ]
      refine wpAnyH_take (i := 14) (oi := { dst := some 17, op := Op.fieldAddr 28 (Operand.tmp 1) 1, type := 0, pos := "ref.go:71", after := #[{ on := 13, ground := Ground.guard }], guard := some (13, false) }) (v := ?vv202) rfl (by kernel_rfl) (by kernel_rfl) (by kernel_rfl) (fun _ _ _ h => h) (Or.inl ⟨by rfl, ?hy202⟩) (by assumption) ?_
      case hy202 => (intro w hSw; (try dsimp only at hSw); go_simp; all_goals with_reducible rfl)
      try simp only [Act.put, List.setIfInBounds_toArray, List.set_cons_zero, List.set_cons_succ]
      refine wpAnyH_take (i := 15) (oi := { dst := some 18, op := Op.load 3 (Operand.tmp 17), type := 3, pos := "ref.go:71", after := #[{ on := 14, ground := Ground.data }, { on := 13, ground := Ground.guard }], guard := some (13, false) }) (v := ?vv203) rfl (by kernel_rfl) (by kernel_rfl) (by kernel_rfl) (fun _ _ _ h => h) (Or.inl ⟨by rfl, ?hy203⟩) (by assumption) ?_
      case hy203 => (intro w hSw; (try dsimp only at hSw); go_simp; all_goals with_reducible rfl)
      try simp only [Act.put, List.setIfInBounds_toArray, List.set_cons_zero, List.set_cons_succ]
      refine wpAnyH_take (i := 16) (oi := { dst := some 19, op := Op.binOp BinOp.gtr 3 (Operand.tmp 18) (Operand.const (Value.int IntKind.i64 255)) 3, type := 4, pos := "ref.go:71", after := #[{ on := 15, ground := Ground.data }, { on := 13, ground := Ground.guard }], guard := some (13, false) }) (v := ?vv204) rfl (by kernel_rfl) (by kernel_rfl) (by kernel_rfl) (fun _ _ _ h => h) (Or.inl ⟨by rfl, ?hy204⟩) (by assumption) ?_
      case hy204 => (intro w hSw; (try dsimp only at hSw); go_simp; all_goals with_reducible rfl)
      try simp only [Act.put, List.setIfInBounds_toArray, List.set_cons_zero, List.set_cons_succ]
      refine wpAnyH_take (i := 17) (oi := { dst := some 20, op := Op.pick (Operand.tmp 16) (Operand.const (Value.bool true)) (Operand.tmp 19), type := 4, pos := "ref.go:71", after := #[{ on := 13, ground := Ground.data }, { on := 16, ground := Ground.data }], guard := none }) (v := ?vv205) rfl (by kernel_rfl) (by kernel_rfl) (by kernel_rfl) (fun _ _ _ h => h) (Or.inl ⟨by rfl, ?hy205⟩) (by assumption) ?_
      case hy205 => (intro w hSw; (try dsimp only at hSw); go_simp; all_goals with_reducible rfl)
      try simp only [Act.put, List.setIfInBounds_toArray, List.set_cons_zero, List.set_cons_succ]
      refine wpAnyH_take (i := 18) (oi := { dst := some 21, op := Op.move (Operand.tmp 20), type := 4, pos := "ref.go:71", after := #[{ on := 17, ground := Ground.data }, { on := 13, ground := Ground.chain }], guard := none }) (v := ?vv206) rfl (by kernel_rfl) (by kernel_rfl) (by kernel_rfl) (fun _ _ _ h => h) (Or.inl ⟨by rfl, ?hy206⟩) (by assumption) ?_
      case hy206 => (intro w hSw; (try dsimp only at hSw); go_simp; all_goals with_reducible rfl)
      try simp only [Act.put, List.setIfInBounds_toArray, List.set_cons_zero, List.set_cons_succ]
      refine wpAnyH_take (i := 19) (oi := { dst := some 22, op := Op.fieldAddr 28 (Operand.tmp 1) 1, type := 0, pos := "ref.go:71", after := #[{ on := 18, ground := Ground.guard }], guard := some (18, false) }) (v := ?vv207) rfl (by kernel_rfl) (by kernel_rfl) (by kernel_rfl) (fun _ _ _ h => h) (Or.inl ⟨by rfl, ?hy207⟩) (by assumption) ?_
      case hy207 => (intro w hSw; (try dsimp only at hSw); go_simp; all_goals with_reducible rfl)
      try simp only [Act.put, List.setIfInBounds_toArray, List.set_cons_zero, List.set_cons_succ]
      refine wpAnyH_take (i := 20) (oi := { dst := some 23, op := Op.load 3 (Operand.tmp 22), type := 3, pos := "ref.go:71", after := #[{ on := 19, ground := Ground.data }, { on := 18, ground := Ground.guard }], guard := some (18, false) }) (v := ?vv208) rfl (by kernel_rfl) (by kernel_rfl) (by kernel_rfl) (fun _ _ _ h => h) (Or.inl ⟨by rfl, ?hy208⟩) (by assumption) ?_
      case hy208 => (intro w hSw; (try dsimp only at hSw); go_simp; all_goals with_reducible rfl)
      try simp only [Act.put, List.setIfInBounds_toArray, List.set_cons_zero, List.set_cons_succ]
      refine wpAnyH_take (i := 21) (oi := { dst := some 24, op := Op.fieldAddr 28 (Operand.tmp 1) 0, type := 0, pos := "ref.go:71", after := #[{ on := 18, ground := Ground.guard }], guard := some (18, false) }) (v := ?vv209) rfl (by kernel_rfl) (by kernel_rfl) (by kernel_rfl) (fun _ _ _ h => h) (Or.inl ⟨by rfl, ?hy209⟩) (by assumption) ?_
      case hy209 => (intro w hSw; (try dsimp only at hSw); go_simp; all_goals with_reducible rfl)
      try simp only [Act.put, List.setIfInBounds_toArray, List.set_cons_zero, List.set_cons_succ]
      refine wpAnyH_take (i := 22) (oi := { dst := some 25, op := Op.load 3 (Operand.tmp 24), type := 3, pos := "ref.go:71", after := #[{ on := 21, ground := Ground.data }, { on := 18, ground := Ground.guard }], guard := some (18, false) }) (v := ?vv210) rfl (by kernel_rfl) (by kernel_rfl) (by kernel_rfl) (fun _ _ _ h => h) (Or.inl ⟨by rfl, ?hy210⟩) (by assumption) ?_
      case hy210 => (intro w hSw; (try dsimp only at hSw); go_simp; all_goals with_reducible rfl)
      try simp only [Act.put, List.setIfInBounds_toArray, List.set_cons_zero, List.set_cons_succ]
      refine wpAnyH_ready (rs := [23]) (by kernel_rfl) (by simp) ?_
      refine AllReadyH.cons (o := { dst := some 26, op := Op.call { callee := Callee.value (Operand.func 29), args := #[Operand.tmp 25], argTypes := #[3] }, type := 3, pos := "ref.go:71", after := #[{ on := 22, ground := Ground.data }, { on := 18, ground := Ground.chain }, { on := 18, ground := Ground.guard }], guard := some (18, false) }) rfl (fun K hK => ?_) AllReadyH.nil
      go_simp
      refine (c29.out W).mono ?_
      rintro e' Wx ⟨rfl, hVWx⟩
      rw [hVWx]
      clear hVWx Wx
      go_wp2_with fail
      refine hK.out _ _ (hfull.out _ hI) (fun hHeld => ?_)
      clear hK K
      try simp only [Act.put, List.setIfInBounds_toArray, List.set_cons_zero, List.set_cons_succ]
      refine wpAnyH_take (i := 24) (oi := { dst := some 27, op := Op.binOp BinOp.andNot 3 (Operand.tmp 23) (Operand.tmp 26) 3, type := 3, pos := "ref.go:71", after := #[{ on := 20, ground := Ground.data }, { on := 23, ground := Ground.data }, { on := 18, ground := Ground.guard }], guard := some (18, false) }) (v := ?vv211) rfl (by kernel_rfl) (by kernel_rfl) (by kernel_rfl) (fun _ _ _ h => h) (Or.inl ⟨by rfl, ?hy211⟩) (by assumption) ?_
      case hy211 => (intro w hSw; (try dsimp only at hSw); go_simp; all_goals with_reducible rfl)
      try simp only [Act.put, List.setIfInBounds_toArray, List.set_cons_zero, List.set_cons_succ]
      refine wpAnyH_take (i := 25) (oi := { dst := some 28, op := Op.binOp BinOp.neq 3 (Operand.tmp 27) (Operand.const (Value.int IntKind.i64 0)) 3, type := 4, pos := "ref.go:71", after := #[{ on := 24, ground := Ground.data }, { on := 18, ground := Ground.guard }], guard := some (18, false) }) (v := ?vv212) rfl (by kernel_rfl) (by kernel_rfl) (by kernel_rfl) (fun _ _ _ h => h) (Or.inl ⟨by rfl, ?hy212⟩) (by assumption) ?_
      case hy212 => (intro w hSw; (try dsimp only at hSw); go_simp; all_goals with_reducible rfl)
      try simp only [Act.put, List.setIfInBounds_toArray, List.set_cons_zero, List.set_cons_succ]
      refine wpAnyH_take (i := 26) (oi := { dst := some 29, op := Op.pick (Operand.tmp 21) (Operand.const (Value.bool true)) (Operand.tmp 28), type := 4, pos := "ref.go:71", after := #[{ on := 18, ground := Ground.data }, { on := 25, ground := Ground.data }], guard := none }) (v := ?vv213) rfl (by kernel_rfl) (by kernel_rfl) (by kernel_rfl) (fun _ _ _ h => h) (Or.inl ⟨by rfl, ?hy213⟩) (by assumption) ?_
      case hy213 => (intro w hSw; (try dsimp only at hSw); go_simp; all_goals with_reducible rfl)
      try simp only [Act.put, List.setIfInBounds_toArray, List.set_cons_zero, List.set_cons_succ]
      refine wpAnyH_take (i := 27) (oi := { dst := some 30, op := Op.move (Operand.tmp 29), type := 4, pos := "ref.go:71", after := #[{ on := 26, ground := Ground.data }, { on := 23, ground := Ground.chain }], guard := none }) (v := ?vv214) rfl (by kernel_rfl) (by kernel_rfl) (by kernel_rfl) (fun _ _ _ h => h) (Or.inl ⟨by rfl, ?hy214⟩) (by assumption) ?_
      case hy214 => (intro w hSw; (try dsimp only at hSw); go_simp; all_goals with_reducible rfl)
      try simp only [Act.put, List.setIfInBounds_toArray, List.set_cons_zero, List.set_cons_succ]
      refine wpAnyH_take (i := 28) (oi := { dst := some 31, op := Op.fieldAddr 28 (Operand.tmp 1) 2, type := 0, pos := "ref.go:71", after := #[{ on := 27, ground := Ground.guard }], guard := some (27, false) }) (v := undef) rfl (by kernel_rfl) (by kernel_rfl) (by kernel_rfl) (fun _ _ _ h => h) (Or.inr ⟨by rfl, rfl⟩) (by assumption) ?_
      try simp only [Act.put, List.setIfInBounds_toArray, List.set_cons_zero, List.set_cons_succ]
      refine wpAnyH_take (i := 29) (oi := { dst := some 32, op := Op.load 2 (Operand.tmp 31), type := 2, pos := "ref.go:71", after := #[{ on := 28, ground := Ground.data }, { on := 27, ground := Ground.guard }], guard := some (27, false) }) (v := undef) rfl (by kernel_rfl) (by kernel_rfl) (by kernel_rfl) (fun _ _ _ h => h) (Or.inr ⟨by rfl, rfl⟩) (by assumption) ?_
      try simp only [Act.put, List.setIfInBounds_toArray, List.set_cons_zero, List.set_cons_succ]
      refine wpAnyH_take (i := 30) (oi := { dst := some 33, op := Op.call { callee := Callee.value (Operand.func 45), args := #[Operand.tmp 32, Operand.const (Value.int IntKind.i64 2147483647)], argTypes := #[2, 2] }, type := 4, pos := "ref.go:71", after := #[{ on := 29, ground := Ground.data }, { on := 27, ground := Ground.chain }, { on := 27, ground := Ground.guard }], guard := some (27, false) }) (v := undef) rfl (by kernel_rfl) (by kernel_rfl) (by kernel_rfl) (fun _ _ _ h => h) (Or.inr ⟨by rfl, rfl⟩) (by assumption) ?_
      try simp only [Act.put, List.setIfInBounds_toArray, List.set_cons_zero, List.set_cons_succ]
      refine wpAnyH_take (i := 31) (oi := { dst := some 34, op := Op.unOp UnOp.not 4 (Operand.tmp 33), type := 4, pos := "ref.go:71", after := #[{ on := 30, ground := Ground.data }, { on := 27, ground := Ground.guard }], guard := some (27, false) }) (v := undef) rfl (by kernel_rfl) (by kernel_rfl) (by kernel_rfl) (fun _ _ _ h => h) (Or.inr ⟨by rfl, rfl⟩) (by assumption) ?_
      try simp only [Act.put, List.setIfInBounds_toArray, List.set_cons_zero, List.set_cons_succ]
      refine wpAnyH_take (i := 32) (oi := { dst := some 35, op := Op.pick (Operand.tmp 30) (Operand.const (Value.bool true)) (Operand.tmp 34), type := 4, pos := "ref.go:71", after := #[{ on := 27, ground := Ground.data }, { on := 31, ground := Ground.data }], guard := none }) (v := ?vv215) rfl (by kernel_rfl) (by kernel_rfl) (by kernel_rfl) (fun _ _ _ h => h) (Or.inl ⟨by rfl, ?hy215⟩) (by assumption) ?_
      case hy215 => (intro w hSw; (try dsimp only at hSw); go_simp; all_goals with_reducible rfl)
      try simp only [Act.put, List.setIfInBounds_toArray, List.set_cons_zero, List.set_cons_succ]
      refine wpAnyH_take (i := 33) (oi := { dst := some 36, op := Op.move (Operand.tmp 35), type := 4, pos := "ref.go:71", after := #[{ on := 32, ground := Ground.data }, { on := 30, ground := Ground.chain }], guard := none }) (v := ?vv216) rfl (by kernel_rfl) (by kernel_rfl) (by kernel_rfl) (fun _ _ _ h => h) (Or.inl ⟨by rfl, ?hy216⟩) (by assumption) ?_
      case hy216 => (intro w hSw; (try dsimp only at hSw); go_simp; all_goals with_reducible rfl)
      try simp only [Act.put, List.setIfInBounds_toArray, List.set_cons_zero, List.set_cons_succ]
      refine wpAnyH_take (i := 34) (oi := { dst := some 37, op := Op.fieldAddr 28 (Operand.tmp 1) 0, type := 0, pos := "ref.go:71", after := #[{ on := 33, ground := Ground.guard }], guard := some (33, false) }) (v := undef) rfl (by kernel_rfl) (by kernel_rfl) (by kernel_rfl) (fun _ _ _ h => h) (Or.inr ⟨by rfl, rfl⟩) (by assumption) ?_
      try simp only [Act.put, List.setIfInBounds_toArray, List.set_cons_zero, List.set_cons_succ]
      refine wpAnyH_take (i := 35) (oi := { dst := some 38, op := Op.load 3 (Operand.tmp 37), type := 3, pos := "ref.go:71", after := #[{ on := 34, ground := Ground.data }, { on := 33, ground := Ground.guard }], guard := some (33, false) }) (v := undef) rfl (by kernel_rfl) (by kernel_rfl) (by kernel_rfl) (fun _ _ _ h => h) (Or.inr ⟨by rfl, rfl⟩) (by assumption) ?_
      try simp only [Act.put, List.setIfInBounds_toArray, List.set_cons_zero, List.set_cons_succ]
      refine wpAnyH_take (i := 36) (oi := { dst := some 39, op := Op.fieldAddr 28 (Operand.tmp 1) 2, type := 0, pos := "ref.go:71", after := #[{ on := 33, ground := Ground.guard }], guard := some (33, false) }) (v := undef) rfl (by kernel_rfl) (by kernel_rfl) (by kernel_rfl) (fun _ _ _ h => h) (Or.inr ⟨by rfl, rfl⟩) (by assumption) ?_
      try simp only [Act.put, List.setIfInBounds_toArray, List.set_cons_zero, List.set_cons_succ]
      refine wpAnyH_take (i := 37) (oi := { dst := some 40, op := Op.load 2 (Operand.tmp 39), type := 2, pos := "ref.go:71", after := #[{ on := 36, ground := Ground.data }, { on := 33, ground := Ground.guard }], guard := some (33, false) }) (v := undef) rfl (by kernel_rfl) (by kernel_rfl) (by kernel_rfl) (fun _ _ _ h => h) (Or.inr ⟨by rfl, rfl⟩) (by assumption) ?_
      try simp only [Act.put, List.setIfInBounds_toArray, List.set_cons_zero, List.set_cons_succ]
      refine wpAnyH_take (i := 38) (oi := { dst := some 41, op := Op.call { callee := Callee.value (Operand.func 30), args := #[Operand.tmp 38, Operand.tmp 40], argTypes := #[3, 2] }, type := 4, pos := "ref.go:71", after := #[{ on := 35, ground := Ground.data }, { on := 37, ground := Ground.data }, { on := 33, ground := Ground.chain }, { on := 33, ground := Ground.guard }], guard := some (33, false) }) (v := undef) rfl (by kernel_rfl) (by kernel_rfl) (by kernel_rfl) (fun _ _ _ h => h) (Or.inr ⟨by rfl, rfl⟩) (by assumption) ?_
      try simp only [Act.put, List.setIfInBounds_toArray, List.set_cons_zero, List.set_cons_succ]
      refine wpAnyH_take (i := 39) (oi := { dst := some 42, op := Op.unOp UnOp.not 4 (Operand.tmp 41), type := 4, pos := "ref.go:71", after := #[{ on := 38, ground := Ground.data }, { on := 33, ground := Ground.guard }], guard := some (33, false) }) (v := undef) rfl (by kernel_rfl) (by kernel_rfl) (by kernel_rfl) (fun _ _ _ h => h) (Or.inr ⟨by rfl, rfl⟩) (by assumption) ?_
      try simp only [Act.put, List.setIfInBounds_toArray, List.set_cons_zero, List.set_cons_succ]
      refine wpAnyH_take (i := 40) (oi := { dst := some 43, op := Op.pick (Operand.tmp 36) (Operand.const (Value.bool true)) (Operand.tmp 42), type := 4, pos := "ref.go:71", after := #[{ on := 33, ground := Ground.data }, { on := 39, ground := Ground.data }], guard := none }) (v := ?vv217) rfl (by kernel_rfl) (by kernel_rfl) (by kernel_rfl) (fun _ _ _ h => h) (Or.inl ⟨by rfl, ?hy217⟩) (by assumption) ?_
      case hy217 => (intro w hSw; (try dsimp only at hSw); go_simp; all_goals with_reducible rfl)
      try simp only [Act.put, List.setIfInBounds_toArray, List.set_cons_zero, List.set_cons_succ]
      refine wpAnyH_done (by kernel_rfl) ?_ _
      go_wp2_with fail
      go_meet
      case rel => exact ⟨rfl, hI⟩
  case rest =>
    clear HB0
    obtain ⟨rfl, HB⟩ := hcut
    replace HB : Hid (Bx w g #[.int .i64 ty, .int .i64 fl, .int .i64 st, .string data, .int .i64 pad, .int .i64 dep, .bool excl, .int .i64 wt, .int .i64 code, .int .i64 last, .slice pb n pc] wc) := HB
    cases bad
    · obtain ⟨k1, k2, k3, k4⟩ := hok.out rfl
      have HR := hRo.out rfl
      obtain ⟨wp, hwp⟩ : ∃ b, wiS pad 255 = b := ⟨_, rfl⟩
      obtain ⟨wd, hwd⟩ : ∃ b, wiS dep 2147483647 = b := ⟨_, rfl⟩
      obtain ⟨mp, hmp⟩ : ∃ b, mpS ty.toNat fl.toNat = b := ⟨_, rfl⟩
      obtain ⟨wg, hwg⟩ : ∃ b, wgS ty.toNat fl.toNat = b := ⟨_, rfl⟩
      have c45p : Hid (∀ W : World, Calls Tryd.prog 45 #[.int .i64 pad, .int .i64 255] W fun e w' => e = .returned (.bool wp) ∧ w' = W) := fun W => by rw [← hwp]; exact within_any _ _ _
      have c45d : Hid (∀ W : World, Calls Tryd.prog 45 #[.int .i64 dep, .int .i64 2147483647] W fun e w' => e = .returned (.bool wd) ∧ w' = W) := fun W => by rw [← hwd]; exact within_any _ _ _
      have c43 : Hid (∀ W : World, Calls Tryd.prog 43 #[.int .i64 ty, .int .i64 fl] W fun e w' => e = .returned (.bool mp) ∧ w' = W) := fun W => by
        have := mayPad_any ty.toNat fl.toNat (by omega) W
        rw [Int.toNat_of_nonneg k1, Int.toNat_of_nonneg k3, hmp] at this
        exact this
      have c44 : Hid (∀ W : World, Calls Tryd.prog 44 #[.agg #[.int .i64 ty, .int .i64 fl, .int .i64 st, .string data, .int .i64 pad, .int .i64 dep, .bool excl, .int .i64 wt, .int .i64 code, .int .i64 last, .slice pb n pc]] W fun e w' => e = .returned (.bool wg) ∧ w' = W.alloc (.cells #[.int .i64 ty, .int .i64 fl, .int .i64 st, .string data, .int .i64 pad, .int .i64 dep, .bool excl, .int .i64 wt, .int .i64 code, .int .i64 last, .slice pb n pc] 28)) := fun W => by
        have := HWg.out ty.toNat fl.toNat (Int.toNat_of_nonneg k1).symm (Int.toNat_of_nonneg k3).symm (by omega) W
        rw [hwg] at this
        exact this
      have hcl : Hid (∀ W, Bx w g #[.int .i64 ty, .int .i64 fl, .int .i64 st, .string data, .int .i64 pad, .int .i64 dep, .bool excl, .int .i64 wt, .int .i64 code, .int .i64 last, .slice pb n pc] W → W.cell? ⟨g, 0, none⟩ = some (.int .i64 ty) ∧ W.cell? ⟨g, 1, none⟩ = some (.int .i64 fl) ∧ W.cell? ⟨g, 2, none⟩ = some (.int .i64 st) ∧ W.cell? ⟨g, 3, none⟩ = some (.string data) ∧ W.cell? ⟨g, 4, none⟩ = some (.int .i64 pad) ∧ W.cell? ⟨g, 5, none⟩ = some (.int .i64 dep) ∧ W.cell? ⟨g, 6, none⟩ = some (.bool excl) ∧ W.cell? ⟨g, 7, none⟩ = some (.int .i64 wt) ∧ W.cell? ⟨g, 8, none⟩ = some (.int .i64 code) ∧ W.cell? ⟨g, 9, none⟩ = some (.int .i64 last) ∧ W.cell? ⟨g, 10, none⟩ = some (.slice pb n pc)) := fun W h => ⟨cell_of_row _ _ _ _ _ _ h.1, cell_of_row _ _ _ _ _ _ h.1, cell_of_row _ _ _ _ _ _ h.1, cell_of_row _ _ _ _ _ _ h.1, cell_of_row _ _ _ _ _ _ h.1, cell_of_row _ _ _ _ _ _ h.1, cell_of_row _ _ _ _ _ _ h.1, cell_of_row _ _ _ _ _ _ h.1, cell_of_row _ _ _ _ _ _ h.1, cell_of_row _ _ _ _ _ _ h.1, cell_of_row _ _ _ _ _ _ h.1⟩
      rw [hwp, hwd, hmp, hwg] at HR
      replace HR : Hid _ := HR
      clear hwp hwd hmp hwg HWg hok hRo hRb hbadT hbad5 hfull
      obtain ⟨c0, c1, c2, c3, c4, c5, c6, c7, c8, c9, c10⟩ := hcl.out _ HB.out
      cases wp
      · obtain rfl : R = false := by rw [HR.out]; rfl
        go_wp2_with fail
        refine (c45p.out _).mono ?_
        rintro e W1 ⟨rfl, rfl⟩
        go_wp2
        go_ret
        exact ⟨rfl, HB.out.2⟩
      · by_cases z0 : 0 < pad
        · cases mp
          · obtain rfl : R = false := by rw [HR.out, decide_eq_true z0]; rfl
            go_wp2_with fail
            refine (c45p.out _).mono ?_
            rintro e W1 ⟨rfl, rfl⟩
            go_wp2_with fail
            refine (c43.out _).mono ?_
            rintro e W1 ⟨rfl, rfl⟩
            go_wp2
            go_ret
            exact ⟨rfl, HB.out.2⟩
          · replace HR : Hid (R = ((if wg then wd && (!decide (wt < 1) && !decide (256 < wt)) else decide (dep = 0) && (!excl && decide (wt = 0))) && (nu && li))) := by rw [HR.out, decide_eq_true z0]; rfl
            go_wp2_with fail
            refine (c45p.out _).mono ?_
            rintro e W0 ⟨rfl, rfl⟩
            go_wp2_with fail
            refine (c43.out _).mono ?_
            rintro e W0 ⟨rfl, rfl⟩
            cases wg
            · by_cases z1 : dep = 0
              · have y1 : (dep != 0) = false := bne_eq_false_iff_eq.2 z1
                cases excl
                · by_cases z2 : wt = 0
                  · have y2 : (wt != 0) = false := bne_eq_false_iff_eq.2 z2
                    replace HR : Hid (R = (nu && li)) := by rw [HR.out, decide_eq_true z1, decide_eq_true z2]; rfl
                    clear z1 z2
                    go_wp2_with fail
                    refine (c44.out _).mono ?_
                    rintro e W1 ⟨rfl, hW1⟩
                    have H1 : Hid _ := HB.out.below (bel_al hW1)
                    clear hW1 c0 c1 c2 c3 c4 c5 c6 c7 c8 c9 c10
                    obtain ⟨c0, c1, c2, c3, c4, c5, c6, c7, c8, c9, c10⟩ := hcl.out _ H1.out
                    cases nu
                    · obtain rfl : R = false := by rw [HR.out]; simp
                      go_wp2_with fail
                      refine (HNu.out W1).mono ?_
                      rintro e W2 ⟨rfl, hW2⟩
                      have H2 : Hid _ := H1.out.below (bel_al hW2)
                      clear hW2
                      go_wp2
                      go_ret
                      exact ⟨rfl, H2.out.2⟩
                    · obtain rfl : R = li := by rw [HR.out]; simp
                      go_wp2_with fail
                      refine (HNu.out W1).mono ?_
                      rintro e W2 ⟨rfl, hW2⟩
                      have H2 : Hid _ := H1.out.below (bel_al hW2)
                      clear hW2 c0 c1 c2 c3 c4 c5 c6 c7 c8 c9 c10
                      obtain ⟨c0, c1, c2, c3, c4, c5, c6, c7, c8, c9, c10⟩ := hcl.out _ H2.out
                      go_wp2_with fail
                      refine (HLi.out W2 H2.out.2).mono ?_
                      rintro e W3 ⟨rfl, hb3⟩
                      have H3 : Hid _ := H2.out.below hb3
                      go_wp2
                      go_ret
                      exact ⟨rfl, H3.out.2⟩
                  · have y2 : (wt != 0) = true := bne_iff_ne.2 z2
                    obtain rfl : R = false := by rw [HR.out, decide_eq_false z2]; simp
                    clear z1 z2
                    go_wp2_with fail
                    refine (c44.out _).mono ?_
                    rintro e W1 ⟨rfl, hW1⟩
                    have H1 : Hid _ := HB.out.below (bel_al hW1)
                    clear hW1 c0 c1 c2 c3 c4 c5 c6 c7 c8 c9 c10
                    obtain ⟨c0, c1, c2, c3, c4, c5, c6, c7, c8, c9, c10⟩ := hcl.out _ H1.out
                    go_wp2
                    go_ret
                    exact ⟨rfl, H1.out.2⟩
                · obtain rfl : R = false := by rw [HR.out]; simp
                  clear z1
                  go_wp2_with fail
                  refine (c44.out _).mono ?_
                  rintro e W1 ⟨rfl, hW1⟩
                  have H1 : Hid _ := HB.out.below (bel_al hW1)
                  clear hW1 c0 c1 c2 c3 c4 c5 c6 c7 c8 c9 c10
                  obtain ⟨c0, c1, c2, c3, c4, c5, c6, c7, c8, c9, c10⟩ := hcl.out _ H1.out
                  go_wp2
                  go_ret
                  exact ⟨rfl, H1.out.2⟩
              · have y1 : (dep != 0) = true := bne_iff_ne.2 z1
                obtain rfl : R = false := by rw [HR.out, decide_eq_false z1]; rfl
                go_wp2_with fail
                refine (c44.out _).mono ?_
                rintro e W1 ⟨rfl, hW1⟩
                have H1 : Hid _ := HB.out.below (bel_al hW1)
                clear hW1 c0 c1 c2 c3 c4 c5 c6 c7 c8 c9 c10
                obtain ⟨c0, c1, c2, c3, c4, c5, c6, c7, c8, c9, c10⟩ := hcl.out _ H1.out
                go_wp2
                go_ret
                exact ⟨rfl, H1.out.2⟩
            · cases wd
              · obtain rfl : R = false := by rw [HR.out]; simp
                go_wp2_with fail
                refine (c44.out _).mono ?_
                rintro e W1 ⟨rfl, hW1⟩
                have H1 : Hid _ := HB.out.below (bel_al hW1)
                clear hW1 c0 c1 c2 c3 c4 c5 c6 c7 c8 c9 c10
                obtain ⟨c0, c1, c2, c3, c4, c5, c6, c7, c8, c9, c10⟩ := hcl.out _ H1.out
                go_wp2_with fail
                refine (c45d.out W1).mono ?_
                rintro e W2 ⟨rfl, rfl⟩
                go_wp2
                go_ret
                exact ⟨rfl, H1.out.2⟩
              · by_cases z1 : wt < 1
                · obtain rfl : R = false := by rw [HR.out, decide_eq_true z1]; simp
                  go_wp2_with fail
                  refine (c44.out _).mono ?_
                  rintro e W1 ⟨rfl, hW1⟩
                  have H1 : Hid _ := HB.out.below (bel_al hW1)
                  clear hW1 c0 c1 c2 c3 c4 c5 c6 c7 c8 c9 c10
                  obtain ⟨c0, c1, c2, c3, c4, c5, c6, c7, c8, c9, c10⟩ := hcl.out _ H1.out
                  go_wp2_with fail
                  refine (c45d.out W1).mono ?_
                  rintro e W2 ⟨rfl, rfl⟩
                  go_wp2
                  go_ret
                  exact ⟨rfl, H1.out.2⟩
                · by_cases z2 : 256 < wt
                  · obtain rfl : R = false := by rw [HR.out, decide_eq_true z2]; simp
                    go_wp2_with fail
                    refine (c44.out _).mono ?_
                    rintro e W1 ⟨rfl, hW1⟩
                    have H1 : Hid _ := HB.out.below (bel_al hW1)
                    clear hW1 c0 c1 c2 c3 c4 c5 c6 c7 c8 c9 c10
                    obtain ⟨c0, c1, c2, c3, c4, c5, c6, c7, c8, c9, c10⟩ := hcl.out _ H1.out
                    go_wp2_with fail
                    refine (c45d.out W1).mono ?_
                    rintro e W2 ⟨rfl, rfl⟩
                    go_wp2
                    go_ret
                    exact ⟨rfl, H1.out.2⟩
                  · replace HR : Hid (R = (nu && li)) := by rw [HR.out, decide_eq_false z1, decide_eq_false z2]; rfl
                    go_wp2_with fail
                    refine (c44.out _).mono ?_
                    rintro e W1 ⟨rfl, hW1⟩
                    have H1 : Hid _ := HB.out.below (bel_al hW1)
                    clear hW1 c0 c1 c2 c3 c4 c5 c6 c7 c8 c9 c10
                    obtain ⟨c0, c1, c2, c3, c4, c5, c6, c7, c8, c9, c10⟩ := hcl.out _ H1.out
                    go_wp2_with fail
                    refine (c45d.out W1).mono ?_
                    rintro e W2 ⟨rfl, rfl⟩
                    cases nu
                    · obtain rfl : R = false := by rw [HR.out]; simp
                      go_wp2_with fail
                      refine (HNu.out W2).mono ?_
                      rintro e W2 ⟨rfl, hW2⟩
                      have H2 : Hid _ := H1.out.below (bel_al hW2)
                      clear hW2
                      go_wp2
                      go_ret
                      exact ⟨rfl, H2.out.2⟩
                    · obtain rfl : R = li := by rw [HR.out]; simp
                      go_wp2_with fail
                      refine (HNu.out W2).mono ?_
                      rintro e W2 ⟨rfl, hW2⟩
                      have H2 : Hid _ := H1.out.below (bel_al hW2)
                      clear hW2 c0 c1 c2 c3 c4 c5 c6 c7 c8 c9 c10
                      obtain ⟨c0, c1, c2, c3, c4, c5, c6, c7, c8, c9, c10⟩ := hcl.out _ H2.out
                      go_wp2_with fail
                      refine (HLi.out W2 H2.out.2).mono ?_
                      rintro e W3 ⟨rfl, hb3⟩
                      have H3 : Hid _ := H2.out.below hb3
                      go_wp2
                      go_ret
                      exact ⟨rfl, H3.out.2⟩
        · replace HR : Hid (R = ((if wg then wd && (!decide (wt < 1) && !decide (256 < wt)) else decide (dep = 0) && (!excl && decide (wt = 0))) && (nu && li))) := by rw [HR.out, decide_eq_false z0]; rfl
          go_wp2_with fail
          refine (c45p.out _).mono ?_
          rintro e W0 ⟨rfl, rfl⟩
          cases wg
          · by_cases z1 : dep = 0
            · have y1 : (dep != 0) = false := bne_eq_false_iff_eq.2 z1
              cases excl
              · by_cases z2 : wt = 0
                · have y2 : (wt != 0) = false := bne_eq_false_iff_eq.2 z2
                  replace HR : Hid (R = (nu && li)) := by rw [HR.out, decide_eq_true z1, decide_eq_true z2]; rfl
                  clear z1 z2
                  go_wp2_with fail
                  refine (c44.out _).mono ?_
                  rintro e W1 ⟨rfl, hW1⟩
                  have H1 : Hid _ := HB.out.below (bel_al hW1)
                  clear hW1 c0 c1 c2 c3 c4 c5 c6 c7 c8 c9 c10
                  obtain ⟨c0, c1, c2, c3, c4, c5, c6, c7, c8, c9, c10⟩ := hcl.out _ H1.out
                  cases nu
                  · obtain rfl : R = false := by rw [HR.out]; simp
                    go_wp2_with fail
                    refine (HNu.out W1).mono ?_
                    rintro e W2 ⟨rfl, hW2⟩
                    have H2 : Hid _ := H1.out.below (bel_al hW2)
                    clear hW2
                    go_wp2
                    go_ret
                    exact ⟨rfl, H2.out.2⟩
                  · obtain rfl : R = li := by rw [HR.out]; simp
                    go_wp2_with fail
                    refine (HNu.out W1).mono ?_
                    rintro e W2 ⟨rfl, hW2⟩
                    have H2 : Hid _ := H1.out.below (bel_al hW2)
                    clear hW2 c0 c1 c2 c3 c4 c5 c6 c7 c8 c9 c10
                    obtain ⟨c0, c1, c2, c3, c4, c5, c6, c7, c8, c9, c10⟩ := hcl.out _ H2.out
                    go_wp2_with fail
                    refine (HLi.out W2 H2.out.2).mono ?_
                    rintro e W3 ⟨rfl, hb3⟩
                    have H3 : Hid _ := H2.out.below hb3
                    go_wp2
                    go_ret
                    exact ⟨rfl, H3.out.2⟩
                · have y2 : (wt != 0) = true := bne_iff_ne.2 z2
                  obtain rfl : R = false := by rw [HR.out, decide_eq_false z2]; simp
                  clear z1 z2
                  go_wp2_with fail
                  refine (c44.out _).mono ?_
                  rintro e W1 ⟨rfl, hW1⟩
                  have H1 : Hid _ := HB.out.below (bel_al hW1)
                  clear hW1 c0 c1 c2 c3 c4 c5 c6 c7 c8 c9 c10
                  obtain ⟨c0, c1, c2, c3, c4, c5, c6, c7, c8, c9, c10⟩ := hcl.out _ H1.out
                  go_wp2
                  go_ret
                  exact ⟨rfl, H1.out.2⟩
              · obtain rfl : R = false := by rw [HR.out]; simp
                clear z1
                go_wp2_with fail
                refine (c44.out _).mono ?_
                rintro e W1 ⟨rfl, hW1⟩
                have H1 : Hid _ := HB.out.below (bel_al hW1)
                clear hW1 c0 c1 c2 c3 c4 c5 c6 c7 c8 c9 c10
                obtain ⟨c0, c1, c2, c3, c4, c5, c6, c7, c8, c9, c10⟩ := hcl.out _ H1.out
                go_wp2
                go_ret
                exact ⟨rfl, H1.out.2⟩
            · have y1 : (dep != 0) = true := bne_iff_ne.2 z1
              obtain rfl : R = false := by rw [HR.out, decide_eq_false z1]; rfl
              go_wp2_with fail
              refine (c44.out _).mono ?_
              rintro e W1 ⟨rfl, hW1⟩
              have H1 : Hid _ := HB.out.below (bel_al hW1)
              clear hW1 c0 c1 c2 c3 c4 c5 c6 c7 c8 c9 c10
              obtain ⟨c0, c1, c2, c3, c4, c5, c6, c7, c8, c9, c10⟩ := hcl.out _ H1.out
              go_wp2
              go_ret
              exact ⟨rfl, H1.out.2⟩
          · cases wd
            · obtain rfl : R = false := by rw [HR.out]; simp
              go_wp2_with fail
              refine (c44.out _).mono ?_
              rintro e W1 ⟨rfl, hW1⟩
              have H1 : Hid _ := HB.out.below (bel_al hW1)
              clear hW1 c0 c1 c2 c3 c4 c5 c6 c7 c8 c9 c10
              obtain ⟨c0, c1, c2, c3, c4, c5, c6, c7, c8, c9, c10⟩ := hcl.out _ H1.out
              go_wp2_with fail
              refine (c45d.out W1).mono ?_
              rintro e W2 ⟨rfl, rfl⟩
              go_wp2
              go_ret
              exact ⟨rfl, H1.out.2⟩
            · by_cases z1 : wt < 1
              · obtain rfl : R = false := by rw [HR.out, decide_eq_true z1]; simp
                go_wp2_with fail
                refine (c44.out _).mono ?_
                rintro e W1 ⟨rfl, hW1⟩
                have H1 : Hid _ := HB.out.below (bel_al hW1)
                clear hW1 c0 c1 c2 c3 c4 c5 c6 c7 c8 c9 c10
                obtain ⟨c0, c1, c2, c3, c4, c5, c6, c7, c8, c9, c10⟩ := hcl.out _ H1.out
                go_wp2_with fail
                refine (c45d.out W1).mono ?_
                rintro e W2 ⟨rfl, rfl⟩
                go_wp2
                go_ret
                exact ⟨rfl, H1.out.2⟩
              · by_cases z2 : 256 < wt
                · obtain rfl : R = false := by rw [HR.out, decide_eq_true z2]; simp
                  go_wp2_with fail
                  refine (c44.out _).mono ?_
                  rintro e W1 ⟨rfl, hW1⟩
                  have H1 : Hid _ := HB.out.below (bel_al hW1)
                  clear hW1 c0 c1 c2 c3 c4 c5 c6 c7 c8 c9 c10
                  obtain ⟨c0, c1, c2, c3, c4, c5, c6, c7, c8, c9, c10⟩ := hcl.out _ H1.out
                  go_wp2_with fail
                  refine (c45d.out W1).mono ?_
                  rintro e W2 ⟨rfl, rfl⟩
                  go_wp2
                  go_ret
                  exact ⟨rfl, H1.out.2⟩
                · replace HR : Hid (R = (nu && li)) := by rw [HR.out, decide_eq_false z1, decide_eq_false z2]; rfl
                  go_wp2_with fail
                  refine (c44.out _).mono ?_
                  rintro e W1 ⟨rfl, hW1⟩
                  have H1 : Hid _ := HB.out.below (bel_al hW1)
                  clear hW1 c0 c1 c2 c3 c4 c5 c6 c7 c8 c9 c10
                  obtain ⟨c0, c1, c2, c3, c4, c5, c6, c7, c8, c9, c10⟩ := hcl.out _ H1.out
                  go_wp2_with fail
                  refine (c45d.out W1).mono ?_
                  rintro e W2 ⟨rfl, rfl⟩
                  cases nu
                  · obtain rfl : R = false := by rw [HR.out]; simp
                    go_wp2_with fail
                    refine (HNu.out W2).mono ?_
                    rintro e W2 ⟨rfl, hW2⟩
                    have H2 : Hid _ := H1.out.below (bel_al hW2)
                    clear hW2
                    go_wp2
                    go_ret
                    exact ⟨rfl, H2.out.2⟩
                  · obtain rfl : R = li := by rw [HR.out]; simp
                    go_wp2_with fail
                    refine (HNu.out W2).mono ?_
                    rintro e W2 ⟨rfl, hW2⟩
                    have H2 : Hid _ := H1.out.below (bel_al hW2)
                    clear hW2 c0 c1 c2 c3 c4 c5 c6 c7 c8 c9 c10
                    obtain ⟨c0, c1, c2, c3, c4, c5, c6, c7, c8, c9, c10⟩ := hcl.out _ H2.out
                    go_wp2_with fail
                    refine (HLi.out W2 H2.out.2).mono ?_
                    rintro e W3 ⟨rfl, hb3⟩
                    have H3 : Hid _ := H2.out.below hb3
                    go_wp2
                    go_ret
                    exact ⟨rfl, H3.out.2⟩
    · obtain rfl := hRb.out rfl
      go_wp2
      go_ret
      exact ⟨rfl, HB.out.2⟩
end Go.Proofs.YtjigjckclpccmaaDoor
