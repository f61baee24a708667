/- An entry's turn is made. -/
import Derived.Test.YtfmljlflnpmceaaGreatDoorVz2
namespace Go.Proofs.YtfmljlflnpmceaaGreatDoor
open Go.RowKit
set_option linter.unusedVariables false
set_option linter.unusedSimpArgs false
def env (s : Bool) (f : Fm.Fr) (p : Value) : Array Value := #[.bool s, .int .i64 f.ty, .int .i64 f.fl, .int .i64 f.st, .string f.data, .int .i64 f.pad, .int .i64 f.dep, .bool f.excl, .int .i64 f.wt, .int .i64 f.code, .int .i64 f.last, p]
/-- a block of fifteen cells, set anew -/
def chain15 (w : World) (q : Nat) (v0 v1 v2 v3 v4 v5 v6 v7 v8 v9 v10 v11 v12 v13 v14 : Value) : World := (((((((((((((((w.setCell ⟨q, 0, none⟩ v0).setCell ⟨q, 1, none⟩ v1).setCell ⟨q, 2, none⟩ v2).setCell ⟨q, 3, none⟩ v3).setCell ⟨q, 4, none⟩ v4).setCell ⟨q, 5, none⟩ v5).setCell ⟨q, 6, none⟩ v6).setCell ⟨q, 7, none⟩ v7).setCell ⟨q, 8, none⟩ v8).setCell ⟨q, 9, none⟩ v9).setCell ⟨q, 10, none⟩ v10).setCell ⟨q, 11, none⟩ v11).setCell ⟨q, 12, none⟩ v12).setCell ⟨q, 13, none⟩ v13).setCell ⟨q, 14, none⟩ v14)
theorem chain15_blk {w : World} {q : Nat} {v0 v1 v2 v3 v4 v5 v6 v7 v8 v9 v10 v11 v12 v13 v14 z0 z1 z2 z3 z4 z5 z6 z7 z8 z9 z10 z11 z12 z13 z14 : Value} {t : TypeId} {fz : Nat × Nat} (h : w.heap[q]? = some (.cells #[z0, z1, z2, z3, z4, z5, z6, z7, z8, z9, z10, z11, z12, z13, z14] t fz)) : (chain15 w q v0 v1 v2 v3 v4 v5 v6 v7 v8 v9 v10 v11 v12 v13 v14).heap[q]? = some (.cells #[v0, v1, v2, v3, v4, v5, v6, v7, v8, v9, v10, v11, v12, v13, v14] t fz) := by
  have h1 := setCell_block _ q 0 v0 _ t fz h
  have h2 := setCell_block _ q 1 v1 _ t fz h1
  have h3 := setCell_block _ q 2 v2 _ t fz h2
  have h4 := setCell_block _ q 3 v3 _ t fz h3
  have h5 := setCell_block _ q 4 v4 _ t fz h4
  have h6 := setCell_block _ q 5 v5 _ t fz h5
  have h7 := setCell_block _ q 6 v6 _ t fz h6
  have h8 := setCell_block _ q 7 v7 _ t fz h7
  have h9 := setCell_block _ q 8 v8 _ t fz h8
  have h10 := setCell_block _ q 9 v9 _ t fz h9
  have h11 := setCell_block _ q 10 v10 _ t fz h10
  have h12 := setCell_block _ q 11 v11 _ t fz h11
  have h13 := setCell_block _ q 12 v12 _ t fz h12
  have h14 := setCell_block _ q 13 v13 _ t fz h13
  have h15 := setCell_block _ q 14 v14 _ t fz h14
  simp only [List.setIfInBounds_toArray, List.set_cons_zero, List.set_cons_succ] at h15
  exact h15
theorem chain15_ks (w : World) (q : Nat) (v0 v1 v2 v3 v4 v5 v6 v7 v8 v9 v10 v11 v12 v13 v14 : Value) : Ks (fun k => k = q) w (chain15 w q v0 v1 v2 v3 v4 v5 v6 v7 v8 v9 v10 v11 v12 v13 v14) := ((((((((((((((((Ks.refl (fun k => k = q) w).set q 0 v0 rfl).set q 1 v1 rfl).set q 2 v2 rfl).set q 3 v3 rfl).set q 4 v4 rfl).set q 5 v5 rfl).set q 6 v6 rfl).set q 7 v7 rfl).set q 8 v8 rfl).set q 9 v9 rfl).set q 10 v10 rfl).set q 11 v11 rfl).set q 12 v12 rfl).set q 13 v13 rfl).set q 14 v14 rfl)
theorem Below.cell {w V : World} {B i : Nat} (h : Below B w V) {j : Nat} (hj : j < B) : V.cell? ⟨j, i, none⟩ = w.cell? ⟨j, i, none⟩ := by simp only [World.cell?, h.block j hj]
set_option maxRecDepth 100000 in
set_option maxHeartbeats 40000000 in
theorem turnOf_any (s : Bool) (f : Fm.Fr) (p : Value) (w0 w : World) (A : LA) (k : Lk) (m : Nat) (h : LJ w0 w A k m) (hp : ∃ b n c, p = .slice b n c) :
    Calls Tryz.prog 27 #[.pointer (some ⟨A.g, 0, none⟩), .agg (env s f p)] w fun r w' => r = .returned (.agg (tnv ⟨A.g, f, p, s, (A.w s).g, (A.w (!s)).g⟩)) ∧ Below w.heap.size w w' := by
  have c1 : w.cell? ⟨A.g, 1, none⟩ = some (.pointer (some ⟨(A.w true).g, 0, none⟩)) := cell_blk h.blk 1
  have c2 : w.cell? ⟨A.g, 2, none⟩ = some (.pointer (some ⟨(A.w false).g, 0, none⟩)) := cell_blk h.blk 2
  have lt := heap_lt h.blk
  clear h
  obtain ⟨ty, fl, st, da, pa, de, ex, wt, co, la⟩ := f
  obtain ⟨pb, pn, pc, rfl⟩ := hp
  simp only [env, tnv]
  obtain ⟨gt, hgt⟩ : ∃ v, (A.w true).g = v := ⟨_, rfl⟩
  obtain ⟨gf, hgf⟩ : ∃ v, (A.w false).g = v := ⟨_, rfl⟩
  rw [hgt] at c1
  rw [hgf] at c2
  cases s
  · simp only [Bool.not_false, Bool.not_true]
    rw [hgt, hgf]
    clear hgt hgf
    obtain ⟨V0, hV0⟩ : ∃ V, (w.alloc (.cells #[.bool false, .int .i64 ty, .int .i64 fl, .int .i64 st, .string da, .int .i64 pa, .int .i64 de, .bool ex, .int .i64 wt, .int .i64 co, .int .i64 la, .slice pb pn pc] 33)).alloc (.cells #[.pointer none, .int .i64 0, .int .i64 0, .int .i64 0, .string ⟨#[]⟩, .int .i64 0, .int .i64 0, .bool false, .int .i64 0, .int .i64 0, .int .i64 0, .slice none 0 0, .bool false, .pointer none, .pointer none] 78) = V := ⟨_, rfl⟩
    obtain ⟨q0, hq0⟩ : ∃ n, w.heap.size = n := ⟨_, rfl⟩
    obtain ⟨q, hq⟩ : ∃ n, q0 + 1 = n := ⟨_, rfl⟩
    have B0 : Below w.heap.size w V0 := by rw [← hV0]; exact bel2 _ _ _
    have hE : V0.heap[q0]? = some (.cells #[.bool false, .int .i64 ty, .int .i64 fl, .int .i64 st, .string da, .int .i64 pa, .int .i64 de, .bool ex, .int .i64 wt, .int .i64 co, .int .i64 la, .slice pb pn pc] 33 (0, 0)) := by
      rw [← hV0, heap_al, if_neg (by rw [size_al]; omega), heap_al, if_pos hq0.symm]
    have hZ : V0.heap[q]? = some (.cells #[.pointer none, .int .i64 0, .int .i64 0, .int .i64 0, .string ⟨#[]⟩, .int .i64 0, .int .i64 0, .bool false, .int .i64 0, .int .i64 0, .int .i64 0, .slice none 0 0, .bool false, .pointer none, .pointer none] 78 (0, 0)) := by
      rw [← hV0, ← hq, ← hq0]
      exact fresh2 _ _ _
    have d1 : V0.cell? ⟨A.g, 1, none⟩ = some (.pointer (some ⟨gt, 0, none⟩)) := (B0.cell lt).trans c1
    have d2 : V0.cell? ⟨A.g, 2, none⟩ = some (.pointer (some ⟨gf, 0, none⟩)) := (B0.cell lt).trans c2
    have e0 : V0.cell? ⟨q0, 0, none⟩ = some (.bool false) := cell_blk hE 0
    have e1 : V0.cell? ⟨q0, 1, none⟩ = some (.int .i64 ty) := cell_blk hE 1
    have e2 : V0.cell? ⟨q0, 2, none⟩ = some (.int .i64 fl) := cell_blk hE 2
    have e3 : V0.cell? ⟨q0, 3, none⟩ = some (.int .i64 st) := cell_blk hE 3
    have e4 : V0.cell? ⟨q0, 4, none⟩ = some (.string da) := cell_blk hE 4
    have e5 : V0.cell? ⟨q0, 5, none⟩ = some (.int .i64 pa) := cell_blk hE 5
    have e6 : V0.cell? ⟨q0, 6, none⟩ = some (.int .i64 de) := cell_blk hE 6
    have e7 : V0.cell? ⟨q0, 7, none⟩ = some (.bool ex) := cell_blk hE 7
    have e8 : V0.cell? ⟨q0, 8, none⟩ = some (.int .i64 wt) := cell_blk hE 8
    have e9 : V0.cell? ⟨q0, 9, none⟩ = some (.int .i64 co) := cell_blk hE 9
    have e10 : V0.cell? ⟨q0, 10, none⟩ = some (.int .i64 la) := cell_blk hE 10
    have e11 : V0.cell? ⟨q0, 11, none⟩ = some (.slice pb pn pc) := cell_blk hE 11
    have r0 : V0.cell? ⟨q, 0, none⟩ = some (.pointer none) := cell_blk hZ 0
    have r1 : V0.cell? ⟨q, 1, none⟩ = some (.int .i64 0) := cell_blk hZ 1
    have r2 : V0.cell? ⟨q, 2, none⟩ = some (.int .i64 0) := cell_blk hZ 2
    have r3 : V0.cell? ⟨q, 3, none⟩ = some (.int .i64 0) := cell_blk hZ 3
    have r4 : V0.cell? ⟨q, 4, none⟩ = some (.string ⟨#[]⟩) := cell_blk hZ 4
    have r5 : V0.cell? ⟨q, 5, none⟩ = some (.int .i64 0) := cell_blk hZ 5
    have r6 : V0.cell? ⟨q, 6, none⟩ = some (.int .i64 0) := cell_blk hZ 6
    have r7 : V0.cell? ⟨q, 7, none⟩ = some (.bool false) := cell_blk hZ 7
    have r8 : V0.cell? ⟨q, 8, none⟩ = some (.int .i64 0) := cell_blk hZ 8
    have r9 : V0.cell? ⟨q, 9, none⟩ = some (.int .i64 0) := cell_blk hZ 9
    have r10 : V0.cell? ⟨q, 10, none⟩ = some (.int .i64 0) := cell_blk hZ 10
    have r11 : V0.cell? ⟨q, 11, none⟩ = some (.slice none 0 0) := cell_blk hZ 11
    have r12 : V0.cell? ⟨q, 12, none⟩ = some (.bool false) := cell_blk hZ 12
    have r13 : V0.cell? ⟨q, 13, none⟩ = some (.pointer none) := cell_blk hZ 13
    have r14 : V0.cell? ⟨q, 14, none⟩ = some (.pointer none) := cell_blk hZ 14
    have f0 := frozen_blk hZ 0
    have f1 := frozen_blk hZ 1
    have f2 := frozen_blk hZ 2
    have f3 := frozen_blk hZ 3
    have f4 := frozen_blk hZ 4
    have f5 := frozen_blk hZ 5
    have f6 := frozen_blk hZ 6
    have f7 := frozen_blk hZ 7
    have f8 := frozen_blk hZ 8
    have f9 := frozen_blk hZ 9
    have f10 := frozen_blk hZ 10
    have f11 := frozen_blk hZ 11
    have f12 := frozen_blk hZ 12
    have f13 := frozen_blk hZ 13
    have f14 := frozen_blk hZ 14
    have HB : Hid (Below w.heap.size w V0 ∧ V0.heap[q]? = some (.cells #[.pointer none, .int .i64 0, .int .i64 0, .int .i64 0, .string ⟨#[]⟩, .int .i64 0, .int .i64 0, .bool false, .int .i64 0, .int .i64 0, .int .i64 0, .slice none 0 0, .bool false, .pointer none, .pointer none] 78 (0, 0)) ∧ w.heap.size ≤ q) := ⟨B0, hZ, by omega⟩
    have hne : q0 ≠ q := by omega
    clear B0 hE hZ c1 c2
    go_enter Tryz.func27, Tryz.ntmps27
    go_upto_region 3 with fail
    try rw [hV0]
    try rw [hq0]
    try rw [hq]
    clear hV0 hq hq0
    go_region
    all_goals
      go_wp2_with fail
      obtain ⟨CC, hCC⟩ : ∃ V, chain15 V0 q (.pointer (some ⟨A.g, 0, none⟩)) (.int .i64 ty) (.int .i64 fl) (.int .i64 st) (.string da) (.int .i64 pa) (.int .i64 de) (.bool ex) (.int .i64 wt) (.int .i64 co) (.int .i64 la) (.slice pb pn pc) (.bool false) (.pointer (some ⟨gf, 0, none⟩)) (.pointer (some ⟨gt, 0, none⟩)) = V := ⟨_, rfl⟩
      have hb1 : CC.heap[q]? = some (.cells #[.pointer (some ⟨A.g, 0, none⟩), .int .i64 ty, .int .i64 fl, .int .i64 st, .string da, .int .i64 pa, .int .i64 de, .bool ex, .int .i64 wt, .int .i64 co, .int .i64 la, .slice pb pn pc, .bool false, .pointer (some ⟨gf, 0, none⟩), .pointer (some ⟨gt, 0, none⟩)] 78 (0, 0)) := hCC ▸ chain15_blk HB.out.2.1
      have hk1 : Ks (fun j => j = q) V0 CC := hCC ▸ chain15_ks V0 q (.pointer (some ⟨A.g, 0, none⟩)) (.int .i64 ty) (.int .i64 fl) (.int .i64 st) (.string da) (.int .i64 pa) (.int .i64 de) (.bool ex) (.int .i64 wt) (.int .i64 co) (.int .i64 la) (.slice pb pn pc) (.bool false) (.pointer (some ⟨gf, 0, none⟩)) (.pointer (some ⟨gt, 0, none⟩))
      have hblk : CC.drew.heap[q]? = some (.cells #[.pointer (some ⟨A.g, 0, none⟩), .int .i64 ty, .int .i64 fl, .int .i64 st, .string da, .int .i64 pa, .int .i64 de, .bool ex, .int .i64 wt, .int .i64 co, .int .i64 la, .slice pb pn pc, .bool false, .pointer (some ⟨gf, 0, none⟩), .pointer (some ⟨gt, 0, none⟩)] 78 (0, 0)) := (heap_dr _ _).trans hb1
      have hbel : Below w.heap.size w CC.drew := (HB.out.1.trans (hk1.below HB.out.1.size (fun i hi e => by have := HB.out.2.2; omega))).drew
      unfold chain15 at hCC
      rw [hCC]
      refine bodyPost_ret (results_cell_row (p := 4) (ty := 78) rfl _ _ q 78 _ (0, 0) _ rfl hblk Tryz.underlying78 rfl (by kernel_rfl)) rfl ⟨rfl, hbel⟩
  · simp only [Bool.not_false, Bool.not_true]
    rw [hgt, hgf]
    clear hgt hgf
    obtain ⟨V0, hV0⟩ : ∃ V, (w.alloc (.cells #[.bool true, .int .i64 ty, .int .i64 fl, .int .i64 st, .string da, .int .i64 pa, .int .i64 de, .bool ex, .int .i64 wt, .int .i64 co, .int .i64 la, .slice pb pn pc] 33)).alloc (.cells #[.pointer none, .int .i64 0, .int .i64 0, .int .i64 0, .string ⟨#[]⟩, .int .i64 0, .int .i64 0, .bool false, .int .i64 0, .int .i64 0, .int .i64 0, .slice none 0 0, .bool false, .pointer none, .pointer none] 78) = V := ⟨_, rfl⟩
    obtain ⟨q0, hq0⟩ : ∃ n, w.heap.size = n := ⟨_, rfl⟩
    obtain ⟨q, hq⟩ : ∃ n, q0 + 1 = n := ⟨_, rfl⟩
    have B0 : Below w.heap.size w V0 := by rw [← hV0]; exact bel2 _ _ _
    have hE : V0.heap[q0]? = some (.cells #[.bool true, .int .i64 ty, .int .i64 fl, .int .i64 st, .string da, .int .i64 pa, .int .i64 de, .bool ex, .int .i64 wt, .int .i64 co, .int .i64 la, .slice pb pn pc] 33 (0, 0)) := by
      rw [← hV0, heap_al, if_neg (by rw [size_al]; omega), heap_al, if_pos hq0.symm]
    have hZ : V0.heap[q]? = some (.cells #[.pointer none, .int .i64 0, .int .i64 0, .int .i64 0, .string ⟨#[]⟩, .int .i64 0, .int .i64 0, .bool false, .int .i64 0, .int .i64 0, .int .i64 0, .slice none 0 0, .bool false, .pointer none, .pointer none] 78 (0, 0)) := by
      rw [← hV0, ← hq, ← hq0]
      exact fresh2 _ _ _
    have d1 : V0.cell? ⟨A.g, 1, none⟩ = some (.pointer (some ⟨gt, 0, none⟩)) := (B0.cell lt).trans c1
    have d2 : V0.cell? ⟨A.g, 2, none⟩ = some (.pointer (some ⟨gf, 0, none⟩)) := (B0.cell lt).trans c2
    have e0 : V0.cell? ⟨q0, 0, none⟩ = some (.bool true) := cell_blk hE 0
    have e1 : V0.cell? ⟨q0, 1, none⟩ = some (.int .i64 ty) := cell_blk hE 1
    have e2 : V0.cell? ⟨q0, 2, none⟩ = some (.int .i64 fl) := cell_blk hE 2
    have e3 : V0.cell? ⟨q0, 3, none⟩ = some (.int .i64 st) := cell_blk hE 3
    have e4 : V0.cell? ⟨q0, 4, none⟩ = some (.string da) := cell_blk hE 4
    have e5 : V0.cell? ⟨q0, 5, none⟩ = some (.int .i64 pa) := cell_blk hE 5
    have e6 : V0.cell? ⟨q0, 6, none⟩ = some (.int .i64 de) := cell_blk hE 6
    have e7 : V0.cell? ⟨q0, 7, none⟩ = some (.bool ex) := cell_blk hE 7
    have e8 : V0.cell? ⟨q0, 8, none⟩ = some (.int .i64 wt) := cell_blk hE 8
    have e9 : V0.cell? ⟨q0, 9, none⟩ = some (.int .i64 co) := cell_blk hE 9
    have e10 : V0.cell? ⟨q0, 10, none⟩ = some (.int .i64 la) := cell_blk hE 10
    have e11 : V0.cell? ⟨q0, 11, none⟩ = some (.slice pb pn pc) := cell_blk hE 11
    have r0 : V0.cell? ⟨q, 0, none⟩ = some (.pointer none) := cell_blk hZ 0
    have r1 : V0.cell? ⟨q, 1, none⟩ = some (.int .i64 0) := cell_blk hZ 1
    have r2 : V0.cell? ⟨q, 2, none⟩ = some (.int .i64 0) := cell_blk hZ 2
    have r3 : V0.cell? ⟨q, 3, none⟩ = some (.int .i64 0) := cell_blk hZ 3
    have r4 : V0.cell? ⟨q, 4, none⟩ = some (.string ⟨#[]⟩) := cell_blk hZ 4
    have r5 : V0.cell? ⟨q, 5, none⟩ = some (.int .i64 0) := cell_blk hZ 5
    have r6 : V0.cell? ⟨q, 6, none⟩ = some (.int .i64 0) := cell_blk hZ 6
    have r7 : V0.cell? ⟨q, 7, none⟩ = some (.bool false) := cell_blk hZ 7
    have r8 : V0.cell? ⟨q, 8, none⟩ = some (.int .i64 0) := cell_blk hZ 8
    have r9 : V0.cell? ⟨q, 9, none⟩ = some (.int .i64 0) := cell_blk hZ 9
    have r10 : V0.cell? ⟨q, 10, none⟩ = some (.int .i64 0) := cell_blk hZ 10
    have r11 : V0.cell? ⟨q, 11, none⟩ = some (.slice none 0 0) := cell_blk hZ 11
    have r12 : V0.cell? ⟨q, 12, none⟩ = some (.bool false) := cell_blk hZ 12
    have r13 : V0.cell? ⟨q, 13, none⟩ = some (.pointer none) := cell_blk hZ 13
    have r14 : V0.cell? ⟨q, 14, none⟩ = some (.pointer none) := cell_blk hZ 14
    have f0 := frozen_blk hZ 0
    have f1 := frozen_blk hZ 1
    have f2 := frozen_blk hZ 2
    have f3 := frozen_blk hZ 3
    have f4 := frozen_blk hZ 4
    have f5 := frozen_blk hZ 5
    have f6 := frozen_blk hZ 6
    have f7 := frozen_blk hZ 7
    have f8 := frozen_blk hZ 8
    have f9 := frozen_blk hZ 9
    have f10 := frozen_blk hZ 10
    have f11 := frozen_blk hZ 11
    have f12 := frozen_blk hZ 12
    have f13 := frozen_blk hZ 13
    have f14 := frozen_blk hZ 14
    have HB : Hid (Below w.heap.size w V0 ∧ V0.heap[q]? = some (.cells #[.pointer none, .int .i64 0, .int .i64 0, .int .i64 0, .string ⟨#[]⟩, .int .i64 0, .int .i64 0, .bool false, .int .i64 0, .int .i64 0, .int .i64 0, .slice none 0 0, .bool false, .pointer none, .pointer none] 78 (0, 0)) ∧ w.heap.size ≤ q) := ⟨B0, hZ, by omega⟩
    have hne : q0 ≠ q := by omega
    clear B0 hE hZ c1 c2
    go_enter Tryz.func27, Tryz.ntmps27
    go_upto_region 2 with fail
    try rw [hV0]
    try rw [hq0]
    try rw [hq]
    clear hV0 hq hq0
    go_region
    all_goals
      go_wp2_with fail
      obtain ⟨CC, hCC⟩ : ∃ V, chain15 V0 q (.pointer (some ⟨A.g, 0, none⟩)) (.int .i64 ty) (.int .i64 fl) (.int .i64 st) (.string da) (.int .i64 pa) (.int .i64 de) (.bool ex) (.int .i64 wt) (.int .i64 co) (.int .i64 la) (.slice pb pn pc) (.bool true) (.pointer (some ⟨gt, 0, none⟩)) (.pointer (some ⟨gf, 0, none⟩)) = V := ⟨_, rfl⟩
      have hb1 : CC.heap[q]? = some (.cells #[.pointer (some ⟨A.g, 0, none⟩), .int .i64 ty, .int .i64 fl, .int .i64 st, .string da, .int .i64 pa, .int .i64 de, .bool ex, .int .i64 wt, .int .i64 co, .int .i64 la, .slice pb pn pc, .bool true, .pointer (some ⟨gt, 0, none⟩), .pointer (some ⟨gf, 0, none⟩)] 78 (0, 0)) := hCC ▸ chain15_blk HB.out.2.1
      have hk1 : Ks (fun j => j = q) V0 CC := hCC ▸ chain15_ks V0 q (.pointer (some ⟨A.g, 0, none⟩)) (.int .i64 ty) (.int .i64 fl) (.int .i64 st) (.string da) (.int .i64 pa) (.int .i64 de) (.bool ex) (.int .i64 wt) (.int .i64 co) (.int .i64 la) (.slice pb pn pc) (.bool true) (.pointer (some ⟨gt, 0, none⟩)) (.pointer (some ⟨gf, 0, none⟩))
      have hblk : CC.drew.heap[q]? = some (.cells #[.pointer (some ⟨A.g, 0, none⟩), .int .i64 ty, .int .i64 fl, .int .i64 st, .string da, .int .i64 pa, .int .i64 de, .bool ex, .int .i64 wt, .int .i64 co, .int .i64 la, .slice pb pn pc, .bool true, .pointer (some ⟨gt, 0, none⟩), .pointer (some ⟨gf, 0, none⟩)] 78 (0, 0)) := (heap_dr _ _).trans hb1
      have hbel : Below w.heap.size w CC.drew := (HB.out.1.trans (hk1.below HB.out.1.size (fun i hi e => by have := HB.out.2.2; omega))).drew
      unfold chain15 at hCC
      rw [hCC]
      refine bodyPost_ret (results_cell_row (p := 4) (ty := 78) rfl _ _ q 78 _ (0, 0) _ rfl hblk Tryz.underlying78 rfl (by kernel_rfl)) rfl ⟨rfl, hbel⟩
end Go.Proofs.YtfmljlflnpmceaaGreatDoor
