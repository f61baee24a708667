/- sameTold of what is alike. -/
import Derived.Test.YtmhbaaemihljjaaDoorN4
import Derived.Deep.RegionHeld3
namespace Go.Proofs.YtmhbaaemihljjaaDoor
open Go.RowKit
set_option linter.unusedVariables false
set_option linter.unusedSimpArgs false

theorem TRow.at {W : World} {v : Value} {ts : List Tl} (h : TRow W v ts) (k : Nat) (hk : k < ts.length) : ∃ g cap t, v = .slice (some ⟨g, 0, none⟩) ts.length cap ∧ ts.length ≤ cap ∧ cap ≤ 9223372036854775807 ∧ Says W t ts[k] ∧ (∀ j, j < 13 → W.cell? ⟨g, k * 13 + j, none⟩ = (tcell t)[j]?) := by
  obtain ⟨l, ho, hs⟩ := h
  have hll := hs.length
  have ho' := ho
  rcases ho.2 with ⟨rfl, hn⟩ | ⟨g, cap, cur, rfl, _, hgg, hnc, hcm, hcs, htk⟩
  · omega
  · refine ⟨g, cap, l[k]'(by omega), rfl, hnc, by unfold maxLen at hcm; omega, hs.get k (by omega) hk, fun j hj => ?_⟩
    have h1 := tcells_get l k j (by omega) hj
    have h2 : (tcell (l[k]'(by omega)))[j]? = some ((tcell (l[k]'(by omega)))[j]'(by show j < 13; exact hj)) := by simp
    rw [h2] at h1 ⊢
    have d1 := World.ownsRow.cells ho' (g := g) rfl _ _ h1
    rw [Addr.add_lit, Nat.zero_add] at d1
    exact d1

set_option maxRecDepth 100000 in
set_option maxHeartbeats 8000000 in
theorem sameTold_eq (w : World) (v u : Value) (ts : List Tl) (hv : TRow w v ts) (hu : TRow w u ts) :
    Calls Tryd.prog 17 #[v, u] w fun e w' => e = .returned (.bool true) ∧ Below w.heap.size w w' := by
  obtain ⟨pb, pc, rfl⟩ := hv.slice
  obtain ⟨qb, qc, rfl⟩ := hu.slice
  obtain ⟨n, hn⟩ : ∃ n, ts.length = n := ⟨_, rfl⟩
  have HN : Hid (ts.length = n) := hn
  have HV : Hid (TRow w (.slice pb n pc) ts) := by rw [← hn]; exact hv
  have HU : Hid (TRow w (.slice qb n qc) ts) := by rw [← hn]; exact hu
  rw [hn]
  clear hv hu hn
  go_enter Tryd.func17, Tryd.ntmps17
  go_wp2_with fail
  go_loopw [5] (fun i wr => ∃ k : Nat, k ≤ n ∧ i = .int .i64 (k : Int) ∧ Hid (Below w.heap.size w wr)) (fun i _ => n - (intOf i).toNat)
  case atStart => exact ⟨0, by omega, rfl, Below.refl _ _⟩
  case round =>
    obtain ⟨k, hk, rfl, hb⟩ := hrel
    by_cases hlt : k < n
    · obtain ⟨f, c, x, g, g', ab, al, ac, bb, bl, bc, hpb, hqb, h1, h2, h3, h4, d1, d2, hS⟩ : ∃ (f : Fr) (c x : Int) (g g' : Nat) (ab : Option Addr) (al ac : Nat) (bb : Option Addr) (bl bc : Nat), pb = some ⟨g, 0, none⟩ ∧ qb = some ⟨g', 0, none⟩ ∧ n ≤ pc ∧ pc ≤ 9223372036854775807 ∧ n ≤ qc ∧ qc ≤ 9223372036854775807 ∧
          (∀ W, Below w.heap.size w W → ∀ j, j < 13 → W.cell? ⟨g, k * 13 + j, none⟩ = (tcell ⟨f, ab, al, ac, c, x⟩)[j]?) ∧ (∀ W, Below w.heap.size w W → ∀ j, j < 13 → W.cell? ⟨g', k * 13 + j, none⟩ = (tcell ⟨f, bb, bl, bc, c, x⟩)[j]?) ∧
          (∀ W, Below w.heap.size w W → Calls Tryd.prog 19 #[.agg (fv f (.slice ab al ac)), .agg (fv f (.slice bb bl bc))] W fun e w' => e = .returned (.bool true) ∧ Below w.heap.size w w') := by
        have hl := HN.out
        obtain ⟨g, cap, t, e, h1, h2, q, d⟩ := HV.out.at k (by omega)
        obtain ⟨g', cap', t', e', h1', h2', q', d'⟩ := HU.out.at k (by omega)
        cases e
        cases e'
        obtain ⟨f1, ab, al, ac, c1, x1⟩ := t
        obtain ⟨f2, bb, bl, bc, c2, x2⟩ := t'
        obtain ⟨r1, r2, r3, r4⟩ := q
        obtain ⟨s1, s2, s3, s4⟩ := q'
        dsimp only at r1 r2 r3 r4 s1 s2 s3 s4
        obtain rfl : f1 = f2 := r1.trans s1.symm
        obtain rfl : c1 = c2 := r2.trans s2.symm
        obtain rfl : x1 = x2 := r3.trans s3.symm
        have hlt1 : g < w.heap.size := by
          have := d 0 (by omega)
          exact World.block_lt_of_cell? w ⟨g, k * 13 + 0, none⟩ (u := .int .i64 f1.ty) this
        have hlt2 : g' < w.heap.size := by
          have := d' 0 (by omega)
          exact World.block_lt_of_cell? w ⟨g', k * 13 + 0, none⟩ (u := .int .i64 f1.ty) this
        refine ⟨f1, c1, x1, g, g', ab, al, ac, bb, bl, bc, rfl, rfl, by omega, h2, by omega, h2', fun W hW j hj => (hW.cell (p := ⟨g, k * 13 + j, none⟩) hlt1).trans (d j hj), fun W hW j hj => (hW.cell (p := ⟨g', k * 13 + j, none⟩) hlt2).trans (d' j hj), fun W hW => ?_⟩
        refine (same_eq f1 W ab al ac bb bl bc _ (r4.below fun k _ hk => hW.block k hk) (s4.below fun k _ hk => hW.block k hk)).mono ?_
        rintro e w' ⟨rfl, h⟩
        exact ⟨rfl, hW.trans (h.mono hW.size)⟩
      subst hpb
      subst hqb
      have D1 : Hid (∀ W, Below w.heap.size w W → ∀ j, j < 13 → W.cell? ⟨g, k * 13 + j, none⟩ = (tcell ⟨f, ab, al, ac, c, x⟩)[j]?) := d1
      have D2 : Hid (∀ W, Below w.heap.size w W → ∀ j, j < 13 → W.cell? ⟨g', k * 13 + j, none⟩ = (tcell ⟨f, bb, bl, bc, c, x⟩)[j]?) := d2
      have HS : Hid (∀ W, Below w.heap.size w W → Calls Tryd.prog 19 #[.agg (fv f (.slice ab al ac)), .agg (fv f (.slice bb bl bc))] W fun e w' => e = .returned (.bool true) ∧ Below w.heap.size w w') := hS
      have hbd : Below w.heap.size w wr.drew := hb.out.drew
      clear d1 d2 hS
      have hfull : Hid (∀ W, Below w.heap.size w W → (fun W => W.cell? ⟨g, k * 13, none⟩ = some (.int .i64 f.ty) ∧ W.cell? ⟨g, k * 13 + 1, none⟩ = some (.int .i64 f.fl) ∧ W.cell? ⟨g, k * 13 + 2, none⟩ = some (.int .i64 f.st) ∧ W.cell? ⟨g, k * 13 + 3, none⟩ = some (.string f.data) ∧ W.cell? ⟨g, k * 13 + 4, none⟩ = some (.int .i64 f.pad) ∧ W.cell? ⟨g, k * 13 + 5, none⟩ = some (.int .i64 f.dep) ∧ W.cell? ⟨g, k * 13 + 6, none⟩ = some (.bool f.excl) ∧ W.cell? ⟨g, k * 13 + 7, none⟩ = some (.int .i64 f.wt) ∧ W.cell? ⟨g, k * 13 + 8, none⟩ = some (.int .i64 f.code) ∧ W.cell? ⟨g, k * 13 + 9, none⟩ = some (.int .i64 f.last) ∧ W.cell? ⟨g, k * 13 + 10, none⟩ = some (.slice ab al ac) ∧ W.cell? ⟨g, k * 13 + 11, none⟩ = some (.int .i64 c) ∧ W.cell? ⟨g, k * 13 + 12, none⟩ = some (.int .i64 x) ∧ W.cell? ⟨g', k * 13, none⟩ = some (.int .i64 f.ty) ∧ W.cell? ⟨g', k * 13 + 1, none⟩ = some (.int .i64 f.fl) ∧ W.cell? ⟨g', k * 13 + 2, none⟩ = some (.int .i64 f.st) ∧ W.cell? ⟨g', k * 13 + 3, none⟩ = some (.string f.data) ∧ W.cell? ⟨g', k * 13 + 4, none⟩ = some (.int .i64 f.pad) ∧ W.cell? ⟨g', k * 13 + 5, none⟩ = some (.int .i64 f.dep) ∧ W.cell? ⟨g', k * 13 + 6, none⟩ = some (.bool f.excl) ∧ W.cell? ⟨g', k * 13 + 7, none⟩ = some (.int .i64 f.wt) ∧ W.cell? ⟨g', k * 13 + 8, none⟩ = some (.int .i64 f.code) ∧ W.cell? ⟨g', k * 13 + 9, none⟩ = some (.int .i64 f.last) ∧ W.cell? ⟨g', k * 13 + 10, none⟩ = some (.slice bb bl bc) ∧ W.cell? ⟨g', k * 13 + 11, none⟩ = some (.int .i64 c) ∧ W.cell? ⟨g', k * 13 + 12, none⟩ = some (.int .i64 x) ∧ Below w.heap.size w W) W) := fun W hW => ⟨D1.out W hW 0 (by omega), D1.out W hW 1 (by omega), D1.out W hW 2 (by omega), D1.out W hW 3 (by omega), D1.out W hW 4 (by omega), D1.out W hW 5 (by omega), D1.out W hW 6 (by omega), D1.out W hW 7 (by omega), D1.out W hW 8 (by omega), D1.out W hW 9 (by omega), D1.out W hW 10 (by omega), D1.out W hW 11 (by omega), D1.out W hW 12 (by omega), D2.out W hW 0 (by omega), D2.out W hW 1 (by omega), D2.out W hW 2 (by omega), D2.out W hW 3 (by omega), D2.out W hW 4 (by omega), D2.out W hW 5 (by omega), D2.out W hW 6 (by omega), D2.out W hW 7 (by omega), D2.out W hW 8 (by omega), D2.out W hW 9 (by omega), D2.out W hW 10 (by omega), D2.out W hW 11 (by omega), D2.out W hW 12 (by omega), hW⟩
      clear D1 D2
      go_wp2_with fail
      refine wp_region_held_drew (S := fun W => W.cell? ⟨g, k * 13, none⟩ = some (.int .i64 f.ty) ∧ W.cell? ⟨g, k * 13 + 1, none⟩ = some (.int .i64 f.fl) ∧ W.cell? ⟨g, k * 13 + 2, none⟩ = some (.int .i64 f.st) ∧ W.cell? ⟨g, k * 13 + 3, none⟩ = some (.string f.data) ∧ W.cell? ⟨g, k * 13 + 4, none⟩ = some (.int .i64 f.pad) ∧ W.cell? ⟨g, k * 13 + 5, none⟩ = some (.int .i64 f.dep) ∧ W.cell? ⟨g, k * 13 + 6, none⟩ = some (.bool f.excl) ∧ W.cell? ⟨g, k * 13 + 7, none⟩ = some (.int .i64 f.wt) ∧ W.cell? ⟨g, k * 13 + 8, none⟩ = some (.int .i64 f.code) ∧ W.cell? ⟨g, k * 13 + 9, none⟩ = some (.int .i64 f.last) ∧ W.cell? ⟨g, k * 13 + 10, none⟩ = some (.slice ab al ac) ∧ W.cell? ⟨g, k * 13 + 11, none⟩ = some (.int .i64 c) ∧ W.cell? ⟨g, k * 13 + 12, none⟩ = some (.int .i64 x) ∧ W.cell? ⟨g', k * 13, none⟩ = some (.int .i64 f.ty) ∧ W.cell? ⟨g', k * 13 + 1, none⟩ = some (.int .i64 f.fl) ∧ W.cell? ⟨g', k * 13 + 2, none⟩ = some (.int .i64 f.st) ∧ W.cell? ⟨g', k * 13 + 3, none⟩ = some (.string f.data) ∧ W.cell? ⟨g', k * 13 + 4, none⟩ = some (.int .i64 f.pad) ∧ W.cell? ⟨g', k * 13 + 5, none⟩ = some (.int .i64 f.dep) ∧ W.cell? ⟨g', k * 13 + 6, none⟩ = some (.bool f.excl) ∧ W.cell? ⟨g', k * 13 + 7, none⟩ = some (.int .i64 f.wt) ∧ W.cell? ⟨g', k * 13 + 8, none⟩ = some (.int .i64 f.code) ∧ W.cell? ⟨g', k * 13 + 9, none⟩ = some (.int .i64 f.last) ∧ W.cell? ⟨g', k * 13 + 10, none⟩ = some (.slice bb bl bc) ∧ W.cell? ⟨g', k * 13 + 11, none⟩ = some (.int .i64 c) ∧ W.cell? ⟨g', k * 13 + 12, none⟩ = some (.int .i64 x) ∧ Below w.heap.size w W) (by kernel_rfl) (hfull.out _ hbd) (fun hHeld => ?_)
      refine wpAnyH_take (i := 0) (oi := { dst := some 17, op := Op.move (Operand.tmp 0), type := 43, pos := "outright.go:34", after := #[], guard := none }) (v := ?vv0) rfl (by kernel_rfl) (by kernel_rfl) (by kernel_rfl) (fun _ _ _ h => h) (Or.inl ⟨by rfl, ?hy0⟩) (by assumption) ?rest0
      case hy0 => (intro w hSw; (try dsimp only at hSw); go_simp; all_goals with_reducible rfl)
      try simp only [Act.put, List.setIfInBounds_toArray, List.set_cons_zero, List.set_cons_succ]
      refine wpAnyH_take (i := 1) (oi := { dst := some 18, op := Op.move (Operand.tmp 5), type := 3, pos := "outright.go:34", after := #[], guard := none }) (v := ?vv1) rfl (by kernel_rfl) (by kernel_rfl) (by kernel_rfl) (fun _ _ _ h => h) (Or.inl ⟨by rfl, ?hy1⟩) (by assumption) ?rest1
      case hy1 => (intro w hSw; (try dsimp only at hSw); go_simp; all_goals with_reducible rfl)
      try simp only [Act.put, List.setIfInBounds_toArray, List.set_cons_zero, List.set_cons_succ]
      refine wpAnyH_take (i := 2) (oi := { dst := some 19, op := Op.indexAddr 43 (Operand.tmp 17) (Operand.tmp 18), type := 0, pos := "outright.go:34", after := #[{ on := 0, ground := Ground.data }, { on := 1, ground := Ground.data }], guard := none }) (v := ?vv2) rfl (by kernel_rfl) (by kernel_rfl) (by kernel_rfl) (fun _ _ _ h => h) (Or.inl ⟨by rfl, ?hy2⟩) (by assumption) ?rest2
      case hy2 => (intro w hSw; (try dsimp only at hSw); go_simp; all_goals with_reducible rfl)
      try simp only [Act.put, List.setIfInBounds_toArray, List.set_cons_zero, List.set_cons_succ]
      refine wpAnyH_take (i := 3) (oi := { dst := some 20, op := Op.fieldAddr 71 (Operand.tmp 19) 1, type := 0, pos := "outright.go:34", after := #[{ on := 2, ground := Ground.data }], guard := none }) (v := ?vv3) rfl (by kernel_rfl) (by kernel_rfl) (by kernel_rfl) (fun _ _ _ h => h) (Or.inl ⟨by rfl, ?hy3⟩) (by assumption) ?rest3
      case hy3 => (intro w hSw; (try dsimp only at hSw); go_simp; all_goals with_reducible rfl)
      try simp only [Act.put, List.setIfInBounds_toArray, List.set_cons_zero, List.set_cons_succ]
      refine wpAnyH_take (i := 4) (oi := { dst := some 21, op := Op.load 30 (Operand.tmp 20), type := 30, pos := "outright.go:34", after := #[{ on := 3, ground := Ground.data }], guard := none }) (v := ?vv4) rfl (by kernel_rfl) (by kernel_rfl) (by kernel_rfl) (fun _ _ _ h => h) (Or.inl ⟨by rfl, ?hy4⟩) (by assumption) ?rest4
      case hy4 => (intro w hSw; (try dsimp only at hSw); go_simp; all_goals with_reducible rfl)
      try simp only [Act.put, List.setIfInBounds_toArray, List.set_cons_zero, List.set_cons_succ]
      refine wpAnyH_take (i := 5) (oi := { dst := some 22, op := Op.move (Operand.tmp 1), type := 43, pos := "outright.go:34", after := #[], guard := none }) (v := ?vv5) rfl (by kernel_rfl) (by kernel_rfl) (by kernel_rfl) (fun _ _ _ h => h) (Or.inl ⟨by rfl, ?hy5⟩) (by assumption) ?rest5
      case hy5 => (intro w hSw; (try dsimp only at hSw); go_simp; all_goals with_reducible rfl)
      try simp only [Act.put, List.setIfInBounds_toArray, List.set_cons_zero, List.set_cons_succ]
      refine wpAnyH_take (i := 6) (oi := { dst := some 23, op := Op.move (Operand.tmp 5), type := 3, pos := "outright.go:34", after := #[], guard := none }) (v := ?vv6) rfl (by kernel_rfl) (by kernel_rfl) (by kernel_rfl) (fun _ _ _ h => h) (Or.inl ⟨by rfl, ?hy6⟩) (by assumption) ?rest6
      case hy6 => (intro w hSw; (try dsimp only at hSw); go_simp; all_goals with_reducible rfl)
      try simp only [Act.put, List.setIfInBounds_toArray, List.set_cons_zero, List.set_cons_succ]
      refine wpAnyH_take (i := 7) (oi := { dst := some 24, op := Op.indexAddr 43 (Operand.tmp 22) (Operand.tmp 23), type := 0, pos := "outright.go:34", after := #[{ on := 5, ground := Ground.data }, { on := 6, ground := Ground.data }], guard := none }) (v := ?vv7) rfl (by kernel_rfl) (by kernel_rfl) (by kernel_rfl) (fun _ _ _ h => h) (Or.inl ⟨by rfl, ?hy7⟩) (by assumption) ?rest7
      case hy7 => (intro w hSw; (try dsimp only at hSw); go_simp; all_goals with_reducible rfl)
      try simp only [Act.put, List.setIfInBounds_toArray, List.set_cons_zero, List.set_cons_succ]
      refine wpAnyH_take (i := 8) (oi := { dst := some 25, op := Op.fieldAddr 71 (Operand.tmp 24) 1, type := 0, pos := "outright.go:34", after := #[{ on := 7, ground := Ground.data }], guard := none }) (v := ?vv8) rfl (by kernel_rfl) (by kernel_rfl) (by kernel_rfl) (fun _ _ _ h => h) (Or.inl ⟨by rfl, ?hy8⟩) (by assumption) ?rest8
      case hy8 => (intro w hSw; (try dsimp only at hSw); go_simp; all_goals with_reducible rfl)
      try simp only [Act.put, List.setIfInBounds_toArray, List.set_cons_zero, List.set_cons_succ]
      refine wpAnyH_take (i := 9) (oi := { dst := some 26, op := Op.load 30 (Operand.tmp 25), type := 30, pos := "outright.go:34", after := #[{ on := 8, ground := Ground.data }], guard := none }) (v := ?vv9) rfl (by kernel_rfl) (by kernel_rfl) (by kernel_rfl) (fun _ _ _ h => h) (Or.inl ⟨by rfl, ?hy9⟩) (by assumption) ?rest9
      case hy9 => (intro w hSw; (try dsimp only at hSw); go_simp; all_goals with_reducible rfl)
      try simp only [Act.put, List.setIfInBounds_toArray, List.set_cons_zero, List.set_cons_succ]
      refine wpAnyH_take (i := 10) (oi := { dst := some 27, op := Op.binOp BinOp.neq 30 (Operand.tmp 21) (Operand.tmp 26) 30, type := 4, pos := "outright.go:34", after := #[{ on := 4, ground := Ground.data }, { on := 9, ground := Ground.data }], guard := none }) (v := ?vv10) rfl (by kernel_rfl) (by kernel_rfl) (by kernel_rfl) (fun _ _ _ h => h) (Or.inl ⟨by rfl, ?hy10⟩) (by assumption) ?rest10
      case hy10 => (intro w hSw; (try dsimp only at hSw); go_simp; all_goals with_reducible rfl)
      try simp only [Act.put, List.setIfInBounds_toArray, List.set_cons_zero, List.set_cons_succ]
      refine wpAnyH_take (i := 11) (oi := { dst := some 28, op := Op.move (Operand.tmp 27), type := 4, pos := "outright.go:34", after := #[{ on := 10, ground := Ground.data }], guard := none }) (v := ?vv11) rfl (by kernel_rfl) (by kernel_rfl) (by kernel_rfl) (fun _ _ _ h => h) (Or.inl ⟨by rfl, ?hy11⟩) (by assumption) ?rest11
      case hy11 => (intro w hSw; (try dsimp only at hSw); go_simp; all_goals with_reducible rfl)
      try simp only [Act.put, List.setIfInBounds_toArray, List.set_cons_zero, List.set_cons_succ]
      refine wpAnyH_take (i := 12) (oi := { dst := some 29, op := Op.move (Operand.tmp 0), type := 43, pos := "outright.go:34", after := #[{ on := 11, ground := Ground.guard }], guard := some (11, false) }) (v := ?vv12) rfl (by kernel_rfl) (by kernel_rfl) (by kernel_rfl) (fun _ _ _ h => h) (Or.inl ⟨by rfl, ?hy12⟩) (by assumption) ?rest12
      case hy12 => (intro w hSw; (try dsimp only at hSw); go_simp; all_goals with_reducible rfl)
      try simp only [Act.put, List.setIfInBounds_toArray, List.set_cons_zero, List.set_cons_succ]
      refine wpAnyH_take (i := 13) (oi := { dst := some 30, op := Op.move (Operand.tmp 5), type := 3, pos := "outright.go:34", after := #[{ on := 11, ground := Ground.guard }], guard := some (11, false) }) (v := ?vv13) rfl (by kernel_rfl) (by kernel_rfl) (by kernel_rfl) (fun _ _ _ h => h) (Or.inl ⟨by rfl, ?hy13⟩) (by assumption) ?rest13
      case hy13 => (intro w hSw; (try dsimp only at hSw); go_simp; all_goals with_reducible rfl)
      try simp only [Act.put, List.setIfInBounds_toArray, List.set_cons_zero, List.set_cons_succ]
      refine wpAnyH_take (i := 14) (oi := { dst := some 31, op := Op.indexAddr 43 (Operand.tmp 29) (Operand.tmp 30), type := 0, pos := "outright.go:34", after := #[{ on := 12, ground := Ground.data }, { on := 13, ground := Ground.data }, { on := 11, ground := Ground.guard }], guard := some (11, false) }) (v := ?vv14) rfl (by kernel_rfl) (by kernel_rfl) (by kernel_rfl) (fun _ _ _ h => h) (Or.inl ⟨by rfl, ?hy14⟩) (by assumption) ?rest14
      case hy14 => (intro w hSw; (try dsimp only at hSw); go_simp; all_goals with_reducible rfl)
      try simp only [Act.put, List.setIfInBounds_toArray, List.set_cons_zero, List.set_cons_succ]
      refine wpAnyH_take (i := 15) (oi := { dst := some 32, op := Op.fieldAddr 71 (Operand.tmp 31) 0, type := 0, pos := "outright.go:34", after := #[{ on := 14, ground := Ground.data }, { on := 11, ground := Ground.guard }], guard := some (11, false) }) (v := ?vv15) rfl (by kernel_rfl) (by kernel_rfl) (by kernel_rfl) (fun _ _ _ h => h) (Or.inl ⟨by rfl, ?hy15⟩) (by assumption) ?rest15
      case hy15 => (intro w hSw; (try dsimp only at hSw); go_simp; all_goals with_reducible rfl)
      try simp only [Act.put, List.setIfInBounds_toArray, List.set_cons_zero, List.set_cons_succ]
      refine wpAnyH_take (i := 16) (oi := { dst := some 33, op := Op.load 28 (Operand.tmp 32), type := 28, pos := "outright.go:34", after := #[{ on := 15, ground := Ground.data }, { on := 11, ground := Ground.guard }], guard := some (11, false) }) (v := ?vv16) rfl (by kernel_rfl) (by kernel_rfl) (by kernel_rfl) (fun _ _ _ h => h) (Or.inl ⟨by rfl, ?hy16⟩) (by assumption) ?rest16
      case hy16 => (intro w hSw; (try dsimp only at hSw); go_simp; all_goals with_reducible rfl)
      try simp only [Act.put, List.setIfInBounds_toArray, List.set_cons_zero, List.set_cons_succ]
      refine wpAnyH_take (i := 17) (oi := { dst := some 34, op := Op.move (Operand.tmp 1), type := 43, pos := "outright.go:34", after := #[{ on := 11, ground := Ground.guard }], guard := some (11, false) }) (v := ?vv17) rfl (by kernel_rfl) (by kernel_rfl) (by kernel_rfl) (fun _ _ _ h => h) (Or.inl ⟨by rfl, ?hy17⟩) (by assumption) ?rest17
      case hy17 => (intro w hSw; (try dsimp only at hSw); go_simp; all_goals with_reducible rfl)
      try simp only [Act.put, List.setIfInBounds_toArray, List.set_cons_zero, List.set_cons_succ]
      refine wpAnyH_take (i := 18) (oi := { dst := some 35, op := Op.move (Operand.tmp 5), type := 3, pos := "outright.go:34", after := #[{ on := 11, ground := Ground.guard }], guard := some (11, false) }) (v := ?vv18) rfl (by kernel_rfl) (by kernel_rfl) (by kernel_rfl) (fun _ _ _ h => h) (Or.inl ⟨by rfl, ?hy18⟩) (by assumption) ?rest18
      case hy18 => (intro w hSw; (try dsimp only at hSw); go_simp; all_goals with_reducible rfl)
      try simp only [Act.put, List.setIfInBounds_toArray, List.set_cons_zero, List.set_cons_succ]
      refine wpAnyH_take (i := 19) (oi := { dst := some 36, op := Op.indexAddr 43 (Operand.tmp 34) (Operand.tmp 35), type := 0, pos := "outright.go:34", after := #[{ on := 17, ground := Ground.data }, { on := 18, ground := Ground.data }, { on := 11, ground := Ground.guard }], guard := some (11, false) }) (v := ?vv19) rfl (by kernel_rfl) (by kernel_rfl) (by kernel_rfl) (fun _ _ _ h => h) (Or.inl ⟨by rfl, ?hy19⟩) (by assumption) ?rest19
      case hy19 => (intro w hSw; (try dsimp only at hSw); go_simp; all_goals with_reducible rfl)
      try simp only [Act.put, List.setIfInBounds_toArray, List.set_cons_zero, List.set_cons_succ]
      refine wpAnyH_take (i := 20) (oi := { dst := some 37, op := Op.fieldAddr 71 (Operand.tmp 36) 0, type := 0, pos := "outright.go:34", after := #[{ on := 19, ground := Ground.data }, { on := 11, ground := Ground.guard }], guard := some (11, false) }) (v := ?vv20) rfl (by kernel_rfl) (by kernel_rfl) (by kernel_rfl) (fun _ _ _ h => h) (Or.inl ⟨by rfl, ?hy20⟩) (by assumption) ?rest20
      case hy20 => (intro w hSw; (try dsimp only at hSw); go_simp; all_goals with_reducible rfl)
      try simp only [Act.put, List.setIfInBounds_toArray, List.set_cons_zero, List.set_cons_succ]
      refine wpAnyH_take (i := 21) (oi := { dst := some 38, op := Op.load 28 (Operand.tmp 37), type := 28, pos := "outright.go:34", after := #[{ on := 20, ground := Ground.data }, { on := 11, ground := Ground.guard }], guard := some (11, false) }) (v := ?vv21) rfl (by kernel_rfl) (by kernel_rfl) (by kernel_rfl) (fun _ _ _ h => h) (Or.inl ⟨by rfl, ?hy21⟩) (by assumption) ?rest21
      case hy21 => (intro w hSw; (try dsimp only at hSw); go_simp; all_goals with_reducible rfl)
      try simp only [Act.put, List.setIfInBounds_toArray, List.set_cons_zero, List.set_cons_succ]
      refine wpAnyH_ready (rs := [22]) (by kernel_rfl) (by simp) ?_
      refine AllReadyH.cons (o := { dst := some 39, op := Op.call { callee := Callee.value (Operand.func 19), args := #[Operand.tmp 33, Operand.tmp 38], argTypes := #[28, 28] }, type := 4, pos := "outright.go:34", after := #[{ on := 16, ground := Ground.data }, { on := 21, ground := Ground.data }, { on := 11, ground := Ground.chain }, { on := 11, ground := Ground.guard }], guard := some (11, false) }) rfl (fun K hK => ?_) AllReadyH.nil
      go_simp
      refine (HS.out _ hbd).mono ?_
      rintro e' w3 ⟨rfl, hb3⟩
      go_wp2_with fail
      refine hK.out _ _ (hfull.out _ hb3) (fun hHeld3 => ?_)
      clear hK K
      try simp only [Act.put, List.setIfInBounds_toArray, List.set_cons_zero, List.set_cons_succ]
      refine wpAnyH_take (i := 23) (oi := { dst := some 40, op := Op.unOp UnOp.not 4 (Operand.tmp 39), type := 4, pos := "outright.go:34", after := #[{ on := 22, ground := Ground.data }, { on := 11, ground := Ground.guard }], guard := some (11, false) }) (v := ?vv23) rfl (by kernel_rfl) (by kernel_rfl) (by kernel_rfl) (fun _ _ _ h => h) (Or.inl ⟨by rfl, ?hy23⟩) (by assumption) ?rest23
      case hy23 => (intro w hSw; (try dsimp only at hSw); go_simp; all_goals with_reducible rfl)
      try simp only [Act.put, List.setIfInBounds_toArray, List.set_cons_zero, List.set_cons_succ]
      refine wpAnyH_take (i := 24) (oi := { dst := some 41, op := Op.pick (Operand.tmp 28) (Operand.const (Value.bool true)) (Operand.tmp 40), type := 4, pos := "outright.go:34", after := #[{ on := 11, ground := Ground.data }, { on := 23, ground := Ground.data }], guard := none }) (v := ?vv24) rfl (by kernel_rfl) (by kernel_rfl) (by kernel_rfl) (fun _ _ _ h => h) (Or.inl ⟨by rfl, ?hy24⟩) (by assumption) ?rest24
      case hy24 => (intro w hSw; (try dsimp only at hSw); go_simp; all_goals with_reducible rfl)
      try simp only [Act.put, List.setIfInBounds_toArray, List.set_cons_zero, List.set_cons_succ]
      refine wpAnyH_done (by kernel_rfl) ?_ _
      go_wp2_with fail
      go_roundw
      case rel => exact ⟨k + 1, by omega, by simp, hb3⟩
      case measure => simp [intOf]; omega
    · obtain rfl : k = n := by omega
      go_wp2_with fail
      go_ret
      exact ⟨rfl, hb.out⟩
end Go.Proofs.YtmhbaaemihljjaaDoor
