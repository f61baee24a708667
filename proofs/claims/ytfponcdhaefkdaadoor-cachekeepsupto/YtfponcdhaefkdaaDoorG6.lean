/- The law's claims. -/
import Derived.Test.YtfponcdhaefkdaaDoorGa
namespace Go.Proofs.YtfponcdhaefkdaaDoor
open Go.RowKit
set_option linter.unusedVariables false
set_option linter.unusedSimpArgs false
set_option maxHeartbeats 40000000 in
set_option maxRecDepth 100000 in
theorem claims_any (w0 W : World) (b g : Nat) (c : Ca) (y : SV) (L : List En) (z : SV) (B : List Kn) (h : Ci w0 W b g c y L z B c.ck) (o : Os) (ho : Oi w0 o) :
    Calls Tryd.prog 20 #[.pointer (some ⟨b, 0, none⟩), .agg (opv o)] W fun e W' => e = .returned (.bool true) ∧ ∃ (y' : SV) (L' : List En) (z' : SV) (B' : List Kn), Ci w0 W' b g (hr c o.tk) y' L' z' B' (hr c o.tk).ck ∧ (∀ x ∈ B', x ∈ B) ∧ B'.Sublist B := by
  obtain ⟨W1, hW1⟩ : ∃ V, W.alloc (.cells (opv o) 60) = V := ⟨_, rfl⟩
  obtain ⟨o0, ho0⟩ : ∃ k, W.heap.size = k := ⟨_, rfl⟩
  have hb1 : Below W.heap.size W W1 := by rw [← hW1]; exact bel1 _ _
  have hC1 : Cl w0 W1 b g c y L z B c.ck o0 o := ⟨h.below hb1, ⟨by rw [← hW1, ← ho0, heap_al, if_pos rfl], by decide⟩⟩
  obtain ⟨n1, hn1⟩ : ∃ n, max c.ck o.tk = n := ⟨_, rfl⟩
  have HC1 : Hid (Cl w0 W1 b g c y L z B c.ck o0 o) := hC1
  have HB64 : Hid (B.length ≤ 64) := by have := h.cx.ok.len; have := h.cx.ok.me; have := h.rl.len; show _ ≤ _; omega
  have hn1' : (hr c o.tk).ck = n1 := hn1
  have HN1 : Hid ((hr c o.tk).ck = n1 ∧ n1 ≤ 9223372036854775807) := ⟨hn1', by have := h.cx.ok.ck; have := ho.tk; omega⟩
  have HOi : Hid (Oi w0 o) := ho
  rw [hn1']
  obtain ⟨⟨x0, x1, x2, x3, x4, x5, x6, x7, x8, x9, x10, x11, x12⟩, e6, f6⟩ : Cells60 W1 o0 o ∧ W1.cell? ⟨b, 6, none⟩ = some (.int .i64 c.ck) ∧ W1.frozen? ⟨b, 6, none⟩ = false := ⟨cells60 hC1.bx.blk, hC1.ci.bk.cells.2.2.2.2.2.2.1, hC1.ci.bk.cells.2.2.2.2.2.2.2 6⟩
  have lb := heap_lt hC1.ci.bk.blk
  have HC2 : Hid (∀ n, Cl w0 ((W1.drewN n).setCell ⟨b, 6, none⟩ (.int .i64 n1)) b g c y L z B n1 o0 o) := fun n => (hC1.below (below_drewN (Below.refl _ _) n)).setNow n1
  clear h ho hb1 hC1 hn1'
  obtain ⟨kd, tw, ⟨m, s, a, p, ⟨y1, y2, y3⟩, qb⟩, rn, ⟨r1, r2, r3⟩, rb, st, tk, Q, fr⟩ := o
  simp only [sv, opv] at hW1 x0 x1 x2 x3 x4 x5 x6 x7 x8 x9 x10 x11 x12 hn1 HC1 HC2 HOi HN1 ⊢
  go_enter Tryd.func20, Tryd.ntmps20
  go_upto_region 1 with fail
  try rw [hW1]
  try rw [ho0]
  clear hW1 ho0
  go_region
  all_goals
    go_upto_region 2 with fail
    obtain ⟨W2, hW2⟩ : ∃ V, (W1.setCell ⟨b, 6, none⟩ (.int .i64 n1)).drew = V := ⟨_, rfl⟩
    have HC3 : Hid (Cl w0 W2 b g c y L z B n1 o0 (⟨kd, tw, ⟨m, s, a, p, (y1, y2, y3), qb⟩, rn, (r1, r2, r3), rb, st, tk, Q, fr⟩ : Os)) := by rw [← hW2]; exact (HC1.out.setNow n1).below (Below.refl _ _).drew
    rw [hW2]
    clear hW2 HC2 HC1 x0 x1 x2 x3 x4 x5 x6 x7 x8 x9 x10 x11 x12 e6 f6 lb hn1
    have lb := heap_lt HC3.out.ci.bk.blk
    obtain ⟨z1, z2, z3⟩ := z
    obtain ⟨N, hN⟩ : ∃ N, B.length = N := ⟨_, rfl⟩
    have HNl : Hid (B.length = N) := hN
    obtain ⟨mz1, mz2, mz3⟩ := slice_len (show In EK W2 (.slice z1 z2 z3) B from HC3.out.ci.bk.row.isIn)
    rw [hN] at mz1 mz2
    subst mz1
    clear hN
    have HAr : Hid (∀ k ∈ B, 0 ≤ k.ar ∧ k.ar ≤ n1) := fun k hk => by
      have h1 := HC3.out.ci.rl.ar HC3.out.ci.cx.ok k hk
      have h2 : c.ck ≤ (hr c tk).ck := Int.le_max_left _ _
      rw [HN1.out.1] at h2
      exact ⟨h1.1, by omega⟩
    go_upto_region 3 with fail
    go_upto_region 4 with fail
    go_loopw [5, 6] (fun wv iv wr => ∃ (i : Nat) (k : Option Nat), wv = .int .i64 (oI k) ∧ iv = .int .i64 (i : Int) ∧ i ≤ z2 ∧ Hid (Cl w0 wr b g c y L (z1, z2, z3) B n1 o0 (⟨kd, tw, ⟨m, s, a, p, (y1, y2, y3), qb⟩, rn, (r1, r2, r3), rb, st, tk, Q, fr⟩ : Os) ∧ Fi' B (anK n1 c.lf (⟨m, s, a, p, (y1, y2, y3), qb⟩ : Rq) Q) i k)) (fun _ iv _ => z2 - (intOf iv).toNat)
    case atStart => exact ⟨0, none, rfl, rfl, by omega, HC3.out, ⟨fun _ => ⟨by omega, fun j _ h => by omega⟩, fun m' hm' => by cases hm'⟩⟩
    case round =>
      clear HC3 lb
      obtain ⟨i, k, rfl, rfl, hi, hJ⟩ := hrel
      have lb := heap_lt hJ.out.1.ci.bk.blk
      obtain ⟨c0, c1, c2, c3, c4, c5, c6, cf⟩ := hJ.out.1.ci.bk.cells
      simp only [sv] at c5
      clear c0 c1 c2 c3 c4 c6 cf
      cases k with
      | none =>
        simp only [oI]
        by_cases hlt : i < z2
        · have hiB : i < B.length := by rw [HNl.out]; exact hlt
          have l1 : (i : Int) < (z2 : Int) := by omega
          obtain ⟨Bj, off, cap, e, hc⟩ := hJ.out.1.ci.bk.row.isIn.kn i hiB
          simp only [sv] at e
          rw [HNl.out] at e
          injection e with e1 e2 e3
          clear e2
          subst e1 e3
          obtain ⟨x, hx⟩ : ∃ x, B[i] = x := ⟨_, rfl⟩
          have hxm : x ∈ B := by rw [← hx]; exact List.getElem_mem _
          have hkz : Kz x := by have h1 := hJ.out.1.ci.rl.len; have := (hJ.out.1.ci.rl.re i (by omega) hiB).kz; rw [hx] at this; exact this
          obtain ⟨A6, hA6⟩ : ∃ A, anK n1 c.lf (⟨m, s, a, p, (y1, y2, y3), qb⟩ : Rq) Q x = A := ⟨_, rfl⟩
          have HA : Hid (anK n1 c.lf (⟨m, s, a, p, (y1, y2, y3), qb⟩ : Rq) Q (B[i]) = A6) := by show _ = _; rw [hx]; exact hA6
          have HA6 : Hid (∀ V, Below wr.heap.size wr V → Calls Tryd.prog 45 #[.agg (knv x), .agg (rqv (⟨m, s, a, p, (y1, y2, y3), qb⟩ : Rq)), .int .i64 n1, .int .i64 c.lf] V fun e w' => e = .returned (.bool A6) ∧ Below V.heap.size V w') := fun V hV => by
            have hCV := hJ.out.1.below hV
            have := answers_any x (⟨m, s, a, p, (y1, y2, y3), qb⟩ : Rq) Q n1 c.lf V (hCV.ci.bk.fl x hxm).1.isIn (hCV.ci.bk.fl x hxm).2.isIn (HOi.out.iq.below hCV.ci.bel) hkz HOi.out.az.zQ ⟨(HAr.out x hxm).1, (HAr.out x hxm).2, HN1.out.2⟩
            rw [hA6] at this
            exact this
          rw [hx] at hc
          have HXc : Hid (∀ V, Below wr.heap.size wr V → Cells11 V Bj (off + i * 11) x) := hc
          obtain ⟨N, hN⟩ : ∃ N, z2 = N := ⟨_, rfl⟩
          subst hN
          clear hx hxm hkz hA6 hc
          obtain ⟨kst, kar, ⟨km, ks, ka, kp, ⟨ky1, ky2, ky3⟩, kb⟩, krn, ⟨kr1, kr2, kr3⟩, krb, kfq, kfr⟩ := x
          simp only [sv, knv, rqv] at HA6 HXc
          go_upto_region 6 with fail
          have hS6 : Hid (∀ V, Below wr.heap.size wr V → V.cell? ⟨b, 5, none⟩ = some (.slice (some ⟨Bj, off, none⟩) z2 z3) ∧ V.cell? ⟨b, 6, none⟩ = some (.int .i64 n1) ∧ V.cell? ⟨b, 3, none⟩ = some (.int .i64 c.lf) ∧ V.cell? ⟨o0, 2, none⟩ = some (.string m) ∧ V.cell? ⟨o0, 3, none⟩ = some (.string s) ∧ V.cell? ⟨o0, 4, none⟩ = some (.string a) ∧ V.cell? ⟨o0, 5, none⟩ = some (.string p) ∧ V.cell? ⟨o0, 6, none⟩ = some (.slice y1 y2 y3) ∧ V.cell? ⟨o0, 7, none⟩ = some (.string qb) ∧ V.cell? ⟨Bj, off + i * 11, none⟩ = some (.int .i64 kst) ∧ V.cell? ⟨Bj, off + i * 11 + 1, none⟩ = some (.int .i64 kar) ∧ V.cell? ⟨Bj, off + i * 11 + 2, none⟩ = some (.string km) ∧ V.cell? ⟨Bj, off + i * 11 + 3, none⟩ = some (.string ks) ∧ V.cell? ⟨Bj, off + i * 11 + 4, none⟩ = some (.string ka) ∧ V.cell? ⟨Bj, off + i * 11 + 5, none⟩ = some (.string kp) ∧ V.cell? ⟨Bj, off + i * 11 + 6, none⟩ = some (.slice ky1 ky2 ky3) ∧ V.cell? ⟨Bj, off + i * 11 + 7, none⟩ = some (.string kb) ∧ V.cell? ⟨Bj, off + i * 11 + 8, none⟩ = some (.int .i64 krn) ∧ V.cell? ⟨Bj, off + i * 11 + 9, none⟩ = some (.slice kr1 kr2 kr3) ∧ V.cell? ⟨Bj, off + i * 11 + 10, none⟩ = some (.string krb)) := fun V hV => by
            have hCV := hJ.out.1.below hV
            have h1 := hCV.ci.bk.cells
            have h2 := cells60 hCV.bx.blk
            have h3 := HXc.out V hV
            exact ⟨h1.2.2.2.2.2.1, h1.2.2.2.2.2.2.1, h1.2.2.2.1, h2.2.2.1, h2.2.2.2.1, h2.2.2.2.2.1, h2.2.2.2.2.2.1, h2.2.2.2.2.2.2.1, h2.2.2.2.2.2.2.2.1, h3.1, h3.2.1, h3.2.2.1, h3.2.2.2.1, h3.2.2.2.2.1, h3.2.2.2.2.2.1, h3.2.2.2.2.2.2.1, h3.2.2.2.2.2.2.2.1, h3.2.2.2.2.2.2.2.2.1, h3.2.2.2.2.2.2.2.2.2.1, h3.2.2.2.2.2.2.2.2.2.2⟩
          clear HXc c5
          have hIW : Below wr.heap.size wr wr.drew := (Below.refl _ _).drew
          refine wp_region_held_drew (S := (fun V => V.cell? ⟨b, 5, none⟩ = some (.slice (some ⟨Bj, off, none⟩) z2 z3) ∧ V.cell? ⟨b, 6, none⟩ = some (.int .i64 n1) ∧ V.cell? ⟨b, 3, none⟩ = some (.int .i64 c.lf) ∧ V.cell? ⟨o0, 2, none⟩ = some (.string m) ∧ V.cell? ⟨o0, 3, none⟩ = some (.string s) ∧ V.cell? ⟨o0, 4, none⟩ = some (.string a) ∧ V.cell? ⟨o0, 5, none⟩ = some (.string p) ∧ V.cell? ⟨o0, 6, none⟩ = some (.slice y1 y2 y3) ∧ V.cell? ⟨o0, 7, none⟩ = some (.string qb) ∧ V.cell? ⟨Bj, off + i * 11, none⟩ = some (.int .i64 kst) ∧ V.cell? ⟨Bj, off + i * 11 + 1, none⟩ = some (.int .i64 kar) ∧ V.cell? ⟨Bj, off + i * 11 + 2, none⟩ = some (.string km) ∧ V.cell? ⟨Bj, off + i * 11 + 3, none⟩ = some (.string ks) ∧ V.cell? ⟨Bj, off + i * 11 + 4, none⟩ = some (.string ka) ∧ V.cell? ⟨Bj, off + i * 11 + 5, none⟩ = some (.string kp) ∧ V.cell? ⟨Bj, off + i * 11 + 6, none⟩ = some (.slice ky1 ky2 ky3) ∧ V.cell? ⟨Bj, off + i * 11 + 7, none⟩ = some (.string kb) ∧ V.cell? ⟨Bj, off + i * 11 + 8, none⟩ = some (.int .i64 krn) ∧ V.cell? ⟨Bj, off + i * 11 + 9, none⟩ = some (.slice kr1 kr2 kr3) ∧ V.cell? ⟨Bj, off + i * 11 + 10, none⟩ = some (.string krb))) (by kernel_rfl) (hS6.out _ hIW) (fun hHeld => ?_)
          generalize hWg : World.drew _ = W6 at hIW hHeld ⊢
          clear hWg
          refine wpAnyH_take (i := 0) (oi := { dst := some 34, op := Op.move (Operand.tmp 0), type := 55, pos := "outright.go:132", after := #[], guard := none }) (v := ?vv1) rfl (by kernel_rfl) (by kernel_rfl) (by kernel_rfl) (fun _ _ _ h => h) (Or.inl ⟨by rfl, ?hy1⟩) (by assumption) ?_
          case hy1 => (intro w hSw; (try dsimp only at hSw); go_simp; all_goals with_reducible rfl)
          try simp only [Act.put, List.setIfInBounds_toArray, List.set_cons_zero, List.set_cons_succ]
          refine wpAnyH_take (i := 1) (oi := { dst := some 35, op := Op.nilCheck (Operand.tmp 34), type := 0, pos := "outright.go:132", after := #[{ on := 0, ground := Ground.data }], guard := none }) (v := ?vv2) rfl (by kernel_rfl) (by kernel_rfl) (by kernel_rfl) (fun _ _ _ h => h) (Or.inl ⟨by rfl, ?hy2⟩) (by assumption) ?_
          case hy2 => (intro w hSw; (try dsimp only at hSw); go_simp; all_goals with_reducible rfl)
          try simp only [Act.put, List.setIfInBounds_toArray, List.set_cons_zero, List.set_cons_succ]
          refine wpAnyH_take (i := 2) (oi := { dst := some 36, op := Op.fieldAddr 58 (Operand.tmp 35) 2, type := 0, pos := "outright.go:132", after := #[{ on := 1, ground := Ground.data }], guard := none }) (v := ?vv3) rfl (by kernel_rfl) (by kernel_rfl) (by kernel_rfl) (fun _ _ _ h => h) (Or.inl ⟨by rfl, ?hy3⟩) (by assumption) ?_
          case hy3 => (intro w hSw; (try dsimp only at hSw); go_simp; all_goals with_reducible rfl)
          try simp only [Act.put, List.setIfInBounds_toArray, List.set_cons_zero, List.set_cons_succ]
          refine wpAnyH_take (i := 3) (oi := { dst := some 37, op := Op.load 56 (Operand.tmp 36), type := 56, pos := "outright.go:132", after := #[{ on := 2, ground := Ground.data }], guard := none }) (v := ?vv4) rfl (by kernel_rfl) (by kernel_rfl) (by kernel_rfl) (fun _ _ _ h => h) (Or.inl ⟨by rfl, ?hy4⟩) (by assumption) ?_
          case hy4 => (intro w hSw; (try dsimp only at hSw); go_simp; all_goals with_reducible rfl)
          try simp only [Act.put, List.setIfInBounds_toArray, List.set_cons_zero, List.set_cons_succ]
          refine wpAnyH_take (i := 4) (oi := { dst := some 38, op := Op.move (Operand.tmp 6), type := 3, pos := "outright.go:132", after := #[], guard := none }) (v := ?vv5) rfl (by kernel_rfl) (by kernel_rfl) (by kernel_rfl) (fun _ _ _ h => h) (Or.inl ⟨by rfl, ?hy5⟩) (by assumption) ?_
          case hy5 => (intro w hSw; (try dsimp only at hSw); go_simp; all_goals with_reducible rfl)
          try simp only [Act.put, List.setIfInBounds_toArray, List.set_cons_zero, List.set_cons_succ]
          refine wpAnyH_take (i := 5) (oi := { dst := some 39, op := Op.indexAddr 56 (Operand.tmp 37) (Operand.tmp 38), type := 0, pos := "outright.go:132", after := #[{ on := 3, ground := Ground.data }, { on := 4, ground := Ground.data }], guard := none }) (v := ?vv6) rfl (by kernel_rfl) (by kernel_rfl) (by kernel_rfl) (fun _ _ _ h => h) (Or.inl ⟨by rfl, ?hy6⟩) (by assumption) ?_
          case hy6 => (intro w hSw; (try dsimp only at hSw); go_simp; all_goals with_reducible rfl)
          try simp only [Act.put, List.setIfInBounds_toArray, List.set_cons_zero, List.set_cons_succ]
          refine wpAnyH_take (i := 6) (oi := { dst := some 40, op := Op.load 95 (Operand.tmp 39), type := 95, pos := "outright.go:132", after := #[{ on := 5, ground := Ground.data }], guard := none }) (v := ?vv7) rfl (by kernel_rfl) (by kernel_rfl) (by kernel_rfl) (fun _ _ _ h => h) (Or.inl ⟨by rfl, ?hy7⟩) (by assumption) ?_
          case hy7 => (intro w hSw; (try dsimp only at hSw); go_simp; all_goals with_reducible rfl)
          try simp only [Act.put, List.setIfInBounds_toArray, List.set_cons_zero, List.set_cons_succ]
          refine wpAnyH_take (i := 7) (oi := { dst := some 41, op := Op.fieldAddr 60 (Operand.tmp 3) 2, type := 0, pos := "outright.go:132", after := #[], guard := none }) (v := ?vv8) rfl (by kernel_rfl) (by kernel_rfl) (by kernel_rfl) (fun _ _ _ h => h) (Or.inl ⟨by rfl, ?hy8⟩) (by assumption) ?_
          case hy8 => (intro w hSw; (try dsimp only at hSw); go_simp; all_goals with_reducible rfl)
          try simp only [Act.put, List.setIfInBounds_toArray, List.set_cons_zero, List.set_cons_succ]
          refine wpAnyH_take (i := 8) (oi := { dst := some 42, op := Op.load 24 (Operand.tmp 41), type := 24, pos := "outright.go:132", after := #[{ on := 7, ground := Ground.data }], guard := none }) (v := ?vv9) rfl (by kernel_rfl) (by kernel_rfl) (by kernel_rfl) (fun _ _ _ h => h) (Or.inl ⟨by rfl, ?hy9⟩) (by assumption) ?_
          case hy9 => (intro w hSw; (try dsimp only at hSw); go_simp; all_goals with_reducible rfl)
          try simp only [Act.put, List.setIfInBounds_toArray, List.set_cons_zero, List.set_cons_succ]
          refine wpAnyH_take (i := 9) (oi := { dst := some 43, op := Op.move (Operand.tmp 0), type := 55, pos := "outright.go:132", after := #[], guard := none }) (v := ?vv10) rfl (by kernel_rfl) (by kernel_rfl) (by kernel_rfl) (fun _ _ _ h => h) (Or.inl ⟨by rfl, ?hy10⟩) (by assumption) ?_
          case hy10 => (intro w hSw; (try dsimp only at hSw); go_simp; all_goals with_reducible rfl)
          try simp only [Act.put, List.setIfInBounds_toArray, List.set_cons_zero, List.set_cons_succ]
          refine wpAnyH_take (i := 10) (oi := { dst := some 44, op := Op.nilCheck (Operand.tmp 43), type := 0, pos := "outright.go:132", after := #[{ on := 9, ground := Ground.data }], guard := none }) (v := ?vv11) rfl (by kernel_rfl) (by kernel_rfl) (by kernel_rfl) (fun _ _ _ h => h) (Or.inl ⟨by rfl, ?hy11⟩) (by assumption) ?_
          case hy11 => (intro w hSw; (try dsimp only at hSw); go_simp; all_goals with_reducible rfl)
          try simp only [Act.put, List.setIfInBounds_toArray, List.set_cons_zero, List.set_cons_succ]
          refine wpAnyH_take (i := 11) (oi := { dst := some 45, op := Op.fieldAddr 58 (Operand.tmp 44) 3, type := 0, pos := "outright.go:132", after := #[{ on := 10, ground := Ground.data }], guard := none }) (v := ?vv12) rfl (by kernel_rfl) (by kernel_rfl) (by kernel_rfl) (fun _ _ _ h => h) (Or.inl ⟨by rfl, ?hy12⟩) (by assumption) ?_
          case hy12 => (intro w hSw; (try dsimp only at hSw); go_simp; all_goals with_reducible rfl)
          try simp only [Act.put, List.setIfInBounds_toArray, List.set_cons_zero, List.set_cons_succ]
          refine wpAnyH_take (i := 12) (oi := { dst := some 46, op := Op.load 2 (Operand.tmp 45), type := 2, pos := "outright.go:132", after := #[{ on := 11, ground := Ground.data }], guard := none }) (v := ?vv13) rfl (by kernel_rfl) (by kernel_rfl) (by kernel_rfl) (fun _ _ _ h => h) (Or.inl ⟨by rfl, ?hy13⟩) (by assumption) ?_
          case hy13 => (intro w hSw; (try dsimp only at hSw); go_simp; all_goals with_reducible rfl)
          try simp only [Act.put, List.setIfInBounds_toArray, List.set_cons_zero, List.set_cons_succ]
          refine wpAnyH_take (i := 13) (oi := { dst := some 47, op := Op.move (Operand.tmp 0), type := 55, pos := "outright.go:132", after := #[], guard := none }) (v := ?vv14) rfl (by kernel_rfl) (by kernel_rfl) (by kernel_rfl) (fun _ _ _ h => h) (Or.inl ⟨by rfl, ?hy14⟩) (by assumption) ?_
          case hy14 => (intro w hSw; (try dsimp only at hSw); go_simp; all_goals with_reducible rfl)
          try simp only [Act.put, List.setIfInBounds_toArray, List.set_cons_zero, List.set_cons_succ]
          refine wpAnyH_take (i := 14) (oi := { dst := some 48, op := Op.nilCheck (Operand.tmp 47), type := 0, pos := "outright.go:132", after := #[{ on := 13, ground := Ground.data }], guard := none }) (v := ?vv15) rfl (by kernel_rfl) (by kernel_rfl) (by kernel_rfl) (fun _ _ _ h => h) (Or.inl ⟨by rfl, ?hy15⟩) (by assumption) ?_
          case hy15 => (intro w hSw; (try dsimp only at hSw); go_simp; all_goals with_reducible rfl)
          try simp only [Act.put, List.setIfInBounds_toArray, List.set_cons_zero, List.set_cons_succ]
          refine wpAnyH_take (i := 15) (oi := { dst := some 49, op := Op.fieldAddr 58 (Operand.tmp 48) 1, type := 0, pos := "outright.go:132", after := #[{ on := 14, ground := Ground.data }], guard := none }) (v := ?vv16) rfl (by kernel_rfl) (by kernel_rfl) (by kernel_rfl) (fun _ _ _ h => h) (Or.inl ⟨by rfl, ?hy16⟩) (by assumption) ?_
          case hy16 => (intro w hSw; (try dsimp only at hSw); go_simp; all_goals with_reducible rfl)
          try simp only [Act.put, List.setIfInBounds_toArray, List.set_cons_zero, List.set_cons_succ]
          refine wpAnyH_take (i := 16) (oi := { dst := some 50, op := Op.fieldAddr 36 (Operand.tmp 49) 2, type := 0, pos := "outright.go:132", after := #[{ on := 15, ground := Ground.data }], guard := none }) (v := ?vv17) rfl (by kernel_rfl) (by kernel_rfl) (by kernel_rfl) (fun _ _ _ h => h) (Or.inl ⟨by rfl, ?hy17⟩) (by assumption) ?_
          case hy17 => (intro w hSw; (try dsimp only at hSw); go_simp; all_goals with_reducible rfl)
          try simp only [Act.put, List.setIfInBounds_toArray, List.set_cons_zero, List.set_cons_succ]
          refine wpAnyH_take (i := 17) (oi := { dst := some 51, op := Op.load 2 (Operand.tmp 50), type := 2, pos := "outright.go:132", after := #[{ on := 16, ground := Ground.data }], guard := none }) (v := ?vv18) rfl (by kernel_rfl) (by kernel_rfl) (by kernel_rfl) (fun _ _ _ h => h) (Or.inl ⟨by rfl, ?hy18⟩) (by assumption) ?_
          case hy18 => (intro w hSw; (try dsimp only at hSw); go_simp; all_goals with_reducible rfl)
          try simp only [Act.put, List.setIfInBounds_toArray, List.set_cons_zero, List.set_cons_succ]
          refine wpAnyH_ready (rs := [18]) (by kernel_rfl) (by simp) ?_
          refine AllReadyH.cons (o := { dst := some 52, op := Op.call { callee := Callee.value (Operand.func 45), args := #[Operand.tmp 40, Operand.tmp 42, Operand.tmp 46, Operand.tmp 51], argTypes := #[95, 24, 2, 2] }, type := 4, pos := "outright.go:132", after := #[{ on := 6, ground := Ground.data }, { on := 8, ground := Ground.data }, { on := 12, ground := Ground.data }, { on := 17, ground := Ground.data }], guard := none }) rfl (fun K hK => ?_) AllReadyH.nil
          go_simp
          refine (HA6.out _ hIW).mono ?_
          rintro e' W6x ⟨rfl, bX⟩
          have hW6x : Below wr.heap.size wr W6x := hIW.trans (bX.mono hIW.size)
          clear bX
          go_wp2_with fail
          refine hK.out _ _ (hS6.out _ hW6x) (fun hHeld => ?_)
          clear hK K
          try simp only [Act.put, List.setIfInBounds_toArray, List.set_cons_zero, List.set_cons_succ]
          refine wpAnyH_done (by kernel_rfl) ?_ _
          have HC6 : Hid (Cl w0 W6x b g c y L (some ⟨Bj, off, none⟩, z2, z3) B n1 o0 (⟨kd, tw, ⟨m, s, a, p, (y1, y2, y3), qb⟩, rn, (r1, r2, r3), rb, st, tk, Q, fr⟩ : Os)) := hJ.out.1.below hW6x
          cases A6
          · have HF6 : Hid (Fi' B (anK n1 c.lf (⟨m, s, a, p, (y1, y2, y3), qb⟩ : Rq) Q) (i + 1) none) := hJ.out.2.no1 (by have := HNl.out; omega) HA.out
            clear hJ HA HA6 hS6 hHeld
            go_wp2_with fail
            go_roundw
            case rel => exact ⟨i + 1, none, rfl, by first | rfl | simp, by omega, HC6.out, HF6.out⟩
            case measure => simp [intOf]; omega
          · have HF6 : Hid (Fi' B (anK n1 c.lf (⟨m, s, a, p, (y1, y2, y3), qb⟩ : Rq) Q) (i + 1) (some i)) := hJ.out.2.yes1 (by have := HNl.out; omega) HA.out
            clear hJ HA HA6 hS6 hHeld
            go_wp2_with fail
            go_roundw
            case rel => exact ⟨i + 1, some i, rfl, by first | rfl | simp, by omega, HC6.out, HF6.out⟩
            case measure => simp [intOf]; omega
        · have l1 : ¬ (i : Int) < (z2 : Int) := by omega
          have HK : Hid (B.findIdx? (anK n1 c.lf (⟨m, s, a, p, (y1, y2, y3), qb⟩ : Rq) Q) = none) := hJ.out.2.find fun _ => by rw [HNl.out]; omega
          have HC7 : Hid (Cl w0 wr b g c y L (z1, z2, z3) B n1 o0 (⟨kd, tw, ⟨m, s, a, p, (y1, y2, y3), qb⟩, rn, (r1, r2, r3), rb, st, tk, Q, fr⟩ : Os)) := hJ.out.1
          clear hJ
          go_upto_region 8 with fail
          have HH8 : Hid (∀ V, Below wr.heap.size wr V → Calls Tryd.prog 14 #[.pointer (some ⟨g, 0, none⟩), .agg #[.string m, .string s, .string a, .string p, .slice y1 y2 y3, .string qb], .int .i64 tk] V fun r w' => r = .returned (.bool false) ∧ Cl w0 w' b g (hr c tk) y L (z1, z2, z3) B n1 o0 (⟨kd, tw, ⟨m, s, a, p, (y1, y2, y3), qb⟩, rn, (r1, r2, r3), rb, st, tk, Q, fr⟩ : Os)) := fun V hV =>
            (HC7.out.below hV).holds HOi.out none (by show B.findIdx? (anK (hr c tk).ck c.lf (⟨m, s, a, p, (y1, y2, y3), qb⟩ : Rq) Q) = _; rw [HN1.out.1]; exact HK.out)
          have HL9 : Hid (∀ V, Cl w0 V b g (hr c tk) y L (z1, z2, z3) B n1 o0 (⟨kd, tw, ⟨m, s, a, p, (y1, y2, y3), qb⟩, rn, (r1, r2, r3), rb, st, tk, Q, fr⟩ : Os) → Calls Tryd.prog 13 #[.pointer (some ⟨g, 0, none⟩), .agg #[.string m, .string s, .string a, .string p, .slice y1 y2 y3, .string qb], .int .i64 tk] V fun r w' => cmP w0 V w' b g (hr c tk) y L (z1, z2, z3) B n1 o0 (⟨kd, tw, ⟨m, s, a, p, (y1, y2, y3), qb⟩, rn, (r1, r2, r3), rb, st, tk, Q, fr⟩ : Os) r none) := fun V hV =>
            hV.claim HOi.out none (by show B.findIdx? (anK (hr c tk).ck c.lf (⟨m, s, a, p, (y1, y2, y3), qb⟩ : Rq) Q) = _; rw [HN1.out.1]; exact HK.out)
          have HCS : Hid (∀ (V : World) (cc : Ca) (yy : SV) (LL : List En), Cj w0 V b g cc yy LL (z1, z2, z3) B n1 o0 (⟨kd, tw, ⟨m, s, a, p, (y1, y2, y3), qb⟩, rn, (r1, r2, r3), rb, st, tk, Q, fr⟩ : Os) → V.cell? ⟨b, 0, none⟩ = some (.pointer (some ⟨g, 0, none⟩)) ∧ V.cell? ⟨o0, 12, none⟩ = some (.int .i64 tk) ∧ V.cell? ⟨o0, 2, none⟩ = some (.string m) ∧ V.cell? ⟨o0, 3, none⟩ = some (.string s) ∧ V.cell? ⟨o0, 4, none⟩ = some (.string a) ∧ V.cell? ⟨o0, 5, none⟩ = some (.string p) ∧ V.cell? ⟨o0, 6, none⟩ = some (.slice y1 y2 y3) ∧ V.cell? ⟨o0, 7, none⟩ = some (.string qb)) := fun V cc yy LL hV => by
            have h1 := hV.bk.cells
            have h2 := cells60 hV.bx.blk
            exact ⟨h1.1, h2.2.2.2.2.2.2.2.2.2.2.2.2, h2.2.2.1, h2.2.2.2.1, h2.2.2.2.2.1, h2.2.2.2.2.2.1, h2.2.2.2.2.2.2.1, h2.2.2.2.2.2.2.2.1⟩
          have hS8 : Hid (∀ V, Below wr.heap.size wr V → V.cell? ⟨b, 0, none⟩ = some (.pointer (some ⟨g, 0, none⟩)) ∧ V.cell? ⟨o0, 12, none⟩ = some (.int .i64 tk) ∧ V.cell? ⟨o0, 2, none⟩ = some (.string m) ∧ V.cell? ⟨o0, 3, none⟩ = some (.string s) ∧ V.cell? ⟨o0, 4, none⟩ = some (.string a) ∧ V.cell? ⟨o0, 5, none⟩ = some (.string p) ∧ V.cell? ⟨o0, 6, none⟩ = some (.slice y1 y2 y3) ∧ V.cell? ⟨o0, 7, none⟩ = some (.string qb)) := fun V hV => HCS.out V _ _ _ (HC7.out.below hV).cm
          clear c5
          have hIW : Below wr.heap.size wr wr.drew := (Below.refl _ _).drew
          refine wp_region_held_drew (S := (fun V => V.cell? ⟨b, 0, none⟩ = some (.pointer (some ⟨g, 0, none⟩)) ∧ V.cell? ⟨o0, 12, none⟩ = some (.int .i64 tk) ∧ V.cell? ⟨o0, 2, none⟩ = some (.string m) ∧ V.cell? ⟨o0, 3, none⟩ = some (.string s) ∧ V.cell? ⟨o0, 4, none⟩ = some (.string a) ∧ V.cell? ⟨o0, 5, none⟩ = some (.string p) ∧ V.cell? ⟨o0, 6, none⟩ = some (.slice y1 y2 y3) ∧ V.cell? ⟨o0, 7, none⟩ = some (.string qb))) (by kernel_rfl) (hS8.out _ hIW) (fun hHeld => ?_)
          generalize hWg : World.drew _ = W8 at hIW hHeld ⊢
          clear hWg HC7 HK
          refine wpAnyH_take (i := 0) (oi := { dst := some 54, op := Op.move (Operand.tmp 0), type := 55, pos := "outright.go:136", after := #[], guard := none }) (v := ?vv39) rfl (by kernel_rfl) (by kernel_rfl) (by kernel_rfl) (fun _ _ _ h => h) (Or.inl ⟨by rfl, ?hy39⟩) (by assumption) ?_
          case hy39 => (intro w hSw; (try dsimp only at hSw); go_simp; all_goals with_reducible rfl)
          try simp only [Act.put, List.setIfInBounds_toArray, List.set_cons_zero, List.set_cons_succ]
          refine wpAnyH_take (i := 1) (oi := { dst := some 55, op := Op.nilCheck (Operand.tmp 54), type := 0, pos := "outright.go:136", after := #[{ on := 0, ground := Ground.data }], guard := none }) (v := ?vv40) rfl (by kernel_rfl) (by kernel_rfl) (by kernel_rfl) (fun _ _ _ h => h) (Or.inl ⟨by rfl, ?hy40⟩) (by assumption) ?_
          case hy40 => (intro w hSw; (try dsimp only at hSw); go_simp; all_goals with_reducible rfl)
          try simp only [Act.put, List.setIfInBounds_toArray, List.set_cons_zero, List.set_cons_succ]
          refine wpAnyH_take (i := 2) (oi := { dst := some 56, op := Op.fieldAddr 58 (Operand.tmp 55) 0, type := 0, pos := "outright.go:136", after := #[{ on := 1, ground := Ground.data }], guard := none }) (v := ?vv41) rfl (by kernel_rfl) (by kernel_rfl) (by kernel_rfl) (fun _ _ _ h => h) (Or.inl ⟨by rfl, ?hy41⟩) (by assumption) ?_
          case hy41 => (intro w hSw; (try dsimp only at hSw); go_simp; all_goals with_reducible rfl)
          try simp only [Act.put, List.setIfInBounds_toArray, List.set_cons_zero, List.set_cons_succ]
          refine wpAnyH_take (i := 3) (oi := { dst := some 57, op := Op.load 30 (Operand.tmp 56), type := 30, pos := "outright.go:136", after := #[{ on := 2, ground := Ground.data }], guard := none }) (v := ?vv42) rfl (by kernel_rfl) (by kernel_rfl) (by kernel_rfl) (fun _ _ _ h => h) (Or.inl ⟨by rfl, ?hy42⟩) (by assumption) ?_
          case hy42 => (intro w hSw; (try dsimp only at hSw); go_simp; all_goals with_reducible rfl)
          try simp only [Act.put, List.setIfInBounds_toArray, List.set_cons_zero, List.set_cons_succ]
          refine wpAnyH_take (i := 4) (oi := { dst := some 58, op := Op.fieldAddr 60 (Operand.tmp 3) 2, type := 0, pos := "outright.go:136", after := #[], guard := none }) (v := ?vv43) rfl (by kernel_rfl) (by kernel_rfl) (by kernel_rfl) (fun _ _ _ h => h) (Or.inl ⟨by rfl, ?hy43⟩) (by assumption) ?_
          case hy43 => (intro w hSw; (try dsimp only at hSw); go_simp; all_goals with_reducible rfl)
          try simp only [Act.put, List.setIfInBounds_toArray, List.set_cons_zero, List.set_cons_succ]
          refine wpAnyH_take (i := 5) (oi := { dst := some 59, op := Op.load 24 (Operand.tmp 58), type := 24, pos := "outright.go:136", after := #[{ on := 4, ground := Ground.data }], guard := none }) (v := ?vv44) rfl (by kernel_rfl) (by kernel_rfl) (by kernel_rfl) (fun _ _ _ h => h) (Or.inl ⟨by rfl, ?hy44⟩) (by assumption) ?_
          case hy44 => (intro w hSw; (try dsimp only at hSw); go_simp; all_goals with_reducible rfl)
          try simp only [Act.put, List.setIfInBounds_toArray, List.set_cons_zero, List.set_cons_succ]
          refine wpAnyH_take (i := 6) (oi := { dst := some 60, op := Op.fieldAddr 60 (Operand.tmp 3) 5, type := 0, pos := "outright.go:136", after := #[], guard := none }) (v := ?vv45) rfl (by kernel_rfl) (by kernel_rfl) (by kernel_rfl) (fun _ _ _ h => h) (Or.inl ⟨by rfl, ?hy45⟩) (by assumption) ?_
          case hy45 => (intro w hSw; (try dsimp only at hSw); go_simp; all_goals with_reducible rfl)
          try simp only [Act.put, List.setIfInBounds_toArray, List.set_cons_zero, List.set_cons_succ]
          refine wpAnyH_take (i := 7) (oi := { dst := some 61, op := Op.load 2 (Operand.tmp 60), type := 2, pos := "outright.go:136", after := #[{ on := 6, ground := Ground.data }], guard := none }) (v := ?vv46) rfl (by kernel_rfl) (by kernel_rfl) (by kernel_rfl) (fun _ _ _ h => h) (Or.inl ⟨by rfl, ?hy46⟩) (by assumption) ?_
          case hy46 => (intro w hSw; (try dsimp only at hSw); go_simp; all_goals with_reducible rfl)
          try simp only [Act.put, List.setIfInBounds_toArray, List.set_cons_zero, List.set_cons_succ]
          refine wpAnyH_ready (rs := [8]) (by kernel_rfl) (by simp) ?_
          refine AllReadyH.cons (o := { dst := some 62, op := Op.call { callee := Callee.value (Operand.func 14), args := #[Operand.tmp 57, Operand.tmp 59, Operand.tmp 61], argTypes := #[30, 24, 2] }, type := 4, pos := "outright.go:136", after := #[{ on := 3, ground := Ground.data }, { on := 5, ground := Ground.data }, { on := 7, ground := Ground.data }], guard := none }) rfl (fun K hK => ?_) AllReadyH.nil
          go_simp
          refine (HH8.out _ hIW).mono ?_
          rintro e' W8x ⟨rfl, hC8⟩
          have HC8 : Hid (Cl w0 W8x b g (hr c tk) y L (z1, z2, z3) B n1 o0 (⟨kd, tw, ⟨m, s, a, p, (y1, y2, y3), qb⟩, rn, (r1, r2, r3), rb, st, tk, Q, fr⟩ : Os)) := hC8
          clear hC8
          go_wp2_with fail
          refine hK.out _ _ (HCS.out _ _ _ _ HC8.out.cm) (fun hHeld => ?_)
          clear hK K
          try simp only [Act.put, List.setIfInBounds_toArray, List.set_cons_zero, List.set_cons_succ]
          refine wpAnyH_take (i := 9) (oi := { dst := some 7, op := Op.assign (Operand.tmp 62), type := 4, pos := "outright.go:136", after := #[{ on := 8, ground := Ground.data }, { on := 8, ground := Ground.chain }, { on := 0, ground := Ground.phase }, { on := 1, ground := Ground.phase }, { on := 2, ground := Ground.phase }, { on := 3, ground := Ground.phase }, { on := 4, ground := Ground.phase }, { on := 5, ground := Ground.phase }, { on := 6, ground := Ground.phase }, { on := 7, ground := Ground.phase }, { on := 8, ground := Ground.phase }], guard := none }) (v := ?vv47) rfl (by kernel_rfl) (by kernel_rfl) (by kernel_rfl) (fun _ _ _ h => h) (Or.inl ⟨by rfl, ?hy47⟩) (by assumption) ?_
          case hy47 => (intro w hSw; (try dsimp only at hSw); go_simp; all_goals with_reducible rfl)
          try simp only [Act.put, List.setIfInBounds_toArray, List.set_cons_zero, List.set_cons_succ]
          refine wpAnyH_done (by kernel_rfl) ?_ _
          clear hS8 HH8 hIW hHeld
          go_upto_region 9 with fail
          have HC9 : Hid (Cl w0 W8x.drew b g (hr c tk) y L (z1, z2, z3) B n1 o0 (⟨kd, tw, ⟨m, s, a, p, (y1, y2, y3), qb⟩, rn, (r1, r2, r3), rb, st, tk, Q, fr⟩ : Os)) := HC8.out.below (Below.refl _ _).drew
          refine wp_region_held_drew (S := (fun V => V.cell? ⟨b, 0, none⟩ = some (.pointer (some ⟨g, 0, none⟩)) ∧ V.cell? ⟨o0, 12, none⟩ = some (.int .i64 tk) ∧ V.cell? ⟨o0, 2, none⟩ = some (.string m) ∧ V.cell? ⟨o0, 3, none⟩ = some (.string s) ∧ V.cell? ⟨o0, 4, none⟩ = some (.string a) ∧ V.cell? ⟨o0, 5, none⟩ = some (.string p) ∧ V.cell? ⟨o0, 6, none⟩ = some (.slice y1 y2 y3) ∧ V.cell? ⟨o0, 7, none⟩ = some (.string qb))) (by kernel_rfl) (HCS.out _ _ _ _ HC9.out.cm) (fun hHeld => ?_)
          generalize hWg : World.drew _ = W9 at HC9 hHeld ⊢
          clear hWg HC8
          refine wpAnyH_take (i := 0) (oi := { dst := some 64, op := Op.move (Operand.tmp 0), type := 55, pos := "outright.go:137", after := #[], guard := none }) (v := ?vv19) rfl (by kernel_rfl) (by kernel_rfl) (by kernel_rfl) (fun _ _ _ h => h) (Or.inl ⟨by rfl, ?hy19⟩) (by assumption) ?_
          case hy19 => (intro w hSw; (try dsimp only at hSw); go_simp; all_goals with_reducible rfl)
          try simp only [Act.put, List.setIfInBounds_toArray, List.set_cons_zero, List.set_cons_succ]
          refine wpAnyH_take (i := 1) (oi := { dst := some 65, op := Op.nilCheck (Operand.tmp 64), type := 0, pos := "outright.go:137", after := #[{ on := 0, ground := Ground.data }], guard := none }) (v := ?vv20) rfl (by kernel_rfl) (by kernel_rfl) (by kernel_rfl) (fun _ _ _ h => h) (Or.inl ⟨by rfl, ?hy20⟩) (by assumption) ?_
          case hy20 => (intro w hSw; (try dsimp only at hSw); go_simp; all_goals with_reducible rfl)
          try simp only [Act.put, List.setIfInBounds_toArray, List.set_cons_zero, List.set_cons_succ]
          refine wpAnyH_take (i := 2) (oi := { dst := some 66, op := Op.fieldAddr 58 (Operand.tmp 65) 0, type := 0, pos := "outright.go:137", after := #[{ on := 1, ground := Ground.data }], guard := none }) (v := ?vv21) rfl (by kernel_rfl) (by kernel_rfl) (by kernel_rfl) (fun _ _ _ h => h) (Or.inl ⟨by rfl, ?hy21⟩) (by assumption) ?_
          case hy21 => (intro w hSw; (try dsimp only at hSw); go_simp; all_goals with_reducible rfl)
          try simp only [Act.put, List.setIfInBounds_toArray, List.set_cons_zero, List.set_cons_succ]
          refine wpAnyH_take (i := 3) (oi := { dst := some 67, op := Op.load 30 (Operand.tmp 66), type := 30, pos := "outright.go:137", after := #[{ on := 2, ground := Ground.data }], guard := none }) (v := ?vv22) rfl (by kernel_rfl) (by kernel_rfl) (by kernel_rfl) (fun _ _ _ h => h) (Or.inl ⟨by rfl, ?hy22⟩) (by assumption) ?_
          case hy22 => (intro w hSw; (try dsimp only at hSw); go_simp; all_goals with_reducible rfl)
          try simp only [Act.put, List.setIfInBounds_toArray, List.set_cons_zero, List.set_cons_succ]
          refine wpAnyH_take (i := 4) (oi := { dst := some 68, op := Op.fieldAddr 60 (Operand.tmp 3) 2, type := 0, pos := "outright.go:137", after := #[], guard := none }) (v := ?vv23) rfl (by kernel_rfl) (by kernel_rfl) (by kernel_rfl) (fun _ _ _ h => h) (Or.inl ⟨by rfl, ?hy23⟩) (by assumption) ?_
          case hy23 => (intro w hSw; (try dsimp only at hSw); go_simp; all_goals with_reducible rfl)
          try simp only [Act.put, List.setIfInBounds_toArray, List.set_cons_zero, List.set_cons_succ]
          refine wpAnyH_take (i := 5) (oi := { dst := some 69, op := Op.load 24 (Operand.tmp 68), type := 24, pos := "outright.go:137", after := #[{ on := 4, ground := Ground.data }], guard := none }) (v := ?vv24) rfl (by kernel_rfl) (by kernel_rfl) (by kernel_rfl) (fun _ _ _ h => h) (Or.inl ⟨by rfl, ?hy24⟩) (by assumption) ?_
          case hy24 => (intro w hSw; (try dsimp only at hSw); go_simp; all_goals with_reducible rfl)
          try simp only [Act.put, List.setIfInBounds_toArray, List.set_cons_zero, List.set_cons_succ]
          refine wpAnyH_take (i := 6) (oi := { dst := some 70, op := Op.fieldAddr 60 (Operand.tmp 3) 5, type := 0, pos := "outright.go:137", after := #[], guard := none }) (v := ?vv25) rfl (by kernel_rfl) (by kernel_rfl) (by kernel_rfl) (fun _ _ _ h => h) (Or.inl ⟨by rfl, ?hy25⟩) (by assumption) ?_
          case hy25 => (intro w hSw; (try dsimp only at hSw); go_simp; all_goals with_reducible rfl)
          try simp only [Act.put, List.setIfInBounds_toArray, List.set_cons_zero, List.set_cons_succ]
          refine wpAnyH_take (i := 7) (oi := { dst := some 71, op := Op.load 2 (Operand.tmp 70), type := 2, pos := "outright.go:137", after := #[{ on := 6, ground := Ground.data }], guard := none }) (v := ?vv26) rfl (by kernel_rfl) (by kernel_rfl) (by kernel_rfl) (fun _ _ _ h => h) (Or.inl ⟨by rfl, ?hy26⟩) (by assumption) ?_
          case hy26 => (intro w hSw; (try dsimp only at hSw); go_simp; all_goals with_reducible rfl)
          try simp only [Act.put, List.setIfInBounds_toArray, List.set_cons_zero, List.set_cons_succ]
          refine wpAnyH_ready (rs := [8, 13]) (by kernel_rfl) (by simp) ?_
          refine AllReadyH.cons (o := { dst := some 72, op := Op.call { callee := Callee.value (Operand.func 13), args := #[Operand.tmp 67, Operand.tmp 69, Operand.tmp 71], argTypes := #[30, 24, 2] }, type := 43, pos := "outright.go:137", after := #[{ on := 3, ground := Ground.data }, { on := 5, ground := Ground.data }, { on := 7, ground := Ground.data }], guard := none }) rfl (fun K hK => ?_) ?_
          · go_simp
            refine (HL9.out _ HC9.out).mono ?_
            rintro e' W9x hP9
            obtain ⟨rfl, hM9, hRl9, hKs9⟩ := hP9
            have HMW9x : Hid (Cj w0 W9x b g (hr c tk) y L (z1, z2, z3) B n1 o0 (⟨kd, tw, ⟨m, s, a, p, (y1, y2, y3), qb⟩, rn, (r1, r2, r3), rb, st, tk, Q, fr⟩ : Os)) := hM9
            have HRl : Hid (Rl L B) := hRl9
            clear hM9 hRl9 hKs9
            simp only [rsv, sv]
            go_wp2_with fail
            refine hK.out _ _ (HCS.out _ _ _ _ HMW9x.out) (fun hHeld => ?_)
            clear hK K
            try simp only [Act.put, List.setIfInBounds_toArray, List.set_cons_zero, List.set_cons_succ]
            refine wpAnyH_take (i := 9) (oi := { dst := some 63, op := Op.move (Operand.tmp 72), type := 43, pos := "outright.go:137", after := #[{ on := 8, ground := Ground.data }], guard := none }) (v := ?vv27) rfl (by kernel_rfl) (by kernel_rfl) (by kernel_rfl) (fun _ _ _ h => h) (Or.inl ⟨by rfl, ?hy27⟩) (by assumption) ?_
            case hy27 => (intro w hSw; (try dsimp only at hSw); go_simp; all_goals with_reducible rfl)
            try simp only [Act.put, List.setIfInBounds_toArray, List.set_cons_zero, List.set_cons_succ]
            refine wpAnyH_take (i := 10) (oi := { dst := some 73, op := Op.extract (Operand.tmp 63) 0, type := 26, pos := "outright.go:137", after := #[{ on := 9, ground := Ground.data }], guard := none }) (v := ?vv28) rfl (by kernel_rfl) (by kernel_rfl) (by kernel_rfl) (fun _ _ _ h => h) (Or.inl ⟨by rfl, ?hy28⟩) (by assumption) ?_
            case hy28 => (intro w hSw; (try dsimp only at hSw); go_simp; all_goals with_reducible rfl)
            try simp only [Act.put, List.setIfInBounds_toArray, List.set_cons_zero, List.set_cons_succ]
            refine wpAnyH_take (i := 11) (oi := { dst := some 74, op := Op.extract (Operand.tmp 63) 1, type := 2, pos := "outright.go:137", after := #[{ on := 9, ground := Ground.data }, { on := 14, ground := Ground.gcOnly Departure.lateStores }], guard := none }) (v := ?vv29) rfl (by kernel_rfl) (by kernel_rfl) (by kernel_rfl) (fun _ _ _ h => h) (Or.inl ⟨by rfl, ?hy29⟩) (by assumption) ?_
            case hy29 => (intro w hSw; (try dsimp only at hSw); go_simp; all_goals with_reducible rfl)
            try simp only [Act.put, List.setIfInBounds_toArray, List.set_cons_zero, List.set_cons_succ]
            refine wpAnyH_take (i := 12) (oi := { dst := some 75, op := Op.extract (Operand.tmp 63) 2, type := 4, pos := "outright.go:137", after := #[{ on := 9, ground := Ground.data }, { on := 15, ground := Ground.gcOnly Departure.lateStores }], guard := none }) (v := ?vv30) rfl (by kernel_rfl) (by kernel_rfl) (by kernel_rfl) (fun _ _ _ h => h) (Or.inl ⟨by rfl, ?hy30⟩) (by assumption) ?_
            case hy30 => (intro w hSw; (try dsimp only at hSw); go_simp; all_goals with_reducible rfl)
            try simp only [Act.put, List.setIfInBounds_toArray, List.set_cons_zero, List.set_cons_succ]
            refine wpAnyH_ready (rs := [13]) (by kernel_rfl) (by simp) ?_
            refine AllReadyH.cons (o := { dst := some 8, op := Op.alloc 26, type := 0, pos := "outright.go:137", after := #[], guard := none }) rfl (fun K hK => ?_) AllReadyH.nil
            obtain ⟨r0, hr0⟩ : ∃ q, W9x.heap.size = q := ⟨_, rfl⟩
            obtain ⟨W9xx, hV0⟩ : ∃ V, W9x.alloc (.cells #[.int .i64 0, .slice none 0 0, .string ⟨#[]⟩] 26) = V := ⟨_, rfl⟩
            have b0x : Below W9x.heap.size W9x W9xx := by rw [← hV0]; exact bel1 _ _
            have HR0W9xx : Hid (W9xx.heap[r0]? = some (.cells #[.int .i64 0, .slice none 0 0, .string ⟨#[]⟩] 26 (0, 0)) ∧ w0.heap.size ≤ r0) := ⟨by rw [← hV0, ← hr0, heap_al, if_pos rfl], by rw [← hr0]; exact HMW9x.out.bel.size⟩
            have HMW9xx : Hid (Cj w0 W9xx b g (hr c tk) y L (z1, z2, z3) B n1 o0 (⟨kd, tw, ⟨m, s, a, p, (y1, y2, y3), qb⟩, rn, (r1, r2, r3), rb, st, tk, Q, fr⟩ : Os)) := HMW9x.out.below b0x
            clear b0x
            go_simp
            go_wp2_with fail
            try rw [hV0]
            try rw [hr0]
            refine hK.out _ _ (HCS.out _ _ _ _ HMW9xx.out) (fun hHeld => ?_)
            clear hK K hV0 hr0
            try simp only [Act.put, List.setIfInBounds_toArray, List.set_cons_zero, List.set_cons_succ]
            refine wpAnyH_ready (rs := [14]) (by kernel_rfl) (by simp) ?_
            refine AllReadyH.cons (o := { dst := none, op := Op.store 26 (Operand.tmp 8) (Operand.tmp 73), type := 0, pos := "outright.go:137", after := #[{ on := 13, ground := Ground.data }, { on := 10, ground := Ground.data }, { on := 8, ground := Ground.chain }, { on := 0, ground := Ground.phase }, { on := 1, ground := Ground.phase }, { on := 2, ground := Ground.phase }, { on := 3, ground := Ground.phase }, { on := 4, ground := Ground.phase }, { on := 5, ground := Ground.phase }, { on := 6, ground := Ground.phase }, { on := 7, ground := Ground.phase }, { on := 8, ground := Ground.phase }, { on := 9, ground := Ground.phase }, { on := 10, ground := Ground.phase }, { on := 11, ground := Ground.textOnly Departure.lateStores }, { on := 12, ground := Ground.textOnly Departure.lateStores }, { on := 13, ground := Ground.phase }], guard := none }) rfl (fun K hK => ?_) AllReadyH.nil
            have hr2 := HR0W9xx.out.1
            have p0 := cell_blk hr2 0
            have p1 := cell_blk hr2 1
            have p2 := cell_blk hr2 2
            have q0 := frozen_blk hr2 0
            have q1 := frozen_blk hr2 1
            have q2 := frozen_blk hr2 2
            simp only [List.getElem?_toArray, List.getElem?_cons_succ, List.getElem?_cons_zero] at p0 p1 p2
            obtain ⟨E, hE⟩ : ∃ E, ((W9xx.setCell ⟨r0, 0, none⟩ (.int .i64 0)).setCell ⟨r0, 1, none⟩ (.slice none 0 0)).setCell ⟨r0, 2, none⟩ (.string ⟨#[]⟩) = E := ⟨_, rfl⟩
            have hEb1 := setCell_block W9xx r0 0 (.int .i64 0) _ 26 (0, 0) hr2
            have hEb2 := setCell_block _ r0 1 (.slice none 0 0) _ 26 (0, 0) hEb1
            have HEb : Hid (E.heap[r0]? = some (.cells #[.int .i64 0, .slice none 0 0, .string ⟨#[]⟩] 26 (0, 0))) := by
              show _ = _
              rw [← hE, setCell_block _ _ _ _ _ _ _ hEb2]
              rfl
            have HME : Hid (Cj w0 E b g (hr c tk) y L (z1, z2, z3) B n1 o0 (⟨kd, tw, ⟨m, s, a, p, (y1, y2, y3), qb⟩, rn, (r1, r2, r3), rb, st, tk, Q, fr⟩ : Os)) := by
              show Cj _ _ _ _ _ _ _ _ _ _ _ _
              rw [← hE]
              exact ((HMW9xx.out.box hr2 (by decide) HR0W9xx.out.2 0 _).box hEb1 (by decide) HR0W9xx.out.2 1 _).box hEb2 (by decide) HR0W9xx.out.2 2 _
            clear hr2 hEb1 hEb2
            go_simp
            go_wp2_with fail
            try rw [hE]
            refine hK.out _ _ (HCS.out _ _ _ _ HME.out) (fun hHeld => ?_)
            clear hK K hE p0 p1 p2 q0 q1 q2
            try simp only [Act.put, List.setIfInBounds_toArray, List.set_cons_zero, List.set_cons_succ]
            refine wpAnyH_take (i := 15) (oi := { dst := some 9, op := Op.assign (Operand.tmp 74), type := 2, pos := "outright.go:137", after := #[{ on := 11, ground := Ground.data }, { on := 14, ground := Ground.chain }, { on := 0, ground := Ground.phase }, { on := 1, ground := Ground.phase }, { on := 2, ground := Ground.phase }, { on := 3, ground := Ground.phase }, { on := 4, ground := Ground.phase }, { on := 5, ground := Ground.phase }, { on := 6, ground := Ground.phase }, { on := 7, ground := Ground.phase }, { on := 8, ground := Ground.phase }, { on := 9, ground := Ground.phase }, { on := 10, ground := Ground.phase }, { on := 11, ground := Ground.phase }, { on := 12, ground := Ground.textOnly Departure.lateStores }, { on := 13, ground := Ground.phase }, { on := 14, ground := Ground.phase }], guard := none }) (v := ?vv31) rfl (by kernel_rfl) (by kernel_rfl) (by kernel_rfl) (fun _ _ _ h => h) (Or.inl ⟨by rfl, ?hy31⟩) (by assumption) ?_
            case hy31 => (intro w hSw; (try dsimp only at hSw); go_simp; all_goals with_reducible rfl)
            try simp only [Act.put, List.setIfInBounds_toArray, List.set_cons_zero, List.set_cons_succ]
            refine wpAnyH_take (i := 16) (oi := { dst := some 10, op := Op.assign (Operand.tmp 75), type := 4, pos := "outright.go:137", after := #[{ on := 12, ground := Ground.data }, { on := 15, ground := Ground.chain }, { on := 0, ground := Ground.phase }, { on := 1, ground := Ground.phase }, { on := 2, ground := Ground.phase }, { on := 3, ground := Ground.phase }, { on := 4, ground := Ground.phase }, { on := 5, ground := Ground.phase }, { on := 6, ground := Ground.phase }, { on := 7, ground := Ground.phase }, { on := 8, ground := Ground.phase }, { on := 9, ground := Ground.phase }, { on := 10, ground := Ground.phase }, { on := 11, ground := Ground.phase }, { on := 12, ground := Ground.phase }, { on := 13, ground := Ground.phase }, { on := 14, ground := Ground.phase }, { on := 15, ground := Ground.phase }], guard := none }) (v := ?vv32) rfl (by kernel_rfl) (by kernel_rfl) (by kernel_rfl) (fun _ _ _ h => h) (Or.inl ⟨by rfl, ?hy32⟩) (by assumption) ?_
            case hy32 => (intro w hSw; (try dsimp only at hSw); go_simp; all_goals with_reducible rfl)
            try simp only [Act.put, List.setIfInBounds_toArray, List.set_cons_zero, List.set_cons_succ]
            refine wpAnyH_done (by kernel_rfl) ?_ _
            clear hHeld
            have HSm : Hid (Calls Tryd.prog 15 #[.agg #[.int .i64 0, .slice none 0 0, .string ⟨#[]⟩], .agg #[.int .i64 0, .slice none 0 0, .string ⟨#[]⟩]] E fun e w' => e = .returned (.bool true) ∧ Below E.heap.size E w') := same_eq 0 ⟨#[]⟩ (none, 0, 0) (none, 0, 0) [] E (.inl ⟨rfl, rfl⟩) (.inl ⟨rfl, rfl⟩)
            have p0 := cell_blk HEb.out 0
            have p1 := cell_blk HEb.out 1
            have p2 := cell_blk HEb.out 2
            simp only [List.getElem?_toArray, List.getElem?_cons_succ, List.getElem?_cons_zero] at p0 p1 p2
            clear HCS HL9
            go_wp2_with fail
            go_at_call 15
            refine HSm.out.mono ?_
            rintro e' V15 ⟨rfl, b15⟩
            have HE : Hid (Ci w0 V15 b g (hr c tk) y L (z1, z2, z3) B n1) := (HME.out.below b15).ci HRl.out
            clear b15 HME p0 p1 p2 HSm HEb
            go_wp2_with fail
            go_ret
            exact ⟨rfl, y, L, (z1, z2, z3), B, HE.out, fun x hx => hx, List.Sublist.refl _⟩
          refine AllReadyH.cons (o := { dst := some 8, op := Op.alloc 26, type := 0, pos := "outright.go:137", after := #[], guard := none }) rfl (fun K hK => ?_) AllReadyH.nil
          obtain ⟨r0, hr0⟩ : ∃ q, W9.heap.size = q := ⟨_, rfl⟩
          obtain ⟨W9x, hV0⟩ : ∃ V, W9.alloc (.cells #[.int .i64 0, .slice none 0 0, .string ⟨#[]⟩] 26) = V := ⟨_, rfl⟩
          have b0x : Below W9.heap.size W9 W9x := by rw [← hV0]; exact bel1 _ _
          have HR0W9x : Hid (W9x.heap[r0]? = some (.cells #[.int .i64 0, .slice none 0 0, .string ⟨#[]⟩] 26 (0, 0)) ∧ w0.heap.size ≤ r0) := ⟨by rw [← hV0, ← hr0, heap_al, if_pos rfl], by rw [← hr0]; exact HC9.out.ci.bel.size⟩
          have HCW9x : Hid (Cl w0 W9x b g (hr c tk) y L (z1, z2, z3) B n1 o0 (⟨kd, tw, ⟨m, s, a, p, (y1, y2, y3), qb⟩, rn, (r1, r2, r3), rb, st, tk, Q, fr⟩ : Os)) := HC9.out.below b0x
          clear b0x
          go_simp
          go_wp2_with fail
          try rw [hV0]
          try rw [hr0]
          refine hK.out _ _ (HCS.out _ _ _ _ HCW9x.out.cm) (fun hHeld => ?_)
          clear hK K hV0 hr0
          try simp only [Act.put, List.setIfInBounds_toArray, List.set_cons_zero, List.set_cons_succ]
          refine wpAnyH_ready (rs := [8]) (by kernel_rfl) (by simp) ?_
          refine AllReadyH.cons (o := { dst := some 72, op := Op.call { callee := Callee.value (Operand.func 13), args := #[Operand.tmp 67, Operand.tmp 69, Operand.tmp 71], argTypes := #[30, 24, 2] }, type := 43, pos := "outright.go:137", after := #[{ on := 3, ground := Ground.data }, { on := 5, ground := Ground.data }, { on := 7, ground := Ground.data }], guard := none }) rfl (fun K hK => ?_) AllReadyH.nil
          go_simp
          refine (HL9.out _ HCW9x.out).mono ?_
          rintro e' W9xx hP9
          obtain ⟨rfl, hM9, hRl9, hKs9⟩ := hP9
          have HMW9xx : Hid (Cj w0 W9xx b g (hr c tk) y L (z1, z2, z3) B n1 o0 (⟨kd, tw, ⟨m, s, a, p, (y1, y2, y3), qb⟩, rn, (r1, r2, r3), rb, st, tk, Q, fr⟩ : Os)) := hM9
          have HRl : Hid (Rl L B) := hRl9
          have HR0W9xx : Hid (W9xx.heap[r0]? = some (.cells #[.int .i64 0, .slice none 0 0, .string ⟨#[]⟩] 26 (0, 0)) ∧ w0.heap.size ≤ r0) := ⟨(hKs9.block r0 (heap_lt HR0W9x.out.1) (HCW9x.out.ci.cx.offb HR0W9x.out.1 (by decide) (by decide))).trans HR0W9x.out.1, HR0W9x.out.2⟩
          clear hM9 hRl9 hKs9
          simp only [rsv, sv]
          go_wp2_with fail
          refine hK.out _ _ (HCS.out _ _ _ _ HMW9xx.out) (fun hHeld => ?_)
          clear hK K
          try simp only [Act.put, List.setIfInBounds_toArray, List.set_cons_zero, List.set_cons_succ]
          refine wpAnyH_take (i := 9) (oi := { dst := some 63, op := Op.move (Operand.tmp 72), type := 43, pos := "outright.go:137", after := #[{ on := 8, ground := Ground.data }], guard := none }) (v := ?vv33) rfl (by kernel_rfl) (by kernel_rfl) (by kernel_rfl) (fun _ _ _ h => h) (Or.inl ⟨by rfl, ?hy33⟩) (by assumption) ?_
          case hy33 => (intro w hSw; (try dsimp only at hSw); go_simp; all_goals with_reducible rfl)
          try simp only [Act.put, List.setIfInBounds_toArray, List.set_cons_zero, List.set_cons_succ]
          refine wpAnyH_take (i := 10) (oi := { dst := some 73, op := Op.extract (Operand.tmp 63) 0, type := 26, pos := "outright.go:137", after := #[{ on := 9, ground := Ground.data }], guard := none }) (v := ?vv34) rfl (by kernel_rfl) (by kernel_rfl) (by kernel_rfl) (fun _ _ _ h => h) (Or.inl ⟨by rfl, ?hy34⟩) (by assumption) ?_
          case hy34 => (intro w hSw; (try dsimp only at hSw); go_simp; all_goals with_reducible rfl)
          try simp only [Act.put, List.setIfInBounds_toArray, List.set_cons_zero, List.set_cons_succ]
          refine wpAnyH_take (i := 11) (oi := { dst := some 74, op := Op.extract (Operand.tmp 63) 1, type := 2, pos := "outright.go:137", after := #[{ on := 9, ground := Ground.data }, { on := 14, ground := Ground.gcOnly Departure.lateStores }], guard := none }) (v := ?vv35) rfl (by kernel_rfl) (by kernel_rfl) (by kernel_rfl) (fun _ _ _ h => h) (Or.inl ⟨by rfl, ?hy35⟩) (by assumption) ?_
          case hy35 => (intro w hSw; (try dsimp only at hSw); go_simp; all_goals with_reducible rfl)
          try simp only [Act.put, List.setIfInBounds_toArray, List.set_cons_zero, List.set_cons_succ]
          refine wpAnyH_take (i := 12) (oi := { dst := some 75, op := Op.extract (Operand.tmp 63) 2, type := 4, pos := "outright.go:137", after := #[{ on := 9, ground := Ground.data }, { on := 15, ground := Ground.gcOnly Departure.lateStores }], guard := none }) (v := ?vv36) rfl (by kernel_rfl) (by kernel_rfl) (by kernel_rfl) (fun _ _ _ h => h) (Or.inl ⟨by rfl, ?hy36⟩) (by assumption) ?_
          case hy36 => (intro w hSw; (try dsimp only at hSw); go_simp; all_goals with_reducible rfl)
          try simp only [Act.put, List.setIfInBounds_toArray, List.set_cons_zero, List.set_cons_succ]
          refine wpAnyH_ready (rs := [14]) (by kernel_rfl) (by simp) ?_
          refine AllReadyH.cons (o := { dst := none, op := Op.store 26 (Operand.tmp 8) (Operand.tmp 73), type := 0, pos := "outright.go:137", after := #[{ on := 13, ground := Ground.data }, { on := 10, ground := Ground.data }, { on := 8, ground := Ground.chain }, { on := 0, ground := Ground.phase }, { on := 1, ground := Ground.phase }, { on := 2, ground := Ground.phase }, { on := 3, ground := Ground.phase }, { on := 4, ground := Ground.phase }, { on := 5, ground := Ground.phase }, { on := 6, ground := Ground.phase }, { on := 7, ground := Ground.phase }, { on := 8, ground := Ground.phase }, { on := 9, ground := Ground.phase }, { on := 10, ground := Ground.phase }, { on := 11, ground := Ground.textOnly Departure.lateStores }, { on := 12, ground := Ground.textOnly Departure.lateStores }, { on := 13, ground := Ground.phase }], guard := none }) rfl (fun K hK => ?_) AllReadyH.nil
          have hr2 := HR0W9xx.out.1
          have p0 := cell_blk hr2 0
          have p1 := cell_blk hr2 1
          have p2 := cell_blk hr2 2
          have q0 := frozen_blk hr2 0
          have q1 := frozen_blk hr2 1
          have q2 := frozen_blk hr2 2
          simp only [List.getElem?_toArray, List.getElem?_cons_succ, List.getElem?_cons_zero] at p0 p1 p2
          obtain ⟨E, hE⟩ : ∃ E, ((W9xx.setCell ⟨r0, 0, none⟩ (.int .i64 0)).setCell ⟨r0, 1, none⟩ (.slice none 0 0)).setCell ⟨r0, 2, none⟩ (.string ⟨#[]⟩) = E := ⟨_, rfl⟩
          have hEb1 := setCell_block W9xx r0 0 (.int .i64 0) _ 26 (0, 0) hr2
          have hEb2 := setCell_block _ r0 1 (.slice none 0 0) _ 26 (0, 0) hEb1
          have HEb : Hid (E.heap[r0]? = some (.cells #[.int .i64 0, .slice none 0 0, .string ⟨#[]⟩] 26 (0, 0))) := by
            show _ = _
            rw [← hE, setCell_block _ _ _ _ _ _ _ hEb2]
            rfl
          have HME : Hid (Cj w0 E b g (hr c tk) y L (z1, z2, z3) B n1 o0 (⟨kd, tw, ⟨m, s, a, p, (y1, y2, y3), qb⟩, rn, (r1, r2, r3), rb, st, tk, Q, fr⟩ : Os)) := by
            show Cj _ _ _ _ _ _ _ _ _ _ _ _
            rw [← hE]
            exact ((HMW9xx.out.box hr2 (by decide) HR0W9xx.out.2 0 _).box hEb1 (by decide) HR0W9xx.out.2 1 _).box hEb2 (by decide) HR0W9xx.out.2 2 _
          clear hr2 hEb1 hEb2
          go_simp
          go_wp2_with fail
          try rw [hE]
          refine hK.out _ _ (HCS.out _ _ _ _ HME.out) (fun hHeld => ?_)
          clear hK K hE p0 p1 p2 q0 q1 q2
          try simp only [Act.put, List.setIfInBounds_toArray, List.set_cons_zero, List.set_cons_succ]
          refine wpAnyH_take (i := 15) (oi := { dst := some 9, op := Op.assign (Operand.tmp 74), type := 2, pos := "outright.go:137", after := #[{ on := 11, ground := Ground.data }, { on := 14, ground := Ground.chain }, { on := 0, ground := Ground.phase }, { on := 1, ground := Ground.phase }, { on := 2, ground := Ground.phase }, { on := 3, ground := Ground.phase }, { on := 4, ground := Ground.phase }, { on := 5, ground := Ground.phase }, { on := 6, ground := Ground.phase }, { on := 7, ground := Ground.phase }, { on := 8, ground := Ground.phase }, { on := 9, ground := Ground.phase }, { on := 10, ground := Ground.phase }, { on := 11, ground := Ground.phase }, { on := 12, ground := Ground.textOnly Departure.lateStores }, { on := 13, ground := Ground.phase }, { on := 14, ground := Ground.phase }], guard := none }) (v := ?vv37) rfl (by kernel_rfl) (by kernel_rfl) (by kernel_rfl) (fun _ _ _ h => h) (Or.inl ⟨by rfl, ?hy37⟩) (by assumption) ?_
          case hy37 => (intro w hSw; (try dsimp only at hSw); go_simp; all_goals with_reducible rfl)
          try simp only [Act.put, List.setIfInBounds_toArray, List.set_cons_zero, List.set_cons_succ]
          refine wpAnyH_take (i := 16) (oi := { dst := some 10, op := Op.assign (Operand.tmp 75), type := 4, pos := "outright.go:137", after := #[{ on := 12, ground := Ground.data }, { on := 15, ground := Ground.chain }, { on := 0, ground := Ground.phase }, { on := 1, ground := Ground.phase }, { on := 2, ground := Ground.phase }, { on := 3, ground := Ground.phase }, { on := 4, ground := Ground.phase }, { on := 5, ground := Ground.phase }, { on := 6, ground := Ground.phase }, { on := 7, ground := Ground.phase }, { on := 8, ground := Ground.phase }, { on := 9, ground := Ground.phase }, { on := 10, ground := Ground.phase }, { on := 11, ground := Ground.phase }, { on := 12, ground := Ground.phase }, { on := 13, ground := Ground.phase }, { on := 14, ground := Ground.phase }, { on := 15, ground := Ground.phase }], guard := none }) (v := ?vv38) rfl (by kernel_rfl) (by kernel_rfl) (by kernel_rfl) (fun _ _ _ h => h) (Or.inl ⟨by rfl, ?hy38⟩) (by assumption) ?_
          case hy38 => (intro w hSw; (try dsimp only at hSw); go_simp; all_goals with_reducible rfl)
          try simp only [Act.put, List.setIfInBounds_toArray, List.set_cons_zero, List.set_cons_succ]
          refine wpAnyH_done (by kernel_rfl) ?_ _
          clear hHeld
          have HSm : Hid (Calls Tryd.prog 15 #[.agg #[.int .i64 0, .slice none 0 0, .string ⟨#[]⟩], .agg #[.int .i64 0, .slice none 0 0, .string ⟨#[]⟩]] E fun e w' => e = .returned (.bool true) ∧ Below E.heap.size E w') := same_eq 0 ⟨#[]⟩ (none, 0, 0) (none, 0, 0) [] E (.inl ⟨rfl, rfl⟩) (.inl ⟨rfl, rfl⟩)
          have p0 := cell_blk HEb.out 0
          have p1 := cell_blk HEb.out 1
          have p2 := cell_blk HEb.out 2
          simp only [List.getElem?_toArray, List.getElem?_cons_succ, List.getElem?_cons_zero] at p0 p1 p2
          clear HCS HL9
          go_wp2_with fail
          go_at_call 15
          refine HSm.out.mono ?_
          rintro e' V15 ⟨rfl, b15⟩
          have HE : Hid (Ci w0 V15 b g (hr c tk) y L (z1, z2, z3) B n1) := (HME.out.below b15).ci HRl.out
          clear b15 HME p0 p1 p2 HSm HEb
          go_wp2_with fail
          go_ret
          exact ⟨rfl, y, L, (z1, z2, z3), B, HE.out, fun x hx => hx, List.Sublist.refl _⟩
      | some k =>
        simp only [oI]
        have HK : Hid (B.findIdx? (anK n1 c.lf (⟨m, s, a, p, (y1, y2, y3), qb⟩ : Rq) Q) = some k) := hJ.out.2.find fun e => by cases e
        have HC7 : Hid (Cl w0 wr b g c y L (z1, z2, z3) B n1 o0 (⟨kd, tw, ⟨m, s, a, p, (y1, y2, y3), qb⟩, rn, (r1, r2, r3), rb, st, tk, Q, fr⟩ : Os)) := hJ.out.1
        have k0 : ¬ (k : Int) < 0 := by omega
        have k1 : 0 ≤ (k : Int) := by omega
        have hkB : k < B.length := by obtain ⟨_, hh, _⟩ := hJ.out.2.yes k rfl; exact hh
        have HkB : Hid (k < B.length) := hkB
        have k2 : (k : Int) < (z2 : Int) := by have := HNl.out; omega
        obtain ⟨x, hx⟩ : ∃ x, B[k] = x := ⟨_, rfl⟩
        have HX : Hid (B[k]'HkB.out = x) := hx
        obtain ⟨kst, kar, ⟨km, ks, ka, kp, ⟨ky1, ky2, ky3⟩, kb⟩, krn, ⟨kr1, kr2, kr3⟩, krb, kfq, kfr⟩ := x
        clear hJ hx hkB
        by_cases hiz : (i : Int) < (z2 : Int)
        · go_upto_region 8 with fail
          have HH8 : Hid (∀ V, Below wr.heap.size wr V → Calls Tryd.prog 14 #[.pointer (some ⟨g, 0, none⟩), .agg #[.string m, .string s, .string a, .string p, .slice y1 y2 y3, .string qb], .int .i64 tk] V fun r w' => r = .returned (.bool true) ∧ Cl w0 w' b g (hr c tk) y L (z1, z2, z3) B n1 o0 (⟨kd, tw, ⟨m, s, a, p, (y1, y2, y3), qb⟩, rn, (r1, r2, r3), rb, st, tk, Q, fr⟩ : Os)) := fun V hV =>
            (HC7.out.below hV).holds HOi.out (some k) (by show B.findIdx? (anK (hr c tk).ck c.lf (⟨m, s, a, p, (y1, y2, y3), qb⟩ : Rq) Q) = _; rw [HN1.out.1]; exact HK.out)
          have HL9 : Hid (∀ V, Cl w0 V b g (hr c tk) y L (z1, z2, z3) B n1 o0 (⟨kd, tw, ⟨m, s, a, p, (y1, y2, y3), qb⟩, rn, (r1, r2, r3), rb, st, tk, Q, fr⟩ : Os) → Calls Tryd.prog 13 #[.pointer (some ⟨g, 0, none⟩), .agg #[.string m, .string s, .string a, .string p, .slice y1 y2 y3, .string qb], .int .i64 tk] V fun r w' => cmP w0 V w' b g (hr c tk) y L (z1, z2, z3) B n1 o0 (⟨kd, tw, ⟨m, s, a, p, (y1, y2, y3), qb⟩, rn, (r1, r2, r3), rb, st, tk, Q, fr⟩ : Os) r (some k)) := fun V hV =>
            hV.claim HOi.out (some k) (by show B.findIdx? (anK (hr c tk).ck c.lf (⟨m, s, a, p, (y1, y2, y3), qb⟩ : Rq) Q) = _; rw [HN1.out.1]; exact HK.out)
          have HCS : Hid (∀ (V : World) (cc : Ca) (yy : SV) (LL : List En), Cj w0 V b g cc yy LL (z1, z2, z3) B n1 o0 (⟨kd, tw, ⟨m, s, a, p, (y1, y2, y3), qb⟩, rn, (r1, r2, r3), rb, st, tk, Q, fr⟩ : Os) → V.cell? ⟨b, 0, none⟩ = some (.pointer (some ⟨g, 0, none⟩)) ∧ V.cell? ⟨o0, 12, none⟩ = some (.int .i64 tk) ∧ V.cell? ⟨o0, 2, none⟩ = some (.string m) ∧ V.cell? ⟨o0, 3, none⟩ = some (.string s) ∧ V.cell? ⟨o0, 4, none⟩ = some (.string a) ∧ V.cell? ⟨o0, 5, none⟩ = some (.string p) ∧ V.cell? ⟨o0, 6, none⟩ = some (.slice y1 y2 y3) ∧ V.cell? ⟨o0, 7, none⟩ = some (.string qb)) := fun V cc yy LL hV => by
            have h1 := hV.bk.cells
            have h2 := cells60 hV.bx.blk
            exact ⟨h1.1, h2.2.2.2.2.2.2.2.2.2.2.2.2, h2.2.2.1, h2.2.2.2.1, h2.2.2.2.2.1, h2.2.2.2.2.2.1, h2.2.2.2.2.2.2.1, h2.2.2.2.2.2.2.2.1⟩
          have hS8 : Hid (∀ V, Below wr.heap.size wr V → V.cell? ⟨b, 0, none⟩ = some (.pointer (some ⟨g, 0, none⟩)) ∧ V.cell? ⟨o0, 12, none⟩ = some (.int .i64 tk) ∧ V.cell? ⟨o0, 2, none⟩ = some (.string m) ∧ V.cell? ⟨o0, 3, none⟩ = some (.string s) ∧ V.cell? ⟨o0, 4, none⟩ = some (.string a) ∧ V.cell? ⟨o0, 5, none⟩ = some (.string p) ∧ V.cell? ⟨o0, 6, none⟩ = some (.slice y1 y2 y3) ∧ V.cell? ⟨o0, 7, none⟩ = some (.string qb)) := fun V hV => HCS.out V _ _ _ (HC7.out.below hV).cm
          clear c5
          have hIW : Below wr.heap.size wr wr.drew := (Below.refl _ _).drew
          refine wp_region_held_drew (S := (fun V => V.cell? ⟨b, 0, none⟩ = some (.pointer (some ⟨g, 0, none⟩)) ∧ V.cell? ⟨o0, 12, none⟩ = some (.int .i64 tk) ∧ V.cell? ⟨o0, 2, none⟩ = some (.string m) ∧ V.cell? ⟨o0, 3, none⟩ = some (.string s) ∧ V.cell? ⟨o0, 4, none⟩ = some (.string a) ∧ V.cell? ⟨o0, 5, none⟩ = some (.string p) ∧ V.cell? ⟨o0, 6, none⟩ = some (.slice y1 y2 y3) ∧ V.cell? ⟨o0, 7, none⟩ = some (.string qb))) (by kernel_rfl) (hS8.out _ hIW) (fun hHeld => ?_)
          generalize hWg : World.drew _ = W8 at hIW hHeld ⊢
          clear hWg HC7 HK
          refine wpAnyH_take (i := 0) (oi := { dst := some 54, op := Op.move (Operand.tmp 0), type := 55, pos := "outright.go:136", after := #[], guard := none }) (v := ?vv112) rfl (by kernel_rfl) (by kernel_rfl) (by kernel_rfl) (fun _ _ _ h => h) (Or.inl ⟨by rfl, ?hy112⟩) (by assumption) ?_
          case hy112 => (intro w hSw; (try dsimp only at hSw); go_simp; all_goals with_reducible rfl)
          try simp only [Act.put, List.setIfInBounds_toArray, List.set_cons_zero, List.set_cons_succ]
          refine wpAnyH_take (i := 1) (oi := { dst := some 55, op := Op.nilCheck (Operand.tmp 54), type := 0, pos := "outright.go:136", after := #[{ on := 0, ground := Ground.data }], guard := none }) (v := ?vv113) rfl (by kernel_rfl) (by kernel_rfl) (by kernel_rfl) (fun _ _ _ h => h) (Or.inl ⟨by rfl, ?hy113⟩) (by assumption) ?_
          case hy113 => (intro w hSw; (try dsimp only at hSw); go_simp; all_goals with_reducible rfl)
          try simp only [Act.put, List.setIfInBounds_toArray, List.set_cons_zero, List.set_cons_succ]
          refine wpAnyH_take (i := 2) (oi := { dst := some 56, op := Op.fieldAddr 58 (Operand.tmp 55) 0, type := 0, pos := "outright.go:136", after := #[{ on := 1, ground := Ground.data }], guard := none }) (v := ?vv114) rfl (by kernel_rfl) (by kernel_rfl) (by kernel_rfl) (fun _ _ _ h => h) (Or.inl ⟨by rfl, ?hy114⟩) (by assumption) ?_
          case hy114 => (intro w hSw; (try dsimp only at hSw); go_simp; all_goals with_reducible rfl)
          try simp only [Act.put, List.setIfInBounds_toArray, List.set_cons_zero, List.set_cons_succ]
          refine wpAnyH_take (i := 3) (oi := { dst := some 57, op := Op.load 30 (Operand.tmp 56), type := 30, pos := "outright.go:136", after := #[{ on := 2, ground := Ground.data }], guard := none }) (v := ?vv115) rfl (by kernel_rfl) (by kernel_rfl) (by kernel_rfl) (fun _ _ _ h => h) (Or.inl ⟨by rfl, ?hy115⟩) (by assumption) ?_
          case hy115 => (intro w hSw; (try dsimp only at hSw); go_simp; all_goals with_reducible rfl)
          try simp only [Act.put, List.setIfInBounds_toArray, List.set_cons_zero, List.set_cons_succ]
          refine wpAnyH_take (i := 4) (oi := { dst := some 58, op := Op.fieldAddr 60 (Operand.tmp 3) 2, type := 0, pos := "outright.go:136", after := #[], guard := none }) (v := ?vv116) rfl (by kernel_rfl) (by kernel_rfl) (by kernel_rfl) (fun _ _ _ h => h) (Or.inl ⟨by rfl, ?hy116⟩) (by assumption) ?_
          case hy116 => (intro w hSw; (try dsimp only at hSw); go_simp; all_goals with_reducible rfl)
          try simp only [Act.put, List.setIfInBounds_toArray, List.set_cons_zero, List.set_cons_succ]
          refine wpAnyH_take (i := 5) (oi := { dst := some 59, op := Op.load 24 (Operand.tmp 58), type := 24, pos := "outright.go:136", after := #[{ on := 4, ground := Ground.data }], guard := none }) (v := ?vv117) rfl (by kernel_rfl) (by kernel_rfl) (by kernel_rfl) (fun _ _ _ h => h) (Or.inl ⟨by rfl, ?hy117⟩) (by assumption) ?_
          case hy117 => (intro w hSw; (try dsimp only at hSw); go_simp; all_goals with_reducible rfl)
          try simp only [Act.put, List.setIfInBounds_toArray, List.set_cons_zero, List.set_cons_succ]
          refine wpAnyH_take (i := 6) (oi := { dst := some 60, op := Op.fieldAddr 60 (Operand.tmp 3) 5, type := 0, pos := "outright.go:136", after := #[], guard := none }) (v := ?vv118) rfl (by kernel_rfl) (by kernel_rfl) (by kernel_rfl) (fun _ _ _ h => h) (Or.inl ⟨by rfl, ?hy118⟩) (by assumption) ?_
          case hy118 => (intro w hSw; (try dsimp only at hSw); go_simp; all_goals with_reducible rfl)
          try simp only [Act.put, List.setIfInBounds_toArray, List.set_cons_zero, List.set_cons_succ]
          refine wpAnyH_take (i := 7) (oi := { dst := some 61, op := Op.load 2 (Operand.tmp 60), type := 2, pos := "outright.go:136", after := #[{ on := 6, ground := Ground.data }], guard := none }) (v := ?vv119) rfl (by kernel_rfl) (by kernel_rfl) (by kernel_rfl) (fun _ _ _ h => h) (Or.inl ⟨by rfl, ?hy119⟩) (by assumption) ?_
          case hy119 => (intro w hSw; (try dsimp only at hSw); go_simp; all_goals with_reducible rfl)
          try simp only [Act.put, List.setIfInBounds_toArray, List.set_cons_zero, List.set_cons_succ]
          refine wpAnyH_ready (rs := [8]) (by kernel_rfl) (by simp) ?_
          refine AllReadyH.cons (o := { dst := some 62, op := Op.call { callee := Callee.value (Operand.func 14), args := #[Operand.tmp 57, Operand.tmp 59, Operand.tmp 61], argTypes := #[30, 24, 2] }, type := 4, pos := "outright.go:136", after := #[{ on := 3, ground := Ground.data }, { on := 5, ground := Ground.data }, { on := 7, ground := Ground.data }], guard := none }) rfl (fun K hK => ?_) AllReadyH.nil
          go_simp
          refine (HH8.out _ hIW).mono ?_
          rintro e' W8x ⟨rfl, hC8⟩
          have HC8 : Hid (Cl w0 W8x b g (hr c tk) y L (z1, z2, z3) B n1 o0 (⟨kd, tw, ⟨m, s, a, p, (y1, y2, y3), qb⟩, rn, (r1, r2, r3), rb, st, tk, Q, fr⟩ : Os)) := hC8
          clear hC8
          go_wp2_with fail
          refine hK.out _ _ (HCS.out _ _ _ _ HC8.out.cm) (fun hHeld => ?_)
          clear hK K
          try simp only [Act.put, List.setIfInBounds_toArray, List.set_cons_zero, List.set_cons_succ]
          refine wpAnyH_take (i := 9) (oi := { dst := some 7, op := Op.assign (Operand.tmp 62), type := 4, pos := "outright.go:136", after := #[{ on := 8, ground := Ground.data }, { on := 8, ground := Ground.chain }, { on := 0, ground := Ground.phase }, { on := 1, ground := Ground.phase }, { on := 2, ground := Ground.phase }, { on := 3, ground := Ground.phase }, { on := 4, ground := Ground.phase }, { on := 5, ground := Ground.phase }, { on := 6, ground := Ground.phase }, { on := 7, ground := Ground.phase }, { on := 8, ground := Ground.phase }], guard := none }) (v := ?vv120) rfl (by kernel_rfl) (by kernel_rfl) (by kernel_rfl) (fun _ _ _ h => h) (Or.inl ⟨by rfl, ?hy120⟩) (by assumption) ?_
          case hy120 => (intro w hSw; (try dsimp only at hSw); go_simp; all_goals with_reducible rfl)
          try simp only [Act.put, List.setIfInBounds_toArray, List.set_cons_zero, List.set_cons_succ]
          refine wpAnyH_done (by kernel_rfl) ?_ _
          clear hS8 HH8 hIW hHeld
          go_upto_region 9 with fail
          have HC9 : Hid (Cl w0 W8x.drew b g (hr c tk) y L (z1, z2, z3) B n1 o0 (⟨kd, tw, ⟨m, s, a, p, (y1, y2, y3), qb⟩, rn, (r1, r2, r3), rb, st, tk, Q, fr⟩ : Os)) := HC8.out.below (Below.refl _ _).drew
          refine wp_region_held_drew (S := (fun V => V.cell? ⟨b, 0, none⟩ = some (.pointer (some ⟨g, 0, none⟩)) ∧ V.cell? ⟨o0, 12, none⟩ = some (.int .i64 tk) ∧ V.cell? ⟨o0, 2, none⟩ = some (.string m) ∧ V.cell? ⟨o0, 3, none⟩ = some (.string s) ∧ V.cell? ⟨o0, 4, none⟩ = some (.string a) ∧ V.cell? ⟨o0, 5, none⟩ = some (.string p) ∧ V.cell? ⟨o0, 6, none⟩ = some (.slice y1 y2 y3) ∧ V.cell? ⟨o0, 7, none⟩ = some (.string qb))) (by kernel_rfl) (HCS.out _ _ _ _ HC9.out.cm) (fun hHeld => ?_)
          generalize hWg : World.drew _ = W9 at HC9 hHeld ⊢
          clear hWg HC8
          refine wpAnyH_take (i := 0) (oi := { dst := some 64, op := Op.move (Operand.tmp 0), type := 55, pos := "outright.go:137", after := #[], guard := none }) (v := ?vv48) rfl (by kernel_rfl) (by kernel_rfl) (by kernel_rfl) (fun _ _ _ h => h) (Or.inl ⟨by rfl, ?hy48⟩) (by assumption) ?_
          case hy48 => (intro w hSw; (try dsimp only at hSw); go_simp; all_goals with_reducible rfl)
          try simp only [Act.put, List.setIfInBounds_toArray, List.set_cons_zero, List.set_cons_succ]
          refine wpAnyH_take (i := 1) (oi := { dst := some 65, op := Op.nilCheck (Operand.tmp 64), type := 0, pos := "outright.go:137", after := #[{ on := 0, ground := Ground.data }], guard := none }) (v := ?vv49) rfl (by kernel_rfl) (by kernel_rfl) (by kernel_rfl) (fun _ _ _ h => h) (Or.inl ⟨by rfl, ?hy49⟩) (by assumption) ?_
          case hy49 => (intro w hSw; (try dsimp only at hSw); go_simp; all_goals with_reducible rfl)
          try simp only [Act.put, List.setIfInBounds_toArray, List.set_cons_zero, List.set_cons_succ]
          refine wpAnyH_take (i := 2) (oi := { dst := some 66, op := Op.fieldAddr 58 (Operand.tmp 65) 0, type := 0, pos := "outright.go:137", after := #[{ on := 1, ground := Ground.data }], guard := none }) (v := ?vv50) rfl (by kernel_rfl) (by kernel_rfl) (by kernel_rfl) (fun _ _ _ h => h) (Or.inl ⟨by rfl, ?hy50⟩) (by assumption) ?_
          case hy50 => (intro w hSw; (try dsimp only at hSw); go_simp; all_goals with_reducible rfl)
          try simp only [Act.put, List.setIfInBounds_toArray, List.set_cons_zero, List.set_cons_succ]
          refine wpAnyH_take (i := 3) (oi := { dst := some 67, op := Op.load 30 (Operand.tmp 66), type := 30, pos := "outright.go:137", after := #[{ on := 2, ground := Ground.data }], guard := none }) (v := ?vv51) rfl (by kernel_rfl) (by kernel_rfl) (by kernel_rfl) (fun _ _ _ h => h) (Or.inl ⟨by rfl, ?hy51⟩) (by assumption) ?_
          case hy51 => (intro w hSw; (try dsimp only at hSw); go_simp; all_goals with_reducible rfl)
          try simp only [Act.put, List.setIfInBounds_toArray, List.set_cons_zero, List.set_cons_succ]
          refine wpAnyH_take (i := 4) (oi := { dst := some 68, op := Op.fieldAddr 60 (Operand.tmp 3) 2, type := 0, pos := "outright.go:137", after := #[], guard := none }) (v := ?vv52) rfl (by kernel_rfl) (by kernel_rfl) (by kernel_rfl) (fun _ _ _ h => h) (Or.inl ⟨by rfl, ?hy52⟩) (by assumption) ?_
          case hy52 => (intro w hSw; (try dsimp only at hSw); go_simp; all_goals with_reducible rfl)
          try simp only [Act.put, List.setIfInBounds_toArray, List.set_cons_zero, List.set_cons_succ]
          refine wpAnyH_take (i := 5) (oi := { dst := some 69, op := Op.load 24 (Operand.tmp 68), type := 24, pos := "outright.go:137", after := #[{ on := 4, ground := Ground.data }], guard := none }) (v := ?vv53) rfl (by kernel_rfl) (by kernel_rfl) (by kernel_rfl) (fun _ _ _ h => h) (Or.inl ⟨by rfl, ?hy53⟩) (by assumption) ?_
          case hy53 => (intro w hSw; (try dsimp only at hSw); go_simp; all_goals with_reducible rfl)
          try simp only [Act.put, List.setIfInBounds_toArray, List.set_cons_zero, List.set_cons_succ]
          refine wpAnyH_take (i := 6) (oi := { dst := some 70, op := Op.fieldAddr 60 (Operand.tmp 3) 5, type := 0, pos := "outright.go:137", after := #[], guard := none }) (v := ?vv54) rfl (by kernel_rfl) (by kernel_rfl) (by kernel_rfl) (fun _ _ _ h => h) (Or.inl ⟨by rfl, ?hy54⟩) (by assumption) ?_
          case hy54 => (intro w hSw; (try dsimp only at hSw); go_simp; all_goals with_reducible rfl)
          try simp only [Act.put, List.setIfInBounds_toArray, List.set_cons_zero, List.set_cons_succ]
          refine wpAnyH_take (i := 7) (oi := { dst := some 71, op := Op.load 2 (Operand.tmp 70), type := 2, pos := "outright.go:137", after := #[{ on := 6, ground := Ground.data }], guard := none }) (v := ?vv55) rfl (by kernel_rfl) (by kernel_rfl) (by kernel_rfl) (fun _ _ _ h => h) (Or.inl ⟨by rfl, ?hy55⟩) (by assumption) ?_
          case hy55 => (intro w hSw; (try dsimp only at hSw); go_simp; all_goals with_reducible rfl)
          try simp only [Act.put, List.setIfInBounds_toArray, List.set_cons_zero, List.set_cons_succ]
          refine wpAnyH_ready (rs := [8, 13]) (by kernel_rfl) (by simp) ?_
          refine AllReadyH.cons (o := { dst := some 72, op := Op.call { callee := Callee.value (Operand.func 13), args := #[Operand.tmp 67, Operand.tmp 69, Operand.tmp 71], argTypes := #[30, 24, 2] }, type := 43, pos := "outright.go:137", after := #[{ on := 3, ground := Ground.data }, { on := 5, ground := Ground.data }, { on := 7, ground := Ground.data }], guard := none }) rfl (fun K hK => ?_) ?_
          · go_simp
            refine (HL9.out _ HC9.out).mono ?_
            rintro e' W9x hP9
            obtain ⟨hi9, ⟨v1, v2, v3⟩, y9, rfl, hRv9, hM9, hRl9, hKs9⟩ := hP9
            have HMW9x : Hid (Cj w0 W9x b g (hr c tk) y9 (L.eraseIdx k) (z1, z2, z3) B n1 o0 (⟨kd, tw, ⟨m, s, a, p, (y1, y2, y3), qb⟩, rn, (r1, r2, r3), rb, st, tk, Q, fr⟩ : Os)) := hM9
            have HRl : Hid (Rl (L.eraseIdx k) (B.eraseIdx k)) := hRl9
            rw [HX.out] at hRv9 ⊢
            have HVW9x : Hid (R EFd W9x (.slice v1 v2 v3) kfr) := hRv9
            clear hRv9
            clear hM9 hRl9 hKs9
            simp only [rsv, sv]
            go_wp2_with fail
            refine hK.out _ _ (HCS.out _ _ _ _ HMW9x.out) (fun hHeld => ?_)
            clear hK K
            try simp only [Act.put, List.setIfInBounds_toArray, List.set_cons_zero, List.set_cons_succ]
            refine wpAnyH_take (i := 9) (oi := { dst := some 63, op := Op.move (Operand.tmp 72), type := 43, pos := "outright.go:137", after := #[{ on := 8, ground := Ground.data }], guard := none }) (v := ?vv56) rfl (by kernel_rfl) (by kernel_rfl) (by kernel_rfl) (fun _ _ _ h => h) (Or.inl ⟨by rfl, ?hy56⟩) (by assumption) ?_
            case hy56 => (intro w hSw; (try dsimp only at hSw); go_simp; all_goals with_reducible rfl)
            try simp only [Act.put, List.setIfInBounds_toArray, List.set_cons_zero, List.set_cons_succ]
            refine wpAnyH_take (i := 10) (oi := { dst := some 73, op := Op.extract (Operand.tmp 63) 0, type := 26, pos := "outright.go:137", after := #[{ on := 9, ground := Ground.data }], guard := none }) (v := ?vv57) rfl (by kernel_rfl) (by kernel_rfl) (by kernel_rfl) (fun _ _ _ h => h) (Or.inl ⟨by rfl, ?hy57⟩) (by assumption) ?_
            case hy57 => (intro w hSw; (try dsimp only at hSw); go_simp; all_goals with_reducible rfl)
            try simp only [Act.put, List.setIfInBounds_toArray, List.set_cons_zero, List.set_cons_succ]
            refine wpAnyH_take (i := 11) (oi := { dst := some 74, op := Op.extract (Operand.tmp 63) 1, type := 2, pos := "outright.go:137", after := #[{ on := 9, ground := Ground.data }, { on := 14, ground := Ground.gcOnly Departure.lateStores }], guard := none }) (v := ?vv58) rfl (by kernel_rfl) (by kernel_rfl) (by kernel_rfl) (fun _ _ _ h => h) (Or.inl ⟨by rfl, ?hy58⟩) (by assumption) ?_
            case hy58 => (intro w hSw; (try dsimp only at hSw); go_simp; all_goals with_reducible rfl)
            try simp only [Act.put, List.setIfInBounds_toArray, List.set_cons_zero, List.set_cons_succ]
            refine wpAnyH_take (i := 12) (oi := { dst := some 75, op := Op.extract (Operand.tmp 63) 2, type := 4, pos := "outright.go:137", after := #[{ on := 9, ground := Ground.data }, { on := 15, ground := Ground.gcOnly Departure.lateStores }], guard := none }) (v := ?vv59) rfl (by kernel_rfl) (by kernel_rfl) (by kernel_rfl) (fun _ _ _ h => h) (Or.inl ⟨by rfl, ?hy59⟩) (by assumption) ?_
            case hy59 => (intro w hSw; (try dsimp only at hSw); go_simp; all_goals with_reducible rfl)
            try simp only [Act.put, List.setIfInBounds_toArray, List.set_cons_zero, List.set_cons_succ]
            refine wpAnyH_ready (rs := [13]) (by kernel_rfl) (by simp) ?_
            refine AllReadyH.cons (o := { dst := some 8, op := Op.alloc 26, type := 0, pos := "outright.go:137", after := #[], guard := none }) rfl (fun K hK => ?_) AllReadyH.nil
            obtain ⟨r0, hr0⟩ : ∃ q, W9x.heap.size = q := ⟨_, rfl⟩
            obtain ⟨W9xx, hV0⟩ : ∃ V, W9x.alloc (.cells #[.int .i64 0, .slice none 0 0, .string ⟨#[]⟩] 26) = V := ⟨_, rfl⟩
            have b0x : Below W9x.heap.size W9x W9xx := by rw [← hV0]; exact bel1 _ _
            have HR0W9xx : Hid (W9xx.heap[r0]? = some (.cells #[.int .i64 0, .slice none 0 0, .string ⟨#[]⟩] 26 (0, 0)) ∧ w0.heap.size ≤ r0) := ⟨by rw [← hV0, ← hr0, heap_al, if_pos rfl], by rw [← hr0]; exact HMW9x.out.bel.size⟩
            have HMW9xx : Hid (Cj w0 W9xx b g (hr c tk) y9 (L.eraseIdx k) (z1, z2, z3) B n1 o0 (⟨kd, tw, ⟨m, s, a, p, (y1, y2, y3), qb⟩, rn, (r1, r2, r3), rb, st, tk, Q, fr⟩ : Os)) := HMW9x.out.below b0x
            have HVW9xx : Hid (R EFd W9xx (.slice v1 v2 v3) kfr) := HVW9x.out.below b0x
            clear b0x
            go_simp
            go_wp2_with fail
            try rw [hV0]
            try rw [hr0]
            refine hK.out _ _ (HCS.out _ _ _ _ HMW9xx.out) (fun hHeld => ?_)
            clear hK K hV0 hr0
            try simp only [Act.put, List.setIfInBounds_toArray, List.set_cons_zero, List.set_cons_succ]
            refine wpAnyH_ready (rs := [14]) (by kernel_rfl) (by simp) ?_
            refine AllReadyH.cons (o := { dst := none, op := Op.store 26 (Operand.tmp 8) (Operand.tmp 73), type := 0, pos := "outright.go:137", after := #[{ on := 13, ground := Ground.data }, { on := 10, ground := Ground.data }, { on := 8, ground := Ground.chain }, { on := 0, ground := Ground.phase }, { on := 1, ground := Ground.phase }, { on := 2, ground := Ground.phase }, { on := 3, ground := Ground.phase }, { on := 4, ground := Ground.phase }, { on := 5, ground := Ground.phase }, { on := 6, ground := Ground.phase }, { on := 7, ground := Ground.phase }, { on := 8, ground := Ground.phase }, { on := 9, ground := Ground.phase }, { on := 10, ground := Ground.phase }, { on := 11, ground := Ground.textOnly Departure.lateStores }, { on := 12, ground := Ground.textOnly Departure.lateStores }, { on := 13, ground := Ground.phase }], guard := none }) rfl (fun K hK => ?_) AllReadyH.nil
            have hr2 := HR0W9xx.out.1
            have p0 := cell_blk hr2 0
            have p1 := cell_blk hr2 1
            have p2 := cell_blk hr2 2
            have q0 := frozen_blk hr2 0
            have q1 := frozen_blk hr2 1
            have q2 := frozen_blk hr2 2
            simp only [List.getElem?_toArray, List.getElem?_cons_succ, List.getElem?_cons_zero] at p0 p1 p2
            obtain ⟨E, hE⟩ : ∃ E, ((W9xx.setCell ⟨r0, 0, none⟩ (.int .i64 krn)).setCell ⟨r0, 1, none⟩ (.slice v1 v2 v3)).setCell ⟨r0, 2, none⟩ (.string krb) = E := ⟨_, rfl⟩
            have hEb1 := setCell_block W9xx r0 0 (.int .i64 krn) _ 26 (0, 0) hr2
            have hEb2 := setCell_block _ r0 1 (.slice v1 v2 v3) _ 26 (0, 0) hEb1
            have HEb : Hid (E.heap[r0]? = some (.cells #[.int .i64 krn, .slice v1 v2 v3, .string krb] 26 (0, 0))) := by
              show _ = _
              rw [← hE, setCell_block _ _ _ _ _ _ _ hEb2]
              rfl
            have HME : Hid (Cj w0 E b g (hr c tk) y9 (L.eraseIdx k) (z1, z2, z3) B n1 o0 (⟨kd, tw, ⟨m, s, a, p, (y1, y2, y3), qb⟩, rn, (r1, r2, r3), rb, st, tk, Q, fr⟩ : Os)) := by
              show Cj _ _ _ _ _ _ _ _ _ _ _ _
              rw [← hE]
              exact ((HMW9xx.out.box hr2 (by decide) HR0W9xx.out.2 0 _).box hEb1 (by decide) HR0W9xx.out.2 1 _).box hEb2 (by decide) HR0W9xx.out.2 2 _
            have HVE : Hid (R EFd E (.slice v1 v2 v3) kfr) := HVW9xx.out.stays fun j hj _ => by
              obtain ⟨cj, hcj⟩ := HVW9xx.out.ty j hj
              have hne : j ≠ r0 := ty_ne hcj hr2 (show (51 : TypeId) ≠ 26 by decide)
              rw [← hE, setCell_other _ _ _ _ _ hne, setCell_other _ _ _ _ _ hne, setCell_other _ _ _ _ _ hne]
            clear hr2 hEb1 hEb2
            go_simp
            go_wp2_with fail
            try rw [hE]
            refine hK.out _ _ (HCS.out _ _ _ _ HME.out) (fun hHeld => ?_)
            clear hK K hE p0 p1 p2 q0 q1 q2
            try simp only [Act.put, List.setIfInBounds_toArray, List.set_cons_zero, List.set_cons_succ]
            refine wpAnyH_take (i := 15) (oi := { dst := some 9, op := Op.assign (Operand.tmp 74), type := 2, pos := "outright.go:137", after := #[{ on := 11, ground := Ground.data }, { on := 14, ground := Ground.chain }, { on := 0, ground := Ground.phase }, { on := 1, ground := Ground.phase }, { on := 2, ground := Ground.phase }, { on := 3, ground := Ground.phase }, { on := 4, ground := Ground.phase }, { on := 5, ground := Ground.phase }, { on := 6, ground := Ground.phase }, { on := 7, ground := Ground.phase }, { on := 8, ground := Ground.phase }, { on := 9, ground := Ground.phase }, { on := 10, ground := Ground.phase }, { on := 11, ground := Ground.phase }, { on := 12, ground := Ground.textOnly Departure.lateStores }, { on := 13, ground := Ground.phase }, { on := 14, ground := Ground.phase }], guard := none }) (v := ?vv60) rfl (by kernel_rfl) (by kernel_rfl) (by kernel_rfl) (fun _ _ _ h => h) (Or.inl ⟨by rfl, ?hy60⟩) (by assumption) ?_
            case hy60 => (intro w hSw; (try dsimp only at hSw); go_simp; all_goals with_reducible rfl)
            try simp only [Act.put, List.setIfInBounds_toArray, List.set_cons_zero, List.set_cons_succ]
            refine wpAnyH_take (i := 16) (oi := { dst := some 10, op := Op.assign (Operand.tmp 75), type := 4, pos := "outright.go:137", after := #[{ on := 12, ground := Ground.data }, { on := 15, ground := Ground.chain }, { on := 0, ground := Ground.phase }, { on := 1, ground := Ground.phase }, { on := 2, ground := Ground.phase }, { on := 3, ground := Ground.phase }, { on := 4, ground := Ground.phase }, { on := 5, ground := Ground.phase }, { on := 6, ground := Ground.phase }, { on := 7, ground := Ground.phase }, { on := 8, ground := Ground.phase }, { on := 9, ground := Ground.phase }, { on := 10, ground := Ground.phase }, { on := 11, ground := Ground.phase }, { on := 12, ground := Ground.phase }, { on := 13, ground := Ground.phase }, { on := 14, ground := Ground.phase }, { on := 15, ground := Ground.phase }], guard := none }) (v := ?vv61) rfl (by kernel_rfl) (by kernel_rfl) (by kernel_rfl) (fun _ _ _ h => h) (Or.inl ⟨by rfl, ?hy61⟩) (by assumption) ?_
            case hy61 => (intro w hSw; (try dsimp only at hSw); go_simp; all_goals with_reducible rfl)
            try simp only [Act.put, List.setIfInBounds_toArray, List.set_cons_zero, List.set_cons_succ]
            refine wpAnyH_done (by kernel_rfl) ?_ _
            clear hHeld
            obtain ⟨Bj, off, cap, e, hc⟩ := HME.out.bk.row.isIn.kn k HkB.out
            simp only [sv] at e
            rw [HNl.out] at e
            injection e with e1 e2 e3
            clear e2
            subst e1 e3
            rw [HX.out] at hc
            have HSm : Hid (∀ V, Below E.heap.size E V → Calls Tryd.prog 15 #[.agg #[.int .i64 krn, .slice v1 v2 v3, .string krb], .agg #[.int .i64 krn, .slice kr1 kr2 kr3, .string krb]] V fun e w' => e = .returned (.bool true) ∧ Below V.heap.size V w') := fun V hV => same_eq krn krb (v1, v2, v3) (kr1, kr2, kr3) kfr V (HVE.out.below hV).isIn (by
              have := ((HME.out.below hV).bk.fl (B[k]'HkB.out) (List.getElem_mem _)).2.isIn
              rw [HX.out] at this
              exact this)
            have hS14 : Hid (∀ V, Below E.heap.size E V → V.cell? ⟨b, 5, none⟩ = some (.slice (some ⟨Bj, off, none⟩) z2 z3) ∧ V.cell? ⟨r0, 0, none⟩ = some (.int .i64 krn) ∧ V.cell? ⟨r0, 1, none⟩ = some (.slice v1 v2 v3) ∧ V.cell? ⟨r0, 2, none⟩ = some (.string krb) ∧ V.cell? ⟨Bj, off + k * 11, none⟩ = some (.int .i64 kst) ∧ V.cell? ⟨Bj, off + k * 11 + 8, none⟩ = some (.int .i64 krn) ∧ V.cell? ⟨Bj, off + k * 11 + 9, none⟩ = some (.slice kr1 kr2 kr3) ∧ V.cell? ⟨Bj, off + k * 11 + 10, none⟩ = some (.string krb)) := fun V hV => by
              have h1 := (HME.out.below hV).bk.cells
              have h2 := (hV.block _ (heap_lt HEb.out)).trans HEb.out
              have h3 := hc V hV
              exact ⟨h1.2.2.2.2.2.1, cell_blk h2 0, cell_blk h2 1, cell_blk h2 2, h3.1, h3.2.2.2.2.2.2.2.2.1, h3.2.2.2.2.2.2.2.2.2.1, h3.2.2.2.2.2.2.2.2.2.2⟩
            have lE := heap_lt HME.out.bk.blk
            clear hc HCS HL9
            go_upto_region 14 with fail
            have hIW : Below E.heap.size E E.drew := (Below.refl _ _).drew
            refine wp_region_held_drew (S := (fun V => V.cell? ⟨b, 5, none⟩ = some (.slice (some ⟨Bj, off, none⟩) z2 z3) ∧ V.cell? ⟨r0, 0, none⟩ = some (.int .i64 krn) ∧ V.cell? ⟨r0, 1, none⟩ = some (.slice v1 v2 v3) ∧ V.cell? ⟨r0, 2, none⟩ = some (.string krb) ∧ V.cell? ⟨Bj, off + k * 11, none⟩ = some (.int .i64 kst) ∧ V.cell? ⟨Bj, off + k * 11 + 8, none⟩ = some (.int .i64 krn) ∧ V.cell? ⟨Bj, off + k * 11 + 9, none⟩ = some (.slice kr1 kr2 kr3) ∧ V.cell? ⟨Bj, off + k * 11 + 10, none⟩ = some (.string krb))) (by kernel_rfl) (hS14.out _ hIW) (fun hHeld => ?_)
            generalize hWg : World.drew _ = W14 at hIW hHeld ⊢
            clear hWg
            refine wpAnyH_take (i := 0) (oi := { dst := some 94, op := Op.move (Operand.tmp 9), type := 2, pos := "outright.go:144", after := #[], guard := none }) (v := ?vv62) rfl (by kernel_rfl) (by kernel_rfl) (by kernel_rfl) (fun _ _ _ h => h) (Or.inl ⟨by rfl, ?hy62⟩) (by assumption) ?_
            case hy62 => (intro w hSw; (try dsimp only at hSw); go_simp; all_goals with_reducible rfl)
            try simp only [Act.put, List.setIfInBounds_toArray, List.set_cons_zero, List.set_cons_succ]
            refine wpAnyH_take (i := 1) (oi := { dst := some 95, op := Op.move (Operand.tmp 0), type := 55, pos := "outright.go:144", after := #[], guard := none }) (v := ?vv63) rfl (by kernel_rfl) (by kernel_rfl) (by kernel_rfl) (fun _ _ _ h => h) (Or.inl ⟨by rfl, ?hy63⟩) (by assumption) ?_
            case hy63 => (intro w hSw; (try dsimp only at hSw); go_simp; all_goals with_reducible rfl)
            try simp only [Act.put, List.setIfInBounds_toArray, List.set_cons_zero, List.set_cons_succ]
            refine wpAnyH_take (i := 2) (oi := { dst := some 96, op := Op.nilCheck (Operand.tmp 95), type := 0, pos := "outright.go:144", after := #[{ on := 1, ground := Ground.data }], guard := none }) (v := ?vv64) rfl (by kernel_rfl) (by kernel_rfl) (by kernel_rfl) (fun _ _ _ h => h) (Or.inl ⟨by rfl, ?hy64⟩) (by assumption) ?_
            case hy64 => (intro w hSw; (try dsimp only at hSw); go_simp; all_goals with_reducible rfl)
            try simp only [Act.put, List.setIfInBounds_toArray, List.set_cons_zero, List.set_cons_succ]
            refine wpAnyH_take (i := 3) (oi := { dst := some 97, op := Op.fieldAddr 58 (Operand.tmp 96) 2, type := 0, pos := "outright.go:144", after := #[{ on := 2, ground := Ground.data }], guard := none }) (v := ?vv65) rfl (by kernel_rfl) (by kernel_rfl) (by kernel_rfl) (fun _ _ _ h => h) (Or.inl ⟨by rfl, ?hy65⟩) (by assumption) ?_
            case hy65 => (intro w hSw; (try dsimp only at hSw); go_simp; all_goals with_reducible rfl)
            try simp only [Act.put, List.setIfInBounds_toArray, List.set_cons_zero, List.set_cons_succ]
            refine wpAnyH_take (i := 4) (oi := { dst := some 98, op := Op.load 56 (Operand.tmp 97), type := 56, pos := "outright.go:144", after := #[{ on := 3, ground := Ground.data }], guard := none }) (v := ?vv66) rfl (by kernel_rfl) (by kernel_rfl) (by kernel_rfl) (fun _ _ _ h => h) (Or.inl ⟨by rfl, ?hy66⟩) (by assumption) ?_
            case hy66 => (intro w hSw; (try dsimp only at hSw); go_simp; all_goals with_reducible rfl)
            try simp only [Act.put, List.setIfInBounds_toArray, List.set_cons_zero, List.set_cons_succ]
            refine wpAnyH_take (i := 5) (oi := { dst := some 99, op := Op.move (Operand.tmp 5), type := 3, pos := "outright.go:144", after := #[], guard := none }) (v := ?vv67) rfl (by kernel_rfl) (by kernel_rfl) (by kernel_rfl) (fun _ _ _ h => h) (Or.inl ⟨by rfl, ?hy67⟩) (by assumption) ?_
            case hy67 => (intro w hSw; (try dsimp only at hSw); go_simp; all_goals with_reducible rfl)
            try simp only [Act.put, List.setIfInBounds_toArray, List.set_cons_zero, List.set_cons_succ]
            refine wpAnyH_take (i := 6) (oi := { dst := some 100, op := Op.indexAddr 56 (Operand.tmp 98) (Operand.tmp 99), type := 0, pos := "outright.go:144", after := #[{ on := 4, ground := Ground.data }, { on := 5, ground := Ground.data }], guard := none }) (v := ?vv68) rfl (by kernel_rfl) (by kernel_rfl) (by kernel_rfl) (fun _ _ _ h => h) (Or.inl ⟨by rfl, ?hy68⟩) (by assumption) ?_
            case hy68 => (intro w hSw; (try dsimp only at hSw); go_simp; all_goals with_reducible rfl)
            try simp only [Act.put, List.setIfInBounds_toArray, List.set_cons_zero, List.set_cons_succ]
            refine wpAnyH_take (i := 7) (oi := { dst := some 101, op := Op.fieldAddr 95 (Operand.tmp 100) 0, type := 0, pos := "outright.go:144", after := #[{ on := 6, ground := Ground.data }], guard := none }) (v := ?vv69) rfl (by kernel_rfl) (by kernel_rfl) (by kernel_rfl) (fun _ _ _ h => h) (Or.inl ⟨by rfl, ?hy69⟩) (by assumption) ?_
            case hy69 => (intro w hSw; (try dsimp only at hSw); go_simp; all_goals with_reducible rfl)
            try simp only [Act.put, List.setIfInBounds_toArray, List.set_cons_zero, List.set_cons_succ]
            refine wpAnyH_take (i := 8) (oi := { dst := some 102, op := Op.load 2 (Operand.tmp 101), type := 2, pos := "outright.go:144", after := #[{ on := 7, ground := Ground.data }], guard := none }) (v := ?vv70) rfl (by kernel_rfl) (by kernel_rfl) (by kernel_rfl) (fun _ _ _ h => h) (Or.inl ⟨by rfl, ?hy70⟩) (by assumption) ?_
            case hy70 => (intro w hSw; (try dsimp only at hSw); go_simp; all_goals with_reducible rfl)
            try simp only [Act.put, List.setIfInBounds_toArray, List.set_cons_zero, List.set_cons_succ]
            refine wpAnyH_take (i := 9) (oi := { dst := some 103, op := Op.binOp BinOp.neq 2 (Operand.tmp 94) (Operand.tmp 102) 2, type := 4, pos := "outright.go:144", after := #[{ on := 0, ground := Ground.data }, { on := 8, ground := Ground.data }], guard := none }) (v := ?vv71) rfl (by kernel_rfl) (by kernel_rfl) (by kernel_rfl) (fun _ _ _ h => h) (Or.inl ⟨by rfl, ?hy71⟩) (by assumption) ?_
            case hy71 => (intro w hSw; (try dsimp only at hSw); go_simp; all_goals with_reducible rfl)
            try simp only [Act.put, List.setIfInBounds_toArray, List.set_cons_zero, List.set_cons_succ]
            refine wpAnyH_take (i := 10) (oi := { dst := some 104, op := Op.move (Operand.tmp 103), type := 4, pos := "outright.go:144", after := #[{ on := 9, ground := Ground.data }], guard := none }) (v := ?vv72) rfl (by kernel_rfl) (by kernel_rfl) (by kernel_rfl) (fun _ _ _ h => h) (Or.inl ⟨by rfl, ?hy72⟩) (by assumption) ?_
            case hy72 => (intro w hSw; (try dsimp only at hSw); go_simp; all_goals with_reducible rfl)
            try simp only [Act.put, List.setIfInBounds_toArray, List.set_cons_zero, List.set_cons_succ]
            refine wpAnyH_take (i := 11) (oi := { dst := some 105, op := Op.load 26 (Operand.tmp 8), type := 26, pos := "outright.go:144", after := #[{ on := 10, ground := Ground.guard }], guard := some (10, false) }) (v := ?vv73) rfl (by kernel_rfl) (by kernel_rfl) (by kernel_rfl) (fun _ _ _ h => h) (Or.inl ⟨by rfl, ?hy73⟩) (by assumption) ?_
            case hy73 => (intro w hSw; (try dsimp only at hSw); go_simp; all_goals with_reducible rfl)
            try simp only [Act.put, List.setIfInBounds_toArray, List.set_cons_zero, List.set_cons_succ]
            refine wpAnyH_take (i := 12) (oi := { dst := some 106, op := Op.move (Operand.tmp 0), type := 55, pos := "outright.go:144", after := #[{ on := 10, ground := Ground.guard }], guard := some (10, false) }) (v := ?vv74) rfl (by kernel_rfl) (by kernel_rfl) (by kernel_rfl) (fun _ _ _ h => h) (Or.inl ⟨by rfl, ?hy74⟩) (by assumption) ?_
            case hy74 => (intro w hSw; (try dsimp only at hSw); go_simp; all_goals with_reducible rfl)
            try simp only [Act.put, List.setIfInBounds_toArray, List.set_cons_zero, List.set_cons_succ]
            refine wpAnyH_take (i := 13) (oi := { dst := some 107, op := Op.nilCheck (Operand.tmp 106), type := 0, pos := "outright.go:144", after := #[{ on := 12, ground := Ground.data }, { on := 10, ground := Ground.guard }], guard := some (10, false) }) (v := ?vv75) rfl (by kernel_rfl) (by kernel_rfl) (by kernel_rfl) (fun _ _ _ h => h) (Or.inl ⟨by rfl, ?hy75⟩) (by assumption) ?_
            case hy75 => (intro w hSw; (try dsimp only at hSw); go_simp; all_goals with_reducible rfl)
            try simp only [Act.put, List.setIfInBounds_toArray, List.set_cons_zero, List.set_cons_succ]
            refine wpAnyH_take (i := 14) (oi := { dst := some 108, op := Op.fieldAddr 58 (Operand.tmp 107) 2, type := 0, pos := "outright.go:144", after := #[{ on := 13, ground := Ground.data }, { on := 10, ground := Ground.guard }], guard := some (10, false) }) (v := ?vv76) rfl (by kernel_rfl) (by kernel_rfl) (by kernel_rfl) (fun _ _ _ h => h) (Or.inl ⟨by rfl, ?hy76⟩) (by assumption) ?_
            case hy76 => (intro w hSw; (try dsimp only at hSw); go_simp; all_goals with_reducible rfl)
            try simp only [Act.put, List.setIfInBounds_toArray, List.set_cons_zero, List.set_cons_succ]
            refine wpAnyH_take (i := 15) (oi := { dst := some 109, op := Op.load 56 (Operand.tmp 108), type := 56, pos := "outright.go:144", after := #[{ on := 14, ground := Ground.data }, { on := 10, ground := Ground.guard }], guard := some (10, false) }) (v := ?vv77) rfl (by kernel_rfl) (by kernel_rfl) (by kernel_rfl) (fun _ _ _ h => h) (Or.inl ⟨by rfl, ?hy77⟩) (by assumption) ?_
            case hy77 => (intro w hSw; (try dsimp only at hSw); go_simp; all_goals with_reducible rfl)
            try simp only [Act.put, List.setIfInBounds_toArray, List.set_cons_zero, List.set_cons_succ]
            refine wpAnyH_take (i := 16) (oi := { dst := some 110, op := Op.move (Operand.tmp 5), type := 3, pos := "outright.go:144", after := #[{ on := 10, ground := Ground.guard }], guard := some (10, false) }) (v := ?vv78) rfl (by kernel_rfl) (by kernel_rfl) (by kernel_rfl) (fun _ _ _ h => h) (Or.inl ⟨by rfl, ?hy78⟩) (by assumption) ?_
            case hy78 => (intro w hSw; (try dsimp only at hSw); go_simp; all_goals with_reducible rfl)
            try simp only [Act.put, List.setIfInBounds_toArray, List.set_cons_zero, List.set_cons_succ]
            refine wpAnyH_take (i := 17) (oi := { dst := some 111, op := Op.indexAddr 56 (Operand.tmp 109) (Operand.tmp 110), type := 0, pos := "outright.go:144", after := #[{ on := 15, ground := Ground.data }, { on := 16, ground := Ground.data }, { on := 10, ground := Ground.guard }], guard := some (10, false) }) (v := ?vv79) rfl (by kernel_rfl) (by kernel_rfl) (by kernel_rfl) (fun _ _ _ h => h) (Or.inl ⟨by rfl, ?hy79⟩) (by assumption) ?_
            case hy79 => (intro w hSw; (try dsimp only at hSw); go_simp; all_goals with_reducible rfl)
            try simp only [Act.put, List.setIfInBounds_toArray, List.set_cons_zero, List.set_cons_succ]
            refine wpAnyH_take (i := 18) (oi := { dst := some 112, op := Op.fieldAddr 95 (Operand.tmp 111) 3, type := 0, pos := "outright.go:144", after := #[{ on := 17, ground := Ground.data }, { on := 10, ground := Ground.guard }], guard := some (10, false) }) (v := ?vv80) rfl (by kernel_rfl) (by kernel_rfl) (by kernel_rfl) (fun _ _ _ h => h) (Or.inl ⟨by rfl, ?hy80⟩) (by assumption) ?_
            case hy80 => (intro w hSw; (try dsimp only at hSw); go_simp; all_goals with_reducible rfl)
            try simp only [Act.put, List.setIfInBounds_toArray, List.set_cons_zero, List.set_cons_succ]
            refine wpAnyH_take (i := 19) (oi := { dst := some 113, op := Op.load 26 (Operand.tmp 112), type := 26, pos := "outright.go:144", after := #[{ on := 18, ground := Ground.data }, { on := 10, ground := Ground.guard }], guard := some (10, false) }) (v := ?vv81) rfl (by kernel_rfl) (by kernel_rfl) (by kernel_rfl) (fun _ _ _ h => h) (Or.inl ⟨by rfl, ?hy81⟩) (by assumption) ?_
            case hy81 => (intro w hSw; (try dsimp only at hSw); go_simp; all_goals with_reducible rfl)
            try simp only [Act.put, List.setIfInBounds_toArray, List.set_cons_zero, List.set_cons_succ]
            refine wpAnyH_ready (rs := [20]) (by kernel_rfl) (by simp) ?_
            refine AllReadyH.cons (o := { dst := some 114, op := Op.call { callee := Callee.value (Operand.func 15), args := #[Operand.tmp 105, Operand.tmp 113], argTypes := #[26, 26] }, type := 4, pos := "outright.go:144", after := #[{ on := 11, ground := Ground.data }, { on := 19, ground := Ground.data }, { on := 10, ground := Ground.chain }, { on := 10, ground := Ground.guard }], guard := some (10, false) }) rfl (fun K hK => ?_) AllReadyH.nil
            refine ite_take (by rfl) ?_
            go_simp
            refine (HSm.out _ hIW).mono ?_
            rintro e' W14x ⟨rfl, bX⟩
            have hW14x : Below E.heap.size E W14x := hIW.trans (bX.mono hIW.size)
            clear bX
            go_wp2_with fail
            refine hK.out _ _ (hS14.out _ hW14x) (fun hHeld => ?_)
            clear hK K
            try simp only [Act.put, List.setIfInBounds_toArray, List.set_cons_zero, List.set_cons_succ]
            refine wpAnyH_take (i := 21) (oi := { dst := some 115, op := Op.unOp UnOp.not 4 (Operand.tmp 114), type := 4, pos := "outright.go:144", after := #[{ on := 20, ground := Ground.data }, { on := 10, ground := Ground.guard }], guard := some (10, false) }) (v := ?vv82) rfl (by kernel_rfl) (by kernel_rfl) (by kernel_rfl) (fun _ _ _ h => h) (Or.inl ⟨by rfl, ?hy82⟩) (by assumption) ?_
            case hy82 => (intro w hSw; (try dsimp only at hSw); go_simp; all_goals with_reducible rfl)
            try simp only [Act.put, List.setIfInBounds_toArray, List.set_cons_zero, List.set_cons_succ]
            refine wpAnyH_take (i := 22) (oi := { dst := some 116, op := Op.pick (Operand.tmp 104) (Operand.const (Value.bool true)) (Operand.tmp 115), type := 4, pos := "outright.go:144", after := #[{ on := 10, ground := Ground.data }, { on := 21, ground := Ground.data }], guard := none }) (v := ?vv83) rfl (by kernel_rfl) (by kernel_rfl) (by kernel_rfl) (fun _ _ _ h => h) (Or.inl ⟨by rfl, ?hy83⟩) (by assumption) ?_
            case hy83 => (intro w hSw; (try dsimp only at hSw); go_simp; all_goals with_reducible rfl)
            try simp only [Act.put, List.setIfInBounds_toArray, List.set_cons_zero, List.set_cons_succ]
            refine wpAnyH_done (by kernel_rfl) ?_ _
            have HM15 : Hid (Cj w0 W14x b g (hr c tk) y9 (L.eraseIdx k) (some ⟨Bj, off, none⟩, z2, z3) B n1 o0 (⟨kd, tw, ⟨m, s, a, p, (y1, y2, y3), qb⟩, rn, (r1, r2, r3), rb, st, tk, Q, fr⟩ : Os)) := HME.out.below hW14x
            have HW16 : Hid (Calls Tryd.prog 46 #[.slice (some ⟨Bj, off, none⟩) z2 z3, .int .i64 (k : Int)] W14x fun e w' => ∃ z : SV, e = .returned (sv z) ∧ R EK w' (sv z) (B.eraseIdx k) ∧ (∀ k, (sv z).ownBlock = some k → W14x.heap.size ≤ k) ∧ Below W14x.heap.size W14x w') := without_any (some ⟨Bj, off, none⟩, z2, z3) B k (by rw [HNl.out]; have := HkB.out; have := HNl.out; omega) (by have := HB64.out; omega) W14x HM15.out.bk.row.isIn
            have p5 := HM15.out.bk.cells.2.2.2.2.2.1
            simp only [sv] at p5
            have lb := heap_lt HM15.out.bk.blk
            clear hS14 hHeld HSm HEb HVE HME
            go_wp2_with fail
            go_at_call 46
            refine HW16.out.mono ?_
            rintro e' V16 ⟨⟨u1, u2, u3⟩, rfl, hR16, hn16, b16⟩
            have HE := HM15.out.setL b16 hR16 hn16 (fun x hx => List.mem_of_mem_eraseIdx hx) HRl.out
            obtain ⟨e0, e1, e2, e3, e4, e5, e6, ef⟩ := (HM15.out.below b16).bk.cells
            have f5 := ef 5
            simp only [sv] at e5 HE
            have HEx : Hid (Ci w0 (V16.setCell ⟨b, 5, none⟩ (.slice u1 u2 u3)) b g (hr c tk) y9 (L.eraseIdx k) (u1, u2, u3) (B.eraseIdx k) n1) := HE
            simp only [sv]
            clear HE hR16 hn16 b16 HM15 HW16 p5 e0 e1 e2 e3 e4 e6 ef
            go_wp2_with fail
            go_ret
            exact ⟨rfl, y9, L.eraseIdx k, (u1, u2, u3), B.eraseIdx k, HEx.out, fun x hx => List.mem_of_mem_eraseIdx hx, List.eraseIdx_sublist _ _⟩
          refine AllReadyH.cons (o := { dst := some 8, op := Op.alloc 26, type := 0, pos := "outright.go:137", after := #[], guard := none }) rfl (fun K hK => ?_) AllReadyH.nil
          obtain ⟨r0, hr0⟩ : ∃ q, W9.heap.size = q := ⟨_, rfl⟩
          obtain ⟨W9x, hV0⟩ : ∃ V, W9.alloc (.cells #[.int .i64 0, .slice none 0 0, .string ⟨#[]⟩] 26) = V := ⟨_, rfl⟩
          have b0x : Below W9.heap.size W9 W9x := by rw [← hV0]; exact bel1 _ _
          have HR0W9x : Hid (W9x.heap[r0]? = some (.cells #[.int .i64 0, .slice none 0 0, .string ⟨#[]⟩] 26 (0, 0)) ∧ w0.heap.size ≤ r0) := ⟨by rw [← hV0, ← hr0, heap_al, if_pos rfl], by rw [← hr0]; exact HC9.out.ci.bel.size⟩
          have HCW9x : Hid (Cl w0 W9x b g (hr c tk) y L (z1, z2, z3) B n1 o0 (⟨kd, tw, ⟨m, s, a, p, (y1, y2, y3), qb⟩, rn, (r1, r2, r3), rb, st, tk, Q, fr⟩ : Os)) := HC9.out.below b0x
          clear b0x
          go_simp
          go_wp2_with fail
          try rw [hV0]
          try rw [hr0]
          refine hK.out _ _ (HCS.out _ _ _ _ HCW9x.out.cm) (fun hHeld => ?_)
          clear hK K hV0 hr0
          try simp only [Act.put, List.setIfInBounds_toArray, List.set_cons_zero, List.set_cons_succ]
          refine wpAnyH_ready (rs := [8]) (by kernel_rfl) (by simp) ?_
          refine AllReadyH.cons (o := { dst := some 72, op := Op.call { callee := Callee.value (Operand.func 13), args := #[Operand.tmp 67, Operand.tmp 69, Operand.tmp 71], argTypes := #[30, 24, 2] }, type := 43, pos := "outright.go:137", after := #[{ on := 3, ground := Ground.data }, { on := 5, ground := Ground.data }, { on := 7, ground := Ground.data }], guard := none }) rfl (fun K hK => ?_) AllReadyH.nil
          go_simp
          refine (HL9.out _ HCW9x.out).mono ?_
          rintro e' W9xx hP9
          obtain ⟨hi9, ⟨v1, v2, v3⟩, y9, rfl, hRv9, hM9, hRl9, hKs9⟩ := hP9
          have HMW9xx : Hid (Cj w0 W9xx b g (hr c tk) y9 (L.eraseIdx k) (z1, z2, z3) B n1 o0 (⟨kd, tw, ⟨m, s, a, p, (y1, y2, y3), qb⟩, rn, (r1, r2, r3), rb, st, tk, Q, fr⟩ : Os)) := hM9
          have HRl : Hid (Rl (L.eraseIdx k) (B.eraseIdx k)) := hRl9
          rw [HX.out] at hRv9 ⊢
          have HVW9xx : Hid (R EFd W9xx (.slice v1 v2 v3) kfr) := hRv9
          clear hRv9
          have HR0W9xx : Hid (W9xx.heap[r0]? = some (.cells #[.int .i64 0, .slice none 0 0, .string ⟨#[]⟩] 26 (0, 0)) ∧ w0.heap.size ≤ r0) := ⟨(hKs9.block r0 (heap_lt HR0W9x.out.1) (HCW9x.out.ci.cx.offb HR0W9x.out.1 (by decide) (by decide))).trans HR0W9x.out.1, HR0W9x.out.2⟩
          clear hM9 hRl9 hKs9
          simp only [rsv, sv]
          go_wp2_with fail
          refine hK.out _ _ (HCS.out _ _ _ _ HMW9xx.out) (fun hHeld => ?_)
          clear hK K
          try simp only [Act.put, List.setIfInBounds_toArray, List.set_cons_zero, List.set_cons_succ]
          refine wpAnyH_take (i := 9) (oi := { dst := some 63, op := Op.move (Operand.tmp 72), type := 43, pos := "outright.go:137", after := #[{ on := 8, ground := Ground.data }], guard := none }) (v := ?vv84) rfl (by kernel_rfl) (by kernel_rfl) (by kernel_rfl) (fun _ _ _ h => h) (Or.inl ⟨by rfl, ?hy84⟩) (by assumption) ?_
          case hy84 => (intro w hSw; (try dsimp only at hSw); go_simp; all_goals with_reducible rfl)
          try simp only [Act.put, List.setIfInBounds_toArray, List.set_cons_zero, List.set_cons_succ]
          refine wpAnyH_take (i := 10) (oi := { dst := some 73, op := Op.extract (Operand.tmp 63) 0, type := 26, pos := "outright.go:137", after := #[{ on := 9, ground := Ground.data }], guard := none }) (v := ?vv85) rfl (by kernel_rfl) (by kernel_rfl) (by kernel_rfl) (fun _ _ _ h => h) (Or.inl ⟨by rfl, ?hy85⟩) (by assumption) ?_
          case hy85 => (intro w hSw; (try dsimp only at hSw); go_simp; all_goals with_reducible rfl)
          try simp only [Act.put, List.setIfInBounds_toArray, List.set_cons_zero, List.set_cons_succ]
          refine wpAnyH_take (i := 11) (oi := { dst := some 74, op := Op.extract (Operand.tmp 63) 1, type := 2, pos := "outright.go:137", after := #[{ on := 9, ground := Ground.data }, { on := 14, ground := Ground.gcOnly Departure.lateStores }], guard := none }) (v := ?vv86) rfl (by kernel_rfl) (by kernel_rfl) (by kernel_rfl) (fun _ _ _ h => h) (Or.inl ⟨by rfl, ?hy86⟩) (by assumption) ?_
          case hy86 => (intro w hSw; (try dsimp only at hSw); go_simp; all_goals with_reducible rfl)
          try simp only [Act.put, List.setIfInBounds_toArray, List.set_cons_zero, List.set_cons_succ]
          refine wpAnyH_take (i := 12) (oi := { dst := some 75, op := Op.extract (Operand.tmp 63) 2, type := 4, pos := "outright.go:137", after := #[{ on := 9, ground := Ground.data }, { on := 15, ground := Ground.gcOnly Departure.lateStores }], guard := none }) (v := ?vv87) rfl (by kernel_rfl) (by kernel_rfl) (by kernel_rfl) (fun _ _ _ h => h) (Or.inl ⟨by rfl, ?hy87⟩) (by assumption) ?_
          case hy87 => (intro w hSw; (try dsimp only at hSw); go_simp; all_goals with_reducible rfl)
          try simp only [Act.put, List.setIfInBounds_toArray, List.set_cons_zero, List.set_cons_succ]
          refine wpAnyH_ready (rs := [14]) (by kernel_rfl) (by simp) ?_
          refine AllReadyH.cons (o := { dst := none, op := Op.store 26 (Operand.tmp 8) (Operand.tmp 73), type := 0, pos := "outright.go:137", after := #[{ on := 13, ground := Ground.data }, { on := 10, ground := Ground.data }, { on := 8, ground := Ground.chain }, { on := 0, ground := Ground.phase }, { on := 1, ground := Ground.phase }, { on := 2, ground := Ground.phase }, { on := 3, ground := Ground.phase }, { on := 4, ground := Ground.phase }, { on := 5, ground := Ground.phase }, { on := 6, ground := Ground.phase }, { on := 7, ground := Ground.phase }, { on := 8, ground := Ground.phase }, { on := 9, ground := Ground.phase }, { on := 10, ground := Ground.phase }, { on := 11, ground := Ground.textOnly Departure.lateStores }, { on := 12, ground := Ground.textOnly Departure.lateStores }, { on := 13, ground := Ground.phase }], guard := none }) rfl (fun K hK => ?_) AllReadyH.nil
          have hr2 := HR0W9xx.out.1
          have p0 := cell_blk hr2 0
          have p1 := cell_blk hr2 1
          have p2 := cell_blk hr2 2
          have q0 := frozen_blk hr2 0
          have q1 := frozen_blk hr2 1
          have q2 := frozen_blk hr2 2
          simp only [List.getElem?_toArray, List.getElem?_cons_succ, List.getElem?_cons_zero] at p0 p1 p2
          obtain ⟨E, hE⟩ : ∃ E, ((W9xx.setCell ⟨r0, 0, none⟩ (.int .i64 krn)).setCell ⟨r0, 1, none⟩ (.slice v1 v2 v3)).setCell ⟨r0, 2, none⟩ (.string krb) = E := ⟨_, rfl⟩
          have hEb1 := setCell_block W9xx r0 0 (.int .i64 krn) _ 26 (0, 0) hr2
          have hEb2 := setCell_block _ r0 1 (.slice v1 v2 v3) _ 26 (0, 0) hEb1
          have HEb : Hid (E.heap[r0]? = some (.cells #[.int .i64 krn, .slice v1 v2 v3, .string krb] 26 (0, 0))) := by
            show _ = _
            rw [← hE, setCell_block _ _ _ _ _ _ _ hEb2]
            rfl
          have HME : Hid (Cj w0 E b g (hr c tk) y9 (L.eraseIdx k) (z1, z2, z3) B n1 o0 (⟨kd, tw, ⟨m, s, a, p, (y1, y2, y3), qb⟩, rn, (r1, r2, r3), rb, st, tk, Q, fr⟩ : Os)) := by
            show Cj _ _ _ _ _ _ _ _ _ _ _ _
            rw [← hE]
            exact ((HMW9xx.out.box hr2 (by decide) HR0W9xx.out.2 0 _).box hEb1 (by decide) HR0W9xx.out.2 1 _).box hEb2 (by decide) HR0W9xx.out.2 2 _
          have HVE : Hid (R EFd E (.slice v1 v2 v3) kfr) := HVW9xx.out.stays fun j hj _ => by
            obtain ⟨cj, hcj⟩ := HVW9xx.out.ty j hj
            have hne : j ≠ r0 := ty_ne hcj hr2 (show (51 : TypeId) ≠ 26 by decide)
            rw [← hE, setCell_other _ _ _ _ _ hne, setCell_other _ _ _ _ _ hne, setCell_other _ _ _ _ _ hne]
          clear hr2 hEb1 hEb2
          go_simp
          go_wp2_with fail
          try rw [hE]
          refine hK.out _ _ (HCS.out _ _ _ _ HME.out) (fun hHeld => ?_)
          clear hK K hE p0 p1 p2 q0 q1 q2
          try simp only [Act.put, List.setIfInBounds_toArray, List.set_cons_zero, List.set_cons_succ]
          refine wpAnyH_take (i := 15) (oi := { dst := some 9, op := Op.assign (Operand.tmp 74), type := 2, pos := "outright.go:137", after := #[{ on := 11, ground := Ground.data }, { on := 14, ground := Ground.chain }, { on := 0, ground := Ground.phase }, { on := 1, ground := Ground.phase }, { on := 2, ground := Ground.phase }, { on := 3, ground := Ground.phase }, { on := 4, ground := Ground.phase }, { on := 5, ground := Ground.phase }, { on := 6, ground := Ground.phase }, { on := 7, ground := Ground.phase }, { on := 8, ground := Ground.phase }, { on := 9, ground := Ground.phase }, { on := 10, ground := Ground.phase }, { on := 11, ground := Ground.phase }, { on := 12, ground := Ground.textOnly Departure.lateStores }, { on := 13, ground := Ground.phase }, { on := 14, ground := Ground.phase }], guard := none }) (v := ?vv88) rfl (by kernel_rfl) (by kernel_rfl) (by kernel_rfl) (fun _ _ _ h => h) (Or.inl ⟨by rfl, ?hy88⟩) (by assumption) ?_
          case hy88 => (intro w hSw; (try dsimp only at hSw); go_simp; all_goals with_reducible rfl)
          try simp only [Act.put, List.setIfInBounds_toArray, List.set_cons_zero, List.set_cons_succ]
          refine wpAnyH_take (i := 16) (oi := { dst := some 10, op := Op.assign (Operand.tmp 75), type := 4, pos := "outright.go:137", after := #[{ on := 12, ground := Ground.data }, { on := 15, ground := Ground.chain }, { on := 0, ground := Ground.phase }, { on := 1, ground := Ground.phase }, { on := 2, ground := Ground.phase }, { on := 3, ground := Ground.phase }, { on := 4, ground := Ground.phase }, { on := 5, ground := Ground.phase }, { on := 6, ground := Ground.phase }, { on := 7, ground := Ground.phase }, { on := 8, ground := Ground.phase }, { on := 9, ground := Ground.phase }, { on := 10, ground := Ground.phase }, { on := 11, ground := Ground.phase }, { on := 12, ground := Ground.phase }, { on := 13, ground := Ground.phase }, { on := 14, ground := Ground.phase }, { on := 15, ground := Ground.phase }], guard := none }) (v := ?vv89) rfl (by kernel_rfl) (by kernel_rfl) (by kernel_rfl) (fun _ _ _ h => h) (Or.inl ⟨by rfl, ?hy89⟩) (by assumption) ?_
          case hy89 => (intro w hSw; (try dsimp only at hSw); go_simp; all_goals with_reducible rfl)
          try simp only [Act.put, List.setIfInBounds_toArray, List.set_cons_zero, List.set_cons_succ]
          refine wpAnyH_done (by kernel_rfl) ?_ _
          clear hHeld
          obtain ⟨Bj, off, cap, e, hc⟩ := HME.out.bk.row.isIn.kn k HkB.out
          simp only [sv] at e
          rw [HNl.out] at e
          injection e with e1 e2 e3
          clear e2
          subst e1 e3
          rw [HX.out] at hc
          have HSm : Hid (∀ V, Below E.heap.size E V → Calls Tryd.prog 15 #[.agg #[.int .i64 krn, .slice v1 v2 v3, .string krb], .agg #[.int .i64 krn, .slice kr1 kr2 kr3, .string krb]] V fun e w' => e = .returned (.bool true) ∧ Below V.heap.size V w') := fun V hV => same_eq krn krb (v1, v2, v3) (kr1, kr2, kr3) kfr V (HVE.out.below hV).isIn (by
            have := ((HME.out.below hV).bk.fl (B[k]'HkB.out) (List.getElem_mem _)).2.isIn
            rw [HX.out] at this
            exact this)
          have hS14 : Hid (∀ V, Below E.heap.size E V → V.cell? ⟨b, 5, none⟩ = some (.slice (some ⟨Bj, off, none⟩) z2 z3) ∧ V.cell? ⟨r0, 0, none⟩ = some (.int .i64 krn) ∧ V.cell? ⟨r0, 1, none⟩ = some (.slice v1 v2 v3) ∧ V.cell? ⟨r0, 2, none⟩ = some (.string krb) ∧ V.cell? ⟨Bj, off + k * 11, none⟩ = some (.int .i64 kst) ∧ V.cell? ⟨Bj, off + k * 11 + 8, none⟩ = some (.int .i64 krn) ∧ V.cell? ⟨Bj, off + k * 11 + 9, none⟩ = some (.slice kr1 kr2 kr3) ∧ V.cell? ⟨Bj, off + k * 11 + 10, none⟩ = some (.string krb)) := fun V hV => by
            have h1 := (HME.out.below hV).bk.cells
            have h2 := (hV.block _ (heap_lt HEb.out)).trans HEb.out
            have h3 := hc V hV
            exact ⟨h1.2.2.2.2.2.1, cell_blk h2 0, cell_blk h2 1, cell_blk h2 2, h3.1, h3.2.2.2.2.2.2.2.2.1, h3.2.2.2.2.2.2.2.2.2.1, h3.2.2.2.2.2.2.2.2.2.2⟩
          have lE := heap_lt HME.out.bk.blk
          clear hc HCS HL9
          go_upto_region 14 with fail
          have hIW : Below E.heap.size E E.drew := (Below.refl _ _).drew
          refine wp_region_held_drew (S := (fun V => V.cell? ⟨b, 5, none⟩ = some (.slice (some ⟨Bj, off, none⟩) z2 z3) ∧ V.cell? ⟨r0, 0, none⟩ = some (.int .i64 krn) ∧ V.cell? ⟨r0, 1, none⟩ = some (.slice v1 v2 v3) ∧ V.cell? ⟨r0, 2, none⟩ = some (.string krb) ∧ V.cell? ⟨Bj, off + k * 11, none⟩ = some (.int .i64 kst) ∧ V.cell? ⟨Bj, off + k * 11 + 8, none⟩ = some (.int .i64 krn) ∧ V.cell? ⟨Bj, off + k * 11 + 9, none⟩ = some (.slice kr1 kr2 kr3) ∧ V.cell? ⟨Bj, off + k * 11 + 10, none⟩ = some (.string krb))) (by kernel_rfl) (hS14.out _ hIW) (fun hHeld => ?_)
          generalize hWg : World.drew _ = W14 at hIW hHeld ⊢
          clear hWg
          refine wpAnyH_take (i := 0) (oi := { dst := some 94, op := Op.move (Operand.tmp 9), type := 2, pos := "outright.go:144", after := #[], guard := none }) (v := ?vv90) rfl (by kernel_rfl) (by kernel_rfl) (by kernel_rfl) (fun _ _ _ h => h) (Or.inl ⟨by rfl, ?hy90⟩) (by assumption) ?_
          case hy90 => (intro w hSw; (try dsimp only at hSw); go_simp; all_goals with_reducible rfl)
          try simp only [Act.put, List.setIfInBounds_toArray, List.set_cons_zero, List.set_cons_succ]
          refine wpAnyH_take (i := 1) (oi := { dst := some 95, op := Op.move (Operand.tmp 0), type := 55, pos := "outright.go:144", after := #[], guard := none }) (v := ?vv91) rfl (by kernel_rfl) (by kernel_rfl) (by kernel_rfl) (fun _ _ _ h => h) (Or.inl ⟨by rfl, ?hy91⟩) (by assumption) ?_
          case hy91 => (intro w hSw; (try dsimp only at hSw); go_simp; all_goals with_reducible rfl)
          try simp only [Act.put, List.setIfInBounds_toArray, List.set_cons_zero, List.set_cons_succ]
          refine wpAnyH_take (i := 2) (oi := { dst := some 96, op := Op.nilCheck (Operand.tmp 95), type := 0, pos := "outright.go:144", after := #[{ on := 1, ground := Ground.data }], guard := none }) (v := ?vv92) rfl (by kernel_rfl) (by kernel_rfl) (by kernel_rfl) (fun _ _ _ h => h) (Or.inl ⟨by rfl, ?hy92⟩) (by assumption) ?_
          case hy92 => (intro w hSw; (try dsimp only at hSw); go_simp; all_goals with_reducible rfl)
          try simp only [Act.put, List.setIfInBounds_toArray, List.set_cons_zero, List.set_cons_succ]
          refine wpAnyH_take (i := 3) (oi := { dst := some 97, op := Op.fieldAddr 58 (Operand.tmp 96) 2, type := 0, pos := "outright.go:144", after := #[{ on := 2, ground := Ground.data }], guard := none }) (v := ?vv93) rfl (by kernel_rfl) (by kernel_rfl) (by kernel_rfl) (fun _ _ _ h => h) (Or.inl ⟨by rfl, ?hy93⟩) (by assumption) ?_
          case hy93 => (intro w hSw; (try dsimp only at hSw); go_simp; all_goals with_reducible rfl)
          try simp only [Act.put, List.setIfInBounds_toArray, List.set_cons_zero, List.set_cons_succ]
          refine wpAnyH_take (i := 4) (oi := { dst := some 98, op := Op.load 56 (Operand.tmp 97), type := 56, pos := "outright.go:144", after := #[{ on := 3, ground := Ground.data }], guard := none }) (v := ?vv94) rfl (by kernel_rfl) (by kernel_rfl) (by kernel_rfl) (fun _ _ _ h => h) (Or.inl ⟨by rfl, ?hy94⟩) (by assumption) ?_
          case hy94 => (intro w hSw; (try dsimp only at hSw); go_simp; all_goals with_reducible rfl)
          try simp only [Act.put, List.setIfInBounds_toArray, List.set_cons_zero, List.set_cons_succ]
          refine wpAnyH_take (i := 5) (oi := { dst := some 99, op := Op.move (Operand.tmp 5), type := 3, pos := "outright.go:144", after := #[], guard := none }) (v := ?vv95) rfl (by kernel_rfl) (by kernel_rfl) (by kernel_rfl) (fun _ _ _ h => h) (Or.inl ⟨by rfl, ?hy95⟩) (by assumption) ?_
          case hy95 => (intro w hSw; (try dsimp only at hSw); go_simp; all_goals with_reducible rfl)
          try simp only [Act.put, List.setIfInBounds_toArray, List.set_cons_zero, List.set_cons_succ]
          refine wpAnyH_take (i := 6) (oi := { dst := some 100, op := Op.indexAddr 56 (Operand.tmp 98) (Operand.tmp 99), type := 0, pos := "outright.go:144", after := #[{ on := 4, ground := Ground.data }, { on := 5, ground := Ground.data }], guard := none }) (v := ?vv96) rfl (by kernel_rfl) (by kernel_rfl) (by kernel_rfl) (fun _ _ _ h => h) (Or.inl ⟨by rfl, ?hy96⟩) (by assumption) ?_
          case hy96 => (intro w hSw; (try dsimp only at hSw); go_simp; all_goals with_reducible rfl)
          try simp only [Act.put, List.setIfInBounds_toArray, List.set_cons_zero, List.set_cons_succ]
          refine wpAnyH_take (i := 7) (oi := { dst := some 101, op := Op.fieldAddr 95 (Operand.tmp 100) 0, type := 0, pos := "outright.go:144", after := #[{ on := 6, ground := Ground.data }], guard := none }) (v := ?vv97) rfl (by kernel_rfl) (by kernel_rfl) (by kernel_rfl) (fun _ _ _ h => h) (Or.inl ⟨by rfl, ?hy97⟩) (by assumption) ?_
          case hy97 => (intro w hSw; (try dsimp only at hSw); go_simp; all_goals with_reducible rfl)
          try simp only [Act.put, List.setIfInBounds_toArray, List.set_cons_zero, List.set_cons_succ]
          refine wpAnyH_take (i := 8) (oi := { dst := some 102, op := Op.load 2 (Operand.tmp 101), type := 2, pos := "outright.go:144", after := #[{ on := 7, ground := Ground.data }], guard := none }) (v := ?vv98) rfl (by kernel_rfl) (by kernel_rfl) (by kernel_rfl) (fun _ _ _ h => h) (Or.inl ⟨by rfl, ?hy98⟩) (by assumption) ?_
          case hy98 => (intro w hSw; (try dsimp only at hSw); go_simp; all_goals with_reducible rfl)
          try simp only [Act.put, List.setIfInBounds_toArray, List.set_cons_zero, List.set_cons_succ]
          refine wpAnyH_take (i := 9) (oi := { dst := some 103, op := Op.binOp BinOp.neq 2 (Operand.tmp 94) (Operand.tmp 102) 2, type := 4, pos := "outright.go:144", after := #[{ on := 0, ground := Ground.data }, { on := 8, ground := Ground.data }], guard := none }) (v := ?vv99) rfl (by kernel_rfl) (by kernel_rfl) (by kernel_rfl) (fun _ _ _ h => h) (Or.inl ⟨by rfl, ?hy99⟩) (by assumption) ?_
          case hy99 => (intro w hSw; (try dsimp only at hSw); go_simp; all_goals with_reducible rfl)
          try simp only [Act.put, List.setIfInBounds_toArray, List.set_cons_zero, List.set_cons_succ]
          refine wpAnyH_take (i := 10) (oi := { dst := some 104, op := Op.move (Operand.tmp 103), type := 4, pos := "outright.go:144", after := #[{ on := 9, ground := Ground.data }], guard := none }) (v := ?vv100) rfl (by kernel_rfl) (by kernel_rfl) (by kernel_rfl) (fun _ _ _ h => h) (Or.inl ⟨by rfl, ?hy100⟩) (by assumption) ?_
          case hy100 => (intro w hSw; (try dsimp only at hSw); go_simp; all_goals with_reducible rfl)
          try simp only [Act.put, List.setIfInBounds_toArray, List.set_cons_zero, List.set_cons_succ]
          refine wpAnyH_take (i := 11) (oi := { dst := some 105, op := Op.load 26 (Operand.tmp 8), type := 26, pos := "outright.go:144", after := #[{ on := 10, ground := Ground.guard }], guard := some (10, false) }) (v := ?vv101) rfl (by kernel_rfl) (by kernel_rfl) (by kernel_rfl) (fun _ _ _ h => h) (Or.inl ⟨by rfl, ?hy101⟩) (by assumption) ?_
          case hy101 => (intro w hSw; (try dsimp only at hSw); go_simp; all_goals with_reducible rfl)
          try simp only [Act.put, List.setIfInBounds_toArray, List.set_cons_zero, List.set_cons_succ]
          refine wpAnyH_take (i := 12) (oi := { dst := some 106, op := Op.move (Operand.tmp 0), type := 55, pos := "outright.go:144", after := #[{ on := 10, ground := Ground.guard }], guard := some (10, false) }) (v := ?vv102) rfl (by kernel_rfl) (by kernel_rfl) (by kernel_rfl) (fun _ _ _ h => h) (Or.inl ⟨by rfl, ?hy102⟩) (by assumption) ?_
          case hy102 => (intro w hSw; (try dsimp only at hSw); go_simp; all_goals with_reducible rfl)
          try simp only [Act.put, List.setIfInBounds_toArray, List.set_cons_zero, List.set_cons_succ]
          refine wpAnyH_take (i := 13) (oi := { dst := some 107, op := Op.nilCheck (Operand.tmp 106), type := 0, pos := "outright.go:144", after := #[{ on := 12, ground := Ground.data }, { on := 10, ground := Ground.guard }], guard := some (10, false) }) (v := ?vv103) rfl (by kernel_rfl) (by kernel_rfl) (by kernel_rfl) (fun _ _ _ h => h) (Or.inl ⟨by rfl, ?hy103⟩) (by assumption) ?_
          case hy103 => (intro w hSw; (try dsimp only at hSw); go_simp; all_goals with_reducible rfl)
          try simp only [Act.put, List.setIfInBounds_toArray, List.set_cons_zero, List.set_cons_succ]
          refine wpAnyH_take (i := 14) (oi := { dst := some 108, op := Op.fieldAddr 58 (Operand.tmp 107) 2, type := 0, pos := "outright.go:144", after := #[{ on := 13, ground := Ground.data }, { on := 10, ground := Ground.guard }], guard := some (10, false) }) (v := ?vv104) rfl (by kernel_rfl) (by kernel_rfl) (by kernel_rfl) (fun _ _ _ h => h) (Or.inl ⟨by rfl, ?hy104⟩) (by assumption) ?_
          case hy104 => (intro w hSw; (try dsimp only at hSw); go_simp; all_goals with_reducible rfl)
          try simp only [Act.put, List.setIfInBounds_toArray, List.set_cons_zero, List.set_cons_succ]
          refine wpAnyH_take (i := 15) (oi := { dst := some 109, op := Op.load 56 (Operand.tmp 108), type := 56, pos := "outright.go:144", after := #[{ on := 14, ground := Ground.data }, { on := 10, ground := Ground.guard }], guard := some (10, false) }) (v := ?vv105) rfl (by kernel_rfl) (by kernel_rfl) (by kernel_rfl) (fun _ _ _ h => h) (Or.inl ⟨by rfl, ?hy105⟩) (by assumption) ?_
          case hy105 => (intro w hSw; (try dsimp only at hSw); go_simp; all_goals with_reducible rfl)
          try simp only [Act.put, List.setIfInBounds_toArray, List.set_cons_zero, List.set_cons_succ]
          refine wpAnyH_take (i := 16) (oi := { dst := some 110, op := Op.move (Operand.tmp 5), type := 3, pos := "outright.go:144", after := #[{ on := 10, ground := Ground.guard }], guard := some (10, false) }) (v := ?vv106) rfl (by kernel_rfl) (by kernel_rfl) (by kernel_rfl) (fun _ _ _ h => h) (Or.inl ⟨by rfl, ?hy106⟩) (by assumption) ?_
          case hy106 => (intro w hSw; (try dsimp only at hSw); go_simp; all_goals with_reducible rfl)
          try simp only [Act.put, List.setIfInBounds_toArray, List.set_cons_zero, List.set_cons_succ]
          refine wpAnyH_take (i := 17) (oi := { dst := some 111, op := Op.indexAddr 56 (Operand.tmp 109) (Operand.tmp 110), type := 0, pos := "outright.go:144", after := #[{ on := 15, ground := Ground.data }, { on := 16, ground := Ground.data }, { on := 10, ground := Ground.guard }], guard := some (10, false) }) (v := ?vv107) rfl (by kernel_rfl) (by kernel_rfl) (by kernel_rfl) (fun _ _ _ h => h) (Or.inl ⟨by rfl, ?hy107⟩) (by assumption) ?_
          case hy107 => (intro w hSw; (try dsimp only at hSw); go_simp; all_goals with_reducible rfl)
          try simp only [Act.put, List.setIfInBounds_toArray, List.set_cons_zero, List.set_cons_succ]
          refine wpAnyH_take (i := 18) (oi := { dst := some 112, op := Op.fieldAddr 95 (Operand.tmp 111) 3, type := 0, pos := "outright.go:144", after := #[{ on := 17, ground := Ground.data }, { on := 10, ground := Ground.guard }], guard := some (10, false) }) (v := ?vv108) rfl (by kernel_rfl) (by kernel_rfl) (by kernel_rfl) (fun _ _ _ h => h) (Or.inl ⟨by rfl, ?hy108⟩) (by assumption) ?_
          case hy108 => (intro w hSw; (try dsimp only at hSw); go_simp; all_goals with_reducible rfl)
          try simp only [Act.put, List.setIfInBounds_toArray, List.set_cons_zero, List.set_cons_succ]
          refine wpAnyH_take (i := 19) (oi := { dst := some 113, op := Op.load 26 (Operand.tmp 112), type := 26, pos := "outright.go:144", after := #[{ on := 18, ground := Ground.data }, { on := 10, ground := Ground.guard }], guard := some (10, false) }) (v := ?vv109) rfl (by kernel_rfl) (by kernel_rfl) (by kernel_rfl) (fun _ _ _ h => h) (Or.inl ⟨by rfl, ?hy109⟩) (by assumption) ?_
          case hy109 => (intro w hSw; (try dsimp only at hSw); go_simp; all_goals with_reducible rfl)
          try simp only [Act.put, List.setIfInBounds_toArray, List.set_cons_zero, List.set_cons_succ]
          refine wpAnyH_ready (rs := [20]) (by kernel_rfl) (by simp) ?_
          refine AllReadyH.cons (o := { dst := some 114, op := Op.call { callee := Callee.value (Operand.func 15), args := #[Operand.tmp 105, Operand.tmp 113], argTypes := #[26, 26] }, type := 4, pos := "outright.go:144", after := #[{ on := 11, ground := Ground.data }, { on := 19, ground := Ground.data }, { on := 10, ground := Ground.chain }, { on := 10, ground := Ground.guard }], guard := some (10, false) }) rfl (fun K hK => ?_) AllReadyH.nil
          refine ite_take (by rfl) ?_
          go_simp
          refine (HSm.out _ hIW).mono ?_
          rintro e' W14x ⟨rfl, bX⟩
          have hW14x : Below E.heap.size E W14x := hIW.trans (bX.mono hIW.size)
          clear bX
          go_wp2_with fail
          refine hK.out _ _ (hS14.out _ hW14x) (fun hHeld => ?_)
          clear hK K
          try simp only [Act.put, List.setIfInBounds_toArray, List.set_cons_zero, List.set_cons_succ]
          refine wpAnyH_take (i := 21) (oi := { dst := some 115, op := Op.unOp UnOp.not 4 (Operand.tmp 114), type := 4, pos := "outright.go:144", after := #[{ on := 20, ground := Ground.data }, { on := 10, ground := Ground.guard }], guard := some (10, false) }) (v := ?vv110) rfl (by kernel_rfl) (by kernel_rfl) (by kernel_rfl) (fun _ _ _ h => h) (Or.inl ⟨by rfl, ?hy110⟩) (by assumption) ?_
          case hy110 => (intro w hSw; (try dsimp only at hSw); go_simp; all_goals with_reducible rfl)
          try simp only [Act.put, List.setIfInBounds_toArray, List.set_cons_zero, List.set_cons_succ]
          refine wpAnyH_take (i := 22) (oi := { dst := some 116, op := Op.pick (Operand.tmp 104) (Operand.const (Value.bool true)) (Operand.tmp 115), type := 4, pos := "outright.go:144", after := #[{ on := 10, ground := Ground.data }, { on := 21, ground := Ground.data }], guard := none }) (v := ?vv111) rfl (by kernel_rfl) (by kernel_rfl) (by kernel_rfl) (fun _ _ _ h => h) (Or.inl ⟨by rfl, ?hy111⟩) (by assumption) ?_
          case hy111 => (intro w hSw; (try dsimp only at hSw); go_simp; all_goals with_reducible rfl)
          try simp only [Act.put, List.setIfInBounds_toArray, List.set_cons_zero, List.set_cons_succ]
          refine wpAnyH_done (by kernel_rfl) ?_ _
          have HM15 : Hid (Cj w0 W14x b g (hr c tk) y9 (L.eraseIdx k) (some ⟨Bj, off, none⟩, z2, z3) B n1 o0 (⟨kd, tw, ⟨m, s, a, p, (y1, y2, y3), qb⟩, rn, (r1, r2, r3), rb, st, tk, Q, fr⟩ : Os)) := HME.out.below hW14x
          have HW16 : Hid (Calls Tryd.prog 46 #[.slice (some ⟨Bj, off, none⟩) z2 z3, .int .i64 (k : Int)] W14x fun e w' => ∃ z : SV, e = .returned (sv z) ∧ R EK w' (sv z) (B.eraseIdx k) ∧ (∀ k, (sv z).ownBlock = some k → W14x.heap.size ≤ k) ∧ Below W14x.heap.size W14x w') := without_any (some ⟨Bj, off, none⟩, z2, z3) B k (by rw [HNl.out]; have := HkB.out; have := HNl.out; omega) (by have := HB64.out; omega) W14x HM15.out.bk.row.isIn
          have p5 := HM15.out.bk.cells.2.2.2.2.2.1
          simp only [sv] at p5
          have lb := heap_lt HM15.out.bk.blk
          clear hS14 hHeld HSm HEb HVE HME
          go_wp2_with fail
          go_at_call 46
          refine HW16.out.mono ?_
          rintro e' V16 ⟨⟨u1, u2, u3⟩, rfl, hR16, hn16, b16⟩
          have HE := HM15.out.setL b16 hR16 hn16 (fun x hx => List.mem_of_mem_eraseIdx hx) HRl.out
          obtain ⟨e0, e1, e2, e3, e4, e5, e6, ef⟩ := (HM15.out.below b16).bk.cells
          have f5 := ef 5
          simp only [sv] at e5 HE
          have HEx : Hid (Ci w0 (V16.setCell ⟨b, 5, none⟩ (.slice u1 u2 u3)) b g (hr c tk) y9 (L.eraseIdx k) (u1, u2, u3) (B.eraseIdx k) n1) := HE
          simp only [sv]
          clear HE hR16 hn16 b16 HM15 HW16 p5 e0 e1 e2 e3 e4 e6 ef
          go_wp2_with fail
          go_ret
          exact ⟨rfl, y9, L.eraseIdx k, (u1, u2, u3), B.eraseIdx k, HEx.out, fun x hx => List.mem_of_mem_eraseIdx hx, List.eraseIdx_sublist _ _⟩
        · go_upto_region 8 with fail
          have HH8 : Hid (∀ V, Below wr.heap.size wr V → Calls Tryd.prog 14 #[.pointer (some ⟨g, 0, none⟩), .agg #[.string m, .string s, .string a, .string p, .slice y1 y2 y3, .string qb], .int .i64 tk] V fun r w' => r = .returned (.bool true) ∧ Cl w0 w' b g (hr c tk) y L (z1, z2, z3) B n1 o0 (⟨kd, tw, ⟨m, s, a, p, (y1, y2, y3), qb⟩, rn, (r1, r2, r3), rb, st, tk, Q, fr⟩ : Os)) := fun V hV =>
            (HC7.out.below hV).holds HOi.out (some k) (by show B.findIdx? (anK (hr c tk).ck c.lf (⟨m, s, a, p, (y1, y2, y3), qb⟩ : Rq) Q) = _; rw [HN1.out.1]; exact HK.out)
          have HL9 : Hid (∀ V, Cl w0 V b g (hr c tk) y L (z1, z2, z3) B n1 o0 (⟨kd, tw, ⟨m, s, a, p, (y1, y2, y3), qb⟩, rn, (r1, r2, r3), rb, st, tk, Q, fr⟩ : Os) → Calls Tryd.prog 13 #[.pointer (some ⟨g, 0, none⟩), .agg #[.string m, .string s, .string a, .string p, .slice y1 y2 y3, .string qb], .int .i64 tk] V fun r w' => cmP w0 V w' b g (hr c tk) y L (z1, z2, z3) B n1 o0 (⟨kd, tw, ⟨m, s, a, p, (y1, y2, y3), qb⟩, rn, (r1, r2, r3), rb, st, tk, Q, fr⟩ : Os) r (some k)) := fun V hV =>
            hV.claim HOi.out (some k) (by show B.findIdx? (anK (hr c tk).ck c.lf (⟨m, s, a, p, (y1, y2, y3), qb⟩ : Rq) Q) = _; rw [HN1.out.1]; exact HK.out)
          have HCS : Hid (∀ (V : World) (cc : Ca) (yy : SV) (LL : List En), Cj w0 V b g cc yy LL (z1, z2, z3) B n1 o0 (⟨kd, tw, ⟨m, s, a, p, (y1, y2, y3), qb⟩, rn, (r1, r2, r3), rb, st, tk, Q, fr⟩ : Os) → V.cell? ⟨b, 0, none⟩ = some (.pointer (some ⟨g, 0, none⟩)) ∧ V.cell? ⟨o0, 12, none⟩ = some (.int .i64 tk) ∧ V.cell? ⟨o0, 2, none⟩ = some (.string m) ∧ V.cell? ⟨o0, 3, none⟩ = some (.string s) ∧ V.cell? ⟨o0, 4, none⟩ = some (.string a) ∧ V.cell? ⟨o0, 5, none⟩ = some (.string p) ∧ V.cell? ⟨o0, 6, none⟩ = some (.slice y1 y2 y3) ∧ V.cell? ⟨o0, 7, none⟩ = some (.string qb)) := fun V cc yy LL hV => by
            have h1 := hV.bk.cells
            have h2 := cells60 hV.bx.blk
            exact ⟨h1.1, h2.2.2.2.2.2.2.2.2.2.2.2.2, h2.2.2.1, h2.2.2.2.1, h2.2.2.2.2.1, h2.2.2.2.2.2.1, h2.2.2.2.2.2.2.1, h2.2.2.2.2.2.2.2.1⟩
          have hS8 : Hid (∀ V, Below wr.heap.size wr V → V.cell? ⟨b, 0, none⟩ = some (.pointer (some ⟨g, 0, none⟩)) ∧ V.cell? ⟨o0, 12, none⟩ = some (.int .i64 tk) ∧ V.cell? ⟨o0, 2, none⟩ = some (.string m) ∧ V.cell? ⟨o0, 3, none⟩ = some (.string s) ∧ V.cell? ⟨o0, 4, none⟩ = some (.string a) ∧ V.cell? ⟨o0, 5, none⟩ = some (.string p) ∧ V.cell? ⟨o0, 6, none⟩ = some (.slice y1 y2 y3) ∧ V.cell? ⟨o0, 7, none⟩ = some (.string qb)) := fun V hV => HCS.out V _ _ _ (HC7.out.below hV).cm
          clear c5
          have hIW : Below wr.heap.size wr wr.drew := (Below.refl _ _).drew
          refine wp_region_held_drew (S := (fun V => V.cell? ⟨b, 0, none⟩ = some (.pointer (some ⟨g, 0, none⟩)) ∧ V.cell? ⟨o0, 12, none⟩ = some (.int .i64 tk) ∧ V.cell? ⟨o0, 2, none⟩ = some (.string m) ∧ V.cell? ⟨o0, 3, none⟩ = some (.string s) ∧ V.cell? ⟨o0, 4, none⟩ = some (.string a) ∧ V.cell? ⟨o0, 5, none⟩ = some (.string p) ∧ V.cell? ⟨o0, 6, none⟩ = some (.slice y1 y2 y3) ∧ V.cell? ⟨o0, 7, none⟩ = some (.string qb))) (by kernel_rfl) (hS8.out _ hIW) (fun hHeld => ?_)
          generalize hWg : World.drew _ = W8 at hIW hHeld ⊢
          clear hWg HC7 HK
          refine wpAnyH_take (i := 0) (oi := { dst := some 54, op := Op.move (Operand.tmp 0), type := 55, pos := "outright.go:136", after := #[], guard := none }) (v := ?vv185) rfl (by kernel_rfl) (by kernel_rfl) (by kernel_rfl) (fun _ _ _ h => h) (Or.inl ⟨by rfl, ?hy185⟩) (by assumption) ?_
          case hy185 => (intro w hSw; (try dsimp only at hSw); go_simp; all_goals with_reducible rfl)
          try simp only [Act.put, List.setIfInBounds_toArray, List.set_cons_zero, List.set_cons_succ]
          refine wpAnyH_take (i := 1) (oi := { dst := some 55, op := Op.nilCheck (Operand.tmp 54), type := 0, pos := "outright.go:136", after := #[{ on := 0, ground := Ground.data }], guard := none }) (v := ?vv186) rfl (by kernel_rfl) (by kernel_rfl) (by kernel_rfl) (fun _ _ _ h => h) (Or.inl ⟨by rfl, ?hy186⟩) (by assumption) ?_
          case hy186 => (intro w hSw; (try dsimp only at hSw); go_simp; all_goals with_reducible rfl)
          try simp only [Act.put, List.setIfInBounds_toArray, List.set_cons_zero, List.set_cons_succ]
          refine wpAnyH_take (i := 2) (oi := { dst := some 56, op := Op.fieldAddr 58 (Operand.tmp 55) 0, type := 0, pos := "outright.go:136", after := #[{ on := 1, ground := Ground.data }], guard := none }) (v := ?vv187) rfl (by kernel_rfl) (by kernel_rfl) (by kernel_rfl) (fun _ _ _ h => h) (Or.inl ⟨by rfl, ?hy187⟩) (by assumption) ?_
          case hy187 => (intro w hSw; (try dsimp only at hSw); go_simp; all_goals with_reducible rfl)
          try simp only [Act.put, List.setIfInBounds_toArray, List.set_cons_zero, List.set_cons_succ]
          refine wpAnyH_take (i := 3) (oi := { dst := some 57, op := Op.load 30 (Operand.tmp 56), type := 30, pos := "outright.go:136", after := #[{ on := 2, ground := Ground.data }], guard := none }) (v := ?vv188) rfl (by kernel_rfl) (by kernel_rfl) (by kernel_rfl) (fun _ _ _ h => h) (Or.inl ⟨by rfl, ?hy188⟩) (by assumption) ?_
          case hy188 => (intro w hSw; (try dsimp only at hSw); go_simp; all_goals with_reducible rfl)
          try simp only [Act.put, List.setIfInBounds_toArray, List.set_cons_zero, List.set_cons_succ]
          refine wpAnyH_take (i := 4) (oi := { dst := some 58, op := Op.fieldAddr 60 (Operand.tmp 3) 2, type := 0, pos := "outright.go:136", after := #[], guard := none }) (v := ?vv189) rfl (by kernel_rfl) (by kernel_rfl) (by kernel_rfl) (fun _ _ _ h => h) (Or.inl ⟨by rfl, ?hy189⟩) (by assumption) ?_
          case hy189 => (intro w hSw; (try dsimp only at hSw); go_simp; all_goals with_reducible rfl)
          try simp only [Act.put, List.setIfInBounds_toArray, List.set_cons_zero, List.set_cons_succ]
          refine wpAnyH_take (i := 5) (oi := { dst := some 59, op := Op.load 24 (Operand.tmp 58), type := 24, pos := "outright.go:136", after := #[{ on := 4, ground := Ground.data }], guard := none }) (v := ?vv190) rfl (by kernel_rfl) (by kernel_rfl) (by kernel_rfl) (fun _ _ _ h => h) (Or.inl ⟨by rfl, ?hy190⟩) (by assumption) ?_
          case hy190 => (intro w hSw; (try dsimp only at hSw); go_simp; all_goals with_reducible rfl)
          try simp only [Act.put, List.setIfInBounds_toArray, List.set_cons_zero, List.set_cons_succ]
          refine wpAnyH_take (i := 6) (oi := { dst := some 60, op := Op.fieldAddr 60 (Operand.tmp 3) 5, type := 0, pos := "outright.go:136", after := #[], guard := none }) (v := ?vv191) rfl (by kernel_rfl) (by kernel_rfl) (by kernel_rfl) (fun _ _ _ h => h) (Or.inl ⟨by rfl, ?hy191⟩) (by assumption) ?_
          case hy191 => (intro w hSw; (try dsimp only at hSw); go_simp; all_goals with_reducible rfl)
          try simp only [Act.put, List.setIfInBounds_toArray, List.set_cons_zero, List.set_cons_succ]
          refine wpAnyH_take (i := 7) (oi := { dst := some 61, op := Op.load 2 (Operand.tmp 60), type := 2, pos := "outright.go:136", after := #[{ on := 6, ground := Ground.data }], guard := none }) (v := ?vv192) rfl (by kernel_rfl) (by kernel_rfl) (by kernel_rfl) (fun _ _ _ h => h) (Or.inl ⟨by rfl, ?hy192⟩) (by assumption) ?_
          case hy192 => (intro w hSw; (try dsimp only at hSw); go_simp; all_goals with_reducible rfl)
          try simp only [Act.put, List.setIfInBounds_toArray, List.set_cons_zero, List.set_cons_succ]
          refine wpAnyH_ready (rs := [8]) (by kernel_rfl) (by simp) ?_
          refine AllReadyH.cons (o := { dst := some 62, op := Op.call { callee := Callee.value (Operand.func 14), args := #[Operand.tmp 57, Operand.tmp 59, Operand.tmp 61], argTypes := #[30, 24, 2] }, type := 4, pos := "outright.go:136", after := #[{ on := 3, ground := Ground.data }, { on := 5, ground := Ground.data }, { on := 7, ground := Ground.data }], guard := none }) rfl (fun K hK => ?_) AllReadyH.nil
          go_simp
          refine (HH8.out _ hIW).mono ?_
          rintro e' W8x ⟨rfl, hC8⟩
          have HC8 : Hid (Cl w0 W8x b g (hr c tk) y L (z1, z2, z3) B n1 o0 (⟨kd, tw, ⟨m, s, a, p, (y1, y2, y3), qb⟩, rn, (r1, r2, r3), rb, st, tk, Q, fr⟩ : Os)) := hC8
          clear hC8
          go_wp2_with fail
          refine hK.out _ _ (HCS.out _ _ _ _ HC8.out.cm) (fun hHeld => ?_)
          clear hK K
          try simp only [Act.put, List.setIfInBounds_toArray, List.set_cons_zero, List.set_cons_succ]
          refine wpAnyH_take (i := 9) (oi := { dst := some 7, op := Op.assign (Operand.tmp 62), type := 4, pos := "outright.go:136", after := #[{ on := 8, ground := Ground.data }, { on := 8, ground := Ground.chain }, { on := 0, ground := Ground.phase }, { on := 1, ground := Ground.phase }, { on := 2, ground := Ground.phase }, { on := 3, ground := Ground.phase }, { on := 4, ground := Ground.phase }, { on := 5, ground := Ground.phase }, { on := 6, ground := Ground.phase }, { on := 7, ground := Ground.phase }, { on := 8, ground := Ground.phase }], guard := none }) (v := ?vv193) rfl (by kernel_rfl) (by kernel_rfl) (by kernel_rfl) (fun _ _ _ h => h) (Or.inl ⟨by rfl, ?hy193⟩) (by assumption) ?_
          case hy193 => (intro w hSw; (try dsimp only at hSw); go_simp; all_goals with_reducible rfl)
          try simp only [Act.put, List.setIfInBounds_toArray, List.set_cons_zero, List.set_cons_succ]
          refine wpAnyH_done (by kernel_rfl) ?_ _
          clear hS8 HH8 hIW hHeld
          go_upto_region 9 with fail
          have HC9 : Hid (Cl w0 W8x.drew b g (hr c tk) y L (z1, z2, z3) B n1 o0 (⟨kd, tw, ⟨m, s, a, p, (y1, y2, y3), qb⟩, rn, (r1, r2, r3), rb, st, tk, Q, fr⟩ : Os)) := HC8.out.below (Below.refl _ _).drew
          refine wp_region_held_drew (S := (fun V => V.cell? ⟨b, 0, none⟩ = some (.pointer (some ⟨g, 0, none⟩)) ∧ V.cell? ⟨o0, 12, none⟩ = some (.int .i64 tk) ∧ V.cell? ⟨o0, 2, none⟩ = some (.string m) ∧ V.cell? ⟨o0, 3, none⟩ = some (.string s) ∧ V.cell? ⟨o0, 4, none⟩ = some (.string a) ∧ V.cell? ⟨o0, 5, none⟩ = some (.string p) ∧ V.cell? ⟨o0, 6, none⟩ = some (.slice y1 y2 y3) ∧ V.cell? ⟨o0, 7, none⟩ = some (.string qb))) (by kernel_rfl) (HCS.out _ _ _ _ HC9.out.cm) (fun hHeld => ?_)
          generalize hWg : World.drew _ = W9 at HC9 hHeld ⊢
          clear hWg HC8
          refine wpAnyH_take (i := 0) (oi := { dst := some 64, op := Op.move (Operand.tmp 0), type := 55, pos := "outright.go:137", after := #[], guard := none }) (v := ?vv121) rfl (by kernel_rfl) (by kernel_rfl) (by kernel_rfl) (fun _ _ _ h => h) (Or.inl ⟨by rfl, ?hy121⟩) (by assumption) ?_
          case hy121 => (intro w hSw; (try dsimp only at hSw); go_simp; all_goals with_reducible rfl)
          try simp only [Act.put, List.setIfInBounds_toArray, List.set_cons_zero, List.set_cons_succ]
          refine wpAnyH_take (i := 1) (oi := { dst := some 65, op := Op.nilCheck (Operand.tmp 64), type := 0, pos := "outright.go:137", after := #[{ on := 0, ground := Ground.data }], guard := none }) (v := ?vv122) rfl (by kernel_rfl) (by kernel_rfl) (by kernel_rfl) (fun _ _ _ h => h) (Or.inl ⟨by rfl, ?hy122⟩) (by assumption) ?_
          case hy122 => (intro w hSw; (try dsimp only at hSw); go_simp; all_goals with_reducible rfl)
          try simp only [Act.put, List.setIfInBounds_toArray, List.set_cons_zero, List.set_cons_succ]
          refine wpAnyH_take (i := 2) (oi := { dst := some 66, op := Op.fieldAddr 58 (Operand.tmp 65) 0, type := 0, pos := "outright.go:137", after := #[{ on := 1, ground := Ground.data }], guard := none }) (v := ?vv123) rfl (by kernel_rfl) (by kernel_rfl) (by kernel_rfl) (fun _ _ _ h => h) (Or.inl ⟨by rfl, ?hy123⟩) (by assumption) ?_
          case hy123 => (intro w hSw; (try dsimp only at hSw); go_simp; all_goals with_reducible rfl)
          try simp only [Act.put, List.setIfInBounds_toArray, List.set_cons_zero, List.set_cons_succ]
          refine wpAnyH_take (i := 3) (oi := { dst := some 67, op := Op.load 30 (Operand.tmp 66), type := 30, pos := "outright.go:137", after := #[{ on := 2, ground := Ground.data }], guard := none }) (v := ?vv124) rfl (by kernel_rfl) (by kernel_rfl) (by kernel_rfl) (fun _ _ _ h => h) (Or.inl ⟨by rfl, ?hy124⟩) (by assumption) ?_
          case hy124 => (intro w hSw; (try dsimp only at hSw); go_simp; all_goals with_reducible rfl)
          try simp only [Act.put, List.setIfInBounds_toArray, List.set_cons_zero, List.set_cons_succ]
          refine wpAnyH_take (i := 4) (oi := { dst := some 68, op := Op.fieldAddr 60 (Operand.tmp 3) 2, type := 0, pos := "outright.go:137", after := #[], guard := none }) (v := ?vv125) rfl (by kernel_rfl) (by kernel_rfl) (by kernel_rfl) (fun _ _ _ h => h) (Or.inl ⟨by rfl, ?hy125⟩) (by assumption) ?_
          case hy125 => (intro w hSw; (try dsimp only at hSw); go_simp; all_goals with_reducible rfl)
          try simp only [Act.put, List.setIfInBounds_toArray, List.set_cons_zero, List.set_cons_succ]
          refine wpAnyH_take (i := 5) (oi := { dst := some 69, op := Op.load 24 (Operand.tmp 68), type := 24, pos := "outright.go:137", after := #[{ on := 4, ground := Ground.data }], guard := none }) (v := ?vv126) rfl (by kernel_rfl) (by kernel_rfl) (by kernel_rfl) (fun _ _ _ h => h) (Or.inl ⟨by rfl, ?hy126⟩) (by assumption) ?_
          case hy126 => (intro w hSw; (try dsimp only at hSw); go_simp; all_goals with_reducible rfl)
          try simp only [Act.put, List.setIfInBounds_toArray, List.set_cons_zero, List.set_cons_succ]
          refine wpAnyH_take (i := 6) (oi := { dst := some 70, op := Op.fieldAddr 60 (Operand.tmp 3) 5, type := 0, pos := "outright.go:137", after := #[], guard := none }) (v := ?vv127) rfl (by kernel_rfl) (by kernel_rfl) (by kernel_rfl) (fun _ _ _ h => h) (Or.inl ⟨by rfl, ?hy127⟩) (by assumption) ?_
          case hy127 => (intro w hSw; (try dsimp only at hSw); go_simp; all_goals with_reducible rfl)
          try simp only [Act.put, List.setIfInBounds_toArray, List.set_cons_zero, List.set_cons_succ]
          refine wpAnyH_take (i := 7) (oi := { dst := some 71, op := Op.load 2 (Operand.tmp 70), type := 2, pos := "outright.go:137", after := #[{ on := 6, ground := Ground.data }], guard := none }) (v := ?vv128) rfl (by kernel_rfl) (by kernel_rfl) (by kernel_rfl) (fun _ _ _ h => h) (Or.inl ⟨by rfl, ?hy128⟩) (by assumption) ?_
          case hy128 => (intro w hSw; (try dsimp only at hSw); go_simp; all_goals with_reducible rfl)
          try simp only [Act.put, List.setIfInBounds_toArray, List.set_cons_zero, List.set_cons_succ]
          refine wpAnyH_ready (rs := [8, 13]) (by kernel_rfl) (by simp) ?_
          refine AllReadyH.cons (o := { dst := some 72, op := Op.call { callee := Callee.value (Operand.func 13), args := #[Operand.tmp 67, Operand.tmp 69, Operand.tmp 71], argTypes := #[30, 24, 2] }, type := 43, pos := "outright.go:137", after := #[{ on := 3, ground := Ground.data }, { on := 5, ground := Ground.data }, { on := 7, ground := Ground.data }], guard := none }) rfl (fun K hK => ?_) ?_
          · go_simp
            refine (HL9.out _ HC9.out).mono ?_
            rintro e' W9x hP9
            obtain ⟨hi9, ⟨v1, v2, v3⟩, y9, rfl, hRv9, hM9, hRl9, hKs9⟩ := hP9
            have HMW9x : Hid (Cj w0 W9x b g (hr c tk) y9 (L.eraseIdx k) (z1, z2, z3) B n1 o0 (⟨kd, tw, ⟨m, s, a, p, (y1, y2, y3), qb⟩, rn, (r1, r2, r3), rb, st, tk, Q, fr⟩ : Os)) := hM9
            have HRl : Hid (Rl (L.eraseIdx k) (B.eraseIdx k)) := hRl9
            rw [HX.out] at hRv9 ⊢
            have HVW9x : Hid (R EFd W9x (.slice v1 v2 v3) kfr) := hRv9
            clear hRv9
            clear hM9 hRl9 hKs9
            simp only [rsv, sv]
            go_wp2_with fail
            refine hK.out _ _ (HCS.out _ _ _ _ HMW9x.out) (fun hHeld => ?_)
            clear hK K
            try simp only [Act.put, List.setIfInBounds_toArray, List.set_cons_zero, List.set_cons_succ]
            refine wpAnyH_take (i := 9) (oi := { dst := some 63, op := Op.move (Operand.tmp 72), type := 43, pos := "outright.go:137", after := #[{ on := 8, ground := Ground.data }], guard := none }) (v := ?vv129) rfl (by kernel_rfl) (by kernel_rfl) (by kernel_rfl) (fun _ _ _ h => h) (Or.inl ⟨by rfl, ?hy129⟩) (by assumption) ?_
            case hy129 => (intro w hSw; (try dsimp only at hSw); go_simp; all_goals with_reducible rfl)
            try simp only [Act.put, List.setIfInBounds_toArray, List.set_cons_zero, List.set_cons_succ]
            refine wpAnyH_take (i := 10) (oi := { dst := some 73, op := Op.extract (Operand.tmp 63) 0, type := 26, pos := "outright.go:137", after := #[{ on := 9, ground := Ground.data }], guard := none }) (v := ?vv130) rfl (by kernel_rfl) (by kernel_rfl) (by kernel_rfl) (fun _ _ _ h => h) (Or.inl ⟨by rfl, ?hy130⟩) (by assumption) ?_
            case hy130 => (intro w hSw; (try dsimp only at hSw); go_simp; all_goals with_reducible rfl)
            try simp only [Act.put, List.setIfInBounds_toArray, List.set_cons_zero, List.set_cons_succ]
            refine wpAnyH_take (i := 11) (oi := { dst := some 74, op := Op.extract (Operand.tmp 63) 1, type := 2, pos := "outright.go:137", after := #[{ on := 9, ground := Ground.data }, { on := 14, ground := Ground.gcOnly Departure.lateStores }], guard := none }) (v := ?vv131) rfl (by kernel_rfl) (by kernel_rfl) (by kernel_rfl) (fun _ _ _ h => h) (Or.inl ⟨by rfl, ?hy131⟩) (by assumption) ?_
            case hy131 => (intro w hSw; (try dsimp only at hSw); go_simp; all_goals with_reducible rfl)
            try simp only [Act.put, List.setIfInBounds_toArray, List.set_cons_zero, List.set_cons_succ]
            refine wpAnyH_take (i := 12) (oi := { dst := some 75, op := Op.extract (Operand.tmp 63) 2, type := 4, pos := "outright.go:137", after := #[{ on := 9, ground := Ground.data }, { on := 15, ground := Ground.gcOnly Departure.lateStores }], guard := none }) (v := ?vv132) rfl (by kernel_rfl) (by kernel_rfl) (by kernel_rfl) (fun _ _ _ h => h) (Or.inl ⟨by rfl, ?hy132⟩) (by assumption) ?_
            case hy132 => (intro w hSw; (try dsimp only at hSw); go_simp; all_goals with_reducible rfl)
            try simp only [Act.put, List.setIfInBounds_toArray, List.set_cons_zero, List.set_cons_succ]
            refine wpAnyH_ready (rs := [13]) (by kernel_rfl) (by simp) ?_
            refine AllReadyH.cons (o := { dst := some 8, op := Op.alloc 26, type := 0, pos := "outright.go:137", after := #[], guard := none }) rfl (fun K hK => ?_) AllReadyH.nil
            obtain ⟨r0, hr0⟩ : ∃ q, W9x.heap.size = q := ⟨_, rfl⟩
            obtain ⟨W9xx, hV0⟩ : ∃ V, W9x.alloc (.cells #[.int .i64 0, .slice none 0 0, .string ⟨#[]⟩] 26) = V := ⟨_, rfl⟩
            have b0x : Below W9x.heap.size W9x W9xx := by rw [← hV0]; exact bel1 _ _
            have HR0W9xx : Hid (W9xx.heap[r0]? = some (.cells #[.int .i64 0, .slice none 0 0, .string ⟨#[]⟩] 26 (0, 0)) ∧ w0.heap.size ≤ r0) := ⟨by rw [← hV0, ← hr0, heap_al, if_pos rfl], by rw [← hr0]; exact HMW9x.out.bel.size⟩
            have HMW9xx : Hid (Cj w0 W9xx b g (hr c tk) y9 (L.eraseIdx k) (z1, z2, z3) B n1 o0 (⟨kd, tw, ⟨m, s, a, p, (y1, y2, y3), qb⟩, rn, (r1, r2, r3), rb, st, tk, Q, fr⟩ : Os)) := HMW9x.out.below b0x
            have HVW9xx : Hid (R EFd W9xx (.slice v1 v2 v3) kfr) := HVW9x.out.below b0x
            clear b0x
            go_simp
            go_wp2_with fail
            try rw [hV0]
            try rw [hr0]
            refine hK.out _ _ (HCS.out _ _ _ _ HMW9xx.out) (fun hHeld => ?_)
            clear hK K hV0 hr0
            try simp only [Act.put, List.setIfInBounds_toArray, List.set_cons_zero, List.set_cons_succ]
            refine wpAnyH_ready (rs := [14]) (by kernel_rfl) (by simp) ?_
            refine AllReadyH.cons (o := { dst := none, op := Op.store 26 (Operand.tmp 8) (Operand.tmp 73), type := 0, pos := "outright.go:137", after := #[{ on := 13, ground := Ground.data }, { on := 10, ground := Ground.data }, { on := 8, ground := Ground.chain }, { on := 0, ground := Ground.phase }, { on := 1, ground := Ground.phase }, { on := 2, ground := Ground.phase }, { on := 3, ground := Ground.phase }, { on := 4, ground := Ground.phase }, { on := 5, ground := Ground.phase }, { on := 6, ground := Ground.phase }, { on := 7, ground := Ground.phase }, { on := 8, ground := Ground.phase }, { on := 9, ground := Ground.phase }, { on := 10, ground := Ground.phase }, { on := 11, ground := Ground.textOnly Departure.lateStores }, { on := 12, ground := Ground.textOnly Departure.lateStores }, { on := 13, ground := Ground.phase }], guard := none }) rfl (fun K hK => ?_) AllReadyH.nil
            have hr2 := HR0W9xx.out.1
            have p0 := cell_blk hr2 0
            have p1 := cell_blk hr2 1
            have p2 := cell_blk hr2 2
            have q0 := frozen_blk hr2 0
            have q1 := frozen_blk hr2 1
            have q2 := frozen_blk hr2 2
            simp only [List.getElem?_toArray, List.getElem?_cons_succ, List.getElem?_cons_zero] at p0 p1 p2
            obtain ⟨E, hE⟩ : ∃ E, ((W9xx.setCell ⟨r0, 0, none⟩ (.int .i64 krn)).setCell ⟨r0, 1, none⟩ (.slice v1 v2 v3)).setCell ⟨r0, 2, none⟩ (.string krb) = E := ⟨_, rfl⟩
            have hEb1 := setCell_block W9xx r0 0 (.int .i64 krn) _ 26 (0, 0) hr2
            have hEb2 := setCell_block _ r0 1 (.slice v1 v2 v3) _ 26 (0, 0) hEb1
            have HEb : Hid (E.heap[r0]? = some (.cells #[.int .i64 krn, .slice v1 v2 v3, .string krb] 26 (0, 0))) := by
              show _ = _
              rw [← hE, setCell_block _ _ _ _ _ _ _ hEb2]
              rfl
            have HME : Hid (Cj w0 E b g (hr c tk) y9 (L.eraseIdx k) (z1, z2, z3) B n1 o0 (⟨kd, tw, ⟨m, s, a, p, (y1, y2, y3), qb⟩, rn, (r1, r2, r3), rb, st, tk, Q, fr⟩ : Os)) := by
              show Cj _ _ _ _ _ _ _ _ _ _ _ _
              rw [← hE]
              exact ((HMW9xx.out.box hr2 (by decide) HR0W9xx.out.2 0 _).box hEb1 (by decide) HR0W9xx.out.2 1 _).box hEb2 (by decide) HR0W9xx.out.2 2 _
            have HVE : Hid (R EFd E (.slice v1 v2 v3) kfr) := HVW9xx.out.stays fun j hj _ => by
              obtain ⟨cj, hcj⟩ := HVW9xx.out.ty j hj
              have hne : j ≠ r0 := ty_ne hcj hr2 (show (51 : TypeId) ≠ 26 by decide)
              rw [← hE, setCell_other _ _ _ _ _ hne, setCell_other _ _ _ _ _ hne, setCell_other _ _ _ _ _ hne]
            clear hr2 hEb1 hEb2
            go_simp
            go_wp2_with fail
            try rw [hE]
            refine hK.out _ _ (HCS.out _ _ _ _ HME.out) (fun hHeld => ?_)
            clear hK K hE p0 p1 p2 q0 q1 q2
            try simp only [Act.put, List.setIfInBounds_toArray, List.set_cons_zero, List.set_cons_succ]
            refine wpAnyH_take (i := 15) (oi := { dst := some 9, op := Op.assign (Operand.tmp 74), type := 2, pos := "outright.go:137", after := #[{ on := 11, ground := Ground.data }, { on := 14, ground := Ground.chain }, { on := 0, ground := Ground.phase }, { on := 1, ground := Ground.phase }, { on := 2, ground := Ground.phase }, { on := 3, ground := Ground.phase }, { on := 4, ground := Ground.phase }, { on := 5, ground := Ground.phase }, { on := 6, ground := Ground.phase }, { on := 7, ground := Ground.phase }, { on := 8, ground := Ground.phase }, { on := 9, ground := Ground.phase }, { on := 10, ground := Ground.phase }, { on := 11, ground := Ground.phase }, { on := 12, ground := Ground.textOnly Departure.lateStores }, { on := 13, ground := Ground.phase }, { on := 14, ground := Ground.phase }], guard := none }) (v := ?vv133) rfl (by kernel_rfl) (by kernel_rfl) (by kernel_rfl) (fun _ _ _ h => h) (Or.inl ⟨by rfl, ?hy133⟩) (by assumption) ?_
            case hy133 => (intro w hSw; (try dsimp only at hSw); go_simp; all_goals with_reducible rfl)
            try simp only [Act.put, List.setIfInBounds_toArray, List.set_cons_zero, List.set_cons_succ]
            refine wpAnyH_take (i := 16) (oi := { dst := some 10, op := Op.assign (Operand.tmp 75), type := 4, pos := "outright.go:137", after := #[{ on := 12, ground := Ground.data }, { on := 15, ground := Ground.chain }, { on := 0, ground := Ground.phase }, { on := 1, ground := Ground.phase }, { on := 2, ground := Ground.phase }, { on := 3, ground := Ground.phase }, { on := 4, ground := Ground.phase }, { on := 5, ground := Ground.phase }, { on := 6, ground := Ground.phase }, { on := 7, ground := Ground.phase }, { on := 8, ground := Ground.phase }, { on := 9, ground := Ground.phase }, { on := 10, ground := Ground.phase }, { on := 11, ground := Ground.phase }, { on := 12, ground := Ground.phase }, { on := 13, ground := Ground.phase }, { on := 14, ground := Ground.phase }, { on := 15, ground := Ground.phase }], guard := none }) (v := ?vv134) rfl (by kernel_rfl) (by kernel_rfl) (by kernel_rfl) (fun _ _ _ h => h) (Or.inl ⟨by rfl, ?hy134⟩) (by assumption) ?_
            case hy134 => (intro w hSw; (try dsimp only at hSw); go_simp; all_goals with_reducible rfl)
            try simp only [Act.put, List.setIfInBounds_toArray, List.set_cons_zero, List.set_cons_succ]
            refine wpAnyH_done (by kernel_rfl) ?_ _
            clear hHeld
            obtain ⟨Bj, off, cap, e, hc⟩ := HME.out.bk.row.isIn.kn k HkB.out
            simp only [sv] at e
            rw [HNl.out] at e
            injection e with e1 e2 e3
            clear e2
            subst e1 e3
            rw [HX.out] at hc
            have HSm : Hid (∀ V, Below E.heap.size E V → Calls Tryd.prog 15 #[.agg #[.int .i64 krn, .slice v1 v2 v3, .string krb], .agg #[.int .i64 krn, .slice kr1 kr2 kr3, .string krb]] V fun e w' => e = .returned (.bool true) ∧ Below V.heap.size V w') := fun V hV => same_eq krn krb (v1, v2, v3) (kr1, kr2, kr3) kfr V (HVE.out.below hV).isIn (by
              have := ((HME.out.below hV).bk.fl (B[k]'HkB.out) (List.getElem_mem _)).2.isIn
              rw [HX.out] at this
              exact this)
            have hS14 : Hid (∀ V, Below E.heap.size E V → V.cell? ⟨b, 5, none⟩ = some (.slice (some ⟨Bj, off, none⟩) z2 z3) ∧ V.cell? ⟨r0, 0, none⟩ = some (.int .i64 krn) ∧ V.cell? ⟨r0, 1, none⟩ = some (.slice v1 v2 v3) ∧ V.cell? ⟨r0, 2, none⟩ = some (.string krb) ∧ V.cell? ⟨Bj, off + k * 11, none⟩ = some (.int .i64 kst) ∧ V.cell? ⟨Bj, off + k * 11 + 8, none⟩ = some (.int .i64 krn) ∧ V.cell? ⟨Bj, off + k * 11 + 9, none⟩ = some (.slice kr1 kr2 kr3) ∧ V.cell? ⟨Bj, off + k * 11 + 10, none⟩ = some (.string krb)) := fun V hV => by
              have h1 := (HME.out.below hV).bk.cells
              have h2 := (hV.block _ (heap_lt HEb.out)).trans HEb.out
              have h3 := hc V hV
              exact ⟨h1.2.2.2.2.2.1, cell_blk h2 0, cell_blk h2 1, cell_blk h2 2, h3.1, h3.2.2.2.2.2.2.2.2.1, h3.2.2.2.2.2.2.2.2.2.1, h3.2.2.2.2.2.2.2.2.2.2⟩
            have lE := heap_lt HME.out.bk.blk
            clear hc HCS HL9
            go_upto_region 14 with fail
            have hIW : Below E.heap.size E E.drew := (Below.refl _ _).drew
            refine wp_region_held_drew (S := (fun V => V.cell? ⟨b, 5, none⟩ = some (.slice (some ⟨Bj, off, none⟩) z2 z3) ∧ V.cell? ⟨r0, 0, none⟩ = some (.int .i64 krn) ∧ V.cell? ⟨r0, 1, none⟩ = some (.slice v1 v2 v3) ∧ V.cell? ⟨r0, 2, none⟩ = some (.string krb) ∧ V.cell? ⟨Bj, off + k * 11, none⟩ = some (.int .i64 kst) ∧ V.cell? ⟨Bj, off + k * 11 + 8, none⟩ = some (.int .i64 krn) ∧ V.cell? ⟨Bj, off + k * 11 + 9, none⟩ = some (.slice kr1 kr2 kr3) ∧ V.cell? ⟨Bj, off + k * 11 + 10, none⟩ = some (.string krb))) (by kernel_rfl) (hS14.out _ hIW) (fun hHeld => ?_)
            generalize hWg : World.drew _ = W14 at hIW hHeld ⊢
            clear hWg
            refine wpAnyH_take (i := 0) (oi := { dst := some 94, op := Op.move (Operand.tmp 9), type := 2, pos := "outright.go:144", after := #[], guard := none }) (v := ?vv135) rfl (by kernel_rfl) (by kernel_rfl) (by kernel_rfl) (fun _ _ _ h => h) (Or.inl ⟨by rfl, ?hy135⟩) (by assumption) ?_
            case hy135 => (intro w hSw; (try dsimp only at hSw); go_simp; all_goals with_reducible rfl)
            try simp only [Act.put, List.setIfInBounds_toArray, List.set_cons_zero, List.set_cons_succ]
            refine wpAnyH_take (i := 1) (oi := { dst := some 95, op := Op.move (Operand.tmp 0), type := 55, pos := "outright.go:144", after := #[], guard := none }) (v := ?vv136) rfl (by kernel_rfl) (by kernel_rfl) (by kernel_rfl) (fun _ _ _ h => h) (Or.inl ⟨by rfl, ?hy136⟩) (by assumption) ?_
            case hy136 => (intro w hSw; (try dsimp only at hSw); go_simp; all_goals with_reducible rfl)
            try simp only [Act.put, List.setIfInBounds_toArray, List.set_cons_zero, List.set_cons_succ]
            refine wpAnyH_take (i := 2) (oi := { dst := some 96, op := Op.nilCheck (Operand.tmp 95), type := 0, pos := "outright.go:144", after := #[{ on := 1, ground := Ground.data }], guard := none }) (v := ?vv137) rfl (by kernel_rfl) (by kernel_rfl) (by kernel_rfl) (fun _ _ _ h => h) (Or.inl ⟨by rfl, ?hy137⟩) (by assumption) ?_
            case hy137 => (intro w hSw; (try dsimp only at hSw); go_simp; all_goals with_reducible rfl)
            try simp only [Act.put, List.setIfInBounds_toArray, List.set_cons_zero, List.set_cons_succ]
            refine wpAnyH_take (i := 3) (oi := { dst := some 97, op := Op.fieldAddr 58 (Operand.tmp 96) 2, type := 0, pos := "outright.go:144", after := #[{ on := 2, ground := Ground.data }], guard := none }) (v := ?vv138) rfl (by kernel_rfl) (by kernel_rfl) (by kernel_rfl) (fun _ _ _ h => h) (Or.inl ⟨by rfl, ?hy138⟩) (by assumption) ?_
            case hy138 => (intro w hSw; (try dsimp only at hSw); go_simp; all_goals with_reducible rfl)
            try simp only [Act.put, List.setIfInBounds_toArray, List.set_cons_zero, List.set_cons_succ]
            refine wpAnyH_take (i := 4) (oi := { dst := some 98, op := Op.load 56 (Operand.tmp 97), type := 56, pos := "outright.go:144", after := #[{ on := 3, ground := Ground.data }], guard := none }) (v := ?vv139) rfl (by kernel_rfl) (by kernel_rfl) (by kernel_rfl) (fun _ _ _ h => h) (Or.inl ⟨by rfl, ?hy139⟩) (by assumption) ?_
            case hy139 => (intro w hSw; (try dsimp only at hSw); go_simp; all_goals with_reducible rfl)
            try simp only [Act.put, List.setIfInBounds_toArray, List.set_cons_zero, List.set_cons_succ]
            refine wpAnyH_take (i := 5) (oi := { dst := some 99, op := Op.move (Operand.tmp 5), type := 3, pos := "outright.go:144", after := #[], guard := none }) (v := ?vv140) rfl (by kernel_rfl) (by kernel_rfl) (by kernel_rfl) (fun _ _ _ h => h) (Or.inl ⟨by rfl, ?hy140⟩) (by assumption) ?_
            case hy140 => (intro w hSw; (try dsimp only at hSw); go_simp; all_goals with_reducible rfl)
            try simp only [Act.put, List.setIfInBounds_toArray, List.set_cons_zero, List.set_cons_succ]
            refine wpAnyH_take (i := 6) (oi := { dst := some 100, op := Op.indexAddr 56 (Operand.tmp 98) (Operand.tmp 99), type := 0, pos := "outright.go:144", after := #[{ on := 4, ground := Ground.data }, { on := 5, ground := Ground.data }], guard := none }) (v := ?vv141) rfl (by kernel_rfl) (by kernel_rfl) (by kernel_rfl) (fun _ _ _ h => h) (Or.inl ⟨by rfl, ?hy141⟩) (by assumption) ?_
            case hy141 => (intro w hSw; (try dsimp only at hSw); go_simp; all_goals with_reducible rfl)
            try simp only [Act.put, List.setIfInBounds_toArray, List.set_cons_zero, List.set_cons_succ]
            refine wpAnyH_take (i := 7) (oi := { dst := some 101, op := Op.fieldAddr 95 (Operand.tmp 100) 0, type := 0, pos := "outright.go:144", after := #[{ on := 6, ground := Ground.data }], guard := none }) (v := ?vv142) rfl (by kernel_rfl) (by kernel_rfl) (by kernel_rfl) (fun _ _ _ h => h) (Or.inl ⟨by rfl, ?hy142⟩) (by assumption) ?_
            case hy142 => (intro w hSw; (try dsimp only at hSw); go_simp; all_goals with_reducible rfl)
            try simp only [Act.put, List.setIfInBounds_toArray, List.set_cons_zero, List.set_cons_succ]
            refine wpAnyH_take (i := 8) (oi := { dst := some 102, op := Op.load 2 (Operand.tmp 101), type := 2, pos := "outright.go:144", after := #[{ on := 7, ground := Ground.data }], guard := none }) (v := ?vv143) rfl (by kernel_rfl) (by kernel_rfl) (by kernel_rfl) (fun _ _ _ h => h) (Or.inl ⟨by rfl, ?hy143⟩) (by assumption) ?_
            case hy143 => (intro w hSw; (try dsimp only at hSw); go_simp; all_goals with_reducible rfl)
            try simp only [Act.put, List.setIfInBounds_toArray, List.set_cons_zero, List.set_cons_succ]
            refine wpAnyH_take (i := 9) (oi := { dst := some 103, op := Op.binOp BinOp.neq 2 (Operand.tmp 94) (Operand.tmp 102) 2, type := 4, pos := "outright.go:144", after := #[{ on := 0, ground := Ground.data }, { on := 8, ground := Ground.data }], guard := none }) (v := ?vv144) rfl (by kernel_rfl) (by kernel_rfl) (by kernel_rfl) (fun _ _ _ h => h) (Or.inl ⟨by rfl, ?hy144⟩) (by assumption) ?_
            case hy144 => (intro w hSw; (try dsimp only at hSw); go_simp; all_goals with_reducible rfl)
            try simp only [Act.put, List.setIfInBounds_toArray, List.set_cons_zero, List.set_cons_succ]
            refine wpAnyH_take (i := 10) (oi := { dst := some 104, op := Op.move (Operand.tmp 103), type := 4, pos := "outright.go:144", after := #[{ on := 9, ground := Ground.data }], guard := none }) (v := ?vv145) rfl (by kernel_rfl) (by kernel_rfl) (by kernel_rfl) (fun _ _ _ h => h) (Or.inl ⟨by rfl, ?hy145⟩) (by assumption) ?_
            case hy145 => (intro w hSw; (try dsimp only at hSw); go_simp; all_goals with_reducible rfl)
            try simp only [Act.put, List.setIfInBounds_toArray, List.set_cons_zero, List.set_cons_succ]
            refine wpAnyH_take (i := 11) (oi := { dst := some 105, op := Op.load 26 (Operand.tmp 8), type := 26, pos := "outright.go:144", after := #[{ on := 10, ground := Ground.guard }], guard := some (10, false) }) (v := ?vv146) rfl (by kernel_rfl) (by kernel_rfl) (by kernel_rfl) (fun _ _ _ h => h) (Or.inl ⟨by rfl, ?hy146⟩) (by assumption) ?_
            case hy146 => (intro w hSw; (try dsimp only at hSw); go_simp; all_goals with_reducible rfl)
            try simp only [Act.put, List.setIfInBounds_toArray, List.set_cons_zero, List.set_cons_succ]
            refine wpAnyH_take (i := 12) (oi := { dst := some 106, op := Op.move (Operand.tmp 0), type := 55, pos := "outright.go:144", after := #[{ on := 10, ground := Ground.guard }], guard := some (10, false) }) (v := ?vv147) rfl (by kernel_rfl) (by kernel_rfl) (by kernel_rfl) (fun _ _ _ h => h) (Or.inl ⟨by rfl, ?hy147⟩) (by assumption) ?_
            case hy147 => (intro w hSw; (try dsimp only at hSw); go_simp; all_goals with_reducible rfl)
            try simp only [Act.put, List.setIfInBounds_toArray, List.set_cons_zero, List.set_cons_succ]
            refine wpAnyH_take (i := 13) (oi := { dst := some 107, op := Op.nilCheck (Operand.tmp 106), type := 0, pos := "outright.go:144", after := #[{ on := 12, ground := Ground.data }, { on := 10, ground := Ground.guard }], guard := some (10, false) }) (v := ?vv148) rfl (by kernel_rfl) (by kernel_rfl) (by kernel_rfl) (fun _ _ _ h => h) (Or.inl ⟨by rfl, ?hy148⟩) (by assumption) ?_
            case hy148 => (intro w hSw; (try dsimp only at hSw); go_simp; all_goals with_reducible rfl)
            try simp only [Act.put, List.setIfInBounds_toArray, List.set_cons_zero, List.set_cons_succ]
            refine wpAnyH_take (i := 14) (oi := { dst := some 108, op := Op.fieldAddr 58 (Operand.tmp 107) 2, type := 0, pos := "outright.go:144", after := #[{ on := 13, ground := Ground.data }, { on := 10, ground := Ground.guard }], guard := some (10, false) }) (v := ?vv149) rfl (by kernel_rfl) (by kernel_rfl) (by kernel_rfl) (fun _ _ _ h => h) (Or.inl ⟨by rfl, ?hy149⟩) (by assumption) ?_
            case hy149 => (intro w hSw; (try dsimp only at hSw); go_simp; all_goals with_reducible rfl)
            try simp only [Act.put, List.setIfInBounds_toArray, List.set_cons_zero, List.set_cons_succ]
            refine wpAnyH_take (i := 15) (oi := { dst := some 109, op := Op.load 56 (Operand.tmp 108), type := 56, pos := "outright.go:144", after := #[{ on := 14, ground := Ground.data }, { on := 10, ground := Ground.guard }], guard := some (10, false) }) (v := ?vv150) rfl (by kernel_rfl) (by kernel_rfl) (by kernel_rfl) (fun _ _ _ h => h) (Or.inl ⟨by rfl, ?hy150⟩) (by assumption) ?_
            case hy150 => (intro w hSw; (try dsimp only at hSw); go_simp; all_goals with_reducible rfl)
            try simp only [Act.put, List.setIfInBounds_toArray, List.set_cons_zero, List.set_cons_succ]
            refine wpAnyH_take (i := 16) (oi := { dst := some 110, op := Op.move (Operand.tmp 5), type := 3, pos := "outright.go:144", after := #[{ on := 10, ground := Ground.guard }], guard := some (10, false) }) (v := ?vv151) rfl (by kernel_rfl) (by kernel_rfl) (by kernel_rfl) (fun _ _ _ h => h) (Or.inl ⟨by rfl, ?hy151⟩) (by assumption) ?_
            case hy151 => (intro w hSw; (try dsimp only at hSw); go_simp; all_goals with_reducible rfl)
            try simp only [Act.put, List.setIfInBounds_toArray, List.set_cons_zero, List.set_cons_succ]
            refine wpAnyH_take (i := 17) (oi := { dst := some 111, op := Op.indexAddr 56 (Operand.tmp 109) (Operand.tmp 110), type := 0, pos := "outright.go:144", after := #[{ on := 15, ground := Ground.data }, { on := 16, ground := Ground.data }, { on := 10, ground := Ground.guard }], guard := some (10, false) }) (v := ?vv152) rfl (by kernel_rfl) (by kernel_rfl) (by kernel_rfl) (fun _ _ _ h => h) (Or.inl ⟨by rfl, ?hy152⟩) (by assumption) ?_
            case hy152 => (intro w hSw; (try dsimp only at hSw); go_simp; all_goals with_reducible rfl)
            try simp only [Act.put, List.setIfInBounds_toArray, List.set_cons_zero, List.set_cons_succ]
            refine wpAnyH_take (i := 18) (oi := { dst := some 112, op := Op.fieldAddr 95 (Operand.tmp 111) 3, type := 0, pos := "outright.go:144", after := #[{ on := 17, ground := Ground.data }, { on := 10, ground := Ground.guard }], guard := some (10, false) }) (v := ?vv153) rfl (by kernel_rfl) (by kernel_rfl) (by kernel_rfl) (fun _ _ _ h => h) (Or.inl ⟨by rfl, ?hy153⟩) (by assumption) ?_
            case hy153 => (intro w hSw; (try dsimp only at hSw); go_simp; all_goals with_reducible rfl)
            try simp only [Act.put, List.setIfInBounds_toArray, List.set_cons_zero, List.set_cons_succ]
            refine wpAnyH_take (i := 19) (oi := { dst := some 113, op := Op.load 26 (Operand.tmp 112), type := 26, pos := "outright.go:144", after := #[{ on := 18, ground := Ground.data }, { on := 10, ground := Ground.guard }], guard := some (10, false) }) (v := ?vv154) rfl (by kernel_rfl) (by kernel_rfl) (by kernel_rfl) (fun _ _ _ h => h) (Or.inl ⟨by rfl, ?hy154⟩) (by assumption) ?_
            case hy154 => (intro w hSw; (try dsimp only at hSw); go_simp; all_goals with_reducible rfl)
            try simp only [Act.put, List.setIfInBounds_toArray, List.set_cons_zero, List.set_cons_succ]
            refine wpAnyH_ready (rs := [20]) (by kernel_rfl) (by simp) ?_
            refine AllReadyH.cons (o := { dst := some 114, op := Op.call { callee := Callee.value (Operand.func 15), args := #[Operand.tmp 105, Operand.tmp 113], argTypes := #[26, 26] }, type := 4, pos := "outright.go:144", after := #[{ on := 11, ground := Ground.data }, { on := 19, ground := Ground.data }, { on := 10, ground := Ground.chain }, { on := 10, ground := Ground.guard }], guard := some (10, false) }) rfl (fun K hK => ?_) AllReadyH.nil
            refine ite_take (by rfl) ?_
            go_simp
            refine (HSm.out _ hIW).mono ?_
            rintro e' W14x ⟨rfl, bX⟩
            have hW14x : Below E.heap.size E W14x := hIW.trans (bX.mono hIW.size)
            clear bX
            go_wp2_with fail
            refine hK.out _ _ (hS14.out _ hW14x) (fun hHeld => ?_)
            clear hK K
            try simp only [Act.put, List.setIfInBounds_toArray, List.set_cons_zero, List.set_cons_succ]
            refine wpAnyH_take (i := 21) (oi := { dst := some 115, op := Op.unOp UnOp.not 4 (Operand.tmp 114), type := 4, pos := "outright.go:144", after := #[{ on := 20, ground := Ground.data }, { on := 10, ground := Ground.guard }], guard := some (10, false) }) (v := ?vv155) rfl (by kernel_rfl) (by kernel_rfl) (by kernel_rfl) (fun _ _ _ h => h) (Or.inl ⟨by rfl, ?hy155⟩) (by assumption) ?_
            case hy155 => (intro w hSw; (try dsimp only at hSw); go_simp; all_goals with_reducible rfl)
            try simp only [Act.put, List.setIfInBounds_toArray, List.set_cons_zero, List.set_cons_succ]
            refine wpAnyH_take (i := 22) (oi := { dst := some 116, op := Op.pick (Operand.tmp 104) (Operand.const (Value.bool true)) (Operand.tmp 115), type := 4, pos := "outright.go:144", after := #[{ on := 10, ground := Ground.data }, { on := 21, ground := Ground.data }], guard := none }) (v := ?vv156) rfl (by kernel_rfl) (by kernel_rfl) (by kernel_rfl) (fun _ _ _ h => h) (Or.inl ⟨by rfl, ?hy156⟩) (by assumption) ?_
            case hy156 => (intro w hSw; (try dsimp only at hSw); go_simp; all_goals with_reducible rfl)
            try simp only [Act.put, List.setIfInBounds_toArray, List.set_cons_zero, List.set_cons_succ]
            refine wpAnyH_done (by kernel_rfl) ?_ _
            have HM15 : Hid (Cj w0 W14x b g (hr c tk) y9 (L.eraseIdx k) (some ⟨Bj, off, none⟩, z2, z3) B n1 o0 (⟨kd, tw, ⟨m, s, a, p, (y1, y2, y3), qb⟩, rn, (r1, r2, r3), rb, st, tk, Q, fr⟩ : Os)) := HME.out.below hW14x
            have HW16 : Hid (Calls Tryd.prog 46 #[.slice (some ⟨Bj, off, none⟩) z2 z3, .int .i64 (k : Int)] W14x fun e w' => ∃ z : SV, e = .returned (sv z) ∧ R EK w' (sv z) (B.eraseIdx k) ∧ (∀ k, (sv z).ownBlock = some k → W14x.heap.size ≤ k) ∧ Below W14x.heap.size W14x w') := without_any (some ⟨Bj, off, none⟩, z2, z3) B k (by rw [HNl.out]; have := HkB.out; have := HNl.out; omega) (by have := HB64.out; omega) W14x HM15.out.bk.row.isIn
            have p5 := HM15.out.bk.cells.2.2.2.2.2.1
            simp only [sv] at p5
            have lb := heap_lt HM15.out.bk.blk
            clear hS14 hHeld HSm HEb HVE HME
            go_wp2_with fail
            go_at_call 46
            refine HW16.out.mono ?_
            rintro e' V16 ⟨⟨u1, u2, u3⟩, rfl, hR16, hn16, b16⟩
            have HE := HM15.out.setL b16 hR16 hn16 (fun x hx => List.mem_of_mem_eraseIdx hx) HRl.out
            obtain ⟨e0, e1, e2, e3, e4, e5, e6, ef⟩ := (HM15.out.below b16).bk.cells
            have f5 := ef 5
            simp only [sv] at e5 HE
            have HEx : Hid (Ci w0 (V16.setCell ⟨b, 5, none⟩ (.slice u1 u2 u3)) b g (hr c tk) y9 (L.eraseIdx k) (u1, u2, u3) (B.eraseIdx k) n1) := HE
            simp only [sv]
            clear HE hR16 hn16 b16 HM15 HW16 p5 e0 e1 e2 e3 e4 e6 ef
            go_wp2_with fail
            go_ret
            exact ⟨rfl, y9, L.eraseIdx k, (u1, u2, u3), B.eraseIdx k, HEx.out, fun x hx => List.mem_of_mem_eraseIdx hx, List.eraseIdx_sublist _ _⟩
          refine AllReadyH.cons (o := { dst := some 8, op := Op.alloc 26, type := 0, pos := "outright.go:137", after := #[], guard := none }) rfl (fun K hK => ?_) AllReadyH.nil
          obtain ⟨r0, hr0⟩ : ∃ q, W9.heap.size = q := ⟨_, rfl⟩
          obtain ⟨W9x, hV0⟩ : ∃ V, W9.alloc (.cells #[.int .i64 0, .slice none 0 0, .string ⟨#[]⟩] 26) = V := ⟨_, rfl⟩
          have b0x : Below W9.heap.size W9 W9x := by rw [← hV0]; exact bel1 _ _
          have HR0W9x : Hid (W9x.heap[r0]? = some (.cells #[.int .i64 0, .slice none 0 0, .string ⟨#[]⟩] 26 (0, 0)) ∧ w0.heap.size ≤ r0) := ⟨by rw [← hV0, ← hr0, heap_al, if_pos rfl], by rw [← hr0]; exact HC9.out.ci.bel.size⟩
          have HCW9x : Hid (Cl w0 W9x b g (hr c tk) y L (z1, z2, z3) B n1 o0 (⟨kd, tw, ⟨m, s, a, p, (y1, y2, y3), qb⟩, rn, (r1, r2, r3), rb, st, tk, Q, fr⟩ : Os)) := HC9.out.below b0x
          clear b0x
          go_simp
          go_wp2_with fail
          try rw [hV0]
          try rw [hr0]
          refine hK.out _ _ (HCS.out _ _ _ _ HCW9x.out.cm) (fun hHeld => ?_)
          clear hK K hV0 hr0
          try simp only [Act.put, List.setIfInBounds_toArray, List.set_cons_zero, List.set_cons_succ]
          refine wpAnyH_ready (rs := [8]) (by kernel_rfl) (by simp) ?_
          refine AllReadyH.cons (o := { dst := some 72, op := Op.call { callee := Callee.value (Operand.func 13), args := #[Operand.tmp 67, Operand.tmp 69, Operand.tmp 71], argTypes := #[30, 24, 2] }, type := 43, pos := "outright.go:137", after := #[{ on := 3, ground := Ground.data }, { on := 5, ground := Ground.data }, { on := 7, ground := Ground.data }], guard := none }) rfl (fun K hK => ?_) AllReadyH.nil
          go_simp
          refine (HL9.out _ HCW9x.out).mono ?_
          rintro e' W9xx hP9
          obtain ⟨hi9, ⟨v1, v2, v3⟩, y9, rfl, hRv9, hM9, hRl9, hKs9⟩ := hP9
          have HMW9xx : Hid (Cj w0 W9xx b g (hr c tk) y9 (L.eraseIdx k) (z1, z2, z3) B n1 o0 (⟨kd, tw, ⟨m, s, a, p, (y1, y2, y3), qb⟩, rn, (r1, r2, r3), rb, st, tk, Q, fr⟩ : Os)) := hM9
          have HRl : Hid (Rl (L.eraseIdx k) (B.eraseIdx k)) := hRl9
          rw [HX.out] at hRv9 ⊢
          have HVW9xx : Hid (R EFd W9xx (.slice v1 v2 v3) kfr) := hRv9
          clear hRv9
          have HR0W9xx : Hid (W9xx.heap[r0]? = some (.cells #[.int .i64 0, .slice none 0 0, .string ⟨#[]⟩] 26 (0, 0)) ∧ w0.heap.size ≤ r0) := ⟨(hKs9.block r0 (heap_lt HR0W9x.out.1) (HCW9x.out.ci.cx.offb HR0W9x.out.1 (by decide) (by decide))).trans HR0W9x.out.1, HR0W9x.out.2⟩
          clear hM9 hRl9 hKs9
          simp only [rsv, sv]
          go_wp2_with fail
          refine hK.out _ _ (HCS.out _ _ _ _ HMW9xx.out) (fun hHeld => ?_)
          clear hK K
          try simp only [Act.put, List.setIfInBounds_toArray, List.set_cons_zero, List.set_cons_succ]
          refine wpAnyH_take (i := 9) (oi := { dst := some 63, op := Op.move (Operand.tmp 72), type := 43, pos := "outright.go:137", after := #[{ on := 8, ground := Ground.data }], guard := none }) (v := ?vv157) rfl (by kernel_rfl) (by kernel_rfl) (by kernel_rfl) (fun _ _ _ h => h) (Or.inl ⟨by rfl, ?hy157⟩) (by assumption) ?_
          case hy157 => (intro w hSw; (try dsimp only at hSw); go_simp; all_goals with_reducible rfl)
          try simp only [Act.put, List.setIfInBounds_toArray, List.set_cons_zero, List.set_cons_succ]
          refine wpAnyH_take (i := 10) (oi := { dst := some 73, op := Op.extract (Operand.tmp 63) 0, type := 26, pos := "outright.go:137", after := #[{ on := 9, ground := Ground.data }], guard := none }) (v := ?vv158) rfl (by kernel_rfl) (by kernel_rfl) (by kernel_rfl) (fun _ _ _ h => h) (Or.inl ⟨by rfl, ?hy158⟩) (by assumption) ?_
          case hy158 => (intro w hSw; (try dsimp only at hSw); go_simp; all_goals with_reducible rfl)
          try simp only [Act.put, List.setIfInBounds_toArray, List.set_cons_zero, List.set_cons_succ]
          refine wpAnyH_take (i := 11) (oi := { dst := some 74, op := Op.extract (Operand.tmp 63) 1, type := 2, pos := "outright.go:137", after := #[{ on := 9, ground := Ground.data }, { on := 14, ground := Ground.gcOnly Departure.lateStores }], guard := none }) (v := ?vv159) rfl (by kernel_rfl) (by kernel_rfl) (by kernel_rfl) (fun _ _ _ h => h) (Or.inl ⟨by rfl, ?hy159⟩) (by assumption) ?_
          case hy159 => (intro w hSw; (try dsimp only at hSw); go_simp; all_goals with_reducible rfl)
          try simp only [Act.put, List.setIfInBounds_toArray, List.set_cons_zero, List.set_cons_succ]
          refine wpAnyH_take (i := 12) (oi := { dst := some 75, op := Op.extract (Operand.tmp 63) 2, type := 4, pos := "outright.go:137", after := #[{ on := 9, ground := Ground.data }, { on := 15, ground := Ground.gcOnly Departure.lateStores }], guard := none }) (v := ?vv160) rfl (by kernel_rfl) (by kernel_rfl) (by kernel_rfl) (fun _ _ _ h => h) (Or.inl ⟨by rfl, ?hy160⟩) (by assumption) ?_
          case hy160 => (intro w hSw; (try dsimp only at hSw); go_simp; all_goals with_reducible rfl)
          try simp only [Act.put, List.setIfInBounds_toArray, List.set_cons_zero, List.set_cons_succ]
          refine wpAnyH_ready (rs := [14]) (by kernel_rfl) (by simp) ?_
          refine AllReadyH.cons (o := { dst := none, op := Op.store 26 (Operand.tmp 8) (Operand.tmp 73), type := 0, pos := "outright.go:137", after := #[{ on := 13, ground := Ground.data }, { on := 10, ground := Ground.data }, { on := 8, ground := Ground.chain }, { on := 0, ground := Ground.phase }, { on := 1, ground := Ground.phase }, { on := 2, ground := Ground.phase }, { on := 3, ground := Ground.phase }, { on := 4, ground := Ground.phase }, { on := 5, ground := Ground.phase }, { on := 6, ground := Ground.phase }, { on := 7, ground := Ground.phase }, { on := 8, ground := Ground.phase }, { on := 9, ground := Ground.phase }, { on := 10, ground := Ground.phase }, { on := 11, ground := Ground.textOnly Departure.lateStores }, { on := 12, ground := Ground.textOnly Departure.lateStores }, { on := 13, ground := Ground.phase }], guard := none }) rfl (fun K hK => ?_) AllReadyH.nil
          have hr2 := HR0W9xx.out.1
          have p0 := cell_blk hr2 0
          have p1 := cell_blk hr2 1
          have p2 := cell_blk hr2 2
          have q0 := frozen_blk hr2 0
          have q1 := frozen_blk hr2 1
          have q2 := frozen_blk hr2 2
          simp only [List.getElem?_toArray, List.getElem?_cons_succ, List.getElem?_cons_zero] at p0 p1 p2
          obtain ⟨E, hE⟩ : ∃ E, ((W9xx.setCell ⟨r0, 0, none⟩ (.int .i64 krn)).setCell ⟨r0, 1, none⟩ (.slice v1 v2 v3)).setCell ⟨r0, 2, none⟩ (.string krb) = E := ⟨_, rfl⟩
          have hEb1 := setCell_block W9xx r0 0 (.int .i64 krn) _ 26 (0, 0) hr2
          have hEb2 := setCell_block _ r0 1 (.slice v1 v2 v3) _ 26 (0, 0) hEb1
          have HEb : Hid (E.heap[r0]? = some (.cells #[.int .i64 krn, .slice v1 v2 v3, .string krb] 26 (0, 0))) := by
            show _ = _
            rw [← hE, setCell_block _ _ _ _ _ _ _ hEb2]
            rfl
          have HME : Hid (Cj w0 E b g (hr c tk) y9 (L.eraseIdx k) (z1, z2, z3) B n1 o0 (⟨kd, tw, ⟨m, s, a, p, (y1, y2, y3), qb⟩, rn, (r1, r2, r3), rb, st, tk, Q, fr⟩ : Os)) := by
            show Cj _ _ _ _ _ _ _ _ _ _ _ _
            rw [← hE]
            exact ((HMW9xx.out.box hr2 (by decide) HR0W9xx.out.2 0 _).box hEb1 (by decide) HR0W9xx.out.2 1 _).box hEb2 (by decide) HR0W9xx.out.2 2 _
          have HVE : Hid (R EFd E (.slice v1 v2 v3) kfr) := HVW9xx.out.stays fun j hj _ => by
            obtain ⟨cj, hcj⟩ := HVW9xx.out.ty j hj
            have hne : j ≠ r0 := ty_ne hcj hr2 (show (51 : TypeId) ≠ 26 by decide)
            rw [← hE, setCell_other _ _ _ _ _ hne, setCell_other _ _ _ _ _ hne, setCell_other _ _ _ _ _ hne]
          clear hr2 hEb1 hEb2
          go_simp
          go_wp2_with fail
          try rw [hE]
          refine hK.out _ _ (HCS.out _ _ _ _ HME.out) (fun hHeld => ?_)
          clear hK K hE p0 p1 p2 q0 q1 q2
          try simp only [Act.put, List.setIfInBounds_toArray, List.set_cons_zero, List.set_cons_succ]
          refine wpAnyH_take (i := 15) (oi := { dst := some 9, op := Op.assign (Operand.tmp 74), type := 2, pos := "outright.go:137", after := #[{ on := 11, ground := Ground.data }, { on := 14, ground := Ground.chain }, { on := 0, ground := Ground.phase }, { on := 1, ground := Ground.phase }, { on := 2, ground := Ground.phase }, { on := 3, ground := Ground.phase }, { on := 4, ground := Ground.phase }, { on := 5, ground := Ground.phase }, { on := 6, ground := Ground.phase }, { on := 7, ground := Ground.phase }, { on := 8, ground := Ground.phase }, { on := 9, ground := Ground.phase }, { on := 10, ground := Ground.phase }, { on := 11, ground := Ground.phase }, { on := 12, ground := Ground.textOnly Departure.lateStores }, { on := 13, ground := Ground.phase }, { on := 14, ground := Ground.phase }], guard := none }) (v := ?vv161) rfl (by kernel_rfl) (by kernel_rfl) (by kernel_rfl) (fun _ _ _ h => h) (Or.inl ⟨by rfl, ?hy161⟩) (by assumption) ?_
          case hy161 => (intro w hSw; (try dsimp only at hSw); go_simp; all_goals with_reducible rfl)
          try simp only [Act.put, List.setIfInBounds_toArray, List.set_cons_zero, List.set_cons_succ]
          refine wpAnyH_take (i := 16) (oi := { dst := some 10, op := Op.assign (Operand.tmp 75), type := 4, pos := "outright.go:137", after := #[{ on := 12, ground := Ground.data }, { on := 15, ground := Ground.chain }, { on := 0, ground := Ground.phase }, { on := 1, ground := Ground.phase }, { on := 2, ground := Ground.phase }, { on := 3, ground := Ground.phase }, { on := 4, ground := Ground.phase }, { on := 5, ground := Ground.phase }, { on := 6, ground := Ground.phase }, { on := 7, ground := Ground.phase }, { on := 8, ground := Ground.phase }, { on := 9, ground := Ground.phase }, { on := 10, ground := Ground.phase }, { on := 11, ground := Ground.phase }, { on := 12, ground := Ground.phase }, { on := 13, ground := Ground.phase }, { on := 14, ground := Ground.phase }, { on := 15, ground := Ground.phase }], guard := none }) (v := ?vv162) rfl (by kernel_rfl) (by kernel_rfl) (by kernel_rfl) (fun _ _ _ h => h) (Or.inl ⟨by rfl, ?hy162⟩) (by assumption) ?_
          case hy162 => (intro w hSw; (try dsimp only at hSw); go_simp; all_goals with_reducible rfl)
          try simp only [Act.put, List.setIfInBounds_toArray, List.set_cons_zero, List.set_cons_succ]
          refine wpAnyH_done (by kernel_rfl) ?_ _
          clear hHeld
          obtain ⟨Bj, off, cap, e, hc⟩ := HME.out.bk.row.isIn.kn k HkB.out
          simp only [sv] at e
          rw [HNl.out] at e
          injection e with e1 e2 e3
          clear e2
          subst e1 e3
          rw [HX.out] at hc
          have HSm : Hid (∀ V, Below E.heap.size E V → Calls Tryd.prog 15 #[.agg #[.int .i64 krn, .slice v1 v2 v3, .string krb], .agg #[.int .i64 krn, .slice kr1 kr2 kr3, .string krb]] V fun e w' => e = .returned (.bool true) ∧ Below V.heap.size V w') := fun V hV => same_eq krn krb (v1, v2, v3) (kr1, kr2, kr3) kfr V (HVE.out.below hV).isIn (by
            have := ((HME.out.below hV).bk.fl (B[k]'HkB.out) (List.getElem_mem _)).2.isIn
            rw [HX.out] at this
            exact this)
          have hS14 : Hid (∀ V, Below E.heap.size E V → V.cell? ⟨b, 5, none⟩ = some (.slice (some ⟨Bj, off, none⟩) z2 z3) ∧ V.cell? ⟨r0, 0, none⟩ = some (.int .i64 krn) ∧ V.cell? ⟨r0, 1, none⟩ = some (.slice v1 v2 v3) ∧ V.cell? ⟨r0, 2, none⟩ = some (.string krb) ∧ V.cell? ⟨Bj, off + k * 11, none⟩ = some (.int .i64 kst) ∧ V.cell? ⟨Bj, off + k * 11 + 8, none⟩ = some (.int .i64 krn) ∧ V.cell? ⟨Bj, off + k * 11 + 9, none⟩ = some (.slice kr1 kr2 kr3) ∧ V.cell? ⟨Bj, off + k * 11 + 10, none⟩ = some (.string krb)) := fun V hV => by
            have h1 := (HME.out.below hV).bk.cells
            have h2 := (hV.block _ (heap_lt HEb.out)).trans HEb.out
            have h3 := hc V hV
            exact ⟨h1.2.2.2.2.2.1, cell_blk h2 0, cell_blk h2 1, cell_blk h2 2, h3.1, h3.2.2.2.2.2.2.2.2.1, h3.2.2.2.2.2.2.2.2.2.1, h3.2.2.2.2.2.2.2.2.2.2⟩
          have lE := heap_lt HME.out.bk.blk
          clear hc HCS HL9
          go_upto_region 14 with fail
          have hIW : Below E.heap.size E E.drew := (Below.refl _ _).drew
          refine wp_region_held_drew (S := (fun V => V.cell? ⟨b, 5, none⟩ = some (.slice (some ⟨Bj, off, none⟩) z2 z3) ∧ V.cell? ⟨r0, 0, none⟩ = some (.int .i64 krn) ∧ V.cell? ⟨r0, 1, none⟩ = some (.slice v1 v2 v3) ∧ V.cell? ⟨r0, 2, none⟩ = some (.string krb) ∧ V.cell? ⟨Bj, off + k * 11, none⟩ = some (.int .i64 kst) ∧ V.cell? ⟨Bj, off + k * 11 + 8, none⟩ = some (.int .i64 krn) ∧ V.cell? ⟨Bj, off + k * 11 + 9, none⟩ = some (.slice kr1 kr2 kr3) ∧ V.cell? ⟨Bj, off + k * 11 + 10, none⟩ = some (.string krb))) (by kernel_rfl) (hS14.out _ hIW) (fun hHeld => ?_)
          generalize hWg : World.drew _ = W14 at hIW hHeld ⊢
          clear hWg
          refine wpAnyH_take (i := 0) (oi := { dst := some 94, op := Op.move (Operand.tmp 9), type := 2, pos := "outright.go:144", after := #[], guard := none }) (v := ?vv163) rfl (by kernel_rfl) (by kernel_rfl) (by kernel_rfl) (fun _ _ _ h => h) (Or.inl ⟨by rfl, ?hy163⟩) (by assumption) ?_
          case hy163 => (intro w hSw; (try dsimp only at hSw); go_simp; all_goals with_reducible rfl)
          try simp only [Act.put, List.setIfInBounds_toArray, List.set_cons_zero, List.set_cons_succ]
          refine wpAnyH_take (i := 1) (oi := { dst := some 95, op := Op.move (Operand.tmp 0), type := 55, pos := "outright.go:144", after := #[], guard := none }) (v := ?vv164) rfl (by kernel_rfl) (by kernel_rfl) (by kernel_rfl) (fun _ _ _ h => h) (Or.inl ⟨by rfl, ?hy164⟩) (by assumption) ?_
          case hy164 => (intro w hSw; (try dsimp only at hSw); go_simp; all_goals with_reducible rfl)
          try simp only [Act.put, List.setIfInBounds_toArray, List.set_cons_zero, List.set_cons_succ]
          refine wpAnyH_take (i := 2) (oi := { dst := some 96, op := Op.nilCheck (Operand.tmp 95), type := 0, pos := "outright.go:144", after := #[{ on := 1, ground := Ground.data }], guard := none }) (v := ?vv165) rfl (by kernel_rfl) (by kernel_rfl) (by kernel_rfl) (fun _ _ _ h => h) (Or.inl ⟨by rfl, ?hy165⟩) (by assumption) ?_
          case hy165 => (intro w hSw; (try dsimp only at hSw); go_simp; all_goals with_reducible rfl)
          try simp only [Act.put, List.setIfInBounds_toArray, List.set_cons_zero, List.set_cons_succ]
          refine wpAnyH_take (i := 3) (oi := { dst := some 97, op := Op.fieldAddr 58 (Operand.tmp 96) 2, type := 0, pos := "outright.go:144", after := #[{ on := 2, ground := Ground.data }], guard := none }) (v := ?vv166) rfl (by kernel_rfl) (by kernel_rfl) (by kernel_rfl) (fun _ _ _ h => h) (Or.inl ⟨by rfl, ?hy166⟩) (by assumption) ?_
          case hy166 => (intro w hSw; (try dsimp only at hSw); go_simp; all_goals with_reducible rfl)
          try simp only [Act.put, List.setIfInBounds_toArray, List.set_cons_zero, List.set_cons_succ]
          refine wpAnyH_take (i := 4) (oi := { dst := some 98, op := Op.load 56 (Operand.tmp 97), type := 56, pos := "outright.go:144", after := #[{ on := 3, ground := Ground.data }], guard := none }) (v := ?vv167) rfl (by kernel_rfl) (by kernel_rfl) (by kernel_rfl) (fun _ _ _ h => h) (Or.inl ⟨by rfl, ?hy167⟩) (by assumption) ?_
          case hy167 => (intro w hSw; (try dsimp only at hSw); go_simp; all_goals with_reducible rfl)
          try simp only [Act.put, List.setIfInBounds_toArray, List.set_cons_zero, List.set_cons_succ]
          refine wpAnyH_take (i := 5) (oi := { dst := some 99, op := Op.move (Operand.tmp 5), type := 3, pos := "outright.go:144", after := #[], guard := none }) (v := ?vv168) rfl (by kernel_rfl) (by kernel_rfl) (by kernel_rfl) (fun _ _ _ h => h) (Or.inl ⟨by rfl, ?hy168⟩) (by assumption) ?_
          case hy168 => (intro w hSw; (try dsimp only at hSw); go_simp; all_goals with_reducible rfl)
          try simp only [Act.put, List.setIfInBounds_toArray, List.set_cons_zero, List.set_cons_succ]
          refine wpAnyH_take (i := 6) (oi := { dst := some 100, op := Op.indexAddr 56 (Operand.tmp 98) (Operand.tmp 99), type := 0, pos := "outright.go:144", after := #[{ on := 4, ground := Ground.data }, { on := 5, ground := Ground.data }], guard := none }) (v := ?vv169) rfl (by kernel_rfl) (by kernel_rfl) (by kernel_rfl) (fun _ _ _ h => h) (Or.inl ⟨by rfl, ?hy169⟩) (by assumption) ?_
          case hy169 => (intro w hSw; (try dsimp only at hSw); go_simp; all_goals with_reducible rfl)
          try simp only [Act.put, List.setIfInBounds_toArray, List.set_cons_zero, List.set_cons_succ]
          refine wpAnyH_take (i := 7) (oi := { dst := some 101, op := Op.fieldAddr 95 (Operand.tmp 100) 0, type := 0, pos := "outright.go:144", after := #[{ on := 6, ground := Ground.data }], guard := none }) (v := ?vv170) rfl (by kernel_rfl) (by kernel_rfl) (by kernel_rfl) (fun _ _ _ h => h) (Or.inl ⟨by rfl, ?hy170⟩) (by assumption) ?_
          case hy170 => (intro w hSw; (try dsimp only at hSw); go_simp; all_goals with_reducible rfl)
          try simp only [Act.put, List.setIfInBounds_toArray, List.set_cons_zero, List.set_cons_succ]
          refine wpAnyH_take (i := 8) (oi := { dst := some 102, op := Op.load 2 (Operand.tmp 101), type := 2, pos := "outright.go:144", after := #[{ on := 7, ground := Ground.data }], guard := none }) (v := ?vv171) rfl (by kernel_rfl) (by kernel_rfl) (by kernel_rfl) (fun _ _ _ h => h) (Or.inl ⟨by rfl, ?hy171⟩) (by assumption) ?_
          case hy171 => (intro w hSw; (try dsimp only at hSw); go_simp; all_goals with_reducible rfl)
          try simp only [Act.put, List.setIfInBounds_toArray, List.set_cons_zero, List.set_cons_succ]
          refine wpAnyH_take (i := 9) (oi := { dst := some 103, op := Op.binOp BinOp.neq 2 (Operand.tmp 94) (Operand.tmp 102) 2, type := 4, pos := "outright.go:144", after := #[{ on := 0, ground := Ground.data }, { on := 8, ground := Ground.data }], guard := none }) (v := ?vv172) rfl (by kernel_rfl) (by kernel_rfl) (by kernel_rfl) (fun _ _ _ h => h) (Or.inl ⟨by rfl, ?hy172⟩) (by assumption) ?_
          case hy172 => (intro w hSw; (try dsimp only at hSw); go_simp; all_goals with_reducible rfl)
          try simp only [Act.put, List.setIfInBounds_toArray, List.set_cons_zero, List.set_cons_succ]
          refine wpAnyH_take (i := 10) (oi := { dst := some 104, op := Op.move (Operand.tmp 103), type := 4, pos := "outright.go:144", after := #[{ on := 9, ground := Ground.data }], guard := none }) (v := ?vv173) rfl (by kernel_rfl) (by kernel_rfl) (by kernel_rfl) (fun _ _ _ h => h) (Or.inl ⟨by rfl, ?hy173⟩) (by assumption) ?_
          case hy173 => (intro w hSw; (try dsimp only at hSw); go_simp; all_goals with_reducible rfl)
          try simp only [Act.put, List.setIfInBounds_toArray, List.set_cons_zero, List.set_cons_succ]
          refine wpAnyH_take (i := 11) (oi := { dst := some 105, op := Op.load 26 (Operand.tmp 8), type := 26, pos := "outright.go:144", after := #[{ on := 10, ground := Ground.guard }], guard := some (10, false) }) (v := ?vv174) rfl (by kernel_rfl) (by kernel_rfl) (by kernel_rfl) (fun _ _ _ h => h) (Or.inl ⟨by rfl, ?hy174⟩) (by assumption) ?_
          case hy174 => (intro w hSw; (try dsimp only at hSw); go_simp; all_goals with_reducible rfl)
          try simp only [Act.put, List.setIfInBounds_toArray, List.set_cons_zero, List.set_cons_succ]
          refine wpAnyH_take (i := 12) (oi := { dst := some 106, op := Op.move (Operand.tmp 0), type := 55, pos := "outright.go:144", after := #[{ on := 10, ground := Ground.guard }], guard := some (10, false) }) (v := ?vv175) rfl (by kernel_rfl) (by kernel_rfl) (by kernel_rfl) (fun _ _ _ h => h) (Or.inl ⟨by rfl, ?hy175⟩) (by assumption) ?_
          case hy175 => (intro w hSw; (try dsimp only at hSw); go_simp; all_goals with_reducible rfl)
          try simp only [Act.put, List.setIfInBounds_toArray, List.set_cons_zero, List.set_cons_succ]
          refine wpAnyH_take (i := 13) (oi := { dst := some 107, op := Op.nilCheck (Operand.tmp 106), type := 0, pos := "outright.go:144", after := #[{ on := 12, ground := Ground.data }, { on := 10, ground := Ground.guard }], guard := some (10, false) }) (v := ?vv176) rfl (by kernel_rfl) (by kernel_rfl) (by kernel_rfl) (fun _ _ _ h => h) (Or.inl ⟨by rfl, ?hy176⟩) (by assumption) ?_
          case hy176 => (intro w hSw; (try dsimp only at hSw); go_simp; all_goals with_reducible rfl)
          try simp only [Act.put, List.setIfInBounds_toArray, List.set_cons_zero, List.set_cons_succ]
          refine wpAnyH_take (i := 14) (oi := { dst := some 108, op := Op.fieldAddr 58 (Operand.tmp 107) 2, type := 0, pos := "outright.go:144", after := #[{ on := 13, ground := Ground.data }, { on := 10, ground := Ground.guard }], guard := some (10, false) }) (v := ?vv177) rfl (by kernel_rfl) (by kernel_rfl) (by kernel_rfl) (fun _ _ _ h => h) (Or.inl ⟨by rfl, ?hy177⟩) (by assumption) ?_
          case hy177 => (intro w hSw; (try dsimp only at hSw); go_simp; all_goals with_reducible rfl)
          try simp only [Act.put, List.setIfInBounds_toArray, List.set_cons_zero, List.set_cons_succ]
          refine wpAnyH_take (i := 15) (oi := { dst := some 109, op := Op.load 56 (Operand.tmp 108), type := 56, pos := "outright.go:144", after := #[{ on := 14, ground := Ground.data }, { on := 10, ground := Ground.guard }], guard := some (10, false) }) (v := ?vv178) rfl (by kernel_rfl) (by kernel_rfl) (by kernel_rfl) (fun _ _ _ h => h) (Or.inl ⟨by rfl, ?hy178⟩) (by assumption) ?_
          case hy178 => (intro w hSw; (try dsimp only at hSw); go_simp; all_goals with_reducible rfl)
          try simp only [Act.put, List.setIfInBounds_toArray, List.set_cons_zero, List.set_cons_succ]
          refine wpAnyH_take (i := 16) (oi := { dst := some 110, op := Op.move (Operand.tmp 5), type := 3, pos := "outright.go:144", after := #[{ on := 10, ground := Ground.guard }], guard := some (10, false) }) (v := ?vv179) rfl (by kernel_rfl) (by kernel_rfl) (by kernel_rfl) (fun _ _ _ h => h) (Or.inl ⟨by rfl, ?hy179⟩) (by assumption) ?_
          case hy179 => (intro w hSw; (try dsimp only at hSw); go_simp; all_goals with_reducible rfl)
          try simp only [Act.put, List.setIfInBounds_toArray, List.set_cons_zero, List.set_cons_succ]
          refine wpAnyH_take (i := 17) (oi := { dst := some 111, op := Op.indexAddr 56 (Operand.tmp 109) (Operand.tmp 110), type := 0, pos := "outright.go:144", after := #[{ on := 15, ground := Ground.data }, { on := 16, ground := Ground.data }, { on := 10, ground := Ground.guard }], guard := some (10, false) }) (v := ?vv180) rfl (by kernel_rfl) (by kernel_rfl) (by kernel_rfl) (fun _ _ _ h => h) (Or.inl ⟨by rfl, ?hy180⟩) (by assumption) ?_
          case hy180 => (intro w hSw; (try dsimp only at hSw); go_simp; all_goals with_reducible rfl)
          try simp only [Act.put, List.setIfInBounds_toArray, List.set_cons_zero, List.set_cons_succ]
          refine wpAnyH_take (i := 18) (oi := { dst := some 112, op := Op.fieldAddr 95 (Operand.tmp 111) 3, type := 0, pos := "outright.go:144", after := #[{ on := 17, ground := Ground.data }, { on := 10, ground := Ground.guard }], guard := some (10, false) }) (v := ?vv181) rfl (by kernel_rfl) (by kernel_rfl) (by kernel_rfl) (fun _ _ _ h => h) (Or.inl ⟨by rfl, ?hy181⟩) (by assumption) ?_
          case hy181 => (intro w hSw; (try dsimp only at hSw); go_simp; all_goals with_reducible rfl)
          try simp only [Act.put, List.setIfInBounds_toArray, List.set_cons_zero, List.set_cons_succ]
          refine wpAnyH_take (i := 19) (oi := { dst := some 113, op := Op.load 26 (Operand.tmp 112), type := 26, pos := "outright.go:144", after := #[{ on := 18, ground := Ground.data }, { on := 10, ground := Ground.guard }], guard := some (10, false) }) (v := ?vv182) rfl (by kernel_rfl) (by kernel_rfl) (by kernel_rfl) (fun _ _ _ h => h) (Or.inl ⟨by rfl, ?hy182⟩) (by assumption) ?_
          case hy182 => (intro w hSw; (try dsimp only at hSw); go_simp; all_goals with_reducible rfl)
          try simp only [Act.put, List.setIfInBounds_toArray, List.set_cons_zero, List.set_cons_succ]
          refine wpAnyH_ready (rs := [20]) (by kernel_rfl) (by simp) ?_
          refine AllReadyH.cons (o := { dst := some 114, op := Op.call { callee := Callee.value (Operand.func 15), args := #[Operand.tmp 105, Operand.tmp 113], argTypes := #[26, 26] }, type := 4, pos := "outright.go:144", after := #[{ on := 11, ground := Ground.data }, { on := 19, ground := Ground.data }, { on := 10, ground := Ground.chain }, { on := 10, ground := Ground.guard }], guard := some (10, false) }) rfl (fun K hK => ?_) AllReadyH.nil
          refine ite_take (by rfl) ?_
          go_simp
          refine (HSm.out _ hIW).mono ?_
          rintro e' W14x ⟨rfl, bX⟩
          have hW14x : Below E.heap.size E W14x := hIW.trans (bX.mono hIW.size)
          clear bX
          go_wp2_with fail
          refine hK.out _ _ (hS14.out _ hW14x) (fun hHeld => ?_)
          clear hK K
          try simp only [Act.put, List.setIfInBounds_toArray, List.set_cons_zero, List.set_cons_succ]
          refine wpAnyH_take (i := 21) (oi := { dst := some 115, op := Op.unOp UnOp.not 4 (Operand.tmp 114), type := 4, pos := "outright.go:144", after := #[{ on := 20, ground := Ground.data }, { on := 10, ground := Ground.guard }], guard := some (10, false) }) (v := ?vv183) rfl (by kernel_rfl) (by kernel_rfl) (by kernel_rfl) (fun _ _ _ h => h) (Or.inl ⟨by rfl, ?hy183⟩) (by assumption) ?_
          case hy183 => (intro w hSw; (try dsimp only at hSw); go_simp; all_goals with_reducible rfl)
          try simp only [Act.put, List.setIfInBounds_toArray, List.set_cons_zero, List.set_cons_succ]
          refine wpAnyH_take (i := 22) (oi := { dst := some 116, op := Op.pick (Operand.tmp 104) (Operand.const (Value.bool true)) (Operand.tmp 115), type := 4, pos := "outright.go:144", after := #[{ on := 10, ground := Ground.data }, { on := 21, ground := Ground.data }], guard := none }) (v := ?vv184) rfl (by kernel_rfl) (by kernel_rfl) (by kernel_rfl) (fun _ _ _ h => h) (Or.inl ⟨by rfl, ?hy184⟩) (by assumption) ?_
          case hy184 => (intro w hSw; (try dsimp only at hSw); go_simp; all_goals with_reducible rfl)
          try simp only [Act.put, List.setIfInBounds_toArray, List.set_cons_zero, List.set_cons_succ]
          refine wpAnyH_done (by kernel_rfl) ?_ _
          have HM15 : Hid (Cj w0 W14x b g (hr c tk) y9 (L.eraseIdx k) (some ⟨Bj, off, none⟩, z2, z3) B n1 o0 (⟨kd, tw, ⟨m, s, a, p, (y1, y2, y3), qb⟩, rn, (r1, r2, r3), rb, st, tk, Q, fr⟩ : Os)) := HME.out.below hW14x
          have HW16 : Hid (Calls Tryd.prog 46 #[.slice (some ⟨Bj, off, none⟩) z2 z3, .int .i64 (k : Int)] W14x fun e w' => ∃ z : SV, e = .returned (sv z) ∧ R EK w' (sv z) (B.eraseIdx k) ∧ (∀ k, (sv z).ownBlock = some k → W14x.heap.size ≤ k) ∧ Below W14x.heap.size W14x w') := without_any (some ⟨Bj, off, none⟩, z2, z3) B k (by rw [HNl.out]; have := HkB.out; have := HNl.out; omega) (by have := HB64.out; omega) W14x HM15.out.bk.row.isIn
          have p5 := HM15.out.bk.cells.2.2.2.2.2.1
          simp only [sv] at p5
          have lb := heap_lt HM15.out.bk.blk
          clear hS14 hHeld HSm HEb HVE HME
          go_wp2_with fail
          go_at_call 46
          refine HW16.out.mono ?_
          rintro e' V16 ⟨⟨u1, u2, u3⟩, rfl, hR16, hn16, b16⟩
          have HE := HM15.out.setL b16 hR16 hn16 (fun x hx => List.mem_of_mem_eraseIdx hx) HRl.out
          obtain ⟨e0, e1, e2, e3, e4, e5, e6, ef⟩ := (HM15.out.below b16).bk.cells
          have f5 := ef 5
          simp only [sv] at e5 HE
          have HEx : Hid (Ci w0 (V16.setCell ⟨b, 5, none⟩ (.slice u1 u2 u3)) b g (hr c tk) y9 (L.eraseIdx k) (u1, u2, u3) (B.eraseIdx k) n1) := HE
          simp only [sv]
          clear HE hR16 hn16 b16 HM15 HW16 p5 e0 e1 e2 e3 e4 e6 ef
          go_wp2_with fail
          go_ret
          exact ⟨rfl, y9, L.eraseIdx k, (u1, u2, u3), B.eraseIdx k, HEx.out, fun x hx => List.mem_of_mem_eraseIdx hx, List.eraseIdx_sublist _ _⟩
end Go.Proofs.YtfponcdhaefkdaaDoor
