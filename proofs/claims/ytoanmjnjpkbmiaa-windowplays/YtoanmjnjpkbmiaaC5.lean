/- WindowPlays. -/
import Derived.Test.YtoanmjnjpkbmiaaC3
import Derived.Deep.RegionHeld3
namespace Go.Proofs.Ytoanmjnjpkbmiaa
open Go.RowKit
set_option linter.unusedVariables false
set_option linter.unusedSimpArgs false

set_option maxRecDepth 100000 in
set_option maxHeartbeats 16000000 in
theorem plays_walk (n m : Int) (pv : Value) (os : List OP) (w : World) (hv : In EO w pv os) (hlen : os.length * 24 ≤ 140737488351232) :
    Calls Try.prog 7 #[.int .i64 n, .int .i64 m, pv] w fun e w' => e = .returned (.bool true) ∧ Below w.heap.size w w' := by
  have HV : Hid (In EO w pv os) := hv
  obtain ⟨vb, vc, rfl, hc1, hc2⟩ := hv.slice
  obtain ⟨L, hL⟩ : ∃ L, os.length = L := ⟨_, rfl⟩
  rw [hL] at hc1 HV hlen ⊢
  have HN : Hid (os.length = L) := hL
  clear hL hv
  go_enter Try.func7, Try.ntmps7
  go_wp2_with fail
  refine (first_any w).mono ?_
  rintro e w0 ⟨rfl, hB0⟩
  go_wp2_with fail
  refine (new_any n w0).mono ?_
  rintro e w1 ⟨b0, rfl, h1, u1, hB1⟩
  go_wp2_with fail
  refine (new_any m w1).mono ?_
  rintro e w2 ⟨b1, rfl, h2, u2, hB2⟩
  go_wp2_with fail
  refine (rnew_any n _).mono ?_
  rintro e w3 ⟨r0, rfl, h3, u3, hB3⟩
  go_wp2_with fail
  refine (rnew_any m _).mono ?_
  rintro e w4 ⟨r1, rfl, h4, u4, hB4⟩
  have hst : Hid (Pl w w2.heap.size w4.heap.size b0 r0 b1 r1 (.slice none 0 0) (.slice none 0 0) 0 (cl n) (cl m) (w4.alloc (.cells #[pt r0, pt r1] 38))) := by
    have g1 := hB0.size
    have g2 := hB1.size
    have g3 := hB2.size
    have hA2 := bel1 w2 (.cells #[pt b0, pt b1] 35)
    have g4 := hA2.size
    have g5 := hB3.size
    have g6 := hB4.size
    have hA4 := bel1 w4 (.cells #[pt r0, pt r1] 38)
    have l1 := h1.lt
    have l2 := h2.lt
    have l3 := h3.lt
    have l4 := h4.lt
    simp only [size_al] at g4 u3 g5
    have t34 := hB4.trans (hA4.mono g6)
    have t2 : Below w2.heap.size w2 w3 := hA2.trans (hB3.mono (by simp))
    have t24 : Below w2.heap.size w2 (w4.alloc (.cells #[pt r0, pt r1] 38)) := t2.trans (t34.mono t2.size)
    have t14 : Below w1.heap.size w1 (w4.alloc (.cells #[pt r0, pt r1] 38)) := hB2.trans (t24.mono hB2.size)
    have t04 : Below w0.heap.size w0 (w4.alloc (.cells #[pt r0, pt r1] 38)) := hB1.trans (t14.mono hB1.size)
    have ha : (w2.alloc (.cells #[pt b0, pt b1] 35)).heap[w2.heap.size]? = some (.cells #[pt b0, pt b1] 35 (0, 0)) := heap_alloc_new _ _
    refine ⟨hB0.trans (t04.mono hB0.size), ?_, heap_alloc_new _ _, ⟨h1.below t14, _, _, h3.below t34, by simp⟩, ⟨h2.below t24, _, _, h4.below hA4, by simp⟩, ?_, ?_, ?_, by omega, by omega⟩
    · rw [t34.block _ (by omega), hB3.block _ (by simp)]
      exact ha
    · rintro j (e | e | e) (e' | e' | e') <;> first | omega | (simp [Value.ownBlock] at e) | (simp [Value.ownBlock] at e')
    · rintro j (e | e | e) <;> first | omega | (simp [Value.ownBlock] at e)
    · rintro j (e | e | e) <;> first | omega | (simp [Value.ownBlock] at e)
  obtain ⟨ga, hga⟩ : ∃ g, w2.heap.size = g := ⟨_, rfl⟩
  obtain ⟨gr, hgr⟩ : ∃ g, w4.heap.size = g := ⟨_, rfl⟩
  rw [hga, hgr] at hst
  clear h1 h2 h3 h4 u1 u2 u3 u4 hB0 hB1 hB2 hB3 hB4
  go_wp2_with fail
  generalize w4.alloc _ = W4 at hst ⊢
  clear hga hgr
  go_loopw [9] (fun i wr => ∃ k : Nat, k ≤ L ∧ i = .int .i64 (k : Int) ∧ ∃ b0 r0 b1 r1 v0 v1 n0 n1, Pl w ga gr b0 r0 b1 r1 v0 v1 k n0 n1 wr) (fun i _ => L - (intOf i).toNat)
  case atStart => exact ⟨0, Nat.zero_le _, rfl, _, _, _, _, _, _, _, _, hst.out⟩
  case round =>
    obtain ⟨k, hk, rfl, b0, r0, b1, r1, v0, v1, n0, n1, S⟩ := hrel
    clear hst
    by_cases hlt : k < L
    · have hlen' := HN.out
      obtain ⟨B, off, cap, hvb, hBl, d0, d1, d2⟩ := HV.out.op k (by omega)
      injection hvb with e1 e2 e3
      subst e1
      clear e2 e3
      replace d0 := (S.bel.cell hBl).trans d0
      replace d1 := (S.bel.cell hBl).trans d1
      replace d2 := (S.bel.cell hBl).trans d2
      have hBw : B < wr.heap.size := Nat.lt_of_lt_of_le hBl S.bel.size
      obtain ⟨kd, ww, N, hq⟩ : ∃ kd ww N, os[k]'(by omega) = (kd, ww, N) := ⟨_, _, _, rfl⟩
      rw [hq] at d0 d1 d2
      simp only at d0 d1 d2
      have hlti : (k : Int) < (L : Int) := by omega
      have S2 : Pk w ga gr b0 r0 b1 r1 v0 v1 k n0 n1 wr.heap.size #[.int .i64 kd, .int .i64 ww, .int .i64 N] (wr.alloc (.cells #[.int .i64 kd, .int .i64 ww, .int .i64 N] 27)) := ⟨S.below (bel1 _ _), heap_alloc_new _ _⟩
      have hga : ga < wr.heap.size := heap_lt S.a
      have hgr : gr < wr.heap.size := heap_lt S.r
      clear hlen' hq S
      by_cases hj : ww % 2 = 0
      · have hb : bits .and .i64 ww 1 = 0 := by rw [and1, hj]
        clear hj
        by_cases hk0 : kd = 0
        · subst hk0
          have xa0 := cell_blk S2.a 0
          have xa1 := cell_blk S2.a 1
          have xr0 := cell_blk S2.r 0
          have xr1 := cell_blk S2.r 1
          have xo0 := cell_blk S2.op 0
          have xo1 := cell_blk S2.op 1
          have xo2 := cell_blk S2.op 2
          simp only [List.getElem?_toArray, List.getElem?_cons_zero, List.getElem?_cons_succ, pt] at xa0 xa1 xr0 xr1 xo0 xo1 xo2
          go_wp2_with fail
          refine (new_any N _).mono ?_
          rintro e W1 ⟨b2, rfl, h1, u1, B1⟩
          have S3 := S2.below B1
          obtain ⟨W2, hW2⟩ : ∃ W2, W1.setCell ⟨ga, 0, none⟩ (pt b2) = W2 := ⟨_, rfl⟩
          have a2 : W2.heap[ga]? = some (.cells #[pt b2, pt b1] 35 (0, 0)) := by rw [← hW2]; exact setCell_block _ _ _ _ _ _ _ S3.a
          have k2 : Ks (fun j => j = ga ∨ j = gr) W1 W2 := by rw [← hW2]; exact Ks.setCell _ _ _ _ _ (.inl rfl)
          have gne : gr ≠ ga := fun e => by
            have h := S3.r
            rw [e, S3.a] at h
            simp at h
          have one : wr.heap.size ≠ ga ∧ wr.heap.size ≠ gr := ⟨fun e => by
            have h := S3.op
            rw [e, S3.a] at h
            simp at h, fun e => by
            have h := S3.op
            rw [e, S3.r] at h
            simp at h⟩
          have r2' : W2.heap[gr]? = some (.cells #[pt r0, pt r1] 38 (0, 0)) := by rw [← hW2, setCell_other _ _ _ _ _ gne]; exact S3.r
          have o2 : W2.heap[wr.heap.size]? = some (.cells #[.int .i64 0, .int .i64 ww, .int .i64 N] 27 (0, 0)) := by rw [← hW2, setCell_other _ _ _ _ _ one.1]; exact S3.op
          have h2 : Wd W2 b2 (cl N) := by
            refine h1.keep k2 fun e => ?_
            have hb := h1
            unfold Wd at hb
            rcases e with e | e
            · rw [e, S3.a] at hb; simp at hb
            · rw [e, S3.r] at hb; simp at hb
          have z1 := cell_blk S3.a 0
          have z2 := cell_blk S3.op 2
          have z3 := frozen_blk S3.a 0
          have z4 := cell_blk o2 2
          have z5 := heap_lt S3.a
          simp only [List.getElem?_toArray, List.getElem?_cons_zero, List.getElem?_cons_succ, pt] at z1 z2 z4 hW2
          have hR : Hid (Pk w ga gr b0 r0 b1 r1 v0 v1 k n0 n1 wr.heap.size #[.int .i64 0, .int .i64 ww, .int .i64 N] _ ∧ Pk w ga gr b0 r0 b1 r1 v0 v1 k n0 n1 wr.heap.size #[.int .i64 0, .int .i64 ww, .int .i64 N] W1 ∧ Below _ _ W1 ∧ Ks (fun j => j = ga ∨ j = gr) W1 W2 ∧ W2.heap[ga]? = some (.cells #[pt b2, pt b1] 35 (0, 0)) ∧ W2.heap[gr]? = some (.cells #[pt r0, pt r1] 38 (0, 0)) ∧ Wd W2 b2 (cl N)) := ⟨S2, S3, B1, k2, a2, r2', h2⟩
          clear S2 S3 B1 k2 a2 r2' h2 o2 h1
          go_wp2_with fail
          refine (rnew_any N _).mono ?_
          rintro e W3 ⟨r2, rfl, h3, u3, B3⟩
          obtain ⟨S2, S3, B1, k2, a2, r2', h2⟩ := hR.out
          clear hR
          obtain ⟨W4, hW4⟩ : ∃ W4, W3.setCell ⟨gr, 0, none⟩ (pt r2) = W4 := ⟨_, rfl⟩
          have r3 : W3.heap[gr]? = some (.cells #[pt r0, pt r1] 38 (0, 0)) := (B3.block _ (heap_lt r2')).trans r2'
          have r4 : W4.heap[gr]? = some (.cells #[pt r2, pt r1] 38 (0, 0)) := by rw [← hW4]; exact setCell_block _ _ _ _ _ _ _ r3
          have a3 : W3.heap[ga]? = some (.cells #[pt b2, pt b1] 35 (0, 0)) := (B3.block _ (heap_lt a2)).trans a2
          have a4 : W4.heap[ga]? = some (.cells #[pt b2, pt b1] 35 (0, 0)) := by rw [← hW4, setCell_other _ _ _ _ _ (Ne.symm gne)]; exact a3
          have k4 : Ks (fun j => j = ga ∨ j = gr) W3 W4 := by rw [← hW4]; exact Ks.setCell _ _ _ _ _ (.inr rfl)
          have hp4 : Pw W4 b2 r2 (.slice none 0 0) k (cl N) := by
            have hp3 : Pw W3 b2 r2 (.slice none 0 0) k (cl N) := pw_new k h2 B3 h3
            refine hp3.keep k4 fun i e e2 => ?_
            rcases e2 with rfl | rfl
            · have := hp3.other _ e a3; revert this; decide
            · have := hp3.other _ e r3; revert this; decide
          have kall : Ks (fun j => j = ga ∨ j = gr) _ W4 := Ks.trans (Ks.trans (Ks.trans (Ks.of_below (A := fun _ => False) B1) k2 (C := fun j => j = ga ∨ j = gr) (fun i _ e => e.elim) fun i _ e => e) (Ks.of_below (A := fun _ => False) B3) (C := fun j => j = ga ∨ j = gr) (fun i _ e => e) fun i _ e => e.elim) k4 (fun i _ e => e) fun i _ e => e
          have hs2 := B1.size
          have hs3 := k2.size
          have S5 := S2.swap0 hp4 kall a4 r4 (by
            rintro i (e | e | e)
            · omega
            · omega
            · simp [Value.ownBlock] at e)
          have z6 := cell_blk r3 0
          have z7 := frozen_blk r3 0
          have z8 := heap_lt r3
          simp only [List.getElem?_toArray, List.getElem?_cons_zero, List.getElem?_cons_succ, pt] at z6 z7 hW4
          clear S2 S3 B1 k2 a2 r2' h2 r3 r4 a3 a4 k4 hp4 kall B3 h3
          go_wp2_with fail
          have S5d := S5.below (Below.refl _ _).drew
          have hPl : Hid (∀ W, Pk w ga gr b2 r2 b1 r1 (Value.slice none 0 0) v1 k (cl N) n1 wr.heap.size #[.int .i64 0, .int .i64 ww, .int .i64 N] W → Calls Try.prog 17 #[.pointer (some ⟨b2, 0, none⟩), .pointer (some ⟨r2, 0, none⟩), .agg #[.int .i64 0, .int .i64 ww, .int .i64 N]] W fun e W' => e = .returned (.bool true) ∧ ∃ v0' v1' n0' n1', Pk w ga gr b2 r2 b1 r1 v0' v1' (k + 1) n0' n1' wr.heap.size #[.int .i64 0, .int .i64 ww, .int .i64 N] W') := fun W h => by
            refine (plays_any W b2 r2 (Value.slice none 0 0) k (cl N) h.p0 (by omega) 0 ww N).mono ?_
            rintro e W' ⟨rfl, v', n', h1, h2, h3⟩
            exact ⟨rfl, v', v1, n', n1, h.play0 h1 h2 h3⟩
          obtain ⟨g, hg⟩ : ∃ g, wr.heap.size = g := ⟨_, rfl⟩
          rw [hg] at hPl S5d
          have hfull : Hid (∀ v0 v1 M n0 n1 W, Pk w ga gr b2 r2 b1 r1 v0 v1 M n0 n1 g #[.int .i64 0, .int .i64 ww, .int .i64 N] W → (fun W => W.cell? ⟨ga, 0, none⟩ = some (.pointer (some ⟨b2, 0, none⟩)) ∧ W.cell? ⟨ga, 1, none⟩ = some (.pointer (some ⟨b1, 0, none⟩)) ∧ W.cell? ⟨gr, 0, none⟩ = some (.pointer (some ⟨r2, 0, none⟩)) ∧ W.cell? ⟨gr, 1, none⟩ = some (.pointer (some ⟨r1, 0, none⟩)) ∧ W.cell? ⟨g, 0, none⟩ = some (.int .i64 0) ∧ W.cell? ⟨g, 1, none⟩ = some (.int .i64 ww) ∧ W.cell? ⟨g, 2, none⟩ = some (.int .i64 N)) W) := fun _ _ _ _ _ W h => ⟨cell_blk h.a 0, cell_blk h.a 1, cell_blk h.r 0, cell_blk h.r 1, cell_blk h.op 0, cell_blk h.op 1, cell_blk h.op 2⟩
          have hIW := S5d
          clear S5 S5d
          try rw [hg]
          refine wp_region_held_drew (S := (fun W => W.cell? ⟨ga, 0, none⟩ = some (.pointer (some ⟨b2, 0, none⟩)) ∧ W.cell? ⟨ga, 1, none⟩ = some (.pointer (some ⟨b1, 0, none⟩)) ∧ W.cell? ⟨gr, 0, none⟩ = some (.pointer (some ⟨r2, 0, none⟩)) ∧ W.cell? ⟨gr, 1, none⟩ = some (.pointer (some ⟨r1, 0, none⟩)) ∧ W.cell? ⟨g, 0, none⟩ = some (.int .i64 0) ∧ W.cell? ⟨g, 1, none⟩ = some (.int .i64 ww) ∧ W.cell? ⟨g, 2, none⟩ = some (.int .i64 N))) (by kernel_rfl) (hfull.out _ _ _ _ _ _ hIW) (fun hHeld => ?_)
          generalize hWg : World.drew _ = W at hIW hHeld ⊢
          clear hWg
          refine wpAnyH_take (i := 0) (oi := { dst := some 50, op := Op.indexAddr 35 (Operand.tmp 7) (Operand.const (Value.int IntKind.i64 0)), type := 0, pos := "law.go:61", after := #[], guard := none }) (v := ?vv1) rfl (by kernel_rfl) (by kernel_rfl) (by kernel_rfl) (fun _ _ _ h => h) (Or.inl ⟨by rfl, ?hy1⟩) (by assumption) ?_
          case hy1 => (intro w hSw; (try dsimp only at hSw); go_simp; all_goals with_reducible rfl)
          try simp only [Act.put, List.setIfInBounds_toArray, List.set_cons_zero, List.set_cons_succ]
          refine wpAnyH_take (i := 1) (oi := { dst := some 51, op := Op.load 24 (Operand.tmp 50), type := 24, pos := "law.go:61", after := #[{ on := 0, ground := Ground.data }], guard := none }) (v := ?vv2) rfl (by kernel_rfl) (by kernel_rfl) (by kernel_rfl) (fun _ _ _ h => h) (Or.inl ⟨by rfl, ?hy2⟩) (by assumption) ?_
          case hy2 => (intro w hSw; (try dsimp only at hSw); go_simp; all_goals with_reducible rfl)
          try simp only [Act.put, List.setIfInBounds_toArray, List.set_cons_zero, List.set_cons_succ]
          refine wpAnyH_take (i := 2) (oi := { dst := some 52, op := Op.binOp BinOp.eql 24 (Operand.tmp 51) (Operand.const (Value.pointer none)) 24, type := 4, pos := "law.go:61", after := #[{ on := 1, ground := Ground.data }], guard := none }) (v := ?vv3) rfl (by kernel_rfl) (by kernel_rfl) (by kernel_rfl) (fun _ _ _ h => h) (Or.inl ⟨by rfl, ?hy3⟩) (by assumption) ?_
          case hy3 => (intro w hSw; (try dsimp only at hSw); go_simp; all_goals with_reducible rfl)
          try simp only [Act.put, List.setIfInBounds_toArray, List.set_cons_zero, List.set_cons_succ]
          refine wpAnyH_take (i := 3) (oi := { dst := some 53, op := Op.move (Operand.tmp 52), type := 4, pos := "law.go:61", after := #[{ on := 2, ground := Ground.data }], guard := none }) (v := ?vv4) rfl (by kernel_rfl) (by kernel_rfl) (by kernel_rfl) (fun _ _ _ h => h) (Or.inl ⟨by rfl, ?hy4⟩) (by assumption) ?_
          case hy4 => (intro w hSw; (try dsimp only at hSw); go_simp; all_goals with_reducible rfl)
          try simp only [Act.put, List.setIfInBounds_toArray, List.set_cons_zero, List.set_cons_succ]
          refine wpAnyH_take (i := 4) (oi := { dst := some 54, op := Op.indexAddr 35 (Operand.tmp 7) (Operand.const (Value.int IntKind.i64 1)), type := 0, pos := "law.go:61", after := #[{ on := 3, ground := Ground.guard }], guard := some (3, false) }) (v := ?vv5) rfl (by kernel_rfl) (by kernel_rfl) (by kernel_rfl) (fun _ _ _ h => h) (Or.inl ⟨by rfl, ?hy5⟩) (by assumption) ?_
          case hy5 => (intro w hSw; (try dsimp only at hSw); go_simp; all_goals with_reducible rfl)
          try simp only [Act.put, List.setIfInBounds_toArray, List.set_cons_zero, List.set_cons_succ]
          refine wpAnyH_take (i := 5) (oi := { dst := some 55, op := Op.load 24 (Operand.tmp 54), type := 24, pos := "law.go:61", after := #[{ on := 4, ground := Ground.data }, { on := 3, ground := Ground.guard }], guard := some (3, false) }) (v := ?vv6) rfl (by kernel_rfl) (by kernel_rfl) (by kernel_rfl) (fun _ _ _ h => h) (Or.inl ⟨by rfl, ?hy6⟩) (by assumption) ?_
          case hy6 => (intro w hSw; (try dsimp only at hSw); go_simp; all_goals with_reducible rfl)
          try simp only [Act.put, List.setIfInBounds_toArray, List.set_cons_zero, List.set_cons_succ]
          refine wpAnyH_take (i := 6) (oi := { dst := some 56, op := Op.binOp BinOp.eql 24 (Operand.tmp 55) (Operand.const (Value.pointer none)) 24, type := 4, pos := "law.go:61", after := #[{ on := 5, ground := Ground.data }, { on := 3, ground := Ground.guard }], guard := some (3, false) }) (v := ?vv7) rfl (by kernel_rfl) (by kernel_rfl) (by kernel_rfl) (fun _ _ _ h => h) (Or.inl ⟨by rfl, ?hy7⟩) (by assumption) ?_
          case hy7 => (intro w hSw; (try dsimp only at hSw); go_simp; all_goals with_reducible rfl)
          try simp only [Act.put, List.setIfInBounds_toArray, List.set_cons_zero, List.set_cons_succ]
          refine wpAnyH_take (i := 7) (oi := { dst := some 57, op := Op.pick (Operand.tmp 53) (Operand.const (Value.bool true)) (Operand.tmp 56), type := 4, pos := "law.go:61", after := #[{ on := 3, ground := Ground.data }, { on := 6, ground := Ground.data }], guard := none }) (v := ?vv8) rfl (by kernel_rfl) (by kernel_rfl) (by kernel_rfl) (fun _ _ _ h => h) (Or.inl ⟨by rfl, ?hy8⟩) (by assumption) ?_
          case hy8 => (intro w hSw; (try dsimp only at hSw); go_simp; all_goals with_reducible rfl)
          try simp only [Act.put, List.setIfInBounds_toArray, List.set_cons_zero, List.set_cons_succ]
          refine wpAnyH_take (i := 8) (oi := { dst := some 58, op := Op.move (Operand.tmp 57), type := 4, pos := "law.go:61", after := #[{ on := 7, ground := Ground.data }, { on := 3, ground := Ground.chain }], guard := none }) (v := ?vv9) rfl (by kernel_rfl) (by kernel_rfl) (by kernel_rfl) (fun _ _ _ h => h) (Or.inl ⟨by rfl, ?hy9⟩) (by assumption) ?_
          case hy9 => (intro w hSw; (try dsimp only at hSw); go_simp; all_goals with_reducible rfl)
          try simp only [Act.put, List.setIfInBounds_toArray, List.set_cons_zero, List.set_cons_succ]
          refine wpAnyH_take (i := 9) (oi := { dst := some 59, op := Op.move (Operand.tmp 11), type := 3, pos := "law.go:61", after := #[{ on := 8, ground := Ground.guard }], guard := some (8, false) }) (v := ?vv10) rfl (by kernel_rfl) (by kernel_rfl) (by kernel_rfl) (fun _ _ _ h => h) (Or.inl ⟨by rfl, ?hy10⟩) (by assumption) ?_
          case hy10 => (intro w hSw; (try dsimp only at hSw); go_simp; all_goals with_reducible rfl)
          try simp only [Act.put, List.setIfInBounds_toArray, List.set_cons_zero, List.set_cons_succ]
          refine wpAnyH_take (i := 10) (oi := { dst := some 60, op := Op.indexAddr 35 (Operand.tmp 7) (Operand.tmp 59), type := 0, pos := "law.go:61", after := #[{ on := 9, ground := Ground.data }, { on := 8, ground := Ground.guard }], guard := some (8, false) }) (v := ?vv11) rfl (by kernel_rfl) (by kernel_rfl) (by kernel_rfl) (fun _ _ _ h => h) (Or.inl ⟨by rfl, ?hy11⟩) (by assumption) ?_
          case hy11 => (intro w hSw; (try dsimp only at hSw); go_simp; all_goals with_reducible rfl)
          try simp only [Act.put, List.setIfInBounds_toArray, List.set_cons_zero, List.set_cons_succ]
          refine wpAnyH_take (i := 11) (oi := { dst := some 61, op := Op.load 24 (Operand.tmp 60), type := 24, pos := "law.go:61", after := #[{ on := 10, ground := Ground.data }, { on := 8, ground := Ground.guard }], guard := some (8, false) }) (v := ?vv12) rfl (by kernel_rfl) (by kernel_rfl) (by kernel_rfl) (fun _ _ _ h => h) (Or.inl ⟨by rfl, ?hy12⟩) (by assumption) ?_
          case hy12 => (intro w hSw; (try dsimp only at hSw); go_simp; all_goals with_reducible rfl)
          try simp only [Act.put, List.setIfInBounds_toArray, List.set_cons_zero, List.set_cons_succ]
          refine wpAnyH_take (i := 12) (oi := { dst := some 62, op := Op.move (Operand.tmp 11), type := 3, pos := "law.go:61", after := #[{ on := 8, ground := Ground.guard }], guard := some (8, false) }) (v := ?vv13) rfl (by kernel_rfl) (by kernel_rfl) (by kernel_rfl) (fun _ _ _ h => h) (Or.inl ⟨by rfl, ?hy13⟩) (by assumption) ?_
          case hy13 => (intro w hSw; (try dsimp only at hSw); go_simp; all_goals with_reducible rfl)
          try simp only [Act.put, List.setIfInBounds_toArray, List.set_cons_zero, List.set_cons_succ]
          refine wpAnyH_take (i := 13) (oi := { dst := some 63, op := Op.indexAddr 38 (Operand.tmp 8) (Operand.tmp 62), type := 0, pos := "law.go:61", after := #[{ on := 12, ground := Ground.data }, { on := 8, ground := Ground.guard }], guard := some (8, false) }) (v := ?vv14) rfl (by kernel_rfl) (by kernel_rfl) (by kernel_rfl) (fun _ _ _ h => h) (Or.inl ⟨by rfl, ?hy14⟩) (by assumption) ?_
          case hy14 => (intro w hSw; (try dsimp only at hSw); go_simp; all_goals with_reducible rfl)
          try simp only [Act.put, List.setIfInBounds_toArray, List.set_cons_zero, List.set_cons_succ]
          refine wpAnyH_take (i := 14) (oi := { dst := some 64, op := Op.load 36 (Operand.tmp 63), type := 36, pos := "law.go:61", after := #[{ on := 13, ground := Ground.data }, { on := 8, ground := Ground.guard }], guard := some (8, false) }) (v := ?vv15) rfl (by kernel_rfl) (by kernel_rfl) (by kernel_rfl) (fun _ _ _ h => h) (Or.inl ⟨by rfl, ?hy15⟩) (by assumption) ?_
          case hy15 => (intro w hSw; (try dsimp only at hSw); go_simp; all_goals with_reducible rfl)
          try simp only [Act.put, List.setIfInBounds_toArray, List.set_cons_zero, List.set_cons_succ]
          refine wpAnyH_take (i := 15) (oi := { dst := some 65, op := Op.load 27 (Operand.tmp 10), type := 27, pos := "law.go:61", after := #[{ on := 8, ground := Ground.guard }], guard := some (8, false) }) (v := ?vv16) rfl (by kernel_rfl) (by kernel_rfl) (by kernel_rfl) (fun _ _ _ h => h) (Or.inl ⟨by rfl, ?hy16⟩) (by assumption) ?_
          case hy16 => (intro w hSw; (try dsimp only at hSw); go_simp; all_goals with_reducible rfl)
          try simp only [Act.put, List.setIfInBounds_toArray, List.set_cons_zero, List.set_cons_succ]
          refine wpAnyH_ready (rs := [16]) (by kernel_rfl) (by simp) ?_
          refine AllReadyH.cons (o := { dst := some 66, op := Op.call { callee := Callee.value (Operand.func 17), args := #[Operand.tmp 61, Operand.tmp 64, Operand.tmp 65], argTypes := #[24, 36, 27] }, type := 4, pos := "law.go:61", after := #[{ on := 11, ground := Ground.data }, { on := 14, ground := Ground.data }, { on := 15, ground := Ground.data }, { on := 8, ground := Ground.chain }, { on := 8, ground := Ground.guard }], guard := some (8, false) }) rfl (fun K hK => ?_) AllReadyH.nil
          go_simp
          refine (hPl.out W hIW).mono ?_
          rintro e' Wx ⟨rfl, v0', v1', n0', n1', SS⟩
          go_wp2_with fail
          refine hK.out _ _ (hfull.out _ _ _ _ _ _ SS) (fun hHeld => ?_)
          clear hK K hIW
          try simp only [Act.put, List.setIfInBounds_toArray, List.set_cons_zero, List.set_cons_succ]
          refine wpAnyH_take (i := 17) (oi := { dst := some 67, op := Op.unOp UnOp.not 4 (Operand.tmp 66), type := 4, pos := "law.go:61", after := #[{ on := 16, ground := Ground.data }, { on := 8, ground := Ground.guard }], guard := some (8, false) }) (v := ?vv17) rfl (by kernel_rfl) (by kernel_rfl) (by kernel_rfl) (fun _ _ _ h => h) (Or.inl ⟨by rfl, ?hy17⟩) (by assumption) ?_
          case hy17 => (intro w hSw; (try dsimp only at hSw); go_simp; all_goals with_reducible rfl)
          try simp only [Act.put, List.setIfInBounds_toArray, List.set_cons_zero, List.set_cons_succ]
          refine wpAnyH_take (i := 18) (oi := { dst := some 68, op := Op.pick (Operand.tmp 58) (Operand.const (Value.bool true)) (Operand.tmp 67), type := 4, pos := "law.go:61", after := #[{ on := 8, ground := Ground.data }, { on := 17, ground := Ground.data }], guard := none }) (v := ?vv18) rfl (by kernel_rfl) (by kernel_rfl) (by kernel_rfl) (fun _ _ _ h => h) (Or.inl ⟨by rfl, ?hy18⟩) (by assumption) ?_
          case hy18 => (intro w hSw; (try dsimp only at hSw); go_simp; all_goals with_reducible rfl)
          try simp only [Act.put, List.setIfInBounds_toArray, List.set_cons_zero, List.set_cons_succ]
          refine wpAnyH_done (by kernel_rfl) ?_ _
          replace SS := SS.toPl
          clear hfull hPl
          clear hHeld
          obtain ⟨P, hP⟩ : ∃ P, P = Pl w ga gr b2 r2 b1 r1 v0' v1' (k + 1) n0' n1' := ⟨_, rfl⟩
          have c10a : Hid (∀ W, P W → Calls Try.prog 10 #[pt b2] W fun e W' => e = .returned (.int .i64 n0') ∧ P W') := fun W h => by
            subst hP
            refine (left_any W b2 n0' h.p0.wd).mono ?_
            rintro e W' ⟨rfl, rfl⟩
            exact ⟨rfl, h⟩
          have c10b : Hid (∀ W, P W → Calls Try.prog 10 #[pt b1] W fun e W' => e = .returned (.int .i64 n1') ∧ P W') := fun W h => by
            subst hP
            refine (left_any W b1 n1' h.p1.wd).mono ?_
            rintro e W' ⟨rfl, rfl⟩
            exact ⟨rfl, h⟩
          have c18a : Hid (∀ W, P W → Calls Try.prog 18 #[pt r2] W fun e W' => e = .returned (.int .i64 n0') ∧ P W') := fun W h => by
            subst hP
            obtain ⟨f, ms, hr, _⟩ := h.p0.rw'
            refine (rleft_any W r2 f v0' ms n0' hr).mono ?_
            rintro e W' ⟨rfl, rfl⟩
            exact ⟨rfl, h⟩
          have c18b : Hid (∀ W, P W → Calls Try.prog 18 #[pt r1] W fun e W' => e = .returned (.int .i64 n1') ∧ P W') := fun W h => by
            subst hP
            obtain ⟨f, ms, hr, _⟩ := h.p1.rw'
            refine (rleft_any W r1 f v1' ms n1' hr).mono ?_
            rintro e W' ⟨rfl, rfl⟩
            exact ⟨rfl, h⟩
          have hfull : Hid (∀ W, P W → W.cell? ⟨ga, 0, none⟩ = some (pt b2) ∧ W.cell? ⟨ga, 1, none⟩ = some (pt b1) ∧ W.cell? ⟨gr, 0, none⟩ = some (pt r2) ∧ W.cell? ⟨gr, 1, none⟩ = some (pt r1)) := fun W h => by
            subst hP
            exact ⟨cell_blk h.a 0, cell_blk h.a 1, cell_blk h.r 0, cell_blk h.r 1⟩
          have hdr : Hid (∀ W, P W → P W.drew) := fun W h => by subst hP; exact h.below (Below.refl _ _).drew
          have hend : Hid (∀ W, P W → Pl w ga gr b2 r2 b1 r1 v0' v1' (k + 1) n0' n1' W) := fun W h => by subst hP; exact h
          have HP : P _ := hP ▸ SS
          have q0 : (n0' != n0') = false := by simp
          have q1 : (n1' != n1') = false := by simp
          have q2 : (n0' == n0') = true := by simp
          have q3 : (n1' == n1') = true := by simp
          clear hP SS
          simp only [pt] at c10a c10b c18a c18b hfull
          go_wp2_with fail
          have hIW := hdr.out _ HP
          clear HP
          refine wp_region_held_drew (S := (fun W => W.cell? ⟨ga, 0, none⟩ = some (.pointer (some ⟨b2, 0, none⟩)) ∧ W.cell? ⟨ga, 1, none⟩ = some (.pointer (some ⟨b1, 0, none⟩)) ∧ W.cell? ⟨gr, 0, none⟩ = some (.pointer (some ⟨r2, 0, none⟩)) ∧ W.cell? ⟨gr, 1, none⟩ = some (.pointer (some ⟨r1, 0, none⟩)))) (by kernel_rfl) (hfull.out _ hIW) (fun hHeld => ?_)
          generalize hWg : World.drew _ = W at hIW hHeld ⊢
          clear hWg
          refine wpAnyH_take (i := 0) (oi := { dst := some 69, op := Op.indexAddr 35 (Operand.tmp 7) (Operand.const (Value.int IntKind.i64 0)), type := 0, pos := "law.go:64", after := #[], guard := none }) (v := ?vv19) rfl (by kernel_rfl) (by kernel_rfl) (by kernel_rfl) (fun _ _ _ h => h) (Or.inl ⟨by rfl, ?hy19⟩) (by assumption) ?_
          case hy19 => (intro w hSw; (try dsimp only at hSw); go_simp; all_goals with_reducible rfl)
          try simp only [Act.put, List.setIfInBounds_toArray, List.set_cons_zero, List.set_cons_succ]
          refine wpAnyH_take (i := 1) (oi := { dst := some 70, op := Op.load 24 (Operand.tmp 69), type := 24, pos := "law.go:64", after := #[{ on := 0, ground := Ground.data }], guard := none }) (v := ?vv20) rfl (by kernel_rfl) (by kernel_rfl) (by kernel_rfl) (fun _ _ _ h => h) (Or.inl ⟨by rfl, ?hy20⟩) (by assumption) ?_
          case hy20 => (intro w hSw; (try dsimp only at hSw); go_simp; all_goals with_reducible rfl)
          try simp only [Act.put, List.setIfInBounds_toArray, List.set_cons_zero, List.set_cons_succ]
          refine wpAnyH_take (i := 3) (oi := { dst := some 72, op := Op.indexAddr 38 (Operand.tmp 8) (Operand.const (Value.int IntKind.i64 0)), type := 0, pos := "law.go:64", after := #[], guard := none }) (v := ?vv21) rfl (by kernel_rfl) (by kernel_rfl) (by kernel_rfl) (fun _ _ _ h => h) (Or.inl ⟨by rfl, ?hy21⟩) (by assumption) ?_
          case hy21 => (intro w hSw; (try dsimp only at hSw); go_simp; all_goals with_reducible rfl)
          try simp only [Act.put, List.setIfInBounds_toArray, List.set_cons_zero, List.set_cons_succ]
          refine wpAnyH_take (i := 4) (oi := { dst := some 73, op := Op.load 36 (Operand.tmp 72), type := 36, pos := "law.go:64", after := #[{ on := 3, ground := Ground.data }], guard := none }) (v := ?vv22) rfl (by kernel_rfl) (by kernel_rfl) (by kernel_rfl) (fun _ _ _ h => h) (Or.inl ⟨by rfl, ?hy22⟩) (by assumption) ?_
          case hy22 => (intro w hSw; (try dsimp only at hSw); go_simp; all_goals with_reducible rfl)
          try simp only [Act.put, List.setIfInBounds_toArray, List.set_cons_zero, List.set_cons_succ]
          refine wpAnyH_ready (rs := [2]) (by kernel_rfl) (by simp) ?_
          refine AllReadyH.cons (o := { dst := some 71, op := Op.call { callee := Callee.value (Operand.func 10), args := #[Operand.tmp 70], argTypes := #[24] }, type := 2, pos := "law.go:64", after := #[{ on := 1, ground := Ground.data }], guard := none }) rfl (fun K hK => ?_) AllReadyH.nil
          go_simp
          refine (c10a.out W hIW).mono ?_
          rintro e' Wx ⟨rfl, hIWx⟩
          go_wp2_with fail
          refine hK.out _ _ (hfull.out _ hIWx) (fun hHeld => ?_)
          clear hK K hIW
          try simp only [Act.put, List.setIfInBounds_toArray, List.set_cons_zero, List.set_cons_succ]
          refine wpAnyH_ready (rs := [5]) (by kernel_rfl) (by simp) ?_
          refine AllReadyH.cons (o := { dst := some 74, op := Op.call { callee := Callee.value (Operand.func 18), args := #[Operand.tmp 73], argTypes := #[36] }, type := 2, pos := "law.go:64", after := #[{ on := 4, ground := Ground.data }, { on := 2, ground := Ground.chain }], guard := none }) rfl (fun K hK => ?_) AllReadyH.nil
          go_simp
          refine (c18a.out Wx hIWx).mono ?_
          rintro e' Wxx ⟨rfl, hIWxx⟩
          go_wp2_with fail
          refine hK.out _ _ (hfull.out _ hIWxx) (fun hHeld => ?_)
          clear hK K hIWx
          try simp only [Act.put, List.setIfInBounds_toArray, List.set_cons_zero, List.set_cons_succ]
          refine wpAnyH_take (i := 6) (oi := { dst := some 75, op := Op.binOp BinOp.neq 2 (Operand.tmp 71) (Operand.tmp 74) 2, type := 4, pos := "law.go:64", after := #[{ on := 2, ground := Ground.data }, { on := 5, ground := Ground.data }], guard := none }) (v := ?vv23) rfl (by kernel_rfl) (by kernel_rfl) (by kernel_rfl) (fun _ _ _ h => h) (Or.inl ⟨by rfl, ?hy23⟩) (by assumption) ?_
          case hy23 => (intro w hSw; (try dsimp only at hSw); go_simp; all_goals with_reducible rfl)
          try simp only [Act.put, List.setIfInBounds_toArray, List.set_cons_zero, List.set_cons_succ]
          refine wpAnyH_take (i := 7) (oi := { dst := some 76, op := Op.move (Operand.tmp 75), type := 4, pos := "law.go:64", after := #[{ on := 6, ground := Ground.data }, { on := 5, ground := Ground.chain }], guard := none }) (v := ?vv24) rfl (by kernel_rfl) (by kernel_rfl) (by kernel_rfl) (fun _ _ _ h => h) (Or.inl ⟨by rfl, ?hy24⟩) (by assumption) ?_
          case hy24 => (intro w hSw; (try dsimp only at hSw); go_simp; all_goals with_reducible rfl)
          try simp only [Act.put, List.setIfInBounds_toArray, List.set_cons_zero, List.set_cons_succ]
          refine wpAnyH_take (i := 8) (oi := { dst := some 77, op := Op.indexAddr 35 (Operand.tmp 7) (Operand.const (Value.int IntKind.i64 1)), type := 0, pos := "law.go:64", after := #[{ on := 7, ground := Ground.guard }], guard := some (7, false) }) (v := ?vv25) rfl (by kernel_rfl) (by kernel_rfl) (by kernel_rfl) (fun _ _ _ h => h) (Or.inl ⟨by rfl, ?hy25⟩) (by assumption) ?_
          case hy25 => (intro w hSw; (try dsimp only at hSw); go_simp; all_goals with_reducible rfl)
          try simp only [Act.put, List.setIfInBounds_toArray, List.set_cons_zero, List.set_cons_succ]
          refine wpAnyH_take (i := 9) (oi := { dst := some 78, op := Op.load 24 (Operand.tmp 77), type := 24, pos := "law.go:64", after := #[{ on := 8, ground := Ground.data }, { on := 7, ground := Ground.guard }], guard := some (7, false) }) (v := ?vv26) rfl (by kernel_rfl) (by kernel_rfl) (by kernel_rfl) (fun _ _ _ h => h) (Or.inl ⟨by rfl, ?hy26⟩) (by assumption) ?_
          case hy26 => (intro w hSw; (try dsimp only at hSw); go_simp; all_goals with_reducible rfl)
          try simp only [Act.put, List.setIfInBounds_toArray, List.set_cons_zero, List.set_cons_succ]
          refine wpAnyH_take (i := 11) (oi := { dst := some 80, op := Op.indexAddr 38 (Operand.tmp 8) (Operand.const (Value.int IntKind.i64 1)), type := 0, pos := "law.go:64", after := #[{ on := 7, ground := Ground.guard }], guard := some (7, false) }) (v := ?vv27) rfl (by kernel_rfl) (by kernel_rfl) (by kernel_rfl) (fun _ _ _ h => h) (Or.inl ⟨by rfl, ?hy27⟩) (by assumption) ?_
          case hy27 => (intro w hSw; (try dsimp only at hSw); go_simp; all_goals with_reducible rfl)
          try simp only [Act.put, List.setIfInBounds_toArray, List.set_cons_zero, List.set_cons_succ]
          refine wpAnyH_take (i := 12) (oi := { dst := some 81, op := Op.load 36 (Operand.tmp 80), type := 36, pos := "law.go:64", after := #[{ on := 11, ground := Ground.data }, { on := 7, ground := Ground.guard }], guard := some (7, false) }) (v := ?vv28) rfl (by kernel_rfl) (by kernel_rfl) (by kernel_rfl) (fun _ _ _ h => h) (Or.inl ⟨by rfl, ?hy28⟩) (by assumption) ?_
          case hy28 => (intro w hSw; (try dsimp only at hSw); go_simp; all_goals with_reducible rfl)
          try simp only [Act.put, List.setIfInBounds_toArray, List.set_cons_zero, List.set_cons_succ]
          refine wpAnyH_ready (rs := [10]) (by kernel_rfl) (by simp) ?_
          refine AllReadyH.cons (o := { dst := some 79, op := Op.call { callee := Callee.value (Operand.func 10), args := #[Operand.tmp 78], argTypes := #[24] }, type := 2, pos := "law.go:64", after := #[{ on := 9, ground := Ground.data }, { on := 7, ground := Ground.chain }, { on := 7, ground := Ground.guard }], guard := some (7, false) }) rfl (fun K hK => ?_) AllReadyH.nil
          go_simp
          refine (c10b.out Wxx hIWxx).mono ?_
          rintro e' Wxxx ⟨rfl, hIWxxx⟩
          go_wp2_with fail
          refine hK.out _ _ (hfull.out _ hIWxxx) (fun hHeld => ?_)
          clear hK K hIWxx
          try simp only [Act.put, List.setIfInBounds_toArray, List.set_cons_zero, List.set_cons_succ]
          refine wpAnyH_ready (rs := [13]) (by kernel_rfl) (by simp) ?_
          refine AllReadyH.cons (o := { dst := some 82, op := Op.call { callee := Callee.value (Operand.func 18), args := #[Operand.tmp 81], argTypes := #[36] }, type := 2, pos := "law.go:64", after := #[{ on := 12, ground := Ground.data }, { on := 10, ground := Ground.chain }, { on := 7, ground := Ground.guard }], guard := some (7, false) }) rfl (fun K hK => ?_) AllReadyH.nil
          go_simp
          refine (c18b.out Wxxx hIWxxx).mono ?_
          rintro e' Wxxxx ⟨rfl, hIWxxxx⟩
          go_wp2_with fail
          refine hK.out _ _ (hfull.out _ hIWxxxx) (fun hHeld => ?_)
          clear hK K hIWxxx
          try simp only [Act.put, List.setIfInBounds_toArray, List.set_cons_zero, List.set_cons_succ]
          refine wpAnyH_take (i := 14) (oi := { dst := some 83, op := Op.binOp BinOp.neq 2 (Operand.tmp 79) (Operand.tmp 82) 2, type := 4, pos := "law.go:64", after := #[{ on := 10, ground := Ground.data }, { on := 13, ground := Ground.data }, { on := 7, ground := Ground.guard }], guard := some (7, false) }) (v := ?vv29) rfl (by kernel_rfl) (by kernel_rfl) (by kernel_rfl) (fun _ _ _ h => h) (Or.inl ⟨by rfl, ?hy29⟩) (by assumption) ?_
          case hy29 => (intro w hSw; (try dsimp only at hSw); go_simp; all_goals with_reducible rfl)
          try simp only [Act.put, List.setIfInBounds_toArray, List.set_cons_zero, List.set_cons_succ]
          refine wpAnyH_take (i := 15) (oi := { dst := some 84, op := Op.pick (Operand.tmp 76) (Operand.const (Value.bool true)) (Operand.tmp 83), type := 4, pos := "law.go:64", after := #[{ on := 7, ground := Ground.data }, { on := 14, ground := Ground.data }], guard := none }) (v := ?vv30) rfl (by kernel_rfl) (by kernel_rfl) (by kernel_rfl) (fun _ _ _ h => h) (Or.inl ⟨by rfl, ?hy30⟩) (by assumption) ?_
          case hy30 => (intro w hSw; (try dsimp only at hSw); go_simp; all_goals with_reducible rfl)
          try simp only [Act.put, List.setIfInBounds_toArray, List.set_cons_zero, List.set_cons_succ]
          refine wpAnyH_done (by kernel_rfl) ?_ _
          have SE := hend.out _ hIWxxxx
          clear hfull hHeld
          go_wp2_with fail
          go_roundw
          case rel => exact ⟨k + 1, by omega, by simp, _, _, _, _, _, _, _, _, SE⟩
          case measure => simp [intOf]; omega
        · have hkb : (kd == 0) = false := by simpa using hk0
          have xa0 := cell_blk S2.a 0
          have xa1 := cell_blk S2.a 1
          have xr0 := cell_blk S2.r 0
          have xr1 := cell_blk S2.r 1
          have xo0 := cell_blk S2.op 0
          have xo1 := cell_blk S2.op 1
          have xo2 := cell_blk S2.op 2
          simp only [List.getElem?_toArray, List.getElem?_cons_zero, List.getElem?_cons_succ, pt] at xa0 xa1 xr0 xr1 xo0 xo1 xo2
          go_wp2_with fail
          have S2d := S2.below (Below.refl _ _).drew
          have hPl : Hid (∀ W, Pk w ga gr b0 r0 b1 r1 v0 v1 k n0 n1 wr.heap.size #[.int .i64 kd, .int .i64 ww, .int .i64 N] W → Calls Try.prog 17 #[.pointer (some ⟨b0, 0, none⟩), .pointer (some ⟨r0, 0, none⟩), .agg #[.int .i64 kd, .int .i64 ww, .int .i64 N]] W fun e W' => e = .returned (.bool true) ∧ ∃ v0' v1' n0' n1', Pk w ga gr b0 r0 b1 r1 v0' v1' (k + 1) n0' n1' wr.heap.size #[.int .i64 kd, .int .i64 ww, .int .i64 N] W') := fun W h => by
            refine (plays_any W b0 r0 v0 k n0 h.p0 (by omega) kd ww N).mono ?_
            rintro e W' ⟨rfl, v', n', h1, h2, h3⟩
            exact ⟨rfl, v', v1, n', n1, h.play0 h1 h2 h3⟩
          obtain ⟨g, hg⟩ : ∃ g, wr.heap.size = g := ⟨_, rfl⟩
          rw [hg] at hPl S2d
          have hfull : Hid (∀ v0 v1 M n0 n1 W, Pk w ga gr b0 r0 b1 r1 v0 v1 M n0 n1 g #[.int .i64 kd, .int .i64 ww, .int .i64 N] W → (fun W => W.cell? ⟨ga, 0, none⟩ = some (.pointer (some ⟨b0, 0, none⟩)) ∧ W.cell? ⟨ga, 1, none⟩ = some (.pointer (some ⟨b1, 0, none⟩)) ∧ W.cell? ⟨gr, 0, none⟩ = some (.pointer (some ⟨r0, 0, none⟩)) ∧ W.cell? ⟨gr, 1, none⟩ = some (.pointer (some ⟨r1, 0, none⟩)) ∧ W.cell? ⟨g, 0, none⟩ = some (.int .i64 kd) ∧ W.cell? ⟨g, 1, none⟩ = some (.int .i64 ww) ∧ W.cell? ⟨g, 2, none⟩ = some (.int .i64 N)) W) := fun _ _ _ _ _ W h => ⟨cell_blk h.a 0, cell_blk h.a 1, cell_blk h.r 0, cell_blk h.r 1, cell_blk h.op 0, cell_blk h.op 1, cell_blk h.op 2⟩
          have hIW := S2d
          clear S2 S2d
          try rw [hg]
          refine wp_region_held_drew (S := (fun W => W.cell? ⟨ga, 0, none⟩ = some (.pointer (some ⟨b0, 0, none⟩)) ∧ W.cell? ⟨ga, 1, none⟩ = some (.pointer (some ⟨b1, 0, none⟩)) ∧ W.cell? ⟨gr, 0, none⟩ = some (.pointer (some ⟨r0, 0, none⟩)) ∧ W.cell? ⟨gr, 1, none⟩ = some (.pointer (some ⟨r1, 0, none⟩)) ∧ W.cell? ⟨g, 0, none⟩ = some (.int .i64 kd) ∧ W.cell? ⟨g, 1, none⟩ = some (.int .i64 ww) ∧ W.cell? ⟨g, 2, none⟩ = some (.int .i64 N))) (by kernel_rfl) (hfull.out _ _ _ _ _ _ hIW) (fun hHeld => ?_)
          generalize hWg : World.drew _ = W at hIW hHeld ⊢
          clear hWg
          refine wpAnyH_take (i := 0) (oi := { dst := some 50, op := Op.indexAddr 35 (Operand.tmp 7) (Operand.const (Value.int IntKind.i64 0)), type := 0, pos := "law.go:61", after := #[], guard := none }) (v := ?vv31) rfl (by kernel_rfl) (by kernel_rfl) (by kernel_rfl) (fun _ _ _ h => h) (Or.inl ⟨by rfl, ?hy31⟩) (by assumption) ?_
          case hy31 => (intro w hSw; (try dsimp only at hSw); go_simp; all_goals with_reducible rfl)
          try simp only [Act.put, List.setIfInBounds_toArray, List.set_cons_zero, List.set_cons_succ]
          refine wpAnyH_take (i := 1) (oi := { dst := some 51, op := Op.load 24 (Operand.tmp 50), type := 24, pos := "law.go:61", after := #[{ on := 0, ground := Ground.data }], guard := none }) (v := ?vv32) rfl (by kernel_rfl) (by kernel_rfl) (by kernel_rfl) (fun _ _ _ h => h) (Or.inl ⟨by rfl, ?hy32⟩) (by assumption) ?_
          case hy32 => (intro w hSw; (try dsimp only at hSw); go_simp; all_goals with_reducible rfl)
          try simp only [Act.put, List.setIfInBounds_toArray, List.set_cons_zero, List.set_cons_succ]
          refine wpAnyH_take (i := 2) (oi := { dst := some 52, op := Op.binOp BinOp.eql 24 (Operand.tmp 51) (Operand.const (Value.pointer none)) 24, type := 4, pos := "law.go:61", after := #[{ on := 1, ground := Ground.data }], guard := none }) (v := ?vv33) rfl (by kernel_rfl) (by kernel_rfl) (by kernel_rfl) (fun _ _ _ h => h) (Or.inl ⟨by rfl, ?hy33⟩) (by assumption) ?_
          case hy33 => (intro w hSw; (try dsimp only at hSw); go_simp; all_goals with_reducible rfl)
          try simp only [Act.put, List.setIfInBounds_toArray, List.set_cons_zero, List.set_cons_succ]
          refine wpAnyH_take (i := 3) (oi := { dst := some 53, op := Op.move (Operand.tmp 52), type := 4, pos := "law.go:61", after := #[{ on := 2, ground := Ground.data }], guard := none }) (v := ?vv34) rfl (by kernel_rfl) (by kernel_rfl) (by kernel_rfl) (fun _ _ _ h => h) (Or.inl ⟨by rfl, ?hy34⟩) (by assumption) ?_
          case hy34 => (intro w hSw; (try dsimp only at hSw); go_simp; all_goals with_reducible rfl)
          try simp only [Act.put, List.setIfInBounds_toArray, List.set_cons_zero, List.set_cons_succ]
          refine wpAnyH_take (i := 4) (oi := { dst := some 54, op := Op.indexAddr 35 (Operand.tmp 7) (Operand.const (Value.int IntKind.i64 1)), type := 0, pos := "law.go:61", after := #[{ on := 3, ground := Ground.guard }], guard := some (3, false) }) (v := ?vv35) rfl (by kernel_rfl) (by kernel_rfl) (by kernel_rfl) (fun _ _ _ h => h) (Or.inl ⟨by rfl, ?hy35⟩) (by assumption) ?_
          case hy35 => (intro w hSw; (try dsimp only at hSw); go_simp; all_goals with_reducible rfl)
          try simp only [Act.put, List.setIfInBounds_toArray, List.set_cons_zero, List.set_cons_succ]
          refine wpAnyH_take (i := 5) (oi := { dst := some 55, op := Op.load 24 (Operand.tmp 54), type := 24, pos := "law.go:61", after := #[{ on := 4, ground := Ground.data }, { on := 3, ground := Ground.guard }], guard := some (3, false) }) (v := ?vv36) rfl (by kernel_rfl) (by kernel_rfl) (by kernel_rfl) (fun _ _ _ h => h) (Or.inl ⟨by rfl, ?hy36⟩) (by assumption) ?_
          case hy36 => (intro w hSw; (try dsimp only at hSw); go_simp; all_goals with_reducible rfl)
          try simp only [Act.put, List.setIfInBounds_toArray, List.set_cons_zero, List.set_cons_succ]
          refine wpAnyH_take (i := 6) (oi := { dst := some 56, op := Op.binOp BinOp.eql 24 (Operand.tmp 55) (Operand.const (Value.pointer none)) 24, type := 4, pos := "law.go:61", after := #[{ on := 5, ground := Ground.data }, { on := 3, ground := Ground.guard }], guard := some (3, false) }) (v := ?vv37) rfl (by kernel_rfl) (by kernel_rfl) (by kernel_rfl) (fun _ _ _ h => h) (Or.inl ⟨by rfl, ?hy37⟩) (by assumption) ?_
          case hy37 => (intro w hSw; (try dsimp only at hSw); go_simp; all_goals with_reducible rfl)
          try simp only [Act.put, List.setIfInBounds_toArray, List.set_cons_zero, List.set_cons_succ]
          refine wpAnyH_take (i := 7) (oi := { dst := some 57, op := Op.pick (Operand.tmp 53) (Operand.const (Value.bool true)) (Operand.tmp 56), type := 4, pos := "law.go:61", after := #[{ on := 3, ground := Ground.data }, { on := 6, ground := Ground.data }], guard := none }) (v := ?vv38) rfl (by kernel_rfl) (by kernel_rfl) (by kernel_rfl) (fun _ _ _ h => h) (Or.inl ⟨by rfl, ?hy38⟩) (by assumption) ?_
          case hy38 => (intro w hSw; (try dsimp only at hSw); go_simp; all_goals with_reducible rfl)
          try simp only [Act.put, List.setIfInBounds_toArray, List.set_cons_zero, List.set_cons_succ]
          refine wpAnyH_take (i := 8) (oi := { dst := some 58, op := Op.move (Operand.tmp 57), type := 4, pos := "law.go:61", after := #[{ on := 7, ground := Ground.data }, { on := 3, ground := Ground.chain }], guard := none }) (v := ?vv39) rfl (by kernel_rfl) (by kernel_rfl) (by kernel_rfl) (fun _ _ _ h => h) (Or.inl ⟨by rfl, ?hy39⟩) (by assumption) ?_
          case hy39 => (intro w hSw; (try dsimp only at hSw); go_simp; all_goals with_reducible rfl)
          try simp only [Act.put, List.setIfInBounds_toArray, List.set_cons_zero, List.set_cons_succ]
          refine wpAnyH_take (i := 9) (oi := { dst := some 59, op := Op.move (Operand.tmp 11), type := 3, pos := "law.go:61", after := #[{ on := 8, ground := Ground.guard }], guard := some (8, false) }) (v := ?vv40) rfl (by kernel_rfl) (by kernel_rfl) (by kernel_rfl) (fun _ _ _ h => h) (Or.inl ⟨by rfl, ?hy40⟩) (by assumption) ?_
          case hy40 => (intro w hSw; (try dsimp only at hSw); go_simp; all_goals with_reducible rfl)
          try simp only [Act.put, List.setIfInBounds_toArray, List.set_cons_zero, List.set_cons_succ]
          refine wpAnyH_take (i := 10) (oi := { dst := some 60, op := Op.indexAddr 35 (Operand.tmp 7) (Operand.tmp 59), type := 0, pos := "law.go:61", after := #[{ on := 9, ground := Ground.data }, { on := 8, ground := Ground.guard }], guard := some (8, false) }) (v := ?vv41) rfl (by kernel_rfl) (by kernel_rfl) (by kernel_rfl) (fun _ _ _ h => h) (Or.inl ⟨by rfl, ?hy41⟩) (by assumption) ?_
          case hy41 => (intro w hSw; (try dsimp only at hSw); go_simp; all_goals with_reducible rfl)
          try simp only [Act.put, List.setIfInBounds_toArray, List.set_cons_zero, List.set_cons_succ]
          refine wpAnyH_take (i := 11) (oi := { dst := some 61, op := Op.load 24 (Operand.tmp 60), type := 24, pos := "law.go:61", after := #[{ on := 10, ground := Ground.data }, { on := 8, ground := Ground.guard }], guard := some (8, false) }) (v := ?vv42) rfl (by kernel_rfl) (by kernel_rfl) (by kernel_rfl) (fun _ _ _ h => h) (Or.inl ⟨by rfl, ?hy42⟩) (by assumption) ?_
          case hy42 => (intro w hSw; (try dsimp only at hSw); go_simp; all_goals with_reducible rfl)
          try simp only [Act.put, List.setIfInBounds_toArray, List.set_cons_zero, List.set_cons_succ]
          refine wpAnyH_take (i := 12) (oi := { dst := some 62, op := Op.move (Operand.tmp 11), type := 3, pos := "law.go:61", after := #[{ on := 8, ground := Ground.guard }], guard := some (8, false) }) (v := ?vv43) rfl (by kernel_rfl) (by kernel_rfl) (by kernel_rfl) (fun _ _ _ h => h) (Or.inl ⟨by rfl, ?hy43⟩) (by assumption) ?_
          case hy43 => (intro w hSw; (try dsimp only at hSw); go_simp; all_goals with_reducible rfl)
          try simp only [Act.put, List.setIfInBounds_toArray, List.set_cons_zero, List.set_cons_succ]
          refine wpAnyH_take (i := 13) (oi := { dst := some 63, op := Op.indexAddr 38 (Operand.tmp 8) (Operand.tmp 62), type := 0, pos := "law.go:61", after := #[{ on := 12, ground := Ground.data }, { on := 8, ground := Ground.guard }], guard := some (8, false) }) (v := ?vv44) rfl (by kernel_rfl) (by kernel_rfl) (by kernel_rfl) (fun _ _ _ h => h) (Or.inl ⟨by rfl, ?hy44⟩) (by assumption) ?_
          case hy44 => (intro w hSw; (try dsimp only at hSw); go_simp; all_goals with_reducible rfl)
          try simp only [Act.put, List.setIfInBounds_toArray, List.set_cons_zero, List.set_cons_succ]
          refine wpAnyH_take (i := 14) (oi := { dst := some 64, op := Op.load 36 (Operand.tmp 63), type := 36, pos := "law.go:61", after := #[{ on := 13, ground := Ground.data }, { on := 8, ground := Ground.guard }], guard := some (8, false) }) (v := ?vv45) rfl (by kernel_rfl) (by kernel_rfl) (by kernel_rfl) (fun _ _ _ h => h) (Or.inl ⟨by rfl, ?hy45⟩) (by assumption) ?_
          case hy45 => (intro w hSw; (try dsimp only at hSw); go_simp; all_goals with_reducible rfl)
          try simp only [Act.put, List.setIfInBounds_toArray, List.set_cons_zero, List.set_cons_succ]
          refine wpAnyH_take (i := 15) (oi := { dst := some 65, op := Op.load 27 (Operand.tmp 10), type := 27, pos := "law.go:61", after := #[{ on := 8, ground := Ground.guard }], guard := some (8, false) }) (v := ?vv46) rfl (by kernel_rfl) (by kernel_rfl) (by kernel_rfl) (fun _ _ _ h => h) (Or.inl ⟨by rfl, ?hy46⟩) (by assumption) ?_
          case hy46 => (intro w hSw; (try dsimp only at hSw); go_simp; all_goals with_reducible rfl)
          try simp only [Act.put, List.setIfInBounds_toArray, List.set_cons_zero, List.set_cons_succ]
          refine wpAnyH_ready (rs := [16]) (by kernel_rfl) (by simp) ?_
          refine AllReadyH.cons (o := { dst := some 66, op := Op.call { callee := Callee.value (Operand.func 17), args := #[Operand.tmp 61, Operand.tmp 64, Operand.tmp 65], argTypes := #[24, 36, 27] }, type := 4, pos := "law.go:61", after := #[{ on := 11, ground := Ground.data }, { on := 14, ground := Ground.data }, { on := 15, ground := Ground.data }, { on := 8, ground := Ground.chain }, { on := 8, ground := Ground.guard }], guard := some (8, false) }) rfl (fun K hK => ?_) AllReadyH.nil
          go_simp
          refine (hPl.out W hIW).mono ?_
          rintro e' Wx ⟨rfl, v0', v1', n0', n1', SS⟩
          go_wp2_with fail
          refine hK.out _ _ (hfull.out _ _ _ _ _ _ SS) (fun hHeld => ?_)
          clear hK K hIW
          try simp only [Act.put, List.setIfInBounds_toArray, List.set_cons_zero, List.set_cons_succ]
          refine wpAnyH_take (i := 17) (oi := { dst := some 67, op := Op.unOp UnOp.not 4 (Operand.tmp 66), type := 4, pos := "law.go:61", after := #[{ on := 16, ground := Ground.data }, { on := 8, ground := Ground.guard }], guard := some (8, false) }) (v := ?vv47) rfl (by kernel_rfl) (by kernel_rfl) (by kernel_rfl) (fun _ _ _ h => h) (Or.inl ⟨by rfl, ?hy47⟩) (by assumption) ?_
          case hy47 => (intro w hSw; (try dsimp only at hSw); go_simp; all_goals with_reducible rfl)
          try simp only [Act.put, List.setIfInBounds_toArray, List.set_cons_zero, List.set_cons_succ]
          refine wpAnyH_take (i := 18) (oi := { dst := some 68, op := Op.pick (Operand.tmp 58) (Operand.const (Value.bool true)) (Operand.tmp 67), type := 4, pos := "law.go:61", after := #[{ on := 8, ground := Ground.data }, { on := 17, ground := Ground.data }], guard := none }) (v := ?vv48) rfl (by kernel_rfl) (by kernel_rfl) (by kernel_rfl) (fun _ _ _ h => h) (Or.inl ⟨by rfl, ?hy48⟩) (by assumption) ?_
          case hy48 => (intro w hSw; (try dsimp only at hSw); go_simp; all_goals with_reducible rfl)
          try simp only [Act.put, List.setIfInBounds_toArray, List.set_cons_zero, List.set_cons_succ]
          refine wpAnyH_done (by kernel_rfl) ?_ _
          replace SS := SS.toPl
          clear hfull hPl
          clear hHeld
          obtain ⟨P, hP⟩ : ∃ P, P = Pl w ga gr b0 r0 b1 r1 v0' v1' (k + 1) n0' n1' := ⟨_, rfl⟩
          have c10a : Hid (∀ W, P W → Calls Try.prog 10 #[pt b0] W fun e W' => e = .returned (.int .i64 n0') ∧ P W') := fun W h => by
            subst hP
            refine (left_any W b0 n0' h.p0.wd).mono ?_
            rintro e W' ⟨rfl, rfl⟩
            exact ⟨rfl, h⟩
          have c10b : Hid (∀ W, P W → Calls Try.prog 10 #[pt b1] W fun e W' => e = .returned (.int .i64 n1') ∧ P W') := fun W h => by
            subst hP
            refine (left_any W b1 n1' h.p1.wd).mono ?_
            rintro e W' ⟨rfl, rfl⟩
            exact ⟨rfl, h⟩
          have c18a : Hid (∀ W, P W → Calls Try.prog 18 #[pt r0] W fun e W' => e = .returned (.int .i64 n0') ∧ P W') := fun W h => by
            subst hP
            obtain ⟨f, ms, hr, _⟩ := h.p0.rw'
            refine (rleft_any W r0 f v0' ms n0' hr).mono ?_
            rintro e W' ⟨rfl, rfl⟩
            exact ⟨rfl, h⟩
          have c18b : Hid (∀ W, P W → Calls Try.prog 18 #[pt r1] W fun e W' => e = .returned (.int .i64 n1') ∧ P W') := fun W h => by
            subst hP
            obtain ⟨f, ms, hr, _⟩ := h.p1.rw'
            refine (rleft_any W r1 f v1' ms n1' hr).mono ?_
            rintro e W' ⟨rfl, rfl⟩
            exact ⟨rfl, h⟩
          have hfull : Hid (∀ W, P W → W.cell? ⟨ga, 0, none⟩ = some (pt b0) ∧ W.cell? ⟨ga, 1, none⟩ = some (pt b1) ∧ W.cell? ⟨gr, 0, none⟩ = some (pt r0) ∧ W.cell? ⟨gr, 1, none⟩ = some (pt r1)) := fun W h => by
            subst hP
            exact ⟨cell_blk h.a 0, cell_blk h.a 1, cell_blk h.r 0, cell_blk h.r 1⟩
          have hdr : Hid (∀ W, P W → P W.drew) := fun W h => by subst hP; exact h.below (Below.refl _ _).drew
          have hend : Hid (∀ W, P W → Pl w ga gr b0 r0 b1 r1 v0' v1' (k + 1) n0' n1' W) := fun W h => by subst hP; exact h
          have HP : P _ := hP ▸ SS
          have q0 : (n0' != n0') = false := by simp
          have q1 : (n1' != n1') = false := by simp
          have q2 : (n0' == n0') = true := by simp
          have q3 : (n1' == n1') = true := by simp
          clear hP SS
          simp only [pt] at c10a c10b c18a c18b hfull
          go_wp2_with fail
          have hIW := hdr.out _ HP
          clear HP
          refine wp_region_held_drew (S := (fun W => W.cell? ⟨ga, 0, none⟩ = some (.pointer (some ⟨b0, 0, none⟩)) ∧ W.cell? ⟨ga, 1, none⟩ = some (.pointer (some ⟨b1, 0, none⟩)) ∧ W.cell? ⟨gr, 0, none⟩ = some (.pointer (some ⟨r0, 0, none⟩)) ∧ W.cell? ⟨gr, 1, none⟩ = some (.pointer (some ⟨r1, 0, none⟩)))) (by kernel_rfl) (hfull.out _ hIW) (fun hHeld => ?_)
          generalize hWg : World.drew _ = W at hIW hHeld ⊢
          clear hWg
          refine wpAnyH_take (i := 0) (oi := { dst := some 69, op := Op.indexAddr 35 (Operand.tmp 7) (Operand.const (Value.int IntKind.i64 0)), type := 0, pos := "law.go:64", after := #[], guard := none }) (v := ?vv49) rfl (by kernel_rfl) (by kernel_rfl) (by kernel_rfl) (fun _ _ _ h => h) (Or.inl ⟨by rfl, ?hy49⟩) (by assumption) ?_
          case hy49 => (intro w hSw; (try dsimp only at hSw); go_simp; all_goals with_reducible rfl)
          try simp only [Act.put, List.setIfInBounds_toArray, List.set_cons_zero, List.set_cons_succ]
          refine wpAnyH_take (i := 1) (oi := { dst := some 70, op := Op.load 24 (Operand.tmp 69), type := 24, pos := "law.go:64", after := #[{ on := 0, ground := Ground.data }], guard := none }) (v := ?vv50) rfl (by kernel_rfl) (by kernel_rfl) (by kernel_rfl) (fun _ _ _ h => h) (Or.inl ⟨by rfl, ?hy50⟩) (by assumption) ?_
          case hy50 => (intro w hSw; (try dsimp only at hSw); go_simp; all_goals with_reducible rfl)
          try simp only [Act.put, List.setIfInBounds_toArray, List.set_cons_zero, List.set_cons_succ]
          refine wpAnyH_take (i := 3) (oi := { dst := some 72, op := Op.indexAddr 38 (Operand.tmp 8) (Operand.const (Value.int IntKind.i64 0)), type := 0, pos := "law.go:64", after := #[], guard := none }) (v := ?vv51) rfl (by kernel_rfl) (by kernel_rfl) (by kernel_rfl) (fun _ _ _ h => h) (Or.inl ⟨by rfl, ?hy51⟩) (by assumption) ?_
          case hy51 => (intro w hSw; (try dsimp only at hSw); go_simp; all_goals with_reducible rfl)
          try simp only [Act.put, List.setIfInBounds_toArray, List.set_cons_zero, List.set_cons_succ]
          refine wpAnyH_take (i := 4) (oi := { dst := some 73, op := Op.load 36 (Operand.tmp 72), type := 36, pos := "law.go:64", after := #[{ on := 3, ground := Ground.data }], guard := none }) (v := ?vv52) rfl (by kernel_rfl) (by kernel_rfl) (by kernel_rfl) (fun _ _ _ h => h) (Or.inl ⟨by rfl, ?hy52⟩) (by assumption) ?_
          case hy52 => (intro w hSw; (try dsimp only at hSw); go_simp; all_goals with_reducible rfl)
          try simp only [Act.put, List.setIfInBounds_toArray, List.set_cons_zero, List.set_cons_succ]
          refine wpAnyH_ready (rs := [2]) (by kernel_rfl) (by simp) ?_
          refine AllReadyH.cons (o := { dst := some 71, op := Op.call { callee := Callee.value (Operand.func 10), args := #[Operand.tmp 70], argTypes := #[24] }, type := 2, pos := "law.go:64", after := #[{ on := 1, ground := Ground.data }], guard := none }) rfl (fun K hK => ?_) AllReadyH.nil
          go_simp
          refine (c10a.out W hIW).mono ?_
          rintro e' Wx ⟨rfl, hIWx⟩
          go_wp2_with fail
          refine hK.out _ _ (hfull.out _ hIWx) (fun hHeld => ?_)
          clear hK K hIW
          try simp only [Act.put, List.setIfInBounds_toArray, List.set_cons_zero, List.set_cons_succ]
          refine wpAnyH_ready (rs := [5]) (by kernel_rfl) (by simp) ?_
          refine AllReadyH.cons (o := { dst := some 74, op := Op.call { callee := Callee.value (Operand.func 18), args := #[Operand.tmp 73], argTypes := #[36] }, type := 2, pos := "law.go:64", after := #[{ on := 4, ground := Ground.data }, { on := 2, ground := Ground.chain }], guard := none }) rfl (fun K hK => ?_) AllReadyH.nil
          go_simp
          refine (c18a.out Wx hIWx).mono ?_
          rintro e' Wxx ⟨rfl, hIWxx⟩
          go_wp2_with fail
          refine hK.out _ _ (hfull.out _ hIWxx) (fun hHeld => ?_)
          clear hK K hIWx
          try simp only [Act.put, List.setIfInBounds_toArray, List.set_cons_zero, List.set_cons_succ]
          refine wpAnyH_take (i := 6) (oi := { dst := some 75, op := Op.binOp BinOp.neq 2 (Operand.tmp 71) (Operand.tmp 74) 2, type := 4, pos := "law.go:64", after := #[{ on := 2, ground := Ground.data }, { on := 5, ground := Ground.data }], guard := none }) (v := ?vv53) rfl (by kernel_rfl) (by kernel_rfl) (by kernel_rfl) (fun _ _ _ h => h) (Or.inl ⟨by rfl, ?hy53⟩) (by assumption) ?_
          case hy53 => (intro w hSw; (try dsimp only at hSw); go_simp; all_goals with_reducible rfl)
          try simp only [Act.put, List.setIfInBounds_toArray, List.set_cons_zero, List.set_cons_succ]
          refine wpAnyH_take (i := 7) (oi := { dst := some 76, op := Op.move (Operand.tmp 75), type := 4, pos := "law.go:64", after := #[{ on := 6, ground := Ground.data }, { on := 5, ground := Ground.chain }], guard := none }) (v := ?vv54) rfl (by kernel_rfl) (by kernel_rfl) (by kernel_rfl) (fun _ _ _ h => h) (Or.inl ⟨by rfl, ?hy54⟩) (by assumption) ?_
          case hy54 => (intro w hSw; (try dsimp only at hSw); go_simp; all_goals with_reducible rfl)
          try simp only [Act.put, List.setIfInBounds_toArray, List.set_cons_zero, List.set_cons_succ]
          refine wpAnyH_take (i := 8) (oi := { dst := some 77, op := Op.indexAddr 35 (Operand.tmp 7) (Operand.const (Value.int IntKind.i64 1)), type := 0, pos := "law.go:64", after := #[{ on := 7, ground := Ground.guard }], guard := some (7, false) }) (v := ?vv55) rfl (by kernel_rfl) (by kernel_rfl) (by kernel_rfl) (fun _ _ _ h => h) (Or.inl ⟨by rfl, ?hy55⟩) (by assumption) ?_
          case hy55 => (intro w hSw; (try dsimp only at hSw); go_simp; all_goals with_reducible rfl)
          try simp only [Act.put, List.setIfInBounds_toArray, List.set_cons_zero, List.set_cons_succ]
          refine wpAnyH_take (i := 9) (oi := { dst := some 78, op := Op.load 24 (Operand.tmp 77), type := 24, pos := "law.go:64", after := #[{ on := 8, ground := Ground.data }, { on := 7, ground := Ground.guard }], guard := some (7, false) }) (v := ?vv56) rfl (by kernel_rfl) (by kernel_rfl) (by kernel_rfl) (fun _ _ _ h => h) (Or.inl ⟨by rfl, ?hy56⟩) (by assumption) ?_
          case hy56 => (intro w hSw; (try dsimp only at hSw); go_simp; all_goals with_reducible rfl)
          try simp only [Act.put, List.setIfInBounds_toArray, List.set_cons_zero, List.set_cons_succ]
          refine wpAnyH_take (i := 11) (oi := { dst := some 80, op := Op.indexAddr 38 (Operand.tmp 8) (Operand.const (Value.int IntKind.i64 1)), type := 0, pos := "law.go:64", after := #[{ on := 7, ground := Ground.guard }], guard := some (7, false) }) (v := ?vv57) rfl (by kernel_rfl) (by kernel_rfl) (by kernel_rfl) (fun _ _ _ h => h) (Or.inl ⟨by rfl, ?hy57⟩) (by assumption) ?_
          case hy57 => (intro w hSw; (try dsimp only at hSw); go_simp; all_goals with_reducible rfl)
          try simp only [Act.put, List.setIfInBounds_toArray, List.set_cons_zero, List.set_cons_succ]
          refine wpAnyH_take (i := 12) (oi := { dst := some 81, op := Op.load 36 (Operand.tmp 80), type := 36, pos := "law.go:64", after := #[{ on := 11, ground := Ground.data }, { on := 7, ground := Ground.guard }], guard := some (7, false) }) (v := ?vv58) rfl (by kernel_rfl) (by kernel_rfl) (by kernel_rfl) (fun _ _ _ h => h) (Or.inl ⟨by rfl, ?hy58⟩) (by assumption) ?_
          case hy58 => (intro w hSw; (try dsimp only at hSw); go_simp; all_goals with_reducible rfl)
          try simp only [Act.put, List.setIfInBounds_toArray, List.set_cons_zero, List.set_cons_succ]
          refine wpAnyH_ready (rs := [10]) (by kernel_rfl) (by simp) ?_
          refine AllReadyH.cons (o := { dst := some 79, op := Op.call { callee := Callee.value (Operand.func 10), args := #[Operand.tmp 78], argTypes := #[24] }, type := 2, pos := "law.go:64", after := #[{ on := 9, ground := Ground.data }, { on := 7, ground := Ground.chain }, { on := 7, ground := Ground.guard }], guard := some (7, false) }) rfl (fun K hK => ?_) AllReadyH.nil
          go_simp
          refine (c10b.out Wxx hIWxx).mono ?_
          rintro e' Wxxx ⟨rfl, hIWxxx⟩
          go_wp2_with fail
          refine hK.out _ _ (hfull.out _ hIWxxx) (fun hHeld => ?_)
          clear hK K hIWxx
          try simp only [Act.put, List.setIfInBounds_toArray, List.set_cons_zero, List.set_cons_succ]
          refine wpAnyH_ready (rs := [13]) (by kernel_rfl) (by simp) ?_
          refine AllReadyH.cons (o := { dst := some 82, op := Op.call { callee := Callee.value (Operand.func 18), args := #[Operand.tmp 81], argTypes := #[36] }, type := 2, pos := "law.go:64", after := #[{ on := 12, ground := Ground.data }, { on := 10, ground := Ground.chain }, { on := 7, ground := Ground.guard }], guard := some (7, false) }) rfl (fun K hK => ?_) AllReadyH.nil
          go_simp
          refine (c18b.out Wxxx hIWxxx).mono ?_
          rintro e' Wxxxx ⟨rfl, hIWxxxx⟩
          go_wp2_with fail
          refine hK.out _ _ (hfull.out _ hIWxxxx) (fun hHeld => ?_)
          clear hK K hIWxxx
          try simp only [Act.put, List.setIfInBounds_toArray, List.set_cons_zero, List.set_cons_succ]
          refine wpAnyH_take (i := 14) (oi := { dst := some 83, op := Op.binOp BinOp.neq 2 (Operand.tmp 79) (Operand.tmp 82) 2, type := 4, pos := "law.go:64", after := #[{ on := 10, ground := Ground.data }, { on := 13, ground := Ground.data }, { on := 7, ground := Ground.guard }], guard := some (7, false) }) (v := ?vv59) rfl (by kernel_rfl) (by kernel_rfl) (by kernel_rfl) (fun _ _ _ h => h) (Or.inl ⟨by rfl, ?hy59⟩) (by assumption) ?_
          case hy59 => (intro w hSw; (try dsimp only at hSw); go_simp; all_goals with_reducible rfl)
          try simp only [Act.put, List.setIfInBounds_toArray, List.set_cons_zero, List.set_cons_succ]
          refine wpAnyH_take (i := 15) (oi := { dst := some 84, op := Op.pick (Operand.tmp 76) (Operand.const (Value.bool true)) (Operand.tmp 83), type := 4, pos := "law.go:64", after := #[{ on := 7, ground := Ground.data }, { on := 14, ground := Ground.data }], guard := none }) (v := ?vv60) rfl (by kernel_rfl) (by kernel_rfl) (by kernel_rfl) (fun _ _ _ h => h) (Or.inl ⟨by rfl, ?hy60⟩) (by assumption) ?_
          case hy60 => (intro w hSw; (try dsimp only at hSw); go_simp; all_goals with_reducible rfl)
          try simp only [Act.put, List.setIfInBounds_toArray, List.set_cons_zero, List.set_cons_succ]
          refine wpAnyH_done (by kernel_rfl) ?_ _
          have SE := hend.out _ hIWxxxx
          clear hfull hHeld
          go_wp2_with fail
          go_roundw
          case rel => exact ⟨k + 1, by omega, by simp, _, _, _, _, _, _, _, _, SE⟩
          case measure => simp [intOf]; omega
      · have hb : bits .and .i64 ww 1 = 1 := by rw [and1]; omega
        clear hj
        by_cases hk0 : kd = 0
        · subst hk0
          have xa0 := cell_blk S2.a 0
          have xa1 := cell_blk S2.a 1
          have xr0 := cell_blk S2.r 0
          have xr1 := cell_blk S2.r 1
          have xo0 := cell_blk S2.op 0
          have xo1 := cell_blk S2.op 1
          have xo2 := cell_blk S2.op 2
          simp only [List.getElem?_toArray, List.getElem?_cons_zero, List.getElem?_cons_succ, pt] at xa0 xa1 xr0 xr1 xo0 xo1 xo2
          go_wp2_with fail
          refine (new_any N _).mono ?_
          rintro e W1 ⟨b2, rfl, h1, u1, B1⟩
          have S3 := S2.below B1
          obtain ⟨W2, hW2⟩ : ∃ W2, W1.setCell ⟨ga, 1, none⟩ (pt b2) = W2 := ⟨_, rfl⟩
          have a2 : W2.heap[ga]? = some (.cells #[pt b0, pt b2] 35 (0, 0)) := by rw [← hW2]; exact setCell_block _ _ _ _ _ _ _ S3.a
          have k2 : Ks (fun j => j = ga ∨ j = gr) W1 W2 := by rw [← hW2]; exact Ks.setCell _ _ _ _ _ (.inl rfl)
          have gne : gr ≠ ga := fun e => by
            have h := S3.r
            rw [e, S3.a] at h
            simp at h
          have one : wr.heap.size ≠ ga ∧ wr.heap.size ≠ gr := ⟨fun e => by
            have h := S3.op
            rw [e, S3.a] at h
            simp at h, fun e => by
            have h := S3.op
            rw [e, S3.r] at h
            simp at h⟩
          have r2' : W2.heap[gr]? = some (.cells #[pt r0, pt r1] 38 (0, 0)) := by rw [← hW2, setCell_other _ _ _ _ _ gne]; exact S3.r
          have o2 : W2.heap[wr.heap.size]? = some (.cells #[.int .i64 0, .int .i64 ww, .int .i64 N] 27 (0, 0)) := by rw [← hW2, setCell_other _ _ _ _ _ one.1]; exact S3.op
          have h2 : Wd W2 b2 (cl N) := by
            refine h1.keep k2 fun e => ?_
            have hb := h1
            unfold Wd at hb
            rcases e with e | e
            · rw [e, S3.a] at hb; simp at hb
            · rw [e, S3.r] at hb; simp at hb
          have z1 := cell_blk S3.a 1
          have z2 := cell_blk S3.op 2
          have z3 := frozen_blk S3.a 1
          have z4 := cell_blk o2 2
          have z5 := heap_lt S3.a
          simp only [List.getElem?_toArray, List.getElem?_cons_zero, List.getElem?_cons_succ, pt] at z1 z2 z4 hW2
          have hR : Hid (Pk w ga gr b0 r0 b1 r1 v0 v1 k n0 n1 wr.heap.size #[.int .i64 0, .int .i64 ww, .int .i64 N] _ ∧ Pk w ga gr b0 r0 b1 r1 v0 v1 k n0 n1 wr.heap.size #[.int .i64 0, .int .i64 ww, .int .i64 N] W1 ∧ Below _ _ W1 ∧ Ks (fun j => j = ga ∨ j = gr) W1 W2 ∧ W2.heap[ga]? = some (.cells #[pt b0, pt b2] 35 (0, 0)) ∧ W2.heap[gr]? = some (.cells #[pt r0, pt r1] 38 (0, 0)) ∧ Wd W2 b2 (cl N)) := ⟨S2, S3, B1, k2, a2, r2', h2⟩
          clear S2 S3 B1 k2 a2 r2' h2 o2 h1
          go_wp2_with fail
          refine (rnew_any N _).mono ?_
          rintro e W3 ⟨r2, rfl, h3, u3, B3⟩
          obtain ⟨S2, S3, B1, k2, a2, r2', h2⟩ := hR.out
          clear hR
          obtain ⟨W4, hW4⟩ : ∃ W4, W3.setCell ⟨gr, 1, none⟩ (pt r2) = W4 := ⟨_, rfl⟩
          have r3 : W3.heap[gr]? = some (.cells #[pt r0, pt r1] 38 (0, 0)) := (B3.block _ (heap_lt r2')).trans r2'
          have r4 : W4.heap[gr]? = some (.cells #[pt r0, pt r2] 38 (0, 0)) := by rw [← hW4]; exact setCell_block _ _ _ _ _ _ _ r3
          have a3 : W3.heap[ga]? = some (.cells #[pt b0, pt b2] 35 (0, 0)) := (B3.block _ (heap_lt a2)).trans a2
          have a4 : W4.heap[ga]? = some (.cells #[pt b0, pt b2] 35 (0, 0)) := by rw [← hW4, setCell_other _ _ _ _ _ (Ne.symm gne)]; exact a3
          have k4 : Ks (fun j => j = ga ∨ j = gr) W3 W4 := by rw [← hW4]; exact Ks.setCell _ _ _ _ _ (.inr rfl)
          have hp4 : Pw W4 b2 r2 (.slice none 0 0) k (cl N) := by
            have hp3 : Pw W3 b2 r2 (.slice none 0 0) k (cl N) := pw_new k h2 B3 h3
            refine hp3.keep k4 fun i e e2 => ?_
            rcases e2 with rfl | rfl
            · have := hp3.other _ e a3; revert this; decide
            · have := hp3.other _ e r3; revert this; decide
          have kall : Ks (fun j => j = ga ∨ j = gr) _ W4 := Ks.trans (Ks.trans (Ks.trans (Ks.of_below (A := fun _ => False) B1) k2 (C := fun j => j = ga ∨ j = gr) (fun i _ e => e.elim) fun i _ e => e) (Ks.of_below (A := fun _ => False) B3) (C := fun j => j = ga ∨ j = gr) (fun i _ e => e) fun i _ e => e.elim) k4 (fun i _ e => e) fun i _ e => e
          have hs2 := B1.size
          have hs3 := k2.size
          have S5 := S2.swap1 hp4 kall a4 r4 (by
            rintro i (e | e | e)
            · omega
            · omega
            · simp [Value.ownBlock] at e)
          have z6 := cell_blk r3 1
          have z7 := frozen_blk r3 1
          have z8 := heap_lt r3
          simp only [List.getElem?_toArray, List.getElem?_cons_zero, List.getElem?_cons_succ, pt] at z6 z7 hW4
          clear S2 S3 B1 k2 a2 r2' h2 r3 r4 a3 a4 k4 hp4 kall B3 h3
          go_wp2_with fail
          have S5d := S5.below (Below.refl _ _).drew
          have hPl : Hid (∀ W, Pk w ga gr b0 r0 b2 r2 v0 (Value.slice none 0 0) k n0 (cl N) wr.heap.size #[.int .i64 0, .int .i64 ww, .int .i64 N] W → Calls Try.prog 17 #[.pointer (some ⟨b2, 0, none⟩), .pointer (some ⟨r2, 0, none⟩), .agg #[.int .i64 0, .int .i64 ww, .int .i64 N]] W fun e W' => e = .returned (.bool true) ∧ ∃ v0' v1' n0' n1', Pk w ga gr b0 r0 b2 r2 v0' v1' (k + 1) n0' n1' wr.heap.size #[.int .i64 0, .int .i64 ww, .int .i64 N] W') := fun W h => by
            refine (plays_any W b2 r2 (Value.slice none 0 0) k (cl N) h.p1 (by omega) 0 ww N).mono ?_
            rintro e W' ⟨rfl, v', n', h1, h2, h3⟩
            exact ⟨rfl, v0, v', n0, n', h.play1 h1 h2 h3⟩
          obtain ⟨g, hg⟩ : ∃ g, wr.heap.size = g := ⟨_, rfl⟩
          rw [hg] at hPl S5d
          have hfull : Hid (∀ v0 v1 M n0 n1 W, Pk w ga gr b0 r0 b2 r2 v0 v1 M n0 n1 g #[.int .i64 0, .int .i64 ww, .int .i64 N] W → (fun W => W.cell? ⟨ga, 0, none⟩ = some (.pointer (some ⟨b0, 0, none⟩)) ∧ W.cell? ⟨ga, 1, none⟩ = some (.pointer (some ⟨b2, 0, none⟩)) ∧ W.cell? ⟨gr, 0, none⟩ = some (.pointer (some ⟨r0, 0, none⟩)) ∧ W.cell? ⟨gr, 1, none⟩ = some (.pointer (some ⟨r2, 0, none⟩)) ∧ W.cell? ⟨g, 0, none⟩ = some (.int .i64 0) ∧ W.cell? ⟨g, 1, none⟩ = some (.int .i64 ww) ∧ W.cell? ⟨g, 2, none⟩ = some (.int .i64 N)) W) := fun _ _ _ _ _ W h => ⟨cell_blk h.a 0, cell_blk h.a 1, cell_blk h.r 0, cell_blk h.r 1, cell_blk h.op 0, cell_blk h.op 1, cell_blk h.op 2⟩
          have hIW := S5d
          clear S5 S5d
          try rw [hg]
          refine wp_region_held_drew (S := (fun W => W.cell? ⟨ga, 0, none⟩ = some (.pointer (some ⟨b0, 0, none⟩)) ∧ W.cell? ⟨ga, 1, none⟩ = some (.pointer (some ⟨b2, 0, none⟩)) ∧ W.cell? ⟨gr, 0, none⟩ = some (.pointer (some ⟨r0, 0, none⟩)) ∧ W.cell? ⟨gr, 1, none⟩ = some (.pointer (some ⟨r2, 0, none⟩)) ∧ W.cell? ⟨g, 0, none⟩ = some (.int .i64 0) ∧ W.cell? ⟨g, 1, none⟩ = some (.int .i64 ww) ∧ W.cell? ⟨g, 2, none⟩ = some (.int .i64 N))) (by kernel_rfl) (hfull.out _ _ _ _ _ _ hIW) (fun hHeld => ?_)
          generalize hWg : World.drew _ = W at hIW hHeld ⊢
          clear hWg
          refine wpAnyH_take (i := 0) (oi := { dst := some 50, op := Op.indexAddr 35 (Operand.tmp 7) (Operand.const (Value.int IntKind.i64 0)), type := 0, pos := "law.go:61", after := #[], guard := none }) (v := ?vv61) rfl (by kernel_rfl) (by kernel_rfl) (by kernel_rfl) (fun _ _ _ h => h) (Or.inl ⟨by rfl, ?hy61⟩) (by assumption) ?_
          case hy61 => (intro w hSw; (try dsimp only at hSw); go_simp; all_goals with_reducible rfl)
          try simp only [Act.put, List.setIfInBounds_toArray, List.set_cons_zero, List.set_cons_succ]
          refine wpAnyH_take (i := 1) (oi := { dst := some 51, op := Op.load 24 (Operand.tmp 50), type := 24, pos := "law.go:61", after := #[{ on := 0, ground := Ground.data }], guard := none }) (v := ?vv62) rfl (by kernel_rfl) (by kernel_rfl) (by kernel_rfl) (fun _ _ _ h => h) (Or.inl ⟨by rfl, ?hy62⟩) (by assumption) ?_
          case hy62 => (intro w hSw; (try dsimp only at hSw); go_simp; all_goals with_reducible rfl)
          try simp only [Act.put, List.setIfInBounds_toArray, List.set_cons_zero, List.set_cons_succ]
          refine wpAnyH_take (i := 2) (oi := { dst := some 52, op := Op.binOp BinOp.eql 24 (Operand.tmp 51) (Operand.const (Value.pointer none)) 24, type := 4, pos := "law.go:61", after := #[{ on := 1, ground := Ground.data }], guard := none }) (v := ?vv63) rfl (by kernel_rfl) (by kernel_rfl) (by kernel_rfl) (fun _ _ _ h => h) (Or.inl ⟨by rfl, ?hy63⟩) (by assumption) ?_
          case hy63 => (intro w hSw; (try dsimp only at hSw); go_simp; all_goals with_reducible rfl)
          try simp only [Act.put, List.setIfInBounds_toArray, List.set_cons_zero, List.set_cons_succ]
          refine wpAnyH_take (i := 3) (oi := { dst := some 53, op := Op.move (Operand.tmp 52), type := 4, pos := "law.go:61", after := #[{ on := 2, ground := Ground.data }], guard := none }) (v := ?vv64) rfl (by kernel_rfl) (by kernel_rfl) (by kernel_rfl) (fun _ _ _ h => h) (Or.inl ⟨by rfl, ?hy64⟩) (by assumption) ?_
          case hy64 => (intro w hSw; (try dsimp only at hSw); go_simp; all_goals with_reducible rfl)
          try simp only [Act.put, List.setIfInBounds_toArray, List.set_cons_zero, List.set_cons_succ]
          refine wpAnyH_take (i := 4) (oi := { dst := some 54, op := Op.indexAddr 35 (Operand.tmp 7) (Operand.const (Value.int IntKind.i64 1)), type := 0, pos := "law.go:61", after := #[{ on := 3, ground := Ground.guard }], guard := some (3, false) }) (v := ?vv65) rfl (by kernel_rfl) (by kernel_rfl) (by kernel_rfl) (fun _ _ _ h => h) (Or.inl ⟨by rfl, ?hy65⟩) (by assumption) ?_
          case hy65 => (intro w hSw; (try dsimp only at hSw); go_simp; all_goals with_reducible rfl)
          try simp only [Act.put, List.setIfInBounds_toArray, List.set_cons_zero, List.set_cons_succ]
          refine wpAnyH_take (i := 5) (oi := { dst := some 55, op := Op.load 24 (Operand.tmp 54), type := 24, pos := "law.go:61", after := #[{ on := 4, ground := Ground.data }, { on := 3, ground := Ground.guard }], guard := some (3, false) }) (v := ?vv66) rfl (by kernel_rfl) (by kernel_rfl) (by kernel_rfl) (fun _ _ _ h => h) (Or.inl ⟨by rfl, ?hy66⟩) (by assumption) ?_
          case hy66 => (intro w hSw; (try dsimp only at hSw); go_simp; all_goals with_reducible rfl)
          try simp only [Act.put, List.setIfInBounds_toArray, List.set_cons_zero, List.set_cons_succ]
          refine wpAnyH_take (i := 6) (oi := { dst := some 56, op := Op.binOp BinOp.eql 24 (Operand.tmp 55) (Operand.const (Value.pointer none)) 24, type := 4, pos := "law.go:61", after := #[{ on := 5, ground := Ground.data }, { on := 3, ground := Ground.guard }], guard := some (3, false) }) (v := ?vv67) rfl (by kernel_rfl) (by kernel_rfl) (by kernel_rfl) (fun _ _ _ h => h) (Or.inl ⟨by rfl, ?hy67⟩) (by assumption) ?_
          case hy67 => (intro w hSw; (try dsimp only at hSw); go_simp; all_goals with_reducible rfl)
          try simp only [Act.put, List.setIfInBounds_toArray, List.set_cons_zero, List.set_cons_succ]
          refine wpAnyH_take (i := 7) (oi := { dst := some 57, op := Op.pick (Operand.tmp 53) (Operand.const (Value.bool true)) (Operand.tmp 56), type := 4, pos := "law.go:61", after := #[{ on := 3, ground := Ground.data }, { on := 6, ground := Ground.data }], guard := none }) (v := ?vv68) rfl (by kernel_rfl) (by kernel_rfl) (by kernel_rfl) (fun _ _ _ h => h) (Or.inl ⟨by rfl, ?hy68⟩) (by assumption) ?_
          case hy68 => (intro w hSw; (try dsimp only at hSw); go_simp; all_goals with_reducible rfl)
          try simp only [Act.put, List.setIfInBounds_toArray, List.set_cons_zero, List.set_cons_succ]
          refine wpAnyH_take (i := 8) (oi := { dst := some 58, op := Op.move (Operand.tmp 57), type := 4, pos := "law.go:61", after := #[{ on := 7, ground := Ground.data }, { on := 3, ground := Ground.chain }], guard := none }) (v := ?vv69) rfl (by kernel_rfl) (by kernel_rfl) (by kernel_rfl) (fun _ _ _ h => h) (Or.inl ⟨by rfl, ?hy69⟩) (by assumption) ?_
          case hy69 => (intro w hSw; (try dsimp only at hSw); go_simp; all_goals with_reducible rfl)
          try simp only [Act.put, List.setIfInBounds_toArray, List.set_cons_zero, List.set_cons_succ]
          refine wpAnyH_take (i := 9) (oi := { dst := some 59, op := Op.move (Operand.tmp 11), type := 3, pos := "law.go:61", after := #[{ on := 8, ground := Ground.guard }], guard := some (8, false) }) (v := ?vv70) rfl (by kernel_rfl) (by kernel_rfl) (by kernel_rfl) (fun _ _ _ h => h) (Or.inl ⟨by rfl, ?hy70⟩) (by assumption) ?_
          case hy70 => (intro w hSw; (try dsimp only at hSw); go_simp; all_goals with_reducible rfl)
          try simp only [Act.put, List.setIfInBounds_toArray, List.set_cons_zero, List.set_cons_succ]
          refine wpAnyH_take (i := 10) (oi := { dst := some 60, op := Op.indexAddr 35 (Operand.tmp 7) (Operand.tmp 59), type := 0, pos := "law.go:61", after := #[{ on := 9, ground := Ground.data }, { on := 8, ground := Ground.guard }], guard := some (8, false) }) (v := ?vv71) rfl (by kernel_rfl) (by kernel_rfl) (by kernel_rfl) (fun _ _ _ h => h) (Or.inl ⟨by rfl, ?hy71⟩) (by assumption) ?_
          case hy71 => (intro w hSw; (try dsimp only at hSw); go_simp; all_goals with_reducible rfl)
          try simp only [Act.put, List.setIfInBounds_toArray, List.set_cons_zero, List.set_cons_succ]
          refine wpAnyH_take (i := 11) (oi := { dst := some 61, op := Op.load 24 (Operand.tmp 60), type := 24, pos := "law.go:61", after := #[{ on := 10, ground := Ground.data }, { on := 8, ground := Ground.guard }], guard := some (8, false) }) (v := ?vv72) rfl (by kernel_rfl) (by kernel_rfl) (by kernel_rfl) (fun _ _ _ h => h) (Or.inl ⟨by rfl, ?hy72⟩) (by assumption) ?_
          case hy72 => (intro w hSw; (try dsimp only at hSw); go_simp; all_goals with_reducible rfl)
          try simp only [Act.put, List.setIfInBounds_toArray, List.set_cons_zero, List.set_cons_succ]
          refine wpAnyH_take (i := 12) (oi := { dst := some 62, op := Op.move (Operand.tmp 11), type := 3, pos := "law.go:61", after := #[{ on := 8, ground := Ground.guard }], guard := some (8, false) }) (v := ?vv73) rfl (by kernel_rfl) (by kernel_rfl) (by kernel_rfl) (fun _ _ _ h => h) (Or.inl ⟨by rfl, ?hy73⟩) (by assumption) ?_
          case hy73 => (intro w hSw; (try dsimp only at hSw); go_simp; all_goals with_reducible rfl)
          try simp only [Act.put, List.setIfInBounds_toArray, List.set_cons_zero, List.set_cons_succ]
          refine wpAnyH_take (i := 13) (oi := { dst := some 63, op := Op.indexAddr 38 (Operand.tmp 8) (Operand.tmp 62), type := 0, pos := "law.go:61", after := #[{ on := 12, ground := Ground.data }, { on := 8, ground := Ground.guard }], guard := some (8, false) }) (v := ?vv74) rfl (by kernel_rfl) (by kernel_rfl) (by kernel_rfl) (fun _ _ _ h => h) (Or.inl ⟨by rfl, ?hy74⟩) (by assumption) ?_
          case hy74 => (intro w hSw; (try dsimp only at hSw); go_simp; all_goals with_reducible rfl)
          try simp only [Act.put, List.setIfInBounds_toArray, List.set_cons_zero, List.set_cons_succ]
          refine wpAnyH_take (i := 14) (oi := { dst := some 64, op := Op.load 36 (Operand.tmp 63), type := 36, pos := "law.go:61", after := #[{ on := 13, ground := Ground.data }, { on := 8, ground := Ground.guard }], guard := some (8, false) }) (v := ?vv75) rfl (by kernel_rfl) (by kernel_rfl) (by kernel_rfl) (fun _ _ _ h => h) (Or.inl ⟨by rfl, ?hy75⟩) (by assumption) ?_
          case hy75 => (intro w hSw; (try dsimp only at hSw); go_simp; all_goals with_reducible rfl)
          try simp only [Act.put, List.setIfInBounds_toArray, List.set_cons_zero, List.set_cons_succ]
          refine wpAnyH_take (i := 15) (oi := { dst := some 65, op := Op.load 27 (Operand.tmp 10), type := 27, pos := "law.go:61", after := #[{ on := 8, ground := Ground.guard }], guard := some (8, false) }) (v := ?vv76) rfl (by kernel_rfl) (by kernel_rfl) (by kernel_rfl) (fun _ _ _ h => h) (Or.inl ⟨by rfl, ?hy76⟩) (by assumption) ?_
          case hy76 => (intro w hSw; (try dsimp only at hSw); go_simp; all_goals with_reducible rfl)
          try simp only [Act.put, List.setIfInBounds_toArray, List.set_cons_zero, List.set_cons_succ]
          refine wpAnyH_ready (rs := [16]) (by kernel_rfl) (by simp) ?_
          refine AllReadyH.cons (o := { dst := some 66, op := Op.call { callee := Callee.value (Operand.func 17), args := #[Operand.tmp 61, Operand.tmp 64, Operand.tmp 65], argTypes := #[24, 36, 27] }, type := 4, pos := "law.go:61", after := #[{ on := 11, ground := Ground.data }, { on := 14, ground := Ground.data }, { on := 15, ground := Ground.data }, { on := 8, ground := Ground.chain }, { on := 8, ground := Ground.guard }], guard := some (8, false) }) rfl (fun K hK => ?_) AllReadyH.nil
          go_simp
          refine (hPl.out W hIW).mono ?_
          rintro e' Wx ⟨rfl, v0', v1', n0', n1', SS⟩
          go_wp2_with fail
          refine hK.out _ _ (hfull.out _ _ _ _ _ _ SS) (fun hHeld => ?_)
          clear hK K hIW
          try simp only [Act.put, List.setIfInBounds_toArray, List.set_cons_zero, List.set_cons_succ]
          refine wpAnyH_take (i := 17) (oi := { dst := some 67, op := Op.unOp UnOp.not 4 (Operand.tmp 66), type := 4, pos := "law.go:61", after := #[{ on := 16, ground := Ground.data }, { on := 8, ground := Ground.guard }], guard := some (8, false) }) (v := ?vv77) rfl (by kernel_rfl) (by kernel_rfl) (by kernel_rfl) (fun _ _ _ h => h) (Or.inl ⟨by rfl, ?hy77⟩) (by assumption) ?_
          case hy77 => (intro w hSw; (try dsimp only at hSw); go_simp; all_goals with_reducible rfl)
          try simp only [Act.put, List.setIfInBounds_toArray, List.set_cons_zero, List.set_cons_succ]
          refine wpAnyH_take (i := 18) (oi := { dst := some 68, op := Op.pick (Operand.tmp 58) (Operand.const (Value.bool true)) (Operand.tmp 67), type := 4, pos := "law.go:61", after := #[{ on := 8, ground := Ground.data }, { on := 17, ground := Ground.data }], guard := none }) (v := ?vv78) rfl (by kernel_rfl) (by kernel_rfl) (by kernel_rfl) (fun _ _ _ h => h) (Or.inl ⟨by rfl, ?hy78⟩) (by assumption) ?_
          case hy78 => (intro w hSw; (try dsimp only at hSw); go_simp; all_goals with_reducible rfl)
          try simp only [Act.put, List.setIfInBounds_toArray, List.set_cons_zero, List.set_cons_succ]
          refine wpAnyH_done (by kernel_rfl) ?_ _
          replace SS := SS.toPl
          clear hfull hPl
          clear hHeld
          obtain ⟨P, hP⟩ : ∃ P, P = Pl w ga gr b0 r0 b2 r2 v0' v1' (k + 1) n0' n1' := ⟨_, rfl⟩
          have c10a : Hid (∀ W, P W → Calls Try.prog 10 #[pt b0] W fun e W' => e = .returned (.int .i64 n0') ∧ P W') := fun W h => by
            subst hP
            refine (left_any W b0 n0' h.p0.wd).mono ?_
            rintro e W' ⟨rfl, rfl⟩
            exact ⟨rfl, h⟩
          have c10b : Hid (∀ W, P W → Calls Try.prog 10 #[pt b2] W fun e W' => e = .returned (.int .i64 n1') ∧ P W') := fun W h => by
            subst hP
            refine (left_any W b2 n1' h.p1.wd).mono ?_
            rintro e W' ⟨rfl, rfl⟩
            exact ⟨rfl, h⟩
          have c18a : Hid (∀ W, P W → Calls Try.prog 18 #[pt r0] W fun e W' => e = .returned (.int .i64 n0') ∧ P W') := fun W h => by
            subst hP
            obtain ⟨f, ms, hr, _⟩ := h.p0.rw'
            refine (rleft_any W r0 f v0' ms n0' hr).mono ?_
            rintro e W' ⟨rfl, rfl⟩
            exact ⟨rfl, h⟩
          have c18b : Hid (∀ W, P W → Calls Try.prog 18 #[pt r2] W fun e W' => e = .returned (.int .i64 n1') ∧ P W') := fun W h => by
            subst hP
            obtain ⟨f, ms, hr, _⟩ := h.p1.rw'
            refine (rleft_any W r2 f v1' ms n1' hr).mono ?_
            rintro e W' ⟨rfl, rfl⟩
            exact ⟨rfl, h⟩
          have hfull : Hid (∀ W, P W → W.cell? ⟨ga, 0, none⟩ = some (pt b0) ∧ W.cell? ⟨ga, 1, none⟩ = some (pt b2) ∧ W.cell? ⟨gr, 0, none⟩ = some (pt r0) ∧ W.cell? ⟨gr, 1, none⟩ = some (pt r2)) := fun W h => by
            subst hP
            exact ⟨cell_blk h.a 0, cell_blk h.a 1, cell_blk h.r 0, cell_blk h.r 1⟩
          have hdr : Hid (∀ W, P W → P W.drew) := fun W h => by subst hP; exact h.below (Below.refl _ _).drew
          have hend : Hid (∀ W, P W → Pl w ga gr b0 r0 b2 r2 v0' v1' (k + 1) n0' n1' W) := fun W h => by subst hP; exact h
          have HP : P _ := hP ▸ SS
          have q0 : (n0' != n0') = false := by simp
          have q1 : (n1' != n1') = false := by simp
          have q2 : (n0' == n0') = true := by simp
          have q3 : (n1' == n1') = true := by simp
          clear hP SS
          simp only [pt] at c10a c10b c18a c18b hfull
          go_wp2_with fail
          have hIW := hdr.out _ HP
          clear HP
          refine wp_region_held_drew (S := (fun W => W.cell? ⟨ga, 0, none⟩ = some (.pointer (some ⟨b0, 0, none⟩)) ∧ W.cell? ⟨ga, 1, none⟩ = some (.pointer (some ⟨b2, 0, none⟩)) ∧ W.cell? ⟨gr, 0, none⟩ = some (.pointer (some ⟨r0, 0, none⟩)) ∧ W.cell? ⟨gr, 1, none⟩ = some (.pointer (some ⟨r2, 0, none⟩)))) (by kernel_rfl) (hfull.out _ hIW) (fun hHeld => ?_)
          generalize hWg : World.drew _ = W at hIW hHeld ⊢
          clear hWg
          refine wpAnyH_take (i := 0) (oi := { dst := some 69, op := Op.indexAddr 35 (Operand.tmp 7) (Operand.const (Value.int IntKind.i64 0)), type := 0, pos := "law.go:64", after := #[], guard := none }) (v := ?vv79) rfl (by kernel_rfl) (by kernel_rfl) (by kernel_rfl) (fun _ _ _ h => h) (Or.inl ⟨by rfl, ?hy79⟩) (by assumption) ?_
          case hy79 => (intro w hSw; (try dsimp only at hSw); go_simp; all_goals with_reducible rfl)
          try simp only [Act.put, List.setIfInBounds_toArray, List.set_cons_zero, List.set_cons_succ]
          refine wpAnyH_take (i := 1) (oi := { dst := some 70, op := Op.load 24 (Operand.tmp 69), type := 24, pos := "law.go:64", after := #[{ on := 0, ground := Ground.data }], guard := none }) (v := ?vv80) rfl (by kernel_rfl) (by kernel_rfl) (by kernel_rfl) (fun _ _ _ h => h) (Or.inl ⟨by rfl, ?hy80⟩) (by assumption) ?_
          case hy80 => (intro w hSw; (try dsimp only at hSw); go_simp; all_goals with_reducible rfl)
          try simp only [Act.put, List.setIfInBounds_toArray, List.set_cons_zero, List.set_cons_succ]
          refine wpAnyH_take (i := 3) (oi := { dst := some 72, op := Op.indexAddr 38 (Operand.tmp 8) (Operand.const (Value.int IntKind.i64 0)), type := 0, pos := "law.go:64", after := #[], guard := none }) (v := ?vv81) rfl (by kernel_rfl) (by kernel_rfl) (by kernel_rfl) (fun _ _ _ h => h) (Or.inl ⟨by rfl, ?hy81⟩) (by assumption) ?_
          case hy81 => (intro w hSw; (try dsimp only at hSw); go_simp; all_goals with_reducible rfl)
          try simp only [Act.put, List.setIfInBounds_toArray, List.set_cons_zero, List.set_cons_succ]
          refine wpAnyH_take (i := 4) (oi := { dst := some 73, op := Op.load 36 (Operand.tmp 72), type := 36, pos := "law.go:64", after := #[{ on := 3, ground := Ground.data }], guard := none }) (v := ?vv82) rfl (by kernel_rfl) (by kernel_rfl) (by kernel_rfl) (fun _ _ _ h => h) (Or.inl ⟨by rfl, ?hy82⟩) (by assumption) ?_
          case hy82 => (intro w hSw; (try dsimp only at hSw); go_simp; all_goals with_reducible rfl)
          try simp only [Act.put, List.setIfInBounds_toArray, List.set_cons_zero, List.set_cons_succ]
          refine wpAnyH_ready (rs := [2]) (by kernel_rfl) (by simp) ?_
          refine AllReadyH.cons (o := { dst := some 71, op := Op.call { callee := Callee.value (Operand.func 10), args := #[Operand.tmp 70], argTypes := #[24] }, type := 2, pos := "law.go:64", after := #[{ on := 1, ground := Ground.data }], guard := none }) rfl (fun K hK => ?_) AllReadyH.nil
          go_simp
          refine (c10a.out W hIW).mono ?_
          rintro e' Wx ⟨rfl, hIWx⟩
          go_wp2_with fail
          refine hK.out _ _ (hfull.out _ hIWx) (fun hHeld => ?_)
          clear hK K hIW
          try simp only [Act.put, List.setIfInBounds_toArray, List.set_cons_zero, List.set_cons_succ]
          refine wpAnyH_ready (rs := [5]) (by kernel_rfl) (by simp) ?_
          refine AllReadyH.cons (o := { dst := some 74, op := Op.call { callee := Callee.value (Operand.func 18), args := #[Operand.tmp 73], argTypes := #[36] }, type := 2, pos := "law.go:64", after := #[{ on := 4, ground := Ground.data }, { on := 2, ground := Ground.chain }], guard := none }) rfl (fun K hK => ?_) AllReadyH.nil
          go_simp
          refine (c18a.out Wx hIWx).mono ?_
          rintro e' Wxx ⟨rfl, hIWxx⟩
          go_wp2_with fail
          refine hK.out _ _ (hfull.out _ hIWxx) (fun hHeld => ?_)
          clear hK K hIWx
          try simp only [Act.put, List.setIfInBounds_toArray, List.set_cons_zero, List.set_cons_succ]
          refine wpAnyH_take (i := 6) (oi := { dst := some 75, op := Op.binOp BinOp.neq 2 (Operand.tmp 71) (Operand.tmp 74) 2, type := 4, pos := "law.go:64", after := #[{ on := 2, ground := Ground.data }, { on := 5, ground := Ground.data }], guard := none }) (v := ?vv83) rfl (by kernel_rfl) (by kernel_rfl) (by kernel_rfl) (fun _ _ _ h => h) (Or.inl ⟨by rfl, ?hy83⟩) (by assumption) ?_
          case hy83 => (intro w hSw; (try dsimp only at hSw); go_simp; all_goals with_reducible rfl)
          try simp only [Act.put, List.setIfInBounds_toArray, List.set_cons_zero, List.set_cons_succ]
          refine wpAnyH_take (i := 7) (oi := { dst := some 76, op := Op.move (Operand.tmp 75), type := 4, pos := "law.go:64", after := #[{ on := 6, ground := Ground.data }, { on := 5, ground := Ground.chain }], guard := none }) (v := ?vv84) rfl (by kernel_rfl) (by kernel_rfl) (by kernel_rfl) (fun _ _ _ h => h) (Or.inl ⟨by rfl, ?hy84⟩) (by assumption) ?_
          case hy84 => (intro w hSw; (try dsimp only at hSw); go_simp; all_goals with_reducible rfl)
          try simp only [Act.put, List.setIfInBounds_toArray, List.set_cons_zero, List.set_cons_succ]
          refine wpAnyH_take (i := 8) (oi := { dst := some 77, op := Op.indexAddr 35 (Operand.tmp 7) (Operand.const (Value.int IntKind.i64 1)), type := 0, pos := "law.go:64", after := #[{ on := 7, ground := Ground.guard }], guard := some (7, false) }) (v := ?vv85) rfl (by kernel_rfl) (by kernel_rfl) (by kernel_rfl) (fun _ _ _ h => h) (Or.inl ⟨by rfl, ?hy85⟩) (by assumption) ?_
          case hy85 => (intro w hSw; (try dsimp only at hSw); go_simp; all_goals with_reducible rfl)
          try simp only [Act.put, List.setIfInBounds_toArray, List.set_cons_zero, List.set_cons_succ]
          refine wpAnyH_take (i := 9) (oi := { dst := some 78, op := Op.load 24 (Operand.tmp 77), type := 24, pos := "law.go:64", after := #[{ on := 8, ground := Ground.data }, { on := 7, ground := Ground.guard }], guard := some (7, false) }) (v := ?vv86) rfl (by kernel_rfl) (by kernel_rfl) (by kernel_rfl) (fun _ _ _ h => h) (Or.inl ⟨by rfl, ?hy86⟩) (by assumption) ?_
          case hy86 => (intro w hSw; (try dsimp only at hSw); go_simp; all_goals with_reducible rfl)
          try simp only [Act.put, List.setIfInBounds_toArray, List.set_cons_zero, List.set_cons_succ]
          refine wpAnyH_take (i := 11) (oi := { dst := some 80, op := Op.indexAddr 38 (Operand.tmp 8) (Operand.const (Value.int IntKind.i64 1)), type := 0, pos := "law.go:64", after := #[{ on := 7, ground := Ground.guard }], guard := some (7, false) }) (v := ?vv87) rfl (by kernel_rfl) (by kernel_rfl) (by kernel_rfl) (fun _ _ _ h => h) (Or.inl ⟨by rfl, ?hy87⟩) (by assumption) ?_
          case hy87 => (intro w hSw; (try dsimp only at hSw); go_simp; all_goals with_reducible rfl)
          try simp only [Act.put, List.setIfInBounds_toArray, List.set_cons_zero, List.set_cons_succ]
          refine wpAnyH_take (i := 12) (oi := { dst := some 81, op := Op.load 36 (Operand.tmp 80), type := 36, pos := "law.go:64", after := #[{ on := 11, ground := Ground.data }, { on := 7, ground := Ground.guard }], guard := some (7, false) }) (v := ?vv88) rfl (by kernel_rfl) (by kernel_rfl) (by kernel_rfl) (fun _ _ _ h => h) (Or.inl ⟨by rfl, ?hy88⟩) (by assumption) ?_
          case hy88 => (intro w hSw; (try dsimp only at hSw); go_simp; all_goals with_reducible rfl)
          try simp only [Act.put, List.setIfInBounds_toArray, List.set_cons_zero, List.set_cons_succ]
          refine wpAnyH_ready (rs := [10]) (by kernel_rfl) (by simp) ?_
          refine AllReadyH.cons (o := { dst := some 79, op := Op.call { callee := Callee.value (Operand.func 10), args := #[Operand.tmp 78], argTypes := #[24] }, type := 2, pos := "law.go:64", after := #[{ on := 9, ground := Ground.data }, { on := 7, ground := Ground.chain }, { on := 7, ground := Ground.guard }], guard := some (7, false) }) rfl (fun K hK => ?_) AllReadyH.nil
          go_simp
          refine (c10b.out Wxx hIWxx).mono ?_
          rintro e' Wxxx ⟨rfl, hIWxxx⟩
          go_wp2_with fail
          refine hK.out _ _ (hfull.out _ hIWxxx) (fun hHeld => ?_)
          clear hK K hIWxx
          try simp only [Act.put, List.setIfInBounds_toArray, List.set_cons_zero, List.set_cons_succ]
          refine wpAnyH_ready (rs := [13]) (by kernel_rfl) (by simp) ?_
          refine AllReadyH.cons (o := { dst := some 82, op := Op.call { callee := Callee.value (Operand.func 18), args := #[Operand.tmp 81], argTypes := #[36] }, type := 2, pos := "law.go:64", after := #[{ on := 12, ground := Ground.data }, { on := 10, ground := Ground.chain }, { on := 7, ground := Ground.guard }], guard := some (7, false) }) rfl (fun K hK => ?_) AllReadyH.nil
          go_simp
          refine (c18b.out Wxxx hIWxxx).mono ?_
          rintro e' Wxxxx ⟨rfl, hIWxxxx⟩
          go_wp2_with fail
          refine hK.out _ _ (hfull.out _ hIWxxxx) (fun hHeld => ?_)
          clear hK K hIWxxx
          try simp only [Act.put, List.setIfInBounds_toArray, List.set_cons_zero, List.set_cons_succ]
          refine wpAnyH_take (i := 14) (oi := { dst := some 83, op := Op.binOp BinOp.neq 2 (Operand.tmp 79) (Operand.tmp 82) 2, type := 4, pos := "law.go:64", after := #[{ on := 10, ground := Ground.data }, { on := 13, ground := Ground.data }, { on := 7, ground := Ground.guard }], guard := some (7, false) }) (v := ?vv89) rfl (by kernel_rfl) (by kernel_rfl) (by kernel_rfl) (fun _ _ _ h => h) (Or.inl ⟨by rfl, ?hy89⟩) (by assumption) ?_
          case hy89 => (intro w hSw; (try dsimp only at hSw); go_simp; all_goals with_reducible rfl)
          try simp only [Act.put, List.setIfInBounds_toArray, List.set_cons_zero, List.set_cons_succ]
          refine wpAnyH_take (i := 15) (oi := { dst := some 84, op := Op.pick (Operand.tmp 76) (Operand.const (Value.bool true)) (Operand.tmp 83), type := 4, pos := "law.go:64", after := #[{ on := 7, ground := Ground.data }, { on := 14, ground := Ground.data }], guard := none }) (v := ?vv90) rfl (by kernel_rfl) (by kernel_rfl) (by kernel_rfl) (fun _ _ _ h => h) (Or.inl ⟨by rfl, ?hy90⟩) (by assumption) ?_
          case hy90 => (intro w hSw; (try dsimp only at hSw); go_simp; all_goals with_reducible rfl)
          try simp only [Act.put, List.setIfInBounds_toArray, List.set_cons_zero, List.set_cons_succ]
          refine wpAnyH_done (by kernel_rfl) ?_ _
          have SE := hend.out _ hIWxxxx
          clear hfull hHeld
          go_wp2_with fail
          go_roundw
          case rel => exact ⟨k + 1, by omega, by simp, _, _, _, _, _, _, _, _, SE⟩
          case measure => simp [intOf]; omega
        · have hkb : (kd == 0) = false := by simpa using hk0
          have xa0 := cell_blk S2.a 0
          have xa1 := cell_blk S2.a 1
          have xr0 := cell_blk S2.r 0
          have xr1 := cell_blk S2.r 1
          have xo0 := cell_blk S2.op 0
          have xo1 := cell_blk S2.op 1
          have xo2 := cell_blk S2.op 2
          simp only [List.getElem?_toArray, List.getElem?_cons_zero, List.getElem?_cons_succ, pt] at xa0 xa1 xr0 xr1 xo0 xo1 xo2
          go_wp2_with fail
          have S2d := S2.below (Below.refl _ _).drew
          have hPl : Hid (∀ W, Pk w ga gr b0 r0 b1 r1 v0 v1 k n0 n1 wr.heap.size #[.int .i64 kd, .int .i64 ww, .int .i64 N] W → Calls Try.prog 17 #[.pointer (some ⟨b1, 0, none⟩), .pointer (some ⟨r1, 0, none⟩), .agg #[.int .i64 kd, .int .i64 ww, .int .i64 N]] W fun e W' => e = .returned (.bool true) ∧ ∃ v0' v1' n0' n1', Pk w ga gr b0 r0 b1 r1 v0' v1' (k + 1) n0' n1' wr.heap.size #[.int .i64 kd, .int .i64 ww, .int .i64 N] W') := fun W h => by
            refine (plays_any W b1 r1 v1 k n1 h.p1 (by omega) kd ww N).mono ?_
            rintro e W' ⟨rfl, v', n', h1, h2, h3⟩
            exact ⟨rfl, v0, v', n0, n', h.play1 h1 h2 h3⟩
          obtain ⟨g, hg⟩ : ∃ g, wr.heap.size = g := ⟨_, rfl⟩
          rw [hg] at hPl S2d
          have hfull : Hid (∀ v0 v1 M n0 n1 W, Pk w ga gr b0 r0 b1 r1 v0 v1 M n0 n1 g #[.int .i64 kd, .int .i64 ww, .int .i64 N] W → (fun W => W.cell? ⟨ga, 0, none⟩ = some (.pointer (some ⟨b0, 0, none⟩)) ∧ W.cell? ⟨ga, 1, none⟩ = some (.pointer (some ⟨b1, 0, none⟩)) ∧ W.cell? ⟨gr, 0, none⟩ = some (.pointer (some ⟨r0, 0, none⟩)) ∧ W.cell? ⟨gr, 1, none⟩ = some (.pointer (some ⟨r1, 0, none⟩)) ∧ W.cell? ⟨g, 0, none⟩ = some (.int .i64 kd) ∧ W.cell? ⟨g, 1, none⟩ = some (.int .i64 ww) ∧ W.cell? ⟨g, 2, none⟩ = some (.int .i64 N)) W) := fun _ _ _ _ _ W h => ⟨cell_blk h.a 0, cell_blk h.a 1, cell_blk h.r 0, cell_blk h.r 1, cell_blk h.op 0, cell_blk h.op 1, cell_blk h.op 2⟩
          have hIW := S2d
          clear S2 S2d
          try rw [hg]
          refine wp_region_held_drew (S := (fun W => W.cell? ⟨ga, 0, none⟩ = some (.pointer (some ⟨b0, 0, none⟩)) ∧ W.cell? ⟨ga, 1, none⟩ = some (.pointer (some ⟨b1, 0, none⟩)) ∧ W.cell? ⟨gr, 0, none⟩ = some (.pointer (some ⟨r0, 0, none⟩)) ∧ W.cell? ⟨gr, 1, none⟩ = some (.pointer (some ⟨r1, 0, none⟩)) ∧ W.cell? ⟨g, 0, none⟩ = some (.int .i64 kd) ∧ W.cell? ⟨g, 1, none⟩ = some (.int .i64 ww) ∧ W.cell? ⟨g, 2, none⟩ = some (.int .i64 N))) (by kernel_rfl) (hfull.out _ _ _ _ _ _ hIW) (fun hHeld => ?_)
          generalize hWg : World.drew _ = W at hIW hHeld ⊢
          clear hWg
          refine wpAnyH_take (i := 0) (oi := { dst := some 50, op := Op.indexAddr 35 (Operand.tmp 7) (Operand.const (Value.int IntKind.i64 0)), type := 0, pos := "law.go:61", after := #[], guard := none }) (v := ?vv91) rfl (by kernel_rfl) (by kernel_rfl) (by kernel_rfl) (fun _ _ _ h => h) (Or.inl ⟨by rfl, ?hy91⟩) (by assumption) ?_
          case hy91 => (intro w hSw; (try dsimp only at hSw); go_simp; all_goals with_reducible rfl)
          try simp only [Act.put, List.setIfInBounds_toArray, List.set_cons_zero, List.set_cons_succ]
          refine wpAnyH_take (i := 1) (oi := { dst := some 51, op := Op.load 24 (Operand.tmp 50), type := 24, pos := "law.go:61", after := #[{ on := 0, ground := Ground.data }], guard := none }) (v := ?vv92) rfl (by kernel_rfl) (by kernel_rfl) (by kernel_rfl) (fun _ _ _ h => h) (Or.inl ⟨by rfl, ?hy92⟩) (by assumption) ?_
          case hy92 => (intro w hSw; (try dsimp only at hSw); go_simp; all_goals with_reducible rfl)
          try simp only [Act.put, List.setIfInBounds_toArray, List.set_cons_zero, List.set_cons_succ]
          refine wpAnyH_take (i := 2) (oi := { dst := some 52, op := Op.binOp BinOp.eql 24 (Operand.tmp 51) (Operand.const (Value.pointer none)) 24, type := 4, pos := "law.go:61", after := #[{ on := 1, ground := Ground.data }], guard := none }) (v := ?vv93) rfl (by kernel_rfl) (by kernel_rfl) (by kernel_rfl) (fun _ _ _ h => h) (Or.inl ⟨by rfl, ?hy93⟩) (by assumption) ?_
          case hy93 => (intro w hSw; (try dsimp only at hSw); go_simp; all_goals with_reducible rfl)
          try simp only [Act.put, List.setIfInBounds_toArray, List.set_cons_zero, List.set_cons_succ]
          refine wpAnyH_take (i := 3) (oi := { dst := some 53, op := Op.move (Operand.tmp 52), type := 4, pos := "law.go:61", after := #[{ on := 2, ground := Ground.data }], guard := none }) (v := ?vv94) rfl (by kernel_rfl) (by kernel_rfl) (by kernel_rfl) (fun _ _ _ h => h) (Or.inl ⟨by rfl, ?hy94⟩) (by assumption) ?_
          case hy94 => (intro w hSw; (try dsimp only at hSw); go_simp; all_goals with_reducible rfl)
          try simp only [Act.put, List.setIfInBounds_toArray, List.set_cons_zero, List.set_cons_succ]
          refine wpAnyH_take (i := 4) (oi := { dst := some 54, op := Op.indexAddr 35 (Operand.tmp 7) (Operand.const (Value.int IntKind.i64 1)), type := 0, pos := "law.go:61", after := #[{ on := 3, ground := Ground.guard }], guard := some (3, false) }) (v := ?vv95) rfl (by kernel_rfl) (by kernel_rfl) (by kernel_rfl) (fun _ _ _ h => h) (Or.inl ⟨by rfl, ?hy95⟩) (by assumption) ?_
          case hy95 => (intro w hSw; (try dsimp only at hSw); go_simp; all_goals with_reducible rfl)
          try simp only [Act.put, List.setIfInBounds_toArray, List.set_cons_zero, List.set_cons_succ]
          refine wpAnyH_take (i := 5) (oi := { dst := some 55, op := Op.load 24 (Operand.tmp 54), type := 24, pos := "law.go:61", after := #[{ on := 4, ground := Ground.data }, { on := 3, ground := Ground.guard }], guard := some (3, false) }) (v := ?vv96) rfl (by kernel_rfl) (by kernel_rfl) (by kernel_rfl) (fun _ _ _ h => h) (Or.inl ⟨by rfl, ?hy96⟩) (by assumption) ?_
          case hy96 => (intro w hSw; (try dsimp only at hSw); go_simp; all_goals with_reducible rfl)
          try simp only [Act.put, List.setIfInBounds_toArray, List.set_cons_zero, List.set_cons_succ]
          refine wpAnyH_take (i := 6) (oi := { dst := some 56, op := Op.binOp BinOp.eql 24 (Operand.tmp 55) (Operand.const (Value.pointer none)) 24, type := 4, pos := "law.go:61", after := #[{ on := 5, ground := Ground.data }, { on := 3, ground := Ground.guard }], guard := some (3, false) }) (v := ?vv97) rfl (by kernel_rfl) (by kernel_rfl) (by kernel_rfl) (fun _ _ _ h => h) (Or.inl ⟨by rfl, ?hy97⟩) (by assumption) ?_
          case hy97 => (intro w hSw; (try dsimp only at hSw); go_simp; all_goals with_reducible rfl)
          try simp only [Act.put, List.setIfInBounds_toArray, List.set_cons_zero, List.set_cons_succ]
          refine wpAnyH_take (i := 7) (oi := { dst := some 57, op := Op.pick (Operand.tmp 53) (Operand.const (Value.bool true)) (Operand.tmp 56), type := 4, pos := "law.go:61", after := #[{ on := 3, ground := Ground.data }, { on := 6, ground := Ground.data }], guard := none }) (v := ?vv98) rfl (by kernel_rfl) (by kernel_rfl) (by kernel_rfl) (fun _ _ _ h => h) (Or.inl ⟨by rfl, ?hy98⟩) (by assumption) ?_
          case hy98 => (intro w hSw; (try dsimp only at hSw); go_simp; all_goals with_reducible rfl)
          try simp only [Act.put, List.setIfInBounds_toArray, List.set_cons_zero, List.set_cons_succ]
          refine wpAnyH_take (i := 8) (oi := { dst := some 58, op := Op.move (Operand.tmp 57), type := 4, pos := "law.go:61", after := #[{ on := 7, ground := Ground.data }, { on := 3, ground := Ground.chain }], guard := none }) (v := ?vv99) rfl (by kernel_rfl) (by kernel_rfl) (by kernel_rfl) (fun _ _ _ h => h) (Or.inl ⟨by rfl, ?hy99⟩) (by assumption) ?_
          case hy99 => (intro w hSw; (try dsimp only at hSw); go_simp; all_goals with_reducible rfl)
          try simp only [Act.put, List.setIfInBounds_toArray, List.set_cons_zero, List.set_cons_succ]
          refine wpAnyH_take (i := 9) (oi := { dst := some 59, op := Op.move (Operand.tmp 11), type := 3, pos := "law.go:61", after := #[{ on := 8, ground := Ground.guard }], guard := some (8, false) }) (v := ?vv100) rfl (by kernel_rfl) (by kernel_rfl) (by kernel_rfl) (fun _ _ _ h => h) (Or.inl ⟨by rfl, ?hy100⟩) (by assumption) ?_
          case hy100 => (intro w hSw; (try dsimp only at hSw); go_simp; all_goals with_reducible rfl)
          try simp only [Act.put, List.setIfInBounds_toArray, List.set_cons_zero, List.set_cons_succ]
          refine wpAnyH_take (i := 10) (oi := { dst := some 60, op := Op.indexAddr 35 (Operand.tmp 7) (Operand.tmp 59), type := 0, pos := "law.go:61", after := #[{ on := 9, ground := Ground.data }, { on := 8, ground := Ground.guard }], guard := some (8, false) }) (v := ?vv101) rfl (by kernel_rfl) (by kernel_rfl) (by kernel_rfl) (fun _ _ _ h => h) (Or.inl ⟨by rfl, ?hy101⟩) (by assumption) ?_
          case hy101 => (intro w hSw; (try dsimp only at hSw); go_simp; all_goals with_reducible rfl)
          try simp only [Act.put, List.setIfInBounds_toArray, List.set_cons_zero, List.set_cons_succ]
          refine wpAnyH_take (i := 11) (oi := { dst := some 61, op := Op.load 24 (Operand.tmp 60), type := 24, pos := "law.go:61", after := #[{ on := 10, ground := Ground.data }, { on := 8, ground := Ground.guard }], guard := some (8, false) }) (v := ?vv102) rfl (by kernel_rfl) (by kernel_rfl) (by kernel_rfl) (fun _ _ _ h => h) (Or.inl ⟨by rfl, ?hy102⟩) (by assumption) ?_
          case hy102 => (intro w hSw; (try dsimp only at hSw); go_simp; all_goals with_reducible rfl)
          try simp only [Act.put, List.setIfInBounds_toArray, List.set_cons_zero, List.set_cons_succ]
          refine wpAnyH_take (i := 12) (oi := { dst := some 62, op := Op.move (Operand.tmp 11), type := 3, pos := "law.go:61", after := #[{ on := 8, ground := Ground.guard }], guard := some (8, false) }) (v := ?vv103) rfl (by kernel_rfl) (by kernel_rfl) (by kernel_rfl) (fun _ _ _ h => h) (Or.inl ⟨by rfl, ?hy103⟩) (by assumption) ?_
          case hy103 => (intro w hSw; (try dsimp only at hSw); go_simp; all_goals with_reducible rfl)
          try simp only [Act.put, List.setIfInBounds_toArray, List.set_cons_zero, List.set_cons_succ]
          refine wpAnyH_take (i := 13) (oi := { dst := some 63, op := Op.indexAddr 38 (Operand.tmp 8) (Operand.tmp 62), type := 0, pos := "law.go:61", after := #[{ on := 12, ground := Ground.data }, { on := 8, ground := Ground.guard }], guard := some (8, false) }) (v := ?vv104) rfl (by kernel_rfl) (by kernel_rfl) (by kernel_rfl) (fun _ _ _ h => h) (Or.inl ⟨by rfl, ?hy104⟩) (by assumption) ?_
          case hy104 => (intro w hSw; (try dsimp only at hSw); go_simp; all_goals with_reducible rfl)
          try simp only [Act.put, List.setIfInBounds_toArray, List.set_cons_zero, List.set_cons_succ]
          refine wpAnyH_take (i := 14) (oi := { dst := some 64, op := Op.load 36 (Operand.tmp 63), type := 36, pos := "law.go:61", after := #[{ on := 13, ground := Ground.data }, { on := 8, ground := Ground.guard }], guard := some (8, false) }) (v := ?vv105) rfl (by kernel_rfl) (by kernel_rfl) (by kernel_rfl) (fun _ _ _ h => h) (Or.inl ⟨by rfl, ?hy105⟩) (by assumption) ?_
          case hy105 => (intro w hSw; (try dsimp only at hSw); go_simp; all_goals with_reducible rfl)
          try simp only [Act.put, List.setIfInBounds_toArray, List.set_cons_zero, List.set_cons_succ]
          refine wpAnyH_take (i := 15) (oi := { dst := some 65, op := Op.load 27 (Operand.tmp 10), type := 27, pos := "law.go:61", after := #[{ on := 8, ground := Ground.guard }], guard := some (8, false) }) (v := ?vv106) rfl (by kernel_rfl) (by kernel_rfl) (by kernel_rfl) (fun _ _ _ h => h) (Or.inl ⟨by rfl, ?hy106⟩) (by assumption) ?_
          case hy106 => (intro w hSw; (try dsimp only at hSw); go_simp; all_goals with_reducible rfl)
          try simp only [Act.put, List.setIfInBounds_toArray, List.set_cons_zero, List.set_cons_succ]
          refine wpAnyH_ready (rs := [16]) (by kernel_rfl) (by simp) ?_
          refine AllReadyH.cons (o := { dst := some 66, op := Op.call { callee := Callee.value (Operand.func 17), args := #[Operand.tmp 61, Operand.tmp 64, Operand.tmp 65], argTypes := #[24, 36, 27] }, type := 4, pos := "law.go:61", after := #[{ on := 11, ground := Ground.data }, { on := 14, ground := Ground.data }, { on := 15, ground := Ground.data }, { on := 8, ground := Ground.chain }, { on := 8, ground := Ground.guard }], guard := some (8, false) }) rfl (fun K hK => ?_) AllReadyH.nil
          go_simp
          refine (hPl.out W hIW).mono ?_
          rintro e' Wx ⟨rfl, v0', v1', n0', n1', SS⟩
          go_wp2_with fail
          refine hK.out _ _ (hfull.out _ _ _ _ _ _ SS) (fun hHeld => ?_)
          clear hK K hIW
          try simp only [Act.put, List.setIfInBounds_toArray, List.set_cons_zero, List.set_cons_succ]
          refine wpAnyH_take (i := 17) (oi := { dst := some 67, op := Op.unOp UnOp.not 4 (Operand.tmp 66), type := 4, pos := "law.go:61", after := #[{ on := 16, ground := Ground.data }, { on := 8, ground := Ground.guard }], guard := some (8, false) }) (v := ?vv107) rfl (by kernel_rfl) (by kernel_rfl) (by kernel_rfl) (fun _ _ _ h => h) (Or.inl ⟨by rfl, ?hy107⟩) (by assumption) ?_
          case hy107 => (intro w hSw; (try dsimp only at hSw); go_simp; all_goals with_reducible rfl)
          try simp only [Act.put, List.setIfInBounds_toArray, List.set_cons_zero, List.set_cons_succ]
          refine wpAnyH_take (i := 18) (oi := { dst := some 68, op := Op.pick (Operand.tmp 58) (Operand.const (Value.bool true)) (Operand.tmp 67), type := 4, pos := "law.go:61", after := #[{ on := 8, ground := Ground.data }, { on := 17, ground := Ground.data }], guard := none }) (v := ?vv108) rfl (by kernel_rfl) (by kernel_rfl) (by kernel_rfl) (fun _ _ _ h => h) (Or.inl ⟨by rfl, ?hy108⟩) (by assumption) ?_
          case hy108 => (intro w hSw; (try dsimp only at hSw); go_simp; all_goals with_reducible rfl)
          try simp only [Act.put, List.setIfInBounds_toArray, List.set_cons_zero, List.set_cons_succ]
          refine wpAnyH_done (by kernel_rfl) ?_ _
          replace SS := SS.toPl
          clear hfull hPl
          clear hHeld
          obtain ⟨P, hP⟩ : ∃ P, P = Pl w ga gr b0 r0 b1 r1 v0' v1' (k + 1) n0' n1' := ⟨_, rfl⟩
          have c10a : Hid (∀ W, P W → Calls Try.prog 10 #[pt b0] W fun e W' => e = .returned (.int .i64 n0') ∧ P W') := fun W h => by
            subst hP
            refine (left_any W b0 n0' h.p0.wd).mono ?_
            rintro e W' ⟨rfl, rfl⟩
            exact ⟨rfl, h⟩
          have c10b : Hid (∀ W, P W → Calls Try.prog 10 #[pt b1] W fun e W' => e = .returned (.int .i64 n1') ∧ P W') := fun W h => by
            subst hP
            refine (left_any W b1 n1' h.p1.wd).mono ?_
            rintro e W' ⟨rfl, rfl⟩
            exact ⟨rfl, h⟩
          have c18a : Hid (∀ W, P W → Calls Try.prog 18 #[pt r0] W fun e W' => e = .returned (.int .i64 n0') ∧ P W') := fun W h => by
            subst hP
            obtain ⟨f, ms, hr, _⟩ := h.p0.rw'
            refine (rleft_any W r0 f v0' ms n0' hr).mono ?_
            rintro e W' ⟨rfl, rfl⟩
            exact ⟨rfl, h⟩
          have c18b : Hid (∀ W, P W → Calls Try.prog 18 #[pt r1] W fun e W' => e = .returned (.int .i64 n1') ∧ P W') := fun W h => by
            subst hP
            obtain ⟨f, ms, hr, _⟩ := h.p1.rw'
            refine (rleft_any W r1 f v1' ms n1' hr).mono ?_
            rintro e W' ⟨rfl, rfl⟩
            exact ⟨rfl, h⟩
          have hfull : Hid (∀ W, P W → W.cell? ⟨ga, 0, none⟩ = some (pt b0) ∧ W.cell? ⟨ga, 1, none⟩ = some (pt b1) ∧ W.cell? ⟨gr, 0, none⟩ = some (pt r0) ∧ W.cell? ⟨gr, 1, none⟩ = some (pt r1)) := fun W h => by
            subst hP
            exact ⟨cell_blk h.a 0, cell_blk h.a 1, cell_blk h.r 0, cell_blk h.r 1⟩
          have hdr : Hid (∀ W, P W → P W.drew) := fun W h => by subst hP; exact h.below (Below.refl _ _).drew
          have hend : Hid (∀ W, P W → Pl w ga gr b0 r0 b1 r1 v0' v1' (k + 1) n0' n1' W) := fun W h => by subst hP; exact h
          have HP : P _ := hP ▸ SS
          have q0 : (n0' != n0') = false := by simp
          have q1 : (n1' != n1') = false := by simp
          have q2 : (n0' == n0') = true := by simp
          have q3 : (n1' == n1') = true := by simp
          clear hP SS
          simp only [pt] at c10a c10b c18a c18b hfull
          go_wp2_with fail
          have hIW := hdr.out _ HP
          clear HP
          refine wp_region_held_drew (S := (fun W => W.cell? ⟨ga, 0, none⟩ = some (.pointer (some ⟨b0, 0, none⟩)) ∧ W.cell? ⟨ga, 1, none⟩ = some (.pointer (some ⟨b1, 0, none⟩)) ∧ W.cell? ⟨gr, 0, none⟩ = some (.pointer (some ⟨r0, 0, none⟩)) ∧ W.cell? ⟨gr, 1, none⟩ = some (.pointer (some ⟨r1, 0, none⟩)))) (by kernel_rfl) (hfull.out _ hIW) (fun hHeld => ?_)
          generalize hWg : World.drew _ = W at hIW hHeld ⊢
          clear hWg
          refine wpAnyH_take (i := 0) (oi := { dst := some 69, op := Op.indexAddr 35 (Operand.tmp 7) (Operand.const (Value.int IntKind.i64 0)), type := 0, pos := "law.go:64", after := #[], guard := none }) (v := ?vv109) rfl (by kernel_rfl) (by kernel_rfl) (by kernel_rfl) (fun _ _ _ h => h) (Or.inl ⟨by rfl, ?hy109⟩) (by assumption) ?_
          case hy109 => (intro w hSw; (try dsimp only at hSw); go_simp; all_goals with_reducible rfl)
          try simp only [Act.put, List.setIfInBounds_toArray, List.set_cons_zero, List.set_cons_succ]
          refine wpAnyH_take (i := 1) (oi := { dst := some 70, op := Op.load 24 (Operand.tmp 69), type := 24, pos := "law.go:64", after := #[{ on := 0, ground := Ground.data }], guard := none }) (v := ?vv110) rfl (by kernel_rfl) (by kernel_rfl) (by kernel_rfl) (fun _ _ _ h => h) (Or.inl ⟨by rfl, ?hy110⟩) (by assumption) ?_
          case hy110 => (intro w hSw; (try dsimp only at hSw); go_simp; all_goals with_reducible rfl)
          try simp only [Act.put, List.setIfInBounds_toArray, List.set_cons_zero, List.set_cons_succ]
          refine wpAnyH_take (i := 3) (oi := { dst := some 72, op := Op.indexAddr 38 (Operand.tmp 8) (Operand.const (Value.int IntKind.i64 0)), type := 0, pos := "law.go:64", after := #[], guard := none }) (v := ?vv111) rfl (by kernel_rfl) (by kernel_rfl) (by kernel_rfl) (fun _ _ _ h => h) (Or.inl ⟨by rfl, ?hy111⟩) (by assumption) ?_
          case hy111 => (intro w hSw; (try dsimp only at hSw); go_simp; all_goals with_reducible rfl)
          try simp only [Act.put, List.setIfInBounds_toArray, List.set_cons_zero, List.set_cons_succ]
          refine wpAnyH_take (i := 4) (oi := { dst := some 73, op := Op.load 36 (Operand.tmp 72), type := 36, pos := "law.go:64", after := #[{ on := 3, ground := Ground.data }], guard := none }) (v := ?vv112) rfl (by kernel_rfl) (by kernel_rfl) (by kernel_rfl) (fun _ _ _ h => h) (Or.inl ⟨by rfl, ?hy112⟩) (by assumption) ?_
          case hy112 => (intro w hSw; (try dsimp only at hSw); go_simp; all_goals with_reducible rfl)
          try simp only [Act.put, List.setIfInBounds_toArray, List.set_cons_zero, List.set_cons_succ]
          refine wpAnyH_ready (rs := [2]) (by kernel_rfl) (by simp) ?_
          refine AllReadyH.cons (o := { dst := some 71, op := Op.call { callee := Callee.value (Operand.func 10), args := #[Operand.tmp 70], argTypes := #[24] }, type := 2, pos := "law.go:64", after := #[{ on := 1, ground := Ground.data }], guard := none }) rfl (fun K hK => ?_) AllReadyH.nil
          go_simp
          refine (c10a.out W hIW).mono ?_
          rintro e' Wx ⟨rfl, hIWx⟩
          go_wp2_with fail
          refine hK.out _ _ (hfull.out _ hIWx) (fun hHeld => ?_)
          clear hK K hIW
          try simp only [Act.put, List.setIfInBounds_toArray, List.set_cons_zero, List.set_cons_succ]
          refine wpAnyH_ready (rs := [5]) (by kernel_rfl) (by simp) ?_
          refine AllReadyH.cons (o := { dst := some 74, op := Op.call { callee := Callee.value (Operand.func 18), args := #[Operand.tmp 73], argTypes := #[36] }, type := 2, pos := "law.go:64", after := #[{ on := 4, ground := Ground.data }, { on := 2, ground := Ground.chain }], guard := none }) rfl (fun K hK => ?_) AllReadyH.nil
          go_simp
          refine (c18a.out Wx hIWx).mono ?_
          rintro e' Wxx ⟨rfl, hIWxx⟩
          go_wp2_with fail
          refine hK.out _ _ (hfull.out _ hIWxx) (fun hHeld => ?_)
          clear hK K hIWx
          try simp only [Act.put, List.setIfInBounds_toArray, List.set_cons_zero, List.set_cons_succ]
          refine wpAnyH_take (i := 6) (oi := { dst := some 75, op := Op.binOp BinOp.neq 2 (Operand.tmp 71) (Operand.tmp 74) 2, type := 4, pos := "law.go:64", after := #[{ on := 2, ground := Ground.data }, { on := 5, ground := Ground.data }], guard := none }) (v := ?vv113) rfl (by kernel_rfl) (by kernel_rfl) (by kernel_rfl) (fun _ _ _ h => h) (Or.inl ⟨by rfl, ?hy113⟩) (by assumption) ?_
          case hy113 => (intro w hSw; (try dsimp only at hSw); go_simp; all_goals with_reducible rfl)
          try simp only [Act.put, List.setIfInBounds_toArray, List.set_cons_zero, List.set_cons_succ]
          refine wpAnyH_take (i := 7) (oi := { dst := some 76, op := Op.move (Operand.tmp 75), type := 4, pos := "law.go:64", after := #[{ on := 6, ground := Ground.data }, { on := 5, ground := Ground.chain }], guard := none }) (v := ?vv114) rfl (by kernel_rfl) (by kernel_rfl) (by kernel_rfl) (fun _ _ _ h => h) (Or.inl ⟨by rfl, ?hy114⟩) (by assumption) ?_
          case hy114 => (intro w hSw; (try dsimp only at hSw); go_simp; all_goals with_reducible rfl)
          try simp only [Act.put, List.setIfInBounds_toArray, List.set_cons_zero, List.set_cons_succ]
          refine wpAnyH_take (i := 8) (oi := { dst := some 77, op := Op.indexAddr 35 (Operand.tmp 7) (Operand.const (Value.int IntKind.i64 1)), type := 0, pos := "law.go:64", after := #[{ on := 7, ground := Ground.guard }], guard := some (7, false) }) (v := ?vv115) rfl (by kernel_rfl) (by kernel_rfl) (by kernel_rfl) (fun _ _ _ h => h) (Or.inl ⟨by rfl, ?hy115⟩) (by assumption) ?_
          case hy115 => (intro w hSw; (try dsimp only at hSw); go_simp; all_goals with_reducible rfl)
          try simp only [Act.put, List.setIfInBounds_toArray, List.set_cons_zero, List.set_cons_succ]
          refine wpAnyH_take (i := 9) (oi := { dst := some 78, op := Op.load 24 (Operand.tmp 77), type := 24, pos := "law.go:64", after := #[{ on := 8, ground := Ground.data }, { on := 7, ground := Ground.guard }], guard := some (7, false) }) (v := ?vv116) rfl (by kernel_rfl) (by kernel_rfl) (by kernel_rfl) (fun _ _ _ h => h) (Or.inl ⟨by rfl, ?hy116⟩) (by assumption) ?_
          case hy116 => (intro w hSw; (try dsimp only at hSw); go_simp; all_goals with_reducible rfl)
          try simp only [Act.put, List.setIfInBounds_toArray, List.set_cons_zero, List.set_cons_succ]
          refine wpAnyH_take (i := 11) (oi := { dst := some 80, op := Op.indexAddr 38 (Operand.tmp 8) (Operand.const (Value.int IntKind.i64 1)), type := 0, pos := "law.go:64", after := #[{ on := 7, ground := Ground.guard }], guard := some (7, false) }) (v := ?vv117) rfl (by kernel_rfl) (by kernel_rfl) (by kernel_rfl) (fun _ _ _ h => h) (Or.inl ⟨by rfl, ?hy117⟩) (by assumption) ?_
          case hy117 => (intro w hSw; (try dsimp only at hSw); go_simp; all_goals with_reducible rfl)
          try simp only [Act.put, List.setIfInBounds_toArray, List.set_cons_zero, List.set_cons_succ]
          refine wpAnyH_take (i := 12) (oi := { dst := some 81, op := Op.load 36 (Operand.tmp 80), type := 36, pos := "law.go:64", after := #[{ on := 11, ground := Ground.data }, { on := 7, ground := Ground.guard }], guard := some (7, false) }) (v := ?vv118) rfl (by kernel_rfl) (by kernel_rfl) (by kernel_rfl) (fun _ _ _ h => h) (Or.inl ⟨by rfl, ?hy118⟩) (by assumption) ?_
          case hy118 => (intro w hSw; (try dsimp only at hSw); go_simp; all_goals with_reducible rfl)
          try simp only [Act.put, List.setIfInBounds_toArray, List.set_cons_zero, List.set_cons_succ]
          refine wpAnyH_ready (rs := [10]) (by kernel_rfl) (by simp) ?_
          refine AllReadyH.cons (o := { dst := some 79, op := Op.call { callee := Callee.value (Operand.func 10), args := #[Operand.tmp 78], argTypes := #[24] }, type := 2, pos := "law.go:64", after := #[{ on := 9, ground := Ground.data }, { on := 7, ground := Ground.chain }, { on := 7, ground := Ground.guard }], guard := some (7, false) }) rfl (fun K hK => ?_) AllReadyH.nil
          go_simp
          refine (c10b.out Wxx hIWxx).mono ?_
          rintro e' Wxxx ⟨rfl, hIWxxx⟩
          go_wp2_with fail
          refine hK.out _ _ (hfull.out _ hIWxxx) (fun hHeld => ?_)
          clear hK K hIWxx
          try simp only [Act.put, List.setIfInBounds_toArray, List.set_cons_zero, List.set_cons_succ]
          refine wpAnyH_ready (rs := [13]) (by kernel_rfl) (by simp) ?_
          refine AllReadyH.cons (o := { dst := some 82, op := Op.call { callee := Callee.value (Operand.func 18), args := #[Operand.tmp 81], argTypes := #[36] }, type := 2, pos := "law.go:64", after := #[{ on := 12, ground := Ground.data }, { on := 10, ground := Ground.chain }, { on := 7, ground := Ground.guard }], guard := some (7, false) }) rfl (fun K hK => ?_) AllReadyH.nil
          go_simp
          refine (c18b.out Wxxx hIWxxx).mono ?_
          rintro e' Wxxxx ⟨rfl, hIWxxxx⟩
          go_wp2_with fail
          refine hK.out _ _ (hfull.out _ hIWxxxx) (fun hHeld => ?_)
          clear hK K hIWxxx
          try simp only [Act.put, List.setIfInBounds_toArray, List.set_cons_zero, List.set_cons_succ]
          refine wpAnyH_take (i := 14) (oi := { dst := some 83, op := Op.binOp BinOp.neq 2 (Operand.tmp 79) (Operand.tmp 82) 2, type := 4, pos := "law.go:64", after := #[{ on := 10, ground := Ground.data }, { on := 13, ground := Ground.data }, { on := 7, ground := Ground.guard }], guard := some (7, false) }) (v := ?vv119) rfl (by kernel_rfl) (by kernel_rfl) (by kernel_rfl) (fun _ _ _ h => h) (Or.inl ⟨by rfl, ?hy119⟩) (by assumption) ?_
          case hy119 => (intro w hSw; (try dsimp only at hSw); go_simp; all_goals with_reducible rfl)
          try simp only [Act.put, List.setIfInBounds_toArray, List.set_cons_zero, List.set_cons_succ]
          refine wpAnyH_take (i := 15) (oi := { dst := some 84, op := Op.pick (Operand.tmp 76) (Operand.const (Value.bool true)) (Operand.tmp 83), type := 4, pos := "law.go:64", after := #[{ on := 7, ground := Ground.data }, { on := 14, ground := Ground.data }], guard := none }) (v := ?vv120) rfl (by kernel_rfl) (by kernel_rfl) (by kernel_rfl) (fun _ _ _ h => h) (Or.inl ⟨by rfl, ?hy120⟩) (by assumption) ?_
          case hy120 => (intro w hSw; (try dsimp only at hSw); go_simp; all_goals with_reducible rfl)
          try simp only [Act.put, List.setIfInBounds_toArray, List.set_cons_zero, List.set_cons_succ]
          refine wpAnyH_done (by kernel_rfl) ?_ _
          have SE := hend.out _ hIWxxxx
          clear hfull hHeld
          go_wp2_with fail
          go_roundw
          case rel => exact ⟨k + 1, by omega, by simp, _, _, _, _, _, _, _, _, SE⟩
          case measure => simp [intOf]; omega
    · have hlti : ¬ (k : Int) < (L : Int) := by omega
      obtain ⟨P, hP⟩ : ∃ P, P = Pl w ga gr b0 r0 b1 r1 v0 v1 k n0 n1 := ⟨_, rfl⟩
      have c10a : Hid (∀ W, P W → Calls Try.prog 10 #[pt b0] W fun e W' => e = .returned (.int .i64 n0) ∧ P W') := fun W h => by
        subst hP
        refine (left_any W b0 n0 h.p0.wd).mono ?_
        rintro e W' ⟨rfl, rfl⟩
        exact ⟨rfl, h⟩
      have c10b : Hid (∀ W, P W → Calls Try.prog 10 #[pt b1] W fun e W' => e = .returned (.int .i64 n1) ∧ P W') := fun W h => by
        subst hP
        refine (left_any W b1 n1 h.p1.wd).mono ?_
        rintro e W' ⟨rfl, rfl⟩
        exact ⟨rfl, h⟩
      have c18a : Hid (∀ W, P W → Calls Try.prog 18 #[pt r0] W fun e W' => e = .returned (.int .i64 n0) ∧ P W') := fun W h => by
        subst hP
        obtain ⟨f, ms, hr, _⟩ := h.p0.rw'
        refine (rleft_any W r0 f v0 ms n0 hr).mono ?_
        rintro e W' ⟨rfl, rfl⟩
        exact ⟨rfl, h⟩
      have c18b : Hid (∀ W, P W → Calls Try.prog 18 #[pt r1] W fun e W' => e = .returned (.int .i64 n1) ∧ P W') := fun W h => by
        subst hP
        obtain ⟨f, ms, hr, _⟩ := h.p1.rw'
        refine (rleft_any W r1 f v1 ms n1 hr).mono ?_
        rintro e W' ⟨rfl, rfl⟩
        exact ⟨rfl, h⟩
      have hfull : Hid (∀ W, P W → W.cell? ⟨ga, 0, none⟩ = some (pt b0) ∧ W.cell? ⟨ga, 1, none⟩ = some (pt b1) ∧ W.cell? ⟨gr, 0, none⟩ = some (pt r0) ∧ W.cell? ⟨gr, 1, none⟩ = some (pt r1)) := fun W h => by
        subst hP
        exact ⟨cell_blk h.a 0, cell_blk h.a 1, cell_blk h.r 0, cell_blk h.r 1⟩
      have hdr : Hid (∀ W, P W → P W.drew) := fun W h => by subst hP; exact h.below (Below.refl _ _).drew
      have hend : Hid (∀ W, P W → Pl w ga gr b0 r0 b1 r1 v0 v1 k n0 n1 W) := fun W h => by subst hP; exact h
      have HP : P _ := hP ▸ S
      have q0 : (n0 != n0) = false := by simp
      have q1 : (n1 != n1) = false := by simp
      have q2 : (n0 == n0) = true := by simp
      have q3 : (n1 == n1) = true := by simp
      clear hP S
      simp only [pt] at c10a c10b c18a c18b hfull
      go_wp2_with fail
      have hIW := hdr.out _ HP
      clear HP
      refine wp_region_held_drew (S := (fun W => W.cell? ⟨ga, 0, none⟩ = some (.pointer (some ⟨b0, 0, none⟩)) ∧ W.cell? ⟨ga, 1, none⟩ = some (.pointer (some ⟨b1, 0, none⟩)) ∧ W.cell? ⟨gr, 0, none⟩ = some (.pointer (some ⟨r0, 0, none⟩)) ∧ W.cell? ⟨gr, 1, none⟩ = some (.pointer (some ⟨r1, 0, none⟩)))) (by kernel_rfl) (hfull.out _ hIW) (fun hHeld => ?_)
      generalize hWg : World.drew _ = W at hIW hHeld ⊢
      clear hWg
      refine wpAnyH_take (i := 0) (oi := { dst := some 85, op := Op.indexAddr 35 (Operand.tmp 7) (Operand.const (Value.int IntKind.i64 0)), type := 0, pos := "law.go:68", after := #[], guard := none }) (v := ?vv121) rfl (by kernel_rfl) (by kernel_rfl) (by kernel_rfl) (fun _ _ _ h => h) (Or.inl ⟨by rfl, ?hy121⟩) (by assumption) ?_
      case hy121 => (intro w hSw; (try dsimp only at hSw); go_simp; all_goals with_reducible rfl)
      try simp only [Act.put, List.setIfInBounds_toArray, List.set_cons_zero, List.set_cons_succ]
      refine wpAnyH_take (i := 1) (oi := { dst := some 86, op := Op.load 24 (Operand.tmp 85), type := 24, pos := "law.go:68", after := #[{ on := 0, ground := Ground.data }], guard := none }) (v := ?vv122) rfl (by kernel_rfl) (by kernel_rfl) (by kernel_rfl) (fun _ _ _ h => h) (Or.inl ⟨by rfl, ?hy122⟩) (by assumption) ?_
      case hy122 => (intro w hSw; (try dsimp only at hSw); go_simp; all_goals with_reducible rfl)
      try simp only [Act.put, List.setIfInBounds_toArray, List.set_cons_zero, List.set_cons_succ]
      refine wpAnyH_take (i := 2) (oi := { dst := some 87, op := Op.binOp BinOp.neq 24 (Operand.tmp 86) (Operand.const (Value.pointer none)) 24, type := 4, pos := "law.go:68", after := #[{ on := 1, ground := Ground.data }], guard := none }) (v := ?vv123) rfl (by kernel_rfl) (by kernel_rfl) (by kernel_rfl) (fun _ _ _ h => h) (Or.inl ⟨by rfl, ?hy123⟩) (by assumption) ?_
      case hy123 => (intro w hSw; (try dsimp only at hSw); go_simp; all_goals with_reducible rfl)
      try simp only [Act.put, List.setIfInBounds_toArray, List.set_cons_zero, List.set_cons_succ]
      refine wpAnyH_take (i := 3) (oi := { dst := some 88, op := Op.move (Operand.tmp 87), type := 4, pos := "law.go:68", after := #[{ on := 2, ground := Ground.data }], guard := none }) (v := ?vv124) rfl (by kernel_rfl) (by kernel_rfl) (by kernel_rfl) (fun _ _ _ h => h) (Or.inl ⟨by rfl, ?hy124⟩) (by assumption) ?_
      case hy124 => (intro w hSw; (try dsimp only at hSw); go_simp; all_goals with_reducible rfl)
      try simp only [Act.put, List.setIfInBounds_toArray, List.set_cons_zero, List.set_cons_succ]
      refine wpAnyH_take (i := 4) (oi := { dst := some 89, op := Op.indexAddr 35 (Operand.tmp 7) (Operand.const (Value.int IntKind.i64 1)), type := 0, pos := "law.go:68", after := #[{ on := 3, ground := Ground.guard }], guard := some (3, true) }) (v := ?vv125) rfl (by kernel_rfl) (by kernel_rfl) (by kernel_rfl) (fun _ _ _ h => h) (Or.inl ⟨by rfl, ?hy125⟩) (by assumption) ?_
      case hy125 => (intro w hSw; (try dsimp only at hSw); go_simp; all_goals with_reducible rfl)
      try simp only [Act.put, List.setIfInBounds_toArray, List.set_cons_zero, List.set_cons_succ]
      refine wpAnyH_take (i := 5) (oi := { dst := some 90, op := Op.load 24 (Operand.tmp 89), type := 24, pos := "law.go:68", after := #[{ on := 4, ground := Ground.data }, { on := 3, ground := Ground.guard }], guard := some (3, true) }) (v := ?vv126) rfl (by kernel_rfl) (by kernel_rfl) (by kernel_rfl) (fun _ _ _ h => h) (Or.inl ⟨by rfl, ?hy126⟩) (by assumption) ?_
      case hy126 => (intro w hSw; (try dsimp only at hSw); go_simp; all_goals with_reducible rfl)
      try simp only [Act.put, List.setIfInBounds_toArray, List.set_cons_zero, List.set_cons_succ]
      refine wpAnyH_take (i := 6) (oi := { dst := some 91, op := Op.binOp BinOp.neq 24 (Operand.tmp 90) (Operand.const (Value.pointer none)) 24, type := 4, pos := "law.go:68", after := #[{ on := 5, ground := Ground.data }, { on := 3, ground := Ground.guard }], guard := some (3, true) }) (v := ?vv127) rfl (by kernel_rfl) (by kernel_rfl) (by kernel_rfl) (fun _ _ _ h => h) (Or.inl ⟨by rfl, ?hy127⟩) (by assumption) ?_
      case hy127 => (intro w hSw; (try dsimp only at hSw); go_simp; all_goals with_reducible rfl)
      try simp only [Act.put, List.setIfInBounds_toArray, List.set_cons_zero, List.set_cons_succ]
      refine wpAnyH_take (i := 7) (oi := { dst := some 92, op := Op.pick (Operand.tmp 88) (Operand.tmp 91) (Operand.const (Value.bool false)), type := 4, pos := "law.go:68", after := #[{ on := 3, ground := Ground.data }, { on := 6, ground := Ground.data }], guard := none }) (v := ?vv128) rfl (by kernel_rfl) (by kernel_rfl) (by kernel_rfl) (fun _ _ _ h => h) (Or.inl ⟨by rfl, ?hy128⟩) (by assumption) ?_
      case hy128 => (intro w hSw; (try dsimp only at hSw); go_simp; all_goals with_reducible rfl)
      try simp only [Act.put, List.setIfInBounds_toArray, List.set_cons_zero, List.set_cons_succ]
      refine wpAnyH_take (i := 8) (oi := { dst := some 93, op := Op.move (Operand.tmp 92), type := 4, pos := "law.go:68", after := #[{ on := 7, ground := Ground.data }, { on := 3, ground := Ground.chain }], guard := none }) (v := ?vv129) rfl (by kernel_rfl) (by kernel_rfl) (by kernel_rfl) (fun _ _ _ h => h) (Or.inl ⟨by rfl, ?hy129⟩) (by assumption) ?_
      case hy129 => (intro w hSw; (try dsimp only at hSw); go_simp; all_goals with_reducible rfl)
      try simp only [Act.put, List.setIfInBounds_toArray, List.set_cons_zero, List.set_cons_succ]
      refine wpAnyH_take (i := 9) (oi := { dst := some 94, op := Op.indexAddr 35 (Operand.tmp 7) (Operand.const (Value.int IntKind.i64 0)), type := 0, pos := "law.go:68", after := #[{ on := 8, ground := Ground.guard }], guard := some (8, true) }) (v := ?vv130) rfl (by kernel_rfl) (by kernel_rfl) (by kernel_rfl) (fun _ _ _ h => h) (Or.inl ⟨by rfl, ?hy130⟩) (by assumption) ?_
      case hy130 => (intro w hSw; (try dsimp only at hSw); go_simp; all_goals with_reducible rfl)
      try simp only [Act.put, List.setIfInBounds_toArray, List.set_cons_zero, List.set_cons_succ]
      refine wpAnyH_take (i := 10) (oi := { dst := some 95, op := Op.load 24 (Operand.tmp 94), type := 24, pos := "law.go:68", after := #[{ on := 9, ground := Ground.data }, { on := 8, ground := Ground.guard }], guard := some (8, true) }) (v := ?vv131) rfl (by kernel_rfl) (by kernel_rfl) (by kernel_rfl) (fun _ _ _ h => h) (Or.inl ⟨by rfl, ?hy131⟩) (by assumption) ?_
      case hy131 => (intro w hSw; (try dsimp only at hSw); go_simp; all_goals with_reducible rfl)
      try simp only [Act.put, List.setIfInBounds_toArray, List.set_cons_zero, List.set_cons_succ]
      refine wpAnyH_take (i := 12) (oi := { dst := some 97, op := Op.indexAddr 38 (Operand.tmp 8) (Operand.const (Value.int IntKind.i64 0)), type := 0, pos := "law.go:68", after := #[{ on := 8, ground := Ground.guard }], guard := some (8, true) }) (v := ?vv132) rfl (by kernel_rfl) (by kernel_rfl) (by kernel_rfl) (fun _ _ _ h => h) (Or.inl ⟨by rfl, ?hy132⟩) (by assumption) ?_
      case hy132 => (intro w hSw; (try dsimp only at hSw); go_simp; all_goals with_reducible rfl)
      try simp only [Act.put, List.setIfInBounds_toArray, List.set_cons_zero, List.set_cons_succ]
      refine wpAnyH_take (i := 13) (oi := { dst := some 98, op := Op.load 36 (Operand.tmp 97), type := 36, pos := "law.go:68", after := #[{ on := 12, ground := Ground.data }, { on := 8, ground := Ground.guard }], guard := some (8, true) }) (v := ?vv133) rfl (by kernel_rfl) (by kernel_rfl) (by kernel_rfl) (fun _ _ _ h => h) (Or.inl ⟨by rfl, ?hy133⟩) (by assumption) ?_
      case hy133 => (intro w hSw; (try dsimp only at hSw); go_simp; all_goals with_reducible rfl)
      try simp only [Act.put, List.setIfInBounds_toArray, List.set_cons_zero, List.set_cons_succ]
      refine wpAnyH_ready (rs := [11]) (by kernel_rfl) (by simp) ?_
      refine AllReadyH.cons (o := { dst := some 96, op := Op.call { callee := Callee.value (Operand.func 10), args := #[Operand.tmp 95], argTypes := #[24] }, type := 2, pos := "law.go:68", after := #[{ on := 10, ground := Ground.data }, { on := 8, ground := Ground.chain }, { on := 8, ground := Ground.guard }], guard := some (8, true) }) rfl (fun K hK => ?_) AllReadyH.nil
      go_simp
      refine (c10a.out W hIW).mono ?_
      rintro e' Wx ⟨rfl, hIWx⟩
      go_wp2_with fail
      refine hK.out _ _ (hfull.out _ hIWx) (fun hHeld => ?_)
      clear hK K hIW
      try simp only [Act.put, List.setIfInBounds_toArray, List.set_cons_zero, List.set_cons_succ]
      refine wpAnyH_ready (rs := [14]) (by kernel_rfl) (by simp) ?_
      refine AllReadyH.cons (o := { dst := some 99, op := Op.call { callee := Callee.value (Operand.func 18), args := #[Operand.tmp 98], argTypes := #[36] }, type := 2, pos := "law.go:68", after := #[{ on := 13, ground := Ground.data }, { on := 11, ground := Ground.chain }, { on := 8, ground := Ground.guard }], guard := some (8, true) }) rfl (fun K hK => ?_) AllReadyH.nil
      go_simp
      refine (c18a.out Wx hIWx).mono ?_
      rintro e' Wxx ⟨rfl, hIWxx⟩
      go_wp2_with fail
      refine hK.out _ _ (hfull.out _ hIWxx) (fun hHeld => ?_)
      clear hK K hIWx
      try simp only [Act.put, List.setIfInBounds_toArray, List.set_cons_zero, List.set_cons_succ]
      refine wpAnyH_take (i := 15) (oi := { dst := some 100, op := Op.binOp BinOp.eql 2 (Operand.tmp 96) (Operand.tmp 99) 2, type := 4, pos := "law.go:68", after := #[{ on := 11, ground := Ground.data }, { on := 14, ground := Ground.data }, { on := 8, ground := Ground.guard }], guard := some (8, true) }) (v := ?vv134) rfl (by kernel_rfl) (by kernel_rfl) (by kernel_rfl) (fun _ _ _ h => h) (Or.inl ⟨by rfl, ?hy134⟩) (by assumption) ?_
      case hy134 => (intro w hSw; (try dsimp only at hSw); go_simp; all_goals with_reducible rfl)
      try simp only [Act.put, List.setIfInBounds_toArray, List.set_cons_zero, List.set_cons_succ]
      refine wpAnyH_take (i := 16) (oi := { dst := some 101, op := Op.pick (Operand.tmp 93) (Operand.tmp 100) (Operand.const (Value.bool false)), type := 4, pos := "law.go:68", after := #[{ on := 8, ground := Ground.data }, { on := 15, ground := Ground.data }], guard := none }) (v := ?vv135) rfl (by kernel_rfl) (by kernel_rfl) (by kernel_rfl) (fun _ _ _ h => h) (Or.inl ⟨by rfl, ?hy135⟩) (by assumption) ?_
      case hy135 => (intro w hSw; (try dsimp only at hSw); go_simp; all_goals with_reducible rfl)
      try simp only [Act.put, List.setIfInBounds_toArray, List.set_cons_zero, List.set_cons_succ]
      refine wpAnyH_take (i := 17) (oi := { dst := some 102, op := Op.move (Operand.tmp 101), type := 4, pos := "law.go:68", after := #[{ on := 16, ground := Ground.data }, { on := 14, ground := Ground.chain }], guard := none }) (v := ?vv136) rfl (by kernel_rfl) (by kernel_rfl) (by kernel_rfl) (fun _ _ _ h => h) (Or.inl ⟨by rfl, ?hy136⟩) (by assumption) ?_
      case hy136 => (intro w hSw; (try dsimp only at hSw); go_simp; all_goals with_reducible rfl)
      try simp only [Act.put, List.setIfInBounds_toArray, List.set_cons_zero, List.set_cons_succ]
      refine wpAnyH_take (i := 18) (oi := { dst := some 103, op := Op.indexAddr 35 (Operand.tmp 7) (Operand.const (Value.int IntKind.i64 1)), type := 0, pos := "law.go:68", after := #[{ on := 17, ground := Ground.guard }], guard := some (17, true) }) (v := ?vv137) rfl (by kernel_rfl) (by kernel_rfl) (by kernel_rfl) (fun _ _ _ h => h) (Or.inl ⟨by rfl, ?hy137⟩) (by assumption) ?_
      case hy137 => (intro w hSw; (try dsimp only at hSw); go_simp; all_goals with_reducible rfl)
      try simp only [Act.put, List.setIfInBounds_toArray, List.set_cons_zero, List.set_cons_succ]
      refine wpAnyH_take (i := 19) (oi := { dst := some 104, op := Op.load 24 (Operand.tmp 103), type := 24, pos := "law.go:68", after := #[{ on := 18, ground := Ground.data }, { on := 17, ground := Ground.guard }], guard := some (17, true) }) (v := ?vv138) rfl (by kernel_rfl) (by kernel_rfl) (by kernel_rfl) (fun _ _ _ h => h) (Or.inl ⟨by rfl, ?hy138⟩) (by assumption) ?_
      case hy138 => (intro w hSw; (try dsimp only at hSw); go_simp; all_goals with_reducible rfl)
      try simp only [Act.put, List.setIfInBounds_toArray, List.set_cons_zero, List.set_cons_succ]
      refine wpAnyH_take (i := 21) (oi := { dst := some 106, op := Op.indexAddr 38 (Operand.tmp 8) (Operand.const (Value.int IntKind.i64 1)), type := 0, pos := "law.go:68", after := #[{ on := 17, ground := Ground.guard }], guard := some (17, true) }) (v := ?vv139) rfl (by kernel_rfl) (by kernel_rfl) (by kernel_rfl) (fun _ _ _ h => h) (Or.inl ⟨by rfl, ?hy139⟩) (by assumption) ?_
      case hy139 => (intro w hSw; (try dsimp only at hSw); go_simp; all_goals with_reducible rfl)
      try simp only [Act.put, List.setIfInBounds_toArray, List.set_cons_zero, List.set_cons_succ]
      refine wpAnyH_take (i := 22) (oi := { dst := some 107, op := Op.load 36 (Operand.tmp 106), type := 36, pos := "law.go:68", after := #[{ on := 21, ground := Ground.data }, { on := 17, ground := Ground.guard }], guard := some (17, true) }) (v := ?vv140) rfl (by kernel_rfl) (by kernel_rfl) (by kernel_rfl) (fun _ _ _ h => h) (Or.inl ⟨by rfl, ?hy140⟩) (by assumption) ?_
      case hy140 => (intro w hSw; (try dsimp only at hSw); go_simp; all_goals with_reducible rfl)
      try simp only [Act.put, List.setIfInBounds_toArray, List.set_cons_zero, List.set_cons_succ]
      refine wpAnyH_ready (rs := [20]) (by kernel_rfl) (by simp) ?_
      refine AllReadyH.cons (o := { dst := some 105, op := Op.call { callee := Callee.value (Operand.func 10), args := #[Operand.tmp 104], argTypes := #[24] }, type := 2, pos := "law.go:68", after := #[{ on := 19, ground := Ground.data }, { on := 17, ground := Ground.chain }, { on := 17, ground := Ground.guard }], guard := some (17, true) }) rfl (fun K hK => ?_) AllReadyH.nil
      go_simp
      refine (c10b.out Wxx hIWxx).mono ?_
      rintro e' Wxxx ⟨rfl, hIWxxx⟩
      go_wp2_with fail
      refine hK.out _ _ (hfull.out _ hIWxxx) (fun hHeld => ?_)
      clear hK K hIWxx
      try simp only [Act.put, List.setIfInBounds_toArray, List.set_cons_zero, List.set_cons_succ]
      refine wpAnyH_ready (rs := [23]) (by kernel_rfl) (by simp) ?_
      refine AllReadyH.cons (o := { dst := some 108, op := Op.call { callee := Callee.value (Operand.func 18), args := #[Operand.tmp 107], argTypes := #[36] }, type := 2, pos := "law.go:68", after := #[{ on := 22, ground := Ground.data }, { on := 20, ground := Ground.chain }, { on := 17, ground := Ground.guard }], guard := some (17, true) }) rfl (fun K hK => ?_) AllReadyH.nil
      go_simp
      refine (c18b.out Wxxx hIWxxx).mono ?_
      rintro e' Wxxxx ⟨rfl, hIWxxxx⟩
      go_wp2_with fail
      refine hK.out _ _ (hfull.out _ hIWxxxx) (fun hHeld => ?_)
      clear hK K hIWxxx
      try simp only [Act.put, List.setIfInBounds_toArray, List.set_cons_zero, List.set_cons_succ]
      refine wpAnyH_take (i := 24) (oi := { dst := some 109, op := Op.binOp BinOp.eql 2 (Operand.tmp 105) (Operand.tmp 108) 2, type := 4, pos := "law.go:68", after := #[{ on := 20, ground := Ground.data }, { on := 23, ground := Ground.data }, { on := 17, ground := Ground.guard }], guard := some (17, true) }) (v := ?vv141) rfl (by kernel_rfl) (by kernel_rfl) (by kernel_rfl) (fun _ _ _ h => h) (Or.inl ⟨by rfl, ?hy141⟩) (by assumption) ?_
      case hy141 => (intro w hSw; (try dsimp only at hSw); go_simp; all_goals with_reducible rfl)
      try simp only [Act.put, List.setIfInBounds_toArray, List.set_cons_zero, List.set_cons_succ]
      refine wpAnyH_take (i := 25) (oi := { dst := some 110, op := Op.pick (Operand.tmp 102) (Operand.tmp 109) (Operand.const (Value.bool false)), type := 4, pos := "law.go:68", after := #[{ on := 17, ground := Ground.data }, { on := 24, ground := Ground.data }], guard := none }) (v := ?vv142) rfl (by kernel_rfl) (by kernel_rfl) (by kernel_rfl) (fun _ _ _ h => h) (Or.inl ⟨by rfl, ?hy142⟩) (by assumption) ?_
      case hy142 => (intro w hSw; (try dsimp only at hSw); go_simp; all_goals with_reducible rfl)
      try simp only [Act.put, List.setIfInBounds_toArray, List.set_cons_zero, List.set_cons_succ]
      refine wpAnyH_take (i := 26) (oi := { dst := some 6, op := Op.assign (Operand.tmp 110), type := 4, pos := "law.go:68", after := #[{ on := 25, ground := Ground.data }, { on := 23, ground := Ground.chain }, { on := 0, ground := Ground.phase }, { on := 1, ground := Ground.phase }, { on := 2, ground := Ground.phase }, { on := 3, ground := Ground.phase }, { on := 4, ground := Ground.phase }, { on := 5, ground := Ground.phase }, { on := 6, ground := Ground.phase }, { on := 7, ground := Ground.phase }, { on := 8, ground := Ground.phase }, { on := 9, ground := Ground.phase }, { on := 10, ground := Ground.phase }, { on := 11, ground := Ground.phase }, { on := 12, ground := Ground.phase }, { on := 13, ground := Ground.phase }, { on := 14, ground := Ground.phase }, { on := 15, ground := Ground.phase }, { on := 16, ground := Ground.phase }, { on := 17, ground := Ground.phase }, { on := 18, ground := Ground.phase }, { on := 19, ground := Ground.phase }, { on := 20, ground := Ground.phase }, { on := 21, ground := Ground.phase }, { on := 22, ground := Ground.phase }, { on := 23, ground := Ground.phase }, { on := 24, ground := Ground.phase }, { on := 25, ground := Ground.phase }], guard := none }) (v := ?vv143) rfl (by kernel_rfl) (by kernel_rfl) (by kernel_rfl) (fun _ _ _ h => h) (Or.inl ⟨by rfl, ?hy143⟩) (by assumption) ?_
      case hy143 => (intro w hSw; (try dsimp only at hSw); go_simp; all_goals with_reducible rfl)
      try simp only [Act.put, List.setIfInBounds_toArray, List.set_cons_zero, List.set_cons_succ]
      refine wpAnyH_done (by kernel_rfl) ?_ _
      have SE := hend.out _ hIWxxxx
      clear hfull hHeld
      go_wp2
      go_ret
      exact ⟨rfl, SE.bel⟩
end Go.Proofs.Ytoanmjnjpkbmiaa
