/- VaryNames, walked. -/
import Derived.Test.YtckdldbheejmhaaDoorK1
import Derived.Test.YtckdldbheejmhaaDoorF4
import Derived.Test.YtckdldbheejmhaaDoorC2
import Derived.Deep.Cut
import Derived.Deep.CutRange
import Derived.Deep.RegionHeld3
namespace Go.Proofs.YtckdldbheejmhaaDoor
open Go.RowKit
set_option linter.unusedVariables false
set_option linter.unusedSimpArgs false
set_option maxHeartbeats 40000000 in
set_option maxRecDepth 100000 in
theorem varyNames_any (n0 : Int) (y : SV) (b0 : ByteArray) (P : List Fd) (w : World) (hP : In EFd w (sv y) P) (hT : totV P ≤ 1048576) :
    Calls Tryd.prog 7 #[.agg (rsv n0 (sv y) b0)] w fun e w' => e = .returned (.bool true) ∧ Below w.heap.size w w' := by
  obtain ⟨w2, hw2⟩ : ∃ x, w.alloc (.cells (rsv n0 (sv y) b0) 35) = x := ⟨_, rfl⟩
  have B2 : Below w.heap.size w w2 := by rw [← hw2]; exact bel1 w _
  have BW : Hid (Below w.heap.size w w2) := B2
  have HB : Hid (RsB w2 w.heap.size n0 y b0) := by
    rw [← hw2]
    unfold RsB
    show _ = _
    rw [heap_al, if_pos rfl]
  have HI : Hid (∀ W, Below w2.heap.size w2 W → In EFd W (sv y) P) := fun W hb => (hP.below B2).below hb
  obtain ⟨yb, n, yc⟩ := y
  obtain ⟨e1, _, e3⟩ := slice_len (show In EFd w (.slice yb n yc) P from hP)
  have EN : Hid (n = P.length) := e1
  have HT : Hid (totV P ≤ 1048576) := hT
  have hn : n ≤ 1048576 := by have := totV_len P; omega
  have hyc : n ≤ yc := by omega
  have HZS : Hid (P.length * 40 ≤ 140737488351232) := by show _ ≤ _; omega
  have HW2 : Hid (w.alloc (.cells #[.int .i64 n0, .slice yb n yc, .string b0] 35) = w2) := hw2
  obtain ⟨L, st, hL, hN⟩ := both_names P (by omega)
  have HL : Hid (L.length ≤ 8000000) := hL
  have HN : Hid _ := hN
  simp only [rsv, sv] at HI ⊢
  clear hP hT hL hN hw2 B2 e1 e3
  cases st
  · as_aux_lemma =>
      go_enter Tryd.func7, Tryd.ntmps7
      go_wp2_with fail
      go_at_call 8
      rw [HW2.out]
      refine (first_any w2).mono ?_
      rintro e w3 ⟨rfl, bx⟩
      have D0 : Hid (Below w2.heap.size w2 w3) := bx
      clear bx HW2
      have H2 : Hid (∀ W, Below w3.heap.size w3 W → Below w2.heap.size w2 W) := fun W hb => D0.out.trans (hb.mono D0.out.size)
      have HBP : Hid (∀ W, Below w3.heap.size w3 W → RsB W w.heap.size n0 (yb, n, yc) b0) := fun W hb => HB.out.below (H2.out W hb)
      obtain ⟨z0, z1, z2, z3⟩ := (HBP.out _ (Below.refl _ _)).cells
      go_upto_region 4 with fail
      obtain ⟨w4, hw4⟩ : ∃ x, w3.alloc (.cells #[.int .i64 n0, .slice yb n yc, .string b0] 35) = x := ⟨_, rfl⟩
      have X4 : Hid (RsB w4 w3.heap.size n0 (yb, n, yc) b0) := by
        rw [← hw4]
        unfold RsB
        show _ = _
        rw [heap_al, if_pos rfl]
        rfl
      have B4 : Hid (Below w3.heap.size w3 w4) := by rw [← hw4]; exact bel1 w3 _
      rw [hw4]
      clear hw4 z0 z1 z2 z3
      obtain ⟨_, p1, _, p3⟩ := (HBP.out _ B4.out).cells
      go_wp2_with fail
      go_at_call 14
      refine (lend_any (yb, n, yc) P w4 (HI.out _ (H2.out _ B4.out)) HZS.out).mono ?_
      rintro e w5 ⟨g1, c1, rfl, b5, o5, l5, m5, r5⟩
      rw [← EN.out] at l5 r5 ⊢
      have x5 := X4.out.below b5
      have xl := heap_lt x5
      have xc := cell_blk x5 1
      have xf := frozen_blk x5 1
      have B5 := (B4.out.trans (b5.mono B4.out.size)).setCell (p := ⟨w3.heap.size, 1, none⟩) (Nat.le_refl _) (.slice (some ⟨g1, 0, none⟩) n c1)
      have V5 : Hid (Vn w3 g1 n c1 n0 b0 P (w5.setCell ⟨w3.heap.size, 1, none⟩ (.slice (some ⟨g1, 0, none⟩) n c1))) := ⟨x5.setY (some ⟨g1, 0, none⟩, n, c1), R.stays r5 fun b hb _ => setCell_other _ _ _ _ _ (fun e => row_ne_rs r5 x5 (by rw [own_at] at hb; injection hb with hb; rw [hb, e])), B5, Nat.le_trans B4.out.size o5⟩
      have O1 : Hid (n + 1 ≤ c1 ∧ c1 ≤ 9223372036854775807) := ⟨l5, m5⟩
      simp only [rsv, sv, List.getElem?_toArray, List.getElem?_cons_succ, List.getElem?_cons_zero] at xc
      clear b5 o5 l5 m5 r5 x5 p1 p3 X4 B4 B5
      go_upto_region 5 with fail
      obtain ⟨v5, hv5⟩ : ∃ x, w5.setCell ⟨w3.heap.size, 1, none⟩ (.slice (some ⟨g1, 0, none⟩) n c1) = x := ⟨_, rfl⟩
      rw [hv5] at V5 ⊢
      clear hv5 xl xc xf
      have IX : Hid (∀ W, Vn w3 g1 n c1 n0 b0 P W → In EFd W (.slice (some ⟨g1, 0, none⟩) n c1) P) := fun W h => (R.isIn h.rx).ahead EN.out.symm
      obtain ⟨x0, x1, x2, xl⟩ := V5.out.bx.cells
      have hq := HN.out n0 (some ⟨g1, 0, none⟩) n c1 b0 v5 (IX.out _ V5.out)
      have hq1 : Hid (Calls Tryd.prog 11 #[.agg #[.int .i64 n0, .slice (some ⟨g1, 0, none⟩) n c1, .string b0]] v5 fun e w' => NmP L false v5 e w') := hq.1
      clear hq
      go_wp2_with fail
      go_at_call 11
      refine Calls.mono hq1.out ?_
      rintro e w6 ⟨⟨ab, m, ac⟩, rfl, bA, rA, oA⟩
      obtain ⟨q1, q2, q3⟩ := slice_len (R.isIn (show R ES w6 (.slice ab m ac) L from rA))
      have EM : Hid (m = L.length) := q1
      have hm : m ≤ 8000000 := by have := HL.out; omega
      have hac : m ≤ ac := by omega
      have V6 : Hid (Vn w3 g1 n c1 n0 b0 P w6) := V5.out.below bA
      have A6 : Hid (R ES w6 (.slice ab m ac) L ∧ v5.heap.size ≤ w6.heap.size ∧ ∀ k, (Value.slice ab m ac).ownBlock = some k → v5.heap.size ≤ k ∧ k < w6.heap.size) := ⟨rA, bA.size, fun k hk => ⟨oA k hk, R.lt rA k hk⟩⟩
      have LT5 : Hid (w3.heap.size < v5.heap.size ∧ g1 < v5.heap.size) := ⟨xl, R.lt V5.out.rx g1 rfl⟩
      clear q1 q2 q3 bA rA oA V5 x0 x1 x2 xl hq1
      obtain ⟨x0, x1, x2, xl⟩ := V6.out.bx.cells
      have hq := HN.out n0 (some ⟨g1, 0, none⟩) n c1 b0 w6 (IX.out _ V6.out)
      have hq1 : Hid (Calls Tryd.prog 11 #[.agg #[.int .i64 n0, .slice (some ⟨g1, 0, none⟩) n c1, .string b0]] w6 fun e w' => NmP L false w6 e w') := hq.1
      clear hq
      simp only [sv]
      go_wp2_with fail
      go_at_call 11
      refine Calls.mono hq1.out ?_
      rintro e w7 ⟨⟨bb, bm, bc⟩, rfl, bA, rA, oA⟩
      obtain ⟨q1, q2, q3⟩ := slice_len (R.isIn (show R ES w7 (.slice bb bm bc) L from rA))
      obtain rfl : m = bm := by have := EM.out; omega
      have hbc : m ≤ bc := by omega
      have V7 : Hid (Vn w3 g1 n c1 n0 b0 P w7) := V6.out.below bA
      have A7 : Hid (R ES w7 (.slice ab m ac) L ∧ R ES w7 (.slice bb m bc) L ∧ w6.heap.size ≤ w7.heap.size ∧ ∀ k, (Value.slice bb m bc).ownBlock = some k → w6.heap.size ≤ k ∧ k < w7.heap.size) := ⟨R.below A6.out.1 bA, rA, bA.size, fun k hk => ⟨oA k hk, R.lt rA k hk⟩⟩
      clear q1 q2 q3 bA rA oA V6 x0 x1 x2 xl hq1
      obtain ⟨x0, x1, x2, xl⟩ := (HBP.out _ V7.out.bel).cells
      have hq := HN.out n0 yb n yc b0 w7 (HI.out _ (H2.out _ V7.out.bel))
      have hq1 : Hid (Calls Tryd.prog 17 #[.agg #[.int .i64 n0, .slice yb n yc, .string b0]] w7 fun e w' => NmP L false w7 e w') := hq.2
      clear hq
      simp only [sv]
      go_wp2_with fail
      go_at_call 17
      refine Calls.mono hq1.out ?_
      rintro e w8 ⟨⟨wb, wm, wc⟩, rfl, bA, rA, oA⟩
      obtain ⟨q1, q2, q3⟩ := slice_len (R.isIn (show R ES w8 (.slice wb wm wc) L from rA))
      obtain rfl : m = wm := by have := EM.out; omega
      have hwc : m ≤ wc := by omega
      have V8 : Hid (Vn w3 g1 n c1 n0 b0 P w8 ∧ Vr v5.heap.size (ab, m, ac) (bb, m, bc) (wb, m, wc) L L w8) := ⟨V7.out.below bA, R.below A7.out.1 bA, R.below A7.out.2.1 bA, rA, fun k hk => by
        have h1 := A6.out.2.2 k hk
        have h2 := A7.out.2.2.1
        refine ⟨h1.1, fun e => ?_, fun e => ?_⟩
        · have := A7.out.2.2.2 k e
          omega
        · have := oA k e
          omega, by have h1 := A6.out.2.1; have h2 := A7.out.2.2.1; have h3 := bA.size; omega⟩
      clear q1 q2 q3 bA rA oA V7 A6 A7 x0 x1 x2 xl hq1
      simp only [sv]
      go_wp2_with fail
      go_at_call 13
      refine (lsame_any (ab, m, ac) (wb, m, wc) L L w8 (R.isIn V8.out.2.ra) (R.isIn V8.out.2.rw')).mono ?_
      rintro e w9 ⟨rfl, bX⟩
      rw [eqB_true (rfl : L = L)]
      have V9 : Hid (Vn w3 g1 n c1 n0 b0 P w9 ∧ Vr v5.heap.size (ab, m, ac) (bb, m, bc) (wb, m, wc) L L w9) := ⟨V8.out.1.below bX, V8.out.2.below bX⟩
      clear V8 bX
      go_wp2_with fail
      go_at_call 13
      refine (lsame_any (bb, m, bc) (wb, m, wc) L L w9 (R.isIn V9.out.2.rb) (R.isIn V9.out.2.rw')).mono ?_
      rintro e wA ⟨rfl, bX⟩
      rw [eqB_true (rfl : L = L)]
      have VA : Hid (Vn w3 g1 n c1 n0 b0 P wA ∧ Vr v5.heap.size (ab, m, ac) (bb, m, bc) (wb, m, wc) L L wA) := ⟨V9.out.1.below bX, V9.out.2.below bX⟩
      clear V9 bX
      have hk1 : Hid (Calls Tryd.prog 16 #[.slice (some ⟨g1, 0, none⟩) n c1, .slice yb n yc] wA fun e w' => e = .returned (.bool true) ∧ Below wA.heap.size wA w') := by
        have h := kept_any g1 c1 (yb, n, yc) P wA (by rw [← EN.out]; exact R.isIn VA.out.1.rx) (HI.out _ (H2.out _ VA.out.1.bel)) (by rw [← EN.out]; exact O1.out.1) O1.out.2
        rw [← EN.out] at h
        exact h
      obtain ⟨_, x1, _, xl⟩ := VA.out.1.bx.cells
      obtain ⟨_, p1, _, pl⟩ := (HBP.out _ VA.out.1.bel).cells
      go_wp2_with fail
      go_at_call 16
      refine Calls.mono hk1.out ?_
      rintro e wB ⟨rfl, bX⟩
      have VB : Hid (Vn w3 g1 n c1 n0 b0 P wB ∧ Vr v5.heap.size (ab, m, ac) (bb, m, bc) (wb, m, wc) L L wB) := ⟨VA.out.1.below bX, VA.out.2.below bX⟩
      clear VA bX hk1 x1 xl p1 pl
      go_wp2_with fail
      go_loopw [10] (fun iv wr => ∃ (i : Nat) (A : List ByteArray), iv = .int .i64 (i : Int) ∧ i ≤ m ∧ Hid (A.length = m) ∧ Hid (Vn w3 g1 n c1 n0 b0 P wr ∧ Vr v5.heap.size (ab, m, ac) (bb, m, bc) (wb, m, wc) A L wr)) (fun iv _ => m - (intOf iv).toNat)
      case atStart => exact ⟨0, L, rfl, by omega, EM.out.symm, VB.out⟩
      case round =>
        obtain ⟨i, A, rfl, hi, hlen, hs⟩ := hrel
        clear VB
        by_cases hlt : i < m
        · have hlt' : (i : Int) < (m : Int) := by omega
          obtain ⟨g, c, e, c2, c3, d1, d2, d3, d5, d4⟩ := hs.out.2.write i (by rw [hlen.out]; exact hlt)
          injection e with e1 e2
          injection e2 with e2 e3
          subst e1 e3
          have hnx : Hid (Vn w3 g1 n c1 n0 b0 P (wr.setCell ⟨g, i, none⟩ (.string ⟨#[119, 114, 105, 116, 116, 101, 110]⟩)) ∧ Vr v5.heap.size (some ⟨g, 0, none⟩, m, ac) (bb, m, bc) (wb, m, wc) (A.set i ⟨#[119, 114, 105, 116, 116, 101, 110]⟩) L (wr.setCell ⟨g, i, none⟩ (.string ⟨#[119, 114, 105, 116, 116, 101, 110]⟩))) := ⟨hs.out.1.keep (d4 _).2 LT5.out.1 LT5.out.2, (d4 _).1⟩
          obtain ⟨d0, hd0⟩ : ∃ u, A[i]'(by rw [hlen.out]; exact hlt) = u := ⟨_, rfl⟩
          rw [hd0] at d1
          clear d4 d5 hd0 hs c2 c3 e2
          go_wp2_with fail
          go_roundw
          case rel => exact ⟨i + 1, _, by simp, by omega, by show _ = _; rw [List.length_set]; exact hlen.out, hnx.out⟩
          case measure => simp [intOf]; omega
        · obtain rfl : i = m := by omega
          have hlt' : ¬ (i : Int) < (i : Int) := by omega
          obtain ⟨tb, tc, w10, a1, a2, a3, a4, a5⟩ := hs.out.2.more (by rw [hlen.out]; exact hm)
          rw [hlen.out] at a1 a5
          have V10 : Hid (Vn w3 g1 n c1 n0 b0 P w10 ∧ R ES w10 (.slice bb i bc) L ∧ R ES w10 (.slice wb i wc) L) := ⟨hs.out.1.keep a4 LT5.out.1 LT5.out.2, a2, a3⟩
          replace a1 : Hid _ := a1
          simp only [sv, moS] at a1
          clear a2 a3 a4 hs hlen
          go_upto_region 15 with (at_builtin; refine Lib.wpList_append_run _ rfl _ _ _ _ rfl _ _ rfl rfl _ _ a1.out ?_)
          clear a1
          go_wp2_with fail
          go_at_call 13
          refine (lsame_any (bb, i, bc) (wb, i, wc) L L w10 (R.isIn V10.out.2.1) (R.isIn V10.out.2.2)).mono ?_
          rintro e w11 ⟨rfl, bX⟩
          rw [eqB_true (rfl : L = L)]
          have V11 : Hid (Vn w3 g1 n c1 n0 b0 P w11) := V10.out.1.below bX
          clear V10 bX
          go_wp2_with fail
          go_loopw [12] (fun iv wr => ∃ (i : Nat) (P1 : List Fd), iv = .int .i64 (i : Int) ∧ i ≤ n ∧ Hid (P1.length = n) ∧ Hid (totV P1 ≤ 1048576 + 4 * i) ∧ Hid (Vn w3 g1 n c1 n0 b0 P1 wr)) (fun iv _ => n - (intOf iv).toNat)
          case atStart => exact ⟨0, P, rfl, by omega, EN.out.symm, by have := HT.out; show _ ≤ _; omega, V11.out⟩
          case round =>
            obtain ⟨i, P1, rfl, hi, hlen, hsz, hs⟩ := hrel
            clear V11
            obtain ⟨x0, x1, x2, xl⟩ := hs.out.bx.cells
            have hc1 : n ≤ c1 := by have := O1.out; omega
            by_cases hlt : i < n
            · have hlt' : (i : Int) < (n : Int) := by omega
              have HC : Hid (∀ W, Below wr.heap.size wr W → (fun W => W.cell? ⟨w3.heap.size, 1, none⟩ = some (.slice (some ⟨g1, 0, none⟩) n c1)) W) := fun W hb => by
                obtain ⟨_, h, _⟩ := (hs.out.below hb).bx.cells
                exact h
              clear x0 x2
              go_upto_region 20 with fail
              clear x1 xl
              have hIW : Below wr.heap.size wr (wr.drew) := (Below.refl _ _).drew
              refine wp_region_held_drew (S := (fun W => W.cell? ⟨w3.heap.size, 1, none⟩ = some (.slice (some ⟨g1, 0, none⟩) n c1))) (by kernel_rfl) (HC.out _ hIW) (fun hHeld => ?_)
              generalize hWg : World.drew _ = W at hIW hHeld ⊢
              clear hWg
              have hsW := hs.out.below hIW
              obtain ⟨d1, d2, d3, d4⟩ := hsW.value i (by rw [hlen.out]; exact hlt)
              obtain ⟨F, hF⟩ : ∃ x, P1[i]'(by rw [hlen.out]; exact hlt) = x := ⟨_, rfl⟩
              rw [hF] at d1 d4
              have hvs : F.v.size ≤ 1048576 + 4 * i := by rw [← hF]; exact Nat.le_trans (totV_mem (List.getElem_mem _)) hsz.out
              obtain ⟨V0, hV0⟩ : ∃ x, (⟨#[113, 44]⟩ : ByteArray) ++ F.v = x := ⟨_, rfl⟩
              have hV0s : V0.size = 2 + F.v.size := by rw [← hV0, ByteArray.size_append]; rfl
              obtain ⟨V1, hV1⟩ : ∃ x, V0 ++ (⟨#[44, 42]⟩ : ByteArray) = x := ⟨_, rfl⟩
              have hV1s : V1.size = F.v.size + 4 := by
                rw [← hV1, ByteArray.size_append, hV0s]
                show 2 + F.v.size + 2 = _
                omega
              have hvx : ¬ 2 + F.v.size > 9223372036854775807 := by omega
              have hvy : ¬ V0.size + 2 > 9223372036854775807 := by omega
              have hnx : Hid (Vn w3 g1 n c1 n0 b0 (P1.set i ⟨F.n, V1, F.nv⟩) (W.setCell ⟨g1, i * 3 + 1, none⟩ (.string V1))) := d4 V1
              have hsz2 : Hid (totV (P1.set i ⟨F.n, V1, F.nv⟩) ≤ 1048576 + 4 * (i + 1)) := by
                have h1 := totV_set P1 i (by rw [hlen.out]; exact hlt) ⟨F.n, V1, F.nv⟩
                have h2 := hsz.out
                rw [hF] at h1
                simp only at h1
                show _ ≤ _
                omega
              have hcW : Hid ((fun W => W.cell? ⟨w3.heap.size, 1, none⟩ = some (.slice (some ⟨g1, 0, none⟩) n c1)) W) := HC.out _ hIW
              have hcS : Hid ((fun W => W.cell? ⟨w3.heap.size, 1, none⟩ = some (.slice (some ⟨g1, 0, none⟩) n c1)) (W.setCell ⟨g1, i * 3 + 1, none⟩ (.string V1))) := by
                obtain ⟨_, h, _⟩ := hnx.out.bx.cells
                exact h
              clear hsW d4 hsz hV0s hV1s hvs hF hs
              generalize F.v = FV at d1 hvx hV0
              refine wpAnyH_take (i := 0) (oi := { dst := some 94, op := Op.fieldAddr 35 (Operand.tmp 3) 1, type := 0, pos := "law.go:69", after := #[], guard := none }) (v := ?vv1) rfl (by kernel_rfl) (by kernel_rfl) (by kernel_rfl) (fun _ _ _ h => h) (Or.inl ⟨by rfl, ?hy1⟩) (by assumption) ?_
              case hy1 => (intro w hSw; (try dsimp only at hSw); go_simp; all_goals with_reducible rfl)
              try simp only [Act.put, List.setIfInBounds_toArray, List.set_cons_zero, List.set_cons_succ]
              refine wpAnyH_take (i := 1) (oi := { dst := some 95, op := Op.load 22 (Operand.tmp 94), type := 22, pos := "law.go:69", after := #[{ on := 0, ground := Ground.data }], guard := none }) (v := ?vv2) rfl (by kernel_rfl) (by kernel_rfl) (by kernel_rfl) (fun _ _ _ h => h) (Or.inl ⟨by rfl, ?hy2⟩) (by assumption) ?_
              case hy2 => (intro w hSw; (try dsimp only at hSw); go_simp; all_goals with_reducible rfl)
              try simp only [Act.put, List.setIfInBounds_toArray, List.set_cons_zero, List.set_cons_succ]
              refine wpAnyH_take (i := 2) (oi := { dst := some 96, op := Op.move (Operand.tmp 12), type := 3, pos := "law.go:69", after := #[], guard := none }) (v := ?vv3) rfl (by kernel_rfl) (by kernel_rfl) (by kernel_rfl) (fun _ _ _ h => h) (Or.inl ⟨by rfl, ?hy3⟩) (by assumption) ?_
              case hy3 => (intro w hSw; (try dsimp only at hSw); go_simp; all_goals with_reducible rfl)
              try simp only [Act.put, List.setIfInBounds_toArray, List.set_cons_zero, List.set_cons_succ]
              refine wpAnyH_take (i := 3) (oi := { dst := some 97, op := Op.fieldAddr 35 (Operand.tmp 3) 1, type := 0, pos := "law.go:69", after := #[], guard := none }) (v := ?vv4) rfl (by kernel_rfl) (by kernel_rfl) (by kernel_rfl) (fun _ _ _ h => h) (Or.inl ⟨by rfl, ?hy4⟩) (by assumption) ?_
              case hy4 => (intro w hSw; (try dsimp only at hSw); go_simp; all_goals with_reducible rfl)
              try simp only [Act.put, List.setIfInBounds_toArray, List.set_cons_zero, List.set_cons_succ]
              refine wpAnyH_take (i := 4) (oi := { dst := some 98, op := Op.load 22 (Operand.tmp 97), type := 22, pos := "law.go:69", after := #[{ on := 3, ground := Ground.data }], guard := none }) (v := ?vv5) rfl (by kernel_rfl) (by kernel_rfl) (by kernel_rfl) (fun _ _ _ h => h) (Or.inl ⟨by rfl, ?hy5⟩) (by assumption) ?_
              case hy5 => (intro w hSw; (try dsimp only at hSw); go_simp; all_goals with_reducible rfl)
              try simp only [Act.put, List.setIfInBounds_toArray, List.set_cons_zero, List.set_cons_succ]
              refine wpAnyH_take (i := 5) (oi := { dst := some 99, op := Op.move (Operand.tmp 12), type := 3, pos := "law.go:69", after := #[], guard := none }) (v := ?vv6) rfl (by kernel_rfl) (by kernel_rfl) (by kernel_rfl) (fun _ _ _ h => h) (Or.inl ⟨by rfl, ?hy6⟩) (by assumption) ?_
              case hy6 => (intro w hSw; (try dsimp only at hSw); go_simp; all_goals with_reducible rfl)
              try simp only [Act.put, List.setIfInBounds_toArray, List.set_cons_zero, List.set_cons_succ]
              refine wpAnyH_take (i := 6) (oi := { dst := some 100, op := Op.indexAddr 22 (Operand.tmp 98) (Operand.tmp 99), type := 0, pos := "law.go:69", after := #[{ on := 4, ground := Ground.data }, { on := 5, ground := Ground.data }], guard := none }) (v := ?vv7) rfl (by kernel_rfl) (by kernel_rfl) (by kernel_rfl) (fun _ _ _ h => h) (Or.inl ⟨by rfl, ?hy7⟩) (by assumption) ?_
              case hy7 => (intro w hSw; (try dsimp only at hSw); go_simp; all_goals with_reducible rfl)
              try simp only [Act.put, List.setIfInBounds_toArray, List.set_cons_zero, List.set_cons_succ]
              refine wpAnyH_take (i := 7) (oi := { dst := some 101, op := Op.fieldAddr 30 (Operand.tmp 100) 1, type := 0, pos := "law.go:69", after := #[{ on := 6, ground := Ground.data }], guard := none }) (v := ?vv8) rfl (by kernel_rfl) (by kernel_rfl) (by kernel_rfl) (fun _ _ _ h => h) (Or.inl ⟨by rfl, ?hy8⟩) (by assumption) ?_
              case hy8 => (intro w hSw; (try dsimp only at hSw); go_simp; all_goals with_reducible rfl)
              try simp only [Act.put, List.setIfInBounds_toArray, List.set_cons_zero, List.set_cons_succ]
              refine wpAnyH_ready (rs := [8]) (by kernel_rfl) (by simp) ?_
              refine AllReadyH.cons (o := { dst := some 102, op := Op.load 9 (Operand.tmp 101), type := 9, pos := "law.go:69", after := #[{ on := 7, ground := Ground.data }], guard := none }) rfl (fun K hK => ?_) AllReadyH.nil
              go_simp
              go_wp2_with fail
              refine hK.out _ _ (hcW.out) (fun hHeld => ?_)
              clear hK K
              try simp only [Act.put, List.setIfInBounds_toArray, List.set_cons_zero, List.set_cons_succ]
              refine wpAnyH_take (i := 9) (oi := { dst := some 103, op := Op.binOp BinOp.add 9 (Operand.const (Value.string { data := #[113, 44] })) (Operand.tmp 102) 9, type := 9, pos := "law.go:69", after := #[{ on := 8, ground := Ground.data }], guard := none }) (v := ?vv9) rfl (by kernel_rfl) (by kernel_rfl) (by kernel_rfl) (fun _ _ _ h => h) (Or.inl ⟨by rfl, ?hy9⟩) (by assumption) ?_
              case hy9 => (intro w hSw; (try dsimp only at hSw); go_simp; all_goals with_reducible rfl)
              try simp only [Act.put, List.setIfInBounds_toArray, List.set_cons_zero, List.set_cons_succ]
              refine wpAnyH_take (i := 10) (oi := { dst := some 104, op := Op.binOp BinOp.add 9 (Operand.tmp 103) (Operand.const (Value.string { data := #[44, 42] })) 9, type := 9, pos := "law.go:69", after := #[{ on := 9, ground := Ground.data }], guard := none }) (v := ?vv10) rfl (by kernel_rfl) (by kernel_rfl) (by kernel_rfl) (fun _ _ _ h => h) (Or.inl ⟨by rfl, ?hy10⟩) (by assumption) ?_
              case hy10 => (intro w hSw; (try dsimp only at hSw); go_simp; all_goals with_reducible rfl)
              try simp only [Act.put, List.setIfInBounds_toArray, List.set_cons_zero, List.set_cons_succ]
              refine wpAnyH_take (i := 11) (oi := { dst := some 105, op := Op.indexAddr 22 (Operand.tmp 95) (Operand.tmp 96), type := 0, pos := "law.go:69", after := #[{ on := 1, ground := Ground.data }, { on := 2, ground := Ground.data }, { on := 0, ground := Ground.phase }, { on := 1, ground := Ground.phase }, { on := 2, ground := Ground.phase }, { on := 3, ground := Ground.phase }, { on := 4, ground := Ground.phase }, { on := 5, ground := Ground.phase }, { on := 6, ground := Ground.phase }, { on := 7, ground := Ground.phase }, { on := 8, ground := Ground.phase }, { on := 9, ground := Ground.phase }, { on := 10, ground := Ground.phase }], guard := none }) (v := ?vv11) rfl (by kernel_rfl) (by kernel_rfl) (by kernel_rfl) (fun _ _ _ h => h) (Or.inl ⟨by rfl, ?hy11⟩) (by assumption) ?_
              case hy11 => (intro w hSw; (try dsimp only at hSw); go_simp; all_goals with_reducible rfl)
              try simp only [Act.put, List.setIfInBounds_toArray, List.set_cons_zero, List.set_cons_succ]
              refine wpAnyH_take (i := 12) (oi := { dst := some 106, op := Op.fieldAddr 30 (Operand.tmp 105) 1, type := 0, pos := "law.go:69", after := #[{ on := 11, ground := Ground.data }, { on := 0, ground := Ground.phase }, { on := 1, ground := Ground.phase }, { on := 2, ground := Ground.phase }, { on := 3, ground := Ground.phase }, { on := 4, ground := Ground.phase }, { on := 5, ground := Ground.phase }, { on := 6, ground := Ground.phase }, { on := 7, ground := Ground.phase }, { on := 8, ground := Ground.phase }, { on := 9, ground := Ground.phase }, { on := 10, ground := Ground.phase }], guard := none }) (v := ?vv12) rfl (by kernel_rfl) (by kernel_rfl) (by kernel_rfl) (fun _ _ _ h => h) (Or.inl ⟨by rfl, ?hy12⟩) (by assumption) ?_
              case hy12 => (intro w hSw; (try dsimp only at hSw); go_simp; all_goals with_reducible rfl)
              try simp only [Act.put, List.setIfInBounds_toArray, List.set_cons_zero, List.set_cons_succ]
              refine wpAnyH_ready (rs := [13]) (by kernel_rfl) (by simp) ?_
              refine AllReadyH.cons (o := { dst := none, op := Op.store 9 (Operand.tmp 106) (Operand.tmp 104), type := 0, pos := "law.go:69", after := #[{ on := 12, ground := Ground.data }, { on := 10, ground := Ground.data }, { on := 0, ground := Ground.phase }, { on := 1, ground := Ground.phase }, { on := 2, ground := Ground.phase }, { on := 3, ground := Ground.phase }, { on := 4, ground := Ground.phase }, { on := 5, ground := Ground.phase }, { on := 6, ground := Ground.phase }, { on := 7, ground := Ground.phase }, { on := 8, ground := Ground.phase }, { on := 9, ground := Ground.phase }, { on := 10, ground := Ground.phase }], guard := none }) rfl (fun K hK => ?_) AllReadyH.nil
              go_simp
              go_wp2_with fail
              refine hK.out _ _ (hcS.out) (fun hHeld => ?_)
              clear hK K
              try simp only [Act.put, List.setIfInBounds_toArray, List.set_cons_zero, List.set_cons_succ]
              refine wpAnyH_done (by kernel_rfl) ?_ _
              go_wp2_with fail
              go_roundw
              case rel => exact ⟨i + 1, _, by simp, by omega, by show _ = _; rw [List.length_set]; exact hlen.out, hsz2.out, hnx.out⟩
              case measure => simp [intOf]; omega
            · obtain rfl : i = n := by omega
              have hlt' : ¬ (i : Int) < (i : Int) := by omega
              obtain ⟨L2, st2, hL2, hN2⟩ := both_names P1 (by have := hsz.out; omega)
              have hq1 : Hid (Calls Tryd.prog 11 #[.agg #[.int .i64 n0, .slice (some ⟨g1, 0, none⟩) i c1, .string b0]] wr fun e w' => NmP L2 st2 wr e w') := (hN2 n0 (some ⟨g1, 0, none⟩) i c1 b0 wr ((R.isIn hs.out.rx).ahead hlen.out)).1
              replace hN2 : Hid _ := hN2
              clear hL2 hsz
              go_wp2_with fail
              go_at_call 11
              refine Calls.mono hq1.out ?_
              rintro e w12 ⟨⟨ab', am', ac'⟩, rfl, bA, rA, oA⟩
              have V12 := hs.out.below bA
              have R12 : Hid (R ES w12 (.slice ab' am' ac') L2) := rA
              obtain ⟨x0, x1, x2, xl⟩ := V12.bx.cells
              have hq2 : Hid (Calls Tryd.prog 17 #[.agg #[.int .i64 n0, .slice (some ⟨g1, 0, none⟩) i c1, .string b0]] w12 fun e w' => NmP L2 st2 w12 e w') := (hN2.out n0 (some ⟨g1, 0, none⟩) i c1 b0 w12 ((R.isIn V12.rx).ahead hlen.out)).2
              replace V12 : Hid _ := V12
              clear hq1 hs bA rA oA hN2
              simp only [sv]
              go_wp2_with fail
              go_at_call 17
              refine Calls.mono hq2.out ?_
              rintro e w13 ⟨⟨wb', wm', wc'⟩, rfl, bA, rA, oA⟩
              have R13 : Hid (R ES w13 (.slice ab' am' ac') L2 ∧ R ES w13 (.slice wb' wm' wc') L2) := ⟨R.below R12.out bA, rA⟩
              have B13 : Hid (Below w3.heap.size w3 w13) := (V12.out.below bA).bel
              clear hq2 V12 R12 bA rA oA x0 x1 x2 xl
              simp only [sv]
              go_wp2_with fail
              go_at_call 13
              refine (lsame_any (ab', am', ac') (wb', wm', wc') L2 L2 w13 (R.isIn R13.out.1) (R.isIn R13.out.2)).mono ?_
              rintro e w14 ⟨rfl, bX⟩
              rw [eqB_true (rfl : L2 = L2)]
              have BR : Hid (Below w.heap.size w w14) := by
                have h := H2.out _ (B13.out.trans (bX.mono B13.out.size))
                exact BW.out.trans (h.mono BW.out.size)
              clear bX B13 R13
              cases st2
              · go_wp2_with fail
                go_ret
                exact ⟨by first | rfl | simp, BR.out⟩
              · go_wp2_with fail
                go_ret
                exact ⟨by first | rfl | simp, BR.out⟩
  · as_aux_lemma =>
      go_enter Tryd.func7, Tryd.ntmps7
      go_wp2_with fail
      go_at_call 8
      rw [HW2.out]
      refine (first_any w2).mono ?_
      rintro e w3 ⟨rfl, bx⟩
      have D0 : Hid (Below w2.heap.size w2 w3) := bx
      clear bx HW2
      have H2 : Hid (∀ W, Below w3.heap.size w3 W → Below w2.heap.size w2 W) := fun W hb => D0.out.trans (hb.mono D0.out.size)
      have HBP : Hid (∀ W, Below w3.heap.size w3 W → RsB W w.heap.size n0 (yb, n, yc) b0) := fun W hb => HB.out.below (H2.out W hb)
      obtain ⟨z0, z1, z2, z3⟩ := (HBP.out _ (Below.refl _ _)).cells
      go_upto_region 4 with fail
      obtain ⟨w4, hw4⟩ : ∃ x, w3.alloc (.cells #[.int .i64 n0, .slice yb n yc, .string b0] 35) = x := ⟨_, rfl⟩
      have X4 : Hid (RsB w4 w3.heap.size n0 (yb, n, yc) b0) := by
        rw [← hw4]
        unfold RsB
        show _ = _
        rw [heap_al, if_pos rfl]
        rfl
      have B4 : Hid (Below w3.heap.size w3 w4) := by rw [← hw4]; exact bel1 w3 _
      rw [hw4]
      clear hw4 z0 z1 z2 z3
      obtain ⟨_, p1, _, p3⟩ := (HBP.out _ B4.out).cells
      go_wp2_with fail
      go_at_call 14
      refine (lend_any (yb, n, yc) P w4 (HI.out _ (H2.out _ B4.out)) HZS.out).mono ?_
      rintro e w5 ⟨g1, c1, rfl, b5, o5, l5, m5, r5⟩
      rw [← EN.out] at l5 r5 ⊢
      have x5 := X4.out.below b5
      have xl := heap_lt x5
      have xc := cell_blk x5 1
      have xf := frozen_blk x5 1
      have B5 := (B4.out.trans (b5.mono B4.out.size)).setCell (p := ⟨w3.heap.size, 1, none⟩) (Nat.le_refl _) (.slice (some ⟨g1, 0, none⟩) n c1)
      have V5 : Hid (Vn w3 g1 n c1 n0 b0 P (w5.setCell ⟨w3.heap.size, 1, none⟩ (.slice (some ⟨g1, 0, none⟩) n c1))) := ⟨x5.setY (some ⟨g1, 0, none⟩, n, c1), R.stays r5 fun b hb _ => setCell_other _ _ _ _ _ (fun e => row_ne_rs r5 x5 (by rw [own_at] at hb; injection hb with hb; rw [hb, e])), B5, Nat.le_trans B4.out.size o5⟩
      have O1 : Hid (n + 1 ≤ c1 ∧ c1 ≤ 9223372036854775807) := ⟨l5, m5⟩
      simp only [rsv, sv, List.getElem?_toArray, List.getElem?_cons_succ, List.getElem?_cons_zero] at xc
      clear b5 o5 l5 m5 r5 x5 p1 p3 X4 B4 B5
      go_upto_region 5 with fail
      obtain ⟨v5, hv5⟩ : ∃ x, w5.setCell ⟨w3.heap.size, 1, none⟩ (.slice (some ⟨g1, 0, none⟩) n c1) = x := ⟨_, rfl⟩
      rw [hv5] at V5 ⊢
      clear hv5 xl xc xf
      have IX : Hid (∀ W, Vn w3 g1 n c1 n0 b0 P W → In EFd W (.slice (some ⟨g1, 0, none⟩) n c1) P) := fun W h => (R.isIn h.rx).ahead EN.out.symm
      obtain ⟨x0, x1, x2, xl⟩ := V5.out.bx.cells
      have hq := HN.out n0 (some ⟨g1, 0, none⟩) n c1 b0 v5 (IX.out _ V5.out)
      have hq1 : Hid (Calls Tryd.prog 11 #[.agg #[.int .i64 n0, .slice (some ⟨g1, 0, none⟩) n c1, .string b0]] v5 fun e w' => NmP L true v5 e w') := hq.1
      clear hq
      go_wp2_with fail
      go_at_call 11
      refine Calls.mono hq1.out ?_
      rintro e w6 ⟨⟨ab, m, ac⟩, rfl, bA, rA, oA⟩
      obtain ⟨q1, q2, q3⟩ := slice_len (R.isIn (show R ES w6 (.slice ab m ac) L from rA))
      have EM : Hid (m = L.length) := q1
      have hm : m ≤ 8000000 := by have := HL.out; omega
      have hac : m ≤ ac := by omega
      have V6 : Hid (Vn w3 g1 n c1 n0 b0 P w6) := V5.out.below bA
      have A6 : Hid (R ES w6 (.slice ab m ac) L ∧ v5.heap.size ≤ w6.heap.size ∧ ∀ k, (Value.slice ab m ac).ownBlock = some k → v5.heap.size ≤ k ∧ k < w6.heap.size) := ⟨rA, bA.size, fun k hk => ⟨oA k hk, R.lt rA k hk⟩⟩
      have LT5 : Hid (w3.heap.size < v5.heap.size ∧ g1 < v5.heap.size) := ⟨xl, R.lt V5.out.rx g1 rfl⟩
      clear q1 q2 q3 bA rA oA V5 x0 x1 x2 xl hq1
      obtain ⟨x0, x1, x2, xl⟩ := V6.out.bx.cells
      have hq := HN.out n0 (some ⟨g1, 0, none⟩) n c1 b0 w6 (IX.out _ V6.out)
      have hq1 : Hid (Calls Tryd.prog 11 #[.agg #[.int .i64 n0, .slice (some ⟨g1, 0, none⟩) n c1, .string b0]] w6 fun e w' => NmP L true w6 e w') := hq.1
      clear hq
      simp only [sv]
      go_wp2_with fail
      go_at_call 11
      refine Calls.mono hq1.out ?_
      rintro e w7 ⟨⟨bb, bm, bc⟩, rfl, bA, rA, oA⟩
      obtain ⟨q1, q2, q3⟩ := slice_len (R.isIn (show R ES w7 (.slice bb bm bc) L from rA))
      obtain rfl : m = bm := by have := EM.out; omega
      have hbc : m ≤ bc := by omega
      have V7 : Hid (Vn w3 g1 n c1 n0 b0 P w7) := V6.out.below bA
      have A7 : Hid (R ES w7 (.slice ab m ac) L ∧ R ES w7 (.slice bb m bc) L ∧ w6.heap.size ≤ w7.heap.size ∧ ∀ k, (Value.slice bb m bc).ownBlock = some k → w6.heap.size ≤ k ∧ k < w7.heap.size) := ⟨R.below A6.out.1 bA, rA, bA.size, fun k hk => ⟨oA k hk, R.lt rA k hk⟩⟩
      clear q1 q2 q3 bA rA oA V6 x0 x1 x2 xl hq1
      obtain ⟨x0, x1, x2, xl⟩ := (HBP.out _ V7.out.bel).cells
      have hq := HN.out n0 yb n yc b0 w7 (HI.out _ (H2.out _ V7.out.bel))
      have hq1 : Hid (Calls Tryd.prog 17 #[.agg #[.int .i64 n0, .slice yb n yc, .string b0]] w7 fun e w' => NmP L true w7 e w') := hq.2
      clear hq
      simp only [sv]
      go_wp2_with fail
      go_at_call 17
      refine Calls.mono hq1.out ?_
      rintro e w8 ⟨⟨wb, wm, wc⟩, rfl, bA, rA, oA⟩
      obtain ⟨q1, q2, q3⟩ := slice_len (R.isIn (show R ES w8 (.slice wb wm wc) L from rA))
      obtain rfl : m = wm := by have := EM.out; omega
      have hwc : m ≤ wc := by omega
      have V8 : Hid (Vn w3 g1 n c1 n0 b0 P w8 ∧ Vr v5.heap.size (ab, m, ac) (bb, m, bc) (wb, m, wc) L L w8) := ⟨V7.out.below bA, R.below A7.out.1 bA, R.below A7.out.2.1 bA, rA, fun k hk => by
        have h1 := A6.out.2.2 k hk
        have h2 := A7.out.2.2.1
        refine ⟨h1.1, fun e => ?_, fun e => ?_⟩
        · have := A7.out.2.2.2 k e
          omega
        · have := oA k e
          omega, by have h1 := A6.out.2.1; have h2 := A7.out.2.2.1; have h3 := bA.size; omega⟩
      clear q1 q2 q3 bA rA oA V7 A6 A7 x0 x1 x2 xl hq1
      simp only [sv]
      go_wp2_with fail
      go_at_call 13
      refine (lsame_any (ab, m, ac) (wb, m, wc) L L w8 (R.isIn V8.out.2.ra) (R.isIn V8.out.2.rw')).mono ?_
      rintro e w9 ⟨rfl, bX⟩
      rw [eqB_true (rfl : L = L)]
      have V9 : Hid (Vn w3 g1 n c1 n0 b0 P w9 ∧ Vr v5.heap.size (ab, m, ac) (bb, m, bc) (wb, m, wc) L L w9) := ⟨V8.out.1.below bX, V8.out.2.below bX⟩
      clear V8 bX
      go_wp2_with fail
      go_at_call 13
      refine (lsame_any (bb, m, bc) (wb, m, wc) L L w9 (R.isIn V9.out.2.rb) (R.isIn V9.out.2.rw')).mono ?_
      rintro e wA ⟨rfl, bX⟩
      rw [eqB_true (rfl : L = L)]
      have VA : Hid (Vn w3 g1 n c1 n0 b0 P wA ∧ Vr v5.heap.size (ab, m, ac) (bb, m, bc) (wb, m, wc) L L wA) := ⟨V9.out.1.below bX, V9.out.2.below bX⟩
      clear V9 bX
      have hk1 : Hid (Calls Tryd.prog 16 #[.slice (some ⟨g1, 0, none⟩) n c1, .slice yb n yc] wA fun e w' => e = .returned (.bool true) ∧ Below wA.heap.size wA w') := by
        have h := kept_any g1 c1 (yb, n, yc) P wA (by rw [← EN.out]; exact R.isIn VA.out.1.rx) (HI.out _ (H2.out _ VA.out.1.bel)) (by rw [← EN.out]; exact O1.out.1) O1.out.2
        rw [← EN.out] at h
        exact h
      obtain ⟨_, x1, _, xl⟩ := VA.out.1.bx.cells
      obtain ⟨_, p1, _, pl⟩ := (HBP.out _ VA.out.1.bel).cells
      go_wp2_with fail
      go_at_call 16
      refine Calls.mono hk1.out ?_
      rintro e wB ⟨rfl, bX⟩
      have VB : Hid (Vn w3 g1 n c1 n0 b0 P wB ∧ Vr v5.heap.size (ab, m, ac) (bb, m, bc) (wb, m, wc) L L wB) := ⟨VA.out.1.below bX, VA.out.2.below bX⟩
      clear VA bX hk1 x1 xl p1 pl
      go_wp2_with fail
      go_loopw [10] (fun iv wr => ∃ (i : Nat) (A : List ByteArray), iv = .int .i64 (i : Int) ∧ i ≤ m ∧ Hid (A.length = m) ∧ Hid (Vn w3 g1 n c1 n0 b0 P wr ∧ Vr v5.heap.size (ab, m, ac) (bb, m, bc) (wb, m, wc) A L wr)) (fun iv _ => m - (intOf iv).toNat)
      case atStart => exact ⟨0, L, rfl, by omega, EM.out.symm, VB.out⟩
      case round =>
        obtain ⟨i, A, rfl, hi, hlen, hs⟩ := hrel
        clear VB
        by_cases hlt : i < m
        · have hlt' : (i : Int) < (m : Int) := by omega
          obtain ⟨g, c, e, c2, c3, d1, d2, d3, d5, d4⟩ := hs.out.2.write i (by rw [hlen.out]; exact hlt)
          injection e with e1 e2
          injection e2 with e2 e3
          subst e1 e3
          have hnx : Hid (Vn w3 g1 n c1 n0 b0 P (wr.setCell ⟨g, i, none⟩ (.string ⟨#[119, 114, 105, 116, 116, 101, 110]⟩)) ∧ Vr v5.heap.size (some ⟨g, 0, none⟩, m, ac) (bb, m, bc) (wb, m, wc) (A.set i ⟨#[119, 114, 105, 116, 116, 101, 110]⟩) L (wr.setCell ⟨g, i, none⟩ (.string ⟨#[119, 114, 105, 116, 116, 101, 110]⟩))) := ⟨hs.out.1.keep (d4 _).2 LT5.out.1 LT5.out.2, (d4 _).1⟩
          obtain ⟨d0, hd0⟩ : ∃ u, A[i]'(by rw [hlen.out]; exact hlt) = u := ⟨_, rfl⟩
          rw [hd0] at d1
          clear d4 d5 hd0 hs c2 c3 e2
          go_wp2_with fail
          go_roundw
          case rel => exact ⟨i + 1, _, by simp, by omega, by show _ = _; rw [List.length_set]; exact hlen.out, hnx.out⟩
          case measure => simp [intOf]; omega
        · obtain rfl : i = m := by omega
          have hlt' : ¬ (i : Int) < (i : Int) := by omega
          obtain ⟨tb, tc, w10, a1, a2, a3, a4, a5⟩ := hs.out.2.more (by rw [hlen.out]; exact hm)
          rw [hlen.out] at a1 a5
          have V10 : Hid (Vn w3 g1 n c1 n0 b0 P w10 ∧ R ES w10 (.slice bb i bc) L ∧ R ES w10 (.slice wb i wc) L) := ⟨hs.out.1.keep a4 LT5.out.1 LT5.out.2, a2, a3⟩
          replace a1 : Hid _ := a1
          simp only [sv, moS] at a1
          clear a2 a3 a4 hs hlen
          go_upto_region 15 with (at_builtin; refine Lib.wpList_append_run _ rfl _ _ _ _ rfl _ _ rfl rfl _ _ a1.out ?_)
          clear a1
          go_wp2_with fail
          go_at_call 13
          refine (lsame_any (bb, i, bc) (wb, i, wc) L L w10 (R.isIn V10.out.2.1) (R.isIn V10.out.2.2)).mono ?_
          rintro e w11 ⟨rfl, bX⟩
          rw [eqB_true (rfl : L = L)]
          have V11 : Hid (Vn w3 g1 n c1 n0 b0 P w11) := V10.out.1.below bX
          clear V10 bX
          go_wp2_with fail
          go_loopw [12] (fun iv wr => ∃ (i : Nat) (P1 : List Fd), iv = .int .i64 (i : Int) ∧ i ≤ n ∧ Hid (P1.length = n) ∧ Hid (totV P1 ≤ 1048576 + 4 * i) ∧ Hid (Vn w3 g1 n c1 n0 b0 P1 wr)) (fun iv _ => n - (intOf iv).toNat)
          case atStart => exact ⟨0, P, rfl, by omega, EN.out.symm, by have := HT.out; show _ ≤ _; omega, V11.out⟩
          case round =>
            obtain ⟨i, P1, rfl, hi, hlen, hsz, hs⟩ := hrel
            clear V11
            obtain ⟨x0, x1, x2, xl⟩ := hs.out.bx.cells
            have hc1 : n ≤ c1 := by have := O1.out; omega
            by_cases hlt : i < n
            · have hlt' : (i : Int) < (n : Int) := by omega
              have HC : Hid (∀ W, Below wr.heap.size wr W → (fun W => W.cell? ⟨w3.heap.size, 1, none⟩ = some (.slice (some ⟨g1, 0, none⟩) n c1)) W) := fun W hb => by
                obtain ⟨_, h, _⟩ := (hs.out.below hb).bx.cells
                exact h
              clear x0 x2
              go_upto_region 20 with fail
              clear x1 xl
              have hIW : Below wr.heap.size wr (wr.drew) := (Below.refl _ _).drew
              refine wp_region_held_drew (S := (fun W => W.cell? ⟨w3.heap.size, 1, none⟩ = some (.slice (some ⟨g1, 0, none⟩) n c1))) (by kernel_rfl) (HC.out _ hIW) (fun hHeld => ?_)
              generalize hWg : World.drew _ = W at hIW hHeld ⊢
              clear hWg
              have hsW := hs.out.below hIW
              obtain ⟨d1, d2, d3, d4⟩ := hsW.value i (by rw [hlen.out]; exact hlt)
              obtain ⟨F, hF⟩ : ∃ x, P1[i]'(by rw [hlen.out]; exact hlt) = x := ⟨_, rfl⟩
              rw [hF] at d1 d4
              have hvs : F.v.size ≤ 1048576 + 4 * i := by rw [← hF]; exact Nat.le_trans (totV_mem (List.getElem_mem _)) hsz.out
              obtain ⟨V0, hV0⟩ : ∃ x, (⟨#[113, 44]⟩ : ByteArray) ++ F.v = x := ⟨_, rfl⟩
              have hV0s : V0.size = 2 + F.v.size := by rw [← hV0, ByteArray.size_append]; rfl
              obtain ⟨V1, hV1⟩ : ∃ x, V0 ++ (⟨#[44, 42]⟩ : ByteArray) = x := ⟨_, rfl⟩
              have hV1s : V1.size = F.v.size + 4 := by
                rw [← hV1, ByteArray.size_append, hV0s]
                show 2 + F.v.size + 2 = _
                omega
              have hvx : ¬ 2 + F.v.size > 9223372036854775807 := by omega
              have hvy : ¬ V0.size + 2 > 9223372036854775807 := by omega
              have hnx : Hid (Vn w3 g1 n c1 n0 b0 (P1.set i ⟨F.n, V1, F.nv⟩) (W.setCell ⟨g1, i * 3 + 1, none⟩ (.string V1))) := d4 V1
              have hsz2 : Hid (totV (P1.set i ⟨F.n, V1, F.nv⟩) ≤ 1048576 + 4 * (i + 1)) := by
                have h1 := totV_set P1 i (by rw [hlen.out]; exact hlt) ⟨F.n, V1, F.nv⟩
                have h2 := hsz.out
                rw [hF] at h1
                simp only at h1
                show _ ≤ _
                omega
              have hcW : Hid ((fun W => W.cell? ⟨w3.heap.size, 1, none⟩ = some (.slice (some ⟨g1, 0, none⟩) n c1)) W) := HC.out _ hIW
              have hcS : Hid ((fun W => W.cell? ⟨w3.heap.size, 1, none⟩ = some (.slice (some ⟨g1, 0, none⟩) n c1)) (W.setCell ⟨g1, i * 3 + 1, none⟩ (.string V1))) := by
                obtain ⟨_, h, _⟩ := hnx.out.bx.cells
                exact h
              clear hsW d4 hsz hV0s hV1s hvs hF hs
              generalize F.v = FV at d1 hvx hV0
              refine wpAnyH_take (i := 0) (oi := { dst := some 94, op := Op.fieldAddr 35 (Operand.tmp 3) 1, type := 0, pos := "law.go:69", after := #[], guard := none }) (v := ?vvb1) rfl (by kernel_rfl) (by kernel_rfl) (by kernel_rfl) (fun _ _ _ h => h) (Or.inl ⟨by rfl, ?hyb1⟩) (by assumption) ?_
              case hyb1 => (intro w hSw; (try dsimp only at hSw); go_simp; all_goals with_reducible rfl)
              try simp only [Act.put, List.setIfInBounds_toArray, List.set_cons_zero, List.set_cons_succ]
              refine wpAnyH_take (i := 1) (oi := { dst := some 95, op := Op.load 22 (Operand.tmp 94), type := 22, pos := "law.go:69", after := #[{ on := 0, ground := Ground.data }], guard := none }) (v := ?vvb2) rfl (by kernel_rfl) (by kernel_rfl) (by kernel_rfl) (fun _ _ _ h => h) (Or.inl ⟨by rfl, ?hyb2⟩) (by assumption) ?_
              case hyb2 => (intro w hSw; (try dsimp only at hSw); go_simp; all_goals with_reducible rfl)
              try simp only [Act.put, List.setIfInBounds_toArray, List.set_cons_zero, List.set_cons_succ]
              refine wpAnyH_take (i := 2) (oi := { dst := some 96, op := Op.move (Operand.tmp 12), type := 3, pos := "law.go:69", after := #[], guard := none }) (v := ?vvb3) rfl (by kernel_rfl) (by kernel_rfl) (by kernel_rfl) (fun _ _ _ h => h) (Or.inl ⟨by rfl, ?hyb3⟩) (by assumption) ?_
              case hyb3 => (intro w hSw; (try dsimp only at hSw); go_simp; all_goals with_reducible rfl)
              try simp only [Act.put, List.setIfInBounds_toArray, List.set_cons_zero, List.set_cons_succ]
              refine wpAnyH_take (i := 3) (oi := { dst := some 97, op := Op.fieldAddr 35 (Operand.tmp 3) 1, type := 0, pos := "law.go:69", after := #[], guard := none }) (v := ?vvb4) rfl (by kernel_rfl) (by kernel_rfl) (by kernel_rfl) (fun _ _ _ h => h) (Or.inl ⟨by rfl, ?hyb4⟩) (by assumption) ?_
              case hyb4 => (intro w hSw; (try dsimp only at hSw); go_simp; all_goals with_reducible rfl)
              try simp only [Act.put, List.setIfInBounds_toArray, List.set_cons_zero, List.set_cons_succ]
              refine wpAnyH_take (i := 4) (oi := { dst := some 98, op := Op.load 22 (Operand.tmp 97), type := 22, pos := "law.go:69", after := #[{ on := 3, ground := Ground.data }], guard := none }) (v := ?vvb5) rfl (by kernel_rfl) (by kernel_rfl) (by kernel_rfl) (fun _ _ _ h => h) (Or.inl ⟨by rfl, ?hyb5⟩) (by assumption) ?_
              case hyb5 => (intro w hSw; (try dsimp only at hSw); go_simp; all_goals with_reducible rfl)
              try simp only [Act.put, List.setIfInBounds_toArray, List.set_cons_zero, List.set_cons_succ]
              refine wpAnyH_take (i := 5) (oi := { dst := some 99, op := Op.move (Operand.tmp 12), type := 3, pos := "law.go:69", after := #[], guard := none }) (v := ?vvb6) rfl (by kernel_rfl) (by kernel_rfl) (by kernel_rfl) (fun _ _ _ h => h) (Or.inl ⟨by rfl, ?hyb6⟩) (by assumption) ?_
              case hyb6 => (intro w hSw; (try dsimp only at hSw); go_simp; all_goals with_reducible rfl)
              try simp only [Act.put, List.setIfInBounds_toArray, List.set_cons_zero, List.set_cons_succ]
              refine wpAnyH_take (i := 6) (oi := { dst := some 100, op := Op.indexAddr 22 (Operand.tmp 98) (Operand.tmp 99), type := 0, pos := "law.go:69", after := #[{ on := 4, ground := Ground.data }, { on := 5, ground := Ground.data }], guard := none }) (v := ?vvb7) rfl (by kernel_rfl) (by kernel_rfl) (by kernel_rfl) (fun _ _ _ h => h) (Or.inl ⟨by rfl, ?hyb7⟩) (by assumption) ?_
              case hyb7 => (intro w hSw; (try dsimp only at hSw); go_simp; all_goals with_reducible rfl)
              try simp only [Act.put, List.setIfInBounds_toArray, List.set_cons_zero, List.set_cons_succ]
              refine wpAnyH_take (i := 7) (oi := { dst := some 101, op := Op.fieldAddr 30 (Operand.tmp 100) 1, type := 0, pos := "law.go:69", after := #[{ on := 6, ground := Ground.data }], guard := none }) (v := ?vvb8) rfl (by kernel_rfl) (by kernel_rfl) (by kernel_rfl) (fun _ _ _ h => h) (Or.inl ⟨by rfl, ?hyb8⟩) (by assumption) ?_
              case hyb8 => (intro w hSw; (try dsimp only at hSw); go_simp; all_goals with_reducible rfl)
              try simp only [Act.put, List.setIfInBounds_toArray, List.set_cons_zero, List.set_cons_succ]
              refine wpAnyH_ready (rs := [8]) (by kernel_rfl) (by simp) ?_
              refine AllReadyH.cons (o := { dst := some 102, op := Op.load 9 (Operand.tmp 101), type := 9, pos := "law.go:69", after := #[{ on := 7, ground := Ground.data }], guard := none }) rfl (fun K hK => ?_) AllReadyH.nil
              go_simp
              go_wp2_with fail
              refine hK.out _ _ (hcW.out) (fun hHeld => ?_)
              clear hK K
              try simp only [Act.put, List.setIfInBounds_toArray, List.set_cons_zero, List.set_cons_succ]
              refine wpAnyH_take (i := 9) (oi := { dst := some 103, op := Op.binOp BinOp.add 9 (Operand.const (Value.string { data := #[113, 44] })) (Operand.tmp 102) 9, type := 9, pos := "law.go:69", after := #[{ on := 8, ground := Ground.data }], guard := none }) (v := ?vvb9) rfl (by kernel_rfl) (by kernel_rfl) (by kernel_rfl) (fun _ _ _ h => h) (Or.inl ⟨by rfl, ?hyb9⟩) (by assumption) ?_
              case hyb9 => (intro w hSw; (try dsimp only at hSw); go_simp; all_goals with_reducible rfl)
              try simp only [Act.put, List.setIfInBounds_toArray, List.set_cons_zero, List.set_cons_succ]
              refine wpAnyH_take (i := 10) (oi := { dst := some 104, op := Op.binOp BinOp.add 9 (Operand.tmp 103) (Operand.const (Value.string { data := #[44, 42] })) 9, type := 9, pos := "law.go:69", after := #[{ on := 9, ground := Ground.data }], guard := none }) (v := ?vvb10) rfl (by kernel_rfl) (by kernel_rfl) (by kernel_rfl) (fun _ _ _ h => h) (Or.inl ⟨by rfl, ?hyb10⟩) (by assumption) ?_
              case hyb10 => (intro w hSw; (try dsimp only at hSw); go_simp; all_goals with_reducible rfl)
              try simp only [Act.put, List.setIfInBounds_toArray, List.set_cons_zero, List.set_cons_succ]
              refine wpAnyH_take (i := 11) (oi := { dst := some 105, op := Op.indexAddr 22 (Operand.tmp 95) (Operand.tmp 96), type := 0, pos := "law.go:69", after := #[{ on := 1, ground := Ground.data }, { on := 2, ground := Ground.data }, { on := 0, ground := Ground.phase }, { on := 1, ground := Ground.phase }, { on := 2, ground := Ground.phase }, { on := 3, ground := Ground.phase }, { on := 4, ground := Ground.phase }, { on := 5, ground := Ground.phase }, { on := 6, ground := Ground.phase }, { on := 7, ground := Ground.phase }, { on := 8, ground := Ground.phase }, { on := 9, ground := Ground.phase }, { on := 10, ground := Ground.phase }], guard := none }) (v := ?vvb11) rfl (by kernel_rfl) (by kernel_rfl) (by kernel_rfl) (fun _ _ _ h => h) (Or.inl ⟨by rfl, ?hyb11⟩) (by assumption) ?_
              case hyb11 => (intro w hSw; (try dsimp only at hSw); go_simp; all_goals with_reducible rfl)
              try simp only [Act.put, List.setIfInBounds_toArray, List.set_cons_zero, List.set_cons_succ]
              refine wpAnyH_take (i := 12) (oi := { dst := some 106, op := Op.fieldAddr 30 (Operand.tmp 105) 1, type := 0, pos := "law.go:69", after := #[{ on := 11, ground := Ground.data }, { on := 0, ground := Ground.phase }, { on := 1, ground := Ground.phase }, { on := 2, ground := Ground.phase }, { on := 3, ground := Ground.phase }, { on := 4, ground := Ground.phase }, { on := 5, ground := Ground.phase }, { on := 6, ground := Ground.phase }, { on := 7, ground := Ground.phase }, { on := 8, ground := Ground.phase }, { on := 9, ground := Ground.phase }, { on := 10, ground := Ground.phase }], guard := none }) (v := ?vvb12) rfl (by kernel_rfl) (by kernel_rfl) (by kernel_rfl) (fun _ _ _ h => h) (Or.inl ⟨by rfl, ?hyb12⟩) (by assumption) ?_
              case hyb12 => (intro w hSw; (try dsimp only at hSw); go_simp; all_goals with_reducible rfl)
              try simp only [Act.put, List.setIfInBounds_toArray, List.set_cons_zero, List.set_cons_succ]
              refine wpAnyH_ready (rs := [13]) (by kernel_rfl) (by simp) ?_
              refine AllReadyH.cons (o := { dst := none, op := Op.store 9 (Operand.tmp 106) (Operand.tmp 104), type := 0, pos := "law.go:69", after := #[{ on := 12, ground := Ground.data }, { on := 10, ground := Ground.data }, { on := 0, ground := Ground.phase }, { on := 1, ground := Ground.phase }, { on := 2, ground := Ground.phase }, { on := 3, ground := Ground.phase }, { on := 4, ground := Ground.phase }, { on := 5, ground := Ground.phase }, { on := 6, ground := Ground.phase }, { on := 7, ground := Ground.phase }, { on := 8, ground := Ground.phase }, { on := 9, ground := Ground.phase }, { on := 10, ground := Ground.phase }], guard := none }) rfl (fun K hK => ?_) AllReadyH.nil
              go_simp
              go_wp2_with fail
              refine hK.out _ _ (hcS.out) (fun hHeld => ?_)
              clear hK K
              try simp only [Act.put, List.setIfInBounds_toArray, List.set_cons_zero, List.set_cons_succ]
              refine wpAnyH_done (by kernel_rfl) ?_ _
              go_wp2_with fail
              go_roundw
              case rel => exact ⟨i + 1, _, by simp, by omega, by show _ = _; rw [List.length_set]; exact hlen.out, hsz2.out, hnx.out⟩
              case measure => simp [intOf]; omega
            · obtain rfl : i = n := by omega
              have hlt' : ¬ (i : Int) < (i : Int) := by omega
              obtain ⟨L2, st2, hL2, hN2⟩ := both_names P1 (by have := hsz.out; omega)
              have hq1 : Hid (Calls Tryd.prog 11 #[.agg #[.int .i64 n0, .slice (some ⟨g1, 0, none⟩) i c1, .string b0]] wr fun e w' => NmP L2 st2 wr e w') := (hN2 n0 (some ⟨g1, 0, none⟩) i c1 b0 wr ((R.isIn hs.out.rx).ahead hlen.out)).1
              replace hN2 : Hid _ := hN2
              clear hL2 hsz
              go_wp2_with fail
              go_at_call 11
              refine Calls.mono hq1.out ?_
              rintro e w12 ⟨⟨ab', am', ac'⟩, rfl, bA, rA, oA⟩
              have V12 := hs.out.below bA
              have R12 : Hid (R ES w12 (.slice ab' am' ac') L2) := rA
              obtain ⟨x0, x1, x2, xl⟩ := V12.bx.cells
              have hq2 : Hid (Calls Tryd.prog 17 #[.agg #[.int .i64 n0, .slice (some ⟨g1, 0, none⟩) i c1, .string b0]] w12 fun e w' => NmP L2 st2 w12 e w') := (hN2.out n0 (some ⟨g1, 0, none⟩) i c1 b0 w12 ((R.isIn V12.rx).ahead hlen.out)).2
              replace V12 : Hid _ := V12
              clear hq1 hs bA rA oA hN2
              simp only [sv]
              go_wp2_with fail
              go_at_call 17
              refine Calls.mono hq2.out ?_
              rintro e w13 ⟨⟨wb', wm', wc'⟩, rfl, bA, rA, oA⟩
              have R13 : Hid (R ES w13 (.slice ab' am' ac') L2 ∧ R ES w13 (.slice wb' wm' wc') L2) := ⟨R.below R12.out bA, rA⟩
              have B13 : Hid (Below w3.heap.size w3 w13) := (V12.out.below bA).bel
              clear hq2 V12 R12 bA rA oA x0 x1 x2 xl
              simp only [sv]
              go_wp2_with fail
              go_at_call 13
              refine (lsame_any (ab', am', ac') (wb', wm', wc') L2 L2 w13 (R.isIn R13.out.1) (R.isIn R13.out.2)).mono ?_
              rintro e w14 ⟨rfl, bX⟩
              rw [eqB_true (rfl : L2 = L2)]
              have BR : Hid (Below w.heap.size w w14) := by
                have h := H2.out _ (B13.out.trans (bX.mono B13.out.size))
                exact BW.out.trans (h.mono BW.out.size)
              clear bX B13 R13
              cases st2
              · go_wp2_with fail
                go_ret
                exact ⟨by first | rfl | simp, BR.out⟩
              · go_wp2_with fail
                go_ret
                exact ⟨by first | rfl | simp, BR.out⟩

end Go.Proofs.YtckdldbheejmhaaDoor
