/- BlockCuts, walked. -/
import Derived.Test.YtdgdjanchpfleaaC8
import Derived.Deep.CutRange
namespace Go.Proofs.Ytdgdjanchpfleaa
open Go.RowKit
set_option linter.unusedVariables false
set_option linter.unusedSimpArgs false

/-- bytes of nothing, made -/
theorem made_zero (N : Nat) (hN : N ≤ 140737488355328) : ∃ (M : Array Value) (E : ByteArray), E.size = N ∧ ∀ W : World, (Instr.makeSlice 30 (.int .i64 (N : Int)) (.int .i64 (N : Int))).run Try.prog W = .ok (.slice (some ⟨W.heap.size, 0, none⟩) N N) (W.alloc (.cells M 5)) ∧ Sem.run Try.prog (convert 30 9 (.slice (some ⟨W.heap.size, 0, none⟩) N N)) (W.alloc (.cells M 5)) = .ok (.string E) (W.alloc (.cells M 5)) := by
  obtain ⟨i0, hi, hz0, hz1, hz2⟩ := info_parts info5
  refine ⟨madeCells (Value.int .u8 0).cells (((N : Nat) : Int).toNat * i0.size), bt (List.replicate N 0), by rw [bt_size]; simp, fun W => ⟨?_, ?_⟩⟩
  · have h := run_make (P := Try.prog) W 30 5 i0 (.int .u8 0) Try.underlying30 hi hz0 .i64 .i64 (N : Int) (N : Int) (by omega) (by omega) (by rw [hz2]; omega) (by omega)
    simpa using h
  · have h := run_convert_bytes_back (P := Try.prog) (W.alloc (.cells (madeCells (Value.int .u8 0).cells (((N : Nat) : Int).toNat * i0.size)) 5)) 30 9 5 ⟨W.heap.size, 0, none⟩ N (List.replicate N 0) Try.underlying30 Try.underlying5 Try.underlying9 (fun j hj => by
      rw [Addr.add_lit, Nat.zero_add, cell_blk (heap_alloc_new W _)]
      rw [List.length_replicate] at hj
      simp [madeCells, hz1, Value.cells, hj, Nat.mod_one])
    rw [List.length_replicate] at h
    exact h

set_option maxHeartbeats 80000000 in
set_option maxRecDepth 100000 in
theorem blockCuts_any (f : Fr) (x x1 : SV) (ps : List (Int × Int)) (P : List ByteArray) (fill : Int) (w : World) (hI : In EP w (sv x) ps) (hlen : ps.length * 16 ≤ 140737488351232) (hI1 : In ES w (sv x1) P) (hPl : P.length * 16 ≤ 140737488351232) (hz : ∀ s ∈ P, s.size ≤ 140737488351232) :
    Calls Try.prog 3 #[.agg (fv f (sv x)), sv x1, .int .i64 fill] w fun e w' => e = .returned (.bool true) ∧ Below w.heap.size w w' := by
  have H := made_hd f
  have hC1 : Hid (∀ W, Below w.heap.size w W → Calls Try.prog 8 #[.agg (fv f (sv x))] W fun e w' => ∃ yb yl yc, e = .returned (.agg (fv (madeF f) (.slice yb yl yc))) ∧ Hid (R EP w' (.slice yb yl yc) ps ∧ Below W.heap.size W w')) := fun W hb => by
    refine (made_any f x ps W (hI.below hb) (by omega)).mono ?_
    rintro e w' ⟨⟨yb, yl, yc⟩, rfl, q1, q2, q3⟩
    exact ⟨yb, yl, yc, rfl, q1, q3⟩
  obtain ⟨h, hh⟩ : ∃ h, madeF f = h := ⟨_, rfl⟩
  rw [hh] at H hC1
  clear hh
  have hOwn : Hid (∀ (q : Fr) (y : SV) (qs : List (Int × Int)) W, In EP W (sv y) qs → qs.length * 16 ≤ 140737488355328 → Calls Try.prog 11 #[.agg (fv q (sv y))] W fun e w' => ∃ yb yl yc, e = .returned (.agg (fv q (.slice yb yl yc))) ∧ Hid (R EP w' (.slice yb yl yc) qs ∧ Below W.heap.size W w')) := fun q y qs W hy hl => by
    refine (own_any q y qs W hy hl).mono ?_
    rintro e w' ⟨⟨yb, yl, yc⟩, rfl, q1, q2, q3⟩
    exact ⟨yb, yl, yc, rfl, q1, q3⟩
  have hOwnH : Hid (∀ (y : SV) W, In EP W (sv y) ps → Calls Try.prog 11 #[.agg (fv (nfl h) (sv y))] W fun e w' => ∃ yb yl yc, e = .returned (.agg (fv (nfl h) (.slice yb yl yc))) ∧ Hid (R EP w' (.slice yb yl yc) ps ∧ Below W.heap.size W w')) := fun y W hy => hOwn.out (nfl h) y ps W hy (by omega)
  simp only [fv, nfl, sv] at hOwnH
  clear hOwn
  have HH : Hid (Hd h) := H
  have HL : Hid (ps.length * 16 ≤ 140737488351232) := hlen
  have HI1 : Hid (In ES w (sv x1) P) := hI1
  have HZ : Hid (∀ s ∈ P, s.size ≤ 140737488351232) := hz
  have hand := and255 fill
  obtain ⟨N, hN⟩ : ∃ N : Nat, (131000 : Int) + fill % 256 = (N : Int) := ⟨((131000 : Int) + fill % 256).toNat, by omega⟩
  have r1 : (0 : Int) ≤ fill % 256 := by omega
  have r2 : fill % 256 < 256 := by omega
  obtain ⟨M, E, hE, hmk⟩ := made_zero N (by omega)
  have HE : Hid (E.size ≤ 131255) := by show E.size ≤ 131255; omega
  replace hmk : Hid _ := hmk
  obtain ⟨q256, h256⟩ : ∃ q, bits .and .i64 fill 256 = q := ⟨_, rfl⟩
  obtain ⟨xb, xl, xc⟩ := x
  obtain ⟨tb, tc, et, t1, t2⟩ := hI1.slice
  have B0 : Hid (Below w.heap.size w (w.alloc (.cells (fv f (.slice xb xl xc)) 24))) := bel1 w _
  have hIt : Hid (In ES w (.slice tb P.length tc) P) := by show In ES w _ P; rw [← et]; exact hI1
  rw [et]
  simp only [sv] at hC1 ⊢
  unfold fv at hC1 B0 ⊢
  clear H hI hI1 HI1 et hz hlen hE x1
  go_enter Try.func3, Try.ntmps3
  go_wp2_with fail
  go_at_call 8
  refine (hC1.out _ B0.out).mono ?_
  rintro e w1 ⟨yb, yl, yc, rfl, h1⟩
  have B1 : Hid (Below w.heap.size w w1) := B0.out.trans (h1.out.2.mono B0.out.size)
  go_wp2_with fail
  go_at_call 9
  refine (new_any _).mono ?_
  rintro e w2 ⟨rfl, J2, hb2⟩
  have bA := bel1 w1 (.cells (fv (nfl h) (.slice yb yl yc)) 24)
  have J2' : Jn w2 (w1.heap.size + 1) (.slice none 0 0) .idle := by
    rw [size_al] at J2
    exact J2
  have b12 : Below w1.heap.size w1 w2 := bA.trans (hb2.mono (by simp))
  have C2 : Hid (Cb w w2 w1.heap.size (w1.heap.size + 1) (nfl h) (yb, yl, yc) ps (.slice none 0 0) [] (.slice none 0 0) .idle) :=
    ⟨B1.out.trans (b12.mono B1.out.size), (hb2.block _ (by simp)).trans (by rw [heap_al, if_pos rfl]; rfl), R.below h1.out.1 b12, R.nil _ _, J2', Nat.le_trans B1.out.size (by omega), fun k hk => by simp [Value.ownBlock] at hk, fun k hk => by simp [Value.ownBlock] at hk⟩
  clear J2 J2' hb2 bA b12 h1 B0 B1 hC1
  go_wp2_with fail
  go_at_call 10
  refine (first_any w2).mono ?_
  rintro e w3 ⟨rfl, hb⟩
  have C3 : Hid _ := C2.out.below hb
  clear hb C2
  obtain ⟨vb, vc, w4, hrun, hR, hG⟩ := app okS w3 (.slice none 0 0) [] (R.nil _ _) (.slice tb P.length tc) P (hIt.out.below C3.out.bel) (by simp only [ES, List.length_nil, Nat.zero_add]; omega)
  simp only [List.length_nil, Nat.zero_add, List.nil_append] at hrun hR hG
  have hb4 : Below w3.heap.size w3 w4 := hG.fresh
  have C4 : Hid (Cb w w4 w1.heap.size (w1.heap.size + 1) (nfl h) (yb, yl, yc) ps (.slice vb P.length vc) P (.slice none 0 0) .idle) := ⟨(C3.out.below hb4).bel, (C3.out.below hb4).fh, (C3.out.below hb4).rh, hR, (C3.out.below hb4).j, C3.out.lb, C3.out.ls, fun k hk => Nat.le_trans C3.out.bel.size (hG.new k hk)⟩
  obtain ⟨v1, v2⟩ := hR.cap
  replace hrun : Hid _ := hrun
  clear hR hG hb4 C3
  go_upto_if 39 with (at_builtin; refine Lib.wpList_append_run _ rfl _ _ _ _ rfl _ _ rfl rfl _ _ hrun.out ?_)
  go_cut [9] from 22 (fun v wx => ∃ ub uc, ∃ L1 : List ByteArray, v = .slice ub L1.length uc ∧ Hid (Cb w wx w1.heap.size (w1.heap.size + 1) (nfl h) (yb, yl, yc) ps (.slice ub L1.length uc) L1 (.slice none 0 0) .idle ∧ 0 < L1.length ∧ L1.length * 16 ≤ 140737488351232 ∧ ∀ s ∈ L1, s.size ≤ 140737488351232))
  case first =>
    by_cases hP0 : P.length = 0
    · obtain rfl : P = [] := List.eq_nil_of_length_eq_zero hP0
      simp only [List.length_nil] at C4 ⊢
      have C4' := C4.out.below (bel1 w4 (.cells #[.string ⟨#[]⟩] 9))
      obtain ⟨ub, uc, w5, hrun2, hR2, hG2⟩ := app okS (w4.alloc (.cells #[.string ⟨#[]⟩] 9)) (.slice vb 0 vc) [] C4'.rs (.slice (some ⟨w4.heap.size, 0, none⟩) 1 1) [⟨#[]⟩] (in_one _ _ _ _ _ _ (heap_alloc_new _ _) rfl) (by decide)
      simp only [List.length_nil, List.length_singleton, Nat.zero_add, List.nil_append] at hrun2 hR2 hG2
      have C5 : Hid _ := C4'.grow hG2 hR2
      replace hrun2 : Hid _ := hrun2
      clear C4' hR2 hG2 hP0 hrun
      go_wp2_with (at_builtin; refine Lib.wpList_append_run _ rfl _ _ _ _ rfl _ _ rfl rfl _ _ hrun2.out ?_)
      go_meet
      case rel =>
        refine ⟨ub, uc, [⟨#[]⟩], rfl, ⟨C5.out, by decide, by decide, ?_⟩⟩
        intro s hs
        simp at hs
        subst hs
        decide
    · have hz0 : ((P.length : Int) == 0) = false := beq_eq_false_iff_ne.2 (by omega)
      have HQ : Hid (0 < P.length ∧ P.length * 16 ≤ 140737488351232) := ⟨by omega, hPl⟩
      clear hP0 hPl
      go_wp2_with fail
      go_meet
      case rel => exact ⟨vb, vc, P, rfl, C4.out, HQ.out.1, HQ.out.2, HZ.out⟩
  case rest =>
    obtain ⟨ub, uc, L1, rfl, C5⟩ := hcut
    clear hrun C4 HZ hPl t1 t2 v1 v2 hIt
    obtain ⟨v1, v2⟩ := C5.out.1.rs.cap
    obtain ⟨hmk1, hmk2⟩ := hmk.out wc
    have C6 : Hid (Cb w (wc.alloc (.cells M 5)) w1.heap.size (w1.heap.size + 1) (nfl h) (yb, yl, yc) ps (.slice ub L1.length uc) L1 (.slice none 0 0) .idle ∧ 0 < L1.length ∧ L1.length * 16 ≤ 140737488351232 ∧ ∀ s ∈ L1, s.size ≤ 140737488351232) := ⟨C5.out.1.below (bel1 wc _), C5.out.2⟩
    have hN' : 131000 + fill % 256 = (N : Int) := hN
    clear hmk C5
    go_upto_if 50 with fail
    clear hmk1 hmk2 hand hN hN'
    obtain ⟨w6, hw6⟩ : ∃ w6, wc.alloc (.cells M 5) = w6 := ⟨_, rfl⟩
    rw [hw6] at C6 ⊢
    clear hw6
    go_cut [9] from 22 (fun v wx => ∃ ub uc, ∃ L1 : List ByteArray, v = .slice ub L1.length uc ∧ Hid (Cb w wx w1.heap.size (w1.heap.size + 1) (nfl h) (yb, yl, yc) ps (.slice ub L1.length uc) L1 (.slice none 0 0) .idle ∧ 0 < L1.length ∧ L1.length * 16 ≤ 140737488355328 ∧ ∀ s ∈ L1, s.size ≤ 140737488351232))
    case first =>
      cases hq : (q256 != 0)
      · go_wp2_with fail
        go_meet
        case rel => exact ⟨ub, uc, L1, rfl, C6.out.1, C6.out.2.1, by have := C6.out.2.2.1; omega, C6.out.2.2.2⟩
      · have C6' := C6.out.1.below (bel1 w6 (.cells #[.string E] 9))
        obtain ⟨ub2, uc2, w7, hrun2, hR2, hG2⟩ := app okS (w6.alloc (.cells #[.string E] 9)) (.slice ub L1.length uc) L1 C6'.rs (.slice (some ⟨w6.heap.size, 0, none⟩) 1 1) [E] (in_one _ _ _ _ _ _ (heap_alloc_new _ _) rfl) (by have := C6.out.2.2.1; simp only [ES, List.length_singleton]; omega)
        have C7 : Hid _ := C6'.grow hG2 hR2
        replace hrun2 : Hid _ := hrun2
        clear C6' hR2 hG2
        go_wp2_with (at_builtin; refine Lib.wpList_append_run _ rfl _ _ _ _ rfl _ _ rfl rfl _ _ hrun2.out ?_)
        go_meet
        case rel =>
          obtain ⟨k1, k2, k3, k4⟩ := C6.out
          refine ⟨ub2, uc2, L1 ++ [E], ?_, ⟨?_, ?_, ?_, ?_⟩⟩
          · simp
          · have := C7.out
            simpa using this
          · simp
          · simp only [List.length_append, List.length_singleton]; omega
          · intro s hs
            rcases List.mem_append.1 hs with hs | hs
            · exact k4 s hs
            · simp at hs
              subst hs
              have := HE.out
              omega
    case rest =>
      obtain ⟨ub2, uc2, L, rfl, C7⟩ := hcut
      obtain ⟨w7, hw7⟩ : ∃ w7, wc = w7 := ⟨_, rfl⟩
      obtain ⟨v1', v2'⟩ := C7.out.1.rs.cap
      clear C6 HE v1 v2
      rw [hw7] at C7 ⊢
      clear hw7
      go_upto_region 12 with fail
      go_cut [11] from 22 (fun sv wx => sv = .string ⟨#[]⟩ ∧ wx = w7)
      case first =>
        go_wp2_with fail
        go_meet
        case rel => exact ⟨rfl, rfl⟩
      obtain ⟨rfl, hwx⟩ := hcut
      rw [hwx]
      clear hwx
      go_upto_region 13 with fail
      go_cut [12] from 22 (fun iv wx => iv = .int .i64 0 ∧ wx = w7)
      case first =>
        go_wp2_with fail
        go_meet
        case rel => exact ⟨rfl, rfl⟩
      obtain ⟨rfl, hwx⟩ := hcut
      rw [hwx]
      clear hwx
      go_wp2_with fail
      go_loopw [11, 12] (fun sv11 iv wr => ∃ (i : Nat) (S : ByteArray), iv = .int .i64 (i : Int) ∧ sv11 = .string S ∧ i ≤ L.length ∧ Hid (S = bt (sumL L i) ∧ (sumL L i).length ≤ 131072 ∧ ∃ s st, Cb w wr w1.heap.size (w1.heap.size + 1) (nfl h) (yb, yl, yc) ps (.slice ub2 L.length uc2) L s st ∧ Ct h L i st)) (fun _ iv _ => L.length - (intOf iv).toNat)
      case atStart => exact ⟨0, ⟨#[]⟩, rfl, rfl, Nat.zero_le _, rfl, by simp [sumL_zero], _, _, C7.out.1, .inl ⟨rfl, rfl⟩⟩
      case round =>
        obtain ⟨i, S, rfl, rfl, hiL, hinv⟩ := hrel
        have C8 : Hid (0 < L.length ∧ L.length * 16 ≤ 140737488355328 ∧ ∀ s ∈ L, s.size ≤ 140737488351232) := C7.out.2
        clear C7
        by_cases hlt : i < L.length
        · obtain ⟨hS, hSl, s, st, hB, hat⟩ := hinv.out
          obtain ⟨gs, c', e1, lgs, hcell⟩ := rs_get hB.rs i hlt
          injection e1 with e1 e2 e3
          subst e1
          clear e3
          try clear e2
          obtain ⟨D, hD⟩ : ∃ D, L[i] = D := ⟨_, rfl⟩
          have hDz : D.size ≤ 140737488351232 := by rw [← hD]; exact C8.out.2.2 _ (List.getElem_mem hlt)
          rw [hD] at hcell
          have hSz : S.size ≤ 131072 := by rw [hS, bt_size]; exact hSl
          have hsum : Hid ((sumL L (i + 1)).length = S.size + D.size ∧ bt (sumL L (i + 1)) = S ++ D) := by
            constructor
            · rw [sumL_succ L i hlt, List.length_append, len_data, hD, hS, bt_size]
            · rw [sumL_succ L i hlt, hS, bt_app, hD]
          have HS : Hid (S = bt (sumL L i) ∧ (sumL L i).length ≤ 131072) := ⟨hS, hSl⟩
          have HB : Hid (Cb w wr w1.heap.size (w1.heap.size + 1) (nfl h) (yb, yl, yc) ps (.slice (some ⟨gs, 0, none⟩) L.length uc2) L s st) := hB
          have HAT : Hid (Ct h L i st) := hat
          have HD : Hid (∀ hh, L[i]'hh = D) := fun _ => hD
          obtain ⟨m0, m1, m2, m3, m4, m5, m6, m7, m8, m9, m10⟩ := hB.fh.cells
          have lg : w1.heap.size < wr.heap.size := hB.fh.lt
          simp only [nfl] at m0 m1 m2 m3 m4 m5 m6 m7 m8 m9 m10
          simp only [sv] at m10
          have bc : Hid (Below wr.heap.size wr (wr.alloc (.cells #[.int .i64 9, .int .i64 0, .int .i64 h.st, .string D, .int .i64 0, .int .i64 0, .bool false, .int .i64 0, .int .i64 0, .int .i64 0, .slice none 0 0] 24)).drew) := (bel1 wr _).drew
          have fc : Hid (FB (wr.alloc (.cells #[.int .i64 9, .int .i64 0, .int .i64 h.st, .string D, .int .i64 0, .int .i64 0, .bool false, .int .i64 0, .int .i64 0, .int .i64 0, .slice none 0 0] 24)).drew wr.heap.size (cont h.st 0 D) (.slice none 0 0)) := by
            show FB _ _ _ _
            unfold FB
            rw [heap_dr, heap_al, if_pos rfl]
            rfl
          have hgc : (i : Int) < (L.length : Int) := by omega
          have hcellH : Hid (wr.cell? ⟨gs, i, none⟩ = some (.string D)) := hcell
          clear hS hSl hB hat hD hinv
          go_upto_region 16 with fail
          go_cut [13] from 55 to 164 (fun x wx => x = .pointer (some ⟨wr.heap.size, 0, none⟩) ∧ wx = (wr.alloc (.cells #[.int .i64 9, .int .i64 0, .int .i64 h.st, .string D, .int .i64 0, .int .i64 0, .bool false, .int .i64 0, .int .i64 0, .int .i64 0, .slice none 0 0] 24)).drew)
          case first =>
            clear m0 m1 m3 m4 m5 m6 m7 m8 m9 m10
            go_region
            all_goals
              go_wp2_with fail
              go_meet
              case rel => exact ⟨rfl, rfl⟩
          case rest =>
            obtain ⟨rfl, hwx⟩ := hcut
            subst hwx
            have hsd : ¬ (9223372036854775807 < S.size + D.size) := by omega
            by_cases h0 : i = 0
            · subst h0
              obtain rfl : st = .idle := by
                rcases HAT.out with ⟨_, rfl⟩ | ⟨e, _⟩ | ⟨e, rfl⟩
                · rfl
                · omega
                · rfl
              obtain rfl : s = .slice none 0 0 := HB.out.j.2
              clear HAT
              by_cases hla : 1 < L.length
              · skip
                have gl : ((0 : Int) == (L.length : Int) - 1) = false := beq_eq_false_iff_ne.2 (by omega)
                have HLA : Hid (0 + 1 < L.length) := (by omega : 0 + 1 < L.length)
                clear hla
                go_wp2_with fail
                go_at_call 11
                refine (hOwnH.out (yb, yl, yc) _ (R.isIn (R.below HB.out.rh bc.out))).mono ?_
                rintro e w2 ⟨zb, zl, zc, rfl, g2⟩
                have b2 : Below wr.heap.size wr w2 := bc.out.trans (g2.out.2.mono (Nat.le_of_lt (by show wr.heap.size < _; rw [size_dr, size_al]; omega)))
                have F2 : FB w2 wr.heap.size (cont h.st 0 D) (.slice none 0 0) := FB.below fc.out g2.out.2
                have F3 := FB.sets F2 (nfl h) (.slice zb zl zc)
                have b3 : Below wr.heap.size wr (sets w2 wr.heap.size (fsets (nfl h) (.slice zb zl zc))) := b2.trans (sets_below _ _ (Nat.le_refl _) _ _)
                have R3 : R EP (sets w2 wr.heap.size (fsets (nfl h) (.slice zb zl zc))) (.slice zb zl zc) ps := R.stays g2.out.1 fun k hk _ => sets_other _ _ (own_ne g2.out.1 F2 (by decide) k hk) _ _
                obtain ⟨c0, c1, c2, c3, c4, c5, c6, c7, c8, c9, c10⟩ := F2.cells
                obtain ⟨f0, f1, f2, f3, f4, f5, f6, f7, f8, f9, f10⟩ := F2.frozens
                have k3 : wr.heap.size < w2.heap.size := F2.lt
                obtain ⟨W3, hW3⟩ : ∃ W3, sets w2 wr.heap.size (fsets (nfl h) (.slice zb zl zc)) = W3 := ⟨_, rfl⟩
                rw [hW3] at F3 b3 R3
                replace F3 : Hid _ := F3
                replace b3 : Hid _ := b3
                replace R3 : Hid (R EP W3 (.slice zb zl zc) ps) := R3
                replace hW3 : Hid _ := hW3
                simp only [cont] at c0 c1 c2 c3 c4 c5 c6 c7 c8 c9 c10
                clear m0 m1 m2 m3 m4 m5 m6 m7 m8 m9 m10 hcell bc b2 F2 fc g2
                have hcell : W3.cell? ⟨gs, 0, none⟩ = some (.string D) := (b3.out.cell lgs).trans hcellH.out
                go_upto_region 19 with fail
                have hW3' := hW3.out
                simp only [fsets, sets, nfl, List.cons_append, List.nil_append, List.foldl_cons, List.foldl_nil] at hW3'
                rw [hW3']
                clear hW3' hW3 c0 c1 c2 c3 c4 c5 c6 c7 c8 c9 c10 f0 f1 f2 f3 f4 f5 f6 f7 f8 f9 f10 k3
                have c3 := FB.cell F3.out 3
                have f3 := FB.frozen F3.out 3
                have k3 : wr.heap.size < W3.heap.size := FB.lt F3.out
                have k4 : gs < W3.heap.size := by omega
                have F4 : FB (W3.setCell ⟨wr.heap.size, 3, none⟩ (.string D)) wr.heap.size { nfl h with data := D } (.slice zb zl zc) := by
                  unfold FB
                  rw [setCell_block _ _ _ _ _ _ _ F3.out]
                  rfl
                have b4 : Below wr.heap.size wr (W3.setCell ⟨wr.heap.size, 3, none⟩ (.string D)) := b3.out.setCell (p := ⟨wr.heap.size, 3, none⟩) (Nat.le_refl _) _
                have R4 : R EP (W3.setCell ⟨wr.heap.size, 3, none⟩ (.string D)) (.slice zb zl zc) ps := R.stays R3.out fun k hk _ => setCell_other _ _ _ _ _ (own_ne R3.out F3.out (by decide) k hk)
                obtain ⟨W4, hW4⟩ : ∃ W4, W3.setCell ⟨wr.heap.size, 3, none⟩ (.string D) = W4 := ⟨_, rfl⟩
                rw [hW4] at F4 b4 R4
                replace F4 : Hid _ := F4
                replace b4 : Hid _ := b4
                replace R4 : Hid (R EP W4 (.slice zb zl zc) ps) := R4
                replace hW4 : Hid _ := hW4
                simp only [nfl, fv] at c3
                go_upto_region 20 with fail
                rw [hW4.out]
                clear c3 f3 k3 k4 hcell hW4 F3 b3 R3
                have hcell : W4.cell? ⟨gs, 0, none⟩ = some (.string D) := (b4.out.cell lgs).trans hcellH.out
                have hPx : Hid (Calls Try.prog 12 #[.pointer (some ⟨w1.heap.size + 1, 0, none⟩), .agg (fv { h with fl := (bits .andNot .i64 h.fl 4), data := D } (sv (zb, zl, zc)))] W4 fun e w' => CPost h L 0 W4 (.slice none 0 0) (w1.heap.size + 1) e w') := by
                  have := cut_first HH.out hlt (by rw [HD.out]; omega) (ps := ps) (by have := HL.out; omega) _ (w1.heap.size + 1) (zb, zl, zc) (HB.out.j.below b4.out) (R.isIn R4.out) (bits .andNot .i64 h.fl 4) (by
                    have := HLA.out
                    rw [(fl_of HH.out.f0 HH.out.f1).a0]
                    simp; omega)
                  rw [HD.out] at this
                  exact this
                obtain ⟨c0, c1, c2, c3, c4, c5, c6, c7, c8, c9, c10⟩ := FB.cells F4.out
                have k3 : wr.heap.size < W4.heap.size := FB.lt F4.out
                have k4 : gs < W4.heap.size := by omega
                have HB7 : Hid _ := HB.out.below b4.out
                simp only [fv, sv] at hPx
                simp only [nfl] at c0 c1 c2 c3 c4 c5 c6 c7 c8 c9 c10
                clear F4 b4 R4 HB
                go_wp2_with fail
                go_at_call 12
                refine hPx.out.mono ?_
                intro e w7 hpost
                clear hPx c0 c1 c2 c3 c4 c5 c6 c7 c8 c9 c10 k3 k4 hcell
                by_cases hlong : 131072 < S.size + D.size
                · as_aux_lemma =>
                  have hp := hpost.1 (by rw [hsum.out.1]; exact hlong)
                  obtain ⟨⟨ob, ol, oc⟩, rfl, hpr⟩ := hp
                  obtain ⟨s7, B7⟩ := HB7.out.push hpr
                  obtain rfl : s7 = .slice none 0 0 := B7.j.2.1
                  have R7 : Hid (R EP w7 (.slice ob ol oc) []) := hpr.rp
                  replace B7 : Hid _ := B7
                  have hcat : (131072 : Int) < ((S ++ D).size : Int) := by rw [ByteArray.size_append]; omega
                  clear hpr hpost HB7
                  have b8 : Hid (Below w7.heap.size w7 ((w7.alloc (.cells #[.int .i64 0, .int .i64 0, .int .i64 0, .string ⟨#[]⟩, .int .i64 0, .int .i64 0, .bool false, .int .i64 0, .int .i64 0, .int .i64 0, .slice ob ol oc] 24)).alloc (.cells #[.int .i64 11, .int .i64 0] 32))) := bel2 w7 _ _
                  have k8 : Hid (FB ((w7.alloc (.cells #[.int .i64 0, .int .i64 0, .int .i64 0, .string ⟨#[]⟩, .int .i64 0, .int .i64 0, .bool false, .int .i64 0, .int .i64 0, .int .i64 0, .slice ob ol oc] 24)).alloc (.cells #[.int .i64 11, .int .i64 0] 32)) w7.heap.size Fr.zero (.slice ob ol oc)) := by
                    show FB _ _ _ _
                    unfold FB
                    rw [heap_al, if_neg (by simp), heap_al, if_pos rfl]
                    rfl
                  have y8 : Hid (((w7.alloc (.cells #[.int .i64 0, .int .i64 0, .int .i64 0, .string ⟨#[]⟩, .int .i64 0, .int .i64 0, .bool false, .int .i64 0, .int .i64 0, .int .i64 0, .slice ob ol oc] 24)).alloc (.cells #[.int .i64 11, .int .i64 0] 32)).heap[w7.heap.size + 1]? = some (.cells #[.int .i64 11, .int .i64 0] 32 (0, 0))) := fresh2 w7 _ _
                  simp only [Js.code, fv, Fr.zero, sv]
                  go_wp2_with fail
                  go_at_call 12
                  have B8 := B7.out.below b8.out
                  refine (push_broken _ (w1.heap.size + 1) (.slice none 0 0) 11 ⟨1, 4, 1, ⟨#[]⟩, 0, 0, false, 0, 0, 0⟩ (none, 0, 0) [] B8.j (.inl ⟨rfl, rfl⟩) (by decide)).mono ?_
                  rintro e w9 ⟨⟨ob2, ol2, oc2⟩, rfl, hpr⟩
                  obtain ⟨s9, B9⟩ := B8.push hpr
                  obtain rfl : s9 = .slice none 0 0 := B9.j.2.1
                  have k9 : Hid (FB w9 w7.heap.size Fr.zero (.slice ob ol oc)) := hpr.keep B8.j k8.out (by decide) (by decide)
                  have y9 : Hid (w9.heap[w7.heap.size + 1]? = some (.cells #[.int .i64 11, .int .i64 0] 32 (0, 0))) := hpr.keep B8.j y8.out (by decide) (by decide)
                  have R9 : Hid (R EP w9 (.slice ob ol oc) []) := by
                    have := R.below R7.out b8.out
                    refine R.stays this fun k hk _ => ?_
                    obtain ⟨c, hc⟩ := R.ty this k hk
                    rw [hpr.keep B8.j hc (by decide) (by decide), hc]
                  replace B9 : Hid _ := B9
                  clear hpr B8 B7 R7 b8 k8 y8
                  have b10 : Hid (Below w9.heap.size w9 ((w9.alloc (.cells #[.int .i64 0, .int .i64 0, .int .i64 0, .string ⟨#[]⟩, .int .i64 0, .int .i64 0, .bool false, .int .i64 0, .int .i64 0, .int .i64 0, .slice ob2 ol2 oc2] 24)).alloc (.cells #[.int .i64 11, .int .i64 0] 32))) := bel2 w9 _ _
                  have z10 : Hid (((w9.alloc (.cells #[.int .i64 0, .int .i64 0, .int .i64 0, .string ⟨#[]⟩, .int .i64 0, .int .i64 0, .bool false, .int .i64 0, .int .i64 0, .int .i64 0, .slice ob2 ol2 oc2] 24)).alloc (.cells #[.int .i64 11, .int .i64 0] 32)).heap[w9.heap.size + 1]? = some (.cells #[.int .i64 11, .int .i64 0] 32 (0, 0))) := fresh2 w9 _ _
                  have hSm : Hid (∀ W, Below w9.heap.size w9 W → Calls Try.prog 13 #[.agg (fv Fr.zero (sv (ob, ol, oc))), .agg (fv Fr.zero (sv (none, 0, 0)))] W fun e w' => e = .returned (.bool true) ∧ Below W.heap.size W w') := fun W hb => same_eq Fr.zero W (ob, ol, oc) (none, 0, 0) [] (R.isIn (R.below R9.out hb)) (.inl ⟨rfl, rfl⟩)
                  have e0 : w9.cell? ⟨w7.heap.size + 1, 0, none⟩ = some (.int .i64 11) := cell_blk y9.out 0
                  have e1 : w9.cell? ⟨w7.heap.size + 1, 1, none⟩ = some (.int .i64 0) := cell_blk y9.out 1
                  obtain ⟨c0, c1, c2, c3, c4, c5, c6, c7, c8, c9, c10⟩ := FB.cells k9.out
                  have l1 : w7.heap.size + 1 < w9.heap.size := heap_lt y9.out
                  have l2 : w7.heap.size < w9.heap.size := by omega
                  have l3 : w7.heap.size + 1 < w9.heap.size + 1 := by omega
                  simp only [Fr.zero] at c0 c1 c2 c3 c4 c5 c6 c7 c8 c9 c10
                  simp only [sv, fv, Fr.zero] at hSm
                  simp only [Js.code, fv, Fr.zero, sv]
                  go_wp2_with fail
                  go_at_call 13
                  refine (hSm.out _ b10.out).mono ?_
                  rintro e w11 ⟨rfl, hb⟩
                  have b11 := b10.out.trans (hb.mono b10.out.size)
                  have B11 : Hid _ := B9.out.below b11
                  have y11 : w11.heap[w7.heap.size + 1]? = some (.cells #[.int .i64 11, .int .i64 0] 32 (0, 0)) := (b11.block _ (heap_lt y9.out)).trans y9.out
                  have z11 : w11.heap[w9.heap.size + 1]? = some (.cells #[.int .i64 11, .int .i64 0] 32 (0, 0)) := (hb.block _ (heap_lt z10.out)).trans z10.out
                  clear c0 c1 c2 c3 c4 c5 c6 c7 c8 c9 c10 e0 e1 l1 l2 l3 hSm b10 z10 R9 B9 k9 y9 hb b11
                  have e0 : w11.cell? ⟨w7.heap.size + 1, 0, none⟩ = some (.int .i64 11) := cell_blk y11 0
                  have e1 : w11.cell? ⟨w7.heap.size + 1, 1, none⟩ = some (.int .i64 0) := cell_blk y11 1
                  have e2 : w11.cell? ⟨w9.heap.size + 1, 0, none⟩ = some (.int .i64 11) := cell_blk z11 0
                  have e3 : w11.cell? ⟨w9.heap.size + 1, 1, none⟩ = some (.int .i64 0) := cell_blk z11 1
                  clear y11 z11
                  go_wp2_with fail
                  go_at_call 14
                  refine (busy_any _ _ _ _ B11.out.j).mono ?_
                  rintro e w12 ⟨rfl, hb⟩
                  have B12 : Hid (Below w.heap.size w w12) := (B11.out.below hb).bel
                  clear hb
                  simp only [busyB]
                  go_wp2_with fail
                  go_ret
                  exact ⟨rfl, B12.out⟩
                · as_aux_lemma =>
                  have hcat : ¬ ((131072 : Int) < ((S ++ D).size : Int)) := by rw [ByteArray.size_append]; omega
                  obtain ⟨hh7, qs7, hh7s, hp⟩ := hpost.2.2 (by rw [hsum.out.1]; omega) HLA.out
                  obtain ⟨⟨ob, ol, oc⟩, rfl, hpr⟩ := hp
                  obtain ⟨s7, B7⟩ := HB7.out.push hpr
                  have B7' : Hid _ := (B7.below (bel2 w7 (.cells #[.int .i64 0, .int .i64 0, .int .i64 0, .string ⟨#[]⟩, .int .i64 0, .int .i64 0, .bool false, .int .i64 0, .int .i64 0, .int .i64 0, .slice ob ol oc] 24) (.cells #[.int .i64 0, .int .i64 0] 32)))
                  have HH7 : Hid (hh7.st = h.st) := hh7s
                  clear hpr hpost HB7 B7 hh7s
                  simp only [Js.code, fv, Fr.zero, sv]
                  go_wp2_with fail
                  go_roundw
                  case rel =>
                    refine ⟨0 + 1, S ++ D, by simp, rfl, by have := HLA.out; omega, hsum.out.2.symm, by rw [hsum.out.1]; omega, _, _, B7'.out, .inr (.inl ⟨by omega, HLA.out, _, _, rfl, HH7.out⟩)⟩
                  case measure => simp [intOf]; omega
              · skip
                have hL1 : L.length = 1 := by omega
                have gl : ((0 : Int) == (L.length : Int) - 1) = true := by rw [hL1]; rfl
                have HLA : Hid (0 + 1 = L.length) := (by omega : 0 + 1 = L.length)
                clear hla
                replace hL1 : Hid (L.length = 1) := hL1
                go_wp2_with fail
                go_at_call 11
                refine (hOwnH.out (yb, yl, yc) _ (R.isIn (R.below HB.out.rh bc.out))).mono ?_
                rintro e w2 ⟨zb, zl, zc, rfl, g2⟩
                have b2 : Below wr.heap.size wr w2 := bc.out.trans (g2.out.2.mono (Nat.le_of_lt (by show wr.heap.size < _; rw [size_dr, size_al]; omega)))
                have F2 : FB w2 wr.heap.size (cont h.st 0 D) (.slice none 0 0) := FB.below fc.out g2.out.2
                have F3 := FB.sets F2 (nfl h) (.slice zb zl zc)
                have b3 : Below wr.heap.size wr (sets w2 wr.heap.size (fsets (nfl h) (.slice zb zl zc))) := b2.trans (sets_below _ _ (Nat.le_refl _) _ _)
                have R3 : R EP (sets w2 wr.heap.size (fsets (nfl h) (.slice zb zl zc))) (.slice zb zl zc) ps := R.stays g2.out.1 fun k hk _ => sets_other _ _ (own_ne g2.out.1 F2 (by decide) k hk) _ _
                obtain ⟨c0, c1, c2, c3, c4, c5, c6, c7, c8, c9, c10⟩ := F2.cells
                obtain ⟨f0, f1, f2, f3, f4, f5, f6, f7, f8, f9, f10⟩ := F2.frozens
                have k3 : wr.heap.size < w2.heap.size := F2.lt
                obtain ⟨W3, hW3⟩ : ∃ W3, sets w2 wr.heap.size (fsets (nfl h) (.slice zb zl zc)) = W3 := ⟨_, rfl⟩
                rw [hW3] at F3 b3 R3
                replace F3 : Hid _ := F3
                replace b3 : Hid _ := b3
                replace R3 : Hid (R EP W3 (.slice zb zl zc) ps) := R3
                replace hW3 : Hid _ := hW3
                simp only [cont] at c0 c1 c2 c3 c4 c5 c6 c7 c8 c9 c10
                clear m0 m1 m2 m3 m4 m5 m6 m7 m8 m9 m10 hcell bc b2 F2 fc g2
                have hcell : W3.cell? ⟨gs, 0, none⟩ = some (.string D) := (b3.out.cell lgs).trans hcellH.out
                go_upto_region 19 with fail
                have hW3' := hW3.out
                simp only [fsets, sets, nfl, List.cons_append, List.nil_append, List.foldl_cons, List.foldl_nil] at hW3'
                rw [hW3']
                clear hW3' hW3 c0 c1 c2 c3 c4 c5 c6 c7 c8 c9 c10 f0 f1 f2 f3 f4 f5 f6 f7 f8 f9 f10 k3
                have c3 := FB.cell F3.out 3
                have f3 := FB.frozen F3.out 3
                have k3 : wr.heap.size < W3.heap.size := FB.lt F3.out
                have k4 : gs < W3.heap.size := by omega
                have F4 : FB (W3.setCell ⟨wr.heap.size, 3, none⟩ (.string D)) wr.heap.size { nfl h with data := D } (.slice zb zl zc) := by
                  unfold FB
                  rw [setCell_block _ _ _ _ _ _ _ F3.out]
                  rfl
                have b4 : Below wr.heap.size wr (W3.setCell ⟨wr.heap.size, 3, none⟩ (.string D)) := b3.out.setCell (p := ⟨wr.heap.size, 3, none⟩) (Nat.le_refl _) _
                have R4 : R EP (W3.setCell ⟨wr.heap.size, 3, none⟩ (.string D)) (.slice zb zl zc) ps := R.stays R3.out fun k hk _ => setCell_other _ _ _ _ _ (own_ne R3.out F3.out (by decide) k hk)
                obtain ⟨W4, hW4⟩ : ∃ W4, W3.setCell ⟨wr.heap.size, 3, none⟩ (.string D) = W4 := ⟨_, rfl⟩
                rw [hW4] at F4 b4 R4
                replace F4 : Hid _ := F4
                replace b4 : Hid _ := b4
                replace R4 : Hid (R EP W4 (.slice zb zl zc) ps) := R4
                replace hW4 : Hid _ := hW4
                simp only [nfl, fv] at c3
                go_upto_region 20 with fail
                rw [hW4.out]
                clear c3 f3 k3 k4 hcell hW4 F3 b3 R3
                have hcell : W4.cell? ⟨gs, 0, none⟩ = some (.string D) := (b4.out.cell lgs).trans hcellH.out
                have c1 := FB.cell F4.out 1
                have f1 := FB.frozen F4.out 1
                have k3 : wr.heap.size < W4.heap.size := FB.lt F4.out
                have F5 : FB (W4.setCell ⟨wr.heap.size, 1, none⟩ (.int .i64 (bits .or .i64 (bits .andNot .i64 h.fl 4) 4))) wr.heap.size { h with fl := (bits .or .i64 (bits .andNot .i64 h.fl 4) 4), data := D } (.slice zb zl zc) := by
                  unfold FB
                  rw [setCell_block _ _ _ _ _ _ _ F4.out]
                  rfl
                have b5 : Below wr.heap.size wr (W4.setCell ⟨wr.heap.size, 1, none⟩ (.int .i64 (bits .or .i64 (bits .andNot .i64 h.fl 4) 4))) := b4.out.setCell (p := ⟨wr.heap.size, 1, none⟩) (Nat.le_refl _) _
                have R5 : R EP (W4.setCell ⟨wr.heap.size, 1, none⟩ (.int .i64 (bits .or .i64 (bits .andNot .i64 h.fl 4) 4))) (.slice zb zl zc) ps := R.stays R4.out fun k hk _ => setCell_other _ _ _ _ _ (own_ne R4.out F4.out (by decide) k hk)
                obtain ⟨W5, hW5⟩ : ∃ W5, W4.setCell ⟨wr.heap.size, 1, none⟩ (.int .i64 (bits .or .i64 (bits .andNot .i64 h.fl 4) 4)) = W5 := ⟨_, rfl⟩
                rw [hW5] at F5 b5 R5
                replace F5 : Hid _ := F5
                replace b5 : Hid _ := b5
                replace R5 : Hid (R EP W5 (.slice zb zl zc) ps) := R5
                replace hW5 : Hid _ := hW5
                simp only [nfl, fv] at c1
                go_upto_region 22 with fail
                rw [hW5.out]
                clear c1 f1 k3 hcell hW5 F4 b4 R4
                have hcell : W5.cell? ⟨gs, 0, none⟩ = some (.string D) := (b5.out.cell lgs).trans hcellH.out
                have hPx : Hid (Calls Try.prog 12 #[.pointer (some ⟨w1.heap.size + 1, 0, none⟩), .agg (fv { h with fl := (bits .or .i64 (bits .andNot .i64 h.fl 4) 4), data := D } (sv (zb, zl, zc)))] W5 fun e w' => CPost h L 0 W5 (.slice none 0 0) (w1.heap.size + 1) e w') := by
                  have := cut_first HH.out hlt (by rw [HD.out]; omega) (ps := ps) (by have := HL.out; omega) _ (w1.heap.size + 1) (zb, zl, zc) (HB.out.j.below b5.out) (R.isIn R5.out) (bits .or .i64 (bits .andNot .i64 h.fl 4) 4) (by
                    have := HLA.out
                    rw [(fl_of HH.out.f0 HH.out.f1).a1]
                    simp; omega)
                  rw [HD.out] at this
                  exact this
                obtain ⟨c0, c1, c2, c3, c4, c5, c6, c7, c8, c9, c10⟩ := FB.cells F5.out
                have k3 : wr.heap.size < W5.heap.size := FB.lt F5.out
                have k4 : gs < W5.heap.size := by omega
                have HB7 : Hid _ := HB.out.below b5.out
                simp only [fv, sv] at hPx
                simp only [nfl] at c0 c1 c2 c3 c4 c5 c6 c7 c8 c9 c10
                clear F5 b5 R5 HB
                go_wp2_with fail
                go_at_call 12
                refine hPx.out.mono ?_
                intro e w7 hpost
                clear hPx c0 c1 c2 c3 c4 c5 c6 c7 c8 c9 c10 k3 k4 hcell
                by_cases hlong : 131072 < S.size + D.size
                · as_aux_lemma =>
                  have hp := hpost.1 (by rw [hsum.out.1]; exact hlong)
                  obtain ⟨⟨ob, ol, oc⟩, rfl, hpr⟩ := hp
                  obtain ⟨s7, B7⟩ := HB7.out.push hpr
                  obtain rfl : s7 = .slice none 0 0 := B7.j.2.1
                  have R7 : Hid (R EP w7 (.slice ob ol oc) []) := hpr.rp
                  replace B7 : Hid _ := B7
                  have hcat : (131072 : Int) < ((S ++ D).size : Int) := by rw [ByteArray.size_append]; omega
                  clear hpr hpost HB7
                  have b8 : Hid (Below w7.heap.size w7 ((w7.alloc (.cells #[.int .i64 0, .int .i64 0, .int .i64 0, .string ⟨#[]⟩, .int .i64 0, .int .i64 0, .bool false, .int .i64 0, .int .i64 0, .int .i64 0, .slice ob ol oc] 24)).alloc (.cells #[.int .i64 11, .int .i64 0] 32))) := bel2 w7 _ _
                  have k8 : Hid (FB ((w7.alloc (.cells #[.int .i64 0, .int .i64 0, .int .i64 0, .string ⟨#[]⟩, .int .i64 0, .int .i64 0, .bool false, .int .i64 0, .int .i64 0, .int .i64 0, .slice ob ol oc] 24)).alloc (.cells #[.int .i64 11, .int .i64 0] 32)) w7.heap.size Fr.zero (.slice ob ol oc)) := by
                    show FB _ _ _ _
                    unfold FB
                    rw [heap_al, if_neg (by simp), heap_al, if_pos rfl]
                    rfl
                  have y8 : Hid (((w7.alloc (.cells #[.int .i64 0, .int .i64 0, .int .i64 0, .string ⟨#[]⟩, .int .i64 0, .int .i64 0, .bool false, .int .i64 0, .int .i64 0, .int .i64 0, .slice ob ol oc] 24)).alloc (.cells #[.int .i64 11, .int .i64 0] 32)).heap[w7.heap.size + 1]? = some (.cells #[.int .i64 11, .int .i64 0] 32 (0, 0))) := fresh2 w7 _ _
                  simp only [Js.code, fv, Fr.zero, sv]
                  go_wp2_with fail
                  go_at_call 12
                  have B8 := B7.out.below b8.out
                  refine (push_broken _ (w1.heap.size + 1) (.slice none 0 0) 11 ⟨1, 4, 1, ⟨#[]⟩, 0, 0, false, 0, 0, 0⟩ (none, 0, 0) [] B8.j (.inl ⟨rfl, rfl⟩) (by decide)).mono ?_
                  rintro e w9 ⟨⟨ob2, ol2, oc2⟩, rfl, hpr⟩
                  obtain ⟨s9, B9⟩ := B8.push hpr
                  obtain rfl : s9 = .slice none 0 0 := B9.j.2.1
                  have k9 : Hid (FB w9 w7.heap.size Fr.zero (.slice ob ol oc)) := hpr.keep B8.j k8.out (by decide) (by decide)
                  have y9 : Hid (w9.heap[w7.heap.size + 1]? = some (.cells #[.int .i64 11, .int .i64 0] 32 (0, 0))) := hpr.keep B8.j y8.out (by decide) (by decide)
                  have R9 : Hid (R EP w9 (.slice ob ol oc) []) := by
                    have := R.below R7.out b8.out
                    refine R.stays this fun k hk _ => ?_
                    obtain ⟨c, hc⟩ := R.ty this k hk
                    rw [hpr.keep B8.j hc (by decide) (by decide), hc]
                  replace B9 : Hid _ := B9
                  clear hpr B8 B7 R7 b8 k8 y8
                  have b10 : Hid (Below w9.heap.size w9 ((w9.alloc (.cells #[.int .i64 0, .int .i64 0, .int .i64 0, .string ⟨#[]⟩, .int .i64 0, .int .i64 0, .bool false, .int .i64 0, .int .i64 0, .int .i64 0, .slice ob2 ol2 oc2] 24)).alloc (.cells #[.int .i64 11, .int .i64 0] 32))) := bel2 w9 _ _
                  have z10 : Hid (((w9.alloc (.cells #[.int .i64 0, .int .i64 0, .int .i64 0, .string ⟨#[]⟩, .int .i64 0, .int .i64 0, .bool false, .int .i64 0, .int .i64 0, .int .i64 0, .slice ob2 ol2 oc2] 24)).alloc (.cells #[.int .i64 11, .int .i64 0] 32)).heap[w9.heap.size + 1]? = some (.cells #[.int .i64 11, .int .i64 0] 32 (0, 0))) := fresh2 w9 _ _
                  have hSm : Hid (∀ W, Below w9.heap.size w9 W → Calls Try.prog 13 #[.agg (fv Fr.zero (sv (ob, ol, oc))), .agg (fv Fr.zero (sv (none, 0, 0)))] W fun e w' => e = .returned (.bool true) ∧ Below W.heap.size W w') := fun W hb => same_eq Fr.zero W (ob, ol, oc) (none, 0, 0) [] (R.isIn (R.below R9.out hb)) (.inl ⟨rfl, rfl⟩)
                  have e0 : w9.cell? ⟨w7.heap.size + 1, 0, none⟩ = some (.int .i64 11) := cell_blk y9.out 0
                  have e1 : w9.cell? ⟨w7.heap.size + 1, 1, none⟩ = some (.int .i64 0) := cell_blk y9.out 1
                  obtain ⟨c0, c1, c2, c3, c4, c5, c6, c7, c8, c9, c10⟩ := FB.cells k9.out
                  have l1 : w7.heap.size + 1 < w9.heap.size := heap_lt y9.out
                  have l2 : w7.heap.size < w9.heap.size := by omega
                  have l3 : w7.heap.size + 1 < w9.heap.size + 1 := by omega
                  simp only [Fr.zero] at c0 c1 c2 c3 c4 c5 c6 c7 c8 c9 c10
                  simp only [sv, fv, Fr.zero] at hSm
                  simp only [Js.code, fv, Fr.zero, sv]
                  go_wp2_with fail
                  go_at_call 13
                  refine (hSm.out _ b10.out).mono ?_
                  rintro e w11 ⟨rfl, hb⟩
                  have b11 := b10.out.trans (hb.mono b10.out.size)
                  have B11 : Hid _ := B9.out.below b11
                  have y11 : w11.heap[w7.heap.size + 1]? = some (.cells #[.int .i64 11, .int .i64 0] 32 (0, 0)) := (b11.block _ (heap_lt y9.out)).trans y9.out
                  have z11 : w11.heap[w9.heap.size + 1]? = some (.cells #[.int .i64 11, .int .i64 0] 32 (0, 0)) := (hb.block _ (heap_lt z10.out)).trans z10.out
                  clear c0 c1 c2 c3 c4 c5 c6 c7 c8 c9 c10 e0 e1 l1 l2 l3 hSm b10 z10 R9 B9 k9 y9 hb b11
                  have e0 : w11.cell? ⟨w7.heap.size + 1, 0, none⟩ = some (.int .i64 11) := cell_blk y11 0
                  have e1 : w11.cell? ⟨w7.heap.size + 1, 1, none⟩ = some (.int .i64 0) := cell_blk y11 1
                  have e2 : w11.cell? ⟨w9.heap.size + 1, 0, none⟩ = some (.int .i64 11) := cell_blk z11 0
                  have e3 : w11.cell? ⟨w9.heap.size + 1, 1, none⟩ = some (.int .i64 0) := cell_blk z11 1
                  clear y11 z11
                  go_wp2_with fail
                  go_at_call 14
                  refine (busy_any _ _ _ _ B11.out.j).mono ?_
                  rintro e w12 ⟨rfl, hb⟩
                  have B12 : Hid (Below w.heap.size w w12) := (B11.out.below hb).bel
                  clear hb
                  simp only [busyB]
                  go_wp2_with fail
                  go_ret
                  exact ⟨rfl, B12.out⟩
                · as_aux_lemma =>
                  have hcat : ¬ ((131072 : Int) < ((S ++ D).size : Int)) := by rw [ByteArray.size_append]; omega
                  obtain ⟨hh7, qs7, hp⟩ := hpost.2.1 (by rw [hsum.out.1]; omega) HLA.out
                  obtain ⟨⟨ob, ol, oc⟩, rfl, hpr⟩ := hp
                  rw [hsum.out.2]
                  obtain ⟨s7, B7⟩ := HB7.out.push hpr
                  have B7' : Hid _ := (B7.below (bel2 w7 (.cells (fv hh7 (.slice ob ol oc)) 24) (.cells #[.int .i64 0, .int .i64 0] 32)))
                  unfold fv at B7'
                  clear hpr hpost HB7 B7
                  simp only [Js.code, fv, sv]
                  go_wp2_with fail
                  go_roundw
                  case rel =>
                    refine ⟨0 + 1, S ++ D, by simp, rfl, by have := HLA.out; omega, hsum.out.2.symm, by rw [hsum.out.1]; omega, _, _, B7'.out, .inr (.inr ⟨HLA.out, rfl⟩)⟩
                  case measure => simp [intOf]; omega
            · have HATB : Hid (∃ hh qs, st = .busy hh qs (sumL L i) ∧ hh.st = h.st) := by
                rcases HAT.out with ⟨e, _⟩ | ⟨_, _, e⟩ | ⟨e, _⟩
                · exact absurd e h0
                · exact e
                · omega
              have g0 : ((i : Int) == 0) = false := beq_eq_false_iff_ne.2 (by omega)
              clear HAT
              by_cases hla : i + 1 < L.length
              · as_aux_lemma =>
                  have gl : ((i : Int) == (L.length : Int) - 1) = false := beq_eq_false_iff_ne.2 (by omega)
                  have HLA : Hid (i + 1 < L.length) := (by omega : i + 1 < L.length)
                  clear hla
                  obtain ⟨hh, qs, est, hhs⟩ := HATB.out
                  subst est
                  have bx : Hid (Below wr.heap.size wr (wr.alloc (.cells #[.int .i64 9, .int .i64 0, .int .i64 h.st, .string D, .int .i64 0, .int .i64 0, .bool false, .int .i64 0, .int .i64 0, .int .i64 0, .slice none 0 0] 24)).drew) := (bel1 wr _).drew
                  have hPx : Hid (Calls Try.prog 12 #[.pointer (some ⟨w1.heap.size + 1, 0, none⟩), .agg (fv (cont h.st 0 D) (.slice none 0 0))] (wr.alloc (.cells #[.int .i64 9, .int .i64 0, .int .i64 h.st, .string D, .int .i64 0, .int .i64 0, .bool false, .int .i64 0, .int .i64 0, .int .i64 0, .slice none 0 0] 24)).drew fun e w' => CPost h L i (wr.alloc (.cells #[.int .i64 9, .int .i64 0, .int .i64 h.st, .string D, .int .i64 0, .int .i64 0, .bool false, .int .i64 0, .int .i64 0, .int .i64 0, .slice none 0 0] 24)).drew s (w1.heap.size + 1) e w') := by
                    have := cut_next hlt (by rw [HD.out]; omega) HS.out.2 _ (w1.heap.size + 1) s hh qs (HB.out.j.below bx.out) hhs 0 (by
                      have := HLA.out
                      rw [(by decide +kernel : (bits .and .i64 (0 : Int) 4 == 0) = true)]
                      simp; omega)
                    rw [HD.out] at this
                    exact this
                  simp only [cont] at hPx
                  unfold fv at hPx
                  have HB7 : Hid _ := HB.out.below bx.out
                  clear hhs HATB hcellH bc fc m0 m1 m3 m4 m5 m6 m7 m8 m9 m10 bx HB
                  go_wp2_with fail
                  go_at_call 12
                  refine hPx.out.mono ?_
                  intro e w7 hpost
                  clear hPx m2 hcell
                  by_cases hlong : 131072 < S.size + D.size
                  · as_aux_lemma =>
                    have hp := hpost.1 (by rw [hsum.out.1]; exact hlong)
                    obtain ⟨⟨ob, ol, oc⟩, rfl, hpr⟩ := hp
                    obtain ⟨s7, B7⟩ := HB7.out.push hpr
                    obtain rfl : s7 = .slice none 0 0 := B7.j.2.1
                    have R7 : Hid (R EP w7 (.slice ob ol oc) []) := hpr.rp
                    replace B7 : Hid _ := B7
                    have hcat : (131072 : Int) < ((S ++ D).size : Int) := by rw [ByteArray.size_append]; omega
                    clear hpr hpost HB7
                    have b8 : Hid (Below w7.heap.size w7 ((w7.alloc (.cells #[.int .i64 0, .int .i64 0, .int .i64 0, .string ⟨#[]⟩, .int .i64 0, .int .i64 0, .bool false, .int .i64 0, .int .i64 0, .int .i64 0, .slice ob ol oc] 24)).alloc (.cells #[.int .i64 11, .int .i64 0] 32))) := bel2 w7 _ _
                    have k8 : Hid (FB ((w7.alloc (.cells #[.int .i64 0, .int .i64 0, .int .i64 0, .string ⟨#[]⟩, .int .i64 0, .int .i64 0, .bool false, .int .i64 0, .int .i64 0, .int .i64 0, .slice ob ol oc] 24)).alloc (.cells #[.int .i64 11, .int .i64 0] 32)) w7.heap.size Fr.zero (.slice ob ol oc)) := by
                      show FB _ _ _ _
                      unfold FB
                      rw [heap_al, if_neg (by simp), heap_al, if_pos rfl]
                      rfl
                    have y8 : Hid (((w7.alloc (.cells #[.int .i64 0, .int .i64 0, .int .i64 0, .string ⟨#[]⟩, .int .i64 0, .int .i64 0, .bool false, .int .i64 0, .int .i64 0, .int .i64 0, .slice ob ol oc] 24)).alloc (.cells #[.int .i64 11, .int .i64 0] 32)).heap[w7.heap.size + 1]? = some (.cells #[.int .i64 11, .int .i64 0] 32 (0, 0))) := fresh2 w7 _ _
                    simp only [Js.code, fv, Fr.zero, sv]
                    go_wp2_with fail
                    go_at_call 12
                    have B8 := B7.out.below b8.out
                    refine (push_broken _ (w1.heap.size + 1) (.slice none 0 0) 11 ⟨1, 4, 1, ⟨#[]⟩, 0, 0, false, 0, 0, 0⟩ (none, 0, 0) [] B8.j (.inl ⟨rfl, rfl⟩) (by decide)).mono ?_
                    rintro e w9 ⟨⟨ob2, ol2, oc2⟩, rfl, hpr⟩
                    obtain ⟨s9, B9⟩ := B8.push hpr
                    obtain rfl : s9 = .slice none 0 0 := B9.j.2.1
                    have k9 : Hid (FB w9 w7.heap.size Fr.zero (.slice ob ol oc)) := hpr.keep B8.j k8.out (by decide) (by decide)
                    have y9 : Hid (w9.heap[w7.heap.size + 1]? = some (.cells #[.int .i64 11, .int .i64 0] 32 (0, 0))) := hpr.keep B8.j y8.out (by decide) (by decide)
                    have R9 : Hid (R EP w9 (.slice ob ol oc) []) := by
                      have := R.below R7.out b8.out
                      refine R.stays this fun k hk _ => ?_
                      obtain ⟨c, hc⟩ := R.ty this k hk
                      rw [hpr.keep B8.j hc (by decide) (by decide), hc]
                    replace B9 : Hid _ := B9
                    clear hpr B8 B7 R7 b8 k8 y8
                    have b10 : Hid (Below w9.heap.size w9 ((w9.alloc (.cells #[.int .i64 0, .int .i64 0, .int .i64 0, .string ⟨#[]⟩, .int .i64 0, .int .i64 0, .bool false, .int .i64 0, .int .i64 0, .int .i64 0, .slice ob2 ol2 oc2] 24)).alloc (.cells #[.int .i64 11, .int .i64 0] 32))) := bel2 w9 _ _
                    have z10 : Hid (((w9.alloc (.cells #[.int .i64 0, .int .i64 0, .int .i64 0, .string ⟨#[]⟩, .int .i64 0, .int .i64 0, .bool false, .int .i64 0, .int .i64 0, .int .i64 0, .slice ob2 ol2 oc2] 24)).alloc (.cells #[.int .i64 11, .int .i64 0] 32)).heap[w9.heap.size + 1]? = some (.cells #[.int .i64 11, .int .i64 0] 32 (0, 0))) := fresh2 w9 _ _
                    have hSm : Hid (∀ W, Below w9.heap.size w9 W → Calls Try.prog 13 #[.agg (fv Fr.zero (sv (ob, ol, oc))), .agg (fv Fr.zero (sv (none, 0, 0)))] W fun e w' => e = .returned (.bool true) ∧ Below W.heap.size W w') := fun W hb => same_eq Fr.zero W (ob, ol, oc) (none, 0, 0) [] (R.isIn (R.below R9.out hb)) (.inl ⟨rfl, rfl⟩)
                    have e0 : w9.cell? ⟨w7.heap.size + 1, 0, none⟩ = some (.int .i64 11) := cell_blk y9.out 0
                    have e1 : w9.cell? ⟨w7.heap.size + 1, 1, none⟩ = some (.int .i64 0) := cell_blk y9.out 1
                    obtain ⟨c0, c1, c2, c3, c4, c5, c6, c7, c8, c9, c10⟩ := FB.cells k9.out
                    have l1 : w7.heap.size + 1 < w9.heap.size := heap_lt y9.out
                    have l2 : w7.heap.size < w9.heap.size := by omega
                    have l3 : w7.heap.size + 1 < w9.heap.size + 1 := by omega
                    simp only [Fr.zero] at c0 c1 c2 c3 c4 c5 c6 c7 c8 c9 c10
                    simp only [sv, fv, Fr.zero] at hSm
                    simp only [Js.code, fv, Fr.zero, sv]
                    go_wp2_with fail
                    go_at_call 13
                    refine (hSm.out _ b10.out).mono ?_
                    rintro e w11 ⟨rfl, hb⟩
                    have b11 := b10.out.trans (hb.mono b10.out.size)
                    have B11 : Hid _ := B9.out.below b11
                    have y11 : w11.heap[w7.heap.size + 1]? = some (.cells #[.int .i64 11, .int .i64 0] 32 (0, 0)) := (b11.block _ (heap_lt y9.out)).trans y9.out
                    have z11 : w11.heap[w9.heap.size + 1]? = some (.cells #[.int .i64 11, .int .i64 0] 32 (0, 0)) := (hb.block _ (heap_lt z10.out)).trans z10.out
                    clear c0 c1 c2 c3 c4 c5 c6 c7 c8 c9 c10 e0 e1 l1 l2 l3 hSm b10 z10 R9 B9 k9 y9 hb b11
                    have e0 : w11.cell? ⟨w7.heap.size + 1, 0, none⟩ = some (.int .i64 11) := cell_blk y11 0
                    have e1 : w11.cell? ⟨w7.heap.size + 1, 1, none⟩ = some (.int .i64 0) := cell_blk y11 1
                    have e2 : w11.cell? ⟨w9.heap.size + 1, 0, none⟩ = some (.int .i64 11) := cell_blk z11 0
                    have e3 : w11.cell? ⟨w9.heap.size + 1, 1, none⟩ = some (.int .i64 0) := cell_blk z11 1
                    clear y11 z11
                    go_wp2_with fail
                    go_at_call 14
                    refine (busy_any _ _ _ _ B11.out.j).mono ?_
                    rintro e w12 ⟨rfl, hb⟩
                    have B12 : Hid (Below w.heap.size w w12) := (B11.out.below hb).bel
                    clear hb
                    simp only [busyB]
                    go_wp2_with fail
                    go_ret
                    exact ⟨rfl, B12.out⟩
                  · as_aux_lemma =>
                    have hcat : ¬ ((131072 : Int) < ((S ++ D).size : Int)) := by rw [ByteArray.size_append]; omega
                    obtain ⟨hh7, qs7, hh7s, hp⟩ := hpost.2.2 (by rw [hsum.out.1]; omega) HLA.out
                    obtain ⟨⟨ob, ol, oc⟩, rfl, hpr⟩ := hp
                    obtain ⟨s7, B7⟩ := HB7.out.push hpr
                    have B7' : Hid _ := (B7.below (bel2 w7 (.cells #[.int .i64 0, .int .i64 0, .int .i64 0, .string ⟨#[]⟩, .int .i64 0, .int .i64 0, .bool false, .int .i64 0, .int .i64 0, .int .i64 0, .slice ob ol oc] 24) (.cells #[.int .i64 0, .int .i64 0] 32)))
                    have HH7 : Hid (hh7.st = h.st) := hh7s
                    clear hpr hpost HB7 B7 hh7s
                    simp only [Js.code, fv, Fr.zero, sv]
                    go_wp2_with fail
                    go_roundw
                    case rel =>
                      refine ⟨i + 1, S ++ D, by simp, rfl, by have := HLA.out; omega, hsum.out.2.symm, by rw [hsum.out.1]; omega, _, _, B7'.out, .inr (.inl ⟨by omega, HLA.out, _, _, rfl, HH7.out⟩)⟩
                    case measure => simp [intOf]; omega
              · as_aux_lemma =>
                  have hiL1 : i + 1 = L.length := by omega
                  have gl : ((i : Int) == (L.length : Int) - 1) = true := beq_iff_eq.2 (by omega)
                  have HLA : Hid (i + 1 = L.length) := (by omega : i + 1 = L.length)
                  clear hla
                  clear hiL1
                  obtain ⟨hh, qs, est, hhs⟩ := HATB.out
                  subst est
                  have bx : Hid (Below wr.heap.size wr (wr.alloc (.cells #[.int .i64 9, .int .i64 4, .int .i64 h.st, .string D, .int .i64 0, .int .i64 0, .bool false, .int .i64 0, .int .i64 0, .int .i64 0, .slice none 0 0] 24)).drew) := (bel1 wr _).drew
                  have hPx : Hid (Calls Try.prog 12 #[.pointer (some ⟨w1.heap.size + 1, 0, none⟩), .agg (fv (cont h.st 4 D) (.slice none 0 0))] (wr.alloc (.cells #[.int .i64 9, .int .i64 4, .int .i64 h.st, .string D, .int .i64 0, .int .i64 0, .bool false, .int .i64 0, .int .i64 0, .int .i64 0, .slice none 0 0] 24)).drew fun e w' => CPost h L i (wr.alloc (.cells #[.int .i64 9, .int .i64 4, .int .i64 h.st, .string D, .int .i64 0, .int .i64 0, .bool false, .int .i64 0, .int .i64 0, .int .i64 0, .slice none 0 0] 24)).drew s (w1.heap.size + 1) e w') := by
                    have := cut_next hlt (by rw [HD.out]; omega) HS.out.2 _ (w1.heap.size + 1) s hh qs (HB.out.j.below bx.out) hhs 4 (by
                      have := HLA.out
                      rw [(by decide +kernel : (bits .and .i64 (4 : Int) 4 == 0) = false)]
                      simp; omega)
                    rw [HD.out] at this
                    exact this
                  simp only [cont] at hPx
                  unfold fv at hPx
                  have HB7 : Hid _ := HB.out.below bx.out
                  clear hhs HATB hcellH bc fc m0 m1 m3 m4 m5 m6 m7 m8 m9 m10 bx HB
                  go_wp2_with fail
                  go_at_call 12
                  refine hPx.out.mono ?_
                  intro e w7 hpost
                  clear hPx m2 hcell
                  by_cases hlong : 131072 < S.size + D.size
                  · as_aux_lemma =>
                    have hp := hpost.1 (by rw [hsum.out.1]; exact hlong)
                    obtain ⟨⟨ob, ol, oc⟩, rfl, hpr⟩ := hp
                    obtain ⟨s7, B7⟩ := HB7.out.push hpr
                    obtain rfl : s7 = .slice none 0 0 := B7.j.2.1
                    have R7 : Hid (R EP w7 (.slice ob ol oc) []) := hpr.rp
                    replace B7 : Hid _ := B7
                    have hcat : (131072 : Int) < ((S ++ D).size : Int) := by rw [ByteArray.size_append]; omega
                    clear hpr hpost HB7
                    have b8 : Hid (Below w7.heap.size w7 ((w7.alloc (.cells #[.int .i64 0, .int .i64 0, .int .i64 0, .string ⟨#[]⟩, .int .i64 0, .int .i64 0, .bool false, .int .i64 0, .int .i64 0, .int .i64 0, .slice ob ol oc] 24)).alloc (.cells #[.int .i64 11, .int .i64 0] 32))) := bel2 w7 _ _
                    have k8 : Hid (FB ((w7.alloc (.cells #[.int .i64 0, .int .i64 0, .int .i64 0, .string ⟨#[]⟩, .int .i64 0, .int .i64 0, .bool false, .int .i64 0, .int .i64 0, .int .i64 0, .slice ob ol oc] 24)).alloc (.cells #[.int .i64 11, .int .i64 0] 32)) w7.heap.size Fr.zero (.slice ob ol oc)) := by
                      show FB _ _ _ _
                      unfold FB
                      rw [heap_al, if_neg (by simp), heap_al, if_pos rfl]
                      rfl
                    have y8 : Hid (((w7.alloc (.cells #[.int .i64 0, .int .i64 0, .int .i64 0, .string ⟨#[]⟩, .int .i64 0, .int .i64 0, .bool false, .int .i64 0, .int .i64 0, .int .i64 0, .slice ob ol oc] 24)).alloc (.cells #[.int .i64 11, .int .i64 0] 32)).heap[w7.heap.size + 1]? = some (.cells #[.int .i64 11, .int .i64 0] 32 (0, 0))) := fresh2 w7 _ _
                    simp only [Js.code, fv, Fr.zero, sv]
                    go_wp2_with fail
                    go_at_call 12
                    have B8 := B7.out.below b8.out
                    refine (push_broken _ (w1.heap.size + 1) (.slice none 0 0) 11 ⟨1, 4, 1, ⟨#[]⟩, 0, 0, false, 0, 0, 0⟩ (none, 0, 0) [] B8.j (.inl ⟨rfl, rfl⟩) (by decide)).mono ?_
                    rintro e w9 ⟨⟨ob2, ol2, oc2⟩, rfl, hpr⟩
                    obtain ⟨s9, B9⟩ := B8.push hpr
                    obtain rfl : s9 = .slice none 0 0 := B9.j.2.1
                    have k9 : Hid (FB w9 w7.heap.size Fr.zero (.slice ob ol oc)) := hpr.keep B8.j k8.out (by decide) (by decide)
                    have y9 : Hid (w9.heap[w7.heap.size + 1]? = some (.cells #[.int .i64 11, .int .i64 0] 32 (0, 0))) := hpr.keep B8.j y8.out (by decide) (by decide)
                    have R9 : Hid (R EP w9 (.slice ob ol oc) []) := by
                      have := R.below R7.out b8.out
                      refine R.stays this fun k hk _ => ?_
                      obtain ⟨c, hc⟩ := R.ty this k hk
                      rw [hpr.keep B8.j hc (by decide) (by decide), hc]
                    replace B9 : Hid _ := B9
                    clear hpr B8 B7 R7 b8 k8 y8
                    have b10 : Hid (Below w9.heap.size w9 ((w9.alloc (.cells #[.int .i64 0, .int .i64 0, .int .i64 0, .string ⟨#[]⟩, .int .i64 0, .int .i64 0, .bool false, .int .i64 0, .int .i64 0, .int .i64 0, .slice ob2 ol2 oc2] 24)).alloc (.cells #[.int .i64 11, .int .i64 0] 32))) := bel2 w9 _ _
                    have z10 : Hid (((w9.alloc (.cells #[.int .i64 0, .int .i64 0, .int .i64 0, .string ⟨#[]⟩, .int .i64 0, .int .i64 0, .bool false, .int .i64 0, .int .i64 0, .int .i64 0, .slice ob2 ol2 oc2] 24)).alloc (.cells #[.int .i64 11, .int .i64 0] 32)).heap[w9.heap.size + 1]? = some (.cells #[.int .i64 11, .int .i64 0] 32 (0, 0))) := fresh2 w9 _ _
                    have hSm : Hid (∀ W, Below w9.heap.size w9 W → Calls Try.prog 13 #[.agg (fv Fr.zero (sv (ob, ol, oc))), .agg (fv Fr.zero (sv (none, 0, 0)))] W fun e w' => e = .returned (.bool true) ∧ Below W.heap.size W w') := fun W hb => same_eq Fr.zero W (ob, ol, oc) (none, 0, 0) [] (R.isIn (R.below R9.out hb)) (.inl ⟨rfl, rfl⟩)
                    have e0 : w9.cell? ⟨w7.heap.size + 1, 0, none⟩ = some (.int .i64 11) := cell_blk y9.out 0
                    have e1 : w9.cell? ⟨w7.heap.size + 1, 1, none⟩ = some (.int .i64 0) := cell_blk y9.out 1
                    obtain ⟨c0, c1, c2, c3, c4, c5, c6, c7, c8, c9, c10⟩ := FB.cells k9.out
                    have l1 : w7.heap.size + 1 < w9.heap.size := heap_lt y9.out
                    have l2 : w7.heap.size < w9.heap.size := by omega
                    have l3 : w7.heap.size + 1 < w9.heap.size + 1 := by omega
                    simp only [Fr.zero] at c0 c1 c2 c3 c4 c5 c6 c7 c8 c9 c10
                    simp only [sv, fv, Fr.zero] at hSm
                    simp only [Js.code, fv, Fr.zero, sv]
                    go_wp2_with fail
                    go_at_call 13
                    refine (hSm.out _ b10.out).mono ?_
                    rintro e w11 ⟨rfl, hb⟩
                    have b11 := b10.out.trans (hb.mono b10.out.size)
                    have B11 : Hid _ := B9.out.below b11
                    have y11 : w11.heap[w7.heap.size + 1]? = some (.cells #[.int .i64 11, .int .i64 0] 32 (0, 0)) := (b11.block _ (heap_lt y9.out)).trans y9.out
                    have z11 : w11.heap[w9.heap.size + 1]? = some (.cells #[.int .i64 11, .int .i64 0] 32 (0, 0)) := (hb.block _ (heap_lt z10.out)).trans z10.out
                    clear c0 c1 c2 c3 c4 c5 c6 c7 c8 c9 c10 e0 e1 l1 l2 l3 hSm b10 z10 R9 B9 k9 y9 hb b11
                    have e0 : w11.cell? ⟨w7.heap.size + 1, 0, none⟩ = some (.int .i64 11) := cell_blk y11 0
                    have e1 : w11.cell? ⟨w7.heap.size + 1, 1, none⟩ = some (.int .i64 0) := cell_blk y11 1
                    have e2 : w11.cell? ⟨w9.heap.size + 1, 0, none⟩ = some (.int .i64 11) := cell_blk z11 0
                    have e3 : w11.cell? ⟨w9.heap.size + 1, 1, none⟩ = some (.int .i64 0) := cell_blk z11 1
                    clear y11 z11
                    go_wp2_with fail
                    go_at_call 14
                    refine (busy_any _ _ _ _ B11.out.j).mono ?_
                    rintro e w12 ⟨rfl, hb⟩
                    have B12 : Hid (Below w.heap.size w w12) := (B11.out.below hb).bel
                    clear hb
                    simp only [busyB]
                    go_wp2_with fail
                    go_ret
                    exact ⟨rfl, B12.out⟩
                  · as_aux_lemma =>
                    have hcat : ¬ ((131072 : Int) < ((S ++ D).size : Int)) := by rw [ByteArray.size_append]; omega
                    obtain ⟨hh7, qs7, hp⟩ := hpost.2.1 (by rw [hsum.out.1]; omega) HLA.out
                    obtain ⟨⟨ob, ol, oc⟩, rfl, hpr⟩ := hp
                    rw [hsum.out.2]
                    obtain ⟨s7, B7⟩ := HB7.out.push hpr
                    have B7' : Hid _ := (B7.below (bel2 w7 (.cells (fv hh7 (.slice ob ol oc)) 24) (.cells #[.int .i64 0, .int .i64 0] 32)))
                    unfold fv at B7'
                    clear hpr hpost HB7 B7
                    simp only [Js.code, fv, sv]
                    go_wp2_with fail
                    go_roundw
                    case rel =>
                      refine ⟨i + 1, S ++ D, by simp, rfl, by have := HLA.out; omega, hsum.out.2.symm, by rw [hsum.out.1]; omega, _, _, B7'.out, .inr (.inr ⟨HLA.out, rfl⟩)⟩
                    case measure => simp [intOf]; omega
        · obtain rfl : i = L.length := by omega
          have hge : ¬ ((L.length : Int) < (L.length : Int)) := by omega
          obtain ⟨_, _, s, st, hB, hat⟩ := hinv.out
          obtain rfl : st = .idle := by
            rcases hat with ⟨e, rfl⟩ | ⟨_, e, _⟩ | ⟨_, rfl⟩
            · rfl
            · omega
            · rfl
          have HB : Hid _ := hB
          have bB : Hid (Below w.heap.size w wr) := hB.bel
          clear hB hat hinv
          go_wp2_with fail
          go_at_call 14
          refine (busy_any _ _ _ _ HB.out.j).mono ?_
          rintro e w9 ⟨rfl, hb⟩
          have b9 : Hid (Below w.heap.size w w9) := bB.out.trans (hb.mono bB.out.size)
          clear hb
          simp only [busyB]
          go_wp2_with fail
          go_ret
          exact ⟨rfl, b9.out⟩
end Go.Proofs.Ytdgdjanchpfleaa
