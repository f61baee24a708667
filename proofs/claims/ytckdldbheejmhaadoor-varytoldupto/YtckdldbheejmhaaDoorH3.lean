/- VaryTold, walked. -/
import Derived.Test.YtckdldbheejmhaaDoorH2
import Derived.Test.YtckdldbheejmhaaDoorC2
import Derived.Test.YtckdldbheejmhaaDoorH0
namespace Go.Proofs.YtckdldbheejmhaaDoor
open Go.RowKit
set_option linter.unusedVariables false
set_option linter.unusedSimpArgs false
theorem ba_app (a b : ByteArray) : (a ++ b).data.toList = a.data.toList ++ b.data.toList := by
  rw [ByteArray.data_append, Array.toList_append]
theorem three_in (S : ByteArray) (w : World) : In EFd (w.alloc (.cells #[.string ⟨#[120]⟩, .string ⟨#[42]⟩, .bool false, .string ⟨#[118, 97, 114, 121]⟩, .string S, .bool false, .string ⟨#[118, 97, 114, 121]⟩, .string S, .bool false] 30)) (.slice (some ⟨w.heap.size, 0, none⟩) 3 3) [⟨⟨#[120]⟩, ⟨#[42]⟩, false⟩, ⟨⟨#[118, 97, 114, 121]⟩, S, false⟩, ⟨⟨#[118, 97, 114, 121]⟩, S, false⟩] ∧ Below w.heap.size w (w.alloc (.cells #[.string ⟨#[120]⟩, .string ⟨#[42]⟩, .bool false, .string ⟨#[118, 97, 114, 121]⟩, .string S, .bool false, .string ⟨#[118, 97, 114, 121]⟩, .string S, .bool false] 30)) :=
  ⟨R.isIn (R.whole okFd [⟨⟨#[120]⟩, ⟨#[42]⟩, false⟩, ⟨⟨#[118, 97, 114, 121]⟩, S, false⟩, ⟨⟨#[118, 97, 114, 121]⟩, S, false⟩] (by simp) (by rw [heap_al, if_pos rfl]; rfl) rfl), bel1 w _⟩
theorem tdS_size (st : Bool) (L : List ByteArray) (h1 : L.length ≤ 1048576) (h2 : ∀ p ∈ L, p.size ≤ 1048576) : (tdS st L).size ≤ 1099516870658 := by
  have h3 := tdL_len L 1048576 h2
  have h4 := Nat.mul_le_mul_right (1048576 + 5) h1
  rw [tdS, bt_size, List.length_append]
  cases st
  · simp only [Bool.false_eq_true, if_false, List.length_nil]; omega
  · simp only [if_true, List.length_cons, List.length_nil]; omega
theorem told_facts (P : List Fd) (hT : totV P ≤ 1048576) : ∃ (L : List ByteArray) (st : Bool), L.length ≤ 1048576 ∧ L.Nodup ∧ (∀ p ∈ L, p ≠ noS ∧ p ≠ starS ∧ p.size ≤ 1048576) ∧
    (∀ (n0 : Int) (yb : Option Addr) (yn yc : Nat) (b0 : ByteArray) (W : World), In EFd W (.slice yb yn yc) P → Calls Tryd.prog 11 #[.agg #[.int .i64 n0, .slice yb yn yc, .string b0]] W (fun e w' => NmP L st W e w')) ∧
    ∀ S : ByteArray, S = tdS st L → ∀ (n0 : Int) (yb : Option Addr) (yn yc : Nat) (b0 : ByteArray) (W : World), In EFd W (.slice yb yn yc) [⟨⟨#[120]⟩, ⟨#[42]⟩, false⟩, ⟨⟨#[118, 97, 114, 121]⟩, S, false⟩, ⟨⟨#[118, 97, 114, 121]⟩, S, false⟩] → Calls Tryd.prog 11 #[.agg #[.int .i64 n0, .slice yb yn yc, .string b0]] W (fun e w' => NmP L st W e w') := by
  have h1 := allP_few P varyS
  have h2 := totV_len P
  have hL := nmL_len (allP (vsL P varyS))
  have hF : ∀ p ∈ nmL (allP (vsL P varyS)), p ≠ noS ∧ p ≠ starS ∧ p.size ≤ 1048576 := fun p hp => by
    obtain ⟨_, k1, k2, v, hv, k3⟩ := nm_ok hp
    have := vsL_mem hv
    exact ⟨k1, k2, by omega⟩
  refine ⟨nmL (allP (vsL P varyS)), decide (0 < cnt (allP (vsL P varyS)) starS), by omega, nmG_nodup _ _, hF, fun n0 yb yn yc b0 W hI => ?_, fun S hS n0 yb yn yc b0 W hI => ?_⟩
  · exact names_any n0 (yb, yn, yc) b0 P W hI (by omega) (fun v hv => by have := vsL_mem hv; omega) (by omega)
  · have hz : S.size ≤ 1099516870658 := by rw [hS]; exact tdS_size _ _ (by omega) fun p hp => (hF p hp).2.2
    have ev : vsL [⟨⟨#[120]⟩, ⟨#[42]⟩, false⟩, ⟨⟨#[118, 97, 114, 121]⟩, S, false⟩, ⟨⟨#[118, 97, 114, 121]⟩, S, false⟩] varyS = [S, S] := rfl
    have ha : (allP [S, S]).length ≤ 4398046511104 := by
      have e0 : allP [S, S] = (cutS S).map pcS ++ (cutS S).map pcS := by
        unfold allP
        rw [List.flatMap_cons, List.flatMap_cons, List.flatMap_nil, List.append_nil]
      have := cutL_len S.data.toList
      rw [← Lib.size_eq] at this
      rw [e0, List.length_append, List.length_map, cutS, List.length_map]
      omega
    have hh := names_any n0 (yb, yn, yc) b0 [⟨⟨#[120]⟩, ⟨#[42]⟩, false⟩, ⟨⟨#[118, 97, 114, 121]⟩, S, false⟩, ⟨⟨#[118, 97, 114, 121]⟩, S, false⟩] W hI (by simp) (fun v hv => by rw [ev] at hv; simp at hv; subst hv; omega) (by rw [ev]; exact ha)
    rw [ev] at hh
    obtain ⟨t1, t2⟩ := told_again (vsL P varyS) (decide (0 < cnt (allP (vsL P varyS)) starS))
    rw [← hS] at t1 t2
    refine Calls.mono hh ?_
    rintro e w' ⟨z, k1, k2, k3, k4⟩
    rw [t2] at k1
    rw [t1] at k3
    exact ⟨z, k1, k2, k3, k4⟩
set_option maxHeartbeats 40000000 in
set_option maxRecDepth 100000 in
theorem varyTold_any (n0 : Int) (y : SV) (b0 : ByteArray) (P : List Fd) (w : World) (hP : In EFd w (sv y) P) (hT : totV P ≤ 1048576) :
    Calls Tryd.prog 5 #[.agg (rsv n0 (sv y) b0)] w fun e w' => e = .returned (.bool true) ∧ Below w.heap.size w w' := by
  obtain ⟨w2, hw2⟩ : ∃ x, w.alloc (.cells (rsv n0 (sv y) b0) 35) = x := ⟨_, rfl⟩
  have B2 : Below w.heap.size w w2 := by rw [← hw2]; exact bel1 w _
  have BW : Hid (Below w.heap.size w w2) := B2
  have HB : Hid (RsB w2 w.heap.size n0 y b0) := by
    rw [← hw2]
    unfold RsB
    show _ = _
    rw [heap_al, if_pos rfl]
  have HI : Hid (∀ W, Below w2.heap.size w2 W → In EFd W (sv y) P) := fun W hb => (hP.below B2).below hb
  obtain ⟨yb, n, yc⟩ := y
  have HW2 : Hid (w.alloc (.cells #[.int .i64 n0, .slice yb n yc, .string b0] 35) = w2) := hw2
  obtain ⟨L, st, hL, hD, hF, hN, hT2⟩ := told_facts P hT
  have HL : Hid (L.length ≤ 1048576) := hL
  have HD : Hid L.Nodup := hD
  have HF : Hid _ := hF
  have HN : Hid _ := hN
  have HT2 : Hid _ := hT2
  simp only [rsv, sv] at HI ⊢
  clear hP hT hL hN hw2 B2 hD hF hT2
  cases st
  · next =>
      go_enter Tryd.func5, Tryd.ntmps5
      go_wp2_with fail
      go_at_call 8
      rw [HW2.out]
      refine (first_any w2).mono ?_
      rintro e w3 ⟨rfl, bx⟩
      have D0 : Hid (Below w2.heap.size w2 w3) := bx
      clear bx HW2
      have H2 : Hid (∀ W, Below w3.heap.size w3 W → Below w2.heap.size w2 W) := fun W hb => D0.out.trans (hb.mono D0.out.size)
      obtain ⟨z0, z1, z2, z3⟩ := (HB.out.below D0.out).cells
      have hq1 : Hid (Calls Tryd.prog 11 #[.agg #[.int .i64 n0, .slice yb n yc, .string b0]] w3 fun e w' => NmP L false w3 e w') := HN.out n0 yb n yc b0 w3 (HI.out _ D0.out)
      go_wp2_with fail
      go_at_call 11
      refine Calls.mono hq1.out ?_
      rintro e w6 ⟨⟨lb, m, lc⟩, rfl, bA, rA, oA⟩
      obtain ⟨q1, q2, q3⟩ := slice_len (R.isIn (show R ES w6 (.slice lb m lc) L from rA))
      have EM : Hid (m = L.length) := q1
      have hm : m ≤ 1048576 := by have := HL.out; omega
      have hlc : m ≤ lc := by omega
      have V6 : Hid (R ES w6 (.slice lb m lc) L ∧ Below w3.heap.size w3 w6) := ⟨rA, bA⟩
      clear q1 q2 q3 bA rA oA z0 z1 z2 z3 hq1
      simp only [sv]
      go_wp2_with fail
      go_loopw [5, 6, 7] (fun sv' iv _ wr => ∃ (i : Nat) (sb : ByteArray), sv' = .string sb ∧ iv = .int .i64 (i : Int) ∧ i ≤ m ∧ Hid (sb = bt (tdL (L.take i))) ∧ Hid (sb.size ≤ 1099516870656) ∧ Hid (R ES wr (.slice lb m lc) L ∧ Below w3.heap.size w3 wr)) (fun _ iv _ _ => m - (intOf iv).toNat)
      case atStart => exact ⟨0, ⟨#[]⟩, rfl, rfl, by omega, rfl, Nat.zero_le _, V6.out⟩
      case round =>
        obtain ⟨i, sb, rfl, rfl, hi, hb, hz, hs⟩ := hrel
        clear V6
        by_cases hlt : i < m
        · have hlt' : (i : Int) < (m : Int) := by omega
          have il : i < L.length := by have := EM.out; omega
          obtain ⟨p, hp⟩ : ∃ x, L[i] = x := ⟨_, rfl⟩
          have HP : Hid (p ≠ noS ∧ p ≠ starS ∧ p.size ≤ 1048576) := by
            have := HF.out L[i] (List.getElem_mem il)
            rw [hp] at this
            exact this
          obtain ⟨B1, o1, c1, e, c0⟩ := (R.isIn hs.out.1).str i il
          injection e with e1 e2 e3
          subst e1
          clear e2 e3
          rw [hp] at c0
          have C0 : Hid (∀ W, Below wr.heap.size wr W → W.cell? ⟨B1, o1 + i, none⟩ = some (.string p)) := c0
          have HK : Hid (∀ (k : Nat) W, k < i → Below wr.heap.size wr W → ∃ q, W.cell? ⟨B1, o1 + k, none⟩ = some (.string q) ∧ q ≠ p) := fun k W hk hb => by
            obtain ⟨B2, o2, c2, e, d0⟩ := (R.isIn hs.out.1).str k (by omega)
            injection e with e1 e2 e3
            injection e1 with e1
            injection e1 with e1 e4
            subst e1 e4
            refine ⟨_, d0 W hb, fun e => ?_⟩
            have := (List.getElem_inj HD.out).1 (e.trans hp.symm)
            omega
          have hnx : Hid (bt (tdL (L.take (i + 1))) = sb ++ ⟨#[32, 9]⟩ ++ grS p ++ ⟨#[32, 44, 44]⟩) := by
            show _ = _
            rw [List.take_succ_eq_append_getElem il, hp, tdL_app, hb.out]
            apply ba_eq
            rw [bt_list, ba_app, ba_app, ba_app, bt_list, grS, bt_list]
            simp [tdL]
          have hnz : Hid ((bt (tdL (L.take (i + 1)))).size ≤ 1099516870656) := by
            show _ ≤ _
            have h1 := tdL_len (L.take (i + 1)) 1048576 fun q hq => (HF.out q (List.mem_of_mem_take hq)).2.2
            have h2 : (L.take (i + 1)).length ≤ 1048576 := by rw [List.length_take]; have := HL.out; omega
            rw [bt_size]
            have h3 := Nat.mul_le_mul_right (1048576 + 5) h2
            omega
          clear c0 hb hp
          generalize hwo : wr = wo at hs C0 HK ⊢
          clear hwo wr
          go_upto_region 8 with fail
          go_wp2_with fail
          go_loopw [7] (fun kv W => ∃ k : Nat, kv = .int .i64 (k : Int) ∧ k ≤ i ∧ Hid (Below wo.heap.size wo W)) (fun kv _ => i - (intOf kv).toNat)
          case atStart => exact ⟨0, rfl, by omega, Below.refl _ _⟩
          case round =>
            obtain ⟨k, rfl, hk, hB⟩ := hrel
            by_cases hki : k < i
            · have hki' : (k : Int) < (i : Int) := by omega
              have hkm' : (k : Int) < (m : Int) := by omega
              obtain ⟨q, x0, hne⟩ := HK.out k _ hki hB.out
              have y0 := C0.out _ hB.out
              have q1 := str_ne hne
              clear hne
              go_wp2_with fail
              go_quiet (fail)
              go_wp2_with fail
              go_roundw
              case rel => exact ⟨k + 1, by simp, by omega, below_drewN hB.out _⟩
              case measure => simp [intOf]; omega
            · obtain rfl : k = i := by omega
              have hki' : ¬ (k : Int) < (k : Int) := by omega
              have y0 := C0.out _ hB.out
              have hp0 : p ≠ noS := HP.out.1
              have hp1 : p ≠ starS := HP.out.2.1
              have s0 : (p.toList == (⟨#[]⟩ : ByteArray).toList) = false := str_ne hp0
              have s1 : (p.toList == (⟨#[42]⟩ : ByteArray).toList) = false := str_ne hp1
              have s0e : p.toList.isEmpty = false := ne_empty hp0
              have s1e : (p.toList == [42]) = false := ne_star hp1
              have hsz : sb.size ≤ 1099516870656 := hz.out
              have hpz : p.size ≤ 1048576 := HP.out.2.2
              obtain ⟨V1, hV1⟩ : ∃ x, sb ++ (⟨#[32, 9]⟩ : ByteArray) = x := ⟨_, rfl⟩
              have z1 : V1.size = sb.size + 2 := by rw [← hV1, ByteArray.size_append]; rfl
              obtain ⟨G, hG⟩ : ∃ x, grS p = x := ⟨_, rfl⟩
              have zG : G.size = p.size := by rw [← hG, grS, bt_size, grL, List.length_map, ← Lib.size_eq]
              obtain ⟨V2, hV2⟩ : ∃ x, V1 ++ G = x := ⟨_, rfl⟩
              have z2 : V2.size = V1.size + G.size := by rw [← hV2, ByteArray.size_append]
              obtain ⟨V3, hV3⟩ : ∃ x, V2 ++ (⟨#[32, 44, 44]⟩ : ByteArray) = x := ⟨_, rfl⟩
              have k1 : ¬ sb.size + 2 > 9223372036854775807 := by omega
              have k2 : ¬ V1.size + G.size > 9223372036854775807 := by omega
              have k3 : ¬ V2.size + 3 > 9223372036854775807 := by omega
              rw [hG, hV1, hV2, hV3] at hnx
              rw [hnx.out] at hnz
              have hgr : Hid (Calls Tryd.prog 12 #[.string p] wr fun e w' => e = .returned (.string G) ∧ Below wr.heap.size wr w') := by
                have := great_any p wr (by omega)
                rw [hG] at this
                exact this
              have RW : Hid (R ES wr (.slice (some ⟨B1, o1, none⟩) m lc) L ∧ Below w3.heap.size w3 wr) := ⟨R.below hs.out.1 hB.out, hs.out.2.trans (hB.out.mono hs.out.2.size)⟩
              clear z1 zG z2 hG hpz hsz hp0 hp1 hz HK C0 hs HP
              go_wp2_with fail
              go_at_call 12
              refine Calls.mono hgr.out ?_
              rintro e w9 ⟨rfl, bX⟩
              have R9 : Hid (R ES w9 (.slice (some ⟨B1, o1, none⟩) m lc) L ∧ Below w3.heap.size w3 w9) := ⟨R.below RW.out.1 bX, RW.out.2.trans (bX.mono RW.out.2.size)⟩
              clear RW bX hB hgr
              go_wp2_with fail
              go_roundw
              case rel => exact ⟨k + 1, V3, by first | rfl | simp, by simp, by omega, hnx.out.symm, hnz.out, R9.out⟩
              case measure => simp [intOf]; omega
        · obtain rfl : i = m := by omega
          have hlt' : ¬ (i : Int) < (i : Int) := by omega
          obtain ⟨S, hS⟩ : ∃ x, sb = x := ⟨_, rfl⟩
          have HEQ : Hid (sb = S) := hS
          rw [hS]
          clear hS
          have HS : Hid (S = tdS false L) := by
            show _ = _
            rw [← HEQ.out, hb.out, tdS, List.take_of_length_le (by have := EM.out; omega)]
            rfl
          obtain ⟨wn, hwn⟩ : ∃ x, wr.alloc (.cells #[.string ⟨#[120]⟩, .string ⟨#[42]⟩, .bool false, .string ⟨#[118, 97, 114, 121]⟩, .string S, .bool false, .string ⟨#[118, 97, 114, 121]⟩, .string S, .bool false] 30) = x := ⟨_, rfl⟩
          have HWN : Hid (wr.alloc (.cells #[.string ⟨#[120]⟩, .string ⟨#[42]⟩, .bool false, .string ⟨#[118, 97, 114, 121]⟩, .string S, .bool false, .string ⟨#[118, 97, 114, 121]⟩, .string S, .bool false] 30) = wn) := hwn
          have hk3 := three_in S wr
          rw [hwn] at hk3
          have RL : Hid (R ES wn (.slice lb i lc) L ∧ Below w3.heap.size w3 wn) := ⟨R.below hs.out.1 hk3.2, hs.out.2.trans (hk3.2.mono hs.out.2.size)⟩
          have hq1 : Hid (Calls Tryd.prog 11 #[.agg #[.int .i64 0, .slice (some ⟨wr.heap.size, 0, none⟩) 3 3, .string ⟨#[]⟩]] wn fun e w' => NmP L false wn e w') := HT2.out S HS.out 0 _ _ _ _ _ hk3.1
          clear hk3 hwn hs HS HEQ
          go_upto_region 18 with fail
          go_wp2_with (refine wpList_build_run _ rfl 22 3 _ rfl #[(0, .agg #[.string ⟨#[120]⟩, .string ⟨#[42]⟩, .bool false]), (1, .agg #[.string ⟨#[118, 97, 114, 121]⟩, .string S, .bool false]), (2, .agg #[.string ⟨#[118, 97, 114, 121]⟩, .string S, .bool false])] (by rfl) _ _ (build3 _ _ _ _ _ _ _ _ _ _) ?_)
          go_at_call 11
          rw [HWN.out]
          refine Calls.mono hq1.out ?_
          rintro e w12 ⟨⟨ab', am', ac'⟩, rfl, bA, rA, oA⟩
          have R12 : Hid (R ES w12 (.slice ab' am' ac') L ∧ R ES w12 (.slice lb i lc) L ∧ Below w3.heap.size w3 w12) := ⟨rA, R.below RL.out.1 bA, RL.out.2.trans (bA.mono RL.out.2.size)⟩
          clear hq1 RL bA rA oA
          simp only [sv]
          go_wp2_with fail
          go_at_call 13
          refine (lsame_any (lb, i, lc) (ab', am', ac') L L w12 (R.isIn R12.out.2.1) (R.isIn R12.out.1)).mono ?_
          rintro e w14 ⟨rfl, bX⟩
          rw [eqB_true (rfl : L = L)]
          have BR : Hid (Below w.heap.size w w14) := by
            have h := H2.out _ (R12.out.2.2.trans (bX.mono R12.out.2.2.size))
            exact BW.out.trans (h.mono BW.out.size)
          clear bX R12
          go_wp2_with fail
          go_ret
          exact ⟨by first | rfl | simp, BR.out⟩
  · next =>
      go_enter Tryd.func5, Tryd.ntmps5
      go_wp2_with fail
      go_at_call 8
      rw [HW2.out]
      refine (first_any w2).mono ?_
      rintro e w3 ⟨rfl, bx⟩
      have D0 : Hid (Below w2.heap.size w2 w3) := bx
      clear bx HW2
      have H2 : Hid (∀ W, Below w3.heap.size w3 W → Below w2.heap.size w2 W) := fun W hb => D0.out.trans (hb.mono D0.out.size)
      obtain ⟨z0, z1, z2, z3⟩ := (HB.out.below D0.out).cells
      have hq1 : Hid (Calls Tryd.prog 11 #[.agg #[.int .i64 n0, .slice yb n yc, .string b0]] w3 fun e w' => NmP L true w3 e w') := HN.out n0 yb n yc b0 w3 (HI.out _ D0.out)
      go_wp2_with fail
      go_at_call 11
      refine Calls.mono hq1.out ?_
      rintro e w6 ⟨⟨lb, m, lc⟩, rfl, bA, rA, oA⟩
      obtain ⟨q1, q2, q3⟩ := slice_len (R.isIn (show R ES w6 (.slice lb m lc) L from rA))
      have EM : Hid (m = L.length) := q1
      have hm : m ≤ 1048576 := by have := HL.out; omega
      have hlc : m ≤ lc := by omega
      have V6 : Hid (R ES w6 (.slice lb m lc) L ∧ Below w3.heap.size w3 w6) := ⟨rA, bA⟩
      clear q1 q2 q3 bA rA oA z0 z1 z2 z3 hq1
      simp only [sv]
      go_wp2_with fail
      go_loopw [5, 6, 7] (fun sv' iv _ wr => ∃ (i : Nat) (sb : ByteArray), sv' = .string sb ∧ iv = .int .i64 (i : Int) ∧ i ≤ m ∧ Hid (sb = bt (tdL (L.take i))) ∧ Hid (sb.size ≤ 1099516870656) ∧ Hid (R ES wr (.slice lb m lc) L ∧ Below w3.heap.size w3 wr)) (fun _ iv _ _ => m - (intOf iv).toNat)
      case atStart => exact ⟨0, ⟨#[]⟩, rfl, rfl, by omega, rfl, Nat.zero_le _, V6.out⟩
      case round =>
        obtain ⟨i, sb, rfl, rfl, hi, hb, hz, hs⟩ := hrel
        clear V6
        by_cases hlt : i < m
        · have hlt' : (i : Int) < (m : Int) := by omega
          have il : i < L.length := by have := EM.out; omega
          obtain ⟨p, hp⟩ : ∃ x, L[i] = x := ⟨_, rfl⟩
          have HP : Hid (p ≠ noS ∧ p ≠ starS ∧ p.size ≤ 1048576) := by
            have := HF.out L[i] (List.getElem_mem il)
            rw [hp] at this
            exact this
          obtain ⟨B1, o1, c1, e, c0⟩ := (R.isIn hs.out.1).str i il
          injection e with e1 e2 e3
          subst e1
          clear e2 e3
          rw [hp] at c0
          have C0 : Hid (∀ W, Below wr.heap.size wr W → W.cell? ⟨B1, o1 + i, none⟩ = some (.string p)) := c0
          have HK : Hid (∀ (k : Nat) W, k < i → Below wr.heap.size wr W → ∃ q, W.cell? ⟨B1, o1 + k, none⟩ = some (.string q) ∧ q ≠ p) := fun k W hk hb => by
            obtain ⟨B2, o2, c2, e, d0⟩ := (R.isIn hs.out.1).str k (by omega)
            injection e with e1 e2 e3
            injection e1 with e1
            injection e1 with e1 e4
            subst e1 e4
            refine ⟨_, d0 W hb, fun e => ?_⟩
            have := (List.getElem_inj HD.out).1 (e.trans hp.symm)
            omega
          have hnx : Hid (bt (tdL (L.take (i + 1))) = sb ++ ⟨#[32, 9]⟩ ++ grS p ++ ⟨#[32, 44, 44]⟩) := by
            show _ = _
            rw [List.take_succ_eq_append_getElem il, hp, tdL_app, hb.out]
            apply ba_eq
            rw [bt_list, ba_app, ba_app, ba_app, bt_list, grS, bt_list]
            simp [tdL]
          have hnz : Hid ((bt (tdL (L.take (i + 1)))).size ≤ 1099516870656) := by
            show _ ≤ _
            have h1 := tdL_len (L.take (i + 1)) 1048576 fun q hq => (HF.out q (List.mem_of_mem_take hq)).2.2
            have h2 : (L.take (i + 1)).length ≤ 1048576 := by rw [List.length_take]; have := HL.out; omega
            rw [bt_size]
            have h3 := Nat.mul_le_mul_right (1048576 + 5) h2
            omega
          clear c0 hb hp
          generalize hwo : wr = wo at hs C0 HK ⊢
          clear hwo wr
          go_upto_region 8 with fail
          go_wp2_with fail
          go_loopw [7] (fun kv W => ∃ k : Nat, kv = .int .i64 (k : Int) ∧ k ≤ i ∧ Hid (Below wo.heap.size wo W)) (fun kv _ => i - (intOf kv).toNat)
          case atStart => exact ⟨0, rfl, by omega, Below.refl _ _⟩
          case round =>
            obtain ⟨k, rfl, hk, hB⟩ := hrel
            by_cases hki : k < i
            · have hki' : (k : Int) < (i : Int) := by omega
              have hkm' : (k : Int) < (m : Int) := by omega
              obtain ⟨q, x0, hne⟩ := HK.out k _ hki hB.out
              have y0 := C0.out _ hB.out
              have q1 := str_ne hne
              clear hne
              go_wp2_with fail
              go_quiet (fail)
              go_wp2_with fail
              go_roundw
              case rel => exact ⟨k + 1, by simp, by omega, below_drewN hB.out _⟩
              case measure => simp [intOf]; omega
            · obtain rfl : k = i := by omega
              have hki' : ¬ (k : Int) < (k : Int) := by omega
              have y0 := C0.out _ hB.out
              have hp0 : p ≠ noS := HP.out.1
              have hp1 : p ≠ starS := HP.out.2.1
              have s0 : (p.toList == (⟨#[]⟩ : ByteArray).toList) = false := str_ne hp0
              have s1 : (p.toList == (⟨#[42]⟩ : ByteArray).toList) = false := str_ne hp1
              have s0e : p.toList.isEmpty = false := ne_empty hp0
              have s1e : (p.toList == [42]) = false := ne_star hp1
              have hsz : sb.size ≤ 1099516870656 := hz.out
              have hpz : p.size ≤ 1048576 := HP.out.2.2
              obtain ⟨V1, hV1⟩ : ∃ x, sb ++ (⟨#[32, 9]⟩ : ByteArray) = x := ⟨_, rfl⟩
              have z1 : V1.size = sb.size + 2 := by rw [← hV1, ByteArray.size_append]; rfl
              obtain ⟨G, hG⟩ : ∃ x, grS p = x := ⟨_, rfl⟩
              have zG : G.size = p.size := by rw [← hG, grS, bt_size, grL, List.length_map, ← Lib.size_eq]
              obtain ⟨V2, hV2⟩ : ∃ x, V1 ++ G = x := ⟨_, rfl⟩
              have z2 : V2.size = V1.size + G.size := by rw [← hV2, ByteArray.size_append]
              obtain ⟨V3, hV3⟩ : ∃ x, V2 ++ (⟨#[32, 44, 44]⟩ : ByteArray) = x := ⟨_, rfl⟩
              have k1 : ¬ sb.size + 2 > 9223372036854775807 := by omega
              have k2 : ¬ V1.size + G.size > 9223372036854775807 := by omega
              have k3 : ¬ V2.size + 3 > 9223372036854775807 := by omega
              rw [hG, hV1, hV2, hV3] at hnx
              rw [hnx.out] at hnz
              have hgr : Hid (Calls Tryd.prog 12 #[.string p] wr fun e w' => e = .returned (.string G) ∧ Below wr.heap.size wr w') := by
                have := great_any p wr (by omega)
                rw [hG] at this
                exact this
              have RW : Hid (R ES wr (.slice (some ⟨B1, o1, none⟩) m lc) L ∧ Below w3.heap.size w3 wr) := ⟨R.below hs.out.1 hB.out, hs.out.2.trans (hB.out.mono hs.out.2.size)⟩
              clear z1 zG z2 hG hpz hsz hp0 hp1 hz HK C0 hs HP
              go_wp2_with fail
              go_at_call 12
              refine Calls.mono hgr.out ?_
              rintro e w9 ⟨rfl, bX⟩
              have R9 : Hid (R ES w9 (.slice (some ⟨B1, o1, none⟩) m lc) L ∧ Below w3.heap.size w3 w9) := ⟨R.below RW.out.1 bX, RW.out.2.trans (bX.mono RW.out.2.size)⟩
              clear RW bX hB hgr
              go_wp2_with fail
              go_roundw
              case rel => exact ⟨k + 1, V3, by first | rfl | simp, by simp, by omega, hnx.out.symm, hnz.out, R9.out⟩
              case measure => simp [intOf]; omega
        · obtain rfl : i = m := by omega
          have hlt' : ¬ (i : Int) < (i : Int) := by omega
          obtain ⟨S, hS⟩ : ∃ x, (⟨#[42, 44]⟩ : ByteArray) ++ sb = x := ⟨_, rfl⟩
          have HEQ : Hid ((⟨#[42, 44]⟩ : ByteArray) ++ sb = S) := hS
          have hsx : ¬ 2 + sb.size > 9223372036854775807 := by have := hz.out; omega
          have HS : Hid (S = tdS true L) := by
            show _ = _
            rw [← HEQ.out, hb.out, tdS, List.take_of_length_le (by have := EM.out; omega)]
            apply ba_eq
            rw [bt_list, ba_app, bt_list]
            rfl
          obtain ⟨wn, hwn⟩ : ∃ x, wr.alloc (.cells #[.string ⟨#[120]⟩, .string ⟨#[42]⟩, .bool false, .string ⟨#[118, 97, 114, 121]⟩, .string S, .bool false, .string ⟨#[118, 97, 114, 121]⟩, .string S, .bool false] 30) = x := ⟨_, rfl⟩
          have HWN : Hid (wr.alloc (.cells #[.string ⟨#[120]⟩, .string ⟨#[42]⟩, .bool false, .string ⟨#[118, 97, 114, 121]⟩, .string S, .bool false, .string ⟨#[118, 97, 114, 121]⟩, .string S, .bool false] 30) = wn) := hwn
          have hk3 := three_in S wr
          rw [hwn] at hk3
          have RL : Hid (R ES wn (.slice lb i lc) L ∧ Below w3.heap.size w3 wn) := ⟨R.below hs.out.1 hk3.2, hs.out.2.trans (hk3.2.mono hs.out.2.size)⟩
          have hq1 : Hid (Calls Tryd.prog 11 #[.agg #[.int .i64 0, .slice (some ⟨wr.heap.size, 0, none⟩) 3 3, .string ⟨#[]⟩]] wn fun e w' => NmP L true wn e w') := HT2.out S HS.out 0 _ _ _ _ _ hk3.1
          clear hk3 hwn hs HS HEQ
          go_upto_region 18 with fail
          go_wp2_with (refine wpList_build_run _ rfl 22 3 _ rfl #[(0, .agg #[.string ⟨#[120]⟩, .string ⟨#[42]⟩, .bool false]), (1, .agg #[.string ⟨#[118, 97, 114, 121]⟩, .string S, .bool false]), (2, .agg #[.string ⟨#[118, 97, 114, 121]⟩, .string S, .bool false])] (by rfl) _ _ (build3 _ _ _ _ _ _ _ _ _ _) ?_)
          go_at_call 11
          rw [HWN.out]
          refine Calls.mono hq1.out ?_
          rintro e w12 ⟨⟨ab', am', ac'⟩, rfl, bA, rA, oA⟩
          have R12 : Hid (R ES w12 (.slice ab' am' ac') L ∧ R ES w12 (.slice lb i lc) L ∧ Below w3.heap.size w3 w12) := ⟨rA, R.below RL.out.1 bA, RL.out.2.trans (bA.mono RL.out.2.size)⟩
          clear hq1 RL bA rA oA
          simp only [sv]
          go_wp2_with fail
          go_at_call 13
          refine (lsame_any (lb, i, lc) (ab', am', ac') L L w12 (R.isIn R12.out.2.1) (R.isIn R12.out.1)).mono ?_
          rintro e w14 ⟨rfl, bX⟩
          rw [eqB_true (rfl : L = L)]
          have BR : Hid (Below w.heap.size w w14) := by
            have h := H2.out _ (R12.out.2.2.trans (bX.mono R12.out.2.2.size))
            exact BW.out.trans (h.mono BW.out.size)
          clear bX R12
          go_wp2_with fail
          go_ret
          exact ⟨by first | rfl | simp, BR.out⟩

end Go.Proofs.YtckdldbheejmhaaDoor
