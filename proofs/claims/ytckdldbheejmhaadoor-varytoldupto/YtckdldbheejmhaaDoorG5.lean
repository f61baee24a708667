/- The document's Names, walked. -/
import Derived.Test.YtckdldbheejmhaaDoorG4
import Derived.Deep.Cut
import Derived.Deep.CutRange
namespace Go.Proofs.YtckdldbheejmhaaDoor
open Go.RowKit
set_option linter.unusedVariables false
set_option linter.unusedSimpArgs false
theorem no_eq {p : ByteArray} (h : p ≠ noS) : (p.toList == []) = false := by
  rw [beq_eq_false_iff_ne, ByteArray.toList_eq]
  exact fun e => h (ba_eq (b := noS) (by rw [e]; rfl))
theorem ne_vary {p : ByteArray} (h : p ≠ varyS) : (p.toList == [118, 97, 114, 121]) = false := by
  rw [beq_eq_false_iff_ne, ByteArray.toList_eq]
  exact fun e => h (ba_eq (b := varyS) (by rw [e]; rfl))
theorem star_snoc (PS : List ByteArray) (p : ByteArray) : decide (0 < cnt (PS ++ [p]) starS) = (decide (0 < cnt PS starS) || decide (p = starS)) := by
  rw [cnt_snoc2]
  by_cases h : p = starS <;> simp [h]
theorem Rn.skip {w wb : World} {b : Option Addr} {n c : Nat} {PS : List ByteArray} {st : Bool} {W : World} (h : Rn w wb b n c PS st W) {p : ByteArray} (ht : thB PS p = true) : Rn w wb b n c (PS ++ [p]) (st || decide (p = starS)) W := by
  have e : nmL (PS ++ [p]) = nmL PS := by rw [nmL_snoc, if_pos (of_decide_eq_true ht), List.append_nil]
  exact ⟨by rw [e]; exact h.row, by rw [e]; exact h.len, by rw [star_snoc, h.star], h.bel, h.own⟩
theorem Rn.add {wb : World} {b : Option Addr} {n c : Nat} {PS : List ByteArray} {st : Bool} {W : World} (h : Rn wb wb b n c PS st W) {p : ByteArray} (ht : thB PS p = false) (hl : PS.length ≤ 4398046511104) {lb : Option Addr} {lm lc : Nat} {pcs : List ByteArray} (hr : R ES W (.slice lb lm lc) pcs) (hd : ∀ j, (Value.slice b n c).ownBlock = some j → (Value.slice lb lm lc).ownBlock ≠ some j) :
    ∃ b2 c2 w2, (Builtin.append_ #[25, 25] 25 #[.slice b n c, .slice (some ⟨W.heap.size, 0, none⟩) 1 1]).run Tryd.prog (W.alloc (.cells #[.string p] 9)) = .ok (.slice b2 (n + 1) c2) w2 ∧ Rn wb wb b2 (n + 1) c2 (PS ++ [p]) (st || decide (p = starS)) w2 ∧ R ES w2 (.slice lb lm lc) pcs ∧ ∀ j, (Value.slice b2 (n + 1) c2).ownBlock = some j → (Value.slice lb lm lc).ownBlock ≠ some j := by
  have ba := bel1 W (.cells #[.string p] 9)
  obtain ⟨b2, c2, w2, e1, e2, e3⟩ := app okS (W.alloc (.cells #[.string p] 9)) _ _ (R.below h.row ba) (.slice (some ⟨W.heap.size, 0, none⟩) 1 1) [p] (in_one (x := p) _ _ #[.string p] 9 (0, 0) (by rw [heap_al, if_pos rfl]) rfl) (by
    have := nmL_len PS
    simp only [ES, List.length_singleton]
    omega)
  have el : (nmL PS).length + [p].length = n + 1 := by rw [h.len]; rfl
  rw [el] at e1 e2 e3
  have hn : nmL (PS ++ [p]) = nmL PS ++ [p] := by rw [nmL_snoc, if_neg (of_decide_eq_false ht)]
  have hlt : ∀ j, (Value.slice lb lm lc).ownBlock = some j → j < W.heap.size := fun j hj => R.lt hr j hj
  refine ⟨b2, c2, w2, e1, ⟨by rw [hn]; exact e2, by rw [hn, List.length_append, ← h.len]; rfl, by rw [star_snoc, h.star], h.bel.trans (Below.trans (ba.mono h.bel.size) (e3.belowB (Nat.le_trans h.bel.size ba.size) h.own)), fun j hj => ?_⟩, R.stays (R.below hr ba) (fun j hj hl' => e3.block j hl' fun e => hd j e hj), fun j hj hj2 => ?_⟩
  · rcases e3.own j hj with e | e
    · exact h.own j e
    · exact Nat.le_trans (Nat.le_trans h.bel.size ba.size) e
  · rcases e3.own j hj with e | e
    · exact hd j e hj2
    · have := hlt j hj2
      have := ba.size
      omega
theorem vs_step (L : List Fd) (i : Nat) (h : i < L.length) (s : ByteArray) : vsL (L.take (i + 1)) s = vsL (L.take i) s ++ (if L[i].n = s then [L[i].v] else []) := by
  rw [List.take_succ_eq_append_getElem h, vsL_app, vsL_one]
theorem allP_app (a b : List ByteArray) : allP (a ++ b) = allP a ++ allP b := by unfold allP; rw [List.flatMap_append]
theorem allP_one (v : ByteArray) : allP [v] = (cutS v).map pcS := by unfold allP; simp
theorem vs_front (L : List Fd) (i : Nat) (s : ByteArray) : ∃ t, vsL L s = vsL (L.take i) s ++ t := ⟨vsL (L.drop i) s, by rw [← vsL_app, List.take_append_drop]⟩
set_option maxHeartbeats 8000000 in
set_option maxRecDepth 100000 in
theorem rnames_any (n0 : Int) (y : SV) (b0 : ByteArray) (L : List Fd) (w : World) (hI : In EFd w (sv y) L) (hz : ∀ v ∈ vsL L varyS, v.size ≤ 140737488351232) (hp : (allP (vsL L varyS)).length ≤ 4398046511104) :
    Calls Tryd.prog 17 #[.agg (rsv n0 (sv y) b0)] w fun e w' => NmPost (vsL L varyS) w e w' := by
  obtain ⟨yb, n, yc⟩ := y
  obtain ⟨wb, hwb⟩ : ∃ x, w.alloc (.cells (rsv n0 (sv (yb, n, yc)) b0) 35) = x := ⟨_, rfl⟩
  have BB : Hid (Below w.heap.size w wb) := by rw [← hwb]; exact bel1 w _
  have HBX : Hid (wb.heap[w.heap.size]? = some (.cells (rsv n0 (sv (yb, n, yc)) b0) 35)) := by rw [← hwb]; show _ = _; rw [heap_al, if_pos rfl]
  have HW : Hid (w.alloc (.cells #[.int .i64 n0, .slice yb n yc, .string b0] 35) = wb) := hwb
  obtain ⟨e1, e2, e3⟩ := slice_len (show In EFd w (.slice yb n yc) L from hI)
  have EN : Hid (n = L.length) := e1
  have hnc : n ≤ yc := by omega
  have HI : Hid (In EFd w (.slice yb n yc) L) := hI
  have HZ : Hid (∀ v ∈ vsL L varyS, v.size ≤ 140737488351232) := hz
  have HP : Hid ((allP (vsL L varyS)).length ≤ 4398046511104) := hp
  clear hI hz hp hwb e1 e2
  simp only [rsv, sv]
  go_enter Tryd.func17, Tryd.ntmps17
  go_wp2_with fail
  rw [HW.out]
  clear HW
  go_loopw [4, 5, 6, 7, 8, 9, 10] (fun ov tv iv _ _ _ _ wr => ∃ (i : Nat) (b : Option Addr) (m c : Nat) (st : Bool), iv = .int .i64 (i : Int) ∧ ov = .slice b m c ∧ tv = .bool st ∧ i ≤ n ∧ Hid (Rn wb wb b m c (allP (vsL (L.take i) varyS)) st wr)) (fun _ _ iv _ _ _ _ _ => n - (intOf iv).toNat)
  case atStart => exact ⟨0, none, 0, 0, false, rfl, rfl, rfl, by omega, R.nil ES wb, rfl, rfl, Below.refl _ _, fun j hj => by simp [Value.ownBlock] at hj⟩
  case round =>
    obtain ⟨i, b, m, c, st, rfl, rfl, rfl, hi, hS⟩ := hrel
    have hbl := (hS.out.bel.block _ (heap_lt HBX.out)).trans HBX.out
    have x1 := cell_blk hbl 1
    have xl := heap_lt hbl
    simp only [rsv, sv, List.getElem?_toArray, List.getElem?_cons_succ, List.getElem?_cons_zero] at x1
    clear hbl
    by_cases hlt : i < n
    · have hlt' : (i : Int) < (n : Int) := by omega
      have ka : i < L.length := by have := EN.out; omega
      have BW : Below w.heap.size w wr := BB.out.trans (hS.out.bel.mono BB.out.size)
      obtain ⟨B1, o1, c1, e, c0⟩ := HI.out.fd i ka
      injection e with e1 e2 e3
      subst e1
      clear e2 e3
      obtain ⟨f0, f1, f2⟩ := c0 wr BW
      have HV : Hid (vsL (L.take (i + 1)) varyS = vsL (L.take i) varyS ++ (if L[i].n = varyS then [L[i].v] else [])) := vs_step L i ka varyS
      have HVZ : Hid (L[i].n = varyS → L[i].v.size ≤ 140737488351232) := fun h => HZ.out _ (by
        obtain ⟨t, ht⟩ := vs_front L (i + 1) varyS
        rw [ht, HV.out, if_pos h]; simp)
      have HVP : Hid (L[i].n = varyS → (allP (vsL (L.take i) varyS)).length + ((cutS L[i].v).map pcS).length ≤ 4398046511104) := fun h => by
        obtain ⟨t, ht⟩ := vs_front L (i + 1) varyS
        have h1 := HP.out
        rw [ht, HV.out, if_pos h, allP_app, allP_app, allP_one, List.length_append, List.length_append] at h1
        omega
      obtain ⟨⟨fn, fv, fnv⟩, hf⟩ : ∃ f, L[i] = f := ⟨_, rfl⟩
      rw [hf] at f0 f1 f2 HV HVZ HVP
      simp only at f0 f1 f2 HV HVZ HVP
      clear c0 hf f2 BW ka
      by_cases hv : fn = varyS
      · subst hv
        rw [if_pos rfl] at HV
        have vz := HVZ.out rfl
        have vp : Hid _ := HVP.out rfl
        obtain ⟨PS, hPS⟩ : ∃ x, allP (vsL (L.take i) varyS) = x := ⟨_, rfl⟩
        obtain ⟨pcs, hpcs⟩ : ∃ x, (cutS fv).map pcS = x := ⟨_, rfl⟩
        have HNX : Hid (allP (vsL (L.take (i + 1)) varyS) = PS ++ pcs) := by show _ = _; rw [HV.out, allP_app, allP_one, hPS, hpcs]
        rw [hPS] at hS vp
        rw [hpcs] at vp
        have hpp := pieces_any fv wr vz (by have h := vp.out; rw [← hpcs, List.length_map] at h; omega)
        rw [hpcs] at hpp
        replace hpp : Hid (Calls Tryd.prog 25 #[.string fv] wr fun e w' => VsPost pcs wr e w') := hpp
        clear hPS hpcs HV HVZ HVP vz
        simp only [varyS] at f0
        go_wp2_with fail
        go_at_call 25
        refine Calls.mono hpp.out ?_
        rintro e w1 ⟨⟨lb, lm, lc⟩, rfl, bX, rX, oX⟩
        have RR : Hid (Rn wb wb b m c PS st w1 ∧ R ES w1 (.slice lb lm lc) pcs ∧ ∀ j, (Value.slice b m c).ownBlock = some j → (Value.slice lb lm lc).ownBlock ≠ some j) := ⟨hS.out.below bX, rX, fun j h1 h2 => by
          have h3 := R.lt hS.out.row j h1
          have h4 := oX j h2
          omega⟩
        obtain ⟨q1, q2, q3⟩ := slice_len (R.isIn (show R ES w1 (.slice lb lm lc) pcs from rX))
        have EL : Hid (lm = pcs.length) := q1
        have hlc : lm ≤ lc := by omega
        have hlm : lm ≤ 4398046511104 := by have := vp.out; omega
        clear hS bX rX oX x1 xl f0 f1 hpp q1 q2
        simp only [sv]
        go_wp2_with fail
        go_loopw [4, 5, 8, 9, 10] (fun ov tv kv _ _ W => ∃ (k : Nat) (b : Option Addr) (m c : Nat) (st : Bool), kv = .int .i64 (k : Int) ∧ ov = .slice b m c ∧ tv = .bool st ∧ k ≤ lm ∧ Hid (Rn wb wb b m c (PS ++ pcs.take k) st W ∧ R ES W (.slice lb lm lc) pcs ∧ ∀ j, (Value.slice b m c).ownBlock = some j → (Value.slice lb lm lc).ownBlock ≠ some j)) (fun _ _ kv _ _ _ => lm - (intOf kv).toNat)
        case atStart => exact ⟨0, b, m, c, st, rfl, rfl, rfl, by omega, by show _ ∧ _; rw [List.take_zero, List.append_nil]; exact RR.out⟩
        case round =>
          obtain ⟨k, b', m', c', st', rfl, rfl, rfl, hk, hT⟩ := hrel
          clear RR
          obtain ⟨W, hW⟩ : ∃ x, wr = x := ⟨_, rfl⟩
          by_cases hkl : k < lm
          · have hkl' : (k : Int) < (lm : Int) := by omega
            have kp : k < pcs.length := by have := EL.out; omega
            obtain ⟨B2, o2, c2, e, d0⟩ := (R.isIn hT.out.2.1).str k kp
            injection e with e1 e2 e3
            subst e1
            clear e2 e3
            obtain ⟨p, hp⟩ : ∃ p, pcs[k] = p := ⟨_, rfl⟩
            rw [hp] at d0
            have HTK : Hid (PS ++ pcs.take (k + 1) = PS ++ pcs.take k ++ [p]) := by show _ = _; rw [List.take_succ_eq_append_getElem kp, hp, List.append_assoc]
            obtain ⟨PK, hPK⟩ : ∃ x, PS ++ pcs.take k = x := ⟨_, rfl⟩
            have HPL : Hid (PK.length ≤ 4398046511104) := by
              show _ ≤ _
              have h := vp.out
              rw [← hPK, List.length_append, List.length_take]
              omega
            rw [hPK] at hT HTK
            have HD : Hid (∀ V, Below wr.heap.size wr V → V.cell? ⟨B2, o2 + k, none⟩ = some (.string p)) := d0
            obtain ⟨r1, r2, r3⟩ := slice_len (R.isIn hT.out.1.row)
            have hm4 : m' ≤ 4398046511104 := by
              have h1 := nmL_len PK
              have h2 := HPL.out
              omega
            have hmc : m' ≤ c' := by omega
            have HSK : Hid (thB PK p = true → ∀ V, Below wr.heap.size wr V → Rn wb wb b' m' c' (PS ++ pcs.take (k + 1)) (st' || decide (p = starS)) V ∧ R ES V (.slice (some ⟨B2, o2, none⟩) lm lc) pcs ∧ ∀ j, (Value.slice b' m' c').ownBlock = some j → (Value.slice (some ⟨B2, o2, none⟩) lm lc).ownBlock ≠ some j) := fun h V hV => by
              rw [HTK.out]
              exact ⟨(hT.out.1.below hV).skip h, R.below hT.out.2.1 hV, hT.out.2.2⟩
            have d1 := d0 _ (Below.refl _ _)
            clear r1 r2 hp hPK kp d0
            subst hW
            by_cases h1 : p = noS
            · have hth : thB PK p = true := by unfold thB; simp [h1]
              replace HSK : Hid (∀ V, Below wr.heap.size wr V → _) := HSK.out hth
              subst h1
              simp only [show decide (noS = starS) = false from rfl, Bool.or_false] at HSK
              simp only [noS] at d1
              clear hT HTK HD hth
              cases st'
              · skip
                obtain ⟨wr0, hwr0⟩ : ∃ x, x = wr := ⟨_, rfl⟩
                subst hwr0
                go_wp2_with fail
                go_loopw [9, 10] (fun tv jv wz => ∃ j : Nat, jv = .int .i64 (j : Int) ∧ tv = .bool true ∧ j ≤ m' ∧ Hid (Below wr0.heap.size wr0 wz)) (fun _ jv _ => m' - (intOf jv).toNat)
                case atStart => exact ⟨0, rfl, rfl, by omega, Below.refl _ _⟩
                case round =>
                  obtain ⟨j, rfl, rfl, hj, hy⟩ := hrel
                  by_cases hjl : j < m'
                  · have hjl' : (j : Int) < (m' : Int) := by omega
                    go_wp2_with fail
                    go_quiet (fail)
                    go_wp2_with fail
                    go_roundw
                    case rel => exact ⟨j + 1, by simp, by first | rfl | simp, by omega, below_drewN hy.out _⟩
                    case measure => simp [intOf]; omega
                  · obtain rfl : j = m' := by omega
                    have hjl' : ¬ (j : Int) < (j : Int) := by omega
                    have hfin : Hid _ := HSK.out wr hy.out
                    go_wp2_with fail
                    go_roundw
                    case rel => exact ⟨k + 1, b', j, c', false, by simp, by first | rfl | simp, by first | rfl | simp, by omega, hfin.out⟩
                    case measure => simp [intOf]; omega
              · skip
                obtain ⟨wr0, hwr0⟩ : ∃ x, x = wr := ⟨_, rfl⟩
                subst hwr0
                go_wp2_with fail
                go_loopw [9, 10] (fun tv jv wz => ∃ j : Nat, jv = .int .i64 (j : Int) ∧ tv = .bool true ∧ j ≤ m' ∧ Hid (Below wr0.heap.size wr0 wz)) (fun _ jv _ => m' - (intOf jv).toNat)
                case atStart => exact ⟨0, rfl, rfl, by omega, Below.refl _ _⟩
                case round =>
                  obtain ⟨j, rfl, rfl, hj, hy⟩ := hrel
                  by_cases hjl : j < m'
                  · have hjl' : (j : Int) < (m' : Int) := by omega
                    go_wp2_with fail
                    go_quiet (fail)
                    go_wp2_with fail
                    go_roundw
                    case rel => exact ⟨j + 1, by simp, by first | rfl | simp, by omega, below_drewN hy.out _⟩
                    case measure => simp [intOf]; omega
                  · obtain rfl : j = m' := by omega
                    have hjl' : ¬ (j : Int) < (j : Int) := by omega
                    have hfin : Hid _ := HSK.out wr hy.out
                    go_wp2_with fail
                    go_roundw
                    case rel => exact ⟨k + 1, b', j, c', true, by simp, by first | rfl | simp, by first | rfl | simp, by omega, hfin.out⟩
                    case measure => simp [intOf]; omega
            · by_cases h2 : p = starS
              · have hth : thB PK p = true := by unfold thB; simp [h2]
                replace HSK : Hid (∀ V, Below wr.heap.size wr V → _) := HSK.out hth
                subst h2
                simp only [show decide (starS = starS) = true from rfl, Bool.or_true] at HSK
                simp only [starS] at d1
                clear hT HTK HD hth h1
                cases st'
                · skip
                  obtain ⟨wr0, hwr0⟩ : ∃ x, x = wr := ⟨_, rfl⟩
                  subst hwr0
                  go_wp2_with fail
                  go_loopw [9, 10] (fun tv jv wz => ∃ j : Nat, jv = .int .i64 (j : Int) ∧ tv = .bool true ∧ j ≤ m' ∧ Hid (Below wr0.heap.size wr0 wz)) (fun _ jv _ => m' - (intOf jv).toNat)
                  case atStart => exact ⟨0, rfl, rfl, by omega, Below.refl _ _⟩
                  case round =>
                    obtain ⟨j, rfl, rfl, hj, hy⟩ := hrel
                    by_cases hjl : j < m'
                    · have hjl' : (j : Int) < (m' : Int) := by omega
                      go_wp2_with fail
                      go_quiet (fail)
                      go_wp2_with fail
                      go_roundw
                      case rel => exact ⟨j + 1, by simp, by first | rfl | simp, by omega, below_drewN hy.out _⟩
                      case measure => simp [intOf]; omega
                    · obtain rfl : j = m' := by omega
                      have hjl' : ¬ (j : Int) < (j : Int) := by omega
                      have hfin : Hid _ := HSK.out wr hy.out
                      go_wp2_with fail
                      go_roundw
                      case rel => exact ⟨k + 1, b', j, c', true, by simp, by first | rfl | simp, by first | rfl | simp, by omega, hfin.out⟩
                      case measure => simp [intOf]; omega
                · skip
                  obtain ⟨wr0, hwr0⟩ : ∃ x, x = wr := ⟨_, rfl⟩
                  subst hwr0
                  go_wp2_with fail
                  go_loopw [9, 10] (fun tv jv wz => ∃ j : Nat, jv = .int .i64 (j : Int) ∧ tv = .bool true ∧ j ≤ m' ∧ Hid (Below wr0.heap.size wr0 wz)) (fun _ jv _ => m' - (intOf jv).toNat)
                  case atStart => exact ⟨0, rfl, rfl, by omega, Below.refl _ _⟩
                  case round =>
                    obtain ⟨j, rfl, rfl, hj, hy⟩ := hrel
                    by_cases hjl : j < m'
                    · have hjl' : (j : Int) < (m' : Int) := by omega
                      go_wp2_with fail
                      go_quiet (fail)
                      go_wp2_with fail
                      go_roundw
                      case rel => exact ⟨j + 1, by simp, by first | rfl | simp, by omega, below_drewN hy.out _⟩
                      case measure => simp [intOf]; omega
                    · obtain rfl : j = m' := by omega
                      have hjl' : ¬ (j : Int) < (j : Int) := by omega
                      have hfin : Hid _ := HSK.out wr hy.out
                      go_wp2_with fail
                      go_roundw
                      case rel => exact ⟨k + 1, b', j, c', true, by simp, by first | rfl | simp, by first | rfl | simp, by omega, hfin.out⟩
                      case measure => simp [intOf]; omega
              · skip
                have n1 := no_eq h1
                have n2 := ne_empty h1
                have n3 := ne_star h2
                have HTH : Hid (thJ PK p 0 = false) := by show _ = _; unfold thJ; simp [h1, h2]
                have HST : Hid (∀ st, (st || decide (p = starS)) = st) := fun st => by simp [h2]
                have HAL : Hid (thJ PK p m' = thB PK p) := by show _ = _; rw [hT.out.1.len]; exact thJ_all PK p
                clear h1 h2
                obtain ⟨wr0, hwr0⟩ : ∃ x, x = wr := ⟨_, rfl⟩
                subst hwr0
                cases st'
                · skip
                  go_wp2_with fail
                  go_loopw [9, 10] (fun tv jv wz => ∃ (j : Nat) (th : Bool), jv = .int .i64 (j : Int) ∧ tv = .bool th ∧ j ≤ m' ∧ Hid (thJ PK p j = th) ∧ Hid (Below wr0.heap.size wr0 wz)) (fun _ jv _ => m' - (intOf jv).toNat)
                  case atStart => exact ⟨0, false, rfl, rfl, by omega, HTH.out, Below.refl _ _⟩
                  case round =>
                    obtain ⟨j, th, rfl, rfl, hj, hth, hy⟩ := hrel
                    have d2 := HD.out wr hy.out
                    clear d1
                    by_cases hjl : j < m'
                    · have hjl' : (j : Int) < (m' : Int) := by omega
                      have jn : j < (nmL PK).length := by rw [← hT.out.1.len]; exact hjl
                      obtain ⟨B3, o3, c3, e, g0⟩ := (R.isIn hT.out.1.row).str j jn
                      injection e with e1 e2 e3
                      subst e1
                      clear e2 e3
                      have g1 := g0 wr hy.out
                      obtain ⟨z, hz⟩ : ∃ z, (nmL PK)[j] = z := ⟨_, rfl⟩
                      rw [hz] at g1
                      have HJ : Hid (thJ PK p (j + 1) = (thJ PK p j || decide (z = p))) := by show _ = _; rw [thJ_succ PK p j jn, hz]
                      clear g0 hz jn
                      cases th
                      · by_cases hzp : z = p
                        · have q1 := str_eq hzp
                          have hnx : Hid (thJ PK p (j + 1) = true) := by show _ = _; rw [HJ.out, hzp]; simp
                          clear HJ hzp hth hT HSK
                          go_wp2_with fail
                          go_quiet (fail)
                          go_wp2_with fail
                          go_roundw
                          case rel => exact ⟨j + 1, true, by simp, by first | rfl | simp, by omega, hnx.out, below_drewN hy.out _⟩
                          case measure => simp [intOf]; omega
                        · have q1 := str_ne hzp
                          have hnx : Hid (thJ PK p (j + 1) = false) := by show _ = _; rw [HJ.out, hth.out]; simp [hzp]
                          clear HJ hzp hth hT HSK
                          go_wp2_with fail
                          go_quiet (fail)
                          go_wp2_with fail
                          go_roundw
                          case rel => exact ⟨j + 1, false, by simp, by first | rfl | simp, by omega, hnx.out, below_drewN hy.out _⟩
                          case measure => simp [intOf]; omega
                      · have hnx : Hid (thJ PK p (j + 1) = true) := by show _ = _; rw [HJ.out, hth.out]; rfl
                        clear HJ hth hT HSK
                        go_wp2_with fail
                        go_quiet (fail)
                        go_wp2_with fail
                        go_roundw
                        case rel => exact ⟨j + 1, true, by simp, by first | rfl | simp, by omega, hnx.out, below_drewN hy.out _⟩
                        case measure => simp [intOf]; omega
                    · obtain rfl : j = m' := by omega
                      have hjl' : ¬ (j : Int) < (j : Int) := by omega
                      rw [HAL.out] at hth
                      cases th
                      · obtain ⟨b2, c2, w2, a1, a2, a3, a4⟩ := (hT.out.1.below hy.out).add hth.out HPL.out (R.below hT.out.2.1 hy.out) hT.out.2.2
                        rw [HST.out, ← HTK.out] at a2
                        have hfin : Hid _ := And.intro a2 (And.intro a3 a4)
                        replace a1 : Hid _ := a1
                        clear a2 a3 a4 hT HSK
                        go_wp2_with (at_builtin; refine Lib.wpList_append_run _ rfl _ _ _ _ rfl _ _ rfl rfl _ _ a1.out ?_)
                        go_roundw
                        case rel => exact ⟨k + 1, b2, j + 1, c2, false, by simp, by first | rfl | simp, by first | rfl | simp, by omega, hfin.out⟩
                        case measure => simp [intOf]; omega
                      · have hfin := HSK.out hth.out wr hy.out
                        rw [HST.out] at hfin
                        replace hfin : Hid _ := hfin
                        clear hT HSK
                        go_wp2_with fail
                        go_roundw
                        case rel => exact ⟨k + 1, b', j, c', false, by simp, by first | rfl | simp, by first | rfl | simp, by omega, hfin.out⟩
                        case measure => simp [intOf]; omega
                · skip
                  go_wp2_with fail
                  go_loopw [9, 10] (fun tv jv wz => ∃ (j : Nat) (th : Bool), jv = .int .i64 (j : Int) ∧ tv = .bool th ∧ j ≤ m' ∧ Hid (thJ PK p j = th) ∧ Hid (Below wr0.heap.size wr0 wz)) (fun _ jv _ => m' - (intOf jv).toNat)
                  case atStart => exact ⟨0, false, rfl, rfl, by omega, HTH.out, Below.refl _ _⟩
                  case round =>
                    obtain ⟨j, th, rfl, rfl, hj, hth, hy⟩ := hrel
                    have d2 := HD.out wr hy.out
                    clear d1
                    by_cases hjl : j < m'
                    · have hjl' : (j : Int) < (m' : Int) := by omega
                      have jn : j < (nmL PK).length := by rw [← hT.out.1.len]; exact hjl
                      obtain ⟨B3, o3, c3, e, g0⟩ := (R.isIn hT.out.1.row).str j jn
                      injection e with e1 e2 e3
                      subst e1
                      clear e2 e3
                      have g1 := g0 wr hy.out
                      obtain ⟨z, hz⟩ : ∃ z, (nmL PK)[j] = z := ⟨_, rfl⟩
                      rw [hz] at g1
                      have HJ : Hid (thJ PK p (j + 1) = (thJ PK p j || decide (z = p))) := by show _ = _; rw [thJ_succ PK p j jn, hz]
                      clear g0 hz jn
                      cases th
                      · by_cases hzp : z = p
                        · have q1 := str_eq hzp
                          have hnx : Hid (thJ PK p (j + 1) = true) := by show _ = _; rw [HJ.out, hzp]; simp
                          clear HJ hzp hth hT HSK
                          go_wp2_with fail
                          go_quiet (fail)
                          go_wp2_with fail
                          go_roundw
                          case rel => exact ⟨j + 1, true, by simp, by first | rfl | simp, by omega, hnx.out, below_drewN hy.out _⟩
                          case measure => simp [intOf]; omega
                        · have q1 := str_ne hzp
                          have hnx : Hid (thJ PK p (j + 1) = false) := by show _ = _; rw [HJ.out, hth.out]; simp [hzp]
                          clear HJ hzp hth hT HSK
                          go_wp2_with fail
                          go_quiet (fail)
                          go_wp2_with fail
                          go_roundw
                          case rel => exact ⟨j + 1, false, by simp, by first | rfl | simp, by omega, hnx.out, below_drewN hy.out _⟩
                          case measure => simp [intOf]; omega
                      · have hnx : Hid (thJ PK p (j + 1) = true) := by show _ = _; rw [HJ.out, hth.out]; rfl
                        clear HJ hth hT HSK
                        go_wp2_with fail
                        go_quiet (fail)
                        go_wp2_with fail
                        go_roundw
                        case rel => exact ⟨j + 1, true, by simp, by first | rfl | simp, by omega, hnx.out, below_drewN hy.out _⟩
                        case measure => simp [intOf]; omega
                    · obtain rfl : j = m' := by omega
                      have hjl' : ¬ (j : Int) < (j : Int) := by omega
                      rw [HAL.out] at hth
                      cases th
                      · obtain ⟨b2, c2, w2, a1, a2, a3, a4⟩ := (hT.out.1.below hy.out).add hth.out HPL.out (R.below hT.out.2.1 hy.out) hT.out.2.2
                        rw [HST.out, ← HTK.out] at a2
                        have hfin : Hid _ := And.intro a2 (And.intro a3 a4)
                        replace a1 : Hid _ := a1
                        clear a2 a3 a4 hT HSK
                        go_wp2_with (at_builtin; refine Lib.wpList_append_run _ rfl _ _ _ _ rfl _ _ rfl rfl _ _ a1.out ?_)
                        go_roundw
                        case rel => exact ⟨k + 1, b2, j + 1, c2, true, by simp, by first | rfl | simp, by first | rfl | simp, by omega, hfin.out⟩
                        case measure => simp [intOf]; omega
                      · have hfin := HSK.out hth.out wr hy.out
                        rw [HST.out] at hfin
                        replace hfin : Hid _ := hfin
                        clear hT HSK
                        go_wp2_with fail
                        go_roundw
                        case rel => exact ⟨k + 1, b', j, c', true, by simp, by first | rfl | simp, by first | rfl | simp, by omega, hfin.out⟩
                        case measure => simp [intOf]; omega
          · obtain rfl : k = lm := by omega
            have hkl' : ¬ (k : Int) < (k : Int) := by omega
            have HN : Hid (Rn wb wb b' m' c' (allP (vsL (L.take (i + 1)) varyS)) st' wr) := by
              have h := hT.out.1
              rw [EL.out, List.take_length] at h
              rw [HNX.out]
              exact h
            clear hT hW
            go_wp2_with fail
            go_roundw
            case rel => exact ⟨i + 1, b', m', c', st', by simp, by first | rfl | simp, by first | rfl | simp, by omega, HN.out⟩
            case measure => simp [intOf]; omega
      · have HV2 : Hid (vsL (L.take (i + 1)) varyS = vsL (L.take i) varyS) := by show _ = _; rw [HV.out, if_neg hv, List.append_nil]
        have q1 := ne_vary hv
        have q2 : (fn.toList != [118, 97, 114, 121]) = true := by rw [bne, q1]; rfl
        have HN : Hid (Rn wb wb b m c (allP (vsL (L.take (i + 1)) varyS)) st wr) := by rw [HV2.out]; exact hS.out
        clear hS hv HV HVZ HVP
        go_wp2_with fail
        go_roundw
        case rel => exact ⟨i + 1, b, m, c, st, by simp, by first | rfl | simp, by first | rfl | simp, by omega, HN.out⟩
        case measure => simp [intOf]; omega
    · obtain rfl : i = n := by omega
      have hlt' : ¬ (i : Int) < (i : Int) := by omega
      have HE : Hid (NmPost (vsL L varyS) w (.returned (.tuple #[.slice b m c, .bool st])) wr) := by
        have h := hS.out
        rw [EN.out, List.take_length] at h
        refine ⟨(b, m, c), by rw [h.star]; rfl, BB.out.trans (h.bel.mono BB.out.size), h.row, fun j hj => Nat.le_trans BB.out.size (h.own j hj)⟩
      clear hS
      go_wp2_with fail
      go_ret2
      exact HE.out
end Go.Proofs.YtckdldbheejmhaaDoor
