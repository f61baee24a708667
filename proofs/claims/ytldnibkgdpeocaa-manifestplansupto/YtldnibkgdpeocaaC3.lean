/- made. -/
import Derived.Test.YtldnibkgdpeocaaC2
namespace Go.Proofs.Ytldnibkgdpeocaa
open Go.RowKit Go.Maps
open Go.Shelf
set_option linter.unusedVariables false
set_option linter.unusedSimpArgs false

abbrev Eg := Int × Int
def EE : El Eg := ⟨22, 50, 2, 16, fun e => [.int .i64 e.1, .int .i64 e.2]⟩
theorem okE : EE.Ok := ⟨Try.underlying22, by kernel_rfl, by decide, by decide, fun _ => rfl, fun a u hu => by
  simp only [EE, List.mem_cons, List.not_mem_nil, or_false] at hu
  rcases hu with rfl | rfl <;> rfl⟩
theorem In.eg {w : World} {v : Value} {l : List Eg} (h : In EE w v l) (k : Nat) (hk : k < l.length) : ∃ B off cap, v = .slice (some ⟨B, off, none⟩) l.length cap ∧ ∀ W, Below w.heap.size w W → W.cell? ⟨B, off + k * 2, none⟩ = some (.int .i64 l[k].1) ∧ W.cell? ⟨B, off + k * 2 + 1, none⟩ = some (.int .i64 l[k].2) := by
  obtain ⟨B, off, cap, e, hB, hc⟩ := h.get okE k hk
  refine ⟨B, off, cap, e, fun W hW => ?_⟩
  have c0 := hc 0 (.int .i64 l[k].1) rfl
  have c1 := hc 1 (.int .i64 l[k].2) rfl
  exact ⟨(hW.cell hB).trans c0, (hW.cell hB).trans c1⟩

def addP (i : Nat) (p : List Tg) (e : Eg) : List Tg := if pgN e.1 = i ∧ inB p (pgT (pgN e.2)) = false ∧ p.length < 8 then p ++ [pgT (pgN e.2)] else p
/-- what page i names -/
def psh (es : List Eg) (i : Nat) : List Tg := es.foldl (addP i) []
def one (es : List Eg) (i : Nat) : List Pu := if psh es i = [] then [] else [(pgT i, psh es i)]
def mkR (es : List Eg) (k : Nat) : List Pu := (List.range k).flatMap (one es)
theorem mkR_succ (es : List Eg) (k : Nat) : mkR es (k + 1) = mkR es k ++ one es k := by
  unfold mkR
  rw [List.range_succ, List.flatMap_append]
  simp
theorem one_len (es : List Eg) (i : Nat) : (one es i).length ≤ 1 := by unfold one; split <;> simp
theorem mkR_len (es : List Eg) : ∀ k, (mkR es k).length ≤ k
  | 0 => by simp [mkR]
  | k + 1 => by rw [mkR_succ, List.length_append]; have := mkR_len es k; have := one_len es k; omega

set_option maxHeartbeats 16000000 in
set_option maxRecDepth 100000 in
theorem made_any (x : SV) (es : List Eg) (w : World) (hI : In EE w (sv x) es) : Calls Try.prog 7 #[sv x] w fun e w' => OwPost (mkR es 16) w e w' := by
  have HI : Hid (In EE w (sv x) es) := hI
  obtain ⟨b, c, e, m1, m2⟩ := hI.slice
  obtain ⟨sb, sl, sc⟩ := x
  simp only [sv] at e HI ⊢
  injection e with e1 e2 e3
  subst e1 e2 e3
  clear hI
  go_enter Try.func7, Try.ntmps7
  go_wp2_with fail
  go_loopw [3, 4] (fun tv kv wr => ∃ (i : Nat) (v : SV), kv = .int .i64 (i : Int) ∧ i ≤ 16 ∧ tv = sv v ∧ Hid (Om w wr v (mkR es i))) (fun _ kv _ => 16 - (intOf kv).toNat)
  case atStart => exact ⟨0, (none, 0, 0), rfl, by omega, rfl, Om.start w⟩
  case round =>
    obtain ⟨i, v, rfl, hi, rfl, hO⟩ := hrel
    obtain ⟨vb, vl, vc⟩ := v
    simp only [sv]
    by_cases h16 : i < 16
    · have l1 : (i : Int) < 16 := by omega
      obtain ⟨Wi, hWi⟩ : ∃ Wi, Wi = wr := ⟨_, rfl⟩
      subst hWi
      go_wp2_with fail
      go_loopw [5, 6, 7] (fun pv jv _ ws => ∃ (j : Nat) (p : SV), jv = .int .i64 (j : Int) ∧ j ≤ es.length ∧ pv = sv p ∧ Hid (R ET ws (sv p) ((es.take j).foldl (addP i) [])) ∧ Hid (Gr Wi ws (.slice none 0 0) (sv p))) (fun _ jv _ _ => es.length - (intOf jv).toNat)
      case atStart => exact ⟨0, (none, 0, 0), rfl, by omega, rfl, R.nil _ _, Gr.refl _ _⟩
      case round =>
        obtain ⟨j, p, rfl, hj, rfl, hR, hG⟩ := hrel
        obtain ⟨P, hP⟩ : ∃ P, (es.take j).foldl (addP i) [] = P := ⟨_, rfl⟩
        rw [hP] at hR
        have HP : Hid ((es.take j).foldl (addP i) [] = P) := hP
        clear hP
        obtain ⟨tb, tc, et, n1, n2⟩ := hR.out.slice
        obtain ⟨pb, pl, pc⟩ := p
        simp only [sv] at et hR hG ⊢
        injection et with et1 et2 et3
        subst et1 et2 et3
        have HB : Hid (Below w.heap.size w Wi) := hO.out.bel
        have HBs : Hid (Below Wi.heap.size Wi wr) := hG.out.fresh
        have HBw : Hid (Below w.heap.size w wr) := HB.out.trans (HBs.out.mono HB.out.size)
        by_cases hlt : j < es.length
        · obtain ⟨Bk, off, cap, e, hc⟩ := HI.out.eg j hlt
          injection e with e1 e2 e3
          clear e2 e3
          subst e1
          obtain ⟨u, hu⟩ : ∃ u, es[j] = u := ⟨_, rfl⟩
          rw [hu] at hc
          have HTK : Hid ((es.take (j + 1)).foldl (addP i) [] = addP i P u) := by show _ = _; rw [List.take_succ_eq_append_getElem hlt, List.foldl_append, HP.out, hu]; rfl
          have HC : Hid (∀ W, Below w.heap.size w W → W.cell? ⟨Bk, off + j * 2, none⟩ = some (.int .i64 u.1) ∧ W.cell? ⟨Bk, off + j * 2 + 1, none⟩ = some (.int .i64 u.2)) := hc
          clear hc hu
          obtain ⟨uf, ut⟩ := u
          simp only at HC
          have hlt' : (j : Int) < (es.length : Int) := by omega
          have ha := pgN_and uf
          obtain ⟨m, hm⟩ : ∃ m, pgN uf = m := ⟨_, rfl⟩
          rw [hm] at ha
          have Hm : Hid (pgN uf = m) := hm
          clear hm
          obtain ⟨T, hT⟩ : ∃ T, pgT (pgN ut) = T := ⟨_, rfl⟩
          have HT : Hid (pgT (pgN ut) = T) := hT
          have HPG : Hid (∀ W, Calls Try.prog 11 #[.int .i64 ut] W fun e w' => e = .returned (.agg (tgv T)) ∧ Below W.heap.size W w') := fun W => by rw [← hT]; exact page_any ut W
          clear hT
          obtain ⟨Ta, Tp⟩ := T
          unfold tgv at HPG
          simp only at HPG
          obtain ⟨c0, c1⟩ := HC.out wr HBw.out
          go_wp2_with fail
          go_at_call 11
          refine (HPG.out _).mono ?_
          rintro e w1 ⟨rfl, hb1⟩
          have HB1 : Hid (Below wr.heap.size wr w1) := hb1
          have HBw1 : Hid (Below w.heap.size w w1) := HBw.out.trans (hb1.mono HBw.out.size)
          obtain ⟨q, hq⟩ : ∃ q, q = w1.heap.size := ⟨_, rfl⟩
          obtain ⟨W2, hW2⟩ : ∃ W2, W2 = w1.alloc (.cells #[.string Ta, .string Tp] 26) := ⟨_, rfl⟩
          have HB2 : Hid (Below w1.heap.size w1 W2) := by rw [hW2]; exact bel1 _ _
          have s0 : W2.cell? ⟨q, 0, none⟩ = some (.string Ta) := by rw [hW2, hq]; exact cell_blk (c := #[.string Ta, .string Tp]) (t := 26) (by rw [heap_al, if_pos rfl]) 0
          have s1 : W2.cell? ⟨q, 1, none⟩ = some (.string Tp) := by rw [hW2, hq]; exact cell_blk (c := #[.string Ta, .string Tp]) (t := 26) (by rw [heap_al, if_pos rfl]) 1
          have HBw2 : Hid (Below w.heap.size w W2) := HBw1.out.trans (HB2.out.mono HBw1.out.size)
          have HR2 : Hid (R ET W2 (.slice pb P.length pc) P) := (hR.out.below HB1.out).below HB2.out
          have HG2 : Hid (Gr Wi W2 (.slice none 0 0) (.slice pb P.length pc)) := (hG.out.trans (Gr.below HB1.out _)).trans (Gr.below HB2.out _)
          have HX : Hid (Calls Try.prog 14 #[.slice pb P.length pc, .agg #[.string Ta, .string Tp]] W2 fun e w' => e = .returned (.bool (inB P (Ta, Tp))) ∧ Below W2.heap.size W2 w') := in_any (pb, P.length, pc) P (Ta, Tp) W2 HR2.out.isIn
          obtain ⟨d0, d1⟩ := HC.out W2 HBw2.out
          clear hb1 c0 c1 HPG
          go_upto_region 10 with fail
          rw [← hW2, ← hq]
          clear hW2 hq
          by_cases hmi : m = i
          · subst hmi
            cases hin : inB P (Ta, Tp)
            · rw [hin] at HX
              by_cases h8 : P.length < 8
              · have l8 : (P.length : Int) < 8 := by omega
                have HA : Hid (addP m P (uf, ut) = P ++ [(Ta, Tp)]) := by show _ = _; unfold addP; rw [if_pos ⟨Hm.out, by rw [HT.out]; exact hin, h8⟩, HT.out]
                clear hin
                go_wp2_with fail
                go_at_call 14
                refine HX.out.mono ?_
                rintro e w3 ⟨rfl, hb3⟩
                have t0 : w3.cell? ⟨q, 0, none⟩ = some (.string Ta) := (hb3.cell (World.block_lt_of_cell? _ _ s0)).trans s0
                have t1 : w3.cell? ⟨q, 1, none⟩ = some (.string Tp) := (hb3.cell (World.block_lt_of_cell? _ _ s1)).trans s1
                have HR3 : R ET (w3.alloc (.cells #[.string Ta, .string Tp] 26)) (.slice pb P.length pc) P := (HR2.out.below hb3).below (bel1 _ _)
                have HG3 : Hid (Gr Wi (w3.alloc (.cells #[.string Ta, .string Tp] 26)) (.slice none 0 0) (.slice pb P.length pc)) := (HG2.out.trans (Gr.below hb3 _)).trans (Gr.below (bel1 _ _) _)
                obtain ⟨ab, ac, W4, hrun, hRa, hGa⟩ := app okT _ _ P HR3 (.slice (some ⟨w3.heap.size, 0, none⟩) 1 1) [(Ta, Tp)] (in_one (E := ET) _ _ (Ta, Tp) #[.string Ta, .string Tp] 26 (0, 0) (by rw [heap_al, if_pos rfl]) rfl) (by simp [ET]; omega)
                simp only [List.length_singleton] at hrun hRa hGa
                have HRa : Hid (R ET W4 (.slice ab (P.length + 1) ac) (P ++ [(Ta, Tp)])) := hRa
                have HGa : Hid (Gr Wi W4 (.slice none 0 0) (.slice ab (P.length + 1) ac)) := HG3.out.trans hGa
                have hrun' : (Builtin.append_ #[27, 27] 27 #[.slice pb P.length pc, .slice (some ⟨w3.heap.size, 0, none⟩) 1 1]).run Try.prog (w3.alloc (.cells #[.string Ta, .string Tp] 26)) = .ok (.slice ab (P.length + 1) ac) W4 := hrun
                have HRUN : Hid ((Builtin.append_ #[27, 27] 27 #[.slice pb P.length pc, .slice (some ⟨w3.heap.size, 0, none⟩) 1 1]).run Try.prog (w3.alloc (.cells #[.string Ta, .string Tp] 26)) = .ok (.slice ab (P.length + 1) ac) W4) := hrun'
                clear hb3 s0 s1 HX hRa hGa HR3 hrun hrun'
                go_wp2_with (at_builtin; refine Lib.wpList_append_run _ rfl _ _ _ _ rfl _ _ rfl rfl _ _ HRUN.out ?_)
                go_roundw
                case rel => exact ⟨j + 1, (ab, P.length + 1, ac), by simp, by omega, rfl, by rw [HTK.out, HA.out]; exact HRa.out, HGa.out⟩
                case measure => simp [intOf]; omega
              · have l8 : ¬ (P.length : Int) < 8 := by omega
                have HA : Hid (addP m P (uf, ut) = P) := by show _ = _; unfold addP; rw [if_neg fun h => h8 h.2.2]
                clear hin
                go_wp2_with fail
                go_at_call 14
                refine HX.out.mono ?_
                rintro e w3 ⟨rfl, hb3⟩
                have HRa : Hid (R ET w3 (.slice pb P.length pc) P) := HR2.out.below hb3
                have HGa : Hid (Gr Wi w3 (.slice none 0 0) (.slice pb P.length pc)) := HG2.out.trans (Gr.below hb3 _)
                clear hb3 HX
                go_wp2_with fail
                go_roundw
                case rel => exact ⟨j + 1, (pb, P.length, pc), by simp, by omega, rfl, by rw [HTK.out, HA.out]; exact HRa.out, HGa.out⟩
                case measure => simp [intOf]; omega
            · rw [hin] at HX
              have HA : Hid (addP m P (uf, ut) = P) := by show _ = _; unfold addP; rw [if_neg fun h => by rw [HT.out, hin] at h; cases h.2.1]
              clear hin
              go_wp2_with fail
              go_at_call 14
              refine HX.out.mono ?_
              rintro e w3 ⟨rfl, hb3⟩
              have HRa : Hid (R ET w3 (.slice pb P.length pc) P) := HR2.out.below hb3
              have HGa : Hid (Gr Wi w3 (.slice none 0 0) (.slice pb P.length pc)) := HG2.out.trans (Gr.below hb3 _)
              clear hb3 HX
              go_wp2_with fail
              go_roundw
              case rel => exact ⟨j + 1, (pb, P.length, pc), by simp, by omega, rfl, by rw [HTK.out, HA.out]; exact HRa.out, HGa.out⟩
              case measure => simp [intOf]; omega
          · have hne : ((m : Int) == (i : Int)) = false := beq_eq_false_iff_ne.2 (by omega)
            have HA : Hid (addP i P (uf, ut) = P) := by show _ = _; unfold addP; rw [if_neg fun h => hmi (by rw [← Hm.out]; exact h.1)]
            clear hmi HX
            go_wp2_with fail
            go_roundw
            case rel => exact ⟨j + 1, (pb, P.length, pc), by simp, by omega, rfl, by rw [HTK.out, HA.out]; exact HR2.out, HG2.out⟩
            case measure => simp [intOf]; omega
        · obtain rfl : j = es.length := by omega
          have hlt' : ¬ (es.length : Int) < (es.length : Int) := by omega
          have HPS : Hid (psh es i = P) := by show _ = _; unfold psh; rw [← HP.out, List.take_length]
          have HOs : Hid (Om w wr (vb, vl, vc) (mkR es i)) := hO.out.below HBs.out
          by_cases h0 : P = []
          · have HM : Hid (mkR es (i + 1) = mkR es i) := by show _ = _; rw [mkR_succ]; unfold one; rw [HPS.out, if_pos h0, List.append_nil]
            subst h0
            go_wp2_with fail
            go_roundw
            case rel => exact ⟨i + 1, (vb, vl, vc), by simp, by omega, rfl, by rw [HM.out]; exact HOs.out⟩
            case measure => simp [intOf]; omega
          · have hpl : 0 < P.length := List.length_pos_iff.2 h0
            have l0 : (0 : Int) < (P.length : Int) := by omega
            have HM : Hid (mkR es (i + 1) = mkR es i ++ [(pgT i, P)]) := by show _ = _; rw [mkR_succ]; unfold one; rw [HPS.out, if_neg h0]
            obtain ⟨T, hT⟩ : ∃ T, pgT i = T := ⟨_, rfl⟩
            rw [hT] at HM
            have HPG : Hid (∀ W, Calls Try.prog 11 #[.int .i64 (i : Int)] W fun e w' => e = .returned (.agg (tgv T)) ∧ Below W.heap.size W w') := fun W => by have := page_any (i : Int) W; rw [pgN_nat h16, hT] at this; exact this
            have HLN : Hid ((mkR es i).length = vl) := by show _ = _; exact hO.out.slice.symm
            have HLL : Hid (vl ≤ 16) := by have := mkR_len es i; rw [HLN.out] at this; show vl ≤ 16; omega
            clear hT h0 hpl
            obtain ⟨Ta, Tp⟩ := T
            unfold tgv at HPG
            simp only at HPG
            go_wp2_with fail
            go_at_call 11
            refine (HPG.out _).mono ?_
            rintro e w1 ⟨rfl, hb1⟩
            have HO1 : Hid (Om w (w1.alloc (.cells #[.string Ta, .string Tp, .slice pb P.length pc] 29)) (vb, vl, vc) (mkR es i)) := (HOs.out.below hb1).below (bel1 _ _)
            have HR1 : R ET (w1.alloc (.cells #[.string Ta, .string Tp, .slice pb P.length pc] 29)) (.slice pb P.length pc) P := (hR.out.below hb1).below (bel1 _ _)
            obtain ⟨ab, ac, W4, hrun, hOa, hGa⟩ := HO1.out.grow (Ta, Tp) (pb, P.length, pc) P HR1 (.slice (some ⟨w1.heap.size, 0, none⟩) 1 1) (in_one (E := ER) _ _ (⟨(Ta, Tp), (pb, P.length, pc), P⟩ : Ru) #[.string Ta, .string Tp, .slice pb P.length pc] 29 (0, 0) (by rw [heap_al, if_pos rfl]) rfl) (by rw [HLN.out]; have := HLL.out; omega)
            rw [HLN.out] at hrun hOa
            simp only [sv] at hrun
            have HOa : Hid (Om w W4 (ab, vl + 1, ac) (mkR es (i + 1))) := by rw [HM.out]; exact hOa
            have HRUN : Hid ((Builtin.append_ #[23, 23] 23 #[.slice vb vl vc, .slice (some ⟨w1.heap.size, 0, none⟩) 1 1]).run Try.prog (w1.alloc (.cells #[.string Ta, .string Tp, .slice pb P.length pc] 29)) = .ok (.slice ab (vl + 1) ac) W4) := hrun
            clear hOa hGa HR1 hb1 HPG hrun
            go_wp2_with (at_builtin; refine Lib.wpList_append_run _ rfl _ _ _ _ rfl _ _ rfl rfl _ _ HRUN.out ?_)
            go_roundw
            case rel => exact ⟨i + 1, (ab, vl + 1, ac), by simp, by omega, rfl, HOa.out⟩
            case measure => simp [intOf]; omega
    · obtain rfl : i = 16 := by omega
      have l1 : ¬ (16 : Int) < 16 := by omega
      have HPP : Hid (OwPost (mkR es 16) w (.returned (sv (vb, vl, vc))) wr) := hO.out.post
      simp only [sv] at HPP
      go_wp2_with fail
      go_ret
      exact HPP.out
end Go.Proofs.Ytldnibkgdpeocaa
