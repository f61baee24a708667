/- the law's built. -/
import Derived.Test.YtacboeeimnikdaaDoorH3
import Derived.BigQuiet
import Derived.Deep.QuietTactic
import Derived.Deep.CutRange
namespace Go.Proofs.YtacboeeimnikdaaDoor
open Go.RowKit Go.Maps
open Go.Shelf
set_option linter.unusedVariables false
set_option linter.unusedSimpArgs false

def BuP (w : World) (e : Ending) (w' : World) : Prop := ∃ (W : World) (y : SV) (l : List PC) (g : Nat), e = .returned (.tuple #[.pointer (some ⟨g, 0, none⟩), sv y, .bool true]) ∧ Bt w W y l ∧ Below W.heap.size W w' ∧ W.heap.size ≤ g ∧ Sx w' W.heap.size g l.length 1 (Fk l) (l.map tgP)
/-- within the loop -/
def BtE (w wr : World) (v : Value) : Prop := ∃ (y : SV) (l : List PC), v = sv y ∧ Bt w wr y l
def anyP (l : List PC) (P : ByteArray) (k : Nat) : Bool := (l.take k).any fun x => x.1.p.toList == P.toList
theorem anyP_succ {l : List PC} {P : ByteArray} {k : Nat} (h : k < l.length) : anyP l P (k + 1) = (anyP l P k || (l[k].1.p.toList == P.toList)) := by
  unfold anyP
  rw [List.take_succ_eq_append_getElem h, List.any_append]
  simp
theorem bel_n (w : World) (n : Nat) : Below w.heap.size w (w.drewN n) := below_drewN (Below.refl _ _) n
set_option maxHeartbeats 16000000 in
set_option maxRecDepth 100000 in
theorem built_any (x : SV) (ps : List PC) (w : World) (hI : In EPg w (sv x) ps) (hC : ChIn w ps) (ht : Tab w) :
    Calls Tryd.prog 17 #[sv x] w fun e w' => BuP w e w' := by
  have HI : Hid (In EPg w (sv x) ps) := hI
  have HC : Hid (ChIn w ps) := hC
  have HT : Hid (Tab w) := ht
  obtain ⟨b0, c0, e0, m1, m2⟩ := hI.slice
  obtain ⟨sb, sl, sc⟩ := x
  simp only [sv] at e0 HI ⊢
  injection e0 with e1 e2 e3
  subst e1 e2 e3
  clear hI hC ht
  go_enter Tryd.func17, Tryd.ntmps17
  go_wp2_with fail
  go_loopw [5, 6, 7, 8, 9] (fun lv iv _ _ _ wr => ∃ i : Nat, iv = .int .i64 (i : Int) ∧ i ≤ ps.length ∧ Hid (BtE w wr lv)) (fun _ iv _ _ _ _ => ps.length - (intOf iv).toNat)
  case atStart => exact ⟨0, rfl, by omega, (none, 0, 0), [], rfl, Bt.start w⟩
  case round =>
    obtain ⟨i, rfl, hi, ⟨y, l, rfl, hB'⟩⟩ := hrel
    have hB : Hid (Bt w wr y l) := hB'
    obtain ⟨b0, c0, e0, n1, n2⟩ := hB'.row.slice
    obtain ⟨yb, yl, yc⟩ := y
    simp only [sv] at e0 ⊢
    injection e0 with f1 f2 f3
    subst f2
    obtain ⟨nl, hnl⟩ : ∃ nl, nl = l.length := ⟨_, rfl⟩
    have HNL : Hid (nl = l.length) := hnl
    rw [← hnl] at n1 hB ⊢
    clear f1 f3 hB' hnl
    by_cases hlt : i < ps.length ∧ nl < 20
    · obtain ⟨hi1, hi2⟩ := hlt
      have l1 : (i : Int) < (ps.length : Int) := by omega
      have l2 : (nl : Int) < 20 := by omega
      obtain ⟨Bk, off, cap, e, hc⟩ := HI.out.pg i hi1
      injection e with e1 e2 e3
      clear e2 e3
      subst e1
      obtain ⟨c0, c1, c2, c3, c4⟩ := hc wr hB.out.bel
      obtain ⟨z, hz⟩ : ∃ z, ps[i] = z := ⟨_, rfl⟩
      rw [hz] at c0 c1 c2 c3 c4
      have CR : Hid (Calls Tryd.prog 19 #[.agg (pgv z.1)] wr fun e w' => RtP z.1 z.2 wr e w') := right_any z.1 z.2 wr ((HC.out z (by rw [← hz]; exact List.getElem_mem _)).below hB.out.bel) (HT.out.below hB.out.bel)
      clear hc hz
      obtain ⟨⟨za, zp, zn, zv, zb, zl, zc⟩, zch⟩ := z
      unfold pgv at CR
      simp only [sv] at c0 c1 c2 c3 c4 CR
      have HI2 : Hid (nl < 20) := hi2
      clear hi2
      go_wp2_with fail
      go_at_call 19
      refine CR.out.mono ?_
      rintro e w1 ⟨⟨ub, ul, uc⟩, rfl, hb1, hR1, hn1⟩
      simp only at hR1
      have hB1 : Hid (Bt w w1 (yb, nl, yc) l) := hB.out.below hb1
      have HPG : Hid (pgB ⟨aTest, rtP zp, 200, rtV (rtK zn), (ub, ul, uc)⟩ (rtL zn zch) = true ∧ (rtP zp).size ≤ 4) := ⟨right_pg zp zn zch _, rtP_size zp⟩
      obtain ⟨P, hP⟩ : ∃ P, rtP zp = P := ⟨_, rfl⟩
      obtain ⟨V, hV⟩ : ∃ V, rtV (rtK zn) = V := ⟨_, rfl⟩
      obtain ⟨CL, hCL⟩ : ∃ CL, rtL zn zch = CL := ⟨_, rfl⟩
      unfold pgv
      simp only [sv]
      rw [hP, hV]
      rw [hP, hV, hCL] at HPG
      rw [hCL] at hR1
      obtain ⟨W2, hW2⟩ : ∃ W2, W2 = w1.alloc (.cells #[.string aTest, .string P, .int .i64 200, .string V, .slice ub ul uc] 26) := ⟨_, rfl⟩
      obtain ⟨q, hq⟩ : ∃ q, q = w1.heap.size := ⟨_, rfl⟩
      have HQ : Hid (W2.heap[q]? = some (.cells #[.string aTest, .string P, .int .i64 200, .string V, .slice ub ul uc] 26 (0, 0))) := by show _ = _; rw [hW2, hq, heap_al, if_pos rfl]
      have HB2 : Hid (Bt w W2 (yb, nl, yc) l) := by rw [hW2]; exact hB1.out.below (bel1 _ _)
      have HR2 : Hid (R ECh W2 (sv (ub, ul, uc)) CL) := by rw [hW2]; exact hR1.below (bel1 _ _)
      clear hb1 hR1 hn1 hB1 hP hV hCL CR c0 c1 c2 c3 c4
      go_upto_region 6 with fail
      rw [← hW2, ← hq]
      clear hW2 hq
      go_wp2_with fail
      go_loopw [8, 9] (fun bv kv wx => ∃ k : Nat, kv = .int .i64 (k : Int) ∧ bv = .bool (anyP l P k) ∧ k ≤ nl ∧ Hid (Below W2.heap.size W2 wx)) (fun _ kv _ => nl - (intOf kv).toNat)
      case atStart => exact ⟨0, rfl, by first | rfl | simp [anyP], by omega, Below.refl _ _⟩
      case round =>
        obtain ⟨k, rfl, rfl, hk, hb⟩ := hrel
        have HBk : Hid (Bt w wr (yb, nl, yc) l) := HB2.out.below hb.out
        have hqk := (hb.out.block _ (heap_lt HQ.out)).trans HQ.out
        have q1 := cell_blk hqk 1
        simp at q1
        by_cases hkl : k < nl
        · have l3 : (k : Int) < (nl : Int) := by omega
          have hkl' : k < l.length := by have := HNL.out; omega
          obtain ⟨B2, o2, cap2, e, hB2', hc2⟩ := HBk.out.row.isIn.get okPg k hkl'
          simp only [sv] at e
          injection e with e1 e2 e3
          clear e2 e3
          subst e1
          obtain ⟨PP, hPP⟩ : ∃ PP, l[k].1.p = PP := ⟨_, rfl⟩
          have p1 := hc2 1 (.string PP) (by rw [← hPP]; rfl)
          simp [EPg] at p1
          have HS : Hid (anyP l P (k + 1) = (anyP l P k || (PP.toList == P.toList))) := by rw [← hPP]; exact anyP_succ hkl'
          clear hc2 hPP hB2' hqk
          cases ha : anyP l P k
          · rw [ha] at HS
            cases hp : (PP.toList == P.toList)
            · rw [hp] at HS
              go_upto_region 10 with fail
              go_quiet (fail)
              go_wp2_with fail
              go_roundw
              case rel => exact ⟨k + 1, by simp, by rw [HS.out]; rfl, by omega, hb.out.trans ((bel_n _ _).mono hb.out.size)⟩
              case measure => simp [intOf]; omega
            · rw [hp] at HS
              go_upto_region 10 with fail
              go_quiet (fail)
              go_wp2_with fail
              go_roundw
              case rel => exact ⟨k + 1, by simp, by rw [HS.out]; rfl, by omega, hb.out.trans ((bel_n _ _).mono hb.out.size)⟩
              case measure => simp [intOf]; omega
          · rw [ha, Bool.true_or] at HS
            go_upto_region 10 with fail
            go_quiet (fail)
            go_wp2_with fail
            go_roundw
            case rel => exact ⟨k + 1, by simp, by rw [HS.out], by omega, hb.out.trans ((bel_n _ _).mono hb.out.size)⟩
            case measure => simp [intOf]; omega
        · have l3 : ¬ (k : Int) < (nl : Int) := by omega
          have HKN : Hid (k = nl) := by show _ = _; omega
          clear hkl
          cases ha : anyP l P k
          · have HNE : Hid (∀ z ∈ l, z.1.p ≠ P) := fun z hz e => by
              have h := ha
              rw [HKN.out, HNL.out] at h
              unfold anyP at h
              rw [List.take_length] at h
              have := List.any_eq_false.1 h z hz
              rw [e] at this
              simp at this
            have q0 := cell_blk hqk 0
            have q2 := cell_blk hqk 2
            have q3 := cell_blk hqk 3
            have q4 := cell_blk hqk 4
            simp at q0 q2 q3 q4
            have hR3 : R ECh (wr.alloc (.cells #[.string aTest, .string P, .int .i64 200, .string V, .slice ub ul uc] 26)) (sv (ub, ul, uc)) CL := (HR2.out.below hb.out).below (bel1 _ _)
            have hIn : In EPg (wr.alloc (.cells #[.string aTest, .string P, .int .i64 200, .string V, .slice ub ul uc] 26)) (.slice (some ⟨wr.heap.size, 0, none⟩) 1 1) [(⟨aTest, P, 200, V, (ub, ul, uc)⟩, CL)] := in_one (E := EPg) _ _ ((⟨aTest, P, 200, V, (ub, ul, uc)⟩, CL) : PC) #[.string aTest, .string P, .int .i64 200, .string V, .slice ub ul uc] 26 (0, 0) (by rw [heap_al, if_pos rfl]) rfl
            obtain ⟨bx, mx, cx, w9, hrun, hA9⟩ := (HBk.out.below (bel1 _ _)).app (⟨aTest, P, 200, V, (ub, ul, uc)⟩, CL) _ hIn hR3 ⟨HPG.out.1, rfl, HPG.out.2⟩ HNE.out (by have := HNL.out; have := HI2.out; omega)
            have HRUN : Hid ((Builtin.append_ #[34, 34] 34 #[.slice yb nl yc, .slice (some ⟨wr.heap.size, 0, none⟩) 1 1]).run Tryd.prog (wr.alloc (.cells #[.string aTest, .string P, .int .i64 200, .string V, .slice ub ul uc] 26)) = .ok (.slice bx mx cx) w9) := hrun
            have HA9 : Hid (BtE w w9 (.slice bx mx cx)) := ⟨(bx, mx, cx), _, rfl, hA9⟩
            clear hrun hA9 hIn hR3 hqk
            go_wp2_with (at_builtin; refine Lib.wpList_append_run _ rfl _ _ _ _ rfl _ _ rfl rfl _ _ HRUN.out ?_)
            go_roundw
            case rel => exact ⟨i + 1, by simp, by omega, HA9.out⟩
            case measure => simp [intOf]; omega
          · have HA9 : Hid (BtE w wr (.slice yb nl yc)) := ⟨(yb, nl, yc), _, rfl, HBk.out⟩
            clear hqk
            go_wp2_with fail
            go_roundw
            case rel => exact ⟨i + 1, by simp, by omega, HA9.out⟩
            case measure => simp [intOf]; omega
    · have HEX : ¬ (i : Int) < (ps.length : Int) ∨ ((i : Int) < (ps.length : Int) ∧ ¬ (nl : Int) < 20) := by omega
      clear hlt
      go_upto_region 3 with fail
      go_cut [20] from 12 to 50 (fun bv wx => bv = .bool false ∧ wx = wr)
      case first =>
        rcases HEX with h1 | ⟨h1, h2⟩
        · go_wp2_with fail
          go_meet
          case rel => exact ⟨rfl, rfl⟩
        · go_wp2_with fail
          go_meet
          case rel => exact ⟨rfl, rfl⟩
      case rest =>
        obtain ⟨rfl, hw⟩ := hcut
        replace hw := hw.symm
        subst hw
        clear HEX
        have CN : Hid (Calls Tryd.prog 10 #[.slice yb nl yc] wr fun e w' => Below wr.heap.size wr w' ∧ ∃ g, wr.heap.size ≤ g ∧ e = .returned (.tuple #[.pointer (some ⟨g, 0, none⟩), .int .i64 0]) ∧ Sx w' wr.heap.size g l.length 1 (Fk l) (l.map tgP)) := hB.out.new_any
        go_wp2_with fail
        go_at_call 10
        refine CN.out.mono ?_
        rintro e w2 ⟨hb2, g, hg, rfl, hS⟩
        have CV : Hid (Calls Tryd.prog 15 #[.pointer (some ⟨g, 0, none⟩)] w2 fun e w' => e = .returned (.int .i64 1) ∧ w' = w2) := hS.version
        have HFIN : Hid (BuP w (.returned (.tuple #[.pointer (some ⟨g, 0, none⟩), .slice yb nl yc, .bool true])) w2) := ⟨wr, (yb, nl, yc), l, g, rfl, hB.out, hb2, hg, hS⟩
        clear hb2 hg hS CN
        go_wp2_with fail
        go_at_call 15
        refine CV.out.mono ?_
        rintro e w3 ⟨rfl, hw3⟩
        replace hw3 := hw3.symm
        subst hw3
        clear CV
        go_wp2_with fail
        go_ret3
        exact HFIN.out
end Go.Proofs.YtacboeeimnikdaaDoor
