/- MessageBodiless, walked. -/
import Derived.Test.YtnbaojdildelmaaDoorL0
import Derived.Deep.Cut
import Derived.Deep.CutRange
namespace Go.Proofs.YtnbaojdildelmaaDoor
open Go.RowKit
set_option linter.unusedVariables false
set_option linter.unusedSimpArgs false
set_option maxHeartbeats 40000000 in
set_option maxRecDepth 100000 in
theorem messageBodiless_any (length : Int) (s : ByteArray) (status : Int) (w : World) (hl1 : -9223372036854775808 ≤ length) (hl2 : length ≤ 9223372036854775807) (hs : s.size ≤ 140737488351232) (hs1 : -9223372036854775808 ≤ status) (hs2 : status ≤ 9223372036854775807) (he : Er w) (ht : Tab w) :
    Calls Tryd.prog 5 #[.int .i64 length, .string s, .int .i64 status] w fun e w' => OvPost w e w' := by
  have hh : Hid (Calls Tryd.prog 7 #[] w fun e w' => OvPost w e w') := head_any w he
  have HER : Hid (Er w) := he
  have HTB : Hid (Tab w) := ht
  obtain ⟨L, hL⟩ : ∃ L : Int, (if length < 0 then -(length + 1) else length) = L := ⟨_, rfl⟩
  have HL : Hid ((if length < 0 then -(length + 1) else length) = L) := hL
  have hL0 : 0 ≤ L := by rw [← hL]; split <;> omega
  have hL9 : L ≤ 9223372036854775807 := by rw [← hL]; split <;> omega
  obtain ⟨u, hu⟩ : ∃ u : Nat, L % 2147483648 = (u : Int) := ⟨(L % 2147483648).toNat, by omega⟩
  have hu9 : u ≤ 2147483647 := by omega
  have HU : Hid (L % 2147483648 = (u : Int)) := hu
  obtain ⟨kk, hkk⟩ : ∃ kk : Int, status.tmod 400 = kk := ⟨_, rfl⟩
  have HKK : Hid (status.tmod 400 = kk) := hkk
  have hk1 : -400 < kk ∧ kk < 400 := by
    rw [← hkk]
    have h1 := Int.tmod_lt_of_pos status (b := 400) (by decide)
    have h2 := Int.lt_tmod_of_pos status (b := 400) (by decide)
    omega
  obtain ⟨kp, hkp⟩ : ∃ kp : Nat, kk.natAbs = kp := ⟨_, rfl⟩
  have hkp9 : kp < 400 := by omega
  have HKP : Hid (kk.natAbs = kp) := hkp
  obtain ⟨nn, hnn⟩ : ∃ nn : Nat, 200 + kp = nn := ⟨_, rfl⟩
  have hnn9 : 200 ≤ nn ∧ nn ≤ 599 := by omega
  obtain ⟨CO, hCO⟩ : ∃ c, decS nn = c := ⟨_, rfl⟩
  obtain ⟨DL, hDL⟩ : ∃ c, decS u = c := ⟨_, rfl⟩
  have HCO : Hid (stB CO = true ∧ valB CO = true ∧ numL CO.data.toList = (nn : Int) ∧ (200 : Int) ≤ (nn : Int)) := by
    rw [← hCO]
    exact ⟨(dec_stat (by omega) hnn9.2).1, dec_val (by omega), (dec_stat (by omega) hnn9.2).2, by omega⟩
  have HLN : Hid (LnOk DL) := .inr ⟨u, hu9, hDL.symm⟩
  have hit : Hid (∀ W, Below w.heap.size w W → Calls Tryd.prog 9 #[.int .i64 (nn : Int)] W fun e w' => e = .returned (.string CO) ∧ Below W.heap.size W w') := fun W hb => by rw [← hCO]; exact itoa_any nn (by omega) W (ht.below hb)
  have hfo : Hid (∀ W, Below w.heap.size w W → Calls Tryd.prog 13 #[.int .i64 (u : Int), .int .i64 10] W fun e w' => e = .returned (.string DL) ∧ Below W.heap.size W w') := fun W hb => by rw [← hDL]; exact format_any u (by omega) W (ht.below hb)
  obtain ⟨V, hV⟩ : ∃ v, (⟨#[120]⟩ : ByteArray) ++ s = v := ⟨_, rfl⟩
  have hVs : V.size = 1 + s.size := by rw [← hV, ByteArray.size_append]; rfl
  have hvx : ¬ 1 + s.size > 9223372036854775807 := by omega
  obtain ⟨RE, hRE⟩ : ∃ r : Int, (if 65536 ≤ s.size then (3 : Int) else 140) = r := ⟨_, rfl⟩
  have HRE : Hid (RE = 3 ∧ 65536 ≤ s.size ∨ RE = 140) := by
    rw [← hRE]
    by_cases h : 65536 ≤ s.size
    · left; rw [if_pos h]; exact ⟨rfl, h⟩
    · right; rw [if_neg h]
  have HV : Hid (V.size ≤ 140737488355328 ∧ dtE 0 true 0 ([] : List UInt8).length V.size false = RE ∧ dtS 0 true 0 ([] : List UInt8).length V.size false = 2 ∧ dtB 0 true 0 [] V false = []) := by
    have hr : rfE true 0 (((([] : List UInt8).length : Nat) : Int) + (V.size : Int)) false = RE := by
      unfold rfE
      rw [← hRE, hVs]
      by_cases h : 65536 ≤ s.size
      · rw [if_pos h, if_pos (by simp; omega)]
      · rw [if_neg h, if_neg (by simp; omega), if_pos ⟨rfl, .inl (by simp; omega)⟩]
    have hr0 : RE ≠ 0 := by rw [← hRE]; split <;> decide
    refine ⟨by rw [hVs]; omega, ?_, ?_, ?_⟩
    · unfold dtE; rw [if_neg (by decide)]; exact hr
    · unfold dtS; rw [if_neg (by decide), hr, if_pos hr0]
    · unfold dtB; rw [if_neg (by decide), hr, if_pos hr0]
  clear he ht hL hu hkk hkp hCO hDL hVs hRE
  go_enter Tryd.func5, Tryd.ntmps5
  go_wp2_with fail
  go_at_call 7
  refine Calls.mono hh.out ?_
  rintro e wh ⟨rfl, bh⟩
  have BH : Hid (Below w.heap.size w wh) := bh
  clear bh hh
  go_upto_if 25 with fail
  go_cut [0] from 22 (fun x wx => x = .int .i64 L ∧ wx = wh)
  case first =>
    by_cases h0 : length < 0
    · have hx : Hid (-(length + 1) = L) := by have := HL.out; rw [if_pos h0] at this; exact this
      clear hL0 hL9
      go_wp2_with fail
      go_meet
      exact ⟨by rw [← hx.out], rfl⟩
    · have hx : Hid (length = L) := by have := HL.out; rw [if_neg h0] at this; exact this
      clear hL0 hL9
      go_wp2_with fail
      go_meet
      exact ⟨by rw [← hx.out], rfl⟩
  case rest =>
    obtain ⟨rfl, rfl⟩ := hcut
    clear hl1 hl2
    go_wp2_with fail
    go_at_call 13
    rw [HU.out]
    refine Calls.mono (hfo.out _ BH.out) ?_
    rintro e wf ⟨rfl, bX⟩
    have BF : Hid (Below w.heap.size w wf) := BH.out.trans (bX.mono BH.out.size)
    clear bX BH hfo
    go_upto_if 35 with fail
    rw [HKK.out]
    go_cut [8] from 22 (fun x wx => x = .int .i64 (kp : Int) ∧ wx = wf)
    case first =>
      by_cases h0 : kk < 0
      · have hx : Hid (-kk = (kp : Int)) := by have := HKP.out; show _ = _; omega
        go_wp2_with fail
        go_meet
        exact ⟨by rw [← hx.out], rfl⟩
      · have hx : Hid (kk = (kp : Int)) := by have := HKP.out; show _ = _; omega
        go_wp2_with fail
        go_meet
        exact ⟨by rw [← hx.out], rfl⟩
    case rest =>
      obtain ⟨rfl, rfl⟩ := hcut
      have hnn' : (200 : Int) + (kp : Int) = (nn : Int) := by omega
      clear hs1 hs2 hk1
      go_wp2_with fail
      go_at_call 9
      try rw [hnn']
      refine Calls.mono (hit.out _ BF.out) ?_
      rintro e wt ⟨rfl, bX⟩
      have BT : Hid (Below w.heap.size w wt) := BF.out.trans (bX.mono BF.out.size)
      clear bX BF hit
      go_wp2_with fail
      go_loopw [10, 11, 12, 13, 14, 15, 16, 17, 18, 19] (fun iv _ _ _ _ _ _ _ _ _ wr => ∃ i : Nat, iv = .int .i64 (i : Int) ∧ i ≤ 3 ∧ Hid (Below w.heap.size w wr)) (fun iv _ _ _ _ _ _ _ _ _ _ => 3 - (intOf iv).toNat)
      case atStart => exact ⟨0, rfl, by omega, BT.out⟩
      case round =>
        obtain ⟨i, hi, hi3, hBr⟩ := hrel
        clear BT
        obtain ⟨ws, hws⟩ : ∃ x, wr = x := ⟨_, rfl⟩
        rw [hws] at hBr ⊢
        have Bs : Hid (Below w.heap.size w ws) := hBr
        clear hws hBr
        rcases (show i = 0 ∨ i = 1 ∨ i = 2 ∨ i = 3 by omega) with rfl | rfl | rfl | rfl
        · replace hi : u10 = .int .i64 0 := hi
          subst hi
          have hC : Hid (stB CO = true ∧ valB CO = true ∧ numL (CO : ByteArray).data.toList = (nn : Int) ∧ (200 : Int) ≤ (nn : Int)) := HCO.out
          go_wp2_with fail
          go_at_call 8
          refine (reply_any CO DL ws).mono ?_
          rintro e wa0 ⟨⟨rba, rna, rca⟩, rfl, bX, rX, oX⟩
          have Ba0 : Hid (Below w.heap.size w wa0) := Bs.out.trans (bX.mono Bs.out.size)
          have hna : Hid (Calls Tryd.prog 10 #[.bool false, .string ⟨#[72, 69, 65, 68]⟩, .slice rba rna rca] wa0 fun e w' => NsPost w ⟨#[72, 69, 65, 68]⟩ (rpL CO DL) wa0 e w') := new_step ⟨#[72, 69, 65, 68]⟩ (rba, rna, rca) _ (R.isIn rX) (rp_len _ _) (rp_names _ _) (rp_vals hC.out.2.1 HLN.out) (HER.out.below Ba0.out) (rp_nw hC.out HLN.out) Ba0.out.size
          have bX0 := bX
          clear bX rX oX
          simp only [sv]
          go_wp2_with fail
          go_at_call 10
          refine Calls.mono hna.out ?_
          rintro e wa ⟨ga, ya, rfl, Ma', bX, oa⟩
          obtain ⟨xa, hxa⟩ : ∃ x, NwX ⟨#[72, 69, 65, 68]⟩ (rpL CO DL) ya = x := ⟨_, rfl⟩
          have Xa : Hid (xa.rq = false ∧ xa.st = 0 ∧ xa.fx = true ∧ xa.ln = 0 ∧ xa.bs = (none, 0, 0)) := by rw [← hxa]; exact nwx_bd (rp_st hC.out HLN.out ▸ bd_head _)
          rw [hxa] at Ma'
          have Ba : Hid (Below w.heap.size w wa) := Ba0.out.trans (bX.mono Ba0.out.size)
          have Ma_a : Hid (Mw w wa ga xa [] (([] : List Fd) ++ (rpL CO DL).drop 1) []) := Ma'
          clear hxa Ma' bX bX0 oa hna Ba0 
          go_wp2_with fail
          go_at_call 8
          refine (reply_any CO DL wa).mono ?_
          rintro e wb0 ⟨⟨rbb, rnb, rcb⟩, rfl, bX, rX, oX⟩
          have Bb0 : Hid (Below w.heap.size w wb0) := Ba.out.trans (bX.mono Ba.out.size)
          have hnb : Hid (Calls Tryd.prog 10 #[.bool false, .string ⟨#[72, 69, 65, 68]⟩, .slice rbb rnb rcb] wb0 fun e w' => NsPost w ⟨#[72, 69, 65, 68]⟩ (rpL CO DL) wb0 e w') := new_step ⟨#[72, 69, 65, 68]⟩ (rbb, rnb, rcb) _ (R.isIn rX) (rp_len _ _) (rp_names _ _) (rp_vals hC.out.2.1 HLN.out) (HER.out.below Bb0.out) (rp_nw hC.out HLN.out) Bb0.out.size
          have bX0 := bX
          clear bX rX oX
          simp only [sv]
          go_wp2_with fail
          go_at_call 10
          refine Calls.mono hnb.out ?_
          rintro e wb ⟨gb, yb, rfl, Mb', bX, ob⟩
          obtain ⟨xb, hxb⟩ : ∃ x, NwX ⟨#[72, 69, 65, 68]⟩ (rpL CO DL) yb = x := ⟨_, rfl⟩
          have Xb : Hid (xb.rq = false ∧ xb.st = 0 ∧ xb.fx = true ∧ xb.ln = 0 ∧ xb.bs = (none, 0, 0)) := by rw [← hxb]; exact nwx_bd (rp_st hC.out HLN.out ▸ bd_head _)
          rw [hxb] at Mb'
          have Bb : Hid (Below w.heap.size w wb) := Bb0.out.trans (bX.mono Bb0.out.size)
          have Mb_b : Hid (Mw w wb gb xb [] (([] : List Fd) ++ (rpL CO DL).drop 1) []) := Mb'
          have Ma_b : Hid (Mw w wb ga xa [] (([] : List Fd) ++ (rpL CO DL).drop 1) []) := (Ma_a.out.below bX0).below bX
          have Nab : Hid (gb ≠ ga) := fun e => by have h1 := heap_lt (Ma_a.out.below bX0).ms.bx; omega
          clear hxb Mb' bX bX0 ob hnb Bb0 Ma_a Ba
          go_wp2_with fail
          go_at_call 8
          refine (reply_any CO ⟨#[]⟩ wb).mono ?_
          rintro e wc0 ⟨⟨rbc, rnc, rcc⟩, rfl, bX, rX, oX⟩
          have Bc0 : Hid (Below w.heap.size w wc0) := Bb.out.trans (bX.mono Bb.out.size)
          have hnc : Hid (Calls Tryd.prog 10 #[.bool false, .string ⟨#[72, 69, 65, 68]⟩, .slice rbc rnc rcc] wc0 fun e w' => NsPost w ⟨#[72, 69, 65, 68]⟩ (rpL CO ⟨#[]⟩) wc0 e w') := new_step ⟨#[72, 69, 65, 68]⟩ (rbc, rnc, rcc) _ (R.isIn rX) (rp_len _ _) (rp_names _ _) (rp_vals hC.out.2.1 (.inl rfl)) (HER.out.below Bc0.out) (rp_nw hC.out (.inl rfl)) Bc0.out.size
          have bX0 := bX
          clear bX rX oX
          simp only [sv]
          go_wp2_with fail
          go_at_call 10
          refine Calls.mono hnc.out ?_
          rintro e wc ⟨gc, yc, rfl, Mc', bX, oc⟩
          obtain ⟨xc, hxc⟩ : ∃ x, NwX ⟨#[72, 69, 65, 68]⟩ (rpL CO ⟨#[]⟩) yc = x := ⟨_, rfl⟩
          have Xc : Hid (xc.rq = false ∧ xc.st = 0 ∧ xc.fx = true ∧ xc.ln = 0 ∧ xc.bs = (none, 0, 0)) := by rw [← hxc]; exact nwx_bd (rp_st hC.out (.inl rfl) ▸ bd_head _)
          rw [hxc] at Mc'
          have Bc : Hid (Below w.heap.size w wc) := Bc0.out.trans (bX.mono Bc0.out.size)
          have Mc_c : Hid (Mw w wc gc xc [] (([] : List Fd) ++ (rpL CO ⟨#[]⟩).drop 1) []) := Mc'
          have Ma_c : Hid (Mw w wc ga xa [] (([] : List Fd) ++ (rpL CO DL).drop 1) []) := (Ma_b.out.below bX0).below bX
          have Mb_c : Hid (Mw w wc gb xb [] (([] : List Fd) ++ (rpL CO DL).drop 1) []) := (Mb_b.out.below bX0).below bX
          have Nac : Hid (gc ≠ ga) := fun e => by have h1 := heap_lt (Ma_b.out.below bX0).ms.bx; omega
          have Nbc : Hid (gc ≠ gb) := fun e => by have h1 := heap_lt (Mb_b.out.below bX0).ms.bx; omega
          clear hxc Mc' bX bX0 oc hnc Bc0 Ma_b Mb_b Bb
          have hd1 : Hid (Calls Tryd.prog 14 #[.pointer (some ⟨ga, 0, none⟩), .string ⟨#[]⟩, .bool false] wc fun e W' => DsPost w ga xa (([] : List Fd) ++ (rpL CO DL).drop 1) [] 0 0 [] wc e W') := data_step ⟨#[]⟩ false Ma_c.out Bc.out (Nat.zero_le _) (by rw [Xa.out.2.1, Xa.out.2.2.1, Xa.out.2.2.2.1]; decide) (by rw [Xa.out.2.1, Xa.out.2.2.1, Xa.out.2.2.2.1]; decide) (by rw [Xa.out.2.1, Xa.out.2.2.1, Xa.out.2.2.2.1]; decide +kernel)
          go_wp2_with fail
          go_at_call 14
          refine Calls.mono hd1.out ?_
          rintro e w1 ⟨bs1, rfl, A1, b1, k1, _⟩
          have Mb_1 : Hid (Mw w w1 gb xb [] (([] : List Fd) ++ (rpL CO DL).drop 1) []) := Mb_c.out.other Ma_c.out k1 Nab.out (fun k hk => by rw [Xb.out.2.2.2.2] at hk; simp [sv, Value.ownBlock] at hk)
          have Mc_1 : Hid (Mw w w1 gc xc [] (([] : List Fd) ++ (rpL CO ⟨#[]⟩).drop 1) []) := Mc_c.out.other Ma_c.out k1 Nac.out (fun k hk => by rw [Xc.out.2.2.2.2] at hk; simp [sv, Value.ownBlock] at hk)
          obtain ⟨z1, hz1⟩ : ∃ x, { xa with st := 0, bs := bs1 } = x := ⟨_, rfl⟩
          rw [hz1] at A1
          have Z1 : Hid (z1.rq = false ∧ z1.st = 0 ∧ z1.fx = true ∧ z1.ln = 0) := by rw [← hz1]; exact ⟨Xa.out.1, rfl, Xa.out.2.2.1, Xa.out.2.2.2.1⟩
          have HA1 : Hid (Mw w w1 ga z1 [] (([] : List Fd) ++ (rpL CO DL).drop 1) []) := A1
          have B1 : Hid (Below w.heap.size w w1) := b1
          clear hz1 A1 b1 k1 hd1 Ma_c Mb_c Mc_c Bc
          have hd2 : Hid (Calls Tryd.prog 15 #[.pointer (some ⟨ga, 0, none⟩)] w1 fun e W' => DsPost w ga z1 (([] : List Fd) ++ (rpL CO DL).drop 1) [] 0 1 [] w1 e W') := end_step HA1.out B1.out (by rw [Z1.out.2.1, Z1.out.2.2.1, Z1.out.2.2.2]; decide) (by rw [Z1.out.2.1, Z1.out.2.2.1, Z1.out.2.2.2]; decide) (by rw [Z1.out.2.1, Z1.out.2.2.1, Z1.out.2.2.2]; decide +kernel)
          go_wp2_with fail
          go_at_call 15
          refine Calls.mono hd2.out ?_
          rintro e w2 ⟨bs2, rfl, A2, b2, k2, _⟩
          have Mb_2 : Hid (Mw w w2 gb xb [] (([] : List Fd) ++ (rpL CO DL).drop 1) []) := Mb_1.out.other HA1.out k2 Nab.out (fun k hk => by rw [Xb.out.2.2.2.2] at hk; simp [sv, Value.ownBlock] at hk)
          have Mc_2 : Hid (Mw w w2 gc xc [] (([] : List Fd) ++ (rpL CO ⟨#[]⟩).drop 1) []) := Mc_1.out.other HA1.out k2 Nac.out (fun k hk => by rw [Xc.out.2.2.2.2] at hk; simp [sv, Value.ownBlock] at hk)
          have ho2 : Hid (Calls Tryd.prog 17 #[.pointer (some ⟨ga, 0, none⟩), .bool true, .string ⟨#[]⟩] w2 fun e w' => OvPost w2 e w') := over_whole ga _ [] _ [] w2 A2.ms rfl Z1.out.1 (rp_len1 _ _)
          have B2 : Hid (Below w.heap.size w w2) := b2
          clear A2 b2 k2 hd2 Mb_1 Mc_1 B1 HA1
          go_wp2_with fail
          go_at_call 17
          refine Calls.mono ho2.out ?_
          rintro e w3 ⟨rfl, bX⟩
          have Mb_3 : Hid (Mw w w3 gb xb [] (([] : List Fd) ++ (rpL CO DL).drop 1) []) := Mb_2.out.below bX
          have Mc_3 : Hid (Mw w w3 gc xc [] (([] : List Fd) ++ (rpL CO ⟨#[]⟩).drop 1) []) := Mc_2.out.below bX
          have B3 : Hid (Below w.heap.size w w3) := B2.out.trans (bX.mono B2.out.size)
          clear bX ho2 Mb_2 Mc_2 B2
          have hd3 : Hid (Calls Tryd.prog 14 #[.pointer (some ⟨gc, 0, none⟩), .string ⟨#[]⟩, .bool true] w3 fun e W' => DsPost w gc xc (([] : List Fd) ++ (rpL CO ⟨#[]⟩).drop 1) [] 0 1 [] w3 e W') := data_step ⟨#[]⟩ true Mc_3.out B3.out (Nat.zero_le _) (by rw [Xc.out.2.1, Xc.out.2.2.1, Xc.out.2.2.2.1]; decide) (by rw [Xc.out.2.1, Xc.out.2.2.1, Xc.out.2.2.2.1]; decide) (by rw [Xc.out.2.1, Xc.out.2.2.1, Xc.out.2.2.2.1]; decide +kernel)
          go_wp2_with fail
          go_at_call 14
          refine Calls.mono hd3.out ?_
          rintro e w4 ⟨bs4, rfl, A4, b4, k4, _⟩
          have Mb_4 : Hid (Mw w w4 gb xb [] (([] : List Fd) ++ (rpL CO DL).drop 1) []) := Mb_3.out.other Mc_3.out k4 (fun e => Nbc.out e.symm) (fun k hk => by rw [Xb.out.2.2.2.2] at hk; simp [sv, Value.ownBlock] at hk)
          have ho4 : Hid (Calls Tryd.prog 17 #[.pointer (some ⟨gc, 0, none⟩), .bool true, .string ⟨#[]⟩] w4 fun e w' => OvPost w4 e w') := over_whole gc _ [] _ [] w4 A4.ms rfl Xc.out.1 (rp_len1 _ _)
          have B4 : Hid (Below w.heap.size w w4) := b4
          clear A4 b4 k4 hd3 Mb_3 Mc_3 B3
          go_wp2_with fail
          go_at_call 17
          refine Calls.mono ho4.out ?_
          rintro e w5 ⟨rfl, bX⟩
          have Mb_5 : Hid (Mw w w5 gb xb [] (([] : List Fd) ++ (rpL CO DL).drop 1) []) := Mb_4.out.below bX
          have B5 : Hid (Below w.heap.size w w5) := B4.out.trans (bX.mono B4.out.size)
          clear bX ho4 Mb_4 B4
          have hd5 : Hid (Calls Tryd.prog 14 #[.pointer (some ⟨gb, 0, none⟩), .string V, .bool false] w5 fun e W' => DsPost w gb xb (([] : List Fd) ++ (rpL CO DL).drop 1) [] RE 2 [] w5 e W') := data_step V false Mb_5.out B5.out HV.out.1 (by rw [Xb.out.2.1, Xb.out.2.2.1, Xb.out.2.2.2.1]; exact HV.out.2.1) (by rw [Xb.out.2.1, Xb.out.2.2.1, Xb.out.2.2.2.1]; exact HV.out.2.2.1) (by rw [Xb.out.2.1, Xb.out.2.2.1, Xb.out.2.2.2.1]; exact HV.out.2.2.2)
          go_wp2_with fail
          go_at_call 14
          refine Calls.mono hd5.out ?_
          rintro e w6 ⟨bs6, rfl, A6, b6, k6, _⟩
          have ho6 : Hid (Calls Tryd.prog 17 #[.pointer (some ⟨gb, 0, none⟩), .bool false, .string ⟨#[]⟩] w6 fun e w' => OvPost w6 e w') := over_broken gb _ ⟨#[]⟩ w6 A6.ms.bx rfl
          have B6 : Hid (Below w.heap.size w w6) := b6
          clear A6 b6 k6 hd5 Mb_5 B5
          rcases HRE.out with ⟨hre, hsz⟩ | hre
          · subst hre
            have hsz' : ¬ (s.size : Int) < 65536 := by omega
            have hsd : decide ((s.size : Int) < 65536) = false := decide_eq_false hsz'
            clear hsz hsz'
            go_wp2_with fail
            go_at_call 17
            refine Calls.mono ho6.out ?_
            rintro e w7 ⟨rfl, bX⟩
            have B7 : Hid (Below w.heap.size w w7) := B6.out.trans (bX.mono B6.out.size)
            clear bX ho6 B6
            go_wp2_with fail
            go_roundw
            case rel => exact ⟨0 + 1, by simp, by omega, B7.out⟩
            case measure => simp [intOf]
          · subst hre
            go_wp2_with fail
            go_at_call 17
            refine Calls.mono ho6.out ?_
            rintro e w7 ⟨rfl, bX⟩
            have B7 : Hid (Below w.heap.size w w7) := B6.out.trans (bX.mono B6.out.size)
            clear bX ho6 B6
            go_wp2_with fail
            go_roundw
            case rel => exact ⟨0 + 1, by simp, by omega, B7.out⟩
            case measure => simp [intOf]
        · replace hi : u10 = .int .i64 1 := hi
          subst hi
          have hC : Hid (stB ⟨#[50, 48, 52]⟩ = true ∧ valB ⟨#[50, 48, 52]⟩ = true ∧ numL (⟨#[50, 48, 52]⟩ : ByteArray).data.toList = 204 ∧ (200 : Int) ≤ 204) := c204
          go_wp2_with fail
          go_at_call 8
          refine (reply_any ⟨#[50, 48, 52]⟩ DL ws).mono ?_
          rintro e wa0 ⟨⟨rba, rna, rca⟩, rfl, bX, rX, oX⟩
          have Ba0 : Hid (Below w.heap.size w wa0) := Bs.out.trans (bX.mono Bs.out.size)
          have hna : Hid (Calls Tryd.prog 10 #[.bool false, .string ⟨#[71, 69, 84]⟩, .slice rba rna rca] wa0 fun e w' => NsPost w ⟨#[71, 69, 84]⟩ (rpL ⟨#[50, 48, 52]⟩ DL) wa0 e w') := new_step ⟨#[71, 69, 84]⟩ (rba, rna, rca) _ (R.isIn rX) (rp_len _ _) (rp_names _ _) (rp_vals hC.out.2.1 HLN.out) (HER.out.below Ba0.out) (rp_nw hC.out HLN.out) Ba0.out.size
          have bX0 := bX
          clear bX rX oX
          simp only [sv]
          go_wp2_with fail
          go_at_call 10
          refine Calls.mono hna.out ?_
          rintro e wa ⟨ga, ya, rfl, Ma', bX, oa⟩
          obtain ⟨xa, hxa⟩ : ∃ x, NwX ⟨#[71, 69, 84]⟩ (rpL ⟨#[50, 48, 52]⟩ DL) ya = x := ⟨_, rfl⟩
          have Xa : Hid (xa.rq = false ∧ xa.st = 0 ∧ xa.fx = true ∧ xa.ln = 0 ∧ xa.bs = (none, 0, 0)) := by rw [← hxa]; exact nwx_bd (rp_st hC.out HLN.out ▸ bd_204 _)
          rw [hxa] at Ma'
          have Ba : Hid (Below w.heap.size w wa) := Ba0.out.trans (bX.mono Ba0.out.size)
          have Ma_a : Hid (Mw w wa ga xa [] (([] : List Fd) ++ (rpL ⟨#[50, 48, 52]⟩ DL).drop 1) []) := Ma'
          clear hxa Ma' bX bX0 oa hna Ba0 
          go_wp2_with fail
          go_at_call 8
          refine (reply_any ⟨#[50, 48, 52]⟩ DL wa).mono ?_
          rintro e wb0 ⟨⟨rbb, rnb, rcb⟩, rfl, bX, rX, oX⟩
          have Bb0 : Hid (Below w.heap.size w wb0) := Ba.out.trans (bX.mono Ba.out.size)
          have hnb : Hid (Calls Tryd.prog 10 #[.bool false, .string ⟨#[71, 69, 84]⟩, .slice rbb rnb rcb] wb0 fun e w' => NsPost w ⟨#[71, 69, 84]⟩ (rpL ⟨#[50, 48, 52]⟩ DL) wb0 e w') := new_step ⟨#[71, 69, 84]⟩ (rbb, rnb, rcb) _ (R.isIn rX) (rp_len _ _) (rp_names _ _) (rp_vals hC.out.2.1 HLN.out) (HER.out.below Bb0.out) (rp_nw hC.out HLN.out) Bb0.out.size
          have bX0 := bX
          clear bX rX oX
          simp only [sv]
          go_wp2_with fail
          go_at_call 10
          refine Calls.mono hnb.out ?_
          rintro e wb ⟨gb, yb, rfl, Mb', bX, ob⟩
          obtain ⟨xb, hxb⟩ : ∃ x, NwX ⟨#[71, 69, 84]⟩ (rpL ⟨#[50, 48, 52]⟩ DL) yb = x := ⟨_, rfl⟩
          have Xb : Hid (xb.rq = false ∧ xb.st = 0 ∧ xb.fx = true ∧ xb.ln = 0 ∧ xb.bs = (none, 0, 0)) := by rw [← hxb]; exact nwx_bd (rp_st hC.out HLN.out ▸ bd_204 _)
          rw [hxb] at Mb'
          have Bb : Hid (Below w.heap.size w wb) := Bb0.out.trans (bX.mono Bb0.out.size)
          have Mb_b : Hid (Mw w wb gb xb [] (([] : List Fd) ++ (rpL ⟨#[50, 48, 52]⟩ DL).drop 1) []) := Mb'
          have Ma_b : Hid (Mw w wb ga xa [] (([] : List Fd) ++ (rpL ⟨#[50, 48, 52]⟩ DL).drop 1) []) := (Ma_a.out.below bX0).below bX
          have Nab : Hid (gb ≠ ga) := fun e => by have h1 := heap_lt (Ma_a.out.below bX0).ms.bx; omega
          clear hxb Mb' bX bX0 ob hnb Bb0 Ma_a Ba
          go_wp2_with fail
          go_at_call 8
          refine (reply_any ⟨#[50, 48, 52]⟩ ⟨#[]⟩ wb).mono ?_
          rintro e wc0 ⟨⟨rbc, rnc, rcc⟩, rfl, bX, rX, oX⟩
          have Bc0 : Hid (Below w.heap.size w wc0) := Bb.out.trans (bX.mono Bb.out.size)
          have hnc : Hid (Calls Tryd.prog 10 #[.bool false, .string ⟨#[71, 69, 84]⟩, .slice rbc rnc rcc] wc0 fun e w' => NsPost w ⟨#[71, 69, 84]⟩ (rpL ⟨#[50, 48, 52]⟩ ⟨#[]⟩) wc0 e w') := new_step ⟨#[71, 69, 84]⟩ (rbc, rnc, rcc) _ (R.isIn rX) (rp_len _ _) (rp_names _ _) (rp_vals hC.out.2.1 (.inl rfl)) (HER.out.below Bc0.out) (rp_nw hC.out (.inl rfl)) Bc0.out.size
          have bX0 := bX
          clear bX rX oX
          simp only [sv]
          go_wp2_with fail
          go_at_call 10
          refine Calls.mono hnc.out ?_
          rintro e wc ⟨gc, yc, rfl, Mc', bX, oc⟩
          obtain ⟨xc, hxc⟩ : ∃ x, NwX ⟨#[71, 69, 84]⟩ (rpL ⟨#[50, 48, 52]⟩ ⟨#[]⟩) yc = x := ⟨_, rfl⟩
          have Xc : Hid (xc.rq = false ∧ xc.st = 0 ∧ xc.fx = true ∧ xc.ln = 0 ∧ xc.bs = (none, 0, 0)) := by rw [← hxc]; exact nwx_bd (rp_st hC.out (.inl rfl) ▸ bd_204 _)
          rw [hxc] at Mc'
          have Bc : Hid (Below w.heap.size w wc) := Bc0.out.trans (bX.mono Bc0.out.size)
          have Mc_c : Hid (Mw w wc gc xc [] (([] : List Fd) ++ (rpL ⟨#[50, 48, 52]⟩ ⟨#[]⟩).drop 1) []) := Mc'
          have Ma_c : Hid (Mw w wc ga xa [] (([] : List Fd) ++ (rpL ⟨#[50, 48, 52]⟩ DL).drop 1) []) := (Ma_b.out.below bX0).below bX
          have Mb_c : Hid (Mw w wc gb xb [] (([] : List Fd) ++ (rpL ⟨#[50, 48, 52]⟩ DL).drop 1) []) := (Mb_b.out.below bX0).below bX
          have Nac : Hid (gc ≠ ga) := fun e => by have h1 := heap_lt (Ma_b.out.below bX0).ms.bx; omega
          have Nbc : Hid (gc ≠ gb) := fun e => by have h1 := heap_lt (Mb_b.out.below bX0).ms.bx; omega
          clear hxc Mc' bX bX0 oc hnc Bc0 Ma_b Mb_b Bb
          have hd1 : Hid (Calls Tryd.prog 14 #[.pointer (some ⟨ga, 0, none⟩), .string ⟨#[]⟩, .bool false] wc fun e W' => DsPost w ga xa (([] : List Fd) ++ (rpL ⟨#[50, 48, 52]⟩ DL).drop 1) [] 0 0 [] wc e W') := data_step ⟨#[]⟩ false Ma_c.out Bc.out (Nat.zero_le _) (by rw [Xa.out.2.1, Xa.out.2.2.1, Xa.out.2.2.2.1]; decide) (by rw [Xa.out.2.1, Xa.out.2.2.1, Xa.out.2.2.2.1]; decide) (by rw [Xa.out.2.1, Xa.out.2.2.1, Xa.out.2.2.2.1]; decide +kernel)
          go_wp2_with fail
          go_at_call 14
          refine Calls.mono hd1.out ?_
          rintro e w1 ⟨bs1, rfl, A1, b1, k1, _⟩
          have Mb_1 : Hid (Mw w w1 gb xb [] (([] : List Fd) ++ (rpL ⟨#[50, 48, 52]⟩ DL).drop 1) []) := Mb_c.out.other Ma_c.out k1 Nab.out (fun k hk => by rw [Xb.out.2.2.2.2] at hk; simp [sv, Value.ownBlock] at hk)
          have Mc_1 : Hid (Mw w w1 gc xc [] (([] : List Fd) ++ (rpL ⟨#[50, 48, 52]⟩ ⟨#[]⟩).drop 1) []) := Mc_c.out.other Ma_c.out k1 Nac.out (fun k hk => by rw [Xc.out.2.2.2.2] at hk; simp [sv, Value.ownBlock] at hk)
          obtain ⟨z1, hz1⟩ : ∃ x, { xa with st := 0, bs := bs1 } = x := ⟨_, rfl⟩
          rw [hz1] at A1
          have Z1 : Hid (z1.rq = false ∧ z1.st = 0 ∧ z1.fx = true ∧ z1.ln = 0) := by rw [← hz1]; exact ⟨Xa.out.1, rfl, Xa.out.2.2.1, Xa.out.2.2.2.1⟩
          have HA1 : Hid (Mw w w1 ga z1 [] (([] : List Fd) ++ (rpL ⟨#[50, 48, 52]⟩ DL).drop 1) []) := A1
          have B1 : Hid (Below w.heap.size w w1) := b1
          clear hz1 A1 b1 k1 hd1 Ma_c Mb_c Mc_c Bc
          have hd2 : Hid (Calls Tryd.prog 15 #[.pointer (some ⟨ga, 0, none⟩)] w1 fun e W' => DsPost w ga z1 (([] : List Fd) ++ (rpL ⟨#[50, 48, 52]⟩ DL).drop 1) [] 0 1 [] w1 e W') := end_step HA1.out B1.out (by rw [Z1.out.2.1, Z1.out.2.2.1, Z1.out.2.2.2]; decide) (by rw [Z1.out.2.1, Z1.out.2.2.1, Z1.out.2.2.2]; decide) (by rw [Z1.out.2.1, Z1.out.2.2.1, Z1.out.2.2.2]; decide +kernel)
          go_wp2_with fail
          go_at_call 15
          refine Calls.mono hd2.out ?_
          rintro e w2 ⟨bs2, rfl, A2, b2, k2, _⟩
          have Mb_2 : Hid (Mw w w2 gb xb [] (([] : List Fd) ++ (rpL ⟨#[50, 48, 52]⟩ DL).drop 1) []) := Mb_1.out.other HA1.out k2 Nab.out (fun k hk => by rw [Xb.out.2.2.2.2] at hk; simp [sv, Value.ownBlock] at hk)
          have Mc_2 : Hid (Mw w w2 gc xc [] (([] : List Fd) ++ (rpL ⟨#[50, 48, 52]⟩ ⟨#[]⟩).drop 1) []) := Mc_1.out.other HA1.out k2 Nac.out (fun k hk => by rw [Xc.out.2.2.2.2] at hk; simp [sv, Value.ownBlock] at hk)
          have ho2 : Hid (Calls Tryd.prog 17 #[.pointer (some ⟨ga, 0, none⟩), .bool true, .string ⟨#[]⟩] w2 fun e w' => OvPost w2 e w') := over_whole ga _ [] _ [] w2 A2.ms rfl Z1.out.1 (rp_len1 _ _)
          have B2 : Hid (Below w.heap.size w w2) := b2
          clear A2 b2 k2 hd2 Mb_1 Mc_1 B1 HA1
          go_wp2_with fail
          go_at_call 17
          refine Calls.mono ho2.out ?_
          rintro e w3 ⟨rfl, bX⟩
          have Mb_3 : Hid (Mw w w3 gb xb [] (([] : List Fd) ++ (rpL ⟨#[50, 48, 52]⟩ DL).drop 1) []) := Mb_2.out.below bX
          have Mc_3 : Hid (Mw w w3 gc xc [] (([] : List Fd) ++ (rpL ⟨#[50, 48, 52]⟩ ⟨#[]⟩).drop 1) []) := Mc_2.out.below bX
          have B3 : Hid (Below w.heap.size w w3) := B2.out.trans (bX.mono B2.out.size)
          clear bX ho2 Mb_2 Mc_2 B2
          have hd3 : Hid (Calls Tryd.prog 14 #[.pointer (some ⟨gc, 0, none⟩), .string ⟨#[]⟩, .bool true] w3 fun e W' => DsPost w gc xc (([] : List Fd) ++ (rpL ⟨#[50, 48, 52]⟩ ⟨#[]⟩).drop 1) [] 0 1 [] w3 e W') := data_step ⟨#[]⟩ true Mc_3.out B3.out (Nat.zero_le _) (by rw [Xc.out.2.1, Xc.out.2.2.1, Xc.out.2.2.2.1]; decide) (by rw [Xc.out.2.1, Xc.out.2.2.1, Xc.out.2.2.2.1]; decide) (by rw [Xc.out.2.1, Xc.out.2.2.1, Xc.out.2.2.2.1]; decide +kernel)
          go_wp2_with fail
          go_at_call 14
          refine Calls.mono hd3.out ?_
          rintro e w4 ⟨bs4, rfl, A4, b4, k4, _⟩
          have Mb_4 : Hid (Mw w w4 gb xb [] (([] : List Fd) ++ (rpL ⟨#[50, 48, 52]⟩ DL).drop 1) []) := Mb_3.out.other Mc_3.out k4 (fun e => Nbc.out e.symm) (fun k hk => by rw [Xb.out.2.2.2.2] at hk; simp [sv, Value.ownBlock] at hk)
          have ho4 : Hid (Calls Tryd.prog 17 #[.pointer (some ⟨gc, 0, none⟩), .bool true, .string ⟨#[]⟩] w4 fun e w' => OvPost w4 e w') := over_whole gc _ [] _ [] w4 A4.ms rfl Xc.out.1 (rp_len1 _ _)
          have B4 : Hid (Below w.heap.size w w4) := b4
          clear A4 b4 k4 hd3 Mb_3 Mc_3 B3
          go_wp2_with fail
          go_at_call 17
          refine Calls.mono ho4.out ?_
          rintro e w5 ⟨rfl, bX⟩
          have Mb_5 : Hid (Mw w w5 gb xb [] (([] : List Fd) ++ (rpL ⟨#[50, 48, 52]⟩ DL).drop 1) []) := Mb_4.out.below bX
          have B5 : Hid (Below w.heap.size w w5) := B4.out.trans (bX.mono B4.out.size)
          clear bX ho4 Mb_4 B4
          have hd5 : Hid (Calls Tryd.prog 14 #[.pointer (some ⟨gb, 0, none⟩), .string V, .bool false] w5 fun e W' => DsPost w gb xb (([] : List Fd) ++ (rpL ⟨#[50, 48, 52]⟩ DL).drop 1) [] RE 2 [] w5 e W') := data_step V false Mb_5.out B5.out HV.out.1 (by rw [Xb.out.2.1, Xb.out.2.2.1, Xb.out.2.2.2.1]; exact HV.out.2.1) (by rw [Xb.out.2.1, Xb.out.2.2.1, Xb.out.2.2.2.1]; exact HV.out.2.2.1) (by rw [Xb.out.2.1, Xb.out.2.2.1, Xb.out.2.2.2.1]; exact HV.out.2.2.2)
          go_wp2_with fail
          go_at_call 14
          refine Calls.mono hd5.out ?_
          rintro e w6 ⟨bs6, rfl, A6, b6, k6, _⟩
          have ho6 : Hid (Calls Tryd.prog 17 #[.pointer (some ⟨gb, 0, none⟩), .bool false, .string ⟨#[]⟩] w6 fun e w' => OvPost w6 e w') := over_broken gb _ ⟨#[]⟩ w6 A6.ms.bx rfl
          have B6 : Hid (Below w.heap.size w w6) := b6
          clear A6 b6 k6 hd5 Mb_5 B5
          rcases HRE.out with ⟨hre, hsz⟩ | hre
          · subst hre
            have hsz' : ¬ (s.size : Int) < 65536 := by omega
            have hsd : decide ((s.size : Int) < 65536) = false := decide_eq_false hsz'
            clear hsz hsz'
            go_wp2_with fail
            go_at_call 17
            refine Calls.mono ho6.out ?_
            rintro e w7 ⟨rfl, bX⟩
            have B7 : Hid (Below w.heap.size w w7) := B6.out.trans (bX.mono B6.out.size)
            clear bX ho6 B6
            go_wp2_with fail
            go_roundw
            case rel => exact ⟨1 + 1, by simp, by omega, B7.out⟩
            case measure => simp [intOf]
          · subst hre
            go_wp2_with fail
            go_at_call 17
            refine Calls.mono ho6.out ?_
            rintro e w7 ⟨rfl, bX⟩
            have B7 : Hid (Below w.heap.size w w7) := B6.out.trans (bX.mono B6.out.size)
            clear bX ho6 B6
            go_wp2_with fail
            go_roundw
            case rel => exact ⟨1 + 1, by simp, by omega, B7.out⟩
            case measure => simp [intOf]
        · replace hi : u10 = .int .i64 2 := hi
          subst hi
          have hC : Hid (stB ⟨#[51, 48, 52]⟩ = true ∧ valB ⟨#[51, 48, 52]⟩ = true ∧ numL (⟨#[51, 48, 52]⟩ : ByteArray).data.toList = 304 ∧ (200 : Int) ≤ 304) := c304
          go_wp2_with fail
          go_at_call 8
          refine (reply_any ⟨#[51, 48, 52]⟩ DL ws).mono ?_
          rintro e wa0 ⟨⟨rba, rna, rca⟩, rfl, bX, rX, oX⟩
          have Ba0 : Hid (Below w.heap.size w wa0) := Bs.out.trans (bX.mono Bs.out.size)
          have hna : Hid (Calls Tryd.prog 10 #[.bool false, .string ⟨#[71, 69, 84]⟩, .slice rba rna rca] wa0 fun e w' => NsPost w ⟨#[71, 69, 84]⟩ (rpL ⟨#[51, 48, 52]⟩ DL) wa0 e w') := new_step ⟨#[71, 69, 84]⟩ (rba, rna, rca) _ (R.isIn rX) (rp_len _ _) (rp_names _ _) (rp_vals hC.out.2.1 HLN.out) (HER.out.below Ba0.out) (rp_nw hC.out HLN.out) Ba0.out.size
          have bX0 := bX
          clear bX rX oX
          simp only [sv]
          go_wp2_with fail
          go_at_call 10
          refine Calls.mono hna.out ?_
          rintro e wa ⟨ga, ya, rfl, Ma', bX, oa⟩
          obtain ⟨xa, hxa⟩ : ∃ x, NwX ⟨#[71, 69, 84]⟩ (rpL ⟨#[51, 48, 52]⟩ DL) ya = x := ⟨_, rfl⟩
          have Xa : Hid (xa.rq = false ∧ xa.st = 0 ∧ xa.fx = true ∧ xa.ln = 0 ∧ xa.bs = (none, 0, 0)) := by rw [← hxa]; exact nwx_bd (rp_st hC.out HLN.out ▸ bd_304 _)
          rw [hxa] at Ma'
          have Ba : Hid (Below w.heap.size w wa) := Ba0.out.trans (bX.mono Ba0.out.size)
          have Ma_a : Hid (Mw w wa ga xa [] (([] : List Fd) ++ (rpL ⟨#[51, 48, 52]⟩ DL).drop 1) []) := Ma'
          clear hxa Ma' bX bX0 oa hna Ba0 
          go_wp2_with fail
          go_at_call 8
          refine (reply_any ⟨#[51, 48, 52]⟩ DL wa).mono ?_
          rintro e wb0 ⟨⟨rbb, rnb, rcb⟩, rfl, bX, rX, oX⟩
          have Bb0 : Hid (Below w.heap.size w wb0) := Ba.out.trans (bX.mono Ba.out.size)
          have hnb : Hid (Calls Tryd.prog 10 #[.bool false, .string ⟨#[71, 69, 84]⟩, .slice rbb rnb rcb] wb0 fun e w' => NsPost w ⟨#[71, 69, 84]⟩ (rpL ⟨#[51, 48, 52]⟩ DL) wb0 e w') := new_step ⟨#[71, 69, 84]⟩ (rbb, rnb, rcb) _ (R.isIn rX) (rp_len _ _) (rp_names _ _) (rp_vals hC.out.2.1 HLN.out) (HER.out.below Bb0.out) (rp_nw hC.out HLN.out) Bb0.out.size
          have bX0 := bX
          clear bX rX oX
          simp only [sv]
          go_wp2_with fail
          go_at_call 10
          refine Calls.mono hnb.out ?_
          rintro e wb ⟨gb, yb, rfl, Mb', bX, ob⟩
          obtain ⟨xb, hxb⟩ : ∃ x, NwX ⟨#[71, 69, 84]⟩ (rpL ⟨#[51, 48, 52]⟩ DL) yb = x := ⟨_, rfl⟩
          have Xb : Hid (xb.rq = false ∧ xb.st = 0 ∧ xb.fx = true ∧ xb.ln = 0 ∧ xb.bs = (none, 0, 0)) := by rw [← hxb]; exact nwx_bd (rp_st hC.out HLN.out ▸ bd_304 _)
          rw [hxb] at Mb'
          have Bb : Hid (Below w.heap.size w wb) := Bb0.out.trans (bX.mono Bb0.out.size)
          have Mb_b : Hid (Mw w wb gb xb [] (([] : List Fd) ++ (rpL ⟨#[51, 48, 52]⟩ DL).drop 1) []) := Mb'
          have Ma_b : Hid (Mw w wb ga xa [] (([] : List Fd) ++ (rpL ⟨#[51, 48, 52]⟩ DL).drop 1) []) := (Ma_a.out.below bX0).below bX
          have Nab : Hid (gb ≠ ga) := fun e => by have h1 := heap_lt (Ma_a.out.below bX0).ms.bx; omega
          clear hxb Mb' bX bX0 ob hnb Bb0 Ma_a Ba
          go_wp2_with fail
          go_at_call 8
          refine (reply_any ⟨#[51, 48, 52]⟩ ⟨#[]⟩ wb).mono ?_
          rintro e wc0 ⟨⟨rbc, rnc, rcc⟩, rfl, bX, rX, oX⟩
          have Bc0 : Hid (Below w.heap.size w wc0) := Bb.out.trans (bX.mono Bb.out.size)
          have hnc : Hid (Calls Tryd.prog 10 #[.bool false, .string ⟨#[71, 69, 84]⟩, .slice rbc rnc rcc] wc0 fun e w' => NsPost w ⟨#[71, 69, 84]⟩ (rpL ⟨#[51, 48, 52]⟩ ⟨#[]⟩) wc0 e w') := new_step ⟨#[71, 69, 84]⟩ (rbc, rnc, rcc) _ (R.isIn rX) (rp_len _ _) (rp_names _ _) (rp_vals hC.out.2.1 (.inl rfl)) (HER.out.below Bc0.out) (rp_nw hC.out (.inl rfl)) Bc0.out.size
          have bX0 := bX
          clear bX rX oX
          simp only [sv]
          go_wp2_with fail
          go_at_call 10
          refine Calls.mono hnc.out ?_
          rintro e wc ⟨gc, yc, rfl, Mc', bX, oc⟩
          obtain ⟨xc, hxc⟩ : ∃ x, NwX ⟨#[71, 69, 84]⟩ (rpL ⟨#[51, 48, 52]⟩ ⟨#[]⟩) yc = x := ⟨_, rfl⟩
          have Xc : Hid (xc.rq = false ∧ xc.st = 0 ∧ xc.fx = true ∧ xc.ln = 0 ∧ xc.bs = (none, 0, 0)) := by rw [← hxc]; exact nwx_bd (rp_st hC.out (.inl rfl) ▸ bd_304 _)
          rw [hxc] at Mc'
          have Bc : Hid (Below w.heap.size w wc) := Bc0.out.trans (bX.mono Bc0.out.size)
          have Mc_c : Hid (Mw w wc gc xc [] (([] : List Fd) ++ (rpL ⟨#[51, 48, 52]⟩ ⟨#[]⟩).drop 1) []) := Mc'
          have Ma_c : Hid (Mw w wc ga xa [] (([] : List Fd) ++ (rpL ⟨#[51, 48, 52]⟩ DL).drop 1) []) := (Ma_b.out.below bX0).below bX
          have Mb_c : Hid (Mw w wc gb xb [] (([] : List Fd) ++ (rpL ⟨#[51, 48, 52]⟩ DL).drop 1) []) := (Mb_b.out.below bX0).below bX
          have Nac : Hid (gc ≠ ga) := fun e => by have h1 := heap_lt (Ma_b.out.below bX0).ms.bx; omega
          have Nbc : Hid (gc ≠ gb) := fun e => by have h1 := heap_lt (Mb_b.out.below bX0).ms.bx; omega
          clear hxc Mc' bX bX0 oc hnc Bc0 Ma_b Mb_b Bb
          have hd1 : Hid (Calls Tryd.prog 14 #[.pointer (some ⟨ga, 0, none⟩), .string ⟨#[]⟩, .bool false] wc fun e W' => DsPost w ga xa (([] : List Fd) ++ (rpL ⟨#[51, 48, 52]⟩ DL).drop 1) [] 0 0 [] wc e W') := data_step ⟨#[]⟩ false Ma_c.out Bc.out (Nat.zero_le _) (by rw [Xa.out.2.1, Xa.out.2.2.1, Xa.out.2.2.2.1]; decide) (by rw [Xa.out.2.1, Xa.out.2.2.1, Xa.out.2.2.2.1]; decide) (by rw [Xa.out.2.1, Xa.out.2.2.1, Xa.out.2.2.2.1]; decide +kernel)
          go_wp2_with fail
          go_at_call 14
          refine Calls.mono hd1.out ?_
          rintro e w1 ⟨bs1, rfl, A1, b1, k1, _⟩
          have Mb_1 : Hid (Mw w w1 gb xb [] (([] : List Fd) ++ (rpL ⟨#[51, 48, 52]⟩ DL).drop 1) []) := Mb_c.out.other Ma_c.out k1 Nab.out (fun k hk => by rw [Xb.out.2.2.2.2] at hk; simp [sv, Value.ownBlock] at hk)
          have Mc_1 : Hid (Mw w w1 gc xc [] (([] : List Fd) ++ (rpL ⟨#[51, 48, 52]⟩ ⟨#[]⟩).drop 1) []) := Mc_c.out.other Ma_c.out k1 Nac.out (fun k hk => by rw [Xc.out.2.2.2.2] at hk; simp [sv, Value.ownBlock] at hk)
          obtain ⟨z1, hz1⟩ : ∃ x, { xa with st := 0, bs := bs1 } = x := ⟨_, rfl⟩
          rw [hz1] at A1
          have Z1 : Hid (z1.rq = false ∧ z1.st = 0 ∧ z1.fx = true ∧ z1.ln = 0) := by rw [← hz1]; exact ⟨Xa.out.1, rfl, Xa.out.2.2.1, Xa.out.2.2.2.1⟩
          have HA1 : Hid (Mw w w1 ga z1 [] (([] : List Fd) ++ (rpL ⟨#[51, 48, 52]⟩ DL).drop 1) []) := A1
          have B1 : Hid (Below w.heap.size w w1) := b1
          clear hz1 A1 b1 k1 hd1 Ma_c Mb_c Mc_c Bc
          have hd2 : Hid (Calls Tryd.prog 15 #[.pointer (some ⟨ga, 0, none⟩)] w1 fun e W' => DsPost w ga z1 (([] : List Fd) ++ (rpL ⟨#[51, 48, 52]⟩ DL).drop 1) [] 0 1 [] w1 e W') := end_step HA1.out B1.out (by rw [Z1.out.2.1, Z1.out.2.2.1, Z1.out.2.2.2]; decide) (by rw [Z1.out.2.1, Z1.out.2.2.1, Z1.out.2.2.2]; decide) (by rw [Z1.out.2.1, Z1.out.2.2.1, Z1.out.2.2.2]; decide +kernel)
          go_wp2_with fail
          go_at_call 15
          refine Calls.mono hd2.out ?_
          rintro e w2 ⟨bs2, rfl, A2, b2, k2, _⟩
          have Mb_2 : Hid (Mw w w2 gb xb [] (([] : List Fd) ++ (rpL ⟨#[51, 48, 52]⟩ DL).drop 1) []) := Mb_1.out.other HA1.out k2 Nab.out (fun k hk => by rw [Xb.out.2.2.2.2] at hk; simp [sv, Value.ownBlock] at hk)
          have Mc_2 : Hid (Mw w w2 gc xc [] (([] : List Fd) ++ (rpL ⟨#[51, 48, 52]⟩ ⟨#[]⟩).drop 1) []) := Mc_1.out.other HA1.out k2 Nac.out (fun k hk => by rw [Xc.out.2.2.2.2] at hk; simp [sv, Value.ownBlock] at hk)
          have ho2 : Hid (Calls Tryd.prog 17 #[.pointer (some ⟨ga, 0, none⟩), .bool true, .string ⟨#[]⟩] w2 fun e w' => OvPost w2 e w') := over_whole ga _ [] _ [] w2 A2.ms rfl Z1.out.1 (rp_len1 _ _)
          have B2 : Hid (Below w.heap.size w w2) := b2
          clear A2 b2 k2 hd2 Mb_1 Mc_1 B1 HA1
          go_wp2_with fail
          go_at_call 17
          refine Calls.mono ho2.out ?_
          rintro e w3 ⟨rfl, bX⟩
          have Mb_3 : Hid (Mw w w3 gb xb [] (([] : List Fd) ++ (rpL ⟨#[51, 48, 52]⟩ DL).drop 1) []) := Mb_2.out.below bX
          have Mc_3 : Hid (Mw w w3 gc xc [] (([] : List Fd) ++ (rpL ⟨#[51, 48, 52]⟩ ⟨#[]⟩).drop 1) []) := Mc_2.out.below bX
          have B3 : Hid (Below w.heap.size w w3) := B2.out.trans (bX.mono B2.out.size)
          clear bX ho2 Mb_2 Mc_2 B2
          have hd3 : Hid (Calls Tryd.prog 14 #[.pointer (some ⟨gc, 0, none⟩), .string ⟨#[]⟩, .bool true] w3 fun e W' => DsPost w gc xc (([] : List Fd) ++ (rpL ⟨#[51, 48, 52]⟩ ⟨#[]⟩).drop 1) [] 0 1 [] w3 e W') := data_step ⟨#[]⟩ true Mc_3.out B3.out (Nat.zero_le _) (by rw [Xc.out.2.1, Xc.out.2.2.1, Xc.out.2.2.2.1]; decide) (by rw [Xc.out.2.1, Xc.out.2.2.1, Xc.out.2.2.2.1]; decide) (by rw [Xc.out.2.1, Xc.out.2.2.1, Xc.out.2.2.2.1]; decide +kernel)
          go_wp2_with fail
          go_at_call 14
          refine Calls.mono hd3.out ?_
          rintro e w4 ⟨bs4, rfl, A4, b4, k4, _⟩
          have Mb_4 : Hid (Mw w w4 gb xb [] (([] : List Fd) ++ (rpL ⟨#[51, 48, 52]⟩ DL).drop 1) []) := Mb_3.out.other Mc_3.out k4 (fun e => Nbc.out e.symm) (fun k hk => by rw [Xb.out.2.2.2.2] at hk; simp [sv, Value.ownBlock] at hk)
          have ho4 : Hid (Calls Tryd.prog 17 #[.pointer (some ⟨gc, 0, none⟩), .bool true, .string ⟨#[]⟩] w4 fun e w' => OvPost w4 e w') := over_whole gc _ [] _ [] w4 A4.ms rfl Xc.out.1 (rp_len1 _ _)
          have B4 : Hid (Below w.heap.size w w4) := b4
          clear A4 b4 k4 hd3 Mb_3 Mc_3 B3
          go_wp2_with fail
          go_at_call 17
          refine Calls.mono ho4.out ?_
          rintro e w5 ⟨rfl, bX⟩
          have Mb_5 : Hid (Mw w w5 gb xb [] (([] : List Fd) ++ (rpL ⟨#[51, 48, 52]⟩ DL).drop 1) []) := Mb_4.out.below bX
          have B5 : Hid (Below w.heap.size w w5) := B4.out.trans (bX.mono B4.out.size)
          clear bX ho4 Mb_4 B4
          have hd5 : Hid (Calls Tryd.prog 14 #[.pointer (some ⟨gb, 0, none⟩), .string V, .bool false] w5 fun e W' => DsPost w gb xb (([] : List Fd) ++ (rpL ⟨#[51, 48, 52]⟩ DL).drop 1) [] RE 2 [] w5 e W') := data_step V false Mb_5.out B5.out HV.out.1 (by rw [Xb.out.2.1, Xb.out.2.2.1, Xb.out.2.2.2.1]; exact HV.out.2.1) (by rw [Xb.out.2.1, Xb.out.2.2.1, Xb.out.2.2.2.1]; exact HV.out.2.2.1) (by rw [Xb.out.2.1, Xb.out.2.2.1, Xb.out.2.2.2.1]; exact HV.out.2.2.2)
          go_wp2_with fail
          go_at_call 14
          refine Calls.mono hd5.out ?_
          rintro e w6 ⟨bs6, rfl, A6, b6, k6, _⟩
          have ho6 : Hid (Calls Tryd.prog 17 #[.pointer (some ⟨gb, 0, none⟩), .bool false, .string ⟨#[]⟩] w6 fun e w' => OvPost w6 e w') := over_broken gb _ ⟨#[]⟩ w6 A6.ms.bx rfl
          have B6 : Hid (Below w.heap.size w w6) := b6
          clear A6 b6 k6 hd5 Mb_5 B5
          rcases HRE.out with ⟨hre, hsz⟩ | hre
          · subst hre
            have hsz' : ¬ (s.size : Int) < 65536 := by omega
            have hsd : decide ((s.size : Int) < 65536) = false := decide_eq_false hsz'
            clear hsz hsz'
            go_wp2_with fail
            go_at_call 17
            refine Calls.mono ho6.out ?_
            rintro e w7 ⟨rfl, bX⟩
            have B7 : Hid (Below w.heap.size w w7) := B6.out.trans (bX.mono B6.out.size)
            clear bX ho6 B6
            go_wp2_with fail
            go_roundw
            case rel => exact ⟨2 + 1, by simp, by omega, B7.out⟩
            case measure => simp [intOf]
          · subst hre
            go_wp2_with fail
            go_at_call 17
            refine Calls.mono ho6.out ?_
            rintro e w7 ⟨rfl, bX⟩
            have B7 : Hid (Below w.heap.size w w7) := B6.out.trans (bX.mono B6.out.size)
            clear bX ho6 B6
            go_wp2_with fail
            go_roundw
            case rel => exact ⟨2 + 1, by simp, by omega, B7.out⟩
            case measure => simp [intOf]
        · replace hi : u10 = .int .i64 3 := hi
          subst hi
          go_wp2_with fail
          go_at_call 8
          refine (reply_any ⟨#[52, 48, 52]⟩ ⟨#[49]⟩ ws).mono ?_
          rintro e wd0 ⟨⟨rb, rn, rc⟩, rfl, bX, rX, oX⟩
          have Bd0 : Hid (Below w.heap.size w wd0) := Bs.out.trans (bX.mono Bs.out.size)
          have hn2 : Hid (Calls Tryd.prog 10 #[.bool false, .string ⟨#[71, 69, 84]⟩, .slice rb rn rc] wd0 fun e w' => NsPost w ⟨#[71, 69, 84]⟩ (rpL ⟨#[52, 48, 52]⟩ ⟨#[49]⟩) wd0 e w') := new_step ⟨#[71, 69, 84]⟩ (rb, rn, rc) _ (R.isIn rX) (rp_len _ _) (rp_names _ _) (by decide +kernel) (HER.out.below Bd0.out) nw404 Bd0.out.size
          clear bX rX oX Bs
          simp only [sv]
          go_wp2_with fail
          go_at_call 10
          refine Calls.mono hn2.out ?_
          rintro e wd ⟨gd, yd, rfl, Md, bX, od⟩
          obtain ⟨xd, hxd⟩ : ∃ x, NwX ⟨#[71, 69, 84]⟩ (rpL ⟨#[52, 48, 52]⟩ ⟨#[49]⟩) yd = x := ⟨_, rfl⟩
          have Xd : Hid (xd.st = 0 ∧ xd.fx = true ∧ xd.ln = 1) := by rw [← hxd]; exact ⟨by kernel_rfl, by kernel_rfl, by kernel_rfl⟩
          rw [hxd] at Md
          have Bd : Hid (Below w.heap.size w wd) := Bd0.out.trans (bX.mono Bd0.out.size)
          have hd2 : Hid (Calls Tryd.prog 15 #[.pointer (some ⟨gd, 0, none⟩)] wd fun e W' => DsPost w gd xd ((rpL ⟨#[52, 48, 52]⟩ ⟨#[49]⟩).drop 1) [] 140 2 [] wd e W') := end_step Md Bd.out (by rw [Xd.out.1, Xd.out.2.1, Xd.out.2.2]; decide) (by rw [Xd.out.1, Xd.out.2.1, Xd.out.2.2]; decide) (by rw [Xd.out.1, Xd.out.2.1, Xd.out.2.2]; decide +kernel)
          clear hxd Md bX od hn2 Bd0
          go_wp2_with fail
          go_at_call 15
          refine Calls.mono hd2.out ?_
          rintro e w6 ⟨bs6, rfl, A6, b6, k6, _⟩
          have ho6 : Hid (Calls Tryd.prog 17 #[.pointer (some ⟨gd, 0, none⟩), .bool false, .string ⟨#[]⟩] w6 fun e w' => OvPost w6 e w') := over_broken gd _ ⟨#[]⟩ w6 A6.ms.bx rfl
          have B6 : Hid (Below w.heap.size w w6) := b6
          clear A6 b6 k6 hd2 Bd
          go_wp2_with fail
          go_at_call 17
          refine Calls.mono ho6.out ?_
          rintro e w7 ⟨rfl, bX⟩
          have B7 : Hid (Below w.heap.size w w7) := B6.out.trans (bX.mono B6.out.size)
          clear bX ho6 B6
          go_wp2_with fail
          go_ret
          exact ⟨by first | rfl | simp, B7.out⟩
end Go.Proofs.YtnbaojdildelmaaDoor
