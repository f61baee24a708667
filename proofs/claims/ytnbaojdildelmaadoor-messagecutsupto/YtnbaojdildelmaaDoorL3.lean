/- MessageCuts, walked. -/
import Derived.Test.YtnbaojdildelmaaDoorQ2
import Derived.Test.YtnbaojdildelmaaDoorW2
import Derived.Deep.Cut
import Derived.Deep.CutRange
namespace Go.Proofs.YtnbaojdildelmaaDoor
open Go.RowKit
set_option linter.unusedVariables false
set_option linter.unusedSimpArgs false
theorem dc_below {W W' : World} {b : Nat} {o : Obj} (h : W.heap[b]? = some o) (hb : Below W.heap.size W W') : W'.heap[b]? = some o := (hb.block b (heap_lt h)).trans h
theorem dc_ks {w0 W W' : World} {b g : Nat} {c : Array Value} {z : Nat × Nat} {x : Mg} {body : List UInt8} {fl ql : List Fd} (h : W.heap[b]? = some (.cells c 9 z)) (hm : Mw w0 W g x body fl ql) (k : Ks (Ow g x) W W') : W'.heap[b]? = some (.cells c 9 z) := by
  refine (k.block b (heap_lt h) ?_).trans h
  rintro (e | e)
  · have h1 := hm.ms.bx
    unfold MgB at h1
    rw [← e, h] at h1
    simp at h1
  · obtain ⟨u, hu⟩ := R.ty hm.ms.rb b e
    rw [h] at hu
    simp [EB] at hu
theorem nw_none : nwE (rpL ⟨#[50, 48, 48]⟩ ⟨#[]⟩) = 0 := by decide +kernel
theorem nx_none (y : SV) : (NwX ⟨#[71, 69, 84]⟩ (rpL ⟨#[50, 48, 48]⟩ ⟨#[]⟩) y).rq = false ∧ (NwX ⟨#[71, 69, 84]⟩ (rpL ⟨#[50, 48, 48]⟩ ⟨#[]⟩) y).st = 0 ∧ (NwX ⟨#[71, 69, 84]⟩ (rpL ⟨#[50, 48, 48]⟩ ⟨#[]⟩) y).fx = false ∧ (NwX ⟨#[71, 69, 84]⟩ (rpL ⟨#[50, 48, 48]⟩ ⟨#[]⟩) y).ln = 0 ∧ (NwX ⟨#[71, 69, 84]⟩ (rpL ⟨#[50, 48, 48]⟩ ⟨#[]⟩) y).bs = (none, 0, 0) := ⟨by kernel_rfl, by kernel_rfl, by kernel_rfl, by kernel_rfl, by kernel_rfl⟩
theorem lnR_dec {u : Nat} (h : u ≤ 2147483647) : LnR (decS u) u := by
  have e : decS u = zrS 0 u := rfl
  have hl := dec_len 9 u (by omega)
  have hz : (zrS 0 u).size ≤ 10 := by rw [zr_size]; omega
  exact ⟨by rw [e]; exact zr_ne 0 u, nbO_dec h, dec_val (by omega), by rw [e]; exact hz⟩
set_option maxHeartbeats 40000000 in
set_option maxRecDepth 100000 in
theorem messageCuts_any (s : ByteArray) (times : Int) (cs ms : SV) (cuts more : List Int) (ap : Bool) (length : Int) (w : World) (hs : s.size ≤ 1048576) (ht1 : -9223372036854775808 ≤ times) (ht2 : times ≤ 9223372036854775807) (hI1 : In EI w (sv cs) cuts) (hI2 : In EI w (sv ms) more) (hl1 : -9223372036854775808 ≤ length) (hl2 : length ≤ 9223372036854775807) (he : Er w) (ht : Tab w) :
    Calls Tryd.prog 6 #[.string s, .int .i64 times, sv cs, sv ms, .bool ap, .int .i64 length] w fun e w' => OvPost w e w' := by
  have hh : Hid (Calls Tryd.prog 7 #[] w fun e w' => OvPost w e w') := head_any w he
  have HER : Hid (Er w) := he
  have HTB : Hid (Tab w) := ht
  obtain ⟨cb, cn, cc⟩ := cs
  obtain ⟨mb, mn, mc⟩ := ms
  simp only [sv] at hI1 hI2 ⊢
  have HI1 : Hid (In EI w (.slice cb cn cc) cuts) := hI1
  have HI2 : Hid (In EI w (.slice mb mn mc) more) := hI2
  have hgr : Hid (∀ W, Calls Tryd.prog 18 #[.string s, .int .i64 times] W fun e w' => (∃ B : ByteArray, e = .returned (.string B) ∧ B.size ≤ 1118576) ∧ w' = W) := fun W => grown_any s times W hs ht1 ht2
  obtain ⟨L, hL⟩ : ∃ L : Int, (if length < 0 then -(length + 1) else length) = L := ⟨_, rfl⟩
  have HL : Hid ((if length < 0 then -(length + 1) else length) = L) := hL
  have hL0 : 0 ≤ L := by rw [← hL]; split <;> omega
  have hL9 : L ≤ 9223372036854775807 := by rw [← hL]; split <;> omega
  obtain ⟨u, hu⟩ : ∃ u : Nat, L % 100000 = (u : Int) := ⟨(L % 100000).toNat, by omega⟩
  have hu9 : u ≤ 99999 := by omega
  have HU : Hid (L % 100000 = (u : Int)) := hu
  obtain ⟨D2, hD2⟩ : ∃ c, decS u = c := ⟨_, rfl⟩
  have HD2 : Hid (D2 = decS u) := hD2.symm
  have HLR2 : Hid (LnR D2 u) := by rw [← hD2]; exact lnR_dec (by omega)
  have hfo : Hid (∀ (v : Nat) W, v ≤ 2147483647 → Below w.heap.size w W → Calls Tryd.prog 13 #[.int .i64 (v : Int), .int .i64 10] W fun e w' => e = .returned (.string (decS v)) ∧ Below W.heap.size W w') := fun v W hv hb => format_any v (by omega) W (ht.below hb)
  clear he ht hL hu hD2 hI1 hI2
  go_enter Tryd.func6, Tryd.ntmps6
  go_wp2_with fail
  go_at_call 7
  refine Calls.mono hh.out ?_
  rintro e wh ⟨rfl, bh⟩
  have BH : Hid (Below w.heap.size w wh) := bh
  clear bh hh
  go_wp2_with fail
  go_at_call 18
  refine Calls.mono (hgr.out wh) ?_
  rintro e wg ⟨⟨B, rfl, hBz⟩, rfl⟩
  clear hgr hs ht1 ht2
  obtain ⟨D1, hD1⟩ : ∃ c, decS B.size = c := ⟨_, rfl⟩
  have HD1 : Hid (D1 = decS B.size) := hD1.symm
  have HLR1 : Hid (LnR D1 B.size) := by rw [← hD1]; exact lnR_dec (by omega)
  have hf1 : Hid (∀ W, Below w.heap.size w W → Calls Tryd.prog 13 #[.int .i64 (B.size : Int), .int .i64 10] W fun e w' => e = .returned (.string D1) ∧ Below W.heap.size W w') := fun W hb => by rw [← hD1]; exact hfo.out B.size W (by omega) hb
  have hf2 : Hid (∀ W, Below w.heap.size w W → Calls Tryd.prog 13 #[.int .i64 (u : Int), .int .i64 10] W fun e w' => e = .returned (.string D2) ∧ Below W.heap.size W w') := fun W hb => by rw [HD2.out]; exact hfo.out u W (by omega) hb
  clear hfo hD1
  go_upto_if 32 with fail
  go_cut [5] from 24 (fun x wx => x = .int .i64 L ∧ wx = wg)
  case first =>
    by_cases h0 : length < 0
    · have hx : Hid (-(length + 1) = L) := by have := HL.out; rw [if_pos h0] at this; exact this
      clear hL0 hL9
      go_wp2_with fail
      go_meet
      exact ⟨by rw [← hx.out], rfl⟩
    · have hx : Hid (length = L) := by have := HL.out; rw [if_neg h0] at this; exact this
      clear hL0 hL9
      go_wp2_with fail
      go_meet
      exact ⟨by rw [← hx.out], rfl⟩
  case rest =>
    obtain ⟨rfl, rfl⟩ := hcut
    clear hl1 hl2
    have hu' := HU.out
    go_wp2_with fail
    go_at_call 13
    refine Calls.mono (hf1.out _ BH.out) ?_
    rintro e w1 ⟨rfl, bX⟩
    have B1 : Hid (Below w.heap.size w w1) := BH.out.trans (bX.mono BH.out.size)
    clear bX BH hf1
    go_wp2_with fail
    go_at_call 13
    try rw [HU.out]
    refine Calls.mono (hf2.out _ B1.out) ?_
    rintro e wq ⟨rfl, bX⟩
    have B2 : Hid (Below w.heap.size w wq) := B1.out.trans (bX.mono B1.out.size)
    clear bX B1 hf2
    try rw [HU.out]
    clear hu'
    obtain ⟨wd, hwd⟩ : ∃ x, wq.alloc (.cells #[.string ⟨#[]⟩, .string D1, .string D2] 9) = x := ⟨_, rfl⟩
    have bd : Below wq.heap.size wq wd := by rw [← hwd]; exact bel1 wq _
    have hdb : wd.heap[wq.heap.size]? = some (.cells #[.string ⟨#[]⟩, .string D1, .string D2] 9) := by rw [← hwd, heap_al, if_pos rfl]
    have BD : Hid (Below w.heap.size w wd) := B2.out.trans (bd.mono B2.out.size)
    have HWD : Hid (wq.alloc (.cells #[.string ⟨#[]⟩, .string D1, .string D2] 9) = wd) := hwd
    have HDB : Hid (wd.heap[wq.heap.size]? = some (.cells #[.string ⟨#[]⟩, .string D1, .string D2] 9)) := hdb
    clear hwd bd hdb
    go_upto_region 9 with fail
    rw [HWD.out]
    clear HWD
    go_wp2_with fail
    go_loopw [16, 17, 18, 19, 20, 21, 22, 23] (fun iv _ _ _ _ _ _ _ wr => ∃ i : Nat, iv = .int .i64 (i : Int) ∧ i ≤ 3 ∧ Hid (Below w.heap.size w wr) ∧ Hid (wr.heap[wq.heap.size]? = some (.cells #[.string ⟨#[]⟩, .string D1, .string D2] 9))) (fun iv _ _ _ _ _ _ _ _ => 3 - (intOf iv).toNat)
    case atStart => exact ⟨0, rfl, by omega, BD.out, HDB.out⟩
    case round =>
      obtain ⟨i, hi, hi3, hBr0, hDr0⟩ := hrel
      clear BD HDB
      obtain ⟨ws, hws⟩ : ∃ x, wr = x := ⟨_, rfl⟩
      rw [hws] at hBr0 hDr0 ⊢
      have HDs : Hid (ws.heap[wq.heap.size]? = some (.cells #[.string ⟨#[]⟩, .string D1, .string D2] 9)) := hDr0
      have hBr : Hid (Below w.heap.size w ws) := hBr0
      clear hws hBr0 hDr0
      rcases (show i = 0 ∨ i = 1 ∨ i = 2 ∨ i = 3 by omega) with rfl | rfl | rfl | rfl
      · replace hi : u16 = .int .i64 0 := hi
        subst hi
        have dc := cell_blk HDs.out 0
        have dl := heap_lt HDs.out
        simp only [List.getElem?_toArray, List.getElem?_cons_succ, List.getElem?_cons_zero] at dc
        go_wp2_with fail
        go_at_call 8
        refine (reply_any ⟨#[50, 48, 48]⟩ ⟨#[]⟩ ws).mono ?_
        rintro e wa0 ⟨⟨rba, rna, rca⟩, rfl, bX, rX, oX⟩
        have Ba0 : Hid (Below w.heap.size w wa0) := hBr.out.trans (bX.mono hBr.out.size)
        have hna : Hid (Calls Tryd.prog 10 #[.bool false, .string ⟨#[71, 69, 84]⟩, .slice rba rna rca] wa0 fun e w' => NsPost w ⟨#[71, 69, 84]⟩ (rpL ⟨#[50, 48, 48]⟩ ⟨#[]⟩) wa0 e w') := new_step ⟨#[71, 69, 84]⟩ (rba, rna, rca) _ (R.isIn rX) (rp_len _ _) (rp_names _ _) (rp_vals c200.2.1 (.inl rfl)) (HER.out.below Ba0.out) nw_none Ba0.out.size
        have HDa0 := dc_below HDs.out bX
        clear bX rX oX dc dl HDs
        simp only [sv]
        go_wp2_with fail
        go_at_call 10
        refine Calls.mono hna.out ?_
        rintro e wa ⟨ga, ya, rfl, Ma', bX, oa⟩
        obtain ⟨xa, hxa⟩ : ∃ x, NwX ⟨#[71, 69, 84]⟩ (rpL ⟨#[50, 48, 48]⟩ ⟨#[]⟩) ya = x := ⟨_, rfl⟩
        have Xa : Hid (xa.rq = false ∧ xa.st = 0 ∧ xa.fx = false ∧ xa.ln = 0 ∧ xa.bs = (none, 0, 0)) := by rw [← hxa]; exact nx_none _
        rw [hxa] at Ma'
        have Ba : Hid (Below w.heap.size w wa) := Ba0.out.trans (bX.mono Ba0.out.size)
        have Ma : Hid (Mw w wa ga xa [] (([] : List Fd) ++ (rpL ⟨#[50, 48, 48]⟩ ⟨#[]⟩).drop 1) []) := Ma'
        have HDa : Hid (wa.heap[wq.heap.size]? = some (.cells #[.string ⟨#[]⟩, .string D1, .string D2] 9)) := dc_below HDa0 bX
        clear HDa0
        clear hxa Ma' bX oa hna Ba0 hBr
        have dc := cell_blk HDa.out 0
        have dl := heap_lt HDa.out
        simp only [List.getElem?_toArray, List.getElem?_cons_succ, List.getElem?_cons_zero] at dc
        go_wp2_with fail
        go_at_call 8
        refine (reply_any ⟨#[50, 48, 48]⟩ ⟨#[]⟩ wa).mono ?_
        rintro e wb0 ⟨⟨rbb, rnb, rcb⟩, rfl, bX, rX, oX⟩
        have Bb0 : Hid (Below w.heap.size w wb0) := Ba.out.trans (bX.mono Ba.out.size)
        have hnb : Hid (Calls Tryd.prog 10 #[.bool false, .string ⟨#[71, 69, 84]⟩, .slice rbb rnb rcb] wb0 fun e w' => NsPost w ⟨#[71, 69, 84]⟩ (rpL ⟨#[50, 48, 48]⟩ ⟨#[]⟩) wb0 e w') := new_step ⟨#[71, 69, 84]⟩ (rbb, rnb, rcb) _ (R.isIn rX) (rp_len _ _) (rp_names _ _) (rp_vals c200.2.1 (.inl rfl)) (HER.out.below Bb0.out) nw_none Bb0.out.size
        have Ma0 := Ma.out.below bX
        have HDb0 := dc_below HDa.out bX
        clear bX rX oX dc dl HDa
        simp only [sv]
        go_wp2_with fail
        go_at_call 10
        refine Calls.mono hnb.out ?_
        rintro e wb ⟨gb, yb, rfl, Mb', bX, ob⟩
        obtain ⟨xb, hxb⟩ : ∃ x, NwX ⟨#[71, 69, 84]⟩ (rpL ⟨#[50, 48, 48]⟩ ⟨#[]⟩) yb = x := ⟨_, rfl⟩
        have Xb : Hid (xb.rq = false ∧ xb.st = 0 ∧ xb.fx = false ∧ xb.ln = 0 ∧ xb.bs = (none, 0, 0)) := by rw [← hxb]; exact nx_none _
        rw [hxb] at Mb'
        have Bb : Hid (Below w.heap.size w wb) := Bb0.out.trans (bX.mono Bb0.out.size)
        have Mb : Hid (Mw w wb gb xb [] (([] : List Fd) ++ (rpL ⟨#[50, 48, 48]⟩ ⟨#[]⟩).drop 1) []) := Mb'
        have HDb : Hid (wb.heap[wq.heap.size]? = some (.cells #[.string ⟨#[]⟩, .string D1, .string D2] 9)) := dc_below HDb0 bX
        clear HDb0
        have MaB : Hid _ := Ma0.below bX
        have NE : Hid (gb ≠ ga) := fun e => by have h1 := heap_lt Ma0.ms.bx; omega
        clear hxb Mb' bX ob hnb Bb0 Ma0 Ma Ba
        have hp1 : Hid (Calls Tryd.prog 19 #[.pointer (some ⟨ga, 0, none⟩), .string B, .slice cb cn cc, .bool ap] wb fun e W' => PcPost w ga xa (([] : List Fd) ++ (rpL ⟨#[50, 48, 48]⟩ ⟨#[]⟩).drop 1) [] B wb e W') := pieces_any w wb ga xa _ [] B (cb, cn, cc) cuts ap MaB.out Xa.out.2.1 Bb.out (by omega) HI1.out
        go_wp2_with fail
        go_at_call 19
        refine Calls.mono hp1.out ?_
        rintro e w1 ⟨bs1, E1, S1, body1, rfl, A1, b1, k1, o1, hg1, hb1⟩
        have Mb1 : Hid (Mw w w1 gb xb [] (([] : List Fd) ++ (rpL ⟨#[50, 48, 48]⟩ ⟨#[]⟩).drop 1) []) := Mb.out.other MaB.out k1 NE.out (fun k hk => by rw [Xb.out.2.2.2.2] at hk; simp [sv, Value.ownBlock] at hk)
        have HD1w : Hid (w1.heap[wq.heap.size]? = some (.cells #[.string ⟨#[]⟩, .string D1, .string D2] 9)) := dc_ks HDb.out MaB.out k1
        have HA1 : Hid (Mw w w1 ga { xa with st := S1, bs := bs1 } body1 (([] : List Fd) ++ (rpL ⟨#[50, 48, 48]⟩ ⟨#[]⟩).drop 1) []) := A1
        have BW1 : Hid (Below w.heap.size w w1) := b1
        rw [Xa.out.2.2.1, Xa.out.2.2.2.1] at hg1 hb1
        have G1 : Hid (gdB false 0 B.size = true → E1 = 0 ∧ S1 = 1 ∧ body1 = B.data.toList) := hg1
        have F1 : Hid (gdB false 0 B.size = false → (E1 = 3 ∨ E1 = 140) ∧ S1 = 2 ∧ (B.size ≤ 65536 → E1 = 140)) := hb1
        clear A1 b1 k1 o1 hg1 hb1 hp1 Mb MaB Bb HDb
        have hp2 : Hid (Calls Tryd.prog 19 #[.pointer (some ⟨gb, 0, none⟩), .string B, .slice mb mn mc, .bool (!ap)] w1 fun e W' => PcPost w gb xb (([] : List Fd) ++ (rpL ⟨#[50, 48, 48]⟩ ⟨#[]⟩).drop 1) [] B w1 e W') := pieces_any w w1 gb xb _ [] B (mb, mn, mc) more (!ap) Mb1.out Xb.out.2.1 BW1.out (by omega) HI2.out
        go_wp2_with fail
        go_at_call 19
        refine Calls.mono hp2.out ?_
        rintro e w2 ⟨bs2, E2, S2, body2, rfl, A2, b2, k2, o2, hg2, hb2⟩
        have HA2 : Hid (Mw w w2 ga { xa with st := S1, bs := bs1 } body1 (([] : List Fd) ++ (rpL ⟨#[50, 48, 48]⟩ ⟨#[]⟩).drop 1) []) := HA1.out.other Mb1.out k2 (fun e => NE.out e.symm) (fun k hk => by rw [Xb.out.2.2.2.2]; simp [sv, Value.ownBlock])
        have HD2w : Hid (w2.heap[wq.heap.size]? = some (.cells #[.string ⟨#[]⟩, .string D1, .string D2] 9)) := dc_ks HD1w.out Mb1.out k2
        have HB2 : Hid (Mw w w2 gb { xb with st := S2, bs := bs2 } body2 (([] : List Fd) ++ (rpL ⟨#[50, 48, 48]⟩ ⟨#[]⟩).drop 1) []) := A2
        have BW2 : Hid (Below w.heap.size w w2) := b2
        rw [Xb.out.2.2.1, Xb.out.2.2.2.1] at hg2 hb2
        have G2 : Hid (gdB false 0 B.size = true → E2 = 0 ∧ S2 = 1 ∧ body2 = B.data.toList) := hg2
        have F2 : Hid (gdB false 0 B.size = false → (E2 = 3 ∨ E2 = 140) ∧ S2 = 2 ∧ (B.size ≤ 65536 → E2 = 140)) := hb2
        have XA : Hid (xa.rq = false) := Xa.out.1
        have XB : Hid (xb.rq = false) := Xb.out.1
        clear A2 b2 k2 o2 hg2 hb2 hp2 HA1 Mb1 BW1 Xa Xb NE HD1w
        by_cases hn1 : B.size ≤ 65536
        · have hn1' : (B.size : Int) ≤ 65536 := by omega
          have hgd : gdB false 0 B.size = true := by unfold gdB; rw [decide_eq_true hn1]; simp
          have hgd := hgd
          obtain ⟨rfl, rfl, rfl⟩ := G1.out hgd
          obtain ⟨rfl, rfl, rfl⟩ := G2.out hgd
          clear G1 G2 F1 F2 hgd
          have ho1 : Hid (Calls Tryd.prog 17 #[.pointer (some ⟨ga, 0, none⟩), .bool true, .string B] w2 fun e w' => OvPost w2 e w') := (by have h9 := over_whole ga _ _ _ [] w2 HA2.out.ms (by rfl) XA.out (rp_len1 _ _); rw [bt_self] at h9; exact h9)
          go_wp2_with fail
          go_at_call 17
          refine Calls.mono ho1.out ?_
          rintro e w3 ⟨rfl, bX⟩
          have HB3 := HB2.out.below bX
          have HD3 := dc_below HD2w.out bX
          have B3 : Hid (Below w.heap.size w w3) := BW2.out.trans (bX.mono BW2.out.size)
          have ho2 : Hid (Calls Tryd.prog 17 #[.pointer (some ⟨gb, 0, none⟩), .bool true, .string B] w3 fun e w' => OvPost w3 e w') := (by have h9 := over_whole gb _ _ _ [] w3 HB3.ms (by rfl) XB.out (rp_len1 _ _); rw [bt_self] at h9; exact h9)
          clear bX ho1 HA2 HB2 BW2 HB3 HD2w
          go_wp2_with fail
          go_at_call 17
          refine Calls.mono ho2.out ?_
          rintro e w4 ⟨rfl, bX⟩
          have B4 : Hid (Below w.heap.size w w4) := B3.out.trans (bX.mono B3.out.size)
          have HD4 : Hid (w4.heap[wq.heap.size]? = some (.cells #[.string ⟨#[]⟩, .string D1, .string D2] 9)) := dc_below HD3 bX
          clear bX ho2 B3 HD3
          go_wp2_with fail
          go_roundw
          case rel => exact ⟨0 + 1, by simp, by omega, B4.out, HD4.out⟩
          case measure => simp [intOf]
        · have hn1' : ¬ (B.size : Int) ≤ 65536 := by omega
          have hgd : gdB false 0 B.size = false := by unfold gdB; rw [decide_eq_false hn1]; rfl
          obtain ⟨h1, rfl, _⟩ := F1.out hgd
          obtain ⟨h2, rfl, _⟩ := F2.out hgd
          clear G1 G2 F1 F2 hgd
          rcases h1 with rfl | rfl
          · rcases h2 with rfl | rfl
            · have ho1 : Hid (Calls Tryd.prog 17 #[.pointer (some ⟨ga, 0, none⟩), .bool false, .string B] w2 fun e w' => OvPost w2 e w') := over_broken ga _ B w2 HA2.out.ms.bx (by rfl)
              go_wp2_with fail
              go_at_call 17
              refine Calls.mono ho1.out ?_
              rintro e w3 ⟨rfl, bX⟩
              have HB3 := HB2.out.below bX
              have HD3 := dc_below HD2w.out bX
              have B3 : Hid (Below w.heap.size w w3) := BW2.out.trans (bX.mono BW2.out.size)
              have ho2 : Hid (Calls Tryd.prog 17 #[.pointer (some ⟨gb, 0, none⟩), .bool false, .string B] w3 fun e w' => OvPost w3 e w') := over_broken gb _ B w3 HB3.ms.bx (by rfl)
              clear bX ho1 HA2 HB2 BW2 HB3 HD2w
              go_wp2_with fail
              go_at_call 17
              refine Calls.mono ho2.out ?_
              rintro e w4 ⟨rfl, bX⟩
              have B4 : Hid (Below w.heap.size w w4) := B3.out.trans (bX.mono B3.out.size)
              have HD4 : Hid (w4.heap[wq.heap.size]? = some (.cells #[.string ⟨#[]⟩, .string D1, .string D2] 9)) := dc_below HD3 bX
              clear bX ho2 B3 HD3
              go_wp2_with fail
              go_roundw
              case rel => exact ⟨0 + 1, by simp, by omega, B4.out, HD4.out⟩
              case measure => simp [intOf]
            · have ho1 : Hid (Calls Tryd.prog 17 #[.pointer (some ⟨ga, 0, none⟩), .bool false, .string B] w2 fun e w' => OvPost w2 e w') := over_broken ga _ B w2 HA2.out.ms.bx (by rfl)
              go_wp2_with fail
              go_at_call 17
              refine Calls.mono ho1.out ?_
              rintro e w3 ⟨rfl, bX⟩
              have HB3 := HB2.out.below bX
              have HD3 := dc_below HD2w.out bX
              have B3 : Hid (Below w.heap.size w w3) := BW2.out.trans (bX.mono BW2.out.size)
              have ho2 : Hid (Calls Tryd.prog 17 #[.pointer (some ⟨gb, 0, none⟩), .bool false, .string B] w3 fun e w' => OvPost w3 e w') := over_broken gb _ B w3 HB3.ms.bx (by rfl)
              clear bX ho1 HA2 HB2 BW2 HB3 HD2w
              go_wp2_with fail
              go_at_call 17
              refine Calls.mono ho2.out ?_
              rintro e w4 ⟨rfl, bX⟩
              have B4 : Hid (Below w.heap.size w w4) := B3.out.trans (bX.mono B3.out.size)
              have HD4 : Hid (w4.heap[wq.heap.size]? = some (.cells #[.string ⟨#[]⟩, .string D1, .string D2] 9)) := dc_below HD3 bX
              clear bX ho2 B3 HD3
              go_wp2_with fail
              go_roundw
              case rel => exact ⟨0 + 1, by simp, by omega, B4.out, HD4.out⟩
              case measure => simp [intOf]
          · rcases h2 with rfl | rfl
            · have ho1 : Hid (Calls Tryd.prog 17 #[.pointer (some ⟨ga, 0, none⟩), .bool false, .string B] w2 fun e w' => OvPost w2 e w') := over_broken ga _ B w2 HA2.out.ms.bx (by rfl)
              go_wp2_with fail
              go_at_call 17
              refine Calls.mono ho1.out ?_
              rintro e w3 ⟨rfl, bX⟩
              have HB3 := HB2.out.below bX
              have HD3 := dc_below HD2w.out bX
              have B3 : Hid (Below w.heap.size w w3) := BW2.out.trans (bX.mono BW2.out.size)
              have ho2 : Hid (Calls Tryd.prog 17 #[.pointer (some ⟨gb, 0, none⟩), .bool false, .string B] w3 fun e w' => OvPost w3 e w') := over_broken gb _ B w3 HB3.ms.bx (by rfl)
              clear bX ho1 HA2 HB2 BW2 HB3 HD2w
              go_wp2_with fail
              go_at_call 17
              refine Calls.mono ho2.out ?_
              rintro e w4 ⟨rfl, bX⟩
              have B4 : Hid (Below w.heap.size w w4) := B3.out.trans (bX.mono B3.out.size)
              have HD4 : Hid (w4.heap[wq.heap.size]? = some (.cells #[.string ⟨#[]⟩, .string D1, .string D2] 9)) := dc_below HD3 bX
              clear bX ho2 B3 HD3
              go_wp2_with fail
              go_roundw
              case rel => exact ⟨0 + 1, by simp, by omega, B4.out, HD4.out⟩
              case measure => simp [intOf]
            · have ho1 : Hid (Calls Tryd.prog 17 #[.pointer (some ⟨ga, 0, none⟩), .bool false, .string B] w2 fun e w' => OvPost w2 e w') := over_broken ga _ B w2 HA2.out.ms.bx (by rfl)
              go_wp2_with fail
              go_at_call 17
              refine Calls.mono ho1.out ?_
              rintro e w3 ⟨rfl, bX⟩
              have HB3 := HB2.out.below bX
              have HD3 := dc_below HD2w.out bX
              have B3 : Hid (Below w.heap.size w w3) := BW2.out.trans (bX.mono BW2.out.size)
              have ho2 : Hid (Calls Tryd.prog 17 #[.pointer (some ⟨gb, 0, none⟩), .bool false, .string B] w3 fun e w' => OvPost w3 e w') := over_broken gb _ B w3 HB3.ms.bx (by rfl)
              clear bX ho1 HA2 HB2 BW2 HB3 HD2w
              go_wp2_with fail
              go_at_call 17
              refine Calls.mono ho2.out ?_
              rintro e w4 ⟨rfl, bX⟩
              have B4 : Hid (Below w.heap.size w w4) := B3.out.trans (bX.mono B3.out.size)
              have HD4 : Hid (w4.heap[wq.heap.size]? = some (.cells #[.string ⟨#[]⟩, .string D1, .string D2] 9)) := dc_below HD3 bX
              clear bX ho2 B3 HD3
              go_wp2_with fail
              go_roundw
              case rel => exact ⟨0 + 1, by simp, by omega, B4.out, HD4.out⟩
              case measure => simp [intOf]
      · replace hi : u16 = .int .i64 1 := hi
        subst hi
        have dc := cell_blk HDs.out 1
        have dl := heap_lt HDs.out
        simp only [List.getElem?_toArray, List.getElem?_cons_succ, List.getElem?_cons_zero] at dc
        go_wp2_with fail
        go_at_call 8
        refine (reply_any ⟨#[50, 48, 48]⟩ D1 ws).mono ?_
        rintro e wa0 ⟨⟨rba, rna, rca⟩, rfl, bX, rX, oX⟩
        have Ba0 : Hid (Below w.heap.size w wa0) := hBr.out.trans (bX.mono hBr.out.size)
        have hna : Hid (Calls Tryd.prog 10 #[.bool false, .string ⟨#[71, 69, 84]⟩, .slice rba rna rca] wa0 fun e w' => NsPost w ⟨#[71, 69, 84]⟩ (rpL ⟨#[50, 48, 48]⟩ D1) wa0 e w') := new_step ⟨#[71, 69, 84]⟩ (rba, rna, rca) _ (R.isIn rX) (rp_len _ _) (rp_names _ _) (rp_vals c200.2.1 (.inr ⟨B.size, by omega, HD1.out⟩)) (HER.out.below Ba0.out) HLR1.out.ok Ba0.out.size
        have HDa0 := dc_below HDs.out bX
        clear bX rX oX dc dl HDs
        simp only [sv]
        go_wp2_with fail
        go_at_call 10
        refine Calls.mono hna.out ?_
        rintro e wa ⟨ga, ya, rfl, Ma', bX, oa⟩
        obtain ⟨xa, hxa⟩ : ∃ x, NwX ⟨#[71, 69, 84]⟩ (rpL ⟨#[50, 48, 48]⟩ D1) ya = x := ⟨_, rfl⟩
        have Xa : Hid (xa.rq = false ∧ xa.st = 0 ∧ xa.fx = true ∧ xa.ln = (B.size : Int) ∧ xa.bs = (none, 0, 0)) := by rw [← hxa]; exact (HLR1.out.nx _)
        rw [hxa] at Ma'
        have Ba : Hid (Below w.heap.size w wa) := Ba0.out.trans (bX.mono Ba0.out.size)
        have Ma : Hid (Mw w wa ga xa [] (([] : List Fd) ++ (rpL ⟨#[50, 48, 48]⟩ D1).drop 1) []) := Ma'
        have HDa : Hid (wa.heap[wq.heap.size]? = some (.cells #[.string ⟨#[]⟩, .string D1, .string D2] 9)) := dc_below HDa0 bX
        clear HDa0
        clear hxa Ma' bX oa hna Ba0 hBr
        have dc := cell_blk HDa.out 1
        have dl := heap_lt HDa.out
        simp only [List.getElem?_toArray, List.getElem?_cons_succ, List.getElem?_cons_zero] at dc
        go_wp2_with fail
        go_at_call 8
        refine (reply_any ⟨#[50, 48, 48]⟩ D1 wa).mono ?_
        rintro e wb0 ⟨⟨rbb, rnb, rcb⟩, rfl, bX, rX, oX⟩
        have Bb0 : Hid (Below w.heap.size w wb0) := Ba.out.trans (bX.mono Ba.out.size)
        have hnb : Hid (Calls Tryd.prog 10 #[.bool false, .string ⟨#[71, 69, 84]⟩, .slice rbb rnb rcb] wb0 fun e w' => NsPost w ⟨#[71, 69, 84]⟩ (rpL ⟨#[50, 48, 48]⟩ D1) wb0 e w') := new_step ⟨#[71, 69, 84]⟩ (rbb, rnb, rcb) _ (R.isIn rX) (rp_len _ _) (rp_names _ _) (rp_vals c200.2.1 (.inr ⟨B.size, by omega, HD1.out⟩)) (HER.out.below Bb0.out) HLR1.out.ok Bb0.out.size
        have Ma0 := Ma.out.below bX
        have HDb0 := dc_below HDa.out bX
        clear bX rX oX dc dl HDa
        simp only [sv]
        go_wp2_with fail
        go_at_call 10
        refine Calls.mono hnb.out ?_
        rintro e wb ⟨gb, yb, rfl, Mb', bX, ob⟩
        obtain ⟨xb, hxb⟩ : ∃ x, NwX ⟨#[71, 69, 84]⟩ (rpL ⟨#[50, 48, 48]⟩ D1) yb = x := ⟨_, rfl⟩
        have Xb : Hid (xb.rq = false ∧ xb.st = 0 ∧ xb.fx = true ∧ xb.ln = (B.size : Int) ∧ xb.bs = (none, 0, 0)) := by rw [← hxb]; exact (HLR1.out.nx _)
        rw [hxb] at Mb'
        have Bb : Hid (Below w.heap.size w wb) := Bb0.out.trans (bX.mono Bb0.out.size)
        have Mb : Hid (Mw w wb gb xb [] (([] : List Fd) ++ (rpL ⟨#[50, 48, 48]⟩ D1).drop 1) []) := Mb'
        have HDb : Hid (wb.heap[wq.heap.size]? = some (.cells #[.string ⟨#[]⟩, .string D1, .string D2] 9)) := dc_below HDb0 bX
        clear HDb0
        have MaB : Hid _ := Ma0.below bX
        have NE : Hid (gb ≠ ga) := fun e => by have h1 := heap_lt Ma0.ms.bx; omega
        clear hxb Mb' bX ob hnb Bb0 Ma0 Ma Ba
        have hp1 : Hid (Calls Tryd.prog 19 #[.pointer (some ⟨ga, 0, none⟩), .string B, .slice cb cn cc, .bool ap] wb fun e W' => PcPost w ga xa (([] : List Fd) ++ (rpL ⟨#[50, 48, 48]⟩ D1).drop 1) [] B wb e W') := pieces_any w wb ga xa _ [] B (cb, cn, cc) cuts ap MaB.out Xa.out.2.1 Bb.out (by omega) HI1.out
        go_wp2_with fail
        go_at_call 19
        refine Calls.mono hp1.out ?_
        rintro e w1 ⟨bs1, E1, S1, body1, rfl, A1, b1, k1, o1, hg1, hb1⟩
        have Mb1 : Hid (Mw w w1 gb xb [] (([] : List Fd) ++ (rpL ⟨#[50, 48, 48]⟩ D1).drop 1) []) := Mb.out.other MaB.out k1 NE.out (fun k hk => by rw [Xb.out.2.2.2.2] at hk; simp [sv, Value.ownBlock] at hk)
        have HD1w : Hid (w1.heap[wq.heap.size]? = some (.cells #[.string ⟨#[]⟩, .string D1, .string D2] 9)) := dc_ks HDb.out MaB.out k1
        have HA1 : Hid (Mw w w1 ga { xa with st := S1, bs := bs1 } body1 (([] : List Fd) ++ (rpL ⟨#[50, 48, 48]⟩ D1).drop 1) []) := A1
        have BW1 : Hid (Below w.heap.size w w1) := b1
        rw [Xa.out.2.2.1, Xa.out.2.2.2.1] at hg1 hb1
        have G1 : Hid (gdB true (B.size : Int) B.size = true → E1 = 0 ∧ S1 = 1 ∧ body1 = B.data.toList) := hg1
        have F1 : Hid (gdB true (B.size : Int) B.size = false → (E1 = 3 ∨ E1 = 140) ∧ S1 = 2 ∧ (B.size ≤ 65536 → E1 = 140)) := hb1
        clear A1 b1 k1 o1 hg1 hb1 hp1 Mb MaB Bb HDb
        have hp2 : Hid (Calls Tryd.prog 19 #[.pointer (some ⟨gb, 0, none⟩), .string B, .slice mb mn mc, .bool (!ap)] w1 fun e W' => PcPost w gb xb (([] : List Fd) ++ (rpL ⟨#[50, 48, 48]⟩ D1).drop 1) [] B w1 e W') := pieces_any w w1 gb xb _ [] B (mb, mn, mc) more (!ap) Mb1.out Xb.out.2.1 BW1.out (by omega) HI2.out
        go_wp2_with fail
        go_at_call 19
        refine Calls.mono hp2.out ?_
        rintro e w2 ⟨bs2, E2, S2, body2, rfl, A2, b2, k2, o2, hg2, hb2⟩
        have HA2 : Hid (Mw w w2 ga { xa with st := S1, bs := bs1 } body1 (([] : List Fd) ++ (rpL ⟨#[50, 48, 48]⟩ D1).drop 1) []) := HA1.out.other Mb1.out k2 (fun e => NE.out e.symm) (fun k hk => by rw [Xb.out.2.2.2.2]; simp [sv, Value.ownBlock])
        have HD2w : Hid (w2.heap[wq.heap.size]? = some (.cells #[.string ⟨#[]⟩, .string D1, .string D2] 9)) := dc_ks HD1w.out Mb1.out k2
        have HB2 : Hid (Mw w w2 gb { xb with st := S2, bs := bs2 } body2 (([] : List Fd) ++ (rpL ⟨#[50, 48, 48]⟩ D1).drop 1) []) := A2
        have BW2 : Hid (Below w.heap.size w w2) := b2
        rw [Xb.out.2.2.1, Xb.out.2.2.2.1] at hg2 hb2
        have G2 : Hid (gdB true (B.size : Int) B.size = true → E2 = 0 ∧ S2 = 1 ∧ body2 = B.data.toList) := hg2
        have F2 : Hid (gdB true (B.size : Int) B.size = false → (E2 = 3 ∨ E2 = 140) ∧ S2 = 2 ∧ (B.size ≤ 65536 → E2 = 140)) := hb2
        have XA : Hid (xa.rq = false) := Xa.out.1
        have XB : Hid (xb.rq = false) := Xb.out.1
        clear A2 b2 k2 o2 hg2 hb2 hp2 HA1 Mb1 BW1 Xa Xb NE HD1w
        by_cases hn1 : B.size ≤ 65536
        · have hn1' : (B.size : Int) ≤ 65536 := by omega
          have hgd : gdB true (B.size : Int) B.size = true := by unfold gdB; rw [decide_eq_true hn1]; simp
          have hgd := hgd
          obtain ⟨rfl, rfl, rfl⟩ := G1.out hgd
          obtain ⟨rfl, rfl, rfl⟩ := G2.out hgd
          clear G1 G2 F1 F2 hgd
          have ho1 : Hid (Calls Tryd.prog 17 #[.pointer (some ⟨ga, 0, none⟩), .bool true, .string B] w2 fun e w' => OvPost w2 e w') := (by have h9 := over_whole ga _ _ _ [] w2 HA2.out.ms (by rfl) XA.out (rp_len1 _ _); rw [bt_self] at h9; exact h9)
          go_wp2_with fail
          go_at_call 17
          refine Calls.mono ho1.out ?_
          rintro e w3 ⟨rfl, bX⟩
          have HB3 := HB2.out.below bX
          have HD3 := dc_below HD2w.out bX
          have B3 : Hid (Below w.heap.size w w3) := BW2.out.trans (bX.mono BW2.out.size)
          have ho2 : Hid (Calls Tryd.prog 17 #[.pointer (some ⟨gb, 0, none⟩), .bool true, .string B] w3 fun e w' => OvPost w3 e w') := (by have h9 := over_whole gb _ _ _ [] w3 HB3.ms (by rfl) XB.out (rp_len1 _ _); rw [bt_self] at h9; exact h9)
          clear bX ho1 HA2 HB2 BW2 HB3 HD2w
          go_wp2_with fail
          go_at_call 17
          refine Calls.mono ho2.out ?_
          rintro e w4 ⟨rfl, bX⟩
          have B4 : Hid (Below w.heap.size w w4) := B3.out.trans (bX.mono B3.out.size)
          have HD4 : Hid (w4.heap[wq.heap.size]? = some (.cells #[.string ⟨#[]⟩, .string D1, .string D2] 9)) := dc_below HD3 bX
          clear bX ho2 B3 HD3
          go_wp2_with fail
          go_roundw
          case rel => exact ⟨1 + 1, by simp, by omega, B4.out, HD4.out⟩
          case measure => simp [intOf]
        · have hn1' : ¬ (B.size : Int) ≤ 65536 := by omega
          have hgd : gdB true (B.size : Int) B.size = false := by unfold gdB; rw [decide_eq_false hn1]; rfl
          obtain ⟨h1, rfl, _⟩ := F1.out hgd
          obtain ⟨h2, rfl, _⟩ := F2.out hgd
          clear G1 G2 F1 F2 hgd
          rcases h1 with rfl | rfl
          · rcases h2 with rfl | rfl
            · have ho1 : Hid (Calls Tryd.prog 17 #[.pointer (some ⟨ga, 0, none⟩), .bool false, .string B] w2 fun e w' => OvPost w2 e w') := over_broken ga _ B w2 HA2.out.ms.bx (by rfl)
              go_wp2_with fail
              go_at_call 17
              refine Calls.mono ho1.out ?_
              rintro e w3 ⟨rfl, bX⟩
              have HB3 := HB2.out.below bX
              have HD3 := dc_below HD2w.out bX
              have B3 : Hid (Below w.heap.size w w3) := BW2.out.trans (bX.mono BW2.out.size)
              have ho2 : Hid (Calls Tryd.prog 17 #[.pointer (some ⟨gb, 0, none⟩), .bool false, .string B] w3 fun e w' => OvPost w3 e w') := over_broken gb _ B w3 HB3.ms.bx (by rfl)
              clear bX ho1 HA2 HB2 BW2 HB3 HD2w
              go_wp2_with fail
              go_at_call 17
              refine Calls.mono ho2.out ?_
              rintro e w4 ⟨rfl, bX⟩
              have B4 : Hid (Below w.heap.size w w4) := B3.out.trans (bX.mono B3.out.size)
              have HD4 : Hid (w4.heap[wq.heap.size]? = some (.cells #[.string ⟨#[]⟩, .string D1, .string D2] 9)) := dc_below HD3 bX
              clear bX ho2 B3 HD3
              go_wp2_with fail
              go_roundw
              case rel => exact ⟨1 + 1, by simp, by omega, B4.out, HD4.out⟩
              case measure => simp [intOf]
            · have ho1 : Hid (Calls Tryd.prog 17 #[.pointer (some ⟨ga, 0, none⟩), .bool false, .string B] w2 fun e w' => OvPost w2 e w') := over_broken ga _ B w2 HA2.out.ms.bx (by rfl)
              go_wp2_with fail
              go_at_call 17
              refine Calls.mono ho1.out ?_
              rintro e w3 ⟨rfl, bX⟩
              have HB3 := HB2.out.below bX
              have HD3 := dc_below HD2w.out bX
              have B3 : Hid (Below w.heap.size w w3) := BW2.out.trans (bX.mono BW2.out.size)
              have ho2 : Hid (Calls Tryd.prog 17 #[.pointer (some ⟨gb, 0, none⟩), .bool false, .string B] w3 fun e w' => OvPost w3 e w') := over_broken gb _ B w3 HB3.ms.bx (by rfl)
              clear bX ho1 HA2 HB2 BW2 HB3 HD2w
              go_wp2_with fail
              go_at_call 17
              refine Calls.mono ho2.out ?_
              rintro e w4 ⟨rfl, bX⟩
              have B4 : Hid (Below w.heap.size w w4) := B3.out.trans (bX.mono B3.out.size)
              have HD4 : Hid (w4.heap[wq.heap.size]? = some (.cells #[.string ⟨#[]⟩, .string D1, .string D2] 9)) := dc_below HD3 bX
              clear bX ho2 B3 HD3
              go_wp2_with fail
              go_roundw
              case rel => exact ⟨1 + 1, by simp, by omega, B4.out, HD4.out⟩
              case measure => simp [intOf]
          · rcases h2 with rfl | rfl
            · have ho1 : Hid (Calls Tryd.prog 17 #[.pointer (some ⟨ga, 0, none⟩), .bool false, .string B] w2 fun e w' => OvPost w2 e w') := over_broken ga _ B w2 HA2.out.ms.bx (by rfl)
              go_wp2_with fail
              go_at_call 17
              refine Calls.mono ho1.out ?_
              rintro e w3 ⟨rfl, bX⟩
              have HB3 := HB2.out.below bX
              have HD3 := dc_below HD2w.out bX
              have B3 : Hid (Below w.heap.size w w3) := BW2.out.trans (bX.mono BW2.out.size)
              have ho2 : Hid (Calls Tryd.prog 17 #[.pointer (some ⟨gb, 0, none⟩), .bool false, .string B] w3 fun e w' => OvPost w3 e w') := over_broken gb _ B w3 HB3.ms.bx (by rfl)
              clear bX ho1 HA2 HB2 BW2 HB3 HD2w
              go_wp2_with fail
              go_at_call 17
              refine Calls.mono ho2.out ?_
              rintro e w4 ⟨rfl, bX⟩
              have B4 : Hid (Below w.heap.size w w4) := B3.out.trans (bX.mono B3.out.size)
              have HD4 : Hid (w4.heap[wq.heap.size]? = some (.cells #[.string ⟨#[]⟩, .string D1, .string D2] 9)) := dc_below HD3 bX
              clear bX ho2 B3 HD3
              go_wp2_with fail
              go_roundw
              case rel => exact ⟨1 + 1, by simp, by omega, B4.out, HD4.out⟩
              case measure => simp [intOf]
            · have ho1 : Hid (Calls Tryd.prog 17 #[.pointer (some ⟨ga, 0, none⟩), .bool false, .string B] w2 fun e w' => OvPost w2 e w') := over_broken ga _ B w2 HA2.out.ms.bx (by rfl)
              go_wp2_with fail
              go_at_call 17
              refine Calls.mono ho1.out ?_
              rintro e w3 ⟨rfl, bX⟩
              have HB3 := HB2.out.below bX
              have HD3 := dc_below HD2w.out bX
              have B3 : Hid (Below w.heap.size w w3) := BW2.out.trans (bX.mono BW2.out.size)
              have ho2 : Hid (Calls Tryd.prog 17 #[.pointer (some ⟨gb, 0, none⟩), .bool false, .string B] w3 fun e w' => OvPost w3 e w') := over_broken gb _ B w3 HB3.ms.bx (by rfl)
              clear bX ho1 HA2 HB2 BW2 HB3 HD2w
              go_wp2_with fail
              go_at_call 17
              refine Calls.mono ho2.out ?_
              rintro e w4 ⟨rfl, bX⟩
              have B4 : Hid (Below w.heap.size w w4) := B3.out.trans (bX.mono B3.out.size)
              have HD4 : Hid (w4.heap[wq.heap.size]? = some (.cells #[.string ⟨#[]⟩, .string D1, .string D2] 9)) := dc_below HD3 bX
              clear bX ho2 B3 HD3
              go_wp2_with fail
              go_roundw
              case rel => exact ⟨1 + 1, by simp, by omega, B4.out, HD4.out⟩
              case measure => simp [intOf]
      · replace hi : u16 = .int .i64 2 := hi
        subst hi
        have dc := cell_blk HDs.out 2
        have dl := heap_lt HDs.out
        simp only [List.getElem?_toArray, List.getElem?_cons_succ, List.getElem?_cons_zero] at dc
        go_wp2_with fail
        go_at_call 8
        refine (reply_any ⟨#[50, 48, 48]⟩ D2 ws).mono ?_
        rintro e wa0 ⟨⟨rba, rna, rca⟩, rfl, bX, rX, oX⟩
        have Ba0 : Hid (Below w.heap.size w wa0) := hBr.out.trans (bX.mono hBr.out.size)
        have hna : Hid (Calls Tryd.prog 10 #[.bool false, .string ⟨#[71, 69, 84]⟩, .slice rba rna rca] wa0 fun e w' => NsPost w ⟨#[71, 69, 84]⟩ (rpL ⟨#[50, 48, 48]⟩ D2) wa0 e w') := new_step ⟨#[71, 69, 84]⟩ (rba, rna, rca) _ (R.isIn rX) (rp_len _ _) (rp_names _ _) (rp_vals c200.2.1 (.inr ⟨u, by omega, HD2.out⟩)) (HER.out.below Ba0.out) HLR2.out.ok Ba0.out.size
        have HDa0 := dc_below HDs.out bX
        clear bX rX oX dc dl HDs
        simp only [sv]
        go_wp2_with fail
        go_at_call 10
        refine Calls.mono hna.out ?_
        rintro e wa ⟨ga, ya, rfl, Ma', bX, oa⟩
        obtain ⟨xa, hxa⟩ : ∃ x, NwX ⟨#[71, 69, 84]⟩ (rpL ⟨#[50, 48, 48]⟩ D2) ya = x := ⟨_, rfl⟩
        have Xa : Hid (xa.rq = false ∧ xa.st = 0 ∧ xa.fx = true ∧ xa.ln = (u : Int) ∧ xa.bs = (none, 0, 0)) := by rw [← hxa]; exact (HLR2.out.nx _)
        rw [hxa] at Ma'
        have Ba : Hid (Below w.heap.size w wa) := Ba0.out.trans (bX.mono Ba0.out.size)
        have Ma : Hid (Mw w wa ga xa [] (([] : List Fd) ++ (rpL ⟨#[50, 48, 48]⟩ D2).drop 1) []) := Ma'
        have HDa : Hid (wa.heap[wq.heap.size]? = some (.cells #[.string ⟨#[]⟩, .string D1, .string D2] 9)) := dc_below HDa0 bX
        clear HDa0
        clear hxa Ma' bX oa hna Ba0 hBr
        have dc := cell_blk HDa.out 2
        have dl := heap_lt HDa.out
        simp only [List.getElem?_toArray, List.getElem?_cons_succ, List.getElem?_cons_zero] at dc
        go_wp2_with fail
        go_at_call 8
        refine (reply_any ⟨#[50, 48, 48]⟩ D2 wa).mono ?_
        rintro e wb0 ⟨⟨rbb, rnb, rcb⟩, rfl, bX, rX, oX⟩
        have Bb0 : Hid (Below w.heap.size w wb0) := Ba.out.trans (bX.mono Ba.out.size)
        have hnb : Hid (Calls Tryd.prog 10 #[.bool false, .string ⟨#[71, 69, 84]⟩, .slice rbb rnb rcb] wb0 fun e w' => NsPost w ⟨#[71, 69, 84]⟩ (rpL ⟨#[50, 48, 48]⟩ D2) wb0 e w') := new_step ⟨#[71, 69, 84]⟩ (rbb, rnb, rcb) _ (R.isIn rX) (rp_len _ _) (rp_names _ _) (rp_vals c200.2.1 (.inr ⟨u, by omega, HD2.out⟩)) (HER.out.below Bb0.out) HLR2.out.ok Bb0.out.size
        have Ma0 := Ma.out.below bX
        have HDb0 := dc_below HDa.out bX
        clear bX rX oX dc dl HDa
        simp only [sv]
        go_wp2_with fail
        go_at_call 10
        refine Calls.mono hnb.out ?_
        rintro e wb ⟨gb, yb, rfl, Mb', bX, ob⟩
        obtain ⟨xb, hxb⟩ : ∃ x, NwX ⟨#[71, 69, 84]⟩ (rpL ⟨#[50, 48, 48]⟩ D2) yb = x := ⟨_, rfl⟩
        have Xb : Hid (xb.rq = false ∧ xb.st = 0 ∧ xb.fx = true ∧ xb.ln = (u : Int) ∧ xb.bs = (none, 0, 0)) := by rw [← hxb]; exact (HLR2.out.nx _)
        rw [hxb] at Mb'
        have Bb : Hid (Below w.heap.size w wb) := Bb0.out.trans (bX.mono Bb0.out.size)
        have Mb : Hid (Mw w wb gb xb [] (([] : List Fd) ++ (rpL ⟨#[50, 48, 48]⟩ D2).drop 1) []) := Mb'
        have HDb : Hid (wb.heap[wq.heap.size]? = some (.cells #[.string ⟨#[]⟩, .string D1, .string D2] 9)) := dc_below HDb0 bX
        clear HDb0
        have MaB : Hid _ := Ma0.below bX
        have NE : Hid (gb ≠ ga) := fun e => by have h1 := heap_lt Ma0.ms.bx; omega
        clear hxb Mb' bX ob hnb Bb0 Ma0 Ma Ba
        have hp1 : Hid (Calls Tryd.prog 19 #[.pointer (some ⟨ga, 0, none⟩), .string B, .slice cb cn cc, .bool ap] wb fun e W' => PcPost w ga xa (([] : List Fd) ++ (rpL ⟨#[50, 48, 48]⟩ D2).drop 1) [] B wb e W') := pieces_any w wb ga xa _ [] B (cb, cn, cc) cuts ap MaB.out Xa.out.2.1 Bb.out (by omega) HI1.out
        go_wp2_with fail
        go_at_call 19
        refine Calls.mono hp1.out ?_
        rintro e w1 ⟨bs1, E1, S1, body1, rfl, A1, b1, k1, o1, hg1, hb1⟩
        have Mb1 : Hid (Mw w w1 gb xb [] (([] : List Fd) ++ (rpL ⟨#[50, 48, 48]⟩ D2).drop 1) []) := Mb.out.other MaB.out k1 NE.out (fun k hk => by rw [Xb.out.2.2.2.2] at hk; simp [sv, Value.ownBlock] at hk)
        have HD1w : Hid (w1.heap[wq.heap.size]? = some (.cells #[.string ⟨#[]⟩, .string D1, .string D2] 9)) := dc_ks HDb.out MaB.out k1
        have HA1 : Hid (Mw w w1 ga { xa with st := S1, bs := bs1 } body1 (([] : List Fd) ++ (rpL ⟨#[50, 48, 48]⟩ D2).drop 1) []) := A1
        have BW1 : Hid (Below w.heap.size w w1) := b1
        rw [Xa.out.2.2.1, Xa.out.2.2.2.1] at hg1 hb1
        have G1 : Hid (gdB true (u : Int) B.size = true → E1 = 0 ∧ S1 = 1 ∧ body1 = B.data.toList) := hg1
        have F1 : Hid (gdB true (u : Int) B.size = false → (E1 = 3 ∨ E1 = 140) ∧ S1 = 2 ∧ (B.size ≤ 65536 → E1 = 140)) := hb1
        clear A1 b1 k1 o1 hg1 hb1 hp1 Mb MaB Bb HDb
        have hp2 : Hid (Calls Tryd.prog 19 #[.pointer (some ⟨gb, 0, none⟩), .string B, .slice mb mn mc, .bool (!ap)] w1 fun e W' => PcPost w gb xb (([] : List Fd) ++ (rpL ⟨#[50, 48, 48]⟩ D2).drop 1) [] B w1 e W') := pieces_any w w1 gb xb _ [] B (mb, mn, mc) more (!ap) Mb1.out Xb.out.2.1 BW1.out (by omega) HI2.out
        go_wp2_with fail
        go_at_call 19
        refine Calls.mono hp2.out ?_
        rintro e w2 ⟨bs2, E2, S2, body2, rfl, A2, b2, k2, o2, hg2, hb2⟩
        have HA2 : Hid (Mw w w2 ga { xa with st := S1, bs := bs1 } body1 (([] : List Fd) ++ (rpL ⟨#[50, 48, 48]⟩ D2).drop 1) []) := HA1.out.other Mb1.out k2 (fun e => NE.out e.symm) (fun k hk => by rw [Xb.out.2.2.2.2]; simp [sv, Value.ownBlock])
        have HD2w : Hid (w2.heap[wq.heap.size]? = some (.cells #[.string ⟨#[]⟩, .string D1, .string D2] 9)) := dc_ks HD1w.out Mb1.out k2
        have HB2 : Hid (Mw w w2 gb { xb with st := S2, bs := bs2 } body2 (([] : List Fd) ++ (rpL ⟨#[50, 48, 48]⟩ D2).drop 1) []) := A2
        have BW2 : Hid (Below w.heap.size w w2) := b2
        rw [Xb.out.2.2.1, Xb.out.2.2.2.1] at hg2 hb2
        have G2 : Hid (gdB true (u : Int) B.size = true → E2 = 0 ∧ S2 = 1 ∧ body2 = B.data.toList) := hg2
        have F2 : Hid (gdB true (u : Int) B.size = false → (E2 = 3 ∨ E2 = 140) ∧ S2 = 2 ∧ (B.size ≤ 65536 → E2 = 140)) := hb2
        have XA : Hid (xa.rq = false) := Xa.out.1
        have XB : Hid (xb.rq = false) := Xb.out.1
        clear A2 b2 k2 o2 hg2 hb2 hp2 HA1 Mb1 BW1 Xa Xb NE HD1w
        by_cases hn1 : B.size ≤ 65536
        · have hn1' : (B.size : Int) ≤ 65536 := by omega
          by_cases hnu : (B.size : Int) = (u : Int)
          · have hgd : gdB true (u : Int) B.size = true := by unfold gdB; rw [decide_eq_true hn1, decide_eq_true hnu.symm]; rfl
            obtain rfl : u = B.size := by omega
            clear hnu
            obtain ⟨rfl, rfl, rfl⟩ := G1.out hgd
            obtain ⟨rfl, rfl, rfl⟩ := G2.out hgd
            clear G1 G2 F1 F2 hgd
            have ho1 : Hid (Calls Tryd.prog 17 #[.pointer (some ⟨ga, 0, none⟩), .bool true, .string B] w2 fun e w' => OvPost w2 e w') := (by have h9 := over_whole ga _ _ _ [] w2 HA2.out.ms (by rfl) XA.out (rp_len1 _ _); rw [bt_self] at h9; exact h9)
            go_wp2_with fail
            go_at_call 17
            refine Calls.mono ho1.out ?_
            rintro e w3 ⟨rfl, bX⟩
            have HB3 := HB2.out.below bX
            have HD3 := dc_below HD2w.out bX
            have B3 : Hid (Below w.heap.size w w3) := BW2.out.trans (bX.mono BW2.out.size)
            have ho2 : Hid (Calls Tryd.prog 17 #[.pointer (some ⟨gb, 0, none⟩), .bool true, .string B] w3 fun e w' => OvPost w3 e w') := (by have h9 := over_whole gb _ _ _ [] w3 HB3.ms (by rfl) XB.out (rp_len1 _ _); rw [bt_self] at h9; exact h9)
            clear bX ho1 HA2 HB2 BW2 HB3 HD2w
            go_wp2_with fail
            go_at_call 17
            refine Calls.mono ho2.out ?_
            rintro e w4 ⟨rfl, bX⟩
            have B4 : Hid (Below w.heap.size w w4) := B3.out.trans (bX.mono B3.out.size)
            have HD4 : Hid (w4.heap[wq.heap.size]? = some (.cells #[.string ⟨#[]⟩, .string D1, .string D2] 9)) := dc_below HD3 bX
            clear bX ho2 B3 HD3
            go_wp2_with fail
            go_roundw
            case rel => exact ⟨2 + 1, by simp, by omega, B4.out, HD4.out⟩
            case measure => simp [intOf]
          · have hgd : gdB true (u : Int) B.size = false := by unfold gdB; rw [decide_eq_true hn1, decide_eq_false (fun e => hnu e.symm)]; rfl
            have qnu : ((B.size : Int) == (u : Int)) = false := by simp [hnu]
            obtain ⟨_, rfl, h1⟩ := F1.out hgd
            obtain ⟨_, rfl, h2⟩ := F2.out hgd
            obtain rfl := h1 hn1
            obtain rfl := h2 hn1
            clear G1 G2 F1 F2 hgd h1 h2
            have ho1 : Hid (Calls Tryd.prog 17 #[.pointer (some ⟨ga, 0, none⟩), .bool false, .string B] w2 fun e w' => OvPost w2 e w') := over_broken ga _ B w2 HA2.out.ms.bx (by rfl)
            go_wp2_with fail
            go_at_call 17
            refine Calls.mono ho1.out ?_
            rintro e w3 ⟨rfl, bX⟩
            have HB3 := HB2.out.below bX
            have HD3 := dc_below HD2w.out bX
            have B3 : Hid (Below w.heap.size w w3) := BW2.out.trans (bX.mono BW2.out.size)
            have ho2 : Hid (Calls Tryd.prog 17 #[.pointer (some ⟨gb, 0, none⟩), .bool false, .string B] w3 fun e w' => OvPost w3 e w') := over_broken gb _ B w3 HB3.ms.bx (by rfl)
            clear bX ho1 HA2 HB2 BW2 HB3 HD2w
            go_wp2_with fail
            go_at_call 17
            refine Calls.mono ho2.out ?_
            rintro e w4 ⟨rfl, bX⟩
            have B4 : Hid (Below w.heap.size w w4) := B3.out.trans (bX.mono B3.out.size)
            have HD4 : Hid (w4.heap[wq.heap.size]? = some (.cells #[.string ⟨#[]⟩, .string D1, .string D2] 9)) := dc_below HD3 bX
            clear bX ho2 B3 HD3
            go_wp2_with fail
            go_roundw
            case rel => exact ⟨2 + 1, by simp, by omega, B4.out, HD4.out⟩
            case measure => simp [intOf]
        · have hn1' : ¬ (B.size : Int) ≤ 65536 := by omega
          have hgd : gdB true (u : Int) B.size = false := by unfold gdB; rw [decide_eq_false hn1]; rfl
          obtain ⟨h1, rfl, _⟩ := F1.out hgd
          obtain ⟨h2, rfl, _⟩ := F2.out hgd
          clear G1 G2 F1 F2 hgd
          rcases h1 with rfl | rfl
          · rcases h2 with rfl | rfl
            · have ho1 : Hid (Calls Tryd.prog 17 #[.pointer (some ⟨ga, 0, none⟩), .bool false, .string B] w2 fun e w' => OvPost w2 e w') := over_broken ga _ B w2 HA2.out.ms.bx (by rfl)
              go_wp2_with fail
              go_at_call 17
              refine Calls.mono ho1.out ?_
              rintro e w3 ⟨rfl, bX⟩
              have HB3 := HB2.out.below bX
              have HD3 := dc_below HD2w.out bX
              have B3 : Hid (Below w.heap.size w w3) := BW2.out.trans (bX.mono BW2.out.size)
              have ho2 : Hid (Calls Tryd.prog 17 #[.pointer (some ⟨gb, 0, none⟩), .bool false, .string B] w3 fun e w' => OvPost w3 e w') := over_broken gb _ B w3 HB3.ms.bx (by rfl)
              clear bX ho1 HA2 HB2 BW2 HB3 HD2w
              go_wp2_with fail
              go_at_call 17
              refine Calls.mono ho2.out ?_
              rintro e w4 ⟨rfl, bX⟩
              have B4 : Hid (Below w.heap.size w w4) := B3.out.trans (bX.mono B3.out.size)
              have HD4 : Hid (w4.heap[wq.heap.size]? = some (.cells #[.string ⟨#[]⟩, .string D1, .string D2] 9)) := dc_below HD3 bX
              clear bX ho2 B3 HD3
              go_wp2_with fail
              go_roundw
              case rel => exact ⟨2 + 1, by simp, by omega, B4.out, HD4.out⟩
              case measure => simp [intOf]
            · have ho1 : Hid (Calls Tryd.prog 17 #[.pointer (some ⟨ga, 0, none⟩), .bool false, .string B] w2 fun e w' => OvPost w2 e w') := over_broken ga _ B w2 HA2.out.ms.bx (by rfl)
              go_wp2_with fail
              go_at_call 17
              refine Calls.mono ho1.out ?_
              rintro e w3 ⟨rfl, bX⟩
              have HB3 := HB2.out.below bX
              have HD3 := dc_below HD2w.out bX
              have B3 : Hid (Below w.heap.size w w3) := BW2.out.trans (bX.mono BW2.out.size)
              have ho2 : Hid (Calls Tryd.prog 17 #[.pointer (some ⟨gb, 0, none⟩), .bool false, .string B] w3 fun e w' => OvPost w3 e w') := over_broken gb _ B w3 HB3.ms.bx (by rfl)
              clear bX ho1 HA2 HB2 BW2 HB3 HD2w
              go_wp2_with fail
              go_at_call 17
              refine Calls.mono ho2.out ?_
              rintro e w4 ⟨rfl, bX⟩
              have B4 : Hid (Below w.heap.size w w4) := B3.out.trans (bX.mono B3.out.size)
              have HD4 : Hid (w4.heap[wq.heap.size]? = some (.cells #[.string ⟨#[]⟩, .string D1, .string D2] 9)) := dc_below HD3 bX
              clear bX ho2 B3 HD3
              go_wp2_with fail
              go_roundw
              case rel => exact ⟨2 + 1, by simp, by omega, B4.out, HD4.out⟩
              case measure => simp [intOf]
          · rcases h2 with rfl | rfl
            · have ho1 : Hid (Calls Tryd.prog 17 #[.pointer (some ⟨ga, 0, none⟩), .bool false, .string B] w2 fun e w' => OvPost w2 e w') := over_broken ga _ B w2 HA2.out.ms.bx (by rfl)
              go_wp2_with fail
              go_at_call 17
              refine Calls.mono ho1.out ?_
              rintro e w3 ⟨rfl, bX⟩
              have HB3 := HB2.out.below bX
              have HD3 := dc_below HD2w.out bX
              have B3 : Hid (Below w.heap.size w w3) := BW2.out.trans (bX.mono BW2.out.size)
              have ho2 : Hid (Calls Tryd.prog 17 #[.pointer (some ⟨gb, 0, none⟩), .bool false, .string B] w3 fun e w' => OvPost w3 e w') := over_broken gb _ B w3 HB3.ms.bx (by rfl)
              clear bX ho1 HA2 HB2 BW2 HB3 HD2w
              go_wp2_with fail
              go_at_call 17
              refine Calls.mono ho2.out ?_
              rintro e w4 ⟨rfl, bX⟩
              have B4 : Hid (Below w.heap.size w w4) := B3.out.trans (bX.mono B3.out.size)
              have HD4 : Hid (w4.heap[wq.heap.size]? = some (.cells #[.string ⟨#[]⟩, .string D1, .string D2] 9)) := dc_below HD3 bX
              clear bX ho2 B3 HD3
              go_wp2_with fail
              go_roundw
              case rel => exact ⟨2 + 1, by simp, by omega, B4.out, HD4.out⟩
              case measure => simp [intOf]
            · have ho1 : Hid (Calls Tryd.prog 17 #[.pointer (some ⟨ga, 0, none⟩), .bool false, .string B] w2 fun e w' => OvPost w2 e w') := over_broken ga _ B w2 HA2.out.ms.bx (by rfl)
              go_wp2_with fail
              go_at_call 17
              refine Calls.mono ho1.out ?_
              rintro e w3 ⟨rfl, bX⟩
              have HB3 := HB2.out.below bX
              have HD3 := dc_below HD2w.out bX
              have B3 : Hid (Below w.heap.size w w3) := BW2.out.trans (bX.mono BW2.out.size)
              have ho2 : Hid (Calls Tryd.prog 17 #[.pointer (some ⟨gb, 0, none⟩), .bool false, .string B] w3 fun e w' => OvPost w3 e w') := over_broken gb _ B w3 HB3.ms.bx (by rfl)
              clear bX ho1 HA2 HB2 BW2 HB3 HD2w
              go_wp2_with fail
              go_at_call 17
              refine Calls.mono ho2.out ?_
              rintro e w4 ⟨rfl, bX⟩
              have B4 : Hid (Below w.heap.size w w4) := B3.out.trans (bX.mono B3.out.size)
              have HD4 : Hid (w4.heap[wq.heap.size]? = some (.cells #[.string ⟨#[]⟩, .string D1, .string D2] 9)) := dc_below HD3 bX
              clear bX ho2 B3 HD3
              go_wp2_with fail
              go_roundw
              case rel => exact ⟨2 + 1, by simp, by omega, B4.out, HD4.out⟩
              case measure => simp [intOf]
      · replace hi : u16 = .int .i64 3 := hi
        subst hi
        clear HDs
        go_wp2_with fail
        go_ret
        exact ⟨by first | rfl | simp, hBr.out⟩
end Go.Proofs.YtnbaojdildelmaaDoor
