/- MessageLengths, walked. -/
import Derived.Test.YtnbaojdildelmaaDoorW2
import Derived.Deep.Cut
import Derived.Deep.CutRange
namespace Go.Proofs.YtnbaojdildelmaaDoor
open Go.RowKit
set_option linter.unusedVariables false
set_option linter.unusedSimpArgs false
set_option maxHeartbeats 40000000 in
set_option maxRecDepth 100000 in
theorem messageLengths_any (n : Int) (zeros : Int) (text : ByteArray) (w : World) (hl1 : -9223372036854775808 ≤ n) (hl2 : n ≤ 9223372036854775807) (hz1 : -9223372036854775808 ≤ zeros) (hz2 : zeros ≤ 9223372036854775807) (hs : text.size ≤ 140737488351232) (he : Er w) (ht : Tab w) :
    Calls Tryd.prog 4 #[.int .i64 n, .int .i64 zeros, .string text] w fun e w' => OvPost w e w' := by
  have hh : Hid (Calls Tryd.prog 7 #[] w fun e w' => OvPost w e w') := head_any w he
  have HER : Hid (Er w) := he
  obtain ⟨L, hL⟩ : ∃ L : Int, (if n < 0 then -(n + 1) else n) = L := ⟨_, rfl⟩
  have HL : Hid ((if n < 0 then -(n + 1) else n) = L) := hL
  have hL0 : 0 ≤ L := by rw [← hL]; split <;> omega
  have hL9 : L ≤ 9223372036854775807 := by rw [← hL]; split <;> omega
  obtain ⟨u, hu⟩ : ∃ u : Nat, L % 70 = (u : Int) := ⟨(L % 70).toNat, by omega⟩
  have hu9 : u ≤ 69 := by omega
  have HU : Hid (L % 70 = (u : Int)) := hu
  obtain ⟨DL, hDL⟩ : ∃ c, decS u = c := ⟨_, rfl⟩
  have hfo : Hid (∀ W, Below w.heap.size w W → Calls Tryd.prog 13 #[.int .i64 (u : Int), .int .i64 10] W fun e w' => e = .returned (.string DL) ∧ Below W.heap.size W w') := fun W hb => by rw [← hDL]; exact format_any u (by omega) W (ht.below hb)
  have HDL : Hid (DL = zrS 0 u) := by rw [← hDL]; rfl
  have HTL : Hid (text.data.toList.length = text.size) := (Lib.size_eq text).symm
  obtain ⟨b0, hb0⟩ : ∃ b, (decide (text ≠ ⟨#[]⟩) && decide (text.size ≤ 10)) = b := ⟨_, rfl⟩
  have HB0 : Hid ((decide (text ≠ ⟨#[]⟩) && decide (text.size ≤ 10)) = b0) := hb0
  clear he ht hL hu hDL hb0
  go_enter Tryd.func4, Tryd.ntmps4
  go_wp2_with fail
  go_at_call 7
  refine Calls.mono hh.out ?_
  rintro e wh ⟨rfl, bh⟩
  have BH : Hid (Below w.heap.size w wh) := bh
  clear bh hh
  go_upto_region 3 with fail
  go_cut [7] from 21 (fun x wx => x = .bool b0 ∧ wx = wh)
  case first =>
    by_cases h0 : text = ⟨#[]⟩
    · have hx : Hid (b0 = false) := by have := HB0.out; show _ = _; rw [← this, h0]; rfl
      subst h0
      clear HB0 HTL
      go_wp2_with fail
      go_meet
      exact ⟨by rw [hx.out], rfl⟩
    · have s0e : text.toList.isEmpty = false := by
        rw [ByteArray.toList_eq]
        cases hx : text.data.toList with
        | nil => exact absurd (ba_eq (by rw [hx])) h0
        | cons a r => rfl
      have s0 : (text.toList == (⟨#[]⟩ : ByteArray).toList) = false := str_ne h0
      have s0' : (text.toList != (⟨#[]⟩ : ByteArray).toList) = true := by rw [bne, s0]; rfl
      by_cases h1 : text.size ≤ 10
      · have hx : Hid (b0 = true) := by have := HB0.out; show _ = _; rw [← this, decide_eq_true h0, decide_eq_true h1]; rfl
        have h1' : (text.size : Int) ≤ 10 := by omega
        clear HB0 HTL h0
        go_wp2_with fail
        go_meet
        exact ⟨by rw [hx.out], rfl⟩
      · have hx : Hid (b0 = false) := by have := HB0.out; show _ = _; rw [← this, decide_eq_true h0, decide_eq_false h1]; rfl
        have h1' : ¬ (text.size : Int) ≤ 10 := by omega
        clear HB0 HTL h0
        go_wp2_with fail
        go_meet
        exact ⟨by rw [hx.out], rfl⟩
  case rest =>
    obtain ⟨rfl, rfl⟩ := hcut
    go_wp2_with fail
    go_loopw [7, 8] (fun bv iv wr => ∃ (i : Nat) (b : Bool), bv = .bool b ∧ iv = .int .i64 (i : Int) ∧ i ≤ text.size ∧ wr = wc ∧ Hid (b = (b0 && (text.data.toList.take i).all dgC))) (fun _ iv _ => text.size - (intOf iv).toNat)
    case atStart => exact ⟨0, b0, rfl, rfl, by omega, rfl, by show _ = _; simp⟩
    case round =>
      obtain ⟨i, b, rfl, rfl, hi, hwr, hb⟩ := hrel
      replace hwr := hwr.symm
      subst hwr
      by_cases hlt : i < text.size
      · have hlt' : (i : Int) < (text.size : Int) := by omega
        obtain ⟨x, hx⟩ : ∃ x : UInt8, text[i]'hlt = x := ⟨_, rfl⟩
        have kl : i < text.data.toList.length := by rw [HTL.out]; exact hlt
        have hxl : text.data.toList[i]'kl = x := by rw [← hx]; simp; rfl
        have hnx : Hid ((b0 && (text.data.toList.take (i + 1)).all dgC) = (b && dgC x)) := by
          show _ = _
          rw [List.take_succ_eq_append_getElem kl, hxl, List.all_append, hb.out, Bool.and_assoc]
          simp
        have hx8 := x.toNat_lt
        clear hb hxl kl
        cases b with
        | false =>
          go_wp2_with fail
          go_roundw
          case rel => exact ⟨i + 1, false, by first | rfl | simp, by simp, by omega, by first | trivial | rfl, by rw [hnx.out]; rfl⟩
          case measure => simp [intOf]; omega
        | true =>
          by_cases h1 : 48 ≤ x.toNat
          · have h1' : (x.toNat : Int) ≥ 48 := by omega
            by_cases h2 : x.toNat ≤ 57
            · have h2' : (x.toNat : Int) ≤ 57 := by omega
              have hd : Hid (dgC x = true) := by unfold dgC; show _ = _; rw [decide_eq_true h1, decide_eq_true h2]; rfl
              go_wp2_with fail
              go_roundw
              case rel => exact ⟨i + 1, true, by first | rfl | simp, by simp, by omega, by first | trivial | rfl, by rw [hnx.out, hd.out]; rfl⟩
              case measure => simp [intOf]; omega
            · have h2' : ¬ (x.toNat : Int) ≤ 57 := by omega
              have hd : Hid (dgC x = false) := by unfold dgC; show _ = _; rw [decide_eq_true h1, decide_eq_false h2]; rfl
              go_wp2_with fail
              go_roundw
              case rel => exact ⟨i + 1, false, by first | rfl | simp, by simp, by omega, by first | trivial | rfl, by rw [hnx.out, hd.out]; rfl⟩
              case measure => simp [intOf]; omega
          · have h1' : ¬ (x.toNat : Int) ≥ 48 := by omega
            have hd : Hid (dgC x = false) := by unfold dgC; show _ = _; rw [decide_eq_false h1]; rfl
            go_wp2_with fail
            go_roundw
            case rel => exact ⟨i + 1, false, by first | rfl | simp, by simp, by omega, by first | trivial | rfl, by rw [hnx.out, hd.out]; rfl⟩
            case measure => simp [intOf]; omega
      · obtain rfl : i = text.size := by omega
        have hlt' : ¬ (text.size : Int) < (text.size : Int) := by omega
        have HDG : Hid (b = dgB text) := by
          show _ = _
          rw [hb.out, ← HTL.out, List.take_length, ← HB0.out]
          rfl
        clear hb
        obtain ⟨wl, hwl⟩ : ∃ x, wc.alloc (.cells #[.string statS, .string ⟨#[50, 48, 48]⟩, .bool false, .string clS, .string text, .bool false] 28) = x := ⟨_, rfl⟩
        have bl : Below wc.heap.size wc wl := by rw [← hwl]; exact bel1 wc _
        have il : In EFd wl (.slice (some ⟨wc.heap.size, 0, none⟩) 2 2) (l2 text) := by
          rw [← hwl]
          exact R.isIn (R.whole okFd (l2 text) (by simp [l2]) (by rw [heap_al, if_pos rfl]; rfl) rfl)
        have BL : Hid (Below w.heap.size w wl) := BH.out.trans (bl.mono BH.out.size)
        have HWL : Hid (wc.alloc (.cells #[.string statS, .string ⟨#[50, 48, 48]⟩, .bool false, .string clS, .string text, .bool false] 28) = wl) := hwl
        have hn1 : Hid (Calls Tryd.prog 10 #[.bool false, .string ⟨#[71, 69, 84]⟩, .slice (some ⟨wc.heap.size, 0, none⟩) 2 2] wl fun e w' => NgPost (l2 text) wl e w') := new_any ⟨#[71, 69, 84]⟩ (some ⟨wc.heap.size, 0, none⟩, 2, 2) (l2 text) il (by simp [l2]) (l2_names text) (by rw [l2_vs]; intro v hv; simp at hv; subst hv; omega) (HER.out.below BL.out)
        simp only [statS, clS] at HWL
        clear hwl bl il
        go_wp2_with fail
        go_at_call 10
        rw [HWL.out]
        refine Calls.mono hn1.out ?_
        rintro e wn ⟨bX, pv, ev, rfl, k1, k2⟩
        have BN : Hid (Below w.heap.size w wn) := BL.out.trans (bX.mono BL.out.size)
        have K1 : Hid (b = false → pv = .pointer none ∧ ev = .int .i64 (nwE (l2 text)) ∧ nwE (l2 text) ≠ 0) := fun h => by
          have h5 := l2_bad (HDG.out.symm.trans h)
          exact ⟨(k1 h5).1, (k1 h5).2, h5⟩
        clear bX k1 k2 hn1 BL HWL
        go_upto_region 9 with fail
        go_cut [66] from 21 (fun x wx => x = .bool false ∧ wx = wn)
        case first =>
          cases b with
          | true =>
            go_wp2_with fail
            go_meet
            exact ⟨by first | rfl | simp, rfl⟩
          | false =>
            obtain ⟨rfl, rfl, h5⟩ := K1.out rfl
            have q1 : (nwE (l2 text) == 0) = false := by simp; exact h5
            clear h5 K1
            go_wp2_with fail
            go_meet
            exact ⟨by first | rfl | simp, rfl⟩
        case rest =>
          obtain ⟨rfl, rfl⟩ := hcut
          clear K1 HDG
          go_upto_if 68 with fail
          go_cut [0] from 21 (fun x wx => x = .int .i64 L ∧ wx = wc)
          case first =>
            by_cases h0 : n < 0
            · have hx : Hid (-(n + 1) = L) := by have := HL.out; rw [if_pos h0] at this; exact this
              clear hL0 hL9
              go_wp2_with fail
              go_meet
              exact ⟨by rw [← hx.out], rfl⟩
            · have hx : Hid (n = L) := by have := HL.out; rw [if_neg h0] at this; exact this
              clear hL0 hL9
              go_wp2_with fail
              go_meet
              exact ⟨by rw [← hx.out], rfl⟩
          case rest =>
            obtain ⟨rfl, rfl⟩ := hcut
            clear hl1 hl2
            have hu' := HU.out
            go_wp2_with fail
            go_at_call 13
            try rw [HU.out]
            refine Calls.mono (hfo.out _ BN.out) ?_
            rintro e wf ⟨rfl, bX⟩
            have BF : Hid (Below w.heap.size w wf) := BN.out.trans (bX.mono BN.out.size)
            clear bX BN hfo
            try rw [HU.out]
            clear hu'
            go_wp2_with fail
            go_loopw [11, 12] (fun rv iv wr => ∃ (i z : Nat) (RT : ByteArray), rv = .string RT ∧ iv = .int .i64 (i : Int) ∧ Hid (RT = zrS z u ∧ i ≤ z ∧ z ≤ i) ∧ RT.size ≤ 10 ∧ wr = wf) (fun rv iv _ => 11 - (intOf iv).toNat)
            case atStart => exact ⟨0, 0, DL, rfl, rfl, ⟨HDL.out, Nat.le_refl _, Nat.le_refl _⟩, by rw [HDL.out, zr_size]; have := dec_len 9 u (by omega); omega, rfl⟩
            case round =>
              obtain ⟨i, z, RT, rfl, rfl, hR, hsz, hwr⟩ := hrel
              replace hwr := hwr.symm
              subst hwr
              have hi10 : i ≤ 10 := by
                have h1 := hR.out
                have h2 := zr_size z u
                rw [← h1.1] at h2
                omega
              obtain ⟨wz, hwz⟩ : ∃ x, wf = x := ⟨_, rfl⟩
              rw [hwz] at BF ⊢
              have Bz : Hid (Below w.heap.size w wz) := BF
              have HLR : Hid (LnR RT u) := by
                have h1 := hR.out.1
                rw [h1] at hsz ⊢
                exact ⟨zr_ne z u, zr_nb (by omega) hsz, zr_val hsz, hsz⟩
              clear BF
              by_cases hz : (i : Int) < zeros
              · by_cases h10 : RT.size < 10
                · have h10' : (RT.size : Int) < 10 := by omega
                  obtain ⟨R2, hR2⟩ : ∃ x, (⟨#[48]⟩ : ByteArray) ++ RT = x := ⟨_, rfl⟩
                  have hR2s : R2.size = 1 + RT.size := by rw [← hR2, ByteArray.size_append]; rfl
                  have hnx : Hid (R2 = zrS (z + 1) u) := by show _ = _; rw [← hR2, hR.out.1, zr_succ]
                  have hvx : ¬ 1 + RT.size > 9223372036854775807 := by omega
                  have H2 : Hid (R2.size ≤ 10) := by show _ ≤ _; omega
                  clear hR2s HLR
                  go_wp2_with fail
                  go_roundw
                  case rel => exact ⟨i + 1, z + 1, R2, by first | rfl | simp, by simp, ⟨hnx.out, by have := hR.out; omega, by have := hR.out; omega⟩, H2.out, by first | trivial | rfl | exact hwz.symm | exact hwz⟩
                  case measure => simp [intOf]; omega
                · have h10' : ¬ (RT.size : Int) < 10 := by omega
                  clear hR hwz
                  go_wp2_with fail
                  go_at_call 8
                  refine (reply_any ⟨#[50, 48, 48]⟩ RT wz).mono ?_
                  rintro e wa0 ⟨⟨rb, rn, rc⟩, rfl, bX, rX, oX⟩
                  have Ba0 : Hid (Below w.heap.size w wa0) := Bz.out.trans (bX.mono Bz.out.size)
                  have hna : Hid (Calls Tryd.prog 10 #[.bool false, .string ⟨#[71, 69, 84]⟩, .slice rb rn rc] wa0 fun e w' => NsPost w ⟨#[71, 69, 84]⟩ (rpL ⟨#[50, 48, 48]⟩ RT) wa0 e w') := new_step ⟨#[71, 69, 84]⟩ (rb, rn, rc) _ (R.isIn rX) (rp_len _ _) (rp_names _ _) (by rw [HLR.out.rp]; intro v hv; simp at hv; subst hv; have := HLR.out.sz; omega) (HER.out.below Ba0.out) HLR.out.ok Ba0.out.size
                  clear bX rX oX Bz
                  simp only [sv]
                  go_wp2_with fail
                  go_at_call 10
                  refine Calls.mono hna.out ?_
                  rintro e wa ⟨ga, ya, rfl, Ma', bX, oa⟩
                  have hXa := HLR.out.nx ya
                  obtain ⟨xa, hxa⟩ : ∃ x, NwX ⟨#[71, 69, 84]⟩ (rpL ⟨#[50, 48, 48]⟩ RT) ya = x := ⟨_, rfl⟩
                  rw [hxa] at Ma' hXa
                  have Xa : Hid (xa.rq = false ∧ xa.st = 0 ∧ xa.fx = true ∧ xa.ln = (u : Int) ∧ xa.bs = (none, 0, 0)) := hXa
                  have Ba : Hid (Below w.heap.size w wa) := Ba0.out.trans (bX.mono Ba0.out.size)
                  have Ma : Hid (Mw w wa ga xa [] (([] : List Fd) ++ (rpL ⟨#[50, 48, 48]⟩ RT).drop 1) []) := Ma'
                  clear hXa hxa Ma' bX oa hna Ba0
                  go_wp2_with fail
                  go_at_call 8
                  refine (reply_any ⟨#[50, 48, 48]⟩ RT wa).mono ?_
                  rintro e wb0 ⟨⟨rb, rn, rc⟩, rfl, bX, rX, oX⟩
                  have e2 : rpL ⟨#[50, 48, 48]⟩ RT = [⟨statS, ⟨#[50, 48, 48]⟩, false⟩, ⟨clS, RT, false⟩] := by unfold rpL; rw [if_neg HLR.out.ne]
                  rw [e2] at rX
                  have hrn : rn = 2 := (slice_lenB (show R EFd wb0 (.slice rb rn rc) [⟨statS, ⟨#[50, 48, 48]⟩, false⟩, ⟨clS, RT, false⟩] from rX)).1
                  subst hrn
                  have b2 := bel1 wb0 (.cells #[.string clS, .string RT, .bool false] 28)
                  obtain ⟨b3, c3, wb1, a1, a2, a3⟩ := app okFd (wb0.alloc (.cells #[.string clS, .string RT, .bool false] 28)) (.slice rb 2 rc) _ (R.below rX b2) (.slice (some ⟨wb0.heap.size, 0, none⟩) 1 1) [⟨clS, RT, false⟩] (in_one (x := (⟨clS, RT, false⟩ : Fd)) _ _ #[.string clS, .string RT, .bool false] 28 (0, 0) (by rw [heap_al, if_pos rfl]) rfl) (by simp only [EFd, List.length_cons, List.length_nil]; omega)
                  have Bb1 : Hid (Below w.heap.size w wb1) := by
                    have h1 := Ba.out.trans (bX.mono Ba.out.size)
                    have h2 := h1.trans (b2.mono h1.size)
                    exact h2.trans (a3.belowB (Nat.le_trans h1.size b2.size) fun k hk => Nat.le_trans Ba.out.size (oX k hk))
                  have Mb1 : Hid (Mw w wb1 ga xa [] (([] : List Fd) ++ (rpL ⟨#[50, 48, 48]⟩ RT).drop 1) []) := by
                    have h1 := (Ma.out.below bX).below b2
                    have hbB : Below wb0.heap.size wb0 wb0 := Below.refl _ _
                    refine ⟨⟨(a3.block _ (heap_lt h1.ms.bx) ?_).trans h1.ms.bx, R.stays h1.ms.rb fun k hk hl => a3.block k hl ?_, R.stays h1.ms.rf fun k hk hl => a3.block k hl ?_, R.stays h1.ms.qf fun k hk hl => a3.block k hl ?_⟩, h1.og, h1.ob, h1.lb⟩
                    · intro e
                      have := oX _ e
                      have := heap_lt Ma.out.ms.bx
                      omega
                    · intro e
                      have := oX _ e
                      have := R.lt Ma.out.ms.rb k hk
                      omega
                    · intro e
                      have := oX _ e
                      have := R.lt Ma.out.ms.rf k hk
                      omega
                    · intro e
                      have := oX _ e
                      have := R.lt Ma.out.ms.qf k hk
                      omega
                  have hnb : Hid (Calls Tryd.prog 10 #[.bool false, .string ⟨#[71, 69, 84]⟩, .slice b3 (2 + 1) c3] wb1 fun e w' => NgPost (l3 RT) wb1 e w') := new_any ⟨#[71, 69, 84]⟩ (b3, 2 + 1, c3) (l3 RT) (R.isIn a2) (by simp [l3]) (by intro f hf; simp [l3] at hf; rcases hf with rfl | rfl; exact (by decide : statS.size ≤ 140737488355328); exact (by decide : clS.size ≤ 140737488355328)) (by intro v hv; have h9 : vsL (l3 RT) clS = [RT, RT] := rfl; rw [h9] at hv; simp at hv; subst hv; have := HLR.out.sz; omega) (HER.out.below Bb1.out)
                  replace a1 : Hid _ := a1
                  simp only [EFd, clS, List.length_cons, List.length_nil, Nat.zero_add] at a1
                  clear bX rX oX e2 b2 a2 a3 Ma Ba
                  simp only [sv]
                  go_wp2_with (first | (at_builtin; refine Lib.wpList_append_run _ rfl _ _ _ _ rfl _ _ rfl rfl _ _ a1.out ?_))
                  go_at_call 10
                  refine Calls.mono hnb.out ?_
                  rintro e wb ⟨bX, pv, ev, rfl, k1, _⟩
                  obtain ⟨rfl, rfl⟩ := k1 (by rw [HLR.out.two]; decide)
                  rw [HLR.out.two]
                  have Bb : Hid (Below w.heap.size w wb) := Bb1.out.trans (bX.mono Bb1.out.size)
                  have Mb : Hid (Mw w wb ga xa [] (([] : List Fd) ++ (rpL ⟨#[50, 48, 48]⟩ RT).drop 1) []) := Mb1.out.below bX
                  clear bX k1 hnb Bb1 Mb1 a1
                  go_wp2_with fail
                  go_at_call 8
                  refine (reply_any ⟨#[50, 48, 48]⟩ ⟨#[50, 49, 52, 55, 52, 56, 51, 54, 52, 56]⟩ wb).mono ?_
                  rintro e wc0 ⟨⟨rb, rn, rc⟩, rfl, bX, rX, oX⟩
                  have Bc0 : Hid (Below w.heap.size w wc0) := Bb.out.trans (bX.mono Bb.out.size)
                  have Mc0 : Hid (Mw w wc0 ga xa [] (([] : List Fd) ++ (rpL ⟨#[50, 48, 48]⟩ RT).drop 1) []) := Mb.out.below bX
                  have hnc : Hid (Calls Tryd.prog 10 #[.bool false, .string ⟨#[71, 69, 84]⟩, .slice rb rn rc] wc0 fun e w' => NgPost (rpL ⟨#[50, 48, 48]⟩ ⟨#[50, 49, 52, 55, 52, 56, 51, 54, 52, 56]⟩) wc0 e w') := new_any ⟨#[71, 69, 84]⟩ (rb, rn, rc) _ (R.isIn rX) (rp_len _ _) (rp_names _ _) (by decide +kernel) (HER.out.below Bc0.out)
                  clear bX rX oX Mb Bb
                  simp only [sv]
                  go_wp2_with fail
                  go_at_call 10
                  refine Calls.mono hnc.out ?_
                  rintro e wc ⟨bX, pv, ev, rfl, k1, _⟩
                  obtain ⟨rfl, rfl⟩ := k1 (by rw [nw_great]; decide)
                  rw [nw_great]
                  have Bc : Hid (Below w.heap.size w wc) := Bc0.out.trans (bX.mono Bc0.out.size)
                  have Mc : Hid (Mw w wc ga xa [] (([] : List Fd) ++ (rpL ⟨#[50, 48, 48]⟩ RT).drop 1) []) := Mc0.out.below bX
                  clear bX k1 hnc Bc0 Mc0
                  go_wp2_with fail
                  go_at_call 8
                  refine (reply_any ⟨#[49, 57, 57]⟩ RT wc).mono ?_
                  rintro e wd0 ⟨⟨rb, rn, rc⟩, rfl, bX, rX, oX⟩
                  have Bd0 : Hid (Below w.heap.size w wd0) := Bc.out.trans (bX.mono Bc.out.size)
                  have Md0 : Hid (Mw w wd0 ga xa [] (([] : List Fd) ++ (rpL ⟨#[50, 48, 48]⟩ RT).drop 1) []) := Mc.out.below bX
                  have hnd : Hid (Calls Tryd.prog 10 #[.bool false, .string ⟨#[71, 69, 84]⟩, .slice rb rn rc] wd0 fun e w' => NgPost (rpL ⟨#[49, 57, 57]⟩ RT) wd0 e w') := new_any ⟨#[71, 69, 84]⟩ (rb, rn, rc) _ (R.isIn rX) (rp_len _ _) (rp_names _ _) (by rw [HLR.out.rp]; intro v hv; simp at hv; subst hv; have := HLR.out.sz; omega) (HER.out.below Bd0.out)
                  clear bX rX oX Mc Bc
                  simp only [sv]
                  go_wp2_with fail
                  go_at_call 10
                  refine Calls.mono hnd.out ?_
                  rintro e wd ⟨bX, pv, ev, rfl, k1, _⟩
                  obtain ⟨rfl, rfl⟩ := k1 (by rw [HLR.out.low]; decide)
                  rw [HLR.out.low]
                  have Bd : Hid (Below w.heap.size w wd) := Bd0.out.trans (bX.mono Bd0.out.size)
                  have Md : Hid (Mw w wd ga xa [] (([] : List Fd) ++ (rpL ⟨#[50, 48, 48]⟩ RT).drop 1) []) := Md0.out.below bX
                  clear bX k1 hnd Bd0 Md0
                  go_wp2_with fail
                  go_loopw [20] (fun iv wr => ∃ (i : Nat) (xi : Mg), iv = .int .i64 (i : Int) ∧ i ≤ u ∧ Hid (Below w.heap.size w wr) ∧ Hid (Mw w wr ga xi (List.replicate i 120) (([] : List Fd) ++ (rpL ⟨#[50, 48, 48]⟩ RT).drop 1) []) ∧ Hid (xi.rq = false ∧ xi.st = 0 ∧ xi.fx = true ∧ xi.ln = (u : Int))) (fun iv _ => u - (intOf iv).toNat)
                  case atStart => exact ⟨0, xa, rfl, by omega, Bd.out, Md.out, ⟨Xa.out.1, Xa.out.2.1, Xa.out.2.2.1, Xa.out.2.2.2.1⟩⟩
                  case round =>
                    obtain ⟨i, xi, rfl, hi, hB, hM, hX⟩ := hrel
                    clear Bd Md
                    obtain ⟨ws, hws⟩ : ∃ x, wr = x := ⟨_, rfl⟩
                    rw [hws] at hB hM ⊢
                    clear hws
                    by_cases hlt : i < u
                    · have hlt' : (i : Int) < (u : Int) := by omega
                      have hr0 : rfE true (u : Int) (((List.replicate i (120 : UInt8)).length : Int) + (1 : Int)) false = 0 := by
                        unfold rfE
                        rw [List.length_replicate, if_neg (by omega), if_neg (by simp; omega)]
                      have hd5 : Hid (Calls Tryd.prog 14 #[.pointer (some ⟨ga, 0, none⟩), .string ⟨#[120]⟩, .bool false] ws fun e W' => DsPost w ga xi (([] : List Fd) ++ (rpL ⟨#[50, 48, 48]⟩ RT).drop 1) [] 0 0 (List.replicate (i + 1) 120) ws e W') := data_step ⟨#[120]⟩ false hM.out hB.out (by decide) (by rw [hX.out.2.1, hX.out.2.2.1, hX.out.2.2.2]; unfold dtE; rw [if_neg (by decide)]; exact hr0) (by rw [hX.out.2.1, hX.out.2.2.1, hX.out.2.2.2]; unfold dtS; rw [if_neg (by decide)]; rw [show rfE true (u : Int) (((List.replicate i (120 : UInt8)).length : Int) + ((⟨#[120]⟩ : ByteArray).size : Int)) false = 0 from hr0]; try rfl) (by rw [hX.out.2.1, hX.out.2.2.1, hX.out.2.2.2]; unfold dtB; rw [if_neg (by decide)]; rw [show rfE true (u : Int) (((List.replicate i (120 : UInt8)).length : Int) + ((⟨#[120]⟩ : ByteArray).size : Int)) false = 0 from hr0, if_neg (by decide), List.replicate_succ']; try rfl)
                      clear hr0
                      go_wp2_with fail
                      go_at_call 14
                      refine Calls.mono hd5.out ?_
                      rintro e w6 ⟨bs6, rfl, A6, b6, _, _⟩
                      have H6 : Hid (Below w.heap.size w w6 ∧ Mw w w6 ga { xi with st := 0, bs := bs6 } (List.replicate (i + 1) 120) (([] : List Fd) ++ (rpL ⟨#[50, 48, 48]⟩ RT).drop 1) []) := ⟨b6, A6⟩
                      clear A6 b6 hd5 hM hB
                      go_wp2_with fail
                      go_roundw
                      case rel => exact ⟨i + 1, _, by simp, by omega, H6.out.1, H6.out.2, ⟨hX.out.1, rfl, hX.out.2.2.1, hX.out.2.2.2⟩⟩
                      case measure => simp [intOf]; omega
                    · obtain rfl : i = u := by omega
                      have hlt' : ¬ (i : Int) < (i : Int) := by omega
                      have hr0 : rfE true (i : Int) (((List.replicate i (120 : UInt8)).length : Int) + (((0 : Nat)) : Int)) true = 0 := by
                        unfold rfE
                        rw [List.length_replicate, if_neg (by omega), if_neg (by simp)]
                      have hd5 : Hid (Calls Tryd.prog 15 #[.pointer (some ⟨ga, 0, none⟩)] ws fun e W' => DsPost w ga xi (([] : List Fd) ++ (rpL ⟨#[50, 48, 48]⟩ RT).drop 1) [] 0 1 (List.replicate i 120) ws e W') := end_step hM.out hB.out (by rw [hX.out.2.1, hX.out.2.2.1, hX.out.2.2.2]; unfold dtE; rw [if_neg (by decide)]; exact hr0) (by rw [hX.out.2.1, hX.out.2.2.1, hX.out.2.2.2]; unfold dtS; rw [if_neg (by decide), hr0]; try rfl) (by rw [hX.out.2.1, hX.out.2.2.1, hX.out.2.2.2]; unfold dtB; rw [if_neg (by decide)]; rw [show rfE true (i : Int) (((List.replicate i (120 : UInt8)).length : Int) + ((((⟨#[]⟩ : ByteArray).size : Nat)) : Int)) true = 0 from hr0, if_neg (by decide)]; exact List.append_nil _)
                      clear hr0
                      go_wp2_with fail
                      go_at_call 15
                      refine Calls.mono hd5.out ?_
                      rintro e w6 ⟨bs6, rfl, A6, b6, _, _⟩
                      obtain ⟨z6, hz6⟩ : ∃ x, { xi with st := 1, bs := bs6 } = x := ⟨_, rfl⟩
                      rw [hz6] at A6
                      have Z6 : Hid (z6.rq = false ∧ z6.st = 1) := by rw [← hz6]; exact ⟨hX.out.1, rfl⟩
                      have M6 : Hid (Mw w w6 ga z6 (List.replicate i 120) (([] : List Fd) ++ (rpL ⟨#[50, 48, 48]⟩ RT).drop 1) []) := A6
                      have B6 : Hid (Below w.heap.size w w6) := b6
                      have hw4 : Hid (Calls Tryd.prog 16 #[.pointer (some ⟨ga, 0, none⟩)] w6 fun e w' => e = .returned (.bool true) ∧ w' = w6) := by
                        have := whole_any ga z6 w6 M6.out.ms.bx
                        rw [Z6.out.2] at this
                        exact this
                      clear hz6 A6 b6 hd5 hM hB
                      go_wp2_with fail
                      go_at_call 16
                      refine Calls.mono hw4.out ?_
                      rintro e w' ⟨rfl, rfl⟩
                      have hr2 : Hid (Calls Tryd.prog 11 #[.pointer (some ⟨ga, 0, none⟩)] w' fun e W' => SPost z6 (List.replicate i 120) (([] : List Fd) ++ (rpL ⟨#[50, 48, 48]⟩ RT).drop 1) w' e W') := response_any ga z6 _ _ [] w' M6.out.ms Z6.out.1 (rp_len1 _ _)
                      clear hw4
                      go_wp2_with fail
                      go_at_call 11
                      refine Calls.mono hr2.out ?_
                      rintro e w7 ⟨⟨qb, qn, qc⟩, rfl, bX, _, _⟩
                      have B7 : Hid (Below w.heap.size w w7) := B6.out.trans (bX.mono B6.out.size)
                      obtain ⟨BD, hBD⟩ : ∃ b, bt (List.replicate i 120) = b := ⟨_, rfl⟩
                      have hBs : BD.size = i := by rw [← hBD, bt_size, List.length_replicate]
                      rw [hBD]
                      have hfl := field34_2 z6.n (.slice qb qn qc) BD w7
                      simp only [rsv, sv]
                      clear bX hr2 M6 B6 hBD
                      go_wp2_with fail
                      go_ret
                      exact ⟨by first | rfl | simp, B7.out⟩

              · clear hR hwz
                go_wp2_with fail
                go_at_call 8
                refine (reply_any ⟨#[50, 48, 48]⟩ RT wz).mono ?_
                rintro e wa0 ⟨⟨rb, rn, rc⟩, rfl, bX, rX, oX⟩
                have Ba0 : Hid (Below w.heap.size w wa0) := Bz.out.trans (bX.mono Bz.out.size)
                have hna : Hid (Calls Tryd.prog 10 #[.bool false, .string ⟨#[71, 69, 84]⟩, .slice rb rn rc] wa0 fun e w' => NsPost w ⟨#[71, 69, 84]⟩ (rpL ⟨#[50, 48, 48]⟩ RT) wa0 e w') := new_step ⟨#[71, 69, 84]⟩ (rb, rn, rc) _ (R.isIn rX) (rp_len _ _) (rp_names _ _) (by rw [HLR.out.rp]; intro v hv; simp at hv; subst hv; have := HLR.out.sz; omega) (HER.out.below Ba0.out) HLR.out.ok Ba0.out.size
                clear bX rX oX Bz
                simp only [sv]
                go_wp2_with fail
                go_at_call 10
                refine Calls.mono hna.out ?_
                rintro e wa ⟨ga, ya, rfl, Ma', bX, oa⟩
                have hXa := HLR.out.nx ya
                obtain ⟨xa, hxa⟩ : ∃ x, NwX ⟨#[71, 69, 84]⟩ (rpL ⟨#[50, 48, 48]⟩ RT) ya = x := ⟨_, rfl⟩
                rw [hxa] at Ma' hXa
                have Xa : Hid (xa.rq = false ∧ xa.st = 0 ∧ xa.fx = true ∧ xa.ln = (u : Int) ∧ xa.bs = (none, 0, 0)) := hXa
                have Ba : Hid (Below w.heap.size w wa) := Ba0.out.trans (bX.mono Ba0.out.size)
                have Ma : Hid (Mw w wa ga xa [] (([] : List Fd) ++ (rpL ⟨#[50, 48, 48]⟩ RT).drop 1) []) := Ma'
                clear hXa hxa Ma' bX oa hna Ba0
                go_wp2_with fail
                go_at_call 8
                refine (reply_any ⟨#[50, 48, 48]⟩ RT wa).mono ?_
                rintro e wb0 ⟨⟨rb, rn, rc⟩, rfl, bX, rX, oX⟩
                have e2 : rpL ⟨#[50, 48, 48]⟩ RT = [⟨statS, ⟨#[50, 48, 48]⟩, false⟩, ⟨clS, RT, false⟩] := by unfold rpL; rw [if_neg HLR.out.ne]
                rw [e2] at rX
                have hrn : rn = 2 := (slice_lenB (show R EFd wb0 (.slice rb rn rc) [⟨statS, ⟨#[50, 48, 48]⟩, false⟩, ⟨clS, RT, false⟩] from rX)).1
                subst hrn
                have b2 := bel1 wb0 (.cells #[.string clS, .string RT, .bool false] 28)
                obtain ⟨b3, c3, wb1, a1, a2, a3⟩ := app okFd (wb0.alloc (.cells #[.string clS, .string RT, .bool false] 28)) (.slice rb 2 rc) _ (R.below rX b2) (.slice (some ⟨wb0.heap.size, 0, none⟩) 1 1) [⟨clS, RT, false⟩] (in_one (x := (⟨clS, RT, false⟩ : Fd)) _ _ #[.string clS, .string RT, .bool false] 28 (0, 0) (by rw [heap_al, if_pos rfl]) rfl) (by simp only [EFd, List.length_cons, List.length_nil]; omega)
                have Bb1 : Hid (Below w.heap.size w wb1) := by
                  have h1 := Ba.out.trans (bX.mono Ba.out.size)
                  have h2 := h1.trans (b2.mono h1.size)
                  exact h2.trans (a3.belowB (Nat.le_trans h1.size b2.size) fun k hk => Nat.le_trans Ba.out.size (oX k hk))
                have Mb1 : Hid (Mw w wb1 ga xa [] (([] : List Fd) ++ (rpL ⟨#[50, 48, 48]⟩ RT).drop 1) []) := by
                  have h1 := (Ma.out.below bX).below b2
                  have hbB : Below wb0.heap.size wb0 wb0 := Below.refl _ _
                  refine ⟨⟨(a3.block _ (heap_lt h1.ms.bx) ?_).trans h1.ms.bx, R.stays h1.ms.rb fun k hk hl => a3.block k hl ?_, R.stays h1.ms.rf fun k hk hl => a3.block k hl ?_, R.stays h1.ms.qf fun k hk hl => a3.block k hl ?_⟩, h1.og, h1.ob, h1.lb⟩
                  · intro e
                    have := oX _ e
                    have := heap_lt Ma.out.ms.bx
                    omega
                  · intro e
                    have := oX _ e
                    have := R.lt Ma.out.ms.rb k hk
                    omega
                  · intro e
                    have := oX _ e
                    have := R.lt Ma.out.ms.rf k hk
                    omega
                  · intro e
                    have := oX _ e
                    have := R.lt Ma.out.ms.qf k hk
                    omega
                have hnb : Hid (Calls Tryd.prog 10 #[.bool false, .string ⟨#[71, 69, 84]⟩, .slice b3 (2 + 1) c3] wb1 fun e w' => NgPost (l3 RT) wb1 e w') := new_any ⟨#[71, 69, 84]⟩ (b3, 2 + 1, c3) (l3 RT) (R.isIn a2) (by simp [l3]) (by intro f hf; simp [l3] at hf; rcases hf with rfl | rfl; exact (by decide : statS.size ≤ 140737488355328); exact (by decide : clS.size ≤ 140737488355328)) (by intro v hv; have h9 : vsL (l3 RT) clS = [RT, RT] := rfl; rw [h9] at hv; simp at hv; subst hv; have := HLR.out.sz; omega) (HER.out.below Bb1.out)
                replace a1 : Hid _ := a1
                simp only [EFd, clS, List.length_cons, List.length_nil, Nat.zero_add] at a1
                clear bX rX oX e2 b2 a2 a3 Ma Ba
                simp only [sv]
                go_wp2_with (first | (at_builtin; refine Lib.wpList_append_run _ rfl _ _ _ _ rfl _ _ rfl rfl _ _ a1.out ?_))
                go_at_call 10
                refine Calls.mono hnb.out ?_
                rintro e wb ⟨bX, pv, ev, rfl, k1, _⟩
                obtain ⟨rfl, rfl⟩ := k1 (by rw [HLR.out.two]; decide)
                rw [HLR.out.two]
                have Bb : Hid (Below w.heap.size w wb) := Bb1.out.trans (bX.mono Bb1.out.size)
                have Mb : Hid (Mw w wb ga xa [] (([] : List Fd) ++ (rpL ⟨#[50, 48, 48]⟩ RT).drop 1) []) := Mb1.out.below bX
                clear bX k1 hnb Bb1 Mb1 a1
                go_wp2_with fail
                go_at_call 8
                refine (reply_any ⟨#[50, 48, 48]⟩ ⟨#[50, 49, 52, 55, 52, 56, 51, 54, 52, 56]⟩ wb).mono ?_
                rintro e wc0 ⟨⟨rb, rn, rc⟩, rfl, bX, rX, oX⟩
                have Bc0 : Hid (Below w.heap.size w wc0) := Bb.out.trans (bX.mono Bb.out.size)
                have Mc0 : Hid (Mw w wc0 ga xa [] (([] : List Fd) ++ (rpL ⟨#[50, 48, 48]⟩ RT).drop 1) []) := Mb.out.below bX
                have hnc : Hid (Calls Tryd.prog 10 #[.bool false, .string ⟨#[71, 69, 84]⟩, .slice rb rn rc] wc0 fun e w' => NgPost (rpL ⟨#[50, 48, 48]⟩ ⟨#[50, 49, 52, 55, 52, 56, 51, 54, 52, 56]⟩) wc0 e w') := new_any ⟨#[71, 69, 84]⟩ (rb, rn, rc) _ (R.isIn rX) (rp_len _ _) (rp_names _ _) (by decide +kernel) (HER.out.below Bc0.out)
                clear bX rX oX Mb Bb
                simp only [sv]
                go_wp2_with fail
                go_at_call 10
                refine Calls.mono hnc.out ?_
                rintro e wc ⟨bX, pv, ev, rfl, k1, _⟩
                obtain ⟨rfl, rfl⟩ := k1 (by rw [nw_great]; decide)
                rw [nw_great]
                have Bc : Hid (Below w.heap.size w wc) := Bc0.out.trans (bX.mono Bc0.out.size)
                have Mc : Hid (Mw w wc ga xa [] (([] : List Fd) ++ (rpL ⟨#[50, 48, 48]⟩ RT).drop 1) []) := Mc0.out.below bX
                clear bX k1 hnc Bc0 Mc0
                go_wp2_with fail
                go_at_call 8
                refine (reply_any ⟨#[49, 57, 57]⟩ RT wc).mono ?_
                rintro e wd0 ⟨⟨rb, rn, rc⟩, rfl, bX, rX, oX⟩
                have Bd0 : Hid (Below w.heap.size w wd0) := Bc.out.trans (bX.mono Bc.out.size)
                have Md0 : Hid (Mw w wd0 ga xa [] (([] : List Fd) ++ (rpL ⟨#[50, 48, 48]⟩ RT).drop 1) []) := Mc.out.below bX
                have hnd : Hid (Calls Tryd.prog 10 #[.bool false, .string ⟨#[71, 69, 84]⟩, .slice rb rn rc] wd0 fun e w' => NgPost (rpL ⟨#[49, 57, 57]⟩ RT) wd0 e w') := new_any ⟨#[71, 69, 84]⟩ (rb, rn, rc) _ (R.isIn rX) (rp_len _ _) (rp_names _ _) (by rw [HLR.out.rp]; intro v hv; simp at hv; subst hv; have := HLR.out.sz; omega) (HER.out.below Bd0.out)
                clear bX rX oX Mc Bc
                simp only [sv]
                go_wp2_with fail
                go_at_call 10
                refine Calls.mono hnd.out ?_
                rintro e wd ⟨bX, pv, ev, rfl, k1, _⟩
                obtain ⟨rfl, rfl⟩ := k1 (by rw [HLR.out.low]; decide)
                rw [HLR.out.low]
                have Bd : Hid (Below w.heap.size w wd) := Bd0.out.trans (bX.mono Bd0.out.size)
                have Md : Hid (Mw w wd ga xa [] (([] : List Fd) ++ (rpL ⟨#[50, 48, 48]⟩ RT).drop 1) []) := Md0.out.below bX
                clear bX k1 hnd Bd0 Md0
                go_wp2_with fail
                go_loopw [20] (fun iv wr => ∃ (i : Nat) (xi : Mg), iv = .int .i64 (i : Int) ∧ i ≤ u ∧ Hid (Below w.heap.size w wr) ∧ Hid (Mw w wr ga xi (List.replicate i 120) (([] : List Fd) ++ (rpL ⟨#[50, 48, 48]⟩ RT).drop 1) []) ∧ Hid (xi.rq = false ∧ xi.st = 0 ∧ xi.fx = true ∧ xi.ln = (u : Int))) (fun iv _ => u - (intOf iv).toNat)
                case atStart => exact ⟨0, xa, rfl, by omega, Bd.out, Md.out, ⟨Xa.out.1, Xa.out.2.1, Xa.out.2.2.1, Xa.out.2.2.2.1⟩⟩
                case round =>
                  obtain ⟨i, xi, rfl, hi, hB, hM, hX⟩ := hrel
                  clear Bd Md
                  obtain ⟨ws, hws⟩ : ∃ x, wr = x := ⟨_, rfl⟩
                  rw [hws] at hB hM ⊢
                  clear hws
                  by_cases hlt : i < u
                  · have hlt' : (i : Int) < (u : Int) := by omega
                    have hr0 : rfE true (u : Int) (((List.replicate i (120 : UInt8)).length : Int) + (1 : Int)) false = 0 := by
                      unfold rfE
                      rw [List.length_replicate, if_neg (by omega), if_neg (by simp; omega)]
                    have hd5 : Hid (Calls Tryd.prog 14 #[.pointer (some ⟨ga, 0, none⟩), .string ⟨#[120]⟩, .bool false] ws fun e W' => DsPost w ga xi (([] : List Fd) ++ (rpL ⟨#[50, 48, 48]⟩ RT).drop 1) [] 0 0 (List.replicate (i + 1) 120) ws e W') := data_step ⟨#[120]⟩ false hM.out hB.out (by decide) (by rw [hX.out.2.1, hX.out.2.2.1, hX.out.2.2.2]; unfold dtE; rw [if_neg (by decide)]; exact hr0) (by rw [hX.out.2.1, hX.out.2.2.1, hX.out.2.2.2]; unfold dtS; rw [if_neg (by decide)]; rw [show rfE true (u : Int) (((List.replicate i (120 : UInt8)).length : Int) + ((⟨#[120]⟩ : ByteArray).size : Int)) false = 0 from hr0]; try rfl) (by rw [hX.out.2.1, hX.out.2.2.1, hX.out.2.2.2]; unfold dtB; rw [if_neg (by decide)]; rw [show rfE true (u : Int) (((List.replicate i (120 : UInt8)).length : Int) + ((⟨#[120]⟩ : ByteArray).size : Int)) false = 0 from hr0, if_neg (by decide), List.replicate_succ']; try rfl)
                    clear hr0
                    go_wp2_with fail
                    go_at_call 14
                    refine Calls.mono hd5.out ?_
                    rintro e w6 ⟨bs6, rfl, A6, b6, _, _⟩
                    have H6 : Hid (Below w.heap.size w w6 ∧ Mw w w6 ga { xi with st := 0, bs := bs6 } (List.replicate (i + 1) 120) (([] : List Fd) ++ (rpL ⟨#[50, 48, 48]⟩ RT).drop 1) []) := ⟨b6, A6⟩
                    clear A6 b6 hd5 hM hB
                    go_wp2_with fail
                    go_roundw
                    case rel => exact ⟨i + 1, _, by simp, by omega, H6.out.1, H6.out.2, ⟨hX.out.1, rfl, hX.out.2.2.1, hX.out.2.2.2⟩⟩
                    case measure => simp [intOf]; omega
                  · obtain rfl : i = u := by omega
                    have hlt' : ¬ (i : Int) < (i : Int) := by omega
                    have hr0 : rfE true (i : Int) (((List.replicate i (120 : UInt8)).length : Int) + (((0 : Nat)) : Int)) true = 0 := by
                      unfold rfE
                      rw [List.length_replicate, if_neg (by omega), if_neg (by simp)]
                    have hd5 : Hid (Calls Tryd.prog 15 #[.pointer (some ⟨ga, 0, none⟩)] ws fun e W' => DsPost w ga xi (([] : List Fd) ++ (rpL ⟨#[50, 48, 48]⟩ RT).drop 1) [] 0 1 (List.replicate i 120) ws e W') := end_step hM.out hB.out (by rw [hX.out.2.1, hX.out.2.2.1, hX.out.2.2.2]; unfold dtE; rw [if_neg (by decide)]; exact hr0) (by rw [hX.out.2.1, hX.out.2.2.1, hX.out.2.2.2]; unfold dtS; rw [if_neg (by decide), hr0]; try rfl) (by rw [hX.out.2.1, hX.out.2.2.1, hX.out.2.2.2]; unfold dtB; rw [if_neg (by decide)]; rw [show rfE true (i : Int) (((List.replicate i (120 : UInt8)).length : Int) + ((((⟨#[]⟩ : ByteArray).size : Nat)) : Int)) true = 0 from hr0, if_neg (by decide)]; exact List.append_nil _)
                    clear hr0
                    go_wp2_with fail
                    go_at_call 15
                    refine Calls.mono hd5.out ?_
                    rintro e w6 ⟨bs6, rfl, A6, b6, _, _⟩
                    obtain ⟨z6, hz6⟩ : ∃ x, { xi with st := 1, bs := bs6 } = x := ⟨_, rfl⟩
                    rw [hz6] at A6
                    have Z6 : Hid (z6.rq = false ∧ z6.st = 1) := by rw [← hz6]; exact ⟨hX.out.1, rfl⟩
                    have M6 : Hid (Mw w w6 ga z6 (List.replicate i 120) (([] : List Fd) ++ (rpL ⟨#[50, 48, 48]⟩ RT).drop 1) []) := A6
                    have B6 : Hid (Below w.heap.size w w6) := b6
                    have hw4 : Hid (Calls Tryd.prog 16 #[.pointer (some ⟨ga, 0, none⟩)] w6 fun e w' => e = .returned (.bool true) ∧ w' = w6) := by
                      have := whole_any ga z6 w6 M6.out.ms.bx
                      rw [Z6.out.2] at this
                      exact this
                    clear hz6 A6 b6 hd5 hM hB
                    go_wp2_with fail
                    go_at_call 16
                    refine Calls.mono hw4.out ?_
                    rintro e w' ⟨rfl, rfl⟩
                    have hr2 : Hid (Calls Tryd.prog 11 #[.pointer (some ⟨ga, 0, none⟩)] w' fun e W' => SPost z6 (List.replicate i 120) (([] : List Fd) ++ (rpL ⟨#[50, 48, 48]⟩ RT).drop 1) w' e W') := response_any ga z6 _ _ [] w' M6.out.ms Z6.out.1 (rp_len1 _ _)
                    clear hw4
                    go_wp2_with fail
                    go_at_call 11
                    refine Calls.mono hr2.out ?_
                    rintro e w7 ⟨⟨qb, qn, qc⟩, rfl, bX, _, _⟩
                    have B7 : Hid (Below w.heap.size w w7) := B6.out.trans (bX.mono B6.out.size)
                    obtain ⟨BD, hBD⟩ : ∃ b, bt (List.replicate i 120) = b := ⟨_, rfl⟩
                    have hBs : BD.size = i := by rw [← hBD, bt_size, List.length_replicate]
                    rw [hBD]
                    have hfl := field34_2 z6.n (.slice qb qn qc) BD w7
                    simp only [rsv, sv]
                    clear bX hr2 M6 B6 hBD
                    go_wp2_with fail
                    go_ret
                    exact ⟨by first | rfl | simp, B7.out⟩
end Go.Proofs.YtnbaojdildelmaaDoor
