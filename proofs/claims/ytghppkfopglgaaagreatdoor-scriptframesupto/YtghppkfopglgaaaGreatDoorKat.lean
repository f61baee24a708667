/- Frame. Frame, with its params. Frame's text, word by word. -/
import Derived.Test.YtghppkfopglgaaaGreatDoorKas
import Derived.Deep.CutRange
import Derived.OrdersHeld
import Derived.Deep.RegionHeld
namespace Go.Proofs.YtghppkfopglgaaaGreatDoor
open Go.RowKit
set_option linter.unusedVariables false
set_option linter.unusedSimpArgs false
/-- params that can be read behind the slice -/
def InP (W : World) (v : Value) (ps : List (Int × Int)) : Prop :=
  ((∃ b c, v = .slice b 0 c) ∧ ps = []) ∨ ∃ bk off cap, v = .slice (some ⟨bk, off, none⟩) ps.length cap ∧ ps.length ≤ cap ∧ cap ≤ 9223372036854775807 ∧ bk < W.heap.size ∧ ∀ j p, ps[j]? = some p → W.cell? ⟨bk, off + j * 2, none⟩ = some (.int .i64 p.1) ∧ W.cell? ⟨bk, off + j * 2 + 1, none⟩ = some (.int .i64 p.2)
theorem nmW_le (s : ByteArray) (n : Int) : (nmW s n).length ≤ 2 := by unfold nmW; split <;> simp
def frT (f : Fm) : List UInt8 := Lib.join (f.ws.map (·.data.toList)) [32]
set_option maxRecDepth 100000 in
set_option maxHeartbeats 16000000 in
theorem frame0_any (f : Fm) (hp0 : f.ps = []) (hf : f.Ok) (hda : f.da.size ≤ 17592186044416) (hps : f.ps.length ≤ 268435456) (hjl : (frT f).length ≤ 140737488355328) (v : Value) (w : World) (hE : Env w) (hP : InP w v f.ps) : Calls Tryz.prog 13 #[.agg (fmA f v)] w fun e w' => e = .returned (.string (bt (frT f))) ∧ Below w.heap.size w w' := by
  obtain ⟨pb, pn, pc, hv, hpn⟩ : ∃ a n c, v = .slice a n c ∧ n = f.ps.length := by
    rcases hP with ⟨⟨b, c, rfl⟩, e⟩ | ⟨bk, off, cap, rfl, _⟩
    · exact ⟨_, _, _, rfl, by rw [e]; rfl⟩
    · exact ⟨_, _, _, rfl, rfl⟩
  subst hv
  obtain ⟨F, hF⟩ : ∃ F, f = F := ⟨_, rfl⟩
  obtain ⟨ty, fl, st, da, pad, dep, ex, wt, cd, la, ps⟩ := f
  obtain ⟨i1, i2, i3, i4, i5, i6, i7, i8, i9⟩ := hf
  simp only at i1 i2 i3 i4 i5 i6 i7 i8 i9 hda hps hpn hP hp0
  obtain ⟨g1, hg1⟩ : ∃ g1, w.heap.size = g1 := ⟨_, rfl⟩
  obtain ⟨cs, hcs⟩ : ∃ cs, fmA ⟨ty, fl, st, da, pad, dep, ex, wt, cd, la, ps⟩ (.slice pb pn pc) = cs := ⟨_, rfl⟩
  rw [hcs]
  obtain ⟨W1, hW1⟩ : ∃ V, w.alloc (.cells cs 55) = V := ⟨_, rfl⟩
  have q1 : W1.heap[g1]? = some (.cells cs 55 (0, 0)) := by rw [← hW1, heap_al, if_pos hg1.symm]
  have b1 : Below w.heap.size w W1 := by rw [← hW1]; exact bel1 _ _
  have HS1 : Hid (FS g1 cs w W1) := hid ⟨b1, q1, hE.of b1.size fun k hk => b1.block k (by have := hE.sz; omega)⟩
  have g8 : 8 ≤ g1 := by have := hE.sz; omega
  have hc0 : cs[0]? = some (.int .i64 ty) := by rw [← hcs]; rfl
  have HC0 : Hid (∀ W, FS g1 cs w W → W.cell? ⟨g1, 0, none⟩ = some (.int .i64 ty)) := hid (fun W h => (cell_blk h.blk 0).trans hc0)
  have hc1 : cs[1]? = some (.int .i64 fl) := by rw [← hcs]; rfl
  have HC1 : Hid (∀ W, FS g1 cs w W → W.cell? ⟨g1, 1, none⟩ = some (.int .i64 fl)) := hid (fun W h => (cell_blk h.blk 1).trans hc1)
  have hc2 : cs[2]? = some (.int .i64 st) := by rw [← hcs]; rfl
  have HC2 : Hid (∀ W, FS g1 cs w W → W.cell? ⟨g1, 2, none⟩ = some (.int .i64 st)) := hid (fun W h => (cell_blk h.blk 2).trans hc2)
  have hc3 : cs[3]? = some (.string da) := by rw [← hcs]; rfl
  have HC3 : Hid (∀ W, FS g1 cs w W → W.cell? ⟨g1, 3, none⟩ = some (.string da)) := hid (fun W h => (cell_blk h.blk 3).trans hc3)
  have hc4 : cs[4]? = some (.int .i64 pad) := by rw [← hcs]; rfl
  have HC4 : Hid (∀ W, FS g1 cs w W → W.cell? ⟨g1, 4, none⟩ = some (.int .i64 pad)) := hid (fun W h => (cell_blk h.blk 4).trans hc4)
  have hc5 : cs[5]? = some (.int .i64 dep) := by rw [← hcs]; rfl
  have HC5 : Hid (∀ W, FS g1 cs w W → W.cell? ⟨g1, 5, none⟩ = some (.int .i64 dep)) := hid (fun W h => (cell_blk h.blk 5).trans hc5)
  have hc6 : cs[6]? = some (.bool ex) := by rw [← hcs]; rfl
  have HC6 : Hid (∀ W, FS g1 cs w W → W.cell? ⟨g1, 6, none⟩ = some (.bool ex)) := hid (fun W h => (cell_blk h.blk 6).trans hc6)
  have hc7 : cs[7]? = some (.int .i64 wt) := by rw [← hcs]; rfl
  have HC7 : Hid (∀ W, FS g1 cs w W → W.cell? ⟨g1, 7, none⟩ = some (.int .i64 wt)) := hid (fun W h => (cell_blk h.blk 7).trans hc7)
  have hc8 : cs[8]? = some (.int .i64 cd) := by rw [← hcs]; rfl
  have HC8 : Hid (∀ W, FS g1 cs w W → W.cell? ⟨g1, 8, none⟩ = some (.int .i64 cd)) := hid (fun W h => (cell_blk h.blk 8).trans hc8)
  have hc9 : cs[9]? = some (.int .i64 la) := by rw [← hcs]; rfl
  have HC9 : Hid (∀ W, FS g1 cs w W → W.cell? ⟨g1, 9, none⟩ = some (.int .i64 la)) := hid (fun W h => (cell_blk h.blk 9).trans hc9)
  have hc10 : cs[10]? = some (.slice pb pn pc) := by rw [← hcs]; rfl
  have HC10 : Hid (∀ W, FS g1 cs w W → W.cell? ⟨g1, 10, none⟩ = some (.slice pb pn pc)) := hid (fun W h => (cell_blk h.blk 10).trans hc10)
  have HC : Hid (∀ W, FS g1 cs w W → W.cell? ⟨g1, 0, none⟩ = some (.int .i64 ty) ∧ W.cell? ⟨g1, 1, none⟩ = some (.int .i64 fl) ∧ W.cell? ⟨g1, 2, none⟩ = some (.int .i64 st) ∧ FS g1 cs w W) := hid (fun W h => ⟨HC0.out W h, HC1.out W h, HC2.out W h, h⟩)
  have HW1 := hid hW1
  have HG1 := hid hg1
  have HD : Hid (FS g1 cs w W1.drew) := hid (HS1.out.step (Below.refl _ W1).drew)
  obtain ⟨L0, hL0⟩ : ∃ L, [iB ty, iB fl, iB st] = L := ⟨_, rfl⟩
  have lL0 : L0.length ≤ 3 := by rw [← hL0]; simp
  obtain ⟨L1, hL1⟩ : ∃ L, L0 ++ (if da = ⟨#[]⟩ then [] else [dataB, bt (qtS da.data.toList)]) = L := ⟨_, rfl⟩
  have lL1 : L1.length ≤ 5 := by rw [← hL1]; rw [List.length_append]; split <;> simp <;> omega
  obtain ⟨L2, hL2⟩ : ∃ L, L1 ++ nmW padB pad = L := ⟨_, rfl⟩
  have lL2 : L2.length ≤ 7 := by rw [← hL2]; rw [List.length_append]; have := nmW_le padB pad; omega
  obtain ⟨L3, hL3⟩ : ∃ L, L2 ++ nmW depB dep = L := ⟨_, rfl⟩
  have lL3 : L3.length ≤ 9 := by rw [← hL3]; rw [List.length_append]; have := nmW_le depB dep; omega
  obtain ⟨L4, hL4⟩ : ∃ L, L3 ++ (if ex then [exclB] else []) = L := ⟨_, rfl⟩
  have lL4 : L4.length ≤ 10 := by rw [← hL4]; rw [List.length_append]; split <;> simp <;> omega
  obtain ⟨L5, hL5⟩ : ∃ L, L4 ++ nmW wtB wt = L := ⟨_, rfl⟩
  have lL5 : L5.length ≤ 12 := by rw [← hL5]; rw [List.length_append]; have := nmW_le wtB wt; omega
  obtain ⟨L6, hL6⟩ : ∃ L, L5 ++ nmW codeB cd = L := ⟨_, rfl⟩
  have lL6 : L6.length ≤ 14 := by rw [← hL6]; rw [List.length_append]; have := nmW_le codeB cd; omega
  obtain ⟨L7, hL7⟩ : ∃ L, L6 ++ nmW lastB la = L := ⟨_, rfl⟩
  have lL7 : L7.length ≤ 16 := by rw [← hL7]; rw [List.length_append]; have := nmW_le lastB la; omega
  have HWS : Hid (F.ws = L7 ++ ps.flatMap pmW) := hid (by
    rw [← hF]
    show _ = _
    unfold Fm.ws Fm.w2 Fm.w0 Fm.w1
    simp only
    rw [← hL7, ← hL6, ← hL5, ← hL4, ← hL3, ← hL2, ← hL1, ← hL0])
  rw [hF] at hjl ⊢
  have HL0 := hid hL0
  have HL1 := hid hL1
  have HL2 := hid hL2
  have HL3 := hid hL3
  have HL4 := hid hL4
  have HL5 := hid hL5
  have HL6 := hid hL6
  have HL7 := hid hL7
  have HIP := hid hP
  have HI9 := hid i9
  have HJL := hid hjl
  have HPN := hid hpn
  clear hE q1 b1 hW1 hcs hc0 hc1 hc2 hc3 hc4 hc5 hc6 hc7 hc8 hc9 hc10 hg1 hF hP i9 hjl hpn hL0 hL1 hL2 hL3 hL4 hL5 hL6 hL7
  go_enter Tryz.func13, Tryz.ntmps13
  go_upto_region 1 with fail
  rw [HW1.out, HG1.out]
  go_cut [3] from 6 (fun v wx => ∃ b n c, v = .slice b n c ∧ Hid (FJ g1 cs w wx v L0))
  case first =>
    go_region_held3 (fun W => W.cell? ⟨g1, 0, none⟩ = some (.int .i64 ty) ∧ W.cell? ⟨g1, 1, none⟩ = some (.int .i64 fl) ∧ W.cell? ⟨g1, 2, none⟩ = some (.int .i64 st) ∧ FS g1 cs w W) (first | exact HC.out _ HD.out | exact HC.out _ (FS.step (And.right (And.right (And.right (by assumption)))) (by assumption)) | exact HC.out _ (FS.step (And.right (And.right (And.right (by assumption)))) (bel1 _ _))) (first | (go_at_call 30; refine (itoa_any ty i1 _ (FS.env (And.right (And.right (And.right (by assumption)))))).mono ?_; rintro e w2 ⟨rfl, hb2⟩) | (go_at_call 30; refine (itoa_any fl i2 _ (FS.env (And.right (And.right (And.right (by assumption)))))).mono ?_; rintro e w3 ⟨rfl, hb3⟩) | (go_at_call 31; refine (format_any st i3 _ (FS.env (And.right (And.right (And.right (by assumption)))))).mono ?_; rintro e w4 ⟨rfl, hb4⟩))
    all_goals
      rename_i hS
      go_wp2_with fail
      go_meet
      case rel =>
        refine ⟨_, _, _, rfl, hid ⟨hS.2.2.2, ?_, ?_⟩⟩
        · rw [← HL0.out]
          exact r_lit _ _ [iB ty, iB fl, iB st] (by rw [heap_al, if_pos rfl]; rfl) (by simp)
        · intro k hk
          have e : w4.heap.size = k := by simpa [Value.ownBlock] using hk
          have h1 := heap_lt hS.2.2.2.blk
          rw [size_al] at h1
          have h2 : g1 ≠ w4.heap.size := fun e => by
            have h3 := hS.2.2.2.blk
            rw [e, heap_al, if_pos rfl] at h3
            injection h3 with h3
            injection h3 with _ q
            exact absurd q (by decide)
          omega
  case rest =>
    obtain ⟨b0, n0, c0, rfl, J0⟩ := hcut
    have e0 := HC3.out _ J0.out.fs
    have l1 := heap_lt J0.out.fs.blk
    go_upto_if 18 with fail
    go_cut [3] from 6 (fun v wx => ∃ b n c, v = .slice b n c ∧ Hid (FJ g1 cs w wx v L1))
    case first =>
      cases hq : (!da.toList.isEmpty) with
      | false =>
        have hd : da = ⟨#[]⟩ := by
          rw [ByteArray.toList_eq] at hq
          cases e : da.data.toList with
          | nil => exact ba_eq e
          | cons c r => rw [e] at hq; cases hq
        clear hq
        have hL : L1 = L0 := by rw [← HL1.out, if_pos hd, List.append_nil]
        clear hd
        go_wp2_with fail
        go_meet
        case rel => exact ⟨_, _, _, rfl, hL ▸ J0⟩
      | true =>
        have hd : ¬ da = ⟨#[]⟩ := by
          rintro rfl
          rw [ByteArray.toList_eq] at hq
          cases hq
        clear hq
        have HQ := hid (fun V => quote_any da V hda)
        have HL : Hid (L0 ++ [dataB, bt (qtS da.data.toList)] = L1) := hid (by rw [← HL1.out, if_neg hd])
        clear hd
        go_wp2_with fail
        go_at_call 10
        refine (HQ.out _).mono ?_
        rintro e V ⟨rfl, hbq⟩
        have hbv : Below wc.heap.size wc (V.alloc (.cells #[.string dataB, .string (bt (qtS da.data.toList))] 9)) := hbq.trans ((bel1 _ _).mono hbq.size)
        obtain ⟨base, N, cap, X, hN, hrun, hj⟩ := J0.out.put HG1.out g8 hbv (in_lit _ V.heap.size [dataB, bt (qtS da.data.toList)] (by rw [heap_al, if_pos rfl]; rfl) (by simp)) (by simp; omega)
        have HRUN := hid hrun
        have J1 := hid hj
        rw [HL.out] at J1
        simp only [dataB] at HRUN
        clear hbq hbv hrun hj hN
        go_wp2_with (at_builtin; refine Lib.wpList_append_run _ rfl (.tmp 19) (.tmp 23) 43 43 rfl _ _ rfl rfl _ _ HRUN.out ?_)
        go_meet
        case rel => exact ⟨_, _, _, rfl, J1⟩
    case rest =>
      obtain ⟨b1, n1, c1, rfl, J1⟩ := hcut
      have e1 := HC4.out _ J1.out.fs
      have m1 := heap_lt J1.out.fs.blk
      go_upto_region 4 with fail
      go_cut [3] from 6 (fun v wx => ∃ b n c, v = .slice b n c ∧ Hid (FJ g1 cs w wx v L2))
      case first =>
        go_wp2_with fail
        go_at_call 32
        refine (named_any padB pad i4 _ J1.out.fs.env).mono ?_
        rintro e V ⟨nb, nn, nc, hnn, rfl, hin, hbb⟩
        obtain ⟨base, N, cap, X, hN, hrun, hj⟩ := J1.out.put HG1.out g8 hbb hin (by have := nmW_le padB pad; omega)
        have HRUN := hid hrun
        have J1 := hid hj
        rw [HL2.out] at J1
        clear hin hbb hrun hj hN hnn
        go_wp2_with (at_builtin; refine Lib.wpList_append_run _ rfl (.tmp 25) (.tmp 28) 43 43 rfl _ _ rfl rfl _ _ HRUN.out ?_)
        go_meet
        case rel => exact ⟨_, _, _, rfl, J1⟩
      case rest =>
        obtain ⟨b2, n2, c2, rfl, J2⟩ := hcut
        have e2 := HC5.out _ J2.out.fs
        have m2 := heap_lt J2.out.fs.blk
        go_upto_region 5 with fail
        go_cut [3] from 6 (fun v wx => ∃ b n c, v = .slice b n c ∧ Hid (FJ g1 cs w wx v L3))
        case first =>
          go_wp2_with fail
          go_at_call 32
          refine (named_any depB dep i5 _ J2.out.fs.env).mono ?_
          rintro e V ⟨nb, nn, nc, hnn, rfl, hin, hbb⟩
          obtain ⟨base, N, cap, X, hN, hrun, hj⟩ := J2.out.put HG1.out g8 hbb hin (by have := nmW_le depB dep; omega)
          have HRUN := hid hrun
          have J1 := hid hj
          rw [HL3.out] at J1
          clear hin hbb hrun hj hN hnn
          go_wp2_with (at_builtin; refine Lib.wpList_append_run _ rfl (.tmp 30) (.tmp 33) 43 43 rfl _ _ rfl rfl _ _ HRUN.out ?_)
          go_meet
          case rel => exact ⟨_, _, _, rfl, J1⟩
        case rest =>
          obtain ⟨b3, n3, c3, rfl, J3⟩ := hcut
          have e3 := HC6.out _ J3.out.fs
          have m3 := heap_lt J3.out.fs.blk
          go_upto_if 36 with fail
          go_cut [3] from 6 (fun v wx => ∃ b n c, v = .slice b n c ∧ Hid (FJ g1 cs w wx v L4))
          case first =>
            cases ex with
            | false =>
              have hL : L4 = L3 := by rw [← HL4.out]; simp
              go_wp2_with fail
              go_meet
              case rel => exact ⟨_, _, _, rfl, hL ▸ J3⟩
            | true =>
              have HL : Hid (L3 ++ [exclB] = L4) := hid (by rw [← HL4.out]; simp)
              have hbv : Below wc.heap.size wc (wc.alloc (.cells #[.string exclB] 9)) := bel1 _ _
              obtain ⟨base, N, cap, X, hN, hrun, hj⟩ := J3.out.put HG1.out g8 hbv (in_lit _ wc.heap.size [exclB] (by rw [heap_al, if_pos rfl]; rfl) (by simp)) (by simp; omega)
              have HRUN := hid hrun
              have J1 := hid hj
              rw [HL.out] at J1
              simp only [exclB] at HRUN
              clear hbv hrun hj hN
              go_wp2_with (at_builtin; refine Lib.wpList_append_run _ rfl (.tmp 37) (.tmp 38) 43 43 rfl _ _ rfl rfl _ _ HRUN.out ?_)
              go_meet
              case rel => exact ⟨_, _, _, rfl, J1⟩
          case rest =>
            obtain ⟨b4, n4, c4, rfl, J4⟩ := hcut
            have e4 := HC7.out _ J4.out.fs
            have m4 := heap_lt J4.out.fs.blk
            go_upto_region 8 with fail
            go_cut [3] from 6 (fun v wx => ∃ b n c, v = .slice b n c ∧ Hid (FJ g1 cs w wx v L5))
            case first =>
              go_wp2_with fail
              go_at_call 32
              refine (named_any wtB wt i6 _ J4.out.fs.env).mono ?_
              rintro e V ⟨nb, nn, nc, hnn, rfl, hin, hbb⟩
              obtain ⟨base, N, cap, X, hN, hrun, hj⟩ := J4.out.put HG1.out g8 hbb hin (by have := nmW_le wtB wt; omega)
              have HRUN := hid hrun
              have J1 := hid hj
              rw [HL5.out] at J1
              clear hin hbb hrun hj hN hnn
              go_wp2_with (at_builtin; refine Lib.wpList_append_run _ rfl (.tmp 40) (.tmp 43) 43 43 rfl _ _ rfl rfl _ _ HRUN.out ?_)
              go_meet
              case rel => exact ⟨_, _, _, rfl, J1⟩
            case rest =>
              obtain ⟨b5, n5, c5, rfl, J5⟩ := hcut
              have e5 := HC8.out _ J5.out.fs
              have m5 := heap_lt J5.out.fs.blk
              go_upto_region 9 with fail
              go_cut [3] from 6 (fun v wx => ∃ b n c, v = .slice b n c ∧ Hid (FJ g1 cs w wx v L6))
              case first =>
                go_wp2_with fail
                go_at_call 32
                refine (named_any codeB cd i7 _ J5.out.fs.env).mono ?_
                rintro e V ⟨nb, nn, nc, hnn, rfl, hin, hbb⟩
                obtain ⟨base, N, cap, X, hN, hrun, hj⟩ := J5.out.put HG1.out g8 hbb hin (by have := nmW_le codeB cd; omega)
                have HRUN := hid hrun
                have J1 := hid hj
                rw [HL6.out] at J1
                clear hin hbb hrun hj hN hnn
                go_wp2_with (at_builtin; refine Lib.wpList_append_run _ rfl (.tmp 45) (.tmp 48) 43 43 rfl _ _ rfl rfl _ _ HRUN.out ?_)
                go_meet
                case rel => exact ⟨_, _, _, rfl, J1⟩
              case rest =>
                obtain ⟨b6, n6, c6, rfl, J6⟩ := hcut
                have e6 := HC9.out _ J6.out.fs
                have m6 := heap_lt J6.out.fs.blk
                go_upto_region 10 with fail
                go_cut [3] from 6 (fun v wx => ∃ b n c, v = .slice b n c ∧ Hid (FJ g1 cs w wx v L7))
                case first =>
                  go_wp2_with fail
                  go_at_call 32
                  refine (named_any lastB la i8 _ J6.out.fs.env).mono ?_
                  rintro e V ⟨nb, nn, nc, hnn, rfl, hin, hbb⟩
                  obtain ⟨base, N, cap, X, hN, hrun, hj⟩ := J6.out.put HG1.out g8 hbb hin (by have := nmW_le lastB la; omega)
                  have HRUN := hid hrun
                  have J1 := hid hj
                  rw [HL7.out] at J1
                  clear hin hbb hrun hj hN hnn
                  go_wp2_with (at_builtin; refine Lib.wpList_append_run _ rfl (.tmp 50) (.tmp 53) 43 43 rfl _ _ rfl rfl _ _ HRUN.out ?_)
                  go_meet
                  case rel => exact ⟨_, _, _, rfl, J1⟩
                case rest =>
                  obtain ⟨b7, n7, c7, rfl, J7⟩ := hcut
                  have e7 := HC10.out _ J7.out.fs
                  have m7 := heap_lt J7.out.fs.blk
                  have hz : ps = [] := hp0
                  have hpn0 : pn = 0 := by rw [HPN.out, hz]; rfl
                  have HWF : Hid (F.ws = L7) := hid (by rw [HWS.out, hz]; simp)
                  subst hpn0
                  have HR := J7.out.row
                  have HB7 := J7.out.fs.bel
                  have HJ7 : Hid (∀ c, FS g1 cs w c → True) := hid (fun _ _ => trivial)
                  obtain ⟨bs, cp, ev, _⟩ := HR.slice
                  have HJoin : Hid (Calls Tryz.prog 33 #[.slice b7 n7 c7, .string ⟨#[32]⟩] wc fun e w' => e = .returned (.string (bt (frT F))) ∧ Below wc.heap.size wc w') := hid (by
                    have hjl := HJL.out
                    unfold frT at hjl ⊢
                    rw [HWF.out] at hjl ⊢
                    rcases HR.2 with ⟨e, hn⟩ | ⟨g, cap, cur, e, hbs, hgg, hn, hm, hc, hzz⟩
                    · have hl : L7 = [] := List.eq_nil_of_length_eq_zero hn
                      rw [e, hl]
                      refine (Tryz.strings_Join_none none 0 ⟨#[32]⟩ wc).mono ?_
                      rintro e w' ⟨rfl, rfl⟩
                      exact ⟨rfl, Below.refl _ _⟩
                    · rw [e]
                      refine (Tryz.strings_Join g 0 cap L7 ⟨#[32]⟩ wc (fun j x hx => ?_) (heap_lt hgg) (by omega) hn hjl).mono ?_
                      · have := World.ownsRow.cells HR (v := .slice b7 n7 c7) (g := g) (by rw [e]; rfl) j (.string x) (by rw [og_cs, List.getElem?_map, hx]; rfl)
                        rw [Addr.add_lit] at this
                        exact this
                      · rintro e w' ⟨rfl, hb⟩
                        exact ⟨rfl, hb⟩)
                  clear HR ev
                  go_wp2_with fail
                  go_loopw [3, 58] (fun lv iv wr => lv = .slice b7 n7 c7 ∧ iv = .int .i64 0 ∧ wr = wc) (fun _ _ _ => 0)
                  case atStart => exact ⟨rfl, rfl, rfl⟩
                  case round =>
                    obtain ⟨rfl, rfl, rfl⟩ := hrel
                    go_wp2_with fail
                    go_at_call 33
                    refine HJoin.out.mono ?_
                    rintro e V ⟨rfl, hb⟩
                    go_wp2_with fail
                    go_ret
                    exact ⟨rfl, HB7.trans (hb.mono HB7.size)⟩
end Go.Proofs.YtghppkfopglgaaaGreatDoor
namespace Go.Proofs.YtghppkfopglgaaaGreatDoor
open Go.RowKit
set_option linter.unusedVariables false
set_option linter.unusedSimpArgs false
theorem FJ.put2 {g1 : Nat} {cs : Array Value} {w W V : World} {v v' : Value} {l news : List ByteArray} (h : FJ g1 cs w W v l) (hg : w.heap.size = g1) (g8 : 8 ≤ g1) (hb : Below W.heap.size W V) (hi : In EOg V v' news) (hl : l.length + news.length ≤ 1073741824) :
    ∃ base N cap V', N = l.length + news.length ∧ (Builtin.append_ #[43, 43] 43 #[v, v']).run Tryz.prog V = .ok (.slice base N cap) V' ∧ FJ g1 cs w V' (.slice base N cap) (l ++ news) ∧ ∀ k t c, W.heap.size ≤ k → V.heap[k]? = some (.cells c t (0, 0)) → V'.heap[k]? = V.heap[k]? := by
  obtain ⟨base, cap, V', hrun, hR, hG⟩ := app okOg V v l (h.row.below hb) v' news hi (by rw [show EOg.by' = 16 from rfl]; omega)
  have hk := Ks.of_gr hG
  have hs := (h.fs.step hb).bel.size
  refine ⟨base, _, cap, V', rfl, hrun, ⟨⟨?_, ?_, ?_⟩, hR, fun k e => (hG.own k e).elim (h.own k) fun q => ?_⟩, fun k t c hw hc => hk.block k (heap_lt hc) (fun e => by have := h.row.lt k e; omega)⟩
  · exact (h.fs.step hb).bel.trans (hk.below hs (fun i hi e => by have := h.own i e; omega))
  · exact (hk.block _ (heap_lt (h.fs.step hb).blk) (fun e => by have := h.own _ e; omega)).trans (h.fs.step hb).blk
  · exact (h.fs.step hb).env.of hk.size fun k hk' => hk.block k (by have := (h.fs.step hb).env.sz; omega) (fun e => by have := h.own _ e; have := heap_lt h.fs.blk; have := h.fs.env.sz; omega)
  · have := heap_lt (h.fs.step hb).blk; omega
set_option maxRecDepth 100000 in
set_option maxHeartbeats 16000000 in
theorem frame_any (f : Fm) (hf : f.Ok) (hda : f.da.size ≤ 17592186044416) (hps : f.ps.length ≤ 268435456) (hjl : (frT f).length ≤ 140737488355328) (v : Value) (w : World) (hE : Env w) (hP : InP w v f.ps) : Calls Tryz.prog 13 #[.agg (fmA f v)] w fun e w' => e = .returned (.string (bt (frT f))) ∧ Below w.heap.size w w' := by
  obtain ⟨pb, pn, pc, hv, hpn⟩ : ∃ a n c, v = .slice a n c ∧ n = f.ps.length := by
    rcases hP with ⟨⟨b, c, rfl⟩, e⟩ | ⟨bk, off, cap, rfl, _⟩
    · exact ⟨_, _, _, rfl, by rw [e]; rfl⟩
    · exact ⟨_, _, _, rfl, rfl⟩
  subst hv
  obtain ⟨F, hF⟩ : ∃ F, f = F := ⟨_, rfl⟩
  obtain ⟨ty, fl, st, da, pad, dep, ex, wt, cd, la, ps⟩ := f
  obtain ⟨i1, i2, i3, i4, i5, i6, i7, i8, i9⟩ := hf
  simp only at i1 i2 i3 i4 i5 i6 i7 i8 i9 hda hps hpn hP
  obtain ⟨g1, hg1⟩ : ∃ g1, w.heap.size = g1 := ⟨_, rfl⟩
  obtain ⟨cs, hcs⟩ : ∃ cs, fmA ⟨ty, fl, st, da, pad, dep, ex, wt, cd, la, ps⟩ (.slice pb pn pc) = cs := ⟨_, rfl⟩
  rw [hcs]
  obtain ⟨W1, hW1⟩ : ∃ V, w.alloc (.cells cs 55) = V := ⟨_, rfl⟩
  have q1 : W1.heap[g1]? = some (.cells cs 55 (0, 0)) := by rw [← hW1, heap_al, if_pos hg1.symm]
  have b1 : Below w.heap.size w W1 := by rw [← hW1]; exact bel1 _ _
  have HS1 : Hid (FS g1 cs w W1) := hid ⟨b1, q1, hE.of b1.size fun k hk => b1.block k (by have := hE.sz; omega)⟩
  have g8 : 8 ≤ g1 := by have := hE.sz; omega
  have hc0 : cs[0]? = some (.int .i64 ty) := by rw [← hcs]; rfl
  have HC0 : Hid (∀ W, FS g1 cs w W → W.cell? ⟨g1, 0, none⟩ = some (.int .i64 ty)) := hid (fun W h => (cell_blk h.blk 0).trans hc0)
  have hc1 : cs[1]? = some (.int .i64 fl) := by rw [← hcs]; rfl
  have HC1 : Hid (∀ W, FS g1 cs w W → W.cell? ⟨g1, 1, none⟩ = some (.int .i64 fl)) := hid (fun W h => (cell_blk h.blk 1).trans hc1)
  have hc2 : cs[2]? = some (.int .i64 st) := by rw [← hcs]; rfl
  have HC2 : Hid (∀ W, FS g1 cs w W → W.cell? ⟨g1, 2, none⟩ = some (.int .i64 st)) := hid (fun W h => (cell_blk h.blk 2).trans hc2)
  have hc3 : cs[3]? = some (.string da) := by rw [← hcs]; rfl
  have HC3 : Hid (∀ W, FS g1 cs w W → W.cell? ⟨g1, 3, none⟩ = some (.string da)) := hid (fun W h => (cell_blk h.blk 3).trans hc3)
  have hc4 : cs[4]? = some (.int .i64 pad) := by rw [← hcs]; rfl
  have HC4 : Hid (∀ W, FS g1 cs w W → W.cell? ⟨g1, 4, none⟩ = some (.int .i64 pad)) := hid (fun W h => (cell_blk h.blk 4).trans hc4)
  have hc5 : cs[5]? = some (.int .i64 dep) := by rw [← hcs]; rfl
  have HC5 : Hid (∀ W, FS g1 cs w W → W.cell? ⟨g1, 5, none⟩ = some (.int .i64 dep)) := hid (fun W h => (cell_blk h.blk 5).trans hc5)
  have hc6 : cs[6]? = some (.bool ex) := by rw [← hcs]; rfl
  have HC6 : Hid (∀ W, FS g1 cs w W → W.cell? ⟨g1, 6, none⟩ = some (.bool ex)) := hid (fun W h => (cell_blk h.blk 6).trans hc6)
  have hc7 : cs[7]? = some (.int .i64 wt) := by rw [← hcs]; rfl
  have HC7 : Hid (∀ W, FS g1 cs w W → W.cell? ⟨g1, 7, none⟩ = some (.int .i64 wt)) := hid (fun W h => (cell_blk h.blk 7).trans hc7)
  have hc8 : cs[8]? = some (.int .i64 cd) := by rw [← hcs]; rfl
  have HC8 : Hid (∀ W, FS g1 cs w W → W.cell? ⟨g1, 8, none⟩ = some (.int .i64 cd)) := hid (fun W h => (cell_blk h.blk 8).trans hc8)
  have hc9 : cs[9]? = some (.int .i64 la) := by rw [← hcs]; rfl
  have HC9 : Hid (∀ W, FS g1 cs w W → W.cell? ⟨g1, 9, none⟩ = some (.int .i64 la)) := hid (fun W h => (cell_blk h.blk 9).trans hc9)
  have hc10 : cs[10]? = some (.slice pb pn pc) := by rw [← hcs]; rfl
  have HC10 : Hid (∀ W, FS g1 cs w W → W.cell? ⟨g1, 10, none⟩ = some (.slice pb pn pc)) := hid (fun W h => (cell_blk h.blk 10).trans hc10)
  have HC : Hid (∀ W, FS g1 cs w W → W.cell? ⟨g1, 0, none⟩ = some (.int .i64 ty) ∧ W.cell? ⟨g1, 1, none⟩ = some (.int .i64 fl) ∧ W.cell? ⟨g1, 2, none⟩ = some (.int .i64 st) ∧ FS g1 cs w W) := hid (fun W h => ⟨HC0.out W h, HC1.out W h, HC2.out W h, h⟩)
  have HW1 := hid hW1
  have HG1 := hid hg1
  have HD : Hid (FS g1 cs w W1.drew) := hid (HS1.out.step (Below.refl _ W1).drew)
  obtain ⟨L0, hL0⟩ : ∃ L, [iB ty, iB fl, iB st] = L := ⟨_, rfl⟩
  have lL0 : L0.length ≤ 3 := by rw [← hL0]; simp
  obtain ⟨L1, hL1⟩ : ∃ L, L0 ++ (if da = ⟨#[]⟩ then [] else [dataB, bt (qtS da.data.toList)]) = L := ⟨_, rfl⟩
  have lL1 : L1.length ≤ 5 := by rw [← hL1]; rw [List.length_append]; split <;> simp <;> omega
  obtain ⟨L2, hL2⟩ : ∃ L, L1 ++ nmW padB pad = L := ⟨_, rfl⟩
  have lL2 : L2.length ≤ 7 := by rw [← hL2]; rw [List.length_append]; have := nmW_le padB pad; omega
  obtain ⟨L3, hL3⟩ : ∃ L, L2 ++ nmW depB dep = L := ⟨_, rfl⟩
  have lL3 : L3.length ≤ 9 := by rw [← hL3]; rw [List.length_append]; have := nmW_le depB dep; omega
  obtain ⟨L4, hL4⟩ : ∃ L, L3 ++ (if ex then [exclB] else []) = L := ⟨_, rfl⟩
  have lL4 : L4.length ≤ 10 := by rw [← hL4]; rw [List.length_append]; split <;> simp <;> omega
  obtain ⟨L5, hL5⟩ : ∃ L, L4 ++ nmW wtB wt = L := ⟨_, rfl⟩
  have lL5 : L5.length ≤ 12 := by rw [← hL5]; rw [List.length_append]; have := nmW_le wtB wt; omega
  obtain ⟨L6, hL6⟩ : ∃ L, L5 ++ nmW codeB cd = L := ⟨_, rfl⟩
  have lL6 : L6.length ≤ 14 := by rw [← hL6]; rw [List.length_append]; have := nmW_le codeB cd; omega
  obtain ⟨L7, hL7⟩ : ∃ L, L6 ++ nmW lastB la = L := ⟨_, rfl⟩
  have lL7 : L7.length ≤ 16 := by rw [← hL7]; rw [List.length_append]; have := nmW_le lastB la; omega
  have HWS : Hid (F.ws = L7 ++ ps.flatMap pmW) := hid (by
    rw [← hF]
    show _ = _
    unfold Fm.ws Fm.w2 Fm.w0 Fm.w1
    simp only
    rw [← hL7, ← hL6, ← hL5, ← hL4, ← hL3, ← hL2, ← hL1, ← hL0])
  rw [hF] at hjl ⊢
  have HL0 := hid hL0
  have HL1 := hid hL1
  have HL2 := hid hL2
  have HL3 := hid hL3
  have HL4 := hid hL4
  have HL5 := hid hL5
  have HL6 := hid hL6
  have HL7 := hid hL7
  have HIP := hid hP
  have HI9 := hid i9
  have HJL := hid hjl
  have HPN := hid hpn
  clear hE q1 b1 hW1 hcs hc0 hc1 hc2 hc3 hc4 hc5 hc6 hc7 hc8 hc9 hc10 hg1 hF hP i9 hjl hpn hL0 hL1 hL2 hL3 hL4 hL5 hL6 hL7
  go_enter Tryz.func13, Tryz.ntmps13
  go_upto_region 1 with fail
  rw [HW1.out, HG1.out]
  go_cut [3] from 6 (fun v wx => ∃ b n c, v = .slice b n c ∧ Hid (FJ g1 cs w wx v L0))
  case first =>
    go_region_held3 (fun W => W.cell? ⟨g1, 0, none⟩ = some (.int .i64 ty) ∧ W.cell? ⟨g1, 1, none⟩ = some (.int .i64 fl) ∧ W.cell? ⟨g1, 2, none⟩ = some (.int .i64 st) ∧ FS g1 cs w W) (first | exact HC.out _ HD.out | exact HC.out _ (FS.step (And.right (And.right (And.right (by assumption)))) (by assumption)) | exact HC.out _ (FS.step (And.right (And.right (And.right (by assumption)))) (bel1 _ _))) (first | (go_at_call 30; refine (itoa_any ty i1 _ (FS.env (And.right (And.right (And.right (by assumption)))))).mono ?_; rintro e w2 ⟨rfl, hb2⟩) | (go_at_call 30; refine (itoa_any fl i2 _ (FS.env (And.right (And.right (And.right (by assumption)))))).mono ?_; rintro e w3 ⟨rfl, hb3⟩) | (go_at_call 31; refine (format_any st i3 _ (FS.env (And.right (And.right (And.right (by assumption)))))).mono ?_; rintro e w4 ⟨rfl, hb4⟩))
    all_goals
      rename_i hS
      go_wp2_with fail
      go_meet
      case rel =>
        refine ⟨_, _, _, rfl, hid ⟨hS.2.2.2, ?_, ?_⟩⟩
        · rw [← HL0.out]
          exact r_lit _ _ [iB ty, iB fl, iB st] (by rw [heap_al, if_pos rfl]; rfl) (by simp)
        · intro k hk
          have e : w4.heap.size = k := by simpa [Value.ownBlock] using hk
          have h1 := heap_lt hS.2.2.2.blk
          rw [size_al] at h1
          have h2 : g1 ≠ w4.heap.size := fun e => by
            have h3 := hS.2.2.2.blk
            rw [e, heap_al, if_pos rfl] at h3
            injection h3 with h3
            injection h3 with _ q
            exact absurd q (by decide)
          omega
  case rest =>
    obtain ⟨b0, n0, c0, rfl, J0⟩ := hcut
    have e0 := HC3.out _ J0.out.fs
    have l1 := heap_lt J0.out.fs.blk
    go_upto_if 18 with fail
    go_cut [3] from 6 (fun v wx => ∃ b n c, v = .slice b n c ∧ Hid (FJ g1 cs w wx v L1))
    case first =>
      cases hq : (!da.toList.isEmpty) with
      | false =>
        have hd : da = ⟨#[]⟩ := by
          rw [ByteArray.toList_eq] at hq
          cases e : da.data.toList with
          | nil => exact ba_eq e
          | cons c r => rw [e] at hq; cases hq
        clear hq
        have hL : L1 = L0 := by rw [← HL1.out, if_pos hd, List.append_nil]
        clear hd
        go_wp2_with fail
        go_meet
        case rel => exact ⟨_, _, _, rfl, hL ▸ J0⟩
      | true =>
        have hd : ¬ da = ⟨#[]⟩ := by
          rintro rfl
          rw [ByteArray.toList_eq] at hq
          cases hq
        clear hq
        have HQ := hid (fun V => quote_any da V hda)
        have HL : Hid (L0 ++ [dataB, bt (qtS da.data.toList)] = L1) := hid (by rw [← HL1.out, if_neg hd])
        clear hd
        go_wp2_with fail
        go_at_call 10
        refine (HQ.out _).mono ?_
        rintro e V ⟨rfl, hbq⟩
        have hbv : Below wc.heap.size wc (V.alloc (.cells #[.string dataB, .string (bt (qtS da.data.toList))] 9)) := hbq.trans ((bel1 _ _).mono hbq.size)
        obtain ⟨base, N, cap, X, hN, hrun, hj⟩ := J0.out.put HG1.out g8 hbv (in_lit _ V.heap.size [dataB, bt (qtS da.data.toList)] (by rw [heap_al, if_pos rfl]; rfl) (by simp)) (by simp; omega)
        have HRUN := hid hrun
        have J1 := hid hj
        rw [HL.out] at J1
        simp only [dataB] at HRUN
        clear hbq hbv hrun hj hN
        go_wp2_with (at_builtin; refine Lib.wpList_append_run _ rfl (.tmp 19) (.tmp 23) 43 43 rfl _ _ rfl rfl _ _ HRUN.out ?_)
        go_meet
        case rel => exact ⟨_, _, _, rfl, J1⟩
    case rest =>
      obtain ⟨b1, n1, c1, rfl, J1⟩ := hcut
      have e1 := HC4.out _ J1.out.fs
      have m1 := heap_lt J1.out.fs.blk
      go_upto_region 4 with fail
      go_cut [3] from 6 (fun v wx => ∃ b n c, v = .slice b n c ∧ Hid (FJ g1 cs w wx v L2))
      case first =>
        go_wp2_with fail
        go_at_call 32
        refine (named_any padB pad i4 _ J1.out.fs.env).mono ?_
        rintro e V ⟨nb, nn, nc, hnn, rfl, hin, hbb⟩
        obtain ⟨base, N, cap, X, hN, hrun, hj⟩ := J1.out.put HG1.out g8 hbb hin (by have := nmW_le padB pad; omega)
        have HRUN := hid hrun
        have J1 := hid hj
        rw [HL2.out] at J1
        clear hin hbb hrun hj hN hnn
        go_wp2_with (at_builtin; refine Lib.wpList_append_run _ rfl (.tmp 25) (.tmp 28) 43 43 rfl _ _ rfl rfl _ _ HRUN.out ?_)
        go_meet
        case rel => exact ⟨_, _, _, rfl, J1⟩
      case rest =>
        obtain ⟨b2, n2, c2, rfl, J2⟩ := hcut
        have e2 := HC5.out _ J2.out.fs
        have m2 := heap_lt J2.out.fs.blk
        go_upto_region 5 with fail
        go_cut [3] from 6 (fun v wx => ∃ b n c, v = .slice b n c ∧ Hid (FJ g1 cs w wx v L3))
        case first =>
          go_wp2_with fail
          go_at_call 32
          refine (named_any depB dep i5 _ J2.out.fs.env).mono ?_
          rintro e V ⟨nb, nn, nc, hnn, rfl, hin, hbb⟩
          obtain ⟨base, N, cap, X, hN, hrun, hj⟩ := J2.out.put HG1.out g8 hbb hin (by have := nmW_le depB dep; omega)
          have HRUN := hid hrun
          have J1 := hid hj
          rw [HL3.out] at J1
          clear hin hbb hrun hj hN hnn
          go_wp2_with (at_builtin; refine Lib.wpList_append_run _ rfl (.tmp 30) (.tmp 33) 43 43 rfl _ _ rfl rfl _ _ HRUN.out ?_)
          go_meet
          case rel => exact ⟨_, _, _, rfl, J1⟩
        case rest =>
          obtain ⟨b3, n3, c3, rfl, J3⟩ := hcut
          have e3 := HC6.out _ J3.out.fs
          have m3 := heap_lt J3.out.fs.blk
          go_upto_if 36 with fail
          go_cut [3] from 6 (fun v wx => ∃ b n c, v = .slice b n c ∧ Hid (FJ g1 cs w wx v L4))
          case first =>
            cases ex with
            | false =>
              have hL : L4 = L3 := by rw [← HL4.out]; simp
              go_wp2_with fail
              go_meet
              case rel => exact ⟨_, _, _, rfl, hL ▸ J3⟩
            | true =>
              have HL : Hid (L3 ++ [exclB] = L4) := hid (by rw [← HL4.out]; simp)
              have hbv : Below wc.heap.size wc (wc.alloc (.cells #[.string exclB] 9)) := bel1 _ _
              obtain ⟨base, N, cap, X, hN, hrun, hj⟩ := J3.out.put HG1.out g8 hbv (in_lit _ wc.heap.size [exclB] (by rw [heap_al, if_pos rfl]; rfl) (by simp)) (by simp; omega)
              have HRUN := hid hrun
              have J1 := hid hj
              rw [HL.out] at J1
              simp only [exclB] at HRUN
              clear hbv hrun hj hN
              go_wp2_with (at_builtin; refine Lib.wpList_append_run _ rfl (.tmp 37) (.tmp 38) 43 43 rfl _ _ rfl rfl _ _ HRUN.out ?_)
              go_meet
              case rel => exact ⟨_, _, _, rfl, J1⟩
          case rest =>
            obtain ⟨b4, n4, c4, rfl, J4⟩ := hcut
            have e4 := HC7.out _ J4.out.fs
            have m4 := heap_lt J4.out.fs.blk
            go_upto_region 8 with fail
            go_cut [3] from 6 (fun v wx => ∃ b n c, v = .slice b n c ∧ Hid (FJ g1 cs w wx v L5))
            case first =>
              go_wp2_with fail
              go_at_call 32
              refine (named_any wtB wt i6 _ J4.out.fs.env).mono ?_
              rintro e V ⟨nb, nn, nc, hnn, rfl, hin, hbb⟩
              obtain ⟨base, N, cap, X, hN, hrun, hj⟩ := J4.out.put HG1.out g8 hbb hin (by have := nmW_le wtB wt; omega)
              have HRUN := hid hrun
              have J1 := hid hj
              rw [HL5.out] at J1
              clear hin hbb hrun hj hN hnn
              go_wp2_with (at_builtin; refine Lib.wpList_append_run _ rfl (.tmp 40) (.tmp 43) 43 43 rfl _ _ rfl rfl _ _ HRUN.out ?_)
              go_meet
              case rel => exact ⟨_, _, _, rfl, J1⟩
            case rest =>
              obtain ⟨b5, n5, c5, rfl, J5⟩ := hcut
              have e5 := HC8.out _ J5.out.fs
              have m5 := heap_lt J5.out.fs.blk
              go_upto_region 9 with fail
              go_cut [3] from 6 (fun v wx => ∃ b n c, v = .slice b n c ∧ Hid (FJ g1 cs w wx v L6))
              case first =>
                go_wp2_with fail
                go_at_call 32
                refine (named_any codeB cd i7 _ J5.out.fs.env).mono ?_
                rintro e V ⟨nb, nn, nc, hnn, rfl, hin, hbb⟩
                obtain ⟨base, N, cap, X, hN, hrun, hj⟩ := J5.out.put HG1.out g8 hbb hin (by have := nmW_le codeB cd; omega)
                have HRUN := hid hrun
                have J1 := hid hj
                rw [HL6.out] at J1
                clear hin hbb hrun hj hN hnn
                go_wp2_with (at_builtin; refine Lib.wpList_append_run _ rfl (.tmp 45) (.tmp 48) 43 43 rfl _ _ rfl rfl _ _ HRUN.out ?_)
                go_meet
                case rel => exact ⟨_, _, _, rfl, J1⟩
              case rest =>
                obtain ⟨b6, n6, c6, rfl, J6⟩ := hcut
                have e6 := HC9.out _ J6.out.fs
                have m6 := heap_lt J6.out.fs.blk
                go_upto_region 10 with fail
                go_cut [3] from 6 (fun v wx => ∃ b n c, v = .slice b n c ∧ Hid (FJ g1 cs w wx v L7))
                case first =>
                  go_wp2_with fail
                  go_at_call 32
                  refine (named_any lastB la i8 _ J6.out.fs.env).mono ?_
                  rintro e V ⟨nb, nn, nc, hnn, rfl, hin, hbb⟩
                  obtain ⟨base, N, cap, X, hN, hrun, hj⟩ := J6.out.put HG1.out g8 hbb hin (by have := nmW_le lastB la; omega)
                  have HRUN := hid hrun
                  have J1 := hid hj
                  rw [HL7.out] at J1
                  clear hin hbb hrun hj hN hnn
                  go_wp2_with (at_builtin; refine Lib.wpList_append_run _ rfl (.tmp 50) (.tmp 53) 43 43 rfl _ _ rfl rfl _ _ HRUN.out ?_)
                  go_meet
                  case rel => exact ⟨_, _, _, rfl, J1⟩
                case rest =>
                  obtain ⟨b7, n7, c7, rfl, J7⟩ := hcut
                  have e7 := HC10.out _ J7.out.fs
                  have m7 := heap_lt J7.out.fs.blk
                  have HLL : Hid (L7.length ≤ 20) := hid (by omega)
                  clear lL0 lL1 lL2 lL3 lL4 lL5 lL6 lL7
                  have HPS : Hid (pn = ps.length) := hid (by have := HPN.out; exact this)
                  have hpn9 : pn ≤ 268435456 := by have := HPS.out; omega
                  have HFL : Hid (∀ j, j ≤ pn → (L7 ++ (ps.take j).flatMap pmW).length ≤ 20 + 3 * j) := hid (fun j hj => by
                    have h3 : ∀ l : List (Int × Int), (l.flatMap pmW).length = 3 * l.length := by
                      intro l
                      induction l with
                      | nil => rfl
                      | cons x l ih => rw [List.flatMap_cons, List.length_append, ih]; simp [pmW]; omega
                    rw [List.length_append, h3, List.length_take]
                    have := HLL.out
                    omega)
                  go_wp2_with fail
                  go_loopw [3, 5, 58] (fun lv _ iv wr => ∃ (k : Nat) (b : Option Addr) (n c : Nat), lv = .slice b n c ∧ iv = .int .i64 (k : Int) ∧ k ≤ pn ∧ Hid (n ≤ 20 + 3 * k ∧ FJ g1 cs w wr (.slice b n c) (L7 ++ (ps.take k).flatMap pmW))) (fun _ _ iv _ => pn - (intOf iv).toNat)
                  case atStart => exact ⟨0, b7, n7, c7, rfl, rfl, Nat.zero_le _, hid ⟨by obtain ⟨_, _, e, _⟩ := J7.out.row.slice; have := (Value.slice.inj e).2.1; have := HLL.out; omega, by rw [List.take_zero, List.flatMap_nil, List.append_nil]; exact J7.out⟩⟩
                  case round =>
                    obtain ⟨k, b, n, c, rfl, rfl, hk, HJ⟩ := hrel
                    clear J7 e7 m7
                    by_cases hlt : k < pn
                    · have hltI : (k : Int) < (pn : Int) := by omega
                      have hkl : k < ps.length := by have := HPS.out; omega
                      obtain ⟨bk, off, hpb, hbk, hcl⟩ : ∃ bk off, pb = some ⟨bk, off, none⟩ ∧ bk < w.heap.size ∧ ∀ j p, ps[j]? = some p → w.cell? ⟨bk, off + j * 2, none⟩ = some (.int .i64 p.1) ∧ w.cell? ⟨bk, off + j * 2 + 1, none⟩ = some (.int .i64 p.2) := by
                        rcases HIP.out with ⟨_, e⟩ | ⟨bk, off, cap, e, _, _, h1, h2⟩
                        · rw [e] at hkl; exact absurd hkl (by simp)
                        · injection e with e _ _
                          exact ⟨bk, off, e, h1, h2⟩
                      subst hpb
                      obtain ⟨p, hp⟩ : ∃ p, ps[k]? = some p := ⟨_, List.getElem?_eq_getElem hkl⟩
                      obtain ⟨c1, c2⟩ := hcl k p hp
                      have HPI : Hid (I64 p.1 ∧ I64 p.2) := hid (HI9.out p (List.mem_of_getElem? hp))
                      have HMK : Hid (L7 ++ (ps.take k).flatMap pmW ++ [paramB, iB p.1, iB p.2] = L7 ++ (ps.take (k + 1)).flatMap pmW) := hid (by
                        rw [List.take_add_one, hp, List.flatMap_append, List.append_assoc]
                        simp [pmW])
                      obtain ⟨pi, pv⟩ := p
                      simp only at c1 c2 HPI HMK
                      have hkb : ∀ i, wr.cell? ⟨bk, i, none⟩ = w.cell? ⟨bk, i, none⟩ := fun i => by unfold World.cell?; simp only; rw [HJ.out.2.fs.bel.block bk hbk]
                      rw [← hkb] at c1 c2
                      have l1 : bk < wr.heap.size := Nat.lt_of_lt_of_le hbk HJ.out.2.fs.bel.size
                      have e7 := HC10.out _ HJ.out.2.fs
                      clear hp hkl hcl hkb hbk
                      obtain ⟨X0, hX0⟩ : ∃ X0, wr.alloc (.cells #[.int .i64 pi, .int .i64 pv] 97) = X0 := ⟨_, rfl⟩
                      have HX0 := hid hX0
                      have hb0 : Below wr.heap.size wr X0 := by rw [← hX0]; exact bel1 _ _
                      have hg0 : X0.heap[wr.heap.size]? = some (.cells #[.int .i64 pi, .int .i64 pv] 97 (0, 0)) := by rw [← hX0, heap_al, if_pos rfl]
                      have HBL : Hid (∀ V, Below X0.heap.size X0 V → V.heap[wr.heap.size]? = some (.cells #[.int .i64 pi, .int .i64 pv] 97 (0, 0))) := hid (fun V hV => (hV.block _ (heap_lt hg0)).trans hg0)
                      have HS2 : Hid (∀ V : World, V.heap[wr.heap.size]? = some (.cells #[.int .i64 pi, .int .i64 pv] 97 (0, 0)) → V.cell? ⟨wr.heap.size, 0, none⟩ = some (.int .i64 pi) ∧ V.cell? ⟨wr.heap.size, 1, none⟩ = some (.int .i64 pv)) := hid (fun V hq => ⟨by rw [cell_blk hq]; rfl, by rw [cell_blk hq]; rfl⟩)
                      have HEV : Hid (∀ V, Below wr.heap.size wr V → Env V) := hid (fun V h => HJ.out.2.fs.env.below h)
                      have HB0 := hid hb0
                      have HB1 : Hid (Below X0.heap.size X0 X0.drew) := hid ((Below.refl _ X0).drew)
                      clear hX0 hg0 hb0
                      go_upto_region 14 with fail
                      rw [HX0.out]
                      clear c1 c2
                      have hW : Below wr.heap.size wr X0.drew := HB0.out.trans (HB1.out.mono HB0.out.size)
                      have kW : Below X0.heap.size X0 X0.drew := HB1.out
                      refine wp_region_held_drew (S := (fun W => W.cell? ⟨wr.heap.size, 0, none⟩ = some (.int .i64 pi) ∧ W.cell? ⟨wr.heap.size, 1, none⟩ = some (.int .i64 pv))) (by kernel_rfl) (HS2.out _ (HBL.out _ kW)) (fun hHeld => ?_)
                      generalize World.drew _ = W at hW kW hHeld ⊢
                      refine wpAnyH_take (i := 0) (oi := { dst := some 62, op := Op.move (Operand.tmp 3), type := 43, pos := "frame.go:25", after := #[], guard := none }) (v := ?vv1) rfl (by kernel_rfl) (by kernel_rfl) (by kernel_rfl) (fun _ _ _ h => h) (Or.inl ⟨by rfl, ?hy1⟩) (by assumption) ?_
                      case hy1 => (intro w hSw; (try dsimp only at hSw); go_simp; all_goals with_reducible rfl)
                      try simp only [Act.put, List.setIfInBounds_toArray, List.set_cons_zero, List.set_cons_succ]
                      refine wpAnyH_take (i := 1) (oi := { dst := some 63, op := Op.fieldAddr 97 (Operand.tmp 5) 0, type := 0, pos := "frame.go:25", after := #[], guard := none }) (v := ?vv2) rfl (by kernel_rfl) (by kernel_rfl) (by kernel_rfl) (fun _ _ _ h => h) (Or.inl ⟨by rfl, ?hy2⟩) (by assumption) ?_
                      case hy2 => (intro w hSw; (try dsimp only at hSw); go_simp; all_goals with_reducible rfl)
                      try simp only [Act.put, List.setIfInBounds_toArray, List.set_cons_zero, List.set_cons_succ]
                      refine wpAnyH_take (i := 2) (oi := { dst := some 64, op := Op.load 3 (Operand.tmp 63), type := 3, pos := "frame.go:25", after := #[{ on := 1, ground := Ground.data }], guard := none }) (v := ?vv3) rfl (by kernel_rfl) (by kernel_rfl) (by kernel_rfl) (fun _ _ _ h => h) (Or.inl ⟨by rfl, ?hy3⟩) (by assumption) ?_
                      case hy3 => (intro w hSw; (try dsimp only at hSw); go_simp; all_goals with_reducible rfl)
                      try simp only [Act.put, List.setIfInBounds_toArray, List.set_cons_zero, List.set_cons_succ]
                      refine wpAnyH_take (i := 4) (oi := { dst := some 66, op := Op.fieldAddr 97 (Operand.tmp 5) 1, type := 0, pos := "frame.go:25", after := #[], guard := none }) (v := ?vv4) rfl (by kernel_rfl) (by kernel_rfl) (by kernel_rfl) (fun _ _ _ h => h) (Or.inl ⟨by rfl, ?hy4⟩) (by assumption) ?_
                      case hy4 => (intro w hSw; (try dsimp only at hSw); go_simp; all_goals with_reducible rfl)
                      try simp only [Act.put, List.setIfInBounds_toArray, List.set_cons_zero, List.set_cons_succ]
                      refine wpAnyH_take (i := 5) (oi := { dst := some 67, op := Op.load 2 (Operand.tmp 66), type := 2, pos := "frame.go:25", after := #[{ on := 4, ground := Ground.data }], guard := none }) (v := ?vv5) rfl (by kernel_rfl) (by kernel_rfl) (by kernel_rfl) (fun _ _ _ h => h) (Or.inl ⟨by rfl, ?hy5⟩) (by assumption) ?_
                      case hy5 => (intro w hSw; (try dsimp only at hSw); go_simp; all_goals with_reducible rfl)
                      try simp only [Act.put, List.setIfInBounds_toArray, List.set_cons_zero, List.set_cons_succ]
                      refine wpAnyH_ready (rs := [3]) (by kernel_rfl) (by simp) ?_
                      refine AllReadyH.cons (o := { dst := some 65, op := Op.call { callee := Callee.value (Operand.func 30), args := #[Operand.tmp 64], argTypes := #[3] }, type := 9, pos := "frame.go:25", after := #[{ on := 2, ground := Ground.data }], guard := none }) rfl (fun K hK => ?_) AllReadyH.nil
                      go_simp
                      refine (itoa_any pi HPI.out.1 _ (HEV.out _ hW)).mono ?_
                      rintro e' Wx ⟨rfl, bX⟩
                      have hWx : Below wr.heap.size wr Wx := hW.trans (bX.mono hW.size)
                      have kWx : Below X0.heap.size X0 Wx := kW.trans (bX.mono kW.size)
                      clear bX
                      go_wp2_with fail
                      refine hK.out _ _ (HS2.out _ (HBL.out _ kWx)) (fun hHeld => ?_)
                      clear hK K
                      try simp only [Act.put, List.setIfInBounds_toArray, List.set_cons_zero, List.set_cons_succ]
                      refine wpAnyH_ready (rs := [6]) (by kernel_rfl) (by simp) ?_
                      refine AllReadyH.cons (o := { dst := some 68, op := Op.call { callee := Callee.value (Operand.func 31), args := #[Operand.tmp 67, Operand.const (Value.int IntKind.i64 10)], argTypes := #[2, 3] }, type := 9, pos := "frame.go:25", after := #[{ on := 5, ground := Ground.data }, { on := 3, ground := Ground.chain }], guard := none }) rfl (fun K hK => ?_) AllReadyH.nil
                      go_simp
                      refine (format_any pv HPI.out.2 _ (HEV.out _ hWx)).mono ?_
                      rintro e' Wxx ⟨rfl, bX⟩
                      have hWxx : Below wr.heap.size wr Wxx := hWx.trans (bX.mono hWx.size)
                      have kWxx : Below X0.heap.size X0 Wxx := kWx.trans (bX.mono kWx.size)
                      clear bX
                      go_wp2_with fail
                      refine hK.out _ _ (HS2.out _ (HBL.out _ kWxx)) (fun hHeld => ?_)
                      clear hK K
                      try simp only [Act.put, List.setIfInBounds_toArray, List.set_cons_zero, List.set_cons_succ]
                      refine wpAnyH_ready (rs := [7]) (by kernel_rfl) (by simp) ?_
                      refine AllReadyH.cons (o := { dst := some 69, op := Op.buildSlice 43 3 #[(0, Operand.const (Value.string { data := #[112, 97, 114, 97, 109] })), (1, Operand.tmp 65), (2, Operand.tmp 68)], type := 43, pos := "frame.go:25", after := #[{ on := 3, ground := Ground.data }, { on := 6, ground := Ground.data }], guard := none }) rfl (fun K hK => ?_) AllReadyH.nil
                      go_simp
                      go_wp2_with fail
                      have hal : Below wr.heap.size wr (Wxx.alloc (.cells #[.string paramB, .string (iB pi), .string (iB pv)] 9)) := hWxx.trans ((bel1 _ _).mono hWxx.size)
                      have kal : Below X0.heap.size X0 (Wxx.alloc (.cells #[.string paramB, .string (iB pi), .string (iB pv)] 9)) := kWxx.trans ((bel1 _ _).mono kWxx.size)
                      refine hK.out _ _ (HS2.out _ (HBL.out _ kal)) (fun hHeld => ?_)
                      clear hK K
                      try simp only [Act.put, List.setIfInBounds_toArray, List.set_cons_zero, List.set_cons_succ]
                      refine wpAnyH_ready (rs := [8]) (by kernel_rfl) (by simp) ?_
                      refine AllReadyH.cons (o := { dst := some 70, op := Op.call { callee := Callee.builtin Builtin.append, args := #[Operand.tmp 62, Operand.tmp 69], argTypes := #[43, 43] }, type := 43, pos := "frame.go:25", after := #[{ on := 0, ground := Ground.data }, { on := 7, ground := Ground.data }, { on := 6, ground := Ground.chain }], guard := none }) rfl (fun K hK => ?_) AllReadyH.nil
                      obtain ⟨base, N, cap, Y, hN, hrun, hj, hY⟩ := HJ.out.2.put2 HG1.out g8 hal (in_lit _ Wxx.heap.size [paramB, iB pi, iB pv] (by rw [heap_al, if_pos rfl]; rfl) (by simp)) (by have := HFL.out k (by omega); show _ + 3 ≤ _; omega)
                      have HJY := hid hj
                      rw [HMK.out] at HJY
                      have HN := hid hN
                      have hY9 := hid (hY wr.heap.size _ _ (Nat.le_refl _) (HBL.out _ kal))
                      clear hj hN hY
                      simp only [paramB] at hrun
                      refine step_append_run rfl (.tmp 62) (.tmp 69) 43 43 rfl hrun (by first | rfl | simp [Act.eval, Act.put]) (by first | rfl | simp [Act.eval, Act.put]) ?_
                      refine hK.out _ _ (HS2.out _ (hY9.out.trans (HBL.out _ kal))) (fun hHeld => ?_)
                      clear hK K hrun
                      try simp only [Act.put, List.setIfInBounds_toArray, List.set_cons_zero, List.set_cons_succ]
                      refine wpAnyH_take (i := 9) (oi := { dst := some 3, op := Op.assign (Operand.tmp 70), type := 43, pos := "frame.go:25", after := #[{ on := 8, ground := Ground.data }, { on := 8, ground := Ground.chain }, { on := 0, ground := Ground.phase }, { on := 1, ground := Ground.phase }, { on := 2, ground := Ground.phase }, { on := 3, ground := Ground.phase }, { on := 4, ground := Ground.phase }, { on := 5, ground := Ground.phase }, { on := 6, ground := Ground.phase }, { on := 7, ground := Ground.phase }, { on := 8, ground := Ground.phase }], guard := none }) (v := ?vv6) rfl (by kernel_rfl) (by kernel_rfl) (by kernel_rfl) (fun _ _ _ h => h) (Or.inl ⟨by rfl, ?hy6⟩) (by assumption) ?_
                      case hy6 => (intro w hSw; (try dsimp only at hSw); go_simp; all_goals with_reducible rfl)
                      try simp only [Act.put, List.setIfInBounds_toArray, List.set_cons_zero, List.set_cons_succ]
                      refine wpAnyH_done (by kernel_rfl) ?_ _
                      go_wp2_with fail
                      go_roundw
                      case rel => exact ⟨k + 1, base, N, cap, rfl, rfl, by omega, hid ⟨by have h5 := HN.out; have h6 := HFL.out k (by omega); have h7 : [paramB, iB pi, iB pv].length = 3 := rfl; omega, HJY.out⟩⟩
                      case measure => show pn - ((k : Int) + 1).toNat < pn - ((k : Nat) : Int).toNat; omega
                    · have hnl : ¬ (k : Int) < (pn : Int) := by omega
                      have hkp : k = pn := by omega
                      have HWF : Hid (F.ws = L7 ++ (ps.take k).flatMap pmW) := hid (by rw [HWS.out, List.take_of_length_le (by have := HPS.out; omega)])
                      have HR := HJ.out.2.row
                      have HB7 := HJ.out.2.fs.bel
                      have hln : (L7 ++ (ps.take k).flatMap pmW).length = n := by
                        obtain ⟨_, _, e, _⟩ := HR.slice
                        exact (Value.slice.inj e).2.1.symm
                      obtain ⟨LL, hLL⟩ : ∃ LL, L7 ++ (ps.take k).flatMap pmW = LL := ⟨_, rfl⟩
                      rw [hLL] at HR hln HWF
                      subst hln
                      have HJoin : Hid (Calls Tryz.prog 33 #[.slice b LL.length c, .string ⟨#[32]⟩] wr fun e w' => e = .returned (.string (bt (frT F))) ∧ Below wr.heap.size wr w') := hid (by
                        have hjl := HJL.out
                        unfold frT at hjl ⊢
                        rw [HWF.out] at hjl ⊢
                        rcases HR.2 with ⟨e, hn⟩ | ⟨g, cap, cur, e, hbs, hgg, hn, hm, hc, hzz⟩
                        · have hl : LL = [] := List.eq_nil_of_length_eq_zero hn
                          rw [e, hl]
                          refine (Tryz.strings_Join_none none 0 ⟨#[32]⟩ wr).mono ?_
                          rintro e w' ⟨rfl, rfl⟩
                          exact ⟨rfl, Below.refl _ _⟩
                        · rw [e]
                          refine (Tryz.strings_Join g 0 cap LL ⟨#[32]⟩ wr (fun j x hx => ?_) (heap_lt hgg) (by have := HJ.out.1; omega) hn hjl).mono ?_
                          · have := World.ownsRow.cells HR (v := .slice b LL.length c) (g := g) (by rw [e]; rfl) j (.string x) (by rw [og_cs, List.getElem?_map, hx]; rfl)
                            rw [Addr.add_lit] at this
                            exact this
                          · rintro e w' ⟨rfl, hb⟩
                            exact ⟨rfl, hb⟩)
                      clear HR hLL
                      go_wp2_with fail
                      go_at_call 33
                      refine HJoin.out.mono ?_
                      rintro e V ⟨rfl, hb⟩
                      go_wp2_with fail
                      go_ret
                      exact ⟨rfl, HB7.trans (hb.mono HB7.size)⟩
end Go.Proofs.YtghppkfopglgaaaGreatDoor
namespace Go.Proofs.YtghppkfopglgaaaGreatDoor
open Go.RowKit
set_option linter.unusedVariables false
set_option linter.unusedSimpArgs false
def spS (l : List ByteArray) : List UInt8 := l.flatMap fun b => 32 :: b.data.toList
theorem spS_app (a b : List ByteArray) : spS (a ++ b) = spS a ++ spS b := List.flatMap_append
theorem join_sp (x : ByteArray) : ∀ r : List ByteArray, Lib.join ((x :: r).map (·.data.toList)) [32] = x.data.toList ++ spS r := by
  intro r
  rw [List.map_cons, Lib.join_cons]
  unfold Lib.joinTail spS
  rw [List.map_map, List.flatMap_def]
  rfl
theorem frT_sp (f : Fm) : frT f = Lib.itoa f.ty ++ spS ([iB f.fl, iB f.st] ++ f.w1 ++ nmW padB f.pad ++ nmW depB f.dep ++ (if f.ex then [exclB] else []) ++ nmW wtB f.wt ++ nmW codeB f.cd ++ nmW lastB f.la ++ f.ps.flatMap pmW) := by
  unfold frT Fm.ws Fm.w2 Fm.w0
  rw [show [iB f.ty, iB f.fl, iB f.st] ++ f.w1 ++ nmW padB f.pad ++ nmW depB f.dep ++ (if f.ex then [exclB] else []) ++ nmW wtB f.wt ++ nmW codeB f.cd ++ nmW lastB f.la ++ f.ps.flatMap pmW = iB f.ty :: ([iB f.fl, iB f.st] ++ f.w1 ++ nmW padB f.pad ++ nmW depB f.dep ++ (if f.ex then [exclB] else []) ++ nmW wtB f.wt ++ nmW codeB f.cd ++ nmW lastB f.la ++ f.ps.flatMap pmW) from by simp, join_sp]
  rfl
end Go.Proofs.YtghppkfopglgaaaGreatDoor
