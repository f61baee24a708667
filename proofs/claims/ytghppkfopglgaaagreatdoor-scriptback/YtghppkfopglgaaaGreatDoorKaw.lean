/- Frame. What the law's head asks, plain. The law's head. The same commands. -/
import Derived.Test.YtghppkfopglgaaaGreatDoorKav
import Derived.Deep.CutRange
import Derived.Test.YtghppkfopglgaaaGreatDoorKas
namespace Go.Proofs.YtghppkfopglgaaaGreatDoor
open Go.RowKit
set_option linter.unusedVariables false
set_option linter.unusedSimpArgs false
/-- params that can be read behind the slice -/
def InP (W : World) (v : Value) (ps : List (Int × Int)) : Prop :=
  ((∃ b c, v = .slice b 0 c) ∧ ps = []) ∨ ∃ bk off cap, v = .slice (some ⟨bk, off, none⟩) ps.length cap ∧ ps.length ≤ cap ∧ cap ≤ 9223372036854775807 ∧ bk < W.heap.size ∧ ∀ j p, ps[j]? = some p → W.cell? ⟨bk, off + j * 2, none⟩ = some (.int .i64 p.1) ∧ W.cell? ⟨bk, off + j * 2 + 1, none⟩ = some (.int .i64 p.2)
theorem nmW_le (s : ByteArray) (n : Int) : (nmW s n).length ≤ 2 := by unfold nmW; split <;> simp
def frT (f : Fm) : List UInt8 := Lib.join (f.ws.map (·.data.toList)) [32]
set_option maxRecDepth 100000 in
set_option maxHeartbeats 16000000 in
theorem frame0_any (f : Fm) (hp0 : f.ps = []) (hf : f.Ok) (hda : f.da.size ≤ 17592186044416) (hps : f.ps.length ≤ 268435456) (hjl : (frT f).length ≤ 140737488355328) (v : Value) (w : World) (hE : Env w) (hP : InP w v f.ps) : Calls Tryz.prog 13 #[.agg (fmA f v)] w fun e w' => e = .returned (.string (bt (frT f))) ∧ Below w.heap.size w w' := by
  obtain ⟨pb, pn, pc, hv, hpn⟩ : ∃ a n c, v = .slice a n c ∧ n = f.ps.length := by
    rcases hP with ⟨⟨b, c, rfl⟩, e⟩ | ⟨bk, off, cap, rfl, _⟩
    · exact ⟨_, _, _, rfl, by rw [e]; rfl⟩
    · exact ⟨_, _, _, rfl, rfl⟩
  subst hv
  obtain ⟨F, hF⟩ : ∃ F, f = F := ⟨_, rfl⟩
  obtain ⟨ty, fl, st, da, pad, dep, ex, wt, cd, la, ps⟩ := f
  obtain ⟨i1, i2, i3, i4, i5, i6, i7, i8, i9⟩ := hf
  simp only at i1 i2 i3 i4 i5 i6 i7 i8 i9 hda hps hpn hP hp0
  obtain ⟨g1, hg1⟩ : ∃ g1, w.heap.size = g1 := ⟨_, rfl⟩
  obtain ⟨cs, hcs⟩ : ∃ cs, fmA ⟨ty, fl, st, da, pad, dep, ex, wt, cd, la, ps⟩ (.slice pb pn pc) = cs := ⟨_, rfl⟩
  rw [hcs]
  obtain ⟨W1, hW1⟩ : ∃ V, w.alloc (.cells cs 55) = V := ⟨_, rfl⟩
  have q1 : W1.heap[g1]? = some (.cells cs 55 (0, 0)) := by rw [← hW1, heap_al, if_pos hg1.symm]
  have b1 : Below w.heap.size w W1 := by rw [← hW1]; exact bel1 _ _
  have HS1 : Hid (FS g1 cs w W1) := hid ⟨b1, q1, hE.of b1.size fun k hk => b1.block k (by have := hE.sz; omega)⟩
  have g8 : 8 ≤ g1 := by have := hE.sz; omega
  have hc0 : cs[0]? = some (.int .i64 ty) := by rw [← hcs]; rfl
  have HC0 : Hid (∀ W, FS g1 cs w W → W.cell? ⟨g1, 0, none⟩ = some (.int .i64 ty)) := hid (fun W h => (cell_blk h.blk 0).trans hc0)
  have hc1 : cs[1]? = some (.int .i64 fl) := by rw [← hcs]; rfl
  have HC1 : Hid (∀ W, FS g1 cs w W → W.cell? ⟨g1, 1, none⟩ = some (.int .i64 fl)) := hid (fun W h => (cell_blk h.blk 1).trans hc1)
  have hc2 : cs[2]? = some (.int .i64 st) := by rw [← hcs]; rfl
  have HC2 : Hid (∀ W, FS g1 cs w W → W.cell? ⟨g1, 2, none⟩ = some (.int .i64 st)) := hid (fun W h => (cell_blk h.blk 2).trans hc2)
  have hc3 : cs[3]? = some (.string da) := by rw [← hcs]; rfl
  have HC3 : Hid (∀ W, FS g1 cs w W → W.cell? ⟨g1, 3, none⟩ = some (.string da)) := hid (fun W h => (cell_blk h.blk 3).trans hc3)
  have hc4 : cs[4]? = some (.int .i64 pad) := by rw [← hcs]; rfl
  have HC4 : Hid (∀ W, FS g1 cs w W → W.cell? ⟨g1, 4, none⟩ = some (.int .i64 pad)) := hid (fun W h => (cell_blk h.blk 4).trans hc4)
  have hc5 : cs[5]? = some (.int .i64 dep) := by rw [← hcs]; rfl
  have HC5 : Hid (∀ W, FS g1 cs w W → W.cell? ⟨g1, 5, none⟩ = some (.int .i64 dep)) := hid (fun W h => (cell_blk h.blk 5).trans hc5)
  have hc6 : cs[6]? = some (.bool ex) := by rw [← hcs]; rfl
  have HC6 : Hid (∀ W, FS g1 cs w W → W.cell? ⟨g1, 6, none⟩ = some (.bool ex)) := hid (fun W h => (cell_blk h.blk 6).trans hc6)
  have hc7 : cs[7]? = some (.int .i64 wt) := by rw [← hcs]; rfl
  have HC7 : Hid (∀ W, FS g1 cs w W → W.cell? ⟨g1, 7, none⟩ = some (.int .i64 wt)) := hid (fun W h => (cell_blk h.blk 7).trans hc7)
  have hc8 : cs[8]? = some (.int .i64 cd) := by rw [← hcs]; rfl
  have HC8 : Hid (∀ W, FS g1 cs w W → W.cell? ⟨g1, 8, none⟩ = some (.int .i64 cd)) := hid (fun W h => (cell_blk h.blk 8).trans hc8)
  have hc9 : cs[9]? = some (.int .i64 la) := by rw [← hcs]; rfl
  have HC9 : Hid (∀ W, FS g1 cs w W → W.cell? ⟨g1, 9, none⟩ = some (.int .i64 la)) := hid (fun W h => (cell_blk h.blk 9).trans hc9)
  have hc10 : cs[10]? = some (.slice pb pn pc) := by rw [← hcs]; rfl
  have HC10 : Hid (∀ W, FS g1 cs w W → W.cell? ⟨g1, 10, none⟩ = some (.slice pb pn pc)) := hid (fun W h => (cell_blk h.blk 10).trans hc10)
  have HC : Hid (∀ W, FS g1 cs w W → W.cell? ⟨g1, 0, none⟩ = some (.int .i64 ty) ∧ W.cell? ⟨g1, 1, none⟩ = some (.int .i64 fl) ∧ W.cell? ⟨g1, 2, none⟩ = some (.int .i64 st) ∧ FS g1 cs w W) := hid (fun W h => ⟨HC0.out W h, HC1.out W h, HC2.out W h, h⟩)
  have HW1 := hid hW1
  have HG1 := hid hg1
  have HD : Hid (FS g1 cs w W1.drew) := hid (HS1.out.step (Below.refl _ W1).drew)
  obtain ⟨L0, hL0⟩ : ∃ L, [iB ty, iB fl, iB st] = L := ⟨_, rfl⟩
  have lL0 : L0.length ≤ 3 := by rw [← hL0]; simp
  obtain ⟨L1, hL1⟩ : ∃ L, L0 ++ (if da = ⟨#[]⟩ then [] else [dataB, bt (qtS da.data.toList)]) = L := ⟨_, rfl⟩
  have lL1 : L1.length ≤ 5 := by rw [← hL1]; rw [List.length_append]; split <;> simp <;> omega
  obtain ⟨L2, hL2⟩ : ∃ L, L1 ++ nmW padB pad = L := ⟨_, rfl⟩
  have lL2 : L2.length ≤ 7 := by rw [← hL2]; rw [List.length_append]; have := nmW_le padB pad; omega
  obtain ⟨L3, hL3⟩ : ∃ L, L2 ++ nmW depB dep = L := ⟨_, rfl⟩
  have lL3 : L3.length ≤ 9 := by rw [← hL3]; rw [List.length_append]; have := nmW_le depB dep; omega
  obtain ⟨L4, hL4⟩ : ∃ L, L3 ++ (if ex then [exclB] else []) = L := ⟨_, rfl⟩
  have lL4 : L4.length ≤ 10 := by rw [← hL4]; rw [List.length_append]; split <;> simp <;> omega
  obtain ⟨L5, hL5⟩ : ∃ L, L4 ++ nmW wtB wt = L := ⟨_, rfl⟩
  have lL5 : L5.length ≤ 12 := by rw [← hL5]; rw [List.length_append]; have := nmW_le wtB wt; omega
  obtain ⟨L6, hL6⟩ : ∃ L, L5 ++ nmW codeB cd = L := ⟨_, rfl⟩
  have lL6 : L6.length ≤ 14 := by rw [← hL6]; rw [List.length_append]; have := nmW_le codeB cd; omega
  obtain ⟨L7, hL7⟩ : ∃ L, L6 ++ nmW lastB la = L := ⟨_, rfl⟩
  have lL7 : L7.length ≤ 16 := by rw [← hL7]; rw [List.length_append]; have := nmW_le lastB la; omega
  have HWS : Hid (F.ws = L7 ++ ps.flatMap pmW) := hid (by
    rw [← hF]
    show _ = _
    unfold Fm.ws Fm.w2 Fm.w0 Fm.w1
    simp only
    rw [← hL7, ← hL6, ← hL5, ← hL4, ← hL3, ← hL2, ← hL1, ← hL0])
  rw [hF] at hjl ⊢
  have HL0 := hid hL0
  have HL1 := hid hL1
  have HL2 := hid hL2
  have HL3 := hid hL3
  have HL4 := hid hL4
  have HL5 := hid hL5
  have HL6 := hid hL6
  have HL7 := hid hL7
  have HIP := hid hP
  have HI9 := hid i9
  have HJL := hid hjl
  have HPN := hid hpn
  clear hE q1 b1 hW1 hcs hc0 hc1 hc2 hc3 hc4 hc5 hc6 hc7 hc8 hc9 hc10 hg1 hF hP i9 hjl hpn hL0 hL1 hL2 hL3 hL4 hL5 hL6 hL7
  go_enter Tryz.func13, Tryz.ntmps13
  go_upto_region 1 with fail
  rw [HW1.out, HG1.out]
  go_cut [3] from 6 (fun v wx => ∃ b n c, v = .slice b n c ∧ Hid (FJ g1 cs w wx v L0))
  case first =>
    go_region_held3 (fun W => W.cell? ⟨g1, 0, none⟩ = some (.int .i64 ty) ∧ W.cell? ⟨g1, 1, none⟩ = some (.int .i64 fl) ∧ W.cell? ⟨g1, 2, none⟩ = some (.int .i64 st) ∧ FS g1 cs w W) (first | exact HC.out _ HD.out | exact HC.out _ (FS.step (And.right (And.right (And.right (by assumption)))) (by assumption)) | exact HC.out _ (FS.step (And.right (And.right (And.right (by assumption)))) (bel1 _ _))) (first | (go_at_call 30; refine (itoa_any ty i1 _ (FS.env (And.right (And.right (And.right (by assumption)))))).mono ?_; rintro e w2 ⟨rfl, hb2⟩) | (go_at_call 30; refine (itoa_any fl i2 _ (FS.env (And.right (And.right (And.right (by assumption)))))).mono ?_; rintro e w3 ⟨rfl, hb3⟩) | (go_at_call 31; refine (format_any st i3 _ (FS.env (And.right (And.right (And.right (by assumption)))))).mono ?_; rintro e w4 ⟨rfl, hb4⟩))
    all_goals
      rename_i hS
      go_wp2_with fail
      go_meet
      case rel =>
        refine ⟨_, _, _, rfl, hid ⟨hS.2.2.2, ?_, ?_⟩⟩
        · rw [← HL0.out]
          exact r_lit _ _ [iB ty, iB fl, iB st] (by rw [heap_al, if_pos rfl]; rfl) (by simp)
        · intro k hk
          have e : w4.heap.size = k := by simpa [Value.ownBlock] using hk
          have h1 := heap_lt hS.2.2.2.blk
          rw [size_al] at h1
          have h2 : g1 ≠ w4.heap.size := fun e => by
            have h3 := hS.2.2.2.blk
            rw [e, heap_al, if_pos rfl] at h3
            injection h3 with h3
            injection h3 with _ q
            exact absurd q (by decide)
          omega
  case rest =>
    obtain ⟨b0, n0, c0, rfl, J0⟩ := hcut
    have e0 := HC3.out _ J0.out.fs
    have l1 := heap_lt J0.out.fs.blk
    go_upto_if 18 with fail
    go_cut [3] from 6 (fun v wx => ∃ b n c, v = .slice b n c ∧ Hid (FJ g1 cs w wx v L1))
    case first =>
      cases hq : (!da.toList.isEmpty) with
      | false =>
        have hd : da = ⟨#[]⟩ := by
          rw [ByteArray.toList_eq] at hq
          cases e : da.data.toList with
          | nil => exact ba_eq e
          | cons c r => rw [e] at hq; cases hq
        clear hq
        have hL : L1 = L0 := by rw [← HL1.out, if_pos hd, List.append_nil]
        clear hd
        go_wp2_with fail
        go_meet
        case rel => exact ⟨_, _, _, rfl, hL ▸ J0⟩
      | true =>
        have hd : ¬ da = ⟨#[]⟩ := by
          rintro rfl
          rw [ByteArray.toList_eq] at hq
          cases hq
        clear hq
        have HQ := hid (fun V => quote_any da V hda)
        have HL : Hid (L0 ++ [dataB, bt (qtS da.data.toList)] = L1) := hid (by rw [← HL1.out, if_neg hd])
        clear hd
        go_wp2_with fail
        go_at_call 10
        refine (HQ.out _).mono ?_
        rintro e V ⟨rfl, hbq⟩
        have hbv : Below wc.heap.size wc (V.alloc (.cells #[.string dataB, .string (bt (qtS da.data.toList))] 9)) := hbq.trans ((bel1 _ _).mono hbq.size)
        obtain ⟨base, N, cap, X, hN, hrun, hj⟩ := J0.out.put HG1.out g8 hbv (in_lit _ V.heap.size [dataB, bt (qtS da.data.toList)] (by rw [heap_al, if_pos rfl]; rfl) (by simp)) (by simp; omega)
        have HRUN := hid hrun
        have J1 := hid hj
        rw [HL.out] at J1
        simp only [dataB] at HRUN
        clear hbq hbv hrun hj hN
        go_wp2_with (at_builtin; refine Lib.wpList_append_run _ rfl (.tmp 19) (.tmp 23) 43 43 rfl _ _ rfl rfl _ _ HRUN.out ?_)
        go_meet
        case rel => exact ⟨_, _, _, rfl, J1⟩
    case rest =>
      obtain ⟨b1, n1, c1, rfl, J1⟩ := hcut
      have e1 := HC4.out _ J1.out.fs
      have m1 := heap_lt J1.out.fs.blk
      go_upto_region 4 with fail
      go_cut [3] from 6 (fun v wx => ∃ b n c, v = .slice b n c ∧ Hid (FJ g1 cs w wx v L2))
      case first =>
        go_wp2_with fail
        go_at_call 32
        refine (named_any padB pad i4 _ J1.out.fs.env).mono ?_
        rintro e V ⟨nb, nn, nc, hnn, rfl, hin, hbb⟩
        obtain ⟨base, N, cap, X, hN, hrun, hj⟩ := J1.out.put HG1.out g8 hbb hin (by have := nmW_le padB pad; omega)
        have HRUN := hid hrun
        have J1 := hid hj
        rw [HL2.out] at J1
        clear hin hbb hrun hj hN hnn
        go_wp2_with (at_builtin; refine Lib.wpList_append_run _ rfl (.tmp 25) (.tmp 28) 43 43 rfl _ _ rfl rfl _ _ HRUN.out ?_)
        go_meet
        case rel => exact ⟨_, _, _, rfl, J1⟩
      case rest =>
        obtain ⟨b2, n2, c2, rfl, J2⟩ := hcut
        have e2 := HC5.out _ J2.out.fs
        have m2 := heap_lt J2.out.fs.blk
        go_upto_region 5 with fail
        go_cut [3] from 6 (fun v wx => ∃ b n c, v = .slice b n c ∧ Hid (FJ g1 cs w wx v L3))
        case first =>
          go_wp2_with fail
          go_at_call 32
          refine (named_any depB dep i5 _ J2.out.fs.env).mono ?_
          rintro e V ⟨nb, nn, nc, hnn, rfl, hin, hbb⟩
          obtain ⟨base, N, cap, X, hN, hrun, hj⟩ := J2.out.put HG1.out g8 hbb hin (by have := nmW_le depB dep; omega)
          have HRUN := hid hrun
          have J1 := hid hj
          rw [HL3.out] at J1
          clear hin hbb hrun hj hN hnn
          go_wp2_with (at_builtin; refine Lib.wpList_append_run _ rfl (.tmp 30) (.tmp 33) 43 43 rfl _ _ rfl rfl _ _ HRUN.out ?_)
          go_meet
          case rel => exact ⟨_, _, _, rfl, J1⟩
        case rest =>
          obtain ⟨b3, n3, c3, rfl, J3⟩ := hcut
          have e3 := HC6.out _ J3.out.fs
          have m3 := heap_lt J3.out.fs.blk
          go_upto_if 36 with fail
          go_cut [3] from 6 (fun v wx => ∃ b n c, v = .slice b n c ∧ Hid (FJ g1 cs w wx v L4))
          case first =>
            cases ex with
            | false =>
              have hL : L4 = L3 := by rw [← HL4.out]; simp
              go_wp2_with fail
              go_meet
              case rel => exact ⟨_, _, _, rfl, hL ▸ J3⟩
            | true =>
              have HL : Hid (L3 ++ [exclB] = L4) := hid (by rw [← HL4.out]; simp)
              have hbv : Below wc.heap.size wc (wc.alloc (.cells #[.string exclB] 9)) := bel1 _ _
              obtain ⟨base, N, cap, X, hN, hrun, hj⟩ := J3.out.put HG1.out g8 hbv (in_lit _ wc.heap.size [exclB] (by rw [heap_al, if_pos rfl]; rfl) (by simp)) (by simp; omega)
              have HRUN := hid hrun
              have J1 := hid hj
              rw [HL.out] at J1
              simp only [exclB] at HRUN
              clear hbv hrun hj hN
              go_wp2_with (at_builtin; refine Lib.wpList_append_run _ rfl (.tmp 37) (.tmp 38) 43 43 rfl _ _ rfl rfl _ _ HRUN.out ?_)
              go_meet
              case rel => exact ⟨_, _, _, rfl, J1⟩
          case rest =>
            obtain ⟨b4, n4, c4, rfl, J4⟩ := hcut
            have e4 := HC7.out _ J4.out.fs
            have m4 := heap_lt J4.out.fs.blk
            go_upto_region 8 with fail
            go_cut [3] from 6 (fun v wx => ∃ b n c, v = .slice b n c ∧ Hid (FJ g1 cs w wx v L5))
            case first =>
              go_wp2_with fail
              go_at_call 32
              refine (named_any wtB wt i6 _ J4.out.fs.env).mono ?_
              rintro e V ⟨nb, nn, nc, hnn, rfl, hin, hbb⟩
              obtain ⟨base, N, cap, X, hN, hrun, hj⟩ := J4.out.put HG1.out g8 hbb hin (by have := nmW_le wtB wt; omega)
              have HRUN := hid hrun
              have J1 := hid hj
              rw [HL5.out] at J1
              clear hin hbb hrun hj hN hnn
              go_wp2_with (at_builtin; refine Lib.wpList_append_run _ rfl (.tmp 40) (.tmp 43) 43 43 rfl _ _ rfl rfl _ _ HRUN.out ?_)
              go_meet
              case rel => exact ⟨_, _, _, rfl, J1⟩
            case rest =>
              obtain ⟨b5, n5, c5, rfl, J5⟩ := hcut
              have e5 := HC8.out _ J5.out.fs
              have m5 := heap_lt J5.out.fs.blk
              go_upto_region 9 with fail
              go_cut [3] from 6 (fun v wx => ∃ b n c, v = .slice b n c ∧ Hid (FJ g1 cs w wx v L6))
              case first =>
                go_wp2_with fail
                go_at_call 32
                refine (named_any codeB cd i7 _ J5.out.fs.env).mono ?_
                rintro e V ⟨nb, nn, nc, hnn, rfl, hin, hbb⟩
                obtain ⟨base, N, cap, X, hN, hrun, hj⟩ := J5.out.put HG1.out g8 hbb hin (by have := nmW_le codeB cd; omega)
                have HRUN := hid hrun
                have J1 := hid hj
                rw [HL6.out] at J1
                clear hin hbb hrun hj hN hnn
                go_wp2_with (at_builtin; refine Lib.wpList_append_run _ rfl (.tmp 45) (.tmp 48) 43 43 rfl _ _ rfl rfl _ _ HRUN.out ?_)
                go_meet
                case rel => exact ⟨_, _, _, rfl, J1⟩
              case rest =>
                obtain ⟨b6, n6, c6, rfl, J6⟩ := hcut
                have e6 := HC9.out _ J6.out.fs
                have m6 := heap_lt J6.out.fs.blk
                go_upto_region 10 with fail
                go_cut [3] from 6 (fun v wx => ∃ b n c, v = .slice b n c ∧ Hid (FJ g1 cs w wx v L7))
                case first =>
                  go_wp2_with fail
                  go_at_call 32
                  refine (named_any lastB la i8 _ J6.out.fs.env).mono ?_
                  rintro e V ⟨nb, nn, nc, hnn, rfl, hin, hbb⟩
                  obtain ⟨base, N, cap, X, hN, hrun, hj⟩ := J6.out.put HG1.out g8 hbb hin (by have := nmW_le lastB la; omega)
                  have HRUN := hid hrun
                  have J1 := hid hj
                  rw [HL7.out] at J1
                  clear hin hbb hrun hj hN hnn
                  go_wp2_with (at_builtin; refine Lib.wpList_append_run _ rfl (.tmp 50) (.tmp 53) 43 43 rfl _ _ rfl rfl _ _ HRUN.out ?_)
                  go_meet
                  case rel => exact ⟨_, _, _, rfl, J1⟩
                case rest =>
                  obtain ⟨b7, n7, c7, rfl, J7⟩ := hcut
                  have e7 := HC10.out _ J7.out.fs
                  have m7 := heap_lt J7.out.fs.blk
                  have hz : ps = [] := hp0
                  have hpn0 : pn = 0 := by rw [HPN.out, hz]; rfl
                  have HWF : Hid (F.ws = L7) := hid (by rw [HWS.out, hz]; simp)
                  subst hpn0
                  have HR := J7.out.row
                  have HB7 := J7.out.fs.bel
                  have HJ7 : Hid (∀ c, FS g1 cs w c → True) := hid (fun _ _ => trivial)
                  obtain ⟨bs, cp, ev, _⟩ := HR.slice
                  have HJoin : Hid (Calls Tryz.prog 33 #[.slice b7 n7 c7, .string ⟨#[32]⟩] wc fun e w' => e = .returned (.string (bt (frT F))) ∧ Below wc.heap.size wc w') := hid (by
                    have hjl := HJL.out
                    unfold frT at hjl ⊢
                    rw [HWF.out] at hjl ⊢
                    rcases HR.2 with ⟨e, hn⟩ | ⟨g, cap, cur, e, hbs, hgg, hn, hm, hc, hzz⟩
                    · have hl : L7 = [] := List.eq_nil_of_length_eq_zero hn
                      rw [e, hl]
                      refine (Tryz.strings_Join_none none 0 ⟨#[32]⟩ wc).mono ?_
                      rintro e w' ⟨rfl, rfl⟩
                      exact ⟨rfl, Below.refl _ _⟩
                    · rw [e]
                      refine (Tryz.strings_Join g 0 cap L7 ⟨#[32]⟩ wc (fun j x hx => ?_) (heap_lt hgg) (by omega) hn hjl).mono ?_
                      · have := World.ownsRow.cells HR (v := .slice b7 n7 c7) (g := g) (by rw [e]; rfl) j (.string x) (by rw [og_cs, List.getElem?_map, hx]; rfl)
                        rw [Addr.add_lit] at this
                        exact this
                      · rintro e w' ⟨rfl, hb⟩
                        exact ⟨rfl, hb⟩)
                  clear HR ev
                  go_wp2_with fail
                  go_loopw [3, 58] (fun lv iv wr => lv = .slice b7 n7 c7 ∧ iv = .int .i64 0 ∧ wr = wc) (fun _ _ _ => 0)
                  case atStart => exact ⟨rfl, rfl, rfl⟩
                  case round =>
                    obtain ⟨rfl, rfl, rfl⟩ := hrel
                    go_wp2_with fail
                    go_at_call 33
                    refine HJoin.out.mono ?_
                    rintro e V ⟨rfl, hb⟩
                    go_wp2_with fail
                    go_ret
                    exact ⟨rfl, HB7.trans (hb.mono HB7.size)⟩
end Go.Proofs.YtghppkfopglgaaaGreatDoor
namespace Go.Proofs.YtghppkfopglgaaaGreatDoor
open Go.RowKit
set_option linter.unusedVariables false
set_option linter.unusedSimpArgs false
def hdT1 : List UInt8 := [115, 101, 114, 118, 101, 114, 32, 51, 10, 97, 110, 115, 119, 101, 114, 115]
def hdT2 : List UInt8 := [115, 101, 114, 118, 101, 114, 32, 48, 51]
def hdC1 : Cm := { Cm.of 2 with m := { Mv.z with k := 3, n := 3 } }
def hdC2 : Cm := Cm.of 4
def hdC : Cm := { Cm.of 2 with m := { Mv.z with k := 10, by' := ⟨#[97, 65, 92, 34]⟩ } }
theorem two_lines (x y : List UInt8) (hx : ∀ c ∈ x, c ≠ 10) (hy : ∀ c ∈ y, c ≠ 10) (hne : y ≠ []) (sx : silB x = false) (sy : silB y = false) (a b : List Wd) (ha : wol x = some a) (hb : wol y = some b) (lx : x.length ≤ 4096) (ly : y.length ≤ 4096) :
    wds (x ++ 10 :: y) = a ++ [eW] ++ (b ++ [eW]) ∧ longB (x ++ 10 :: y) = false := by
  have e : lns (x ++ 10 :: y) = [x ++ [10], y] := by rw [lns_line x y hx, lns_one y hy hne]
  constructor
  · unfold wds
    rw [e]
    simp only [List.map_cons, List.map_nil, List.flatMap_cons, List.flatMap_nil, List.append_nil, trimN_ln, trimN_no y hy]
    rw [sx, sy, if_neg (by simp), if_neg (by simp), ha, hb]
    rfl
  · unfold longB
    rw [e]
    simp only [List.any_cons, List.any_nil, trimN_ln, trimN_no y hy, List.length_append, List.length_cons, List.length_nil, Bool.or_false, Bool.or_eq_false_iff, decide_eq_false_iff_not]
    exact ⟨⟨by omega, by omega, by omega⟩, by simp⟩
theorem cm_ok_z (k mk n : Int) (b : ByteArray) (cn : Int) (sv : Bool) (hn : I64 n) (hc : I64 cn) : CmOk ⟨k, Wo.z, ⟨mk, n, Rq.z, Pg.z, Si.z, b⟩, cn, sv⟩ := by
  have z : I64 0 := by unfold I64; omega
  exact ⟨⟨⟨z, z, z, z, z, z⟩, ⟨z, z, z, z, z, z⟩, z, z, z, z, fun p h => absurd h (by simp [Wo.z])⟩, ⟨hn, z, ⟨z, z, z, z, z, z⟩⟩, hc⟩
theorem hd_wol1 : wol [115, 101, 114, 118, 101, 114, 32, 51] = some [bW (mvB 3), nW 3] := by
  have := wol_ltx [bW (mvB 3), nW 3] (by simp) (gd_cons (gd_tab.2 ⟨3, by decide⟩ (by decide)) (gd_cons (nW_gd 3) gd_nil))
  rwa [show ltx [bW (mvB 3), nW 3] = [115, 101, 114, 118, 101, 114, 32, 51] by decide +kernel] at this
theorem hd_wol2 : wol [97, 110, 115, 119, 101, 114, 115] = some [bW (kdB 4)] := by
  have := wol_ltx [bW (kdB 4)] (by simp) (gd_cons (gd_tab.1 ⟨4, by decide⟩ (.inr (by decide))) gd_nil)
  rwa [show ltx [bW (kdB 4)] = [97, 110, 115, 119, 101, 114, 115] by decide +kernel] at this
theorem hd_p1 : parseL hdT1 = ([hdC1, hdC2], 0) ∧ wds hdT1 = [bW (mvB 3), nW 3, eW, bW (kdB 4), eW] := by
  have h := two_lines [115, 101, 114, 118, 101, 114, 32, 51] [97, 110, 115, 119, 101, 114, 115] (by decide) (by decide) (by simp) rfl rfl _ _ hd_wol1 hd_wol2 (by simp) (by simp)
  have e : hdT1 = [115, 101, 114, 118, 101, 114, 32, 51] ++ 10 :: [97, 110, 115, 119, 101, 114, 115] := rfl
  have hw : wds hdT1 = [bW (mvB 3), nW 3, eW, bW (kdB 4), eW] := by rw [e, h.1]; rfl
  refine ⟨?_, hw⟩
  unfold parseL
  rw [hw, e, h.2, if_neg (by simp)]
  have hc := cms_hit [hdC1, hdC2] (by
    intro c hc
    simp only [List.mem_cons, List.not_mem_nil, or_false] at hc
    rcases hc with rfl | rfl
    · exact ⟨cm_ok_z 2 3 3 noS 0 false (by unfold I64; omega) (by unfold I64; omega), by decide, by decide, fun _ => ⟨by decide, by decide⟩⟩
    · exact ⟨cm_ok_z 4 0 0 noS 0 false (by unfold I64; omega) (by unfold I64; omega), by decide, by decide, fun h => absurd h (by decide)⟩)
  rw [show flW ([hdC1, hdC2].flatMap cmW) = [bW (mvB 3), nW 3, eW, bW (kdB 4), eW] from rfl] at hc
  rw [hc, if_pos rfl]
  rfl
theorem hd_p2 : parseL hdT2 = ([], 260) ∧ wds hdT2 = [bW (mvB 3), bW ⟨#[48, 51]⟩, eW] := by
  have hg : GdW (bW ⟨#[48, 51]⟩) := .inr ⟨rfl, by decide, by decide⟩
  have hw := wol_ltx [bW (mvB 3), bW ⟨#[48, 51]⟩] (by simp) (gd_cons (gd_tab.2 ⟨3, by decide⟩ (by decide)) (gd_cons hg gd_nil))
  rw [show ltx [bW (mvB 3), bW ⟨#[48, 51]⟩] = hdT2 by decide +kernel] at hw
  have h2 : wds hdT2 = [bW (mvB 3), bW ⟨#[48, 51]⟩, eW] := by rw [wds_line hdT2 (by decide) rfl, hw]; rfl
  refine ⟨?_, h2⟩
  rw [parse_line hdT2 (by decide) (by decide) rfl _ hw]
  have : (cmsL (bW (mvB 3) :: [bW ⟨#[48, 51]⟩, eW])).2 = false := by
    refine cms_no _ _ ?_
    have hx : Rd.nx ⟨bW (mvB 3) :: [bW ⟨#[48, 51]⟩, eW], false⟩ 0 = (mvB 3, ⟨[bW ⟨#[48, 51]⟩, eW], false⟩) := nx_hit 0 _ _ _
    have t := name_tab.2.2.2.2.1 ⟨3, by decide⟩ (by decide)
    rw [cm_0 _ _ _ hx t.1]
    show (Rd.mv _ _).2.el = _
    rw [mv_n _ _ 3 t.2 (by decide) (by decide) (by decide) (by decide) (by decide)]
    show (Rd.nu ⟨[bW ⟨#[48, 51]⟩, eW], false⟩).2.el = Rd.no
    unfold Rd.nu
    rw [show Rd.nx ⟨[bW ⟨#[48, 51]⟩, eW], false⟩ 0 = (⟨#[48, 51]⟩, ⟨[eW], false⟩) from nx_hit 0 _ _ _]
    simp only
    rw [num_zero [51] (by simp), if_neg (by simp), no_el]
  rw [show [bW (mvB 3), bW ⟨#[48, 51]⟩] ++ [eW] = bW (mvB 3) :: [bW ⟨#[48, 51]⟩, eW] from rfl, this, if_neg (by simp)]
theorem hd_now : NoW (wds hdT1) ∧ NoW (wds hdT2) := by
  rw [hd_p1.2, hd_p2.2]
  have t3 := (name_tab.2.2.2.2.1 ⟨3, by decide⟩ (by decide)).1
  have t4 := name_tab.2.2.2.1 ⟨4, by decide⟩ (by decide)
  have n3 : kindOf (nW 3).t = 0 := by decide +kernel
  have n03 : kindOf ⟨#[48, 51]⟩ = 0 := by decide +kernel
  constructor
  · intro x hx hk
    simp only [List.mem_cons, List.not_mem_nil, or_false] at hx
    rcases hx with rfl | rfl | rfl | rfl | rfl
    · show kindOf (mvB 3) ≠ 1; simp only at t3; rw [t3]; decide
    · rw [n3]; decide
    · cases hk
    · show kindOf (kdB 4) ≠ 1; simp only at t4; rw [t4]; decide
    · cases hk
  · intro x hx hk
    simp only [List.mem_cons, List.not_mem_nil, or_false] at hx
    rcases hx with rfl | rfl | rfl
    · show kindOf (mvB 3) ≠ 1; simp only at t3; rw [t3]; decide
    · show kindOf ⟨#[48, 51]⟩ ≠ 1; rw [n03]; decide
    · cases hk
theorem hd_pr : printL [hdC] = ([102, 111, 114, 103, 101, 32, 48, 32, 34, 97, 65, 92, 92, 92, 34, 34, 10], 0) := by
  have h : prT [hdC] = [102, 111, 114, 103, 101, 32, 48, 32, 34, 97, 65, 92, 92, 92, 34, 34, 10] := by decide +kernel
  unfold printL
  rw [show [hdC].any noneB = false by decide +kernel, if_neg (by simp), h, if_neg (by decide +kernel)]
theorem hd_ok : CmOk hdC := cm_ok_z 2 10 0 ⟨#[97, 65, 92, 34]⟩ 0 false (by unfold I64; omega) (by unfold I64; omega)
def hdF6 : Fm := ⟨6, 0, 0, ⟨#[]⟩, 0, 0, false, 0, 0, 0, []⟩
theorem hd_fr : frT hdF6 = [54, 32, 48, 32, 48] := by decide +kernel
theorem hd_fok : hdF6.Ok := by
  have z : I64 0 := by unfold I64; omega
  exact ⟨by unfold I64; decide, z, z, z, z, z, z, z, fun p h => absurd h (by simp [hdF6])⟩
end Go.Proofs.YtghppkfopglgaaaGreatDoor
namespace Go.Proofs.YtghppkfopglgaaaGreatDoor
open Go.RowKit
set_option linter.unusedVariables false
set_option linter.unusedSimpArgs false
theorem proK {g : Nat} {c : Cm} {s : CmS} {w : World} (h1 : c.k ≠ 1) (h2 : c.k = 2 → c.m.k ≠ 1 ∧ c.m.k ≠ 8) : PrOk g c s w :=
  ⟨fun a b => absurd b (h2 a).1, fun a b => absurd b (h2 a).2, fun a => absurd a h1⟩
theorem wpList_build_to {P : Program} {ops : Array Oper} {rest : List Oper} {o : Oper} {a : Act} {w : World} {Q : Exit → Act → World → Prop} (hg : o.guard = none) (t : TypeId) (parts : Array (Nat × Operand)) (ho : o.op = .build t parts) (cells : Array Value)
    (hf : P.built t (parts.map fun (i, x) => (i, a.eval x)).toList = some cells)
    (h : wpList P ops Q rest (a.put o.dst (.agg cells)) w) : wpList P ops Q (o :: rest) a w :=
  wpList_build hg t parts ho (by rw [hf]; rfl) (by rw [hf]; exact h)
theorem map_two {cs : List (Cm × CmS)} {a b : Cm} (h : cs.map (·.1) = [a, b]) : ∃ s t, cs = [(a, s), (b, t)] := by
  rcases cs with _ | ⟨⟨x, s⟩, _ | ⟨⟨y, t⟩, _ | ⟨z, r⟩⟩⟩
  · cases h
  · simp at h
  · simp only [List.map_cons, List.map_nil, List.cons.injEq, and_true] at h
    obtain ⟨rfl, rfl⟩ := h
    exact ⟨s, t, rfl⟩
  · simp at h
def mvHd : Array Value := mvA hdC.m (.slice none 0 0) (.slice none 0 0)
/-- two commands, as cells -/
theorem row_cells {W : World} {v : Value} {cs : List (Cm × CmS)} (h : R ECm W v cs) (hne : cs ≠ []) : ∃ bk cap, v = .slice (some ⟨bk, 0, none⟩) cs.length cap ∧ bk < W.heap.size ∧ ∀ i x, cs[i]? = some x → ∀ j u, (cmA x.1 x.2)[j]? = some u → W.cell? ⟨bk, i * 42 + j, none⟩ = some u := by
  rcases h.2 with ⟨rfl, hn⟩ | ⟨g, cap, cur, rfl, hbs, hgg, hn, hm, hc, hz⟩
  · exact absurd (List.eq_nil_of_length_eq_zero hn) hne
  · refine ⟨g, cap, rfl, heap_lt hgg, fun i x hi j u hu => ?_⟩
    have hcu := cur_at (cur := cur) (cs := cs) hz hi
    rw [cell_blk hgg, ← Array.getElem?_toList]
    have h1 : (cmA x.1 x.2).toList[j]? = some u := by rw [Array.getElem?_toList]; exact hu
    rw [← hcu, List.getElem?_take] at h1
    split at h1
    · rw [List.getElem?_drop] at h1; exact h1
    · cases h1
set_option maxRecDepth 100000 in
set_option maxHeartbeats 8000000 in
theorem head_any (w : World) (hE : Env w) : Calls Tryz.prog 9 #[] w fun e w' => e = .returned (.bool true) ∧ Below w.heap.size w w' := by
  have HP1 := hid (fun V (hV : Env V) => Parse_any ⟨hdT1.toArray⟩ (by decide) V hV (.inr (show NoW (wds hdT1) from hd_now.1)))
  have HP2 := hid (fun V (hV : Env V) => Parse_any ⟨hdT2.toArray⟩ (by decide) V hV (.inr (show NoW (wds hdT2) from hd_now.2)))
  simp only [show (⟨hdT1.toArray⟩ : ByteArray).data.toList = hdT1 from rfl, hd_p1.1] at HP1
  simp only [show (⟨hdT2.toArray⟩ : ByteArray).data.toList = hdT2 from rfl, hd_p2.1] at HP2
  have HPR := hid (fun (V : World) (hV : Env V) (bk : Nat) (hb : V.heap[bk]? = some (.cells (cmA hdC CmS.z) 47 (0, 0))) => Print_any (.slice (some ⟨bk, 0, none⟩) 1 1) [(hdC, CmS.z)] V hV (.inr ⟨bk, 1, _, rfl, by decide, by decide, hb, rfl⟩) (by simp) (by
    intro x hx
    rw [List.mem_singleton] at hx
    subst hx
    exact ⟨hd_ok, by decide⟩) (by
    intro x hx
    rw [List.mem_singleton] at hx
    subst hx
    intro _ _ _ _
    exact proK (by decide) (fun _ => ⟨by decide, by decide⟩)))
  simp only [List.map_cons, List.map_nil, hd_pr, show bt [102, 111, 114, 103, 101, 32, 48, 32, 34, 97, 65, 92, 92, 92, 34, 34, 10] = (⟨#[102, 111, 114, 103, 101, 32, 48, 32, 34, 97, 65, 92, 92, 92, 34, 34, 10]⟩ : ByteArray) from rfl] at HPR
  have HQ := hid (fun V => quote_any ⟨#[0]⟩ V (by decide))
  have HF := hid (fun V (hV : Env V) => frame0_any hdF6 rfl hd_fok (by decide) (by decide) (by rw [hd_fr]; decide) (.slice none 0 0) V hV (.inl ⟨⟨_, _, rfl⟩, rfl⟩))
  rw [hd_fr, show bt [54, 32, 48, 32, 48] = (⟨#[54, 32, 48, 32, 48]⟩ : ByteArray) from rfl] at HF
  rw [show bt (qtS (⟨#[0]⟩ : ByteArray).data.toList) = ⟨#[34, 92, 120, 48, 48, 34]⟩ by decide +kernel] at HQ
  have HE := hid hE
  have HEV : Hid (∀ V, Below w.heap.size w V → Env V) := hid (fun V h => hE.of h.size fun k hk => h.block k (by have := hE.sz; omega))
  clear hE
  go_enter Tryz.func9, Tryz.ntmps9
  go_wp2_with fail
  go_at_call 11
  refine (HP1.out w HE.out).mono ?_
  rintro e V1 ⟨v1, rfl, cs1, hm1, hR1, hO1, hN1, hb1⟩
  have B1 := hid hb1
  obtain ⟨s1, s2, rfl⟩ := map_two hm1
  clear hm1
  obtain ⟨bk, cap, rfl, hbk, hcell⟩ := row_cells hR1 (by simp)
  have f0 := hcell 0 (hdC1, s1) rfl 0 (.int .i64 2) rfl
  have f20 := hcell 0 (hdC1, s1) rfl 20 (.int .i64 3) rfl
  have f21 := hcell 0 (hdC1, s1) rfl 21 (.int .i64 3) rfl
  have f42 := hcell 1 (hdC2, s2) rfl 0 (.int .i64 4) rfl
  simp only [Nat.zero_mul, Nat.zero_add, Nat.one_mul, Nat.add_zero] at f0 f20 f21 f42
  have HCL : Hid (∀ V, Below V1.heap.size V1 V → V.cell? ⟨bk, 0, none⟩ = some (.int .i64 2) ∧ V.cell? ⟨bk, 20, none⟩ = some (.int .i64 3) ∧ V.cell? ⟨bk, 21, none⟩ = some (.int .i64 3) ∧ V.cell? ⟨bk, 42, none⟩ = some (.int .i64 4) ∧ bk < V.heap.size) := hid (fun V hV => by
    have hh : ∀ i, V.cell? ⟨bk, i, none⟩ = V1.cell? ⟨bk, i, none⟩ := fun i => by unfold World.cell?; simp only; rw [hV.block bk hbk]
    exact ⟨(hh 0).trans f0, (hh 20).trans f20, (hh 21).trans f21, (hh 42).trans f42, Nat.lt_of_lt_of_le hbk hV.size⟩)
  obtain ⟨V2, hV2⟩ : ∃ V2, V1.alloc (.cells (cmA hdC CmS.z) 47) = V2 := ⟨_, rfl⟩
  have bV2 : Below V1.heap.size V1 V2 := by rw [← hV2]; exact bel1 _ _
  have hq2 : V2.heap[V1.heap.size]? = some (.cells (cmA hdC CmS.z) 47 (0, 0)) := by rw [← hV2, heap_al, if_pos rfl]
  have HPR2 := hid (HPR.out V2 (HEV.out _ (hb1.trans (bV2.mono hb1.size))) V1.heap.size hq2)
  have HV2 := hid hV2
  have HB2 := hid bV2
  clear f0 f20 f21 f42 hcell hR1 hO1 hN1 hb1 hV2 bV2 hq2 HP1 HPR
  go_wp2_with (first | (refine wpList_build_to rfl 38 _ rfl mvHd (by kernel_rfl) ?_) | (refine wpList_build_to rfl 47 _ rfl (cmA hdC CmS.z) (by kernel_rfl) ?_) | (refine wpList_build_one rfl 25 47 (.tmp 13) rfl (cmA hdC CmS.z) rfl Tryz.underlying25 (by kernel_rfl) (by decide) (Nat.le_of_ble_eq_true rfl) ?_; rw [HV2.out]))
  go_at_call 12
  refine HPR2.out.mono ?_
  rintro e V3 ⟨rfl, hb3⟩
  have HB3 := hid (HB2.out.trans (hb3.mono HB2.out.size))
  clear hb3 HPR2
  go_wp2_with fail
  go_at_call 11
  refine (HP2.out V3 (HEV.out _ (B1.out.trans (HB3.out.mono B1.out.size)))).mono ?_
  rintro e V4 ⟨v4, rfl, cs4, hm4, hR4, hO4, hN4, hb4⟩
  have HB4 := hid (HB3.out.trans (hb4.mono HB3.out.size))
  obtain ⟨a4, n4, c4, rfl⟩ : ∃ a n c, v4 = .slice a n c := by
    obtain ⟨a, c, e, _⟩ := hR4.slice
    exact ⟨a, _, c, e⟩
  obtain ⟨d0, d20, d21, d42, hbk4⟩ := HCL.out V4 HB4.out
  clear hb4 hR4 hO4 hN4 hm4 HP2
  go_wp2_with fail
  go_at_call 10
  refine (HQ.out V4).mono ?_
  rintro e V5 ⟨rfl, hb5⟩
  have HB5 := hid (HB4.out.trans (hb5.mono HB4.out.size))
  clear hb5
  go_wp2_with (refine wpList_build_to rfl 55 _ rfl (fmA hdF6 (.slice none 0 0)) (by kernel_rfl) ?_)
  go_at_call 13
  refine (HF.out V5 (HEV.out _ (B1.out.trans (HB5.out.mono B1.out.size)))).mono ?_
  rintro e V6 ⟨rfl, hb6⟩
  have HB6 := hid (HB5.out.trans (hb6.mono HB5.out.size))
  clear hb6
  go_wp2_with fail
  go_ret
  exact ⟨rfl, B1.out.trans (HB6.out.mono B1.out.size)⟩
end Go.Proofs.YtghppkfopglgaaaGreatDoor
namespace Go.Proofs.YtghppkfopglgaaaGreatDoor
open Go.RowKit
set_option linter.unusedVariables false
set_option linter.unusedSimpArgs false
theorem part_get {cs vs : Array Value} {off : Nat} (hp : (cs.toList.drop off).take vs.toList.length = vs.toList) (j : Nat) (u : Value) (h : vs[j]? = some u) : cs[off + j]? = some u := by
  rw [← Array.getElem?_toList, ← hp, List.getElem?_take] at h
  split at h
  · rw [List.getElem?_drop] at h; rw [← Array.getElem?_toList]; exact h
  · cases h
theorem run_loadVar_cells {P : Program} (w : World) (g off : Nat) (ty : TypeId) (vs : Array Value) (d : TypeDesc) (hc : ∀ j u, vs[j]? = some u → w.cell? ⟨g, off + j, none⟩ = some u)
    (hu : P.underlying ty = some d) (hd : (match d with | .struct _ | .array _ _ => true | _ => false) = true) (hi : (P.info? ty).map (·.size) = some vs.size) :
    (loadVar ty ⟨g, off, none⟩).run P w = .ok (.agg vs) w := by
  have hl : (loadCells ⟨g, off, none⟩ vs.toList.length).run P w = .ok vs.toList.toArray w :=
    run_loadCells_list (P := P) w ⟨g, off, none⟩ vs.toList (fun j v hv => by
      rw [Addr.add_lit]
      exact hc j v (by rw [← Array.getElem?_toList]; exact hv))
  cases hq : P.info? ty with
  | none => simp [hq] at hi
  | some i =>
    have hs : i.size = vs.size := by simpa [hq] using hi
    have hagg : (isAgg ty).run P w = .ok true w := by
      unfold isAgg
      rw [Sem.run_bind, run_underlying hu w]
      cases d <;> simp_all
    simp only [Array.length_toList, Array.toArray_toList] at hl
    simp [loadVar, Sem.run_bind, hagg, sizeOf, typeInfo, hq, hs, hl]
theorem exec_load_cells {P : Program} {o : Oper} {ev : Operand → Value} {w : World} (ty : TypeId) (x : Operand) (ho : o.op = .load ty x) (g off : Nat) (vs : Array Value) (hx : ev x = .pointer (some ⟨g, off, none⟩)) (d : TypeDesc)
    (hc : ∀ j u, vs[j]? = some u → w.cell? ⟨g, off + j, none⟩ = some u)
    (hu : P.underlying ty = some d) (hd : (match d with | .struct _ | .array _ _ => true | _ => false) = true) (hi : (P.info? ty).map (·.size) = some vs.size) :
    (execOp ev o).run P w = .ok (.value (.agg vs)) w := by
  unfold execOp
  simp only [ho, hx, Instr.loadAt, Instr.sureAddr, Sem.run_bind, Sem.run_pure, Result.andThen_ok, run_loadVar_cells w g off ty vs d hc hu hd hi]
/-- a command's rows, xs they can be read -/
structure CmRd (W : World) (x : Cm × CmS) : Prop where
  wo : WoRd W x.1.w x.2.sp x.2.su x.2.so
  fd : In EFd W x.2.sf.v x.1.m.rq.fs
  ch : In ECh W x.2.sc.v x.1.m.pg.ch
theorem CmRd.below {W W' : World} {x : Cm × CmS} (h : CmRd W x) (hb : Below W.heap.size W W') : CmRd W' x := ⟨h.wo.below hb, h.fd.below hb, h.ch.below hb⟩
theorem CmN.read {W : World} {B : Nat} {x : Cm × CmS} (h : CmN W B x) : CmRd W x := ⟨h.wo.read, h.fd.isIn, h.ch.isIn⟩
theorem ite_take2 {P Q R : Prop} [Decidable P] (h : P) (hq : Q) : if P then Q else R := by rw [if_pos h]; exact hq
theorem R.at42 {W V : World} {b : Option Addr} {n c : Nat} {l : List (Cm × CmS)} (h : R ECm W (.slice b n c) l) (hV : Below W.heap.size W V) (k : Nat) (hk : k < l.length) : ∃ B, b = some ⟨B, 0, none⟩ ∧ B < V.heap.size ∧ ∀ j u, (cmA (l[k]'hk).1 (l[k]'hk).2)[j]? = some u → V.cell? ⟨B, k * 42 + j, none⟩ = some u := by
  obtain ⟨bk, cap, e, hb, hc⟩ := row_cells h (by rintro rfl; exact absurd hk (by simp))
  injection e with e _ _
  refine ⟨bk, e, Nat.lt_of_lt_of_le hb hV.size, fun j u hu => cell_below hV (hc k _ (List.getElem?_eq_getElem hk) j u hu)⟩
set_option maxRecDepth 100000 in
set_option maxHeartbeats 32000000 in
theorem same_any (va vb : Value) (xs ys : List (Cm × CmS)) (w : World) (heq : xs.map (·.1) = ys.map (·.1)) (hA : R ECm w va xs) (hB : R ECm w vb ys) (nA : ∀ q ∈ xs, CmRd w q) (nB : ∀ q ∈ ys, CmRd w q) : Calls Tryz.prog 15 #[va, vb] w fun e w' => e = .returned (.bool true) ∧ Below w.heap.size w w' := by
  obtain ⟨ba, ca, rfl, q1, q2⟩ := hA.slice
  obtain ⟨bb, cb, rfl, q3, q4⟩ := hB.slice
  have hl : xs.length = ys.length := by have := congrArg List.length heq; simpa using this
  rw [← hl] at hB ⊢
  obtain ⟨n, hn⟩ : ∃ n, xs.length = n := ⟨_, rfl⟩
  rw [hn] at hA hB ⊢
  have hn9 : n ≤ 9223372036854775807 := by omega
  have HN : Hid (n = xs.length ∧ n = ys.length) := hid ⟨hn.symm, by omega⟩
  have HA := hid hA
  have HB := hid hB
  have HNA := hid nA
  have HNB := hid nB
  have HEQ : Hid (∀ k (h1 : k < xs.length) (h2 : k < ys.length), (xs[k]'h1).1 = (ys[k]'h2).1) := hid (fun k h1 h2 => fst_at heq k h1 h2)
  clear hl hn heq hA hB nA nB q1 q2 q3 q4
  go_enter Tryz.func15, Tryz.ntmps15
  go_wp2_with fail
  go_loopw [5] (fun iv wr => ∃ k : Nat, iv = .int .i64 (k : Int) ∧ k ≤ n ∧ Hid (Below w.heap.size w wr)) (fun iv _ => n - (intOf iv).toNat)
  case atStart => exact ⟨0, rfl, Nat.zero_le _, hid (Below.refl _ _)⟩
  case round =>
    obtain ⟨k, rfl, hk, HJ⟩ := hrel
    by_cases hlt : k < n
    · have hltI : (k : Int) < (n : Int) := by omega
      have hk1 : k < xs.length := by have := HN.out.1; omega
      have hk2 : k < ys.length := by have := HN.out.2; omega
      obtain ⟨B1, rfl, hB1, hc1⟩ := HA.out.at42 HJ.out k hk1
      obtain ⟨B2, rfl, hB2, hc2⟩ := HB.out.at42 HJ.out k hk2
      have hn1 := (HNA.out (xs[k]'hk1) (List.getElem_mem _)).below HJ.out
      have hn2 := (HNB.out (ys[k]'hk2) (List.getElem_mem _)).below HJ.out
      have hff := HEQ.out k hk1 hk2
      obtain ⟨⟨x, s⟩, hx1⟩ : ∃ x, xs[k]'hk1 = x := ⟨_, rfl⟩
      obtain ⟨⟨y, t⟩, hx2⟩ : ∃ x, ys[k]'hk2 = x := ⟨_, rfl⟩
      rw [hx1] at hc1 hn1 hff
      rw [hx2] at hc2 hn2 hff
      simp only at hc1 hc2 hn1 hn2 hff
      subst hff
      have HC1 := hid hc1
      have HC2 := hid hc2
      have u0 := hc1 0 (.int .i64 x.k) rfl
      have v0 := hc2 0 (.int .i64 x.k) rfl
      have u1 := hc1 40 (.int .i64 x.n) rfl
      have v1 := hc2 40 (.int .i64 x.n) rfl
      have u2 := hc1 41 (.bool x.sv) rfl
      have v2 := hc2 41 (.bool x.sv) rfl
      simp only [Nat.add_zero] at u0 v0
      have HW1 : Hid (∀ V, Below wr.heap.size wr V → ∀ j u, (woA x.w s.sp s.su s.so)[j]? = some u → V.cell? ⟨B1, k * 42 + 1 + j, none⟩ = some u) := hid (fun V hV j u hu => cell_below hV (by rw [Nat.add_assoc]; exact HC1.out _ u (part_get (cs := cmA x s) (off := 1) rfl j u hu)))
      have HW2 : Hid (∀ V, Below wr.heap.size wr V → ∀ j u, (woA x.w t.sp t.su t.so)[j]? = some u → V.cell? ⟨B2, k * 42 + 1 + j, none⟩ = some u) := hid (fun V hV j u hu => cell_below hV (by rw [Nat.add_assoc]; exact HC2.out _ u (part_get (cs := cmA x t) (off := 1) rfl j u hu)))
      have HM1 : Hid (∀ V, Below wr.heap.size wr V → ∀ j u, (mvA x.m s.sf.v s.sc.v)[j]? = some u → V.cell? ⟨B1, k * 42 + 20 + j, none⟩ = some u) := hid (fun V hV j u hu => cell_below hV (by rw [Nat.add_assoc]; exact HC1.out _ u (part_get (cs := cmA x s) (off := 20) rfl j u hu)))
      have HM2 : Hid (∀ V, Below wr.heap.size wr V → ∀ j u, (mvA x.m t.sf.v t.sc.v)[j]? = some u → V.cell? ⟨B2, k * 42 + 20 + j, none⟩ = some u) := hid (fun V hV j u hu => cell_below hV (by rw [Nat.add_assoc]; exact HC2.out _ u (part_get (cs := cmA x t) (off := 20) rfl j u hu)))
      have HSW : Hid (∀ V, Below wr.heap.size wr V → Calls Tryz.prog 36 #[.agg (woA x.w s.sp s.su s.so), .agg (woA x.w t.sp t.su t.so)] V fun e w' => e = .returned (.bool true) ∧ Below V.heap.size V w') := hid (fun V hV => sameWorld_any x.w s.sp s.su s.so t.sp t.su t.so V (hn1.wo.below hV) (hn2.wo.below hV))
      have HSM : Hid (∀ V, Below wr.heap.size wr V → Calls Tryz.prog 37 #[.agg (mvA x.m s.sf.v s.sc.v), .agg (mvA x.m t.sf.v t.sc.v)] V fun e w' => e = .returned (.bool true) ∧ Below V.heap.size V w') := hid (fun V hV => sameMove_any x.m s.sf s.sc t.sf t.sc V (hn1.fd.below hV) (hn2.fd.below hV) (hn1.ch.below hV) (hn2.ch.below hV))
      clear hc1 hc2 hx1 hx2 hn1 hn2
      have HCP : Hid (∀ V, Below wr.heap.size wr V → (fun W => W.cell? ⟨B1, k * 42, none⟩ = some (.int .i64 x.k) ∧ W.cell? ⟨B2, k * 42, none⟩ = some (.int .i64 x.k) ∧ W.cell? ⟨B1, k * 42 + 40, none⟩ = some (.int .i64 x.n) ∧ W.cell? ⟨B2, k * 42 + 40, none⟩ = some (.int .i64 x.n) ∧ W.cell? ⟨B1, k * 42 + 41, none⟩ = some (.bool x.sv) ∧ W.cell? ⟨B2, k * 42 + 41, none⟩ = some (.bool x.sv) ∧ Hid (Below wr.heap.size wr W)) V) := hid (fun V h => ⟨cell_below h u0, cell_below h v0, cell_below h u1, cell_below h v1, cell_below h u2, cell_below h v2, hid h⟩)
      go_upto_region 6 with fail
      clear u0 u1 u2 v0 v1 v2
      have kW : Below wr.heap.size wr wr.drew := (Below.refl _ _).drew
      refine wp_region_held_drew (S := (fun W => W.cell? ⟨B1, k * 42, none⟩ = some (.int .i64 x.k) ∧ W.cell? ⟨B2, k * 42, none⟩ = some (.int .i64 x.k) ∧ W.cell? ⟨B1, k * 42 + 40, none⟩ = some (.int .i64 x.n) ∧ W.cell? ⟨B2, k * 42 + 40, none⟩ = some (.int .i64 x.n) ∧ W.cell? ⟨B1, k * 42 + 41, none⟩ = some (.bool x.sv) ∧ W.cell? ⟨B2, k * 42 + 41, none⟩ = some (.bool x.sv) ∧ Hid (Below wr.heap.size wr W))) (by kernel_rfl) (HCP.out _ kW) (fun hHeld => ?_)
      generalize World.drew _ = W at kW hHeld ⊢
      refine wpAnyH_take (i := 0) (oi := { dst := some 17, op := Op.move (Operand.tmp 0), type := 25, pos := "law.go:37", after := #[], guard := none }) (v := ?vv1) rfl (by kernel_rfl) (by kernel_rfl) (by kernel_rfl) (fun _ _ _ h => h) (Or.inl ⟨by rfl, ?hy1⟩) (by assumption) ?_
      case hy1 => (intro w hSw; (try dsimp only at hSw); go_simp; all_goals with_reducible rfl)
      try simp only [Act.put, List.setIfInBounds_toArray, List.set_cons_zero, List.set_cons_succ]
      refine wpAnyH_take (i := 1) (oi := { dst := some 18, op := Op.move (Operand.tmp 5), type := 3, pos := "law.go:37", after := #[], guard := none }) (v := ?vv2) rfl (by kernel_rfl) (by kernel_rfl) (by kernel_rfl) (fun _ _ _ h => h) (Or.inl ⟨by rfl, ?hy2⟩) (by assumption) ?_
      case hy2 => (intro w hSw; (try dsimp only at hSw); go_simp; all_goals with_reducible rfl)
      try simp only [Act.put, List.setIfInBounds_toArray, List.set_cons_zero, List.set_cons_succ]
      refine wpAnyH_take (i := 2) (oi := { dst := some 19, op := Op.indexAddr 25 (Operand.tmp 17) (Operand.tmp 18), type := 0, pos := "law.go:37", after := #[{ on := 0, ground := Ground.data }, { on := 1, ground := Ground.data }], guard := none }) (v := ?vv3) rfl (by kernel_rfl) (by kernel_rfl) (by kernel_rfl) (fun _ _ _ h => h) (Or.inl ⟨by rfl, ?hy3⟩) (by assumption) ?_
      case hy3 => (intro w hSw; (try dsimp only at hSw); go_simp; all_goals with_reducible rfl)
      try simp only [Act.put, List.setIfInBounds_toArray, List.set_cons_zero, List.set_cons_succ]
      refine wpAnyH_take (i := 3) (oi := { dst := some 20, op := Op.fieldAddr 47 (Operand.tmp 19) 0, type := 0, pos := "law.go:37", after := #[{ on := 2, ground := Ground.data }], guard := none }) (v := ?vv4) rfl (by kernel_rfl) (by kernel_rfl) (by kernel_rfl) (fun _ _ _ h => h) (Or.inl ⟨by rfl, ?hy4⟩) (by assumption) ?_
      case hy4 => (intro w hSw; (try dsimp only at hSw); go_simp; all_goals with_reducible rfl)
      try simp only [Act.put, List.setIfInBounds_toArray, List.set_cons_zero, List.set_cons_succ]
      refine wpAnyH_take (i := 4) (oi := { dst := some 21, op := Op.load 3 (Operand.tmp 20), type := 3, pos := "law.go:37", after := #[{ on := 3, ground := Ground.data }], guard := none }) (v := ?vv5) rfl (by kernel_rfl) (by kernel_rfl) (by kernel_rfl) (fun _ _ _ h => h) (Or.inl ⟨by rfl, ?hy5⟩) (by assumption) ?_
      case hy5 => (intro w hSw; (try dsimp only at hSw); go_simp; all_goals with_reducible rfl)
      try simp only [Act.put, List.setIfInBounds_toArray, List.set_cons_zero, List.set_cons_succ]
      refine wpAnyH_take (i := 5) (oi := { dst := some 22, op := Op.move (Operand.tmp 1), type := 25, pos := "law.go:37", after := #[], guard := none }) (v := ?vv6) rfl (by kernel_rfl) (by kernel_rfl) (by kernel_rfl) (fun _ _ _ h => h) (Or.inl ⟨by rfl, ?hy6⟩) (by assumption) ?_
      case hy6 => (intro w hSw; (try dsimp only at hSw); go_simp; all_goals with_reducible rfl)
      try simp only [Act.put, List.setIfInBounds_toArray, List.set_cons_zero, List.set_cons_succ]
      refine wpAnyH_take (i := 6) (oi := { dst := some 23, op := Op.move (Operand.tmp 5), type := 3, pos := "law.go:37", after := #[], guard := none }) (v := ?vv7) rfl (by kernel_rfl) (by kernel_rfl) (by kernel_rfl) (fun _ _ _ h => h) (Or.inl ⟨by rfl, ?hy7⟩) (by assumption) ?_
      case hy7 => (intro w hSw; (try dsimp only at hSw); go_simp; all_goals with_reducible rfl)
      try simp only [Act.put, List.setIfInBounds_toArray, List.set_cons_zero, List.set_cons_succ]
      refine wpAnyH_take (i := 7) (oi := { dst := some 24, op := Op.indexAddr 25 (Operand.tmp 22) (Operand.tmp 23), type := 0, pos := "law.go:37", after := #[{ on := 5, ground := Ground.data }, { on := 6, ground := Ground.data }], guard := none }) (v := ?vv8) rfl (by kernel_rfl) (by kernel_rfl) (by kernel_rfl) (fun _ _ _ h => h) (Or.inl ⟨by rfl, ?hy8⟩) (by assumption) ?_
      case hy8 => (intro w hSw; (try dsimp only at hSw); go_simp; all_goals with_reducible rfl)
      try simp only [Act.put, List.setIfInBounds_toArray, List.set_cons_zero, List.set_cons_succ]
      refine wpAnyH_take (i := 8) (oi := { dst := some 25, op := Op.fieldAddr 47 (Operand.tmp 24) 0, type := 0, pos := "law.go:37", after := #[{ on := 7, ground := Ground.data }], guard := none }) (v := ?vv9) rfl (by kernel_rfl) (by kernel_rfl) (by kernel_rfl) (fun _ _ _ h => h) (Or.inl ⟨by rfl, ?hy9⟩) (by assumption) ?_
      case hy9 => (intro w hSw; (try dsimp only at hSw); go_simp; all_goals with_reducible rfl)
      try simp only [Act.put, List.setIfInBounds_toArray, List.set_cons_zero, List.set_cons_succ]
      refine wpAnyH_take (i := 9) (oi := { dst := some 26, op := Op.load 3 (Operand.tmp 25), type := 3, pos := "law.go:37", after := #[{ on := 8, ground := Ground.data }], guard := none }) (v := ?vv10) rfl (by kernel_rfl) (by kernel_rfl) (by kernel_rfl) (fun _ _ _ h => h) (Or.inl ⟨by rfl, ?hy10⟩) (by assumption) ?_
      case hy10 => (intro w hSw; (try dsimp only at hSw); go_simp; all_goals with_reducible rfl)
      try simp only [Act.put, List.setIfInBounds_toArray, List.set_cons_zero, List.set_cons_succ]
      refine wpAnyH_take (i := 10) (oi := { dst := some 27, op := Op.binOp BinOp.neq 3 (Operand.tmp 21) (Operand.tmp 26) 3, type := 4, pos := "law.go:37", after := #[{ on := 4, ground := Ground.data }, { on := 9, ground := Ground.data }], guard := none }) (v := ?vv11) rfl (by kernel_rfl) (by kernel_rfl) (by kernel_rfl) (fun _ _ _ h => h) (Or.inl ⟨by rfl, ?hy11⟩) (by assumption) ?_
      case hy11 => (intro w hSw; (try dsimp only at hSw); go_simp; all_goals with_reducible rfl)
      try simp only [Act.put, List.setIfInBounds_toArray, List.set_cons_zero, List.set_cons_succ]
      refine wpAnyH_take (i := 11) (oi := { dst := some 28, op := Op.move (Operand.tmp 27), type := 4, pos := "law.go:37", after := #[{ on := 10, ground := Ground.data }], guard := none }) (v := ?vv12) rfl (by kernel_rfl) (by kernel_rfl) (by kernel_rfl) (fun _ _ _ h => h) (Or.inl ⟨by rfl, ?hy12⟩) (by assumption) ?_
      case hy12 => (intro w hSw; (try dsimp only at hSw); go_simp; all_goals with_reducible rfl)
      try simp only [Act.put, List.setIfInBounds_toArray, List.set_cons_zero, List.set_cons_succ]
      refine wpAnyH_take (i := 12) (oi := { dst := some 29, op := Op.move (Operand.tmp 0), type := 25, pos := "law.go:37", after := #[{ on := 11, ground := Ground.guard }], guard := some (11, false) }) (v := ?vv13) rfl (by kernel_rfl) (by kernel_rfl) (by kernel_rfl) (fun _ _ _ h => h) (Or.inl ⟨by rfl, ?hy13⟩) (by assumption) ?_
      case hy13 => (intro w hSw; (try dsimp only at hSw); go_simp; all_goals with_reducible rfl)
      try simp only [Act.put, List.setIfInBounds_toArray, List.set_cons_zero, List.set_cons_succ]
      refine wpAnyH_take (i := 13) (oi := { dst := some 30, op := Op.move (Operand.tmp 5), type := 3, pos := "law.go:37", after := #[{ on := 11, ground := Ground.guard }], guard := some (11, false) }) (v := ?vv14) rfl (by kernel_rfl) (by kernel_rfl) (by kernel_rfl) (fun _ _ _ h => h) (Or.inl ⟨by rfl, ?hy14⟩) (by assumption) ?_
      case hy14 => (intro w hSw; (try dsimp only at hSw); go_simp; all_goals with_reducible rfl)
      try simp only [Act.put, List.setIfInBounds_toArray, List.set_cons_zero, List.set_cons_succ]
      refine wpAnyH_take (i := 14) (oi := { dst := some 31, op := Op.indexAddr 25 (Operand.tmp 29) (Operand.tmp 30), type := 0, pos := "law.go:37", after := #[{ on := 12, ground := Ground.data }, { on := 13, ground := Ground.data }, { on := 11, ground := Ground.guard }], guard := some (11, false) }) (v := ?vv15) rfl (by kernel_rfl) (by kernel_rfl) (by kernel_rfl) (fun _ _ _ h => h) (Or.inl ⟨by rfl, ?hy15⟩) (by assumption) ?_
      case hy15 => (intro w hSw; (try dsimp only at hSw); go_simp; all_goals with_reducible rfl)
      try simp only [Act.put, List.setIfInBounds_toArray, List.set_cons_zero, List.set_cons_succ]
      refine wpAnyH_take (i := 15) (oi := { dst := some 32, op := Op.fieldAddr 47 (Operand.tmp 31) 3, type := 0, pos := "law.go:37", after := #[{ on := 14, ground := Ground.data }, { on := 11, ground := Ground.guard }], guard := some (11, false) }) (v := ?vv16) rfl (by kernel_rfl) (by kernel_rfl) (by kernel_rfl) (fun _ _ _ h => h) (Or.inl ⟨by rfl, ?hy16⟩) (by assumption) ?_
      case hy16 => (intro w hSw; (try dsimp only at hSw); go_simp; all_goals with_reducible rfl)
      try simp only [Act.put, List.setIfInBounds_toArray, List.set_cons_zero, List.set_cons_succ]
      refine wpAnyH_take (i := 16) (oi := { dst := some 33, op := Op.load 2 (Operand.tmp 32), type := 2, pos := "law.go:37", after := #[{ on := 15, ground := Ground.data }, { on := 11, ground := Ground.guard }], guard := some (11, false) }) (v := ?vv17) rfl (by kernel_rfl) (by kernel_rfl) (by kernel_rfl) (fun _ _ _ h => h) (Or.inl ⟨by rfl, ?hy17⟩) (by assumption) ?_
      case hy17 => (intro w hSw; (try dsimp only at hSw); go_simp; all_goals with_reducible rfl)
      try simp only [Act.put, List.setIfInBounds_toArray, List.set_cons_zero, List.set_cons_succ]
      refine wpAnyH_take (i := 17) (oi := { dst := some 34, op := Op.move (Operand.tmp 1), type := 25, pos := "law.go:37", after := #[{ on := 11, ground := Ground.guard }], guard := some (11, false) }) (v := ?vv18) rfl (by kernel_rfl) (by kernel_rfl) (by kernel_rfl) (fun _ _ _ h => h) (Or.inl ⟨by rfl, ?hy18⟩) (by assumption) ?_
      case hy18 => (intro w hSw; (try dsimp only at hSw); go_simp; all_goals with_reducible rfl)
      try simp only [Act.put, List.setIfInBounds_toArray, List.set_cons_zero, List.set_cons_succ]
      refine wpAnyH_take (i := 18) (oi := { dst := some 35, op := Op.move (Operand.tmp 5), type := 3, pos := "law.go:37", after := #[{ on := 11, ground := Ground.guard }], guard := some (11, false) }) (v := ?vv19) rfl (by kernel_rfl) (by kernel_rfl) (by kernel_rfl) (fun _ _ _ h => h) (Or.inl ⟨by rfl, ?hy19⟩) (by assumption) ?_
      case hy19 => (intro w hSw; (try dsimp only at hSw); go_simp; all_goals with_reducible rfl)
      try simp only [Act.put, List.setIfInBounds_toArray, List.set_cons_zero, List.set_cons_succ]
      refine wpAnyH_take (i := 19) (oi := { dst := some 36, op := Op.indexAddr 25 (Operand.tmp 34) (Operand.tmp 35), type := 0, pos := "law.go:37", after := #[{ on := 17, ground := Ground.data }, { on := 18, ground := Ground.data }, { on := 11, ground := Ground.guard }], guard := some (11, false) }) (v := ?vv20) rfl (by kernel_rfl) (by kernel_rfl) (by kernel_rfl) (fun _ _ _ h => h) (Or.inl ⟨by rfl, ?hy20⟩) (by assumption) ?_
      case hy20 => (intro w hSw; (try dsimp only at hSw); go_simp; all_goals with_reducible rfl)
      try simp only [Act.put, List.setIfInBounds_toArray, List.set_cons_zero, List.set_cons_succ]
      refine wpAnyH_take (i := 20) (oi := { dst := some 37, op := Op.fieldAddr 47 (Operand.tmp 36) 3, type := 0, pos := "law.go:37", after := #[{ on := 19, ground := Ground.data }, { on := 11, ground := Ground.guard }], guard := some (11, false) }) (v := ?vv21) rfl (by kernel_rfl) (by kernel_rfl) (by kernel_rfl) (fun _ _ _ h => h) (Or.inl ⟨by rfl, ?hy21⟩) (by assumption) ?_
      case hy21 => (intro w hSw; (try dsimp only at hSw); go_simp; all_goals with_reducible rfl)
      try simp only [Act.put, List.setIfInBounds_toArray, List.set_cons_zero, List.set_cons_succ]
      refine wpAnyH_take (i := 21) (oi := { dst := some 38, op := Op.load 2 (Operand.tmp 37), type := 2, pos := "law.go:37", after := #[{ on := 20, ground := Ground.data }, { on := 11, ground := Ground.guard }], guard := some (11, false) }) (v := ?vv22) rfl (by kernel_rfl) (by kernel_rfl) (by kernel_rfl) (fun _ _ _ h => h) (Or.inl ⟨by rfl, ?hy22⟩) (by assumption) ?_
      case hy22 => (intro w hSw; (try dsimp only at hSw); go_simp; all_goals with_reducible rfl)
      try simp only [Act.put, List.setIfInBounds_toArray, List.set_cons_zero, List.set_cons_succ]
      refine wpAnyH_take (i := 22) (oi := { dst := some 39, op := Op.binOp BinOp.neq 2 (Operand.tmp 33) (Operand.tmp 38) 2, type := 4, pos := "law.go:37", after := #[{ on := 16, ground := Ground.data }, { on := 21, ground := Ground.data }, { on := 11, ground := Ground.guard }], guard := some (11, false) }) (v := ?vv23) rfl (by kernel_rfl) (by kernel_rfl) (by kernel_rfl) (fun _ _ _ h => h) (Or.inl ⟨by rfl, ?hy23⟩) (by assumption) ?_
      case hy23 => (intro w hSw; (try dsimp only at hSw); go_simp; all_goals with_reducible rfl)
      try simp only [Act.put, List.setIfInBounds_toArray, List.set_cons_zero, List.set_cons_succ]
      refine wpAnyH_take (i := 23) (oi := { dst := some 40, op := Op.pick (Operand.tmp 28) (Operand.const (Value.bool true)) (Operand.tmp 39), type := 4, pos := "law.go:37", after := #[{ on := 11, ground := Ground.data }, { on := 22, ground := Ground.data }], guard := none }) (v := ?vv24) rfl (by kernel_rfl) (by kernel_rfl) (by kernel_rfl) (fun _ _ _ h => h) (Or.inl ⟨by rfl, ?hy24⟩) (by assumption) ?_
      case hy24 => (intro w hSw; (try dsimp only at hSw); go_simp; all_goals with_reducible rfl)
      try simp only [Act.put, List.setIfInBounds_toArray, List.set_cons_zero, List.set_cons_succ]
      refine wpAnyH_take (i := 24) (oi := { dst := some 41, op := Op.move (Operand.tmp 40), type := 4, pos := "law.go:37", after := #[{ on := 23, ground := Ground.data }, { on := 11, ground := Ground.chain }], guard := none }) (v := ?vv25) rfl (by kernel_rfl) (by kernel_rfl) (by kernel_rfl) (fun _ _ _ h => h) (Or.inl ⟨by rfl, ?hy25⟩) (by assumption) ?_
      case hy25 => (intro w hSw; (try dsimp only at hSw); go_simp; all_goals with_reducible rfl)
      try simp only [Act.put, List.setIfInBounds_toArray, List.set_cons_zero, List.set_cons_succ]
      refine wpAnyH_take (i := 25) (oi := { dst := some 42, op := Op.move (Operand.tmp 0), type := 25, pos := "law.go:37", after := #[{ on := 24, ground := Ground.guard }], guard := some (24, false) }) (v := ?vv26) rfl (by kernel_rfl) (by kernel_rfl) (by kernel_rfl) (fun _ _ _ h => h) (Or.inl ⟨by rfl, ?hy26⟩) (by assumption) ?_
      case hy26 => (intro w hSw; (try dsimp only at hSw); go_simp; all_goals with_reducible rfl)
      try simp only [Act.put, List.setIfInBounds_toArray, List.set_cons_zero, List.set_cons_succ]
      refine wpAnyH_take (i := 26) (oi := { dst := some 43, op := Op.move (Operand.tmp 5), type := 3, pos := "law.go:37", after := #[{ on := 24, ground := Ground.guard }], guard := some (24, false) }) (v := ?vv27) rfl (by kernel_rfl) (by kernel_rfl) (by kernel_rfl) (fun _ _ _ h => h) (Or.inl ⟨by rfl, ?hy27⟩) (by assumption) ?_
      case hy27 => (intro w hSw; (try dsimp only at hSw); go_simp; all_goals with_reducible rfl)
      try simp only [Act.put, List.setIfInBounds_toArray, List.set_cons_zero, List.set_cons_succ]
      refine wpAnyH_take (i := 27) (oi := { dst := some 44, op := Op.indexAddr 25 (Operand.tmp 42) (Operand.tmp 43), type := 0, pos := "law.go:37", after := #[{ on := 25, ground := Ground.data }, { on := 26, ground := Ground.data }, { on := 24, ground := Ground.guard }], guard := some (24, false) }) (v := ?vv28) rfl (by kernel_rfl) (by kernel_rfl) (by kernel_rfl) (fun _ _ _ h => h) (Or.inl ⟨by rfl, ?hy28⟩) (by assumption) ?_
      case hy28 => (intro w hSw; (try dsimp only at hSw); go_simp; all_goals with_reducible rfl)
      try simp only [Act.put, List.setIfInBounds_toArray, List.set_cons_zero, List.set_cons_succ]
      refine wpAnyH_take (i := 28) (oi := { dst := some 45, op := Op.fieldAddr 47 (Operand.tmp 44) 4, type := 0, pos := "law.go:37", after := #[{ on := 27, ground := Ground.data }, { on := 24, ground := Ground.guard }], guard := some (24, false) }) (v := ?vv29) rfl (by kernel_rfl) (by kernel_rfl) (by kernel_rfl) (fun _ _ _ h => h) (Or.inl ⟨by rfl, ?hy29⟩) (by assumption) ?_
      case hy29 => (intro w hSw; (try dsimp only at hSw); go_simp; all_goals with_reducible rfl)
      try simp only [Act.put, List.setIfInBounds_toArray, List.set_cons_zero, List.set_cons_succ]
      refine wpAnyH_take (i := 29) (oi := { dst := some 46, op := Op.load 4 (Operand.tmp 45), type := 4, pos := "law.go:37", after := #[{ on := 28, ground := Ground.data }, { on := 24, ground := Ground.guard }], guard := some (24, false) }) (v := ?vv30) rfl (by kernel_rfl) (by kernel_rfl) (by kernel_rfl) (fun _ _ _ h => h) (Or.inl ⟨by rfl, ?hy30⟩) (by assumption) ?_
      case hy30 => (intro w hSw; (try dsimp only at hSw); go_simp; all_goals with_reducible rfl)
      try simp only [Act.put, List.setIfInBounds_toArray, List.set_cons_zero, List.set_cons_succ]
      refine wpAnyH_take (i := 30) (oi := { dst := some 47, op := Op.move (Operand.tmp 1), type := 25, pos := "law.go:37", after := #[{ on := 24, ground := Ground.guard }], guard := some (24, false) }) (v := ?vv31) rfl (by kernel_rfl) (by kernel_rfl) (by kernel_rfl) (fun _ _ _ h => h) (Or.inl ⟨by rfl, ?hy31⟩) (by assumption) ?_
      case hy31 => (intro w hSw; (try dsimp only at hSw); go_simp; all_goals with_reducible rfl)
      try simp only [Act.put, List.setIfInBounds_toArray, List.set_cons_zero, List.set_cons_succ]
      refine wpAnyH_take (i := 31) (oi := { dst := some 48, op := Op.move (Operand.tmp 5), type := 3, pos := "law.go:37", after := #[{ on := 24, ground := Ground.guard }], guard := some (24, false) }) (v := ?vv32) rfl (by kernel_rfl) (by kernel_rfl) (by kernel_rfl) (fun _ _ _ h => h) (Or.inl ⟨by rfl, ?hy32⟩) (by assumption) ?_
      case hy32 => (intro w hSw; (try dsimp only at hSw); go_simp; all_goals with_reducible rfl)
      try simp only [Act.put, List.setIfInBounds_toArray, List.set_cons_zero, List.set_cons_succ]
      refine wpAnyH_take (i := 32) (oi := { dst := some 49, op := Op.indexAddr 25 (Operand.tmp 47) (Operand.tmp 48), type := 0, pos := "law.go:37", after := #[{ on := 30, ground := Ground.data }, { on := 31, ground := Ground.data }, { on := 24, ground := Ground.guard }], guard := some (24, false) }) (v := ?vv33) rfl (by kernel_rfl) (by kernel_rfl) (by kernel_rfl) (fun _ _ _ h => h) (Or.inl ⟨by rfl, ?hy33⟩) (by assumption) ?_
      case hy33 => (intro w hSw; (try dsimp only at hSw); go_simp; all_goals with_reducible rfl)
      try simp only [Act.put, List.setIfInBounds_toArray, List.set_cons_zero, List.set_cons_succ]
      refine wpAnyH_take (i := 33) (oi := { dst := some 50, op := Op.fieldAddr 47 (Operand.tmp 49) 4, type := 0, pos := "law.go:37", after := #[{ on := 32, ground := Ground.data }, { on := 24, ground := Ground.guard }], guard := some (24, false) }) (v := ?vv34) rfl (by kernel_rfl) (by kernel_rfl) (by kernel_rfl) (fun _ _ _ h => h) (Or.inl ⟨by rfl, ?hy34⟩) (by assumption) ?_
      case hy34 => (intro w hSw; (try dsimp only at hSw); go_simp; all_goals with_reducible rfl)
      try simp only [Act.put, List.setIfInBounds_toArray, List.set_cons_zero, List.set_cons_succ]
      refine wpAnyH_take (i := 34) (oi := { dst := some 51, op := Op.load 4 (Operand.tmp 50), type := 4, pos := "law.go:37", after := #[{ on := 33, ground := Ground.data }, { on := 24, ground := Ground.guard }], guard := some (24, false) }) (v := ?vv35) rfl (by kernel_rfl) (by kernel_rfl) (by kernel_rfl) (fun _ _ _ h => h) (Or.inl ⟨by rfl, ?hy35⟩) (by assumption) ?_
      case hy35 => (intro w hSw; (try dsimp only at hSw); go_simp; all_goals with_reducible rfl)
      try simp only [Act.put, List.setIfInBounds_toArray, List.set_cons_zero, List.set_cons_succ]
      refine wpAnyH_take (i := 35) (oi := { dst := some 52, op := Op.binOp BinOp.neq 4 (Operand.tmp 46) (Operand.tmp 51) 4, type := 4, pos := "law.go:37", after := #[{ on := 29, ground := Ground.data }, { on := 34, ground := Ground.data }, { on := 24, ground := Ground.guard }], guard := some (24, false) }) (v := ?vv36) rfl (by kernel_rfl) (by kernel_rfl) (by kernel_rfl) (fun _ _ _ h => h) (Or.inl ⟨by rfl, ?hy36⟩) (by assumption) ?_
      case hy36 => (intro w hSw; (try dsimp only at hSw); go_simp; all_goals with_reducible rfl)
      try simp only [Act.put, List.setIfInBounds_toArray, List.set_cons_zero, List.set_cons_succ]
      refine wpAnyH_take (i := 36) (oi := { dst := some 53, op := Op.pick (Operand.tmp 41) (Operand.const (Value.bool true)) (Operand.tmp 52), type := 4, pos := "law.go:37", after := #[{ on := 24, ground := Ground.data }, { on := 35, ground := Ground.data }], guard := none }) (v := ?vv37) rfl (by kernel_rfl) (by kernel_rfl) (by kernel_rfl) (fun _ _ _ h => h) (Or.inl ⟨by rfl, ?hy37⟩) (by assumption) ?_
      case hy37 => (intro w hSw; (try dsimp only at hSw); go_simp; all_goals with_reducible rfl)
      try simp only [Act.put, List.setIfInBounds_toArray, List.set_cons_zero, List.set_cons_succ]
      refine wpAnyH_take (i := 37) (oi := { dst := some 54, op := Op.move (Operand.tmp 53), type := 4, pos := "law.go:37", after := #[{ on := 36, ground := Ground.data }, { on := 24, ground := Ground.chain }], guard := none }) (v := ?vv38) rfl (by kernel_rfl) (by kernel_rfl) (by kernel_rfl) (fun _ _ _ h => h) (Or.inl ⟨by rfl, ?hy38⟩) (by assumption) ?_
      case hy38 => (intro w hSw; (try dsimp only at hSw); go_simp; all_goals with_reducible rfl)
      try simp only [Act.put, List.setIfInBounds_toArray, List.set_cons_zero, List.set_cons_succ]
      refine wpAnyH_take (i := 38) (oi := { dst := some 55, op := Op.move (Operand.tmp 0), type := 25, pos := "law.go:37", after := #[{ on := 37, ground := Ground.guard }], guard := some (37, false) }) (v := ?vv39) rfl (by kernel_rfl) (by kernel_rfl) (by kernel_rfl) (fun _ _ _ h => h) (Or.inl ⟨by rfl, ?hy39⟩) (by assumption) ?_
      case hy39 => (intro w hSw; (try dsimp only at hSw); go_simp; all_goals with_reducible rfl)
      try simp only [Act.put, List.setIfInBounds_toArray, List.set_cons_zero, List.set_cons_succ]
      refine wpAnyH_take (i := 39) (oi := { dst := some 56, op := Op.move (Operand.tmp 5), type := 3, pos := "law.go:37", after := #[{ on := 37, ground := Ground.guard }], guard := some (37, false) }) (v := ?vv40) rfl (by kernel_rfl) (by kernel_rfl) (by kernel_rfl) (fun _ _ _ h => h) (Or.inl ⟨by rfl, ?hy40⟩) (by assumption) ?_
      case hy40 => (intro w hSw; (try dsimp only at hSw); go_simp; all_goals with_reducible rfl)
      try simp only [Act.put, List.setIfInBounds_toArray, List.set_cons_zero, List.set_cons_succ]
      refine wpAnyH_take (i := 40) (oi := { dst := some 57, op := Op.indexAddr 25 (Operand.tmp 55) (Operand.tmp 56), type := 0, pos := "law.go:37", after := #[{ on := 38, ground := Ground.data }, { on := 39, ground := Ground.data }, { on := 37, ground := Ground.guard }], guard := some (37, false) }) (v := ?vv41) rfl (by kernel_rfl) (by kernel_rfl) (by kernel_rfl) (fun _ _ _ h => h) (Or.inl ⟨by rfl, ?hy41⟩) (by assumption) ?_
      case hy41 => (intro w hSw; (try dsimp only at hSw); go_simp; all_goals with_reducible rfl)
      try simp only [Act.put, List.setIfInBounds_toArray, List.set_cons_zero, List.set_cons_succ]
      refine wpAnyH_take (i := 41) (oi := { dst := some 58, op := Op.fieldAddr 47 (Operand.tmp 57) 1, type := 0, pos := "law.go:37", after := #[{ on := 40, ground := Ground.data }, { on := 37, ground := Ground.guard }], guard := some (37, false) }) (v := ?vv42) rfl (by kernel_rfl) (by kernel_rfl) (by kernel_rfl) (fun _ _ _ h => h) (Or.inl ⟨by rfl, ?hy42⟩) (by assumption) ?_
      case hy42 => (intro w hSw; (try dsimp only at hSw); go_simp; all_goals with_reducible rfl)
      try simp only [Act.put, List.setIfInBounds_toArray, List.set_cons_zero, List.set_cons_succ]
      refine wpAnyH_take (i := 42) (oi := { dst := some 59, op := Op.load 45 (Operand.tmp 58), type := 45, pos := "law.go:37", after := #[{ on := 41, ground := Ground.data }, { on := 37, ground := Ground.guard }], guard := some (37, false) }) (v := ?vv43) rfl (by kernel_rfl) (by kernel_rfl) (by kernel_rfl) (fun _ _ _ h => h) (Or.inl ⟨by rfl, ?hy43⟩) (by assumption) ?_
      case hy43 => (intro w hSw; refine Eq.trans (exec_load_cells 45 (.tmp 58) (by rfl) B1 (k * 42 + 1) (woA x.w s.sp s.su s.so) (by rfl) _ (HW1.out _ hSw.2.2.2.2.2.2.out) Tryz.underlying45 rfl (by kernel_rfl)) ?_; with_reducible rfl)
      try simp only [Act.put, List.setIfInBounds_toArray, List.set_cons_zero, List.set_cons_succ]
      refine wpAnyH_take (i := 43) (oi := { dst := some 60, op := Op.move (Operand.tmp 1), type := 25, pos := "law.go:37", after := #[{ on := 37, ground := Ground.guard }], guard := some (37, false) }) (v := ?vv44) rfl (by kernel_rfl) (by kernel_rfl) (by kernel_rfl) (fun _ _ _ h => h) (Or.inl ⟨by rfl, ?hy44⟩) (by assumption) ?_
      case hy44 => (intro w hSw; (try dsimp only at hSw); go_simp; all_goals with_reducible rfl)
      try simp only [Act.put, List.setIfInBounds_toArray, List.set_cons_zero, List.set_cons_succ]
      refine wpAnyH_take (i := 44) (oi := { dst := some 61, op := Op.move (Operand.tmp 5), type := 3, pos := "law.go:37", after := #[{ on := 37, ground := Ground.guard }], guard := some (37, false) }) (v := ?vv45) rfl (by kernel_rfl) (by kernel_rfl) (by kernel_rfl) (fun _ _ _ h => h) (Or.inl ⟨by rfl, ?hy45⟩) (by assumption) ?_
      case hy45 => (intro w hSw; (try dsimp only at hSw); go_simp; all_goals with_reducible rfl)
      try simp only [Act.put, List.setIfInBounds_toArray, List.set_cons_zero, List.set_cons_succ]
      refine wpAnyH_take (i := 45) (oi := { dst := some 62, op := Op.indexAddr 25 (Operand.tmp 60) (Operand.tmp 61), type := 0, pos := "law.go:37", after := #[{ on := 43, ground := Ground.data }, { on := 44, ground := Ground.data }, { on := 37, ground := Ground.guard }], guard := some (37, false) }) (v := ?vv46) rfl (by kernel_rfl) (by kernel_rfl) (by kernel_rfl) (fun _ _ _ h => h) (Or.inl ⟨by rfl, ?hy46⟩) (by assumption) ?_
      case hy46 => (intro w hSw; (try dsimp only at hSw); go_simp; all_goals with_reducible rfl)
      try simp only [Act.put, List.setIfInBounds_toArray, List.set_cons_zero, List.set_cons_succ]
      refine wpAnyH_take (i := 46) (oi := { dst := some 63, op := Op.fieldAddr 47 (Operand.tmp 62) 1, type := 0, pos := "law.go:37", after := #[{ on := 45, ground := Ground.data }, { on := 37, ground := Ground.guard }], guard := some (37, false) }) (v := ?vv47) rfl (by kernel_rfl) (by kernel_rfl) (by kernel_rfl) (fun _ _ _ h => h) (Or.inl ⟨by rfl, ?hy47⟩) (by assumption) ?_
      case hy47 => (intro w hSw; (try dsimp only at hSw); go_simp; all_goals with_reducible rfl)
      try simp only [Act.put, List.setIfInBounds_toArray, List.set_cons_zero, List.set_cons_succ]
      refine wpAnyH_take (i := 47) (oi := { dst := some 64, op := Op.load 45 (Operand.tmp 63), type := 45, pos := "law.go:37", after := #[{ on := 46, ground := Ground.data }, { on := 37, ground := Ground.guard }], guard := some (37, false) }) (v := ?vv48) rfl (by kernel_rfl) (by kernel_rfl) (by kernel_rfl) (fun _ _ _ h => h) (Or.inl ⟨by rfl, ?hy48⟩) (by assumption) ?_
      case hy48 => (intro w hSw; refine Eq.trans (exec_load_cells 45 (.tmp 63) (by rfl) B2 (k * 42 + 1) (woA x.w t.sp t.su t.so) (by rfl) _ (HW2.out _ hSw.2.2.2.2.2.2.out) Tryz.underlying45 rfl (by kernel_rfl)) ?_; with_reducible rfl)
      try simp only [Act.put, List.setIfInBounds_toArray, List.set_cons_zero, List.set_cons_succ]
      refine wpAnyH_ready (rs := [48]) (by kernel_rfl) (by simp) ?_
      refine AllReadyH.cons (o := { dst := some 65, op := Op.call { callee := Callee.value (Operand.func 36), args := #[Operand.tmp 59, Operand.tmp 64], argTypes := #[45, 45] }, type := 4, pos := "law.go:37", after := #[{ on := 42, ground := Ground.data }, { on := 47, ground := Ground.data }, { on := 37, ground := Ground.chain }, { on := 37, ground := Ground.guard }], guard := some (37, false) }) rfl (fun K hK => ?_) AllReadyH.nil
      refine ite_take2 (by rfl) ?_
      go_simp
      refine (HSW.out _ kW).mono ?_
      rintro e' Wx ⟨rfl, bX⟩
      have kWx := kW.trans (bX.mono kW.size)
      clear bX
      go_wp2_with fail
      refine hK.out _ _ (HCP.out _ kWx) (fun hHeld => ?_)
      clear hK K
      try simp only [Act.put, List.setIfInBounds_toArray, List.set_cons_zero, List.set_cons_succ]
      refine wpAnyH_take (i := 49) (oi := { dst := some 66, op := Op.unOp UnOp.not 4 (Operand.tmp 65), type := 4, pos := "law.go:37", after := #[{ on := 48, ground := Ground.data }, { on := 37, ground := Ground.guard }], guard := some (37, false) }) (v := ?vv49) rfl (by kernel_rfl) (by kernel_rfl) (by kernel_rfl) (fun _ _ _ h => h) (Or.inl ⟨by rfl, ?hy49⟩) (by assumption) ?_
      case hy49 => (intro w hSw; (try dsimp only at hSw); go_simp; all_goals with_reducible rfl)
      try simp only [Act.put, List.setIfInBounds_toArray, List.set_cons_zero, List.set_cons_succ]
      refine wpAnyH_take (i := 50) (oi := { dst := some 67, op := Op.pick (Operand.tmp 54) (Operand.const (Value.bool true)) (Operand.tmp 66), type := 4, pos := "law.go:37", after := #[{ on := 37, ground := Ground.data }, { on := 49, ground := Ground.data }], guard := none }) (v := ?vv50) rfl (by kernel_rfl) (by kernel_rfl) (by kernel_rfl) (fun _ _ _ h => h) (Or.inl ⟨by rfl, ?hy50⟩) (by assumption) ?_
      case hy50 => (intro w hSw; (try dsimp only at hSw); go_simp; all_goals with_reducible rfl)
      try simp only [Act.put, List.setIfInBounds_toArray, List.set_cons_zero, List.set_cons_succ]
      refine wpAnyH_take (i := 51) (oi := { dst := some 68, op := Op.move (Operand.tmp 67), type := 4, pos := "law.go:37", after := #[{ on := 50, ground := Ground.data }, { on := 48, ground := Ground.chain }], guard := none }) (v := ?vv51) rfl (by kernel_rfl) (by kernel_rfl) (by kernel_rfl) (fun _ _ _ h => h) (Or.inl ⟨by rfl, ?hy51⟩) (by assumption) ?_
      case hy51 => (intro w hSw; (try dsimp only at hSw); go_simp; all_goals with_reducible rfl)
      try simp only [Act.put, List.setIfInBounds_toArray, List.set_cons_zero, List.set_cons_succ]
      refine wpAnyH_take (i := 52) (oi := { dst := some 69, op := Op.move (Operand.tmp 0), type := 25, pos := "law.go:37", after := #[{ on := 51, ground := Ground.guard }], guard := some (51, false) }) (v := ?vv52) rfl (by kernel_rfl) (by kernel_rfl) (by kernel_rfl) (fun _ _ _ h => h) (Or.inl ⟨by rfl, ?hy52⟩) (by assumption) ?_
      case hy52 => (intro w hSw; (try dsimp only at hSw); go_simp; all_goals with_reducible rfl)
      try simp only [Act.put, List.setIfInBounds_toArray, List.set_cons_zero, List.set_cons_succ]
      refine wpAnyH_take (i := 53) (oi := { dst := some 70, op := Op.move (Operand.tmp 5), type := 3, pos := "law.go:37", after := #[{ on := 51, ground := Ground.guard }], guard := some (51, false) }) (v := ?vv53) rfl (by kernel_rfl) (by kernel_rfl) (by kernel_rfl) (fun _ _ _ h => h) (Or.inl ⟨by rfl, ?hy53⟩) (by assumption) ?_
      case hy53 => (intro w hSw; (try dsimp only at hSw); go_simp; all_goals with_reducible rfl)
      try simp only [Act.put, List.setIfInBounds_toArray, List.set_cons_zero, List.set_cons_succ]
      refine wpAnyH_take (i := 54) (oi := { dst := some 71, op := Op.indexAddr 25 (Operand.tmp 69) (Operand.tmp 70), type := 0, pos := "law.go:37", after := #[{ on := 52, ground := Ground.data }, { on := 53, ground := Ground.data }, { on := 51, ground := Ground.guard }], guard := some (51, false) }) (v := ?vv54) rfl (by kernel_rfl) (by kernel_rfl) (by kernel_rfl) (fun _ _ _ h => h) (Or.inl ⟨by rfl, ?hy54⟩) (by assumption) ?_
      case hy54 => (intro w hSw; (try dsimp only at hSw); go_simp; all_goals with_reducible rfl)
      try simp only [Act.put, List.setIfInBounds_toArray, List.set_cons_zero, List.set_cons_succ]
      refine wpAnyH_take (i := 55) (oi := { dst := some 72, op := Op.fieldAddr 47 (Operand.tmp 71) 2, type := 0, pos := "law.go:37", after := #[{ on := 54, ground := Ground.data }, { on := 51, ground := Ground.guard }], guard := some (51, false) }) (v := ?vv55) rfl (by kernel_rfl) (by kernel_rfl) (by kernel_rfl) (fun _ _ _ h => h) (Or.inl ⟨by rfl, ?hy55⟩) (by assumption) ?_
      case hy55 => (intro w hSw; (try dsimp only at hSw); go_simp; all_goals with_reducible rfl)
      try simp only [Act.put, List.setIfInBounds_toArray, List.set_cons_zero, List.set_cons_succ]
      refine wpAnyH_take (i := 56) (oi := { dst := some 73, op := Op.load 38 (Operand.tmp 72), type := 38, pos := "law.go:37", after := #[{ on := 55, ground := Ground.data }, { on := 51, ground := Ground.guard }], guard := some (51, false) }) (v := ?vv56) rfl (by kernel_rfl) (by kernel_rfl) (by kernel_rfl) (fun _ _ _ h => h) (Or.inl ⟨by rfl, ?hy56⟩) (by assumption) ?_
      case hy56 => (intro w hSw; refine Eq.trans (exec_load_cells 38 (.tmp 72) (by rfl) B1 (k * 42 + 20) (mvA x.m s.sf.v s.sc.v) (by rfl) _ (HM1.out _ hSw.2.2.2.2.2.2.out) Tryz.underlying38 rfl (by kernel_rfl)) ?_; with_reducible rfl)
      try simp only [Act.put, List.setIfInBounds_toArray, List.set_cons_zero, List.set_cons_succ]
      refine wpAnyH_take (i := 57) (oi := { dst := some 74, op := Op.move (Operand.tmp 1), type := 25, pos := "law.go:37", after := #[{ on := 51, ground := Ground.guard }], guard := some (51, false) }) (v := ?vv57) rfl (by kernel_rfl) (by kernel_rfl) (by kernel_rfl) (fun _ _ _ h => h) (Or.inl ⟨by rfl, ?hy57⟩) (by assumption) ?_
      case hy57 => (intro w hSw; (try dsimp only at hSw); go_simp; all_goals with_reducible rfl)
      try simp only [Act.put, List.setIfInBounds_toArray, List.set_cons_zero, List.set_cons_succ]
      refine wpAnyH_take (i := 58) (oi := { dst := some 75, op := Op.move (Operand.tmp 5), type := 3, pos := "law.go:37", after := #[{ on := 51, ground := Ground.guard }], guard := some (51, false) }) (v := ?vv58) rfl (by kernel_rfl) (by kernel_rfl) (by kernel_rfl) (fun _ _ _ h => h) (Or.inl ⟨by rfl, ?hy58⟩) (by assumption) ?_
      case hy58 => (intro w hSw; (try dsimp only at hSw); go_simp; all_goals with_reducible rfl)
      try simp only [Act.put, List.setIfInBounds_toArray, List.set_cons_zero, List.set_cons_succ]
      refine wpAnyH_take (i := 59) (oi := { dst := some 76, op := Op.indexAddr 25 (Operand.tmp 74) (Operand.tmp 75), type := 0, pos := "law.go:37", after := #[{ on := 57, ground := Ground.data }, { on := 58, ground := Ground.data }, { on := 51, ground := Ground.guard }], guard := some (51, false) }) (v := ?vv59) rfl (by kernel_rfl) (by kernel_rfl) (by kernel_rfl) (fun _ _ _ h => h) (Or.inl ⟨by rfl, ?hy59⟩) (by assumption) ?_
      case hy59 => (intro w hSw; (try dsimp only at hSw); go_simp; all_goals with_reducible rfl)
      try simp only [Act.put, List.setIfInBounds_toArray, List.set_cons_zero, List.set_cons_succ]
      refine wpAnyH_take (i := 60) (oi := { dst := some 77, op := Op.fieldAddr 47 (Operand.tmp 76) 2, type := 0, pos := "law.go:37", after := #[{ on := 59, ground := Ground.data }, { on := 51, ground := Ground.guard }], guard := some (51, false) }) (v := ?vv60) rfl (by kernel_rfl) (by kernel_rfl) (by kernel_rfl) (fun _ _ _ h => h) (Or.inl ⟨by rfl, ?hy60⟩) (by assumption) ?_
      case hy60 => (intro w hSw; (try dsimp only at hSw); go_simp; all_goals with_reducible rfl)
      try simp only [Act.put, List.setIfInBounds_toArray, List.set_cons_zero, List.set_cons_succ]
      refine wpAnyH_take (i := 61) (oi := { dst := some 78, op := Op.load 38 (Operand.tmp 77), type := 38, pos := "law.go:37", after := #[{ on := 60, ground := Ground.data }, { on := 51, ground := Ground.guard }], guard := some (51, false) }) (v := ?vv61) rfl (by kernel_rfl) (by kernel_rfl) (by kernel_rfl) (fun _ _ _ h => h) (Or.inl ⟨by rfl, ?hy61⟩) (by assumption) ?_
      case hy61 => (intro w hSw; refine Eq.trans (exec_load_cells 38 (.tmp 77) (by rfl) B2 (k * 42 + 20) (mvA x.m t.sf.v t.sc.v) (by rfl) _ (HM2.out _ hSw.2.2.2.2.2.2.out) Tryz.underlying38 rfl (by kernel_rfl)) ?_; with_reducible rfl)
      try simp only [Act.put, List.setIfInBounds_toArray, List.set_cons_zero, List.set_cons_succ]
      refine wpAnyH_ready (rs := [62]) (by kernel_rfl) (by simp) ?_
      refine AllReadyH.cons (o := { dst := some 79, op := Op.call { callee := Callee.value (Operand.func 37), args := #[Operand.tmp 73, Operand.tmp 78], argTypes := #[38, 38] }, type := 4, pos := "law.go:37", after := #[{ on := 56, ground := Ground.data }, { on := 61, ground := Ground.data }, { on := 51, ground := Ground.chain }, { on := 51, ground := Ground.guard }], guard := some (51, false) }) rfl (fun K hK => ?_) AllReadyH.nil
      refine ite_take2 (by rfl) ?_
      go_simp
      refine (HSM.out _ kWx).mono ?_
      rintro e' Wxx ⟨rfl, bX⟩
      have kWxx := kWx.trans (bX.mono kWx.size)
      clear bX
      go_wp2_with fail
      refine hK.out _ _ (HCP.out _ kWxx) (fun hHeld => ?_)
      clear hK K
      try simp only [Act.put, List.setIfInBounds_toArray, List.set_cons_zero, List.set_cons_succ]
      refine wpAnyH_take (i := 63) (oi := { dst := some 80, op := Op.unOp UnOp.not 4 (Operand.tmp 79), type := 4, pos := "law.go:37", after := #[{ on := 62, ground := Ground.data }, { on := 51, ground := Ground.guard }], guard := some (51, false) }) (v := ?vv62) rfl (by kernel_rfl) (by kernel_rfl) (by kernel_rfl) (fun _ _ _ h => h) (Or.inl ⟨by rfl, ?hy62⟩) (by assumption) ?_
      case hy62 => (intro w hSw; (try dsimp only at hSw); go_simp; all_goals with_reducible rfl)
      try simp only [Act.put, List.setIfInBounds_toArray, List.set_cons_zero, List.set_cons_succ]
      refine wpAnyH_take (i := 64) (oi := { dst := some 81, op := Op.pick (Operand.tmp 68) (Operand.const (Value.bool true)) (Operand.tmp 80), type := 4, pos := "law.go:37", after := #[{ on := 51, ground := Ground.data }, { on := 63, ground := Ground.data }], guard := none }) (v := ?vv63) rfl (by kernel_rfl) (by kernel_rfl) (by kernel_rfl) (fun _ _ _ h => h) (Or.inl ⟨by rfl, ?hy63⟩) (by assumption) ?_
      case hy63 => (intro w hSw; (try dsimp only at hSw); go_simp; all_goals with_reducible rfl)
      try simp only [Act.put, List.setIfInBounds_toArray, List.set_cons_zero, List.set_cons_succ]
      refine wpAnyH_done (by kernel_rfl) ?_ _
      have HJn := hid (HJ.out.trans (kWxx.mono HJ.out.size))
      clear hHeld kWxx kW
      go_wp2_with fail
      go_roundw
      case rel => exact ⟨k + 1, rfl, by omega, HJn⟩
      case measure => show n - ((k : Int) + 1).toNat < n - ((k : Nat) : Int).toNat; omega
    · have hnl : ¬ (k : Int) < (n : Int) := by omega
      go_wp2_with fail
      go_ret
      exact ⟨rfl, HJ.out⟩
end Go.Proofs.YtghppkfopglgaaaGreatDoor
