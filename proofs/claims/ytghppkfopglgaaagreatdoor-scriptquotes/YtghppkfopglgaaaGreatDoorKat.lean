/- Frame. What the law's head asks, plain. The law's head. ScriptNumbers, plain. ScriptQuotes, plain. -/
import Derived.Test.YtghppkfopglgaaaGreatDoorKas
import Derived.Deep.CutRange
namespace Go.Proofs.YtghppkfopglgaaaGreatDoor
open Go.RowKit
set_option linter.unusedVariables false
set_option linter.unusedSimpArgs false
/-- params that can be read behind the slice -/
def InP (W : World) (v : Value) (ps : List (Int × Int)) : Prop :=
  (v = .slice none 0 0 ∧ ps = []) ∨ ∃ bk off cap, v = .slice (some ⟨bk, off, none⟩) ps.length cap ∧ ps.length ≤ cap ∧ cap ≤ 9223372036854775807 ∧ bk < W.heap.size ∧ ∀ j p, ps[j]? = some p → W.cell? ⟨bk, off + j * 2, none⟩ = some (.int .i64 p.1) ∧ W.cell? ⟨bk, off + j * 2 + 1, none⟩ = some (.int .i64 p.2)
theorem nmW_le (s : ByteArray) (n : Int) : (nmW s n).length ≤ 2 := by unfold nmW; split <;> simp
def frT (f : Fm) : List UInt8 := Lib.join (f.ws.map (·.data.toList)) [32]
set_option maxRecDepth 100000 in
set_option maxHeartbeats 16000000 in
theorem frame0_any (f : Fm) (hp0 : f.ps = []) (hf : f.Ok) (hda : f.da.size ≤ 17592186044416) (hps : f.ps.length ≤ 268435456) (hjl : (frT f).length ≤ 140737488355328) (v : Value) (w : World) (hE : Env w) (hP : InP w v f.ps) : Calls Tryz.prog 13 #[.agg (fmA f v)] w fun e w' => e = .returned (.string (bt (frT f))) ∧ Below w.heap.size w w' := by
  obtain ⟨pb, pn, pc, hv, hpn⟩ : ∃ a n c, v = .slice a n c ∧ n = f.ps.length := by
    rcases hP with ⟨rfl, e⟩ | ⟨bk, off, cap, rfl, _⟩
    · exact ⟨_, _, _, rfl, by rw [e]; rfl⟩
    · exact ⟨_, _, _, rfl, rfl⟩
  subst hv
  obtain ⟨F, hF⟩ : ∃ F, f = F := ⟨_, rfl⟩
  obtain ⟨ty, fl, st, da, pad, dep, ex, wt, cd, la, ps⟩ := f
  obtain ⟨i1, i2, i3, i4, i5, i6, i7, i8, i9⟩ := hf
  simp only at i1 i2 i3 i4 i5 i6 i7 i8 i9 hda hps hpn hP hp0
  obtain ⟨g1, hg1⟩ : ∃ g1, w.heap.size = g1 := ⟨_, rfl⟩
  obtain ⟨cs, hcs⟩ : ∃ cs, fmA ⟨ty, fl, st, da, pad, dep, ex, wt, cd, la, ps⟩ (.slice pb pn pc) = cs := ⟨_, rfl⟩
  rw [hcs]
  obtain ⟨W1, hW1⟩ : ∃ V, w.alloc (.cells cs 55) = V := ⟨_, rfl⟩
  have q1 : W1.heap[g1]? = some (.cells cs 55 (0, 0)) := by rw [← hW1, heap_al, if_pos hg1.symm]
  have b1 : Below w.heap.size w W1 := by rw [← hW1]; exact bel1 _ _
  have HS1 : Hid (FS g1 cs w W1) := hid ⟨b1, q1, hE.of b1.size fun k hk => b1.block k (by have := hE.sz; omega)⟩
  have g8 : 8 ≤ g1 := by have := hE.sz; omega
  have hc0 : cs[0]? = some (.int .i64 ty) := by rw [← hcs]; rfl
  have HC0 : Hid (∀ W, FS g1 cs w W → W.cell? ⟨g1, 0, none⟩ = some (.int .i64 ty)) := hid (fun W h => (cell_blk h.blk 0).trans hc0)
  have hc1 : cs[1]? = some (.int .i64 fl) := by rw [← hcs]; rfl
  have HC1 : Hid (∀ W, FS g1 cs w W → W.cell? ⟨g1, 1, none⟩ = some (.int .i64 fl)) := hid (fun W h => (cell_blk h.blk 1).trans hc1)
  have hc2 : cs[2]? = some (.int .i64 st) := by rw [← hcs]; rfl
  have HC2 : Hid (∀ W, FS g1 cs w W → W.cell? ⟨g1, 2, none⟩ = some (.int .i64 st)) := hid (fun W h => (cell_blk h.blk 2).trans hc2)
  have hc3 : cs[3]? = some (.string da) := by rw [← hcs]; rfl
  have HC3 : Hid (∀ W, FS g1 cs w W → W.cell? ⟨g1, 3, none⟩ = some (.string da)) := hid (fun W h => (cell_blk h.blk 3).trans hc3)
  have hc4 : cs[4]? = some (.int .i64 pad) := by rw [← hcs]; rfl
  have HC4 : Hid (∀ W, FS g1 cs w W → W.cell? ⟨g1, 4, none⟩ = some (.int .i64 pad)) := hid (fun W h => (cell_blk h.blk 4).trans hc4)
  have hc5 : cs[5]? = some (.int .i64 dep) := by rw [← hcs]; rfl
  have HC5 : Hid (∀ W, FS g1 cs w W → W.cell? ⟨g1, 5, none⟩ = some (.int .i64 dep)) := hid (fun W h => (cell_blk h.blk 5).trans hc5)
  have hc6 : cs[6]? = some (.bool ex) := by rw [← hcs]; rfl
  have HC6 : Hid (∀ W, FS g1 cs w W → W.cell? ⟨g1, 6, none⟩ = some (.bool ex)) := hid (fun W h => (cell_blk h.blk 6).trans hc6)
  have hc7 : cs[7]? = some (.int .i64 wt) := by rw [← hcs]; rfl
  have HC7 : Hid (∀ W, FS g1 cs w W → W.cell? ⟨g1, 7, none⟩ = some (.int .i64 wt)) := hid (fun W h => (cell_blk h.blk 7).trans hc7)
  have hc8 : cs[8]? = some (.int .i64 cd) := by rw [← hcs]; rfl
  have HC8 : Hid (∀ W, FS g1 cs w W → W.cell? ⟨g1, 8, none⟩ = some (.int .i64 cd)) := hid (fun W h => (cell_blk h.blk 8).trans hc8)
  have hc9 : cs[9]? = some (.int .i64 la) := by rw [← hcs]; rfl
  have HC9 : Hid (∀ W, FS g1 cs w W → W.cell? ⟨g1, 9, none⟩ = some (.int .i64 la)) := hid (fun W h => (cell_blk h.blk 9).trans hc9)
  have hc10 : cs[10]? = some (.slice pb pn pc) := by rw [← hcs]; rfl
  have HC10 : Hid (∀ W, FS g1 cs w W → W.cell? ⟨g1, 10, none⟩ = some (.slice pb pn pc)) := hid (fun W h => (cell_blk h.blk 10).trans hc10)
  have HC : Hid (∀ W, FS g1 cs w W → W.cell? ⟨g1, 0, none⟩ = some (.int .i64 ty) ∧ W.cell? ⟨g1, 1, none⟩ = some (.int .i64 fl) ∧ W.cell? ⟨g1, 2, none⟩ = some (.int .i64 st) ∧ FS g1 cs w W) := hid (fun W h => ⟨HC0.out W h, HC1.out W h, HC2.out W h, h⟩)
  have HW1 := hid hW1
  have HG1 := hid hg1
  have HD : Hid (FS g1 cs w W1.drew) := hid (HS1.out.step (Below.refl _ W1).drew)
  obtain ⟨L0, hL0⟩ : ∃ L, [iB ty, iB fl, iB st] = L := ⟨_, rfl⟩
  have lL0 : L0.length ≤ 3 := by rw [← hL0]; simp
  obtain ⟨L1, hL1⟩ : ∃ L, L0 ++ (if da = ⟨#[]⟩ then [] else [dataB, bt (qtS da.data.toList)]) = L := ⟨_, rfl⟩
  have lL1 : L1.length ≤ 5 := by rw [← hL1]; rw [List.length_append]; split <;> simp <;> omega
  obtain ⟨L2, hL2⟩ : ∃ L, L1 ++ nmW padB pad = L := ⟨_, rfl⟩
  have lL2 : L2.length ≤ 7 := by rw [← hL2]; rw [List.length_append]; have := nmW_le padB pad; omega
  obtain ⟨L3, hL3⟩ : ∃ L, L2 ++ nmW depB dep = L := ⟨_, rfl⟩
  have lL3 : L3.length ≤ 9 := by rw [← hL3]; rw [List.length_append]; have := nmW_le depB dep; omega
  obtain ⟨L4, hL4⟩ : ∃ L, L3 ++ (if ex then [exclB] else []) = L := ⟨_, rfl⟩
  have lL4 : L4.length ≤ 10 := by rw [← hL4]; rw [List.length_append]; split <;> simp <;> omega
  obtain ⟨L5, hL5⟩ : ∃ L, L4 ++ nmW wtB wt = L := ⟨_, rfl⟩
  have lL5 : L5.length ≤ 12 := by rw [← hL5]; rw [List.length_append]; have := nmW_le wtB wt; omega
  obtain ⟨L6, hL6⟩ : ∃ L, L5 ++ nmW codeB cd = L := ⟨_, rfl⟩
  have lL6 : L6.length ≤ 14 := by rw [← hL6]; rw [List.length_append]; have := nmW_le codeB cd; omega
  obtain ⟨L7, hL7⟩ : ∃ L, L6 ++ nmW lastB la = L := ⟨_, rfl⟩
  have lL7 : L7.length ≤ 16 := by rw [← hL7]; rw [List.length_append]; have := nmW_le lastB la; omega
  have HWS : Hid (F.ws = L7 ++ ps.flatMap pmW) := hid (by
    rw [← hF]
    show _ = _
    unfold Fm.ws Fm.w2 Fm.w0 Fm.w1
    simp only
    rw [← hL7, ← hL6, ← hL5, ← hL4, ← hL3, ← hL2, ← hL1, ← hL0])
  rw [hF] at hjl ⊢
  have HL0 := hid hL0
  have HL1 := hid hL1
  have HL2 := hid hL2
  have HL3 := hid hL3
  have HL4 := hid hL4
  have HL5 := hid hL5
  have HL6 := hid hL6
  have HL7 := hid hL7
  have HIP := hid hP
  have HI9 := hid i9
  have HJL := hid hjl
  have HPN := hid hpn
  clear hE q1 b1 hW1 hcs hc0 hc1 hc2 hc3 hc4 hc5 hc6 hc7 hc8 hc9 hc10 hg1 hF hP i9 hjl hpn hL0 hL1 hL2 hL3 hL4 hL5 hL6 hL7
  go_enter Tryz.func13, Tryz.ntmps13
  go_upto_region 1 with fail
  rw [HW1.out, HG1.out]
  go_cut [3] from 6 (fun v wx => ∃ b n c, v = .slice b n c ∧ Hid (FJ g1 cs w wx v L0))
  case first =>
    go_region_held3 (fun W => W.cell? ⟨g1, 0, none⟩ = some (.int .i64 ty) ∧ W.cell? ⟨g1, 1, none⟩ = some (.int .i64 fl) ∧ W.cell? ⟨g1, 2, none⟩ = some (.int .i64 st) ∧ FS g1 cs w W) (first | exact HC.out _ HD.out | exact HC.out _ (FS.step (And.right (And.right (And.right (by assumption)))) (by assumption)) | exact HC.out _ (FS.step (And.right (And.right (And.right (by assumption)))) (bel1 _ _))) (first | (go_at_call 30; refine (itoa_any ty i1 _ (FS.env (And.right (And.right (And.right (by assumption)))))).mono ?_; rintro e w2 ⟨rfl, hb2⟩) | (go_at_call 30; refine (itoa_any fl i2 _ (FS.env (And.right (And.right (And.right (by assumption)))))).mono ?_; rintro e w3 ⟨rfl, hb3⟩) | (go_at_call 31; refine (format_any st i3 _ (FS.env (And.right (And.right (And.right (by assumption)))))).mono ?_; rintro e w4 ⟨rfl, hb4⟩))
    all_goals
      rename_i hS
      go_wp2_with fail
      go_meet
      case rel =>
        refine ⟨_, _, _, rfl, hid ⟨hS.2.2.2, ?_, ?_⟩⟩
        · rw [← HL0.out]
          exact r_lit _ _ [iB ty, iB fl, iB st] (by rw [heap_al, if_pos rfl]; rfl) (by simp)
        · intro k hk
          have e : w4.heap.size = k := by simpa [Value.ownBlock] using hk
          have h1 := heap_lt hS.2.2.2.blk
          rw [size_al] at h1
          have h2 : g1 ≠ w4.heap.size := fun e => by
            have h3 := hS.2.2.2.blk
            rw [e, heap_al, if_pos rfl] at h3
            injection h3 with h3
            injection h3 with _ q
            exact absurd q (by decide)
          omega
  case rest =>
    obtain ⟨b0, n0, c0, rfl, J0⟩ := hcut
    have e0 := HC3.out _ J0.out.fs
    have l1 := heap_lt J0.out.fs.blk
    go_upto_if 18 with fail
    go_cut [3] from 6 (fun v wx => ∃ b n c, v = .slice b n c ∧ Hid (FJ g1 cs w wx v L1))
    case first =>
      cases hq : (!da.toList.isEmpty) with
      | false =>
        have hd : da = ⟨#[]⟩ := by
          rw [ByteArray.toList_eq] at hq
          cases e : da.data.toList with
          | nil => exact ba_eq e
          | cons c r => rw [e] at hq; cases hq
        clear hq
        have hL : L1 = L0 := by rw [← HL1.out, if_pos hd, List.append_nil]
        clear hd
        go_wp2_with fail
        go_meet
        case rel => exact ⟨_, _, _, rfl, hL ▸ J0⟩
      | true =>
        have hd : ¬ da = ⟨#[]⟩ := by
          rintro rfl
          rw [ByteArray.toList_eq] at hq
          cases hq
        clear hq
        have HQ := hid (fun V => quote_any da V hda)
        have HL : Hid (L0 ++ [dataB, bt (qtS da.data.toList)] = L1) := hid (by rw [← HL1.out, if_neg hd])
        clear hd
        go_wp2_with fail
        go_at_call 10
        refine (HQ.out _).mono ?_
        rintro e V ⟨rfl, hbq⟩
        have hbv : Below wc.heap.size wc (V.alloc (.cells #[.string dataB, .string (bt (qtS da.data.toList))] 9)) := hbq.trans ((bel1 _ _).mono hbq.size)
        obtain ⟨base, N, cap, X, hN, hrun, hj⟩ := J0.out.put HG1.out g8 hbv (in_lit _ V.heap.size [dataB, bt (qtS da.data.toList)] (by rw [heap_al, if_pos rfl]; rfl) (by simp)) (by simp; omega)
        have HRUN := hid hrun
        have J1 := hid hj
        rw [HL.out] at J1
        simp only [dataB] at HRUN
        clear hbq hbv hrun hj hN
        go_wp2_with (at_builtin; refine Lib.wpList_append_run _ rfl (.tmp 19) (.tmp 23) 43 43 rfl _ _ rfl rfl _ _ HRUN.out ?_)
        go_meet
        case rel => exact ⟨_, _, _, rfl, J1⟩
    case rest =>
      obtain ⟨b1, n1, c1, rfl, J1⟩ := hcut
      have e1 := HC4.out _ J1.out.fs
      have m1 := heap_lt J1.out.fs.blk
      go_upto_region 4 with fail
      go_cut [3] from 6 (fun v wx => ∃ b n c, v = .slice b n c ∧ Hid (FJ g1 cs w wx v L2))
      case first =>
        go_wp2_with fail
        go_at_call 32
        refine (named_any padB pad i4 _ J1.out.fs.env).mono ?_
        rintro e V ⟨nb, nn, nc, hnn, rfl, hin, hbb⟩
        obtain ⟨base, N, cap, X, hN, hrun, hj⟩ := J1.out.put HG1.out g8 hbb hin (by have := nmW_le padB pad; omega)
        have HRUN := hid hrun
        have J1 := hid hj
        rw [HL2.out] at J1
        clear hin hbb hrun hj hN hnn
        go_wp2_with (at_builtin; refine Lib.wpList_append_run _ rfl (.tmp 25) (.tmp 28) 43 43 rfl _ _ rfl rfl _ _ HRUN.out ?_)
        go_meet
        case rel => exact ⟨_, _, _, rfl, J1⟩
      case rest =>
        obtain ⟨b2, n2, c2, rfl, J2⟩ := hcut
        have e2 := HC5.out _ J2.out.fs
        have m2 := heap_lt J2.out.fs.blk
        go_upto_region 5 with fail
        go_cut [3] from 6 (fun v wx => ∃ b n c, v = .slice b n c ∧ Hid (FJ g1 cs w wx v L3))
        case first =>
          go_wp2_with fail
          go_at_call 32
          refine (named_any depB dep i5 _ J2.out.fs.env).mono ?_
          rintro e V ⟨nb, nn, nc, hnn, rfl, hin, hbb⟩
          obtain ⟨base, N, cap, X, hN, hrun, hj⟩ := J2.out.put HG1.out g8 hbb hin (by have := nmW_le depB dep; omega)
          have HRUN := hid hrun
          have J1 := hid hj
          rw [HL3.out] at J1
          clear hin hbb hrun hj hN hnn
          go_wp2_with (at_builtin; refine Lib.wpList_append_run _ rfl (.tmp 30) (.tmp 33) 43 43 rfl _ _ rfl rfl _ _ HRUN.out ?_)
          go_meet
          case rel => exact ⟨_, _, _, rfl, J1⟩
        case rest =>
          obtain ⟨b3, n3, c3, rfl, J3⟩ := hcut
          have e3 := HC6.out _ J3.out.fs
          have m3 := heap_lt J3.out.fs.blk
          go_upto_if 36 with fail
          go_cut [3] from 6 (fun v wx => ∃ b n c, v = .slice b n c ∧ Hid (FJ g1 cs w wx v L4))
          case first =>
            cases ex with
            | false =>
              have hL : L4 = L3 := by rw [← HL4.out]; simp
              go_wp2_with fail
              go_meet
              case rel => exact ⟨_, _, _, rfl, hL ▸ J3⟩
            | true =>
              have HL : Hid (L3 ++ [exclB] = L4) := hid (by rw [← HL4.out]; simp)
              have hbv : Below wc.heap.size wc (wc.alloc (.cells #[.string exclB] 9)) := bel1 _ _
              obtain ⟨base, N, cap, X, hN, hrun, hj⟩ := J3.out.put HG1.out g8 hbv (in_lit _ wc.heap.size [exclB] (by rw [heap_al, if_pos rfl]; rfl) (by simp)) (by simp; omega)
              have HRUN := hid hrun
              have J1 := hid hj
              rw [HL.out] at J1
              simp only [exclB] at HRUN
              clear hbv hrun hj hN
              go_wp2_with (at_builtin; refine Lib.wpList_append_run _ rfl (.tmp 37) (.tmp 38) 43 43 rfl _ _ rfl rfl _ _ HRUN.out ?_)
              go_meet
              case rel => exact ⟨_, _, _, rfl, J1⟩
          case rest =>
            obtain ⟨b4, n4, c4, rfl, J4⟩ := hcut
            have e4 := HC7.out _ J4.out.fs
            have m4 := heap_lt J4.out.fs.blk
            go_upto_region 8 with fail
            go_cut [3] from 6 (fun v wx => ∃ b n c, v = .slice b n c ∧ Hid (FJ g1 cs w wx v L5))
            case first =>
              go_wp2_with fail
              go_at_call 32
              refine (named_any wtB wt i6 _ J4.out.fs.env).mono ?_
              rintro e V ⟨nb, nn, nc, hnn, rfl, hin, hbb⟩
              obtain ⟨base, N, cap, X, hN, hrun, hj⟩ := J4.out.put HG1.out g8 hbb hin (by have := nmW_le wtB wt; omega)
              have HRUN := hid hrun
              have J1 := hid hj
              rw [HL5.out] at J1
              clear hin hbb hrun hj hN hnn
              go_wp2_with (at_builtin; refine Lib.wpList_append_run _ rfl (.tmp 40) (.tmp 43) 43 43 rfl _ _ rfl rfl _ _ HRUN.out ?_)
              go_meet
              case rel => exact ⟨_, _, _, rfl, J1⟩
            case rest =>
              obtain ⟨b5, n5, c5, rfl, J5⟩ := hcut
              have e5 := HC8.out _ J5.out.fs
              have m5 := heap_lt J5.out.fs.blk
              go_upto_region 9 with fail
              go_cut [3] from 6 (fun v wx => ∃ b n c, v = .slice b n c ∧ Hid (FJ g1 cs w wx v L6))
              case first =>
                go_wp2_with fail
                go_at_call 32
                refine (named_any codeB cd i7 _ J5.out.fs.env).mono ?_
                rintro e V ⟨nb, nn, nc, hnn, rfl, hin, hbb⟩
                obtain ⟨base, N, cap, X, hN, hrun, hj⟩ := J5.out.put HG1.out g8 hbb hin (by have := nmW_le codeB cd; omega)
                have HRUN := hid hrun
                have J1 := hid hj
                rw [HL6.out] at J1
                clear hin hbb hrun hj hN hnn
                go_wp2_with (at_builtin; refine Lib.wpList_append_run _ rfl (.tmp 45) (.tmp 48) 43 43 rfl _ _ rfl rfl _ _ HRUN.out ?_)
                go_meet
                case rel => exact ⟨_, _, _, rfl, J1⟩
              case rest =>
                obtain ⟨b6, n6, c6, rfl, J6⟩ := hcut
                have e6 := HC9.out _ J6.out.fs
                have m6 := heap_lt J6.out.fs.blk
                go_upto_region 10 with fail
                go_cut [3] from 6 (fun v wx => ∃ b n c, v = .slice b n c ∧ Hid (FJ g1 cs w wx v L7))
                case first =>
                  go_wp2_with fail
                  go_at_call 32
                  refine (named_any lastB la i8 _ J6.out.fs.env).mono ?_
                  rintro e V ⟨nb, nn, nc, hnn, rfl, hin, hbb⟩
                  obtain ⟨base, N, cap, X, hN, hrun, hj⟩ := J6.out.put HG1.out g8 hbb hin (by have := nmW_le lastB la; omega)
                  have HRUN := hid hrun
                  have J1 := hid hj
                  rw [HL7.out] at J1
                  clear hin hbb hrun hj hN hnn
                  go_wp2_with (at_builtin; refine Lib.wpList_append_run _ rfl (.tmp 50) (.tmp 53) 43 43 rfl _ _ rfl rfl _ _ HRUN.out ?_)
                  go_meet
                  case rel => exact ⟨_, _, _, rfl, J1⟩
                case rest =>
                  obtain ⟨b7, n7, c7, rfl, J7⟩ := hcut
                  have e7 := HC10.out _ J7.out.fs
                  have m7 := heap_lt J7.out.fs.blk
                  have hz : ps = [] := hp0
                  have hpn0 : pn = 0 := by rw [HPN.out, hz]; rfl
                  have HWF : Hid (F.ws = L7) := hid (by rw [HWS.out, hz]; simp)
                  subst hpn0
                  have HR := J7.out.row
                  have HB7 := J7.out.fs.bel
                  have HJ7 : Hid (∀ c, FS g1 cs w c → True) := hid (fun _ _ => trivial)
                  obtain ⟨bs, cp, ev, _⟩ := HR.slice
                  have HJoin : Hid (Calls Tryz.prog 33 #[.slice b7 n7 c7, .string ⟨#[32]⟩] wc fun e w' => e = .returned (.string (bt (frT F))) ∧ Below wc.heap.size wc w') := hid (by
                    have hjl := HJL.out
                    unfold frT at hjl ⊢
                    rw [HWF.out] at hjl ⊢
                    rcases HR.2 with ⟨e, hn⟩ | ⟨g, cap, cur, e, hbs, hgg, hn, hm, hc, hzz⟩
                    · have hl : L7 = [] := List.eq_nil_of_length_eq_zero hn
                      rw [e, hl]
                      refine (Tryz.strings_Join_none none 0 ⟨#[32]⟩ wc).mono ?_
                      rintro e w' ⟨rfl, rfl⟩
                      exact ⟨rfl, Below.refl _ _⟩
                    · rw [e]
                      refine (Tryz.strings_Join g 0 cap L7 ⟨#[32]⟩ wc (fun j x hx => ?_) (heap_lt hgg) (by omega) hn hjl).mono ?_
                      · have := World.ownsRow.cells HR (v := .slice b7 n7 c7) (g := g) (by rw [e]; rfl) j (.string x) (by rw [og_cs, List.getElem?_map, hx]; rfl)
                        rw [Addr.add_lit] at this
                        exact this
                      · rintro e w' ⟨rfl, hb⟩
                        exact ⟨rfl, hb⟩)
                  clear HR ev
                  go_wp2_with fail
                  go_loopw [3, 58] (fun lv iv wr => lv = .slice b7 n7 c7 ∧ iv = .int .i64 0 ∧ wr = wc) (fun _ _ _ => 0)
                  case atStart => exact ⟨rfl, rfl, rfl⟩
                  case round =>
                    obtain ⟨rfl, rfl, rfl⟩ := hrel
                    go_wp2_with fail
                    go_at_call 33
                    refine HJoin.out.mono ?_
                    rintro e V ⟨rfl, hb⟩
                    go_wp2_with fail
                    go_ret
                    exact ⟨rfl, HB7.trans (hb.mono HB7.size)⟩
end Go.Proofs.YtghppkfopglgaaaGreatDoor
namespace Go.Proofs.YtghppkfopglgaaaGreatDoor
open Go.RowKit
set_option linter.unusedVariables false
set_option linter.unusedSimpArgs false
def hdT1 : List UInt8 := [115, 101, 114, 118, 101, 114, 32, 51, 10, 97, 110, 115, 119, 101, 114, 115]
def hdT2 : List UInt8 := [115, 101, 114, 118, 101, 114, 32, 48, 51]
def hdC1 : Cm := { Cm.of 2 with m := { Mv.z with k := 3, n := 3 } }
def hdC2 : Cm := Cm.of 4
def hdC : Cm := { Cm.of 2 with m := { Mv.z with k := 10, by' := ⟨#[97, 65, 92, 34]⟩ } }
theorem two_lines (x y : List UInt8) (hx : ∀ c ∈ x, c ≠ 10) (hy : ∀ c ∈ y, c ≠ 10) (hne : y ≠ []) (sx : silB x = false) (sy : silB y = false) (a b : List Wd) (ha : wol x = some a) (hb : wol y = some b) (lx : x.length ≤ 4096) (ly : y.length ≤ 4096) :
    wds (x ++ 10 :: y) = a ++ [eW] ++ (b ++ [eW]) ∧ longB (x ++ 10 :: y) = false := by
  have e : lns (x ++ 10 :: y) = [x ++ [10], y] := by rw [lns_line x y hx, lns_one y hy hne]
  constructor
  · unfold wds
    rw [e]
    simp only [List.map_cons, List.map_nil, List.flatMap_cons, List.flatMap_nil, List.append_nil, trimN_ln, trimN_no y hy]
    rw [sx, sy, if_neg (by simp), if_neg (by simp), ha, hb]
    rfl
  · unfold longB
    rw [e]
    simp only [List.any_cons, List.any_nil, trimN_ln, trimN_no y hy, List.length_append, List.length_cons, List.length_nil, Bool.or_false, Bool.or_eq_false_iff, decide_eq_false_iff_not]
    exact ⟨⟨by omega, by omega, by omega⟩, by simp⟩
theorem cm_ok_z (k mk n : Int) (b : ByteArray) (cn : Int) (sv : Bool) (hn : I64 n) (hc : I64 cn) : CmOk ⟨k, Wo.z, ⟨mk, n, Rq.z, Pg.z, Si.z, b⟩, cn, sv⟩ := by
  have z : I64 0 := by unfold I64; omega
  exact ⟨⟨⟨z, z, z, z, z, z⟩, ⟨z, z, z, z, z, z⟩, z, z, z, z, fun p h => absurd h (by simp [Wo.z])⟩, ⟨hn, z, ⟨z, z, z, z, z, z⟩⟩, hc⟩
theorem hd_wol1 : wol [115, 101, 114, 118, 101, 114, 32, 51] = some [bW (mvB 3), nW 3] := by
  have := wol_ltx [bW (mvB 3), nW 3] (by simp) (gd_cons (gd_tab.2 ⟨3, by decide⟩ (by decide)) (gd_cons (nW_gd 3) gd_nil))
  rwa [show ltx [bW (mvB 3), nW 3] = [115, 101, 114, 118, 101, 114, 32, 51] by decide +kernel] at this
theorem hd_wol2 : wol [97, 110, 115, 119, 101, 114, 115] = some [bW (kdB 4)] := by
  have := wol_ltx [bW (kdB 4)] (by simp) (gd_cons (gd_tab.1 ⟨4, by decide⟩ (.inr (by decide))) gd_nil)
  rwa [show ltx [bW (kdB 4)] = [97, 110, 115, 119, 101, 114, 115] by decide +kernel] at this
theorem hd_p1 : parseL hdT1 = ([hdC1, hdC2], 0) ∧ wds hdT1 = [bW (mvB 3), nW 3, eW, bW (kdB 4), eW] := by
  have h := two_lines [115, 101, 114, 118, 101, 114, 32, 51] [97, 110, 115, 119, 101, 114, 115] (by decide) (by decide) (by simp) rfl rfl _ _ hd_wol1 hd_wol2 (by simp) (by simp)
  have e : hdT1 = [115, 101, 114, 118, 101, 114, 32, 51] ++ 10 :: [97, 110, 115, 119, 101, 114, 115] := rfl
  have hw : wds hdT1 = [bW (mvB 3), nW 3, eW, bW (kdB 4), eW] := by rw [e, h.1]; rfl
  refine ⟨?_, hw⟩
  unfold parseL
  rw [hw, e, h.2, if_neg (by simp)]
  have hc := cms_hit [hdC1, hdC2] (by
    intro c hc
    simp only [List.mem_cons, List.not_mem_nil, or_false] at hc
    rcases hc with rfl | rfl
    · exact ⟨cm_ok_z 2 3 3 noS 0 false (by unfold I64; omega) (by unfold I64; omega), by decide, by decide, fun _ => ⟨by decide, by decide⟩⟩
    · exact ⟨cm_ok_z 4 0 0 noS 0 false (by unfold I64; omega) (by unfold I64; omega), by decide, by decide, fun h => absurd h (by decide)⟩)
  rw [show flW ([hdC1, hdC2].flatMap cmW) = [bW (mvB 3), nW 3, eW, bW (kdB 4), eW] from rfl] at hc
  rw [hc, if_pos rfl]
  rfl
theorem hd_p2 : parseL hdT2 = ([], 260) ∧ wds hdT2 = [bW (mvB 3), bW ⟨#[48, 51]⟩, eW] := by
  have hg : GdW (bW ⟨#[48, 51]⟩) := .inr ⟨rfl, by decide, by decide⟩
  have hw := wol_ltx [bW (mvB 3), bW ⟨#[48, 51]⟩] (by simp) (gd_cons (gd_tab.2 ⟨3, by decide⟩ (by decide)) (gd_cons hg gd_nil))
  rw [show ltx [bW (mvB 3), bW ⟨#[48, 51]⟩] = hdT2 by decide +kernel] at hw
  have h2 : wds hdT2 = [bW (mvB 3), bW ⟨#[48, 51]⟩, eW] := by rw [wds_line hdT2 (by decide) rfl, hw]; rfl
  refine ⟨?_, h2⟩
  rw [parse_line hdT2 (by decide) (by decide) rfl _ hw]
  have : (cmsL (bW (mvB 3) :: [bW ⟨#[48, 51]⟩, eW])).2 = false := by
    refine cms_no _ _ ?_
    have hx : Rd.nx ⟨bW (mvB 3) :: [bW ⟨#[48, 51]⟩, eW], false⟩ 0 = (mvB 3, ⟨[bW ⟨#[48, 51]⟩, eW], false⟩) := nx_hit 0 _ _ _
    have t := name_tab.2.2.2.2.1 ⟨3, by decide⟩ (by decide)
    rw [cm_0 _ _ _ hx t.1]
    show (Rd.mv _ _).2.el = _
    rw [mv_n _ _ 3 t.2 (by decide) (by decide) (by decide) (by decide) (by decide)]
    show (Rd.nu ⟨[bW ⟨#[48, 51]⟩, eW], false⟩).2.el = Rd.no
    unfold Rd.nu
    rw [show Rd.nx ⟨[bW ⟨#[48, 51]⟩, eW], false⟩ 0 = (⟨#[48, 51]⟩, ⟨[eW], false⟩) from nx_hit 0 _ _ _]
    simp only
    rw [num_zero [51] (by simp), if_neg (by simp), no_el]
  rw [show [bW (mvB 3), bW ⟨#[48, 51]⟩] ++ [eW] = bW (mvB 3) :: [bW ⟨#[48, 51]⟩, eW] from rfl, this, if_neg (by simp)]
theorem hd_now : NoW (wds hdT1) ∧ NoW (wds hdT2) := by
  rw [hd_p1.2, hd_p2.2]
  have t3 := (name_tab.2.2.2.2.1 ⟨3, by decide⟩ (by decide)).1
  have t4 := name_tab.2.2.2.1 ⟨4, by decide⟩ (by decide)
  have n3 : kindOf (nW 3).t = 0 := by decide +kernel
  have n03 : kindOf ⟨#[48, 51]⟩ = 0 := by decide +kernel
  constructor
  · intro x hx hk
    simp only [List.mem_cons, List.not_mem_nil, or_false] at hx
    rcases hx with rfl | rfl | rfl | rfl | rfl
    · show kindOf (mvB 3) ≠ 1; simp only at t3; rw [t3]; decide
    · rw [n3]; decide
    · cases hk
    · show kindOf (kdB 4) ≠ 1; simp only at t4; rw [t4]; decide
    · cases hk
  · intro x hx hk
    simp only [List.mem_cons, List.not_mem_nil, or_false] at hx
    rcases hx with rfl | rfl | rfl
    · show kindOf (mvB 3) ≠ 1; simp only at t3; rw [t3]; decide
    · show kindOf ⟨#[48, 51]⟩ ≠ 1; rw [n03]; decide
    · cases hk
theorem hd_pr : printL [hdC] = ([102, 111, 114, 103, 101, 32, 48, 32, 34, 97, 65, 92, 92, 92, 34, 34, 10], 0) := by
  have h : prT [hdC] = [102, 111, 114, 103, 101, 32, 48, 32, 34, 97, 65, 92, 92, 92, 34, 34, 10] := by decide +kernel
  unfold printL
  rw [show [hdC].any noneB = false by decide +kernel, if_neg (by simp), h, if_neg (by decide +kernel)]
theorem hd_ok : CmOk hdC := cm_ok_z 2 10 0 ⟨#[97, 65, 92, 34]⟩ 0 false (by unfold I64; omega) (by unfold I64; omega)
def hdF6 : Fm := ⟨6, 0, 0, ⟨#[]⟩, 0, 0, false, 0, 0, 0, []⟩
theorem hd_fr : frT hdF6 = [54, 32, 48, 32, 48] := by decide +kernel
theorem hd_fok : hdF6.Ok := by
  have z : I64 0 := by unfold I64; omega
  exact ⟨by unfold I64; decide, z, z, z, z, z, z, z, fun p h => absurd h (by simp [hdF6])⟩
end Go.Proofs.YtghppkfopglgaaaGreatDoor
namespace Go.Proofs.YtghppkfopglgaaaGreatDoor
open Go.RowKit
set_option linter.unusedVariables false
set_option linter.unusedSimpArgs false
theorem proK {g : Nat} {c : Cm} {s : CmS} {w : World} (h1 : c.k ≠ 1) (h2 : c.k = 2 → c.m.k ≠ 1 ∧ c.m.k ≠ 8) : PrOk g c s w :=
  ⟨fun a b => absurd b (h2 a).1, fun a b => absurd b (h2 a).2, fun a => absurd a h1⟩
theorem wpList_build_to {P : Program} {ops : Array Oper} {rest : List Oper} {o : Oper} {a : Act} {w : World} {Q : Exit → Act → World → Prop} (hg : o.guard = none) (t : TypeId) (parts : Array (Nat × Operand)) (ho : o.op = .build t parts) (cells : Array Value)
    (hf : P.built t (parts.map fun (i, x) => (i, a.eval x)).toList = some cells)
    (h : wpList P ops Q rest (a.put o.dst (.agg cells)) w) : wpList P ops Q (o :: rest) a w :=
  wpList_build hg t parts ho (by rw [hf]; rfl) (by rw [hf]; exact h)
theorem map_two {cs : List (Cm × CmS)} {a b : Cm} (h : cs.map (·.1) = [a, b]) : ∃ s t, cs = [(a, s), (b, t)] := by
  rcases cs with _ | ⟨⟨x, s⟩, _ | ⟨⟨y, t⟩, _ | ⟨z, r⟩⟩⟩
  · cases h
  · simp at h
  · simp only [List.map_cons, List.map_nil, List.cons.injEq, and_true] at h
    obtain ⟨rfl, rfl⟩ := h
    exact ⟨s, t, rfl⟩
  · simp at h
def mvHd : Array Value := mvA hdC.m (.slice none 0 0) (.slice none 0 0)
/-- two commands, as cells -/
theorem row_cells {W : World} {v : Value} {cs : List (Cm × CmS)} (h : R ECm W v cs) (hne : cs ≠ []) : ∃ bk cap, v = .slice (some ⟨bk, 0, none⟩) cs.length cap ∧ bk < W.heap.size ∧ ∀ i x, cs[i]? = some x → ∀ j u, (cmA x.1 x.2)[j]? = some u → W.cell? ⟨bk, i * 42 + j, none⟩ = some u := by
  rcases h.2 with ⟨rfl, hn⟩ | ⟨g, cap, cur, rfl, hbs, hgg, hn, hm, hc, hz⟩
  · exact absurd (List.eq_nil_of_length_eq_zero hn) hne
  · refine ⟨g, cap, rfl, heap_lt hgg, fun i x hi j u hu => ?_⟩
    have hcu := cur_at (cur := cur) (cs := cs) hz hi
    rw [cell_blk hgg, ← Array.getElem?_toList]
    have h1 : (cmA x.1 x.2).toList[j]? = some u := by rw [Array.getElem?_toList]; exact hu
    rw [← hcu, List.getElem?_take] at h1
    split at h1
    · rw [List.getElem?_drop] at h1; exact h1
    · cases h1
set_option maxRecDepth 100000 in
set_option maxHeartbeats 8000000 in
theorem head_any (w : World) (hE : Env w) : Calls Tryz.prog 9 #[] w fun e w' => e = .returned (.bool true) ∧ Below w.heap.size w w' := by
  have HP1 := hid (fun V (hV : Env V) => Parse_any ⟨hdT1.toArray⟩ (by decide) V hV (.inr (show NoW (wds hdT1) from hd_now.1)))
  have HP2 := hid (fun V (hV : Env V) => Parse_any ⟨hdT2.toArray⟩ (by decide) V hV (.inr (show NoW (wds hdT2) from hd_now.2)))
  simp only [show (⟨hdT1.toArray⟩ : ByteArray).data.toList = hdT1 from rfl, hd_p1.1] at HP1
  simp only [show (⟨hdT2.toArray⟩ : ByteArray).data.toList = hdT2 from rfl, hd_p2.1] at HP2
  have HPR := hid (fun (V : World) (hV : Env V) (bk : Nat) (hb : V.heap[bk]? = some (.cells (cmA hdC CmS.z) 47 (0, 0))) => Print_any (.slice (some ⟨bk, 0, none⟩) 1 1) [(hdC, CmS.z)] V hV (.inr ⟨bk, 1, _, rfl, by decide, by decide, hb, rfl⟩) (by simp) (by
    intro x hx
    rw [List.mem_singleton] at hx
    subst hx
    exact ⟨hd_ok, by decide⟩) (by
    intro x hx
    rw [List.mem_singleton] at hx
    subst hx
    intro _ _ _ _
    exact proK (by decide) (fun _ => ⟨by decide, by decide⟩)))
  simp only [List.map_cons, List.map_nil, hd_pr, show bt [102, 111, 114, 103, 101, 32, 48, 32, 34, 97, 65, 92, 92, 92, 34, 34, 10] = (⟨#[102, 111, 114, 103, 101, 32, 48, 32, 34, 97, 65, 92, 92, 92, 34, 34, 10]⟩ : ByteArray) from rfl] at HPR
  have HQ := hid (fun V => quote_any ⟨#[0]⟩ V (by decide))
  have HF := hid (fun V (hV : Env V) => frame0_any hdF6 rfl hd_fok (by decide) (by decide) (by rw [hd_fr]; decide) (.slice none 0 0) V hV (.inl ⟨rfl, rfl⟩))
  rw [hd_fr, show bt [54, 32, 48, 32, 48] = (⟨#[54, 32, 48, 32, 48]⟩ : ByteArray) from rfl] at HF
  rw [show bt (qtS (⟨#[0]⟩ : ByteArray).data.toList) = ⟨#[34, 92, 120, 48, 48, 34]⟩ by decide +kernel] at HQ
  have HE := hid hE
  have HEV : Hid (∀ V, Below w.heap.size w V → Env V) := hid (fun V h => hE.of h.size fun k hk => h.block k (by have := hE.sz; omega))
  clear hE
  go_enter Tryz.func9, Tryz.ntmps9
  go_wp2_with fail
  go_at_call 11
  refine (HP1.out w HE.out).mono ?_
  rintro e V1 ⟨v1, rfl, cs1, hm1, hR1, hO1, hN1, hb1⟩
  have B1 := hid hb1
  obtain ⟨s1, s2, rfl⟩ := map_two hm1
  clear hm1
  obtain ⟨bk, cap, rfl, hbk, hcell⟩ := row_cells hR1 (by simp)
  have f0 := hcell 0 (hdC1, s1) rfl 0 (.int .i64 2) rfl
  have f20 := hcell 0 (hdC1, s1) rfl 20 (.int .i64 3) rfl
  have f21 := hcell 0 (hdC1, s1) rfl 21 (.int .i64 3) rfl
  have f42 := hcell 1 (hdC2, s2) rfl 0 (.int .i64 4) rfl
  simp only [Nat.zero_mul, Nat.zero_add, Nat.one_mul, Nat.add_zero] at f0 f20 f21 f42
  have HCL : Hid (∀ V, Below V1.heap.size V1 V → V.cell? ⟨bk, 0, none⟩ = some (.int .i64 2) ∧ V.cell? ⟨bk, 20, none⟩ = some (.int .i64 3) ∧ V.cell? ⟨bk, 21, none⟩ = some (.int .i64 3) ∧ V.cell? ⟨bk, 42, none⟩ = some (.int .i64 4) ∧ bk < V.heap.size) := hid (fun V hV => by
    have hh : ∀ i, V.cell? ⟨bk, i, none⟩ = V1.cell? ⟨bk, i, none⟩ := fun i => by unfold World.cell?; simp only; rw [hV.block bk hbk]
    exact ⟨(hh 0).trans f0, (hh 20).trans f20, (hh 21).trans f21, (hh 42).trans f42, Nat.lt_of_lt_of_le hbk hV.size⟩)
  obtain ⟨V2, hV2⟩ : ∃ V2, V1.alloc (.cells (cmA hdC CmS.z) 47) = V2 := ⟨_, rfl⟩
  have bV2 : Below V1.heap.size V1 V2 := by rw [← hV2]; exact bel1 _ _
  have hq2 : V2.heap[V1.heap.size]? = some (.cells (cmA hdC CmS.z) 47 (0, 0)) := by rw [← hV2, heap_al, if_pos rfl]
  have HPR2 := hid (HPR.out V2 (HEV.out _ (hb1.trans (bV2.mono hb1.size))) V1.heap.size hq2)
  have HV2 := hid hV2
  have HB2 := hid bV2
  clear f0 f20 f21 f42 hcell hR1 hO1 hN1 hb1 hV2 bV2 hq2 HP1 HPR
  go_wp2_with (first | (refine wpList_build_to rfl 38 _ rfl mvHd (by kernel_rfl) ?_) | (refine wpList_build_to rfl 47 _ rfl (cmA hdC CmS.z) (by kernel_rfl) ?_) | (refine wpList_build_one rfl 25 47 (.tmp 13) rfl (cmA hdC CmS.z) rfl Tryz.underlying25 (by kernel_rfl) (by decide) (Nat.le_of_ble_eq_true rfl) ?_; rw [HV2.out]))
  go_at_call 12
  refine HPR2.out.mono ?_
  rintro e V3 ⟨rfl, hb3⟩
  have HB3 := hid (HB2.out.trans (hb3.mono HB2.out.size))
  clear hb3 HPR2
  go_wp2_with fail
  go_at_call 11
  refine (HP2.out V3 (HEV.out _ (B1.out.trans (HB3.out.mono B1.out.size)))).mono ?_
  rintro e V4 ⟨v4, rfl, cs4, hm4, hR4, hO4, hN4, hb4⟩
  have HB4 := hid (HB3.out.trans (hb4.mono HB3.out.size))
  obtain ⟨a4, n4, c4, rfl⟩ : ∃ a n c, v4 = .slice a n c := by
    obtain ⟨a, c, e, _⟩ := hR4.slice
    exact ⟨a, _, c, e⟩
  obtain ⟨d0, d20, d21, d42, hbk4⟩ := HCL.out V4 HB4.out
  clear hb4 hR4 hO4 hN4 hm4 HP2
  go_wp2_with fail
  go_at_call 10
  refine (HQ.out V4).mono ?_
  rintro e V5 ⟨rfl, hb5⟩
  have HB5 := hid (HB4.out.trans (hb5.mono HB4.out.size))
  clear hb5
  go_wp2_with (refine wpList_build_to rfl 55 _ rfl (fmA hdF6 (.slice none 0 0)) (by kernel_rfl) ?_)
  go_at_call 13
  refine (HF.out V5 (HEV.out _ (B1.out.trans (HB5.out.mono B1.out.size)))).mono ?_
  rintro e V6 ⟨rfl, hb6⟩
  have HB6 := hid (HB5.out.trans (hb6.mono HB5.out.size))
  clear hb6
  go_wp2_with fail
  go_ret
  exact ⟨rfl, B1.out.trans (HB6.out.mono B1.out.size)⟩
end Go.Proofs.YtghppkfopglgaaaGreatDoor
namespace Go.Proofs.YtghppkfopglgaaaGreatDoor
open Go.RowKit
set_option linter.unusedVariables false
set_option linter.unusedSimpArgs false
theorem kind1 {s : ByteArray} (h : kindOf s = 1) : s.data.toList = [119, 111, 114, 108, 100] := by
  unfold kindOf idxL at h
  cases e : kindL.findIdx? (fun x => x == s.data.toList) with
  | none => rw [e] at h; cases h
  | some i =>
    rw [e] at h
    simp only at h
    subst h
    obtain ⟨h1, h2, _⟩ := List.findIdx?_eq_some_iff_getElem.1 e
    have h3 : kindL[1] = s.data.toList := by simpa using h2
    rw [← h3]
    exact (by decide +kernel : kindL[1]'(by decide) = [119, 111, 114, 108, 100])
theorem not_w {s : ByteArray} (h : s.data.toList.head? ≠ some 119) : kindOf s ≠ 1 := fun e => h (by rw [kind1 e]; rfl)
theorem digs_head (n : Int) : (bt (Lib.itoa n)).data.toList.head? ≠ some 119 := by
  rw [bt_toList]
  obtain ⟨h1, h2⟩ := itoa_br n
  cases e : Lib.itoa n with
  | nil => simp
  | cons c x =>
    intro h
    simp at h
    subst h
    by_cases hv : n < 0
    · unfold Lib.itoa at e; rw [if_pos hv] at e; cases e
    · unfold Lib.itoa at e
      rw [if_neg hv] at e
      obtain ⟨c2, x2, e2, r1, r2⟩ := dec_head n.toNat
      rw [e] at e2
      cases e2
      exact absurd r2 (by decide)
theorem now_ro (x : List UInt8) (l : List Wd) (hw : wol x = some l) (h10 : ∀ c ∈ x, c ≠ 10) (hl : ∀ w ∈ l, w.k = 0 → w.t.data.toList.head? ≠ some 119) : NoW (wds (hdR ++ x)) := by
  have ht : ∀ c ∈ hdR ++ x, c ≠ 10 := by
    intro c hc
    rcases List.mem_append.1 hc with h | h
    · exact (by decide : ∀ c ∈ hdR, c ≠ 10) c h
    · exact h10 c h
  rw [wds_line _ ht rfl, wol_ro, hw]
  intro w hw hk
  simp only [Option.map_some, Option.getD_some, List.cons_append, List.mem_cons, List.mem_append, List.not_mem_nil, or_false] at hw
  rcases hw with rfl | hw | rfl
  · show kindOf (kdB 3) ≠ 1
    rw [name_tab.2.1]; decide
  · exact not_w (hl w hw hk)
  · cases hk
/-- a wrong line of rounds -/
def Bad (s : ByteArray) : Prop := parseL s.data.toList = ([], 260) ∧ NoW (wds s.data.toList) ∧ s.size ≤ 1000
theorem bad_of (x : List UInt8) (l : List Wd) (s : ByteArray) (hs : s.data.toList = hdR ++ x) (hw : wol x = some l) (h : (cmsL (wRo :: (l ++ [eW]))).2 = false) (h10 : ∀ c ∈ x, c ≠ 10) (hl : x.length ≤ 900) (hn : ∀ w ∈ l, w.k = 0 → w.t.data.toList.head? ≠ some 119) : Bad s := by
  refine ⟨?_, ?_, ?_⟩
  · rw [hs]; exact parse_ro x l hw h h10 (by omega)
  · rw [hs]; exact now_ro x l hw h10 hn
  · rw [sz_eq, hs, List.length_append]; simp [hdR]; omega
theorem sg {p : Wd → Prop} {a : Wd} (h : p a) : ∀ w ∈ [a], p w := fun w hw => by rw [List.mem_singleton] at hw; subst hw; exact h
theorem tw {p : Wd → Prop} {a b : Wd} (h : p a) (k : p b) : ∀ w ∈ [a, b], p w := fun w hw => by
  rcases List.mem_cons.1 hw with rfl | hw
  · exact h
  · rw [List.mem_singleton] at hw; subst hw; exact k
theorem bads (n : Int) (hn : I64 n) (s0 s1 s2 s3 s4 s6 : ByteArray) (h0 : s0.data.toList = hdR ++ 48 :: Lib.itoa n) (h1 : s1.data.toList = hdR ++ 43 :: Lib.itoa n) (h2 : s2.data.toList = hdR ++ 32 :: Lib.itoa n) (h3 : s3.data.toList = hdR ++ (Lib.itoa n ++ [32])) (h4 : s4.data.toList = hdR ++ 34 :: (Lib.itoa n ++ [34])) (h6 : s6.data.toList = hdR ++ (Lib.itoa n ++ 32 :: Lib.itoa n)) :
    Bad s0 ∧ Bad s1 ∧ Bad s2 ∧ Bad s3 ∧ Bad s4 ∧ Bad s6 := by
  have hl := itoa_len n hn.1 hn.2
  have hm := itoa_mem n
  have hb := itoa_br n
  have hg : GdW (nW n) := nW_gd n
  have hk : (nW n).k = 0 := rfl
  have hx : wtx (nW n) = Lib.itoa n := rfl
  have hh : (nW n).t.data.toList.head? ≠ some 119 := digs_head n
  generalize Lib.itoa n = d at *
  generalize nW n = N at *
  have hdw : wol d = some [N] := by
    have := wol_of (fw_end N hg)
    rwa [hx] at this
  have e119 : ∀ (c : UInt8) (x : List UInt8), c ≠ 119 → (c :: x).head? ≠ some 119 := fun c x h => by simpa using h
  refine ⟨?_, ?_, ?_, ?_, ?_, ?_⟩
  · refine bad_of _ _ _ h0 (wol_bare 48 d (by decide) ?_) (ro_num _ _ (num_zero d hb.2)) ?_ (by simp; omega) (sg fun _ => e119 48 d (by decide))
    · intro c hc; rcases List.mem_cons.1 hc with rfl | h; decide; exact (hm c h).2.1
    · intro c hc; rcases List.mem_cons.1 hc with rfl | h; decide; exact (hm c h).1
  · refine bad_of _ _ _ h1 (wol_bare 43 d (by decide) ?_) (ro_num _ _ (num_plus d)) ?_ (by simp; omega) (sg fun _ => e119 43 d (by decide))
    · intro c hc; rcases List.mem_cons.1 hc with rfl | h; decide; exact (hm c h).2.1
    · intro c hc; rcases List.mem_cons.1 hc with rfl | h; decide; exact (hm c h).1
  · have q1 : fw (32 :: d) = some (⟨0, noS⟩, 32 :: d) := by unfold fw; simp [bt]
    refine bad_of _ [⟨0, noS⟩, N] _ h2 (by rw [wol_more q1, hdw]; rfl) (ro_num noS [N, eW] num_nil) ?_ (by simp; omega) (tw (fun _ => by show ([] : List UInt8).head? ≠ _; simp) (fun _ => hh))
    intro c hc; rcases List.mem_cons.1 hc with rfl | h; decide; exact (hm c h).1
  · have q1 : fw (d ++ [32]) = some (N, 32 :: []) := by
      have := fw_more N hg []
      rwa [hx] at this
    have q2 : wol [] = some [⟨0, noS⟩] := wol_of rfl
    refine bad_of _ [N, ⟨0, noS⟩] _ h3 (by rw [wol_more q1, q2]; rfl) (ro_more N ⟨0, noS⟩ [eW] hk (by show (0 : Nat) ≠ 2; decide)) ?_ (by simp; omega) (tw (fun _ => hh) (fun _ => by show ([] : List UInt8).head? ≠ _; simp))
    intro c hc; rcases List.mem_append.1 hc with h | h; exact (hm c h).1; rw [List.mem_singleton] at h; subst h; decide
  · have hu : unq (d ++ [34]) = some (d, []) := by
      have h34 : ∀ (l : List UInt8), (∀ c ∈ l, isPl c = true ∧ c ≠ 34 ∧ c ≠ 92) → unq (l ++ [34]) = some (l, []) := by
        intro l
        induction l with
        | nil => intro _; exact unq_end []
        | cons c l ih =>
          intro h
          obtain ⟨p1, p2, p3⟩ := h c (by simp)
          rw [List.cons_append, unq_c c p1 p2 p3, unqAdd, ih (fun e he => h e (by simp [he]))]
          rfl
      have hbp : ∀ c : UInt8, brC c = true → isPl c = true ∧ c ≠ 34 ∧ c ≠ 92 := all_u8 (by decide +kernel)
      exact h34 d fun c hc => hbp c (List.all_eq_true.1 hb.1 c hc)
    have q1 : fw (34 :: (d ++ [34])) = some (⟨1, bt d⟩, []) := by rw [fw_q, hu]; rfl
    refine bad_of _ _ _ h4 (wol_of q1) (ro_kind _ _ (by show (1 : Nat) ≠ 0; decide)) ?_ (by simp; omega) (sg fun h => absurd h (by show (1 : Nat) ≠ 0; decide))
    intro c hc
    rcases List.mem_cons.1 hc with rfl | h
    · decide
    · rcases List.mem_append.1 h with h | h
      · exact (hm c h).1
      · rw [List.mem_singleton] at h; subst h; decide
  · have q1 : fw (d ++ 32 :: d) = some (N, 32 :: d) := by
      have := fw_more N hg d
      rwa [hx] at this
    refine bad_of _ [N, N] _ h6 (by rw [wol_more q1, hdw]; rfl) (ro_more N N [eW] hk (by rw [hk]; decide)) ?_ (by simp; omega) (tw (fun _ => hh) (fun _ => hh))
    intro c hc
    rcases List.mem_append.1 hc with h | h
    · exact (hm c h).1
    · rcases List.mem_cons.1 h with rfl | h
      · decide
      · exact (hm c h).1
def b5 : ByteArray := ⟨#[114, 111, 117, 110, 100, 115]⟩
def b7 : ByteArray := ⟨#[114, 111, 117, 110, 100, 115, 32, 57, 50, 50, 51, 51, 55, 50, 48, 51, 54, 56, 53, 52, 55, 55, 53, 56, 48, 56]⟩
def b8 : ByteArray := ⟨#[114, 111, 117, 110, 100, 115, 32, 45, 57, 50, 50, 51, 51, 55, 50, 48, 51, 54, 56, 53, 52, 55, 55, 53, 56, 48, 57]⟩
def b9 : ByteArray := ⟨#[114, 111, 117, 110, 100, 115, 32, 45, 48]⟩
theorem bad_fix : Bad b5 ∧ Bad b7 ∧ Bad b8 ∧ Bad b9 := by
  have hR : wol b5.data.toList = some [wRo] := by
    rw [show b5.data.toList = wtx wRo by decide +kernel]
    exact wol_of (fw_end wRo gd_ro)
  refine ⟨⟨?_, ?_, by decide⟩, ?_, ?_, ?_⟩
  · rw [parse_line _ (by decide) (by decide) rfl _ hR, show [wRo] ++ [eW] = wRo :: eW :: [] from rfl, if_neg (by rw [ro_kind eW [] (by decide)]; simp)]
  · rw [wds_line _ (by decide) rfl, hR]
    intro w hw hk
    simp only [Option.getD_some, List.cons_append, List.nil_append, List.mem_cons, List.not_mem_nil, or_false] at hw
    rcases hw with rfl | rfl
    · show kindOf (kdB 3) ≠ 1
      rw [name_tab.2.1]; decide
    · cases hk
  · exact bad_of (57 :: [50, 50, 51, 51, 55, 50, 48, 51, 54, 56, 53, 52, 55, 55, 53, 56, 48, 56]) _ b7 rfl (wol_bare 57 _ (by decide) (by decide)) (ro_num _ _ (by rw [bt_toList]; decide +kernel)) (by decide) (by decide) (sg fun _ => by rw [bt_toList]; decide)
  · exact bad_of (45 :: [57, 50, 50, 51, 51, 55, 50, 48, 51, 54, 56, 53, 52, 55, 55, 53, 56, 48, 57]) _ b8 rfl (wol_bare 45 _ (by decide) (by decide)) (ro_num _ _ (by rw [bt_toList]; decide +kernel)) (by decide) (by decide) (sg fun _ => by rw [bt_toList]; decide)
  · exact bad_of (45 :: [48]) _ b9 rfl (wol_bare 45 _ (by decide) (by decide)) (ro_num _ _ (by rw [bt_toList]; decide +kernel)) (by decide) (by decide) (sg fun _ => by rw [bt_toList]; decide)
theorem nums_facts (n m : Int) (hn : I64 n) (hm : I64 m) : longB (prT [cm3 n, cm7 m]) = false ∧ NoW (wds (prT [cm3 n, cm7 m])) ∧ (prT [cm3 n, cm7 m]).length ≤ 1000 ∧ (∀ c ∈ [cm3 n, cm7 m], CmOk c ∧ KOk c) := by
  have hok : ∀ c ∈ [cm3 n, cm7 m], CmOk c ∧ KOk c := by
    intro c hc
    simp only [List.mem_cons, List.not_mem_nil, or_false] at hc
    rcases hc with rfl | rfl
    · exact ⟨cm_ok_z 3 0 0 noS n false (by unfold I64; omega) hn, by show (1 : Int) ≤ 3; decide, by show (3 : Int) ≤ 10; decide, fun h => absurd h (by show ¬ (3 : Int) = 2; decide)⟩
    · exact ⟨cm_ok_z 2 7 m noS 0 false hm (by unfold I64; omega), by show (1 : Int) ≤ 2; decide, by show (2 : Int) ≤ 10; decide, fun _ => ⟨by show (1 : Int) ≤ 7; decide, by show (7 : Int) ≤ 10; decide⟩⟩
  have a := itoa_len n hn.1 hn.2
  have b := itoa_len m hm.1 hm.2
  have hlen : (prT [cm3 n, cm7 m]).length ≤ 1000 := by
    rw [pr_nums]
    simp only [hdR, List.length_append, List.length_cons, List.length_nil]
    omega
  refine ⟨?_, ?_, hlen, hok⟩
  · cases hl : longB (prT [cm3 n, cm7 m]) with
    | false => rfl
    | true =>
      have h := parse_nums n m hn hm
      unfold parseL at h
      rw [hl, if_pos rfl] at h
      exact absurd (congrArg Prod.snd h) (by show ¬ (3 : Int) = 0; decide)
  · unfold prT
    rw [wds_txt _ (gd_cms _ fun c hc => (hok c hc).2)]
    intro w hw hk
    have e : [cm3 n, cm7 m].flatMap cmW = [[wRo, nW n], [bW (mvB 7), nW m]] := by
      simp [cmW, cm3, cm7, Cm.of, mvW]
      rfl
    rw [e] at hw
    simp only [List.flatMap_cons, List.flatMap_nil, List.cons_append, List.nil_append, List.append_nil, List.mem_cons, List.not_mem_nil, or_false] at hw
    rcases hw with rfl | rfl | rfl | rfl | rfl | rfl
    · show kindOf (kdB 3) ≠ 1
      rw [name_tab.2.1]; decide
    · exact not_w (digs_head n)
    · cases hk
    · have := (name_tab.2.2.2.2.1 ⟨7, by decide⟩ (by decide)).1
      simp only at this
      show kindOf (mvB 7) ≠ 1
      rw [this]; decide
    · exact not_w (digs_head m)
    · cases hk
theorem nums_print (n m : Int) (hn : I64 n) (hm : I64 m) : printL [cm3 n, cm7 m] = (prT [cm3 n, cm7 m], 0) := by
  unfold printL
  rw [show [cm3 n, cm7 m].any noneB = false from rfl, if_neg (by simp), (nums_facts n m hn hm).1, if_neg (by simp)]
end Go.Proofs.YtghppkfopglgaaaGreatDoor
namespace Go.Proofs.YtghppkfopglgaaaGreatDoor
open Go.RowKit
set_option linter.unusedVariables false
set_option linter.unusedSimpArgs false
theorem now_F (l : List Wd) (h : ∀ w ∈ l, w.k ≠ 0) : NoW (wFo :: w5 :: l) := by
  intro w hw hk
  rcases List.mem_cons.1 hw with rfl | hw
  · show kindOf (bt [102, 111, 114, 103, 101]) ≠ 1
    exact not_w (by rw [bt_toList]; decide)
  · rcases List.mem_cons.1 hw with rfl | hw
    · exact not_w (digs_head 5)
    · exact absurd hk (h w hw)
theorem hdF_ne : ∀ c ∈ hdF, c ≠ 10 := by decide
theorem cat_ne {x : List UInt8} (h : ∀ c ∈ x, c ≠ 10) : ∀ c ∈ hdF ++ 34 :: x, c ≠ 10 := by
  intro c hc
  rcases List.mem_append.1 hc with h' | h'
  · exact hdF_ne c h'
  · rcases List.mem_cons.1 h' with rfl | h'
    · decide
    · exact h c h'
/-- a line that forges a text -/
def Good (t : ByteArray) (s : List UInt8) : Prop := parseL t.data.toList = ([cmF s], 0) ∧ NoW (wds t.data.toList) ∧ t.size ≤ 5000
theorem good_of (x s : List UInt8) (t : ByteArray) (ht : t.data.toList = hdF ++ 34 :: x) (h : unq x = some (s, [])) (h10 : ∀ c ∈ x, c ≠ 10) (hl : x.length ≤ 4087) : Good t s := by
  refine ⟨?_, ?_, ?_⟩
  · rw [ht]; exact parse_q_some x s h h10 hl
  · rw [ht, wds_line _ (cat_ne h10) rfl, wol_q_some x s h]
    exact now_F _ (by
      intro w hw
      rcases List.mem_cons.1 hw with rfl | hw
      · show (1 : Nat) ≠ 0; decide
      · rcases List.mem_cons.1 hw with rfl | hw
        · show (2 : Nat) ≠ 0; decide
        · cases hw)
  · rw [sz_eq, ht, List.length_append, List.length_cons]
    simp only [hdF, List.length_cons, List.length_nil]
    omega
theorem bad_q (x : List UInt8) (t : ByteArray) (ht : t.data.toList = hdF ++ 34 :: x) (h : unq x = none) (h10 : ∀ c ∈ x, c ≠ 10) (hl : x.length ≤ 4087) : parseL t.data.toList = ([], 260) ∧ NoW (wds t.data.toList) ∧ t.size ≤ 5000 := by
  refine ⟨?_, ?_, ?_⟩
  · rw [ht]; exact parse_q_none x h h10 hl
  · rw [ht, wds_line _ (cat_ne h10) rfl, wol_q_none x h]
    intro w hw hk
    simp only [Option.getD_none, List.nil_append, List.mem_singleton] at hw
    subst hw
    cases hk
  · rw [sz_eq, ht, List.length_append, List.length_cons]
    simp only [hdF, List.length_cons, List.length_nil]
    omega
theorem good_quote (s : List UInt8) (t : ByteArray) (ht : t.data.toList = hdF ++ qtS s) (h : s.length ≤ 900) : Good t s := by
  have hq := qtS_len s
  have hr := qtS_range s
  unfold qtS at hq hr ht
  refine good_of _ s t ht (unq_qt s []) (fun c hc e => ?_) (by rw [List.length_cons] at hq; omega)
  have := hr c (List.mem_cons_of_mem _ hc)
  subst e
  exact absurd this (by decide)
theorem hxs_end (s : List UInt8) : ∀ c ∈ s.flatMap hxC ++ [34], c ≠ 10 := by
  intro c hc
  rcases List.mem_append.1 hc with h | h
  · exact hxS_ne s c h
  · rw [List.mem_singleton] at h; subst h; decide
theorem good_long (s : List UInt8) (t : ByteArray) (ht : t.data.toList = hdF ++ lgS s) (h : s.length ≤ 900) : Good t s :=
  good_of _ s t ht (by rw [unq_hx, unq_end]; simp) (hxs_end s) (by rw [List.length_append, hxS_len, List.length_singleton]; omega)
theorem bad_cut (s : List UInt8) (t : ByteArray) (ht : t.data.toList = hdF ++ (lgS s).take ((lgS s).length - 1)) (h : s.length ≤ 900) : parseL t.data.toList = ([], 260) ∧ NoW (wds t.data.toList) ∧ t.size ≤ 5000 := by
  have e : (lgS s).take ((lgS s).length - 1) = 34 :: s.flatMap hxC := by
    unfold lgS
    simp only [List.length_cons, List.length_append, List.length_nil]
    rw [show ((s.flatMap hxC).length + (0 + 1) + 1 - 1) = (s.flatMap hxC).length + 1 by omega, List.take_succ_cons, List.take_left']
    rfl
  rw [e] at ht
  refine bad_q _ t ht ?_ (hxS_ne s) (by rw [hxS_len]; omega)
  have := unq_hx s []
  rw [List.append_nil, unq_nil] at this
  exact this
theorem bad_put (s : List UInt8) (j : Nat) (y : List UInt8) (t : ByteArray) (ht : t.data.toList = hdF ++ ((lgS s).take (1 + 4 * j) ++ (y ++ (lgS s).drop (1 + 4 * j)))) (hj : j ≤ s.length) (h : s.length ≤ 900) (hy : y.length ≤ 400) (h10 : ∀ c ∈ y, c ≠ 10) (hn : ∀ r, unq (y ++ r) = none) : parseL t.data.toList = ([], 260) ∧ NoW (wds t.data.toList) ∧ t.size ≤ 5000 := by
  obtain ⟨e1, e2⟩ := lgS_split s j hj
  rw [e1, e2, List.cons_append] at ht
  refine bad_q _ t ht ?_ ?_ ?_
  · rw [unq_hx, hn]; rfl
  · intro c hc
    rcases List.mem_append.1 hc with h | h
    · exact hxS_ne _ c h
    · rcases List.mem_append.1 h with h | h
      · exact h10 c h
      · exact hxs_end _ c h
  · simp only [List.length_append, hxS_len, List.length_take, List.length_drop, List.length_singleton]
    omega
end Go.Proofs.YtghppkfopglgaaaGreatDoor
