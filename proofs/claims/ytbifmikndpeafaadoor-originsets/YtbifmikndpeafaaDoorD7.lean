/- The document's Parse. -/
import Derived.Test.YtbifmikndpeafaaDoorD6
import Derived.Test.YtbifmikndpeafaaDoorB4
import Derived.Lib.IndexBytes
namespace Go.Proofs.YtbifmikndpeafaaDoor
open Go.RowKit
set_option linter.unusedVariables false
set_option linter.unusedSimpArgs false
theorem cut_at {t : ByteArray} {i : Nat} (h : Lib.index t.data.toList c3S.data.toList = (i : Int)) : c3A t = t.extract 0 i ∧ c3B t = t.extract (i + 3) t.size ∧ c3T t = true := by
  have hc : Lib.cut t.data.toList c3S.data.toList = (t.data.toList.take i, t.data.toList.drop (i + 3), true) := by
    unfold Lib.cut
    rw [h, if_pos (by omega)]
    rfl
  refine ⟨?_, ?_, ?_⟩
  · unfold c3A; rw [hc]; apply ba_eq; rw [bt_list, ext_list, List.drop_zero]
  · unfold c3B; rw [hc]; apply ba_eq; rw [bt_list, ext_list, show List.take t.size t.data.toList = t.data.toList from List.take_of_length_le (by rw [Lib.size_eq]; exact Nat.le_refl _)]
  · unfold c3T; rw [hc]
theorem c3_list : c3S.toList = [58, 47, 47] := by rw [ByteArray.toList_eq]; rfl
theorem cut_no {t : ByteArray} (h : Lib.index t.data.toList c3S.data.toList = -1) : c3T t = false := by
  unfold c3T Lib.cut
  rw [h]
  rfl
theorem pa_none {t : ByteArray} (h : Lib.index t.data.toList c3S.data.toList = -1) : paB t = false := by
  unfold paB
  rw [cut_no h]
  rfl
theorem pa_long {t : ByteArray} (h : Lib.NoOccB t c3S 6) : paB t = false := by
  rcases Lib.index_spec t.data.toList c3S.data.toList with ⟨h1, _⟩ | ⟨i, h1, h2, h3, _⟩
  · exact pa_none h1
  · have hi : 6 ≤ i := by
      rcases Nat.lt_or_ge i 6 with h6 | h6
      · have := h i h6
        rw [h3] at this
        cases this
      · exact h6
    unfold paB mnB
    rw [(cut_at h1).1, rt_s, Bool.and_false]
    unfold mnG
    simp only
    rcases usP_cases (smS (t.extract 0 i)) with ⟨e, _⟩ | ⟨e, _⟩ | ⟨_, _, e⟩
    · exfalso
      have h5 := congrArg ByteArray.size e
      rw [sm_size, ByteArray.size_extract] at h5
      have : httpS.size = 4 := rfl
      have := Lib.size_eq t
      omega
    · exfalso
      have h5 := congrArg ByteArray.size e
      rw [sm_size, ByteArray.size_extract] at h5
      have : httpsS.size = 5 := rfl
      have := Lib.size_eq t
      omega
    · exact e
set_option maxHeartbeats 4000000 in
set_option maxRecDepth 100000 in
theorem rparse_any (t : ByteArray) (w : World) (h2 : t.size ≤ 140737488351232) : Calls Tryd.prog 18 #[.string t] w fun e w' => e = .returned (paV t) ∧ Below w.heap.size w w' := by
  obtain ⟨n, hn⟩ : ∃ n, w.heap.size = n := ⟨_, rfl⟩
  have HNN : Hid (w.heap.size = n) := hn
  obtain ⟨V0, hV0⟩ : ∃ W, w.alloc (.cells #[.string ⟨#[]⟩, .string ⟨#[]⟩, .int .i64 0] 23) = W := ⟨_, rfl⟩
  have HB0 : Hid (Below n w V0) := by rw [← hV0, ← hn]; exact bel1 _ _
  have HO0 : Hid (OB V0 n og0) := by show OB _ _ _; rw [← hV0, ← hn]; unfold OB; rw [heap_al, if_pos rfl]; rfl
  have HBAD : Hid (paB t = false → paV t = .tuple #[.agg (ogv og0), .int .i64 150]) := fun h => by unfold paV paO paE; rw [h]; rfl
  go_enter Tryd.func18, Tryd.ntmps18
  go_wp2_with fail
  clear hV0 hn
  go_loopw [4, 5, 6] (fun iv _ _ wr => ∃ i : Nat, iv = .int .i64 (i : Int) ∧ i ≤ 6 ∧ Hid (Lib.NoOccB t c3S i ∧ wr = V0)) (fun iv _ _ _ => 6 - (intOf iv).toNat)
  case atStart => exact ⟨0, rfl, by omega, Lib.NoOcc.zero _ _, rfl⟩
  case round =>
    obtain ⟨i, rfl, hi, hJ⟩ := hrel
    have hww := hJ.out.2
    have hI : Hid (Lib.NoOccB t c3S i) := hJ.out.1
    rw [hww]
    clear hww hJ
    by_cases h3 : i + 3 ≤ t.size
    · have a3 : (i : Int) + 3 ≤ (t.size : Int) := by omega
      by_cases h6 : i < 6
      · have a6 : (i : Int) < 6 := by omega
        have b1 : (0 : Int) ≤ (i : Int) := by omega
        have b2 : (i : Int) ≤ (i : Int) + 3 := by omega
        have b4 : (0 : Int) ≤ (i : Int) + 3 := by omega
        have b5 : (i : Int) ≤ (t.size : Int) := by omega
        cases hp : ((t.extract i (i + 3)).toList == c3S.toList)
        · have HN : Hid (Lib.NoOccB t c3S (i + 1)) := Lib.miss_piece t c3S i hI.out h3 hp
          have hp2 : ((t.extract i (i + 3)).toList == [58, 47, 47]) = false := by rw [← c3_list]; exact hp
          clear hp hI
          go_wp2_with fail
          go_roundw
          case rel => exact ⟨i + 1, by simp, by omega, HN.out, by first | rfl | trivial⟩
          case measure => simp [intOf]; omega
        · have HIX : Hid (Lib.index t.data.toList c3S.data.toList = (i : Int)) := Lib.hit t c3S i hI.out h3 hp
          obtain ⟨A, hA⟩ : ∃ A, t.extract 0 i = A := ⟨_, rfl⟩
          obtain ⟨q, hq⟩ : ∃ q : Nat, i + 3 = q := ⟨_, rfl⟩
          obtain ⟨B, hB⟩ : ∃ B, t.extract q t.size = B := ⟨_, rfl⟩
          have hqw : IntKind.i64.wrap ((i : Int) + 3) = (q : Int) := by rw [IntKind.wrap_i64]; omega
          have hq1 : (q : Int) ≤ (t.size : Int) := by omega
          have hq0 : (0 : Int) ≤ (q : Int) := by omega
          have hq2 : (i : Int) ≤ (q : Int) := by omega
          have hp2 : ((t.extract i q).toList == [58, 47, 47]) = true := by rw [← c3_list, ← hq]; exact hp
          obtain ⟨M, hM⟩ : ∃ M, smS A = M := ⟨_, rfl⟩
          obtain ⟨O, hO⟩ : ∃ O, mnO M B = O := ⟨_, rfl⟩
          obtain ⟨G, hG⟩ : ∃ G, mnB M B = G := ⟨_, rfl⟩
          have HPB : Hid (paB t = G) := by show _ = _; unfold paB; rw [(cut_at HIX.out).1, (cut_at HIX.out).2.1, (cut_at HIX.out).2.2, hA, hq, hB, hM, hG]; rfl
          have HPO : Hid (mnO (smS (c3A t)) (c3B t) = O) := by show _ = _; rw [(cut_at HIX.out).1, (cut_at HIX.out).2.1, hA, hq, hB, hM, hO]
          have HSm : Hid (∀ W, Calls Tryd.prog 33 #[.string A] W fun e w' => e = .returned (.string M) ∧ Below W.heap.size W w') := fun W => by
            rw [← hM]
            exact rsmall_any A W (by rw [← hA]; exact Nat.le_trans (ext_size_le _ _ _) h2)
          have HSp : Hid (∀ W, Calls Tryd.prog 32 #[.string M, .string B] W fun e w' => e = .returned (.tuple #[.agg #[.string O.s, .string O.h, .int .i64 O.p], .bool G]) ∧ Below W.heap.size W w') := fun W => by
            have := spelt_any M B W (by rw [← hB]; exact Nat.le_trans (ext_size_le _ _ _) h2)
            unfold mnV ogv at this
            rw [hO, hG] at this
            exact this
          clear hp hI hM hO hG HIX hq
          cases G
          · have HV : Hid (paV t = .tuple #[.agg (ogv og0), .int .i64 150]) := by
              show _ = _
              unfold paV paO paE
              rw [HPB.out]
              rfl
            go_wp2_with fail
            have hIW : Below V0.heap.size V0 V0.drew := (Below.refl _ _).drew
            refine wp_region_held_drew (S := (fun _ => True)) (by kernel_rfl) trivial (fun hHeld => ?_)
            generalize hWg : World.drew _ = W at hIW hHeld ⊢
            clear hWg
            refine wpAnyH_take (i := 0) (oi := { dst := some 25, op := Op.move (Operand.tmp 0), type := 9, pos := "ref.go:103", after := #[], guard := none }) (v := ?vv1) rfl (by kernel_rfl) (by kernel_rfl) (by kernel_rfl) (fun _ _ _ h => h) (Or.inl ⟨by rfl, ?hy1⟩) (by assumption) ?_
            case hy1 => (intro w hSw; (try dsimp only at hSw); go_simp; all_goals with_reducible rfl)
            try simp only [Act.put, List.setIfInBounds_toArray, List.set_cons_zero, List.set_cons_succ]
            refine wpAnyH_take (i := 1) (oi := { dst := some 26, op := Op.move (Operand.tmp 4), type := 3, pos := "ref.go:103", after := #[], guard := none }) (v := ?vv2) rfl (by kernel_rfl) (by kernel_rfl) (by kernel_rfl) (fun _ _ _ h => h) (Or.inl ⟨by rfl, ?hy2⟩) (by assumption) ?_
            case hy2 => (intro w hSw; (try dsimp only at hSw); go_simp; all_goals with_reducible rfl)
            try simp only [Act.put, List.setIfInBounds_toArray, List.set_cons_zero, List.set_cons_succ]
            refine wpAnyH_take (i := 2) (oi := { dst := some 27, op := Op.slice 9 (Operand.tmp 25) none (some (Operand.tmp 26)) none, type := 9, pos := "ref.go:103", after := #[{ on := 0, ground := Ground.data }, { on := 1, ground := Ground.data }], guard := none }) (v := ?vv3) rfl (by kernel_rfl) (by kernel_rfl) (by kernel_rfl) (fun _ _ _ h => h) (Or.inl ⟨by rfl, ?hy3⟩) (by assumption) ?_
            case hy3 => (intro w hSw; (try dsimp only at hSw); go_simp; all_goals with_reducible rfl)
            try simp only [Act.put, List.setIfInBounds_toArray, List.set_cons_zero, List.set_cons_succ]
            refine wpAnyH_take (i := 4) (oi := { dst := some 29, op := Op.move (Operand.tmp 0), type := 9, pos := "ref.go:103", after := #[], guard := none }) (v := ?vv4) rfl (by kernel_rfl) (by kernel_rfl) (by kernel_rfl) (fun _ _ _ h => h) (Or.inl ⟨by rfl, ?hy4⟩) (by assumption) ?_
            case hy4 => (intro w hSw; (try dsimp only at hSw); go_simp; all_goals with_reducible rfl)
            try simp only [Act.put, List.setIfInBounds_toArray, List.set_cons_zero, List.set_cons_succ]
            refine wpAnyH_take (i := 5) (oi := { dst := some 30, op := Op.move (Operand.tmp 4), type := 3, pos := "ref.go:103", after := #[], guard := none }) (v := ?vv5) rfl (by kernel_rfl) (by kernel_rfl) (by kernel_rfl) (fun _ _ _ h => h) (Or.inl ⟨by rfl, ?hy5⟩) (by assumption) ?_
            case hy5 => (intro w hSw; (try dsimp only at hSw); go_simp; all_goals with_reducible rfl)
            try simp only [Act.put, List.setIfInBounds_toArray, List.set_cons_zero, List.set_cons_succ]
            refine wpAnyH_take (i := 6) (oi := { dst := some 31, op := Op.binOp BinOp.add 3 (Operand.tmp 30) (Operand.const (Value.int IntKind.i64 3)) 3, type := 3, pos := "ref.go:103", after := #[{ on := 5, ground := Ground.data }], guard := none }) (v := ?vv6) rfl (by kernel_rfl) (by kernel_rfl) (by kernel_rfl) (fun _ _ _ h => h) (Or.inl ⟨by rfl, ?hy6⟩) (by assumption) ?_
            case hy6 => (intro w hSw; (try dsimp only at hSw); go_simp; all_goals with_reducible rfl)
            try simp only [Act.put, List.setIfInBounds_toArray, List.set_cons_zero, List.set_cons_succ]
            refine wpAnyH_take (i := 7) (oi := { dst := some 32, op := Op.slice 9 (Operand.tmp 29) (some (Operand.tmp 31)) none none, type := 9, pos := "ref.go:103", after := #[{ on := 4, ground := Ground.data }, { on := 6, ground := Ground.data }], guard := none }) (v := ?vv7) rfl (by kernel_rfl) (by kernel_rfl) (by kernel_rfl) (fun _ _ _ h => h) (Or.inl ⟨by rfl, ?hy7⟩) (by assumption) ?_
            case hy7 => (intro w hSw; (try dsimp only at hSw); go_simp; all_goals with_reducible rfl)
            try simp only [Act.put, List.setIfInBounds_toArray, List.set_cons_zero, List.set_cons_succ]
            refine wpAnyH_ready (rs := [3, 12]) (by kernel_rfl) (by simp) ?_
            refine AllReadyH.cons (o := { dst := some 28, op := Op.call { callee := Callee.value (Operand.func 33), args := #[Operand.tmp 27], argTypes := #[9] }, type := 9, pos := "ref.go:103", after := #[{ on := 2, ground := Ground.data }], guard := none }) rfl (fun K hK => ?_) ?_
            · go_simp
              refine (HSm.out _).mono ?_
              rintro e' Wx ⟨rfl, bX⟩
              have hWx : Below V0.heap.size V0 Wx := hIW.trans (bX.mono hIW.size)
              clear bX
              go_wp2_with fail
              refine hK.out _ _ trivial (fun hHeld => ?_)
              clear hK K
              try simp only [Act.put, List.setIfInBounds_toArray, List.set_cons_zero, List.set_cons_succ]
              refine wpAnyH_ready (rs := [8, 12]) (by kernel_rfl) (by simp) ?_
              refine AllReadyH.cons (o := { dst := some 33, op := Op.call { callee := Callee.value (Operand.func 32), args := #[Operand.tmp 28, Operand.tmp 32], argTypes := #[9, 9] }, type := 57, pos := "ref.go:103", after := #[{ on := 3, ground := Ground.data }, { on := 7, ground := Ground.data }, { on := 3, ground := Ground.chain }], guard := none }) rfl (fun K hK => ?_) ?_
              · go_simp
                refine (HSp.out _).mono ?_
                rintro e' Wxx ⟨rfl, bX⟩
                have hWxx : Below V0.heap.size V0 Wxx := hWx.trans (bX.mono hWx.size)
                clear bX
                go_wp2_with fail
                refine hK.out _ _ trivial (fun hHeld => ?_)
                clear hK K
                try simp only [Act.put, List.setIfInBounds_toArray, List.set_cons_zero, List.set_cons_succ]
                refine wpAnyH_take (i := 9) (oi := { dst := some 24, op := Op.move (Operand.tmp 33), type := 57, pos := "ref.go:103", after := #[{ on := 8, ground := Ground.data }], guard := none }) (v := ?vv8) rfl (by kernel_rfl) (by kernel_rfl) (by kernel_rfl) (fun _ _ _ h => h) (Or.inl ⟨by rfl, ?hy8⟩) (by assumption) ?_
                case hy8 => (intro w hSw; (try dsimp only at hSw); go_simp; all_goals with_reducible rfl)
                try simp only [Act.put, List.setIfInBounds_toArray, List.set_cons_zero, List.set_cons_succ]
                refine wpAnyH_take (i := 10) (oi := { dst := some 34, op := Op.extract (Operand.tmp 24) 0, type := 23, pos := "ref.go:103", after := #[{ on := 9, ground := Ground.data }], guard := none }) (v := ?vv9) rfl (by kernel_rfl) (by kernel_rfl) (by kernel_rfl) (fun _ _ _ h => h) (Or.inl ⟨by rfl, ?hy9⟩) (by assumption) ?_
                case hy9 => (intro w hSw; (try dsimp only at hSw); go_simp; all_goals with_reducible rfl)
                try simp only [Act.put, List.setIfInBounds_toArray, List.set_cons_zero, List.set_cons_succ]
                refine wpAnyH_take (i := 11) (oi := { dst := some 35, op := Op.extract (Operand.tmp 24) 1, type := 4, pos := "ref.go:103", after := #[{ on := 9, ground := Ground.data }, { on := 13, ground := Ground.gcOnly Departure.lateStores }], guard := none }) (v := ?vv10) rfl (by kernel_rfl) (by kernel_rfl) (by kernel_rfl) (fun _ _ _ h => h) (Or.inl ⟨by rfl, ?hy10⟩) (by assumption) ?_
                case hy10 => (intro w hSw; (try dsimp only at hSw); go_simp; all_goals with_reducible rfl)
                try simp only [Act.put, List.setIfInBounds_toArray, List.set_cons_zero, List.set_cons_succ]
                refine wpAnyH_ready (rs := [12]) (by kernel_rfl) (by simp) ?_
                refine AllReadyH.cons (o := { dst := some 5, op := Op.alloc 23, type := 0, pos := "ref.go:103", after := #[], guard := none }) rfl (fun K hK => ?_) AllReadyH.nil
                obtain ⟨m, hm⟩ : ∃ m, Wxx.heap.size = m := ⟨_, rfl⟩
                obtain ⟨Wxxx, hV9⟩ : ∃ V, Wxx.alloc (.cells #[.string ⟨#[]⟩, .string ⟨#[]⟩, .int .i64 0] 23) = V := ⟨_, rfl⟩
                have hWxxx : Below V0.heap.size V0 Wxxx := by rw [← hV9]; exact hWxx.trans ((bel1 _ _).mono hWxx.size)
                have oWxxx : OB Wxxx m og0 := by rw [← hV9, ← hm]; unfold OB; rw [heap_al, if_pos rfl]; rfl
                have hmn : n < m := by have := hWxx.size; rw [hm] at this; have := HO0.out.lt; omega
                go_simp
                go_wp2_with fail
                refine hK.out _ _ trivial (fun hHeld => ?_)
                clear hK K hV9 hm
                try simp only [Act.put, List.setIfInBounds_toArray, List.set_cons_zero, List.set_cons_succ]
                refine wpAnyH_ready (rs := [13]) (by kernel_rfl) (by simp) ?_
                refine AllReadyH.cons (o := { dst := none, op := Op.store 23 (Operand.tmp 5) (Operand.tmp 34), type := 0, pos := "ref.go:103", after := #[{ on := 12, ground := Ground.data }, { on := 10, ground := Ground.data }, { on := 8, ground := Ground.chain }, { on := 0, ground := Ground.phase }, { on := 1, ground := Ground.phase }, { on := 2, ground := Ground.phase }, { on := 3, ground := Ground.phase }, { on := 4, ground := Ground.phase }, { on := 5, ground := Ground.phase }, { on := 6, ground := Ground.phase }, { on := 7, ground := Ground.phase }, { on := 8, ground := Ground.phase }, { on := 9, ground := Ground.phase }, { on := 10, ground := Ground.phase }, { on := 11, ground := Ground.textOnly Departure.lateStores }, { on := 12, ground := Ground.phase }], guard := none }) rfl (fun K hK => ?_) AllReadyH.nil
                have hg := oWxxx
                obtain ⟨f0, f1, f2, f3, f4, f5⟩ := hg.cells
                simp only [og0] at f0 f1 f2
                have HG : Hid (OB (setO Wxxx m O) m O) := hg.set O
                have HNg : Hid (OB (setO Wxxx m O) n og0) := (HO0.out.below hWxxx).keep (setO_other _ (by omega))
                have HB : Hid (Below n w (setO Wxxx m O)) := (HB0.out.trans (hWxxx.mono (Nat.le_of_lt HO0.out.lt))).trans (setO_below _ (by omega))
                clear hg
                unfold setO at HG HB HNg
                go_simp
                go_wp2_with fail
                refine hK.out _ _ trivial (fun hHeld => ?_)
                clear hK K f0 f1 f2 f3 f4 f5
                generalize ((Wxxx.setCell ⟨m, 0, none⟩ (.string O.s)).setCell ⟨m, 1, none⟩ (.string O.h)).setCell ⟨m, 2, none⟩ (.int .i64 O.p) = Z at HG HB HNg ⊢
                try simp only [Act.put, List.setIfInBounds_toArray, List.set_cons_zero, List.set_cons_succ]
                refine wpAnyH_take (i := 14) (oi := { dst := some 6, op := Op.assign (Operand.tmp 35), type := 4, pos := "ref.go:103", after := #[{ on := 11, ground := Ground.data }, { on := 13, ground := Ground.chain }, { on := 0, ground := Ground.phase }, { on := 1, ground := Ground.phase }, { on := 2, ground := Ground.phase }, { on := 3, ground := Ground.phase }, { on := 4, ground := Ground.phase }, { on := 5, ground := Ground.phase }, { on := 6, ground := Ground.phase }, { on := 7, ground := Ground.phase }, { on := 8, ground := Ground.phase }, { on := 9, ground := Ground.phase }, { on := 10, ground := Ground.phase }, { on := 11, ground := Ground.phase }, { on := 12, ground := Ground.phase }, { on := 13, ground := Ground.phase }], guard := none }) (v := ?vv11) rfl (by kernel_rfl) (by kernel_rfl) (by kernel_rfl) (fun _ _ _ h => h) (Or.inl ⟨by rfl, ?hy11⟩) (by assumption) ?_
                case hy11 => (intro w hSw; (try dsimp only at hSw); go_simp; all_goals with_reducible rfl)
                try simp only [Act.put, List.setIfInBounds_toArray, List.set_cons_zero, List.set_cons_succ]
                refine wpAnyH_done (by kernel_rfl) ?_ _
                obtain ⟨c0, c1, c2, f0, f1, f2⟩ := HNg.out.cells
                obtain ⟨d0, d1, d2, _, _, _⟩ := HG.out.cells
                simp only [og0] at c0 c1 c2
                have FG : Hid (OB (setO Z n og0) n og0) := HNg.out.set _
                have FB : Hid (Below n w (setO Z n og0)) := HB.out.trans (setO_below _ (Nat.le_refl _))
                go_wp2_with fail
                refine bodyPost_ret (results_ct (p := 2) (r := 3) (ty := 23) rfl _ _ n 23 _ (0, 0) _ rfl FG.out Tryd.underlying23 rfl (by kernel_rfl)) rfl ⟨by rw [HV.out]; rfl, ?_⟩
                rw [HNN.out]
                exact FB.out
              refine AllReadyH.cons (o := { dst := some 5, op := Op.alloc 23, type := 0, pos := "ref.go:103", after := #[], guard := none }) rfl (fun K hK => ?_) AllReadyH.nil
              obtain ⟨m, hm⟩ : ∃ m, Wx.heap.size = m := ⟨_, rfl⟩
              obtain ⟨Wxx, hV9⟩ : ∃ V, Wx.alloc (.cells #[.string ⟨#[]⟩, .string ⟨#[]⟩, .int .i64 0] 23) = V := ⟨_, rfl⟩
              have hWxx : Below V0.heap.size V0 Wxx := by rw [← hV9]; exact hWx.trans ((bel1 _ _).mono hWx.size)
              have oWxx : OB Wxx m og0 := by rw [← hV9, ← hm]; unfold OB; rw [heap_al, if_pos rfl]; rfl
              have hmn : n < m := by have := hWx.size; rw [hm] at this; have := HO0.out.lt; omega
              go_simp
              go_wp2_with fail
              refine hK.out _ _ trivial (fun hHeld => ?_)
              clear hK K hV9 hm
              try simp only [Act.put, List.setIfInBounds_toArray, List.set_cons_zero, List.set_cons_succ]
              refine wpAnyH_ready (rs := [8]) (by kernel_rfl) (by simp) ?_
              refine AllReadyH.cons (o := { dst := some 33, op := Op.call { callee := Callee.value (Operand.func 32), args := #[Operand.tmp 28, Operand.tmp 32], argTypes := #[9, 9] }, type := 57, pos := "ref.go:103", after := #[{ on := 3, ground := Ground.data }, { on := 7, ground := Ground.data }, { on := 3, ground := Ground.chain }], guard := none }) rfl (fun K hK => ?_) AllReadyH.nil
              go_simp
              refine (HSp.out _).mono ?_
              rintro e' Wxxx ⟨rfl, bX⟩
              have hWxxx : Below V0.heap.size V0 Wxxx := hWxx.trans (bX.mono hWxx.size)
              have oWxxx : OB Wxxx m og0 := oWxx.below bX
              clear bX
              go_wp2_with fail
              refine hK.out _ _ trivial (fun hHeld => ?_)
              clear hK K
              try simp only [Act.put, List.setIfInBounds_toArray, List.set_cons_zero, List.set_cons_succ]
              refine wpAnyH_take (i := 9) (oi := { dst := some 24, op := Op.move (Operand.tmp 33), type := 57, pos := "ref.go:103", after := #[{ on := 8, ground := Ground.data }], guard := none }) (v := ?vv12) rfl (by kernel_rfl) (by kernel_rfl) (by kernel_rfl) (fun _ _ _ h => h) (Or.inl ⟨by rfl, ?hy12⟩) (by assumption) ?_
              case hy12 => (intro w hSw; (try dsimp only at hSw); go_simp; all_goals with_reducible rfl)
              try simp only [Act.put, List.setIfInBounds_toArray, List.set_cons_zero, List.set_cons_succ]
              refine wpAnyH_take (i := 10) (oi := { dst := some 34, op := Op.extract (Operand.tmp 24) 0, type := 23, pos := "ref.go:103", after := #[{ on := 9, ground := Ground.data }], guard := none }) (v := ?vv13) rfl (by kernel_rfl) (by kernel_rfl) (by kernel_rfl) (fun _ _ _ h => h) (Or.inl ⟨by rfl, ?hy13⟩) (by assumption) ?_
              case hy13 => (intro w hSw; (try dsimp only at hSw); go_simp; all_goals with_reducible rfl)
              try simp only [Act.put, List.setIfInBounds_toArray, List.set_cons_zero, List.set_cons_succ]
              refine wpAnyH_take (i := 11) (oi := { dst := some 35, op := Op.extract (Operand.tmp 24) 1, type := 4, pos := "ref.go:103", after := #[{ on := 9, ground := Ground.data }, { on := 13, ground := Ground.gcOnly Departure.lateStores }], guard := none }) (v := ?vv14) rfl (by kernel_rfl) (by kernel_rfl) (by kernel_rfl) (fun _ _ _ h => h) (Or.inl ⟨by rfl, ?hy14⟩) (by assumption) ?_
              case hy14 => (intro w hSw; (try dsimp only at hSw); go_simp; all_goals with_reducible rfl)
              try simp only [Act.put, List.setIfInBounds_toArray, List.set_cons_zero, List.set_cons_succ]
              refine wpAnyH_ready (rs := [13]) (by kernel_rfl) (by simp) ?_
              refine AllReadyH.cons (o := { dst := none, op := Op.store 23 (Operand.tmp 5) (Operand.tmp 34), type := 0, pos := "ref.go:103", after := #[{ on := 12, ground := Ground.data }, { on := 10, ground := Ground.data }, { on := 8, ground := Ground.chain }, { on := 0, ground := Ground.phase }, { on := 1, ground := Ground.phase }, { on := 2, ground := Ground.phase }, { on := 3, ground := Ground.phase }, { on := 4, ground := Ground.phase }, { on := 5, ground := Ground.phase }, { on := 6, ground := Ground.phase }, { on := 7, ground := Ground.phase }, { on := 8, ground := Ground.phase }, { on := 9, ground := Ground.phase }, { on := 10, ground := Ground.phase }, { on := 11, ground := Ground.textOnly Departure.lateStores }, { on := 12, ground := Ground.phase }], guard := none }) rfl (fun K hK => ?_) AllReadyH.nil
              have hg := oWxxx
              obtain ⟨f0, f1, f2, f3, f4, f5⟩ := hg.cells
              simp only [og0] at f0 f1 f2
              have HG : Hid (OB (setO Wxxx m O) m O) := hg.set O
              have HNg : Hid (OB (setO Wxxx m O) n og0) := (HO0.out.below hWxxx).keep (setO_other _ (by omega))
              have HB : Hid (Below n w (setO Wxxx m O)) := (HB0.out.trans (hWxxx.mono (Nat.le_of_lt HO0.out.lt))).trans (setO_below _ (by omega))
              clear hg
              unfold setO at HG HB HNg
              go_simp
              go_wp2_with fail
              refine hK.out _ _ trivial (fun hHeld => ?_)
              clear hK K f0 f1 f2 f3 f4 f5
              generalize ((Wxxx.setCell ⟨m, 0, none⟩ (.string O.s)).setCell ⟨m, 1, none⟩ (.string O.h)).setCell ⟨m, 2, none⟩ (.int .i64 O.p) = Z at HG HB HNg ⊢
              try simp only [Act.put, List.setIfInBounds_toArray, List.set_cons_zero, List.set_cons_succ]
              refine wpAnyH_take (i := 14) (oi := { dst := some 6, op := Op.assign (Operand.tmp 35), type := 4, pos := "ref.go:103", after := #[{ on := 11, ground := Ground.data }, { on := 13, ground := Ground.chain }, { on := 0, ground := Ground.phase }, { on := 1, ground := Ground.phase }, { on := 2, ground := Ground.phase }, { on := 3, ground := Ground.phase }, { on := 4, ground := Ground.phase }, { on := 5, ground := Ground.phase }, { on := 6, ground := Ground.phase }, { on := 7, ground := Ground.phase }, { on := 8, ground := Ground.phase }, { on := 9, ground := Ground.phase }, { on := 10, ground := Ground.phase }, { on := 11, ground := Ground.phase }, { on := 12, ground := Ground.phase }, { on := 13, ground := Ground.phase }], guard := none }) (v := ?vv15) rfl (by kernel_rfl) (by kernel_rfl) (by kernel_rfl) (fun _ _ _ h => h) (Or.inl ⟨by rfl, ?hy15⟩) (by assumption) ?_
              case hy15 => (intro w hSw; (try dsimp only at hSw); go_simp; all_goals with_reducible rfl)
              try simp only [Act.put, List.setIfInBounds_toArray, List.set_cons_zero, List.set_cons_succ]
              refine wpAnyH_done (by kernel_rfl) ?_ _
              obtain ⟨c0, c1, c2, f0, f1, f2⟩ := HNg.out.cells
              obtain ⟨d0, d1, d2, _, _, _⟩ := HG.out.cells
              simp only [og0] at c0 c1 c2
              have FG : Hid (OB (setO Z n og0) n og0) := HNg.out.set _
              have FB : Hid (Below n w (setO Z n og0)) := HB.out.trans (setO_below _ (Nat.le_refl _))
              go_wp2_with fail
              refine bodyPost_ret (results_ct (p := 2) (r := 3) (ty := 23) rfl _ _ n 23 _ (0, 0) _ rfl FG.out Tryd.underlying23 rfl (by kernel_rfl)) rfl ⟨by rw [HV.out]; rfl, ?_⟩
              rw [HNN.out]
              exact FB.out
            refine AllReadyH.cons (o := { dst := some 5, op := Op.alloc 23, type := 0, pos := "ref.go:103", after := #[], guard := none }) rfl (fun K hK => ?_) AllReadyH.nil
            obtain ⟨m, hm⟩ : ∃ m, W.heap.size = m := ⟨_, rfl⟩
            obtain ⟨Wx, hV9⟩ : ∃ V, W.alloc (.cells #[.string ⟨#[]⟩, .string ⟨#[]⟩, .int .i64 0] 23) = V := ⟨_, rfl⟩
            have hWx : Below V0.heap.size V0 Wx := by rw [← hV9]; exact hIW.trans ((bel1 _ _).mono hIW.size)
            have oWx : OB Wx m og0 := by rw [← hV9, ← hm]; unfold OB; rw [heap_al, if_pos rfl]; rfl
            have hmn : n < m := by have := hIW.size; rw [hm] at this; have := HO0.out.lt; omega
            go_simp
            go_wp2_with fail
            refine hK.out _ _ trivial (fun hHeld => ?_)
            clear hK K hV9 hm
            try simp only [Act.put, List.setIfInBounds_toArray, List.set_cons_zero, List.set_cons_succ]
            refine wpAnyH_ready (rs := [3]) (by kernel_rfl) (by simp) ?_
            refine AllReadyH.cons (o := { dst := some 28, op := Op.call { callee := Callee.value (Operand.func 33), args := #[Operand.tmp 27], argTypes := #[9] }, type := 9, pos := "ref.go:103", after := #[{ on := 2, ground := Ground.data }], guard := none }) rfl (fun K hK => ?_) AllReadyH.nil
            go_simp
            refine (HSm.out _).mono ?_
            rintro e' Wxx ⟨rfl, bX⟩
            have hWxx : Below V0.heap.size V0 Wxx := hWx.trans (bX.mono hWx.size)
            have oWxx : OB Wxx m og0 := oWx.below bX
            clear bX
            go_wp2_with fail
            refine hK.out _ _ trivial (fun hHeld => ?_)
            clear hK K
            try simp only [Act.put, List.setIfInBounds_toArray, List.set_cons_zero, List.set_cons_succ]
            refine wpAnyH_ready (rs := [8]) (by kernel_rfl) (by simp) ?_
            refine AllReadyH.cons (o := { dst := some 33, op := Op.call { callee := Callee.value (Operand.func 32), args := #[Operand.tmp 28, Operand.tmp 32], argTypes := #[9, 9] }, type := 57, pos := "ref.go:103", after := #[{ on := 3, ground := Ground.data }, { on := 7, ground := Ground.data }, { on := 3, ground := Ground.chain }], guard := none }) rfl (fun K hK => ?_) AllReadyH.nil
            go_simp
            refine (HSp.out _).mono ?_
            rintro e' Wxxx ⟨rfl, bX⟩
            have hWxxx : Below V0.heap.size V0 Wxxx := hWxx.trans (bX.mono hWxx.size)
            have oWxxx : OB Wxxx m og0 := oWxx.below bX
            clear bX
            go_wp2_with fail
            refine hK.out _ _ trivial (fun hHeld => ?_)
            clear hK K
            try simp only [Act.put, List.setIfInBounds_toArray, List.set_cons_zero, List.set_cons_succ]
            refine wpAnyH_take (i := 9) (oi := { dst := some 24, op := Op.move (Operand.tmp 33), type := 57, pos := "ref.go:103", after := #[{ on := 8, ground := Ground.data }], guard := none }) (v := ?vv16) rfl (by kernel_rfl) (by kernel_rfl) (by kernel_rfl) (fun _ _ _ h => h) (Or.inl ⟨by rfl, ?hy16⟩) (by assumption) ?_
            case hy16 => (intro w hSw; (try dsimp only at hSw); go_simp; all_goals with_reducible rfl)
            try simp only [Act.put, List.setIfInBounds_toArray, List.set_cons_zero, List.set_cons_succ]
            refine wpAnyH_take (i := 10) (oi := { dst := some 34, op := Op.extract (Operand.tmp 24) 0, type := 23, pos := "ref.go:103", after := #[{ on := 9, ground := Ground.data }], guard := none }) (v := ?vv17) rfl (by kernel_rfl) (by kernel_rfl) (by kernel_rfl) (fun _ _ _ h => h) (Or.inl ⟨by rfl, ?hy17⟩) (by assumption) ?_
            case hy17 => (intro w hSw; (try dsimp only at hSw); go_simp; all_goals with_reducible rfl)
            try simp only [Act.put, List.setIfInBounds_toArray, List.set_cons_zero, List.set_cons_succ]
            refine wpAnyH_take (i := 11) (oi := { dst := some 35, op := Op.extract (Operand.tmp 24) 1, type := 4, pos := "ref.go:103", after := #[{ on := 9, ground := Ground.data }, { on := 13, ground := Ground.gcOnly Departure.lateStores }], guard := none }) (v := ?vv18) rfl (by kernel_rfl) (by kernel_rfl) (by kernel_rfl) (fun _ _ _ h => h) (Or.inl ⟨by rfl, ?hy18⟩) (by assumption) ?_
            case hy18 => (intro w hSw; (try dsimp only at hSw); go_simp; all_goals with_reducible rfl)
            try simp only [Act.put, List.setIfInBounds_toArray, List.set_cons_zero, List.set_cons_succ]
            refine wpAnyH_ready (rs := [13]) (by kernel_rfl) (by simp) ?_
            refine AllReadyH.cons (o := { dst := none, op := Op.store 23 (Operand.tmp 5) (Operand.tmp 34), type := 0, pos := "ref.go:103", after := #[{ on := 12, ground := Ground.data }, { on := 10, ground := Ground.data }, { on := 8, ground := Ground.chain }, { on := 0, ground := Ground.phase }, { on := 1, ground := Ground.phase }, { on := 2, ground := Ground.phase }, { on := 3, ground := Ground.phase }, { on := 4, ground := Ground.phase }, { on := 5, ground := Ground.phase }, { on := 6, ground := Ground.phase }, { on := 7, ground := Ground.phase }, { on := 8, ground := Ground.phase }, { on := 9, ground := Ground.phase }, { on := 10, ground := Ground.phase }, { on := 11, ground := Ground.textOnly Departure.lateStores }, { on := 12, ground := Ground.phase }], guard := none }) rfl (fun K hK => ?_) AllReadyH.nil
            have hg := oWxxx
            obtain ⟨f0, f1, f2, f3, f4, f5⟩ := hg.cells
            simp only [og0] at f0 f1 f2
            have HG : Hid (OB (setO Wxxx m O) m O) := hg.set O
            have HNg : Hid (OB (setO Wxxx m O) n og0) := (HO0.out.below hWxxx).keep (setO_other _ (by omega))
            have HB : Hid (Below n w (setO Wxxx m O)) := (HB0.out.trans (hWxxx.mono (Nat.le_of_lt HO0.out.lt))).trans (setO_below _ (by omega))
            clear hg
            unfold setO at HG HB HNg
            go_simp
            go_wp2_with fail
            refine hK.out _ _ trivial (fun hHeld => ?_)
            clear hK K f0 f1 f2 f3 f4 f5
            generalize ((Wxxx.setCell ⟨m, 0, none⟩ (.string O.s)).setCell ⟨m, 1, none⟩ (.string O.h)).setCell ⟨m, 2, none⟩ (.int .i64 O.p) = Z at HG HB HNg ⊢
            try simp only [Act.put, List.setIfInBounds_toArray, List.set_cons_zero, List.set_cons_succ]
            refine wpAnyH_take (i := 14) (oi := { dst := some 6, op := Op.assign (Operand.tmp 35), type := 4, pos := "ref.go:103", after := #[{ on := 11, ground := Ground.data }, { on := 13, ground := Ground.chain }, { on := 0, ground := Ground.phase }, { on := 1, ground := Ground.phase }, { on := 2, ground := Ground.phase }, { on := 3, ground := Ground.phase }, { on := 4, ground := Ground.phase }, { on := 5, ground := Ground.phase }, { on := 6, ground := Ground.phase }, { on := 7, ground := Ground.phase }, { on := 8, ground := Ground.phase }, { on := 9, ground := Ground.phase }, { on := 10, ground := Ground.phase }, { on := 11, ground := Ground.phase }, { on := 12, ground := Ground.phase }, { on := 13, ground := Ground.phase }], guard := none }) (v := ?vv19) rfl (by kernel_rfl) (by kernel_rfl) (by kernel_rfl) (fun _ _ _ h => h) (Or.inl ⟨by rfl, ?hy19⟩) (by assumption) ?_
            case hy19 => (intro w hSw; (try dsimp only at hSw); go_simp; all_goals with_reducible rfl)
            try simp only [Act.put, List.setIfInBounds_toArray, List.set_cons_zero, List.set_cons_succ]
            refine wpAnyH_done (by kernel_rfl) ?_ _
            obtain ⟨c0, c1, c2, f0, f1, f2⟩ := HNg.out.cells
            obtain ⟨d0, d1, d2, _, _, _⟩ := HG.out.cells
            simp only [og0] at c0 c1 c2
            have FG : Hid (OB (setO Z n og0) n og0) := HNg.out.set _
            have FB : Hid (Below n w (setO Z n og0)) := HB.out.trans (setO_below _ (Nat.le_refl _))
            go_wp2_with fail
            refine bodyPost_ret (results_ct (p := 2) (r := 3) (ty := 23) rfl _ _ n 23 _ (0, 0) _ rfl FG.out Tryd.underlying23 rfl (by kernel_rfl)) rfl ⟨by rw [HV.out]; rfl, ?_⟩
            rw [HNN.out]
            exact FB.out
          · have HV : Hid (paV t = .tuple #[.agg #[.string O.s, .string O.h, .int .i64 O.p], .int .i64 0]) := by
              show _ = _
              unfold paV paO paE
              rw [HPB.out]
              simp only [if_true, HPO.out]; rfl
            go_wp2_with fail
            have hIW : Below V0.heap.size V0 V0.drew := (Below.refl _ _).drew
            refine wp_region_held_drew (S := (fun _ => True)) (by kernel_rfl) trivial (fun hHeld => ?_)
            generalize hWg : World.drew _ = W at hIW hHeld ⊢
            clear hWg
            refine wpAnyH_take (i := 0) (oi := { dst := some 25, op := Op.move (Operand.tmp 0), type := 9, pos := "ref.go:103", after := #[], guard := none }) (v := ?vv20) rfl (by kernel_rfl) (by kernel_rfl) (by kernel_rfl) (fun _ _ _ h => h) (Or.inl ⟨by rfl, ?hy20⟩) (by assumption) ?_
            case hy20 => (intro w hSw; (try dsimp only at hSw); go_simp; all_goals with_reducible rfl)
            try simp only [Act.put, List.setIfInBounds_toArray, List.set_cons_zero, List.set_cons_succ]
            refine wpAnyH_take (i := 1) (oi := { dst := some 26, op := Op.move (Operand.tmp 4), type := 3, pos := "ref.go:103", after := #[], guard := none }) (v := ?vv21) rfl (by kernel_rfl) (by kernel_rfl) (by kernel_rfl) (fun _ _ _ h => h) (Or.inl ⟨by rfl, ?hy21⟩) (by assumption) ?_
            case hy21 => (intro w hSw; (try dsimp only at hSw); go_simp; all_goals with_reducible rfl)
            try simp only [Act.put, List.setIfInBounds_toArray, List.set_cons_zero, List.set_cons_succ]
            refine wpAnyH_take (i := 2) (oi := { dst := some 27, op := Op.slice 9 (Operand.tmp 25) none (some (Operand.tmp 26)) none, type := 9, pos := "ref.go:103", after := #[{ on := 0, ground := Ground.data }, { on := 1, ground := Ground.data }], guard := none }) (v := ?vv22) rfl (by kernel_rfl) (by kernel_rfl) (by kernel_rfl) (fun _ _ _ h => h) (Or.inl ⟨by rfl, ?hy22⟩) (by assumption) ?_
            case hy22 => (intro w hSw; (try dsimp only at hSw); go_simp; all_goals with_reducible rfl)
            try simp only [Act.put, List.setIfInBounds_toArray, List.set_cons_zero, List.set_cons_succ]
            refine wpAnyH_take (i := 4) (oi := { dst := some 29, op := Op.move (Operand.tmp 0), type := 9, pos := "ref.go:103", after := #[], guard := none }) (v := ?vv23) rfl (by kernel_rfl) (by kernel_rfl) (by kernel_rfl) (fun _ _ _ h => h) (Or.inl ⟨by rfl, ?hy23⟩) (by assumption) ?_
            case hy23 => (intro w hSw; (try dsimp only at hSw); go_simp; all_goals with_reducible rfl)
            try simp only [Act.put, List.setIfInBounds_toArray, List.set_cons_zero, List.set_cons_succ]
            refine wpAnyH_take (i := 5) (oi := { dst := some 30, op := Op.move (Operand.tmp 4), type := 3, pos := "ref.go:103", after := #[], guard := none }) (v := ?vv24) rfl (by kernel_rfl) (by kernel_rfl) (by kernel_rfl) (fun _ _ _ h => h) (Or.inl ⟨by rfl, ?hy24⟩) (by assumption) ?_
            case hy24 => (intro w hSw; (try dsimp only at hSw); go_simp; all_goals with_reducible rfl)
            try simp only [Act.put, List.setIfInBounds_toArray, List.set_cons_zero, List.set_cons_succ]
            refine wpAnyH_take (i := 6) (oi := { dst := some 31, op := Op.binOp BinOp.add 3 (Operand.tmp 30) (Operand.const (Value.int IntKind.i64 3)) 3, type := 3, pos := "ref.go:103", after := #[{ on := 5, ground := Ground.data }], guard := none }) (v := ?vv25) rfl (by kernel_rfl) (by kernel_rfl) (by kernel_rfl) (fun _ _ _ h => h) (Or.inl ⟨by rfl, ?hy25⟩) (by assumption) ?_
            case hy25 => (intro w hSw; (try dsimp only at hSw); go_simp; all_goals with_reducible rfl)
            try simp only [Act.put, List.setIfInBounds_toArray, List.set_cons_zero, List.set_cons_succ]
            refine wpAnyH_take (i := 7) (oi := { dst := some 32, op := Op.slice 9 (Operand.tmp 29) (some (Operand.tmp 31)) none none, type := 9, pos := "ref.go:103", after := #[{ on := 4, ground := Ground.data }, { on := 6, ground := Ground.data }], guard := none }) (v := ?vv26) rfl (by kernel_rfl) (by kernel_rfl) (by kernel_rfl) (fun _ _ _ h => h) (Or.inl ⟨by rfl, ?hy26⟩) (by assumption) ?_
            case hy26 => (intro w hSw; (try dsimp only at hSw); go_simp; all_goals with_reducible rfl)
            try simp only [Act.put, List.setIfInBounds_toArray, List.set_cons_zero, List.set_cons_succ]
            refine wpAnyH_ready (rs := [3, 12]) (by kernel_rfl) (by simp) ?_
            refine AllReadyH.cons (o := { dst := some 28, op := Op.call { callee := Callee.value (Operand.func 33), args := #[Operand.tmp 27], argTypes := #[9] }, type := 9, pos := "ref.go:103", after := #[{ on := 2, ground := Ground.data }], guard := none }) rfl (fun K hK => ?_) ?_
            · go_simp
              refine (HSm.out _).mono ?_
              rintro e' Wx ⟨rfl, bX⟩
              have hWx : Below V0.heap.size V0 Wx := hIW.trans (bX.mono hIW.size)
              clear bX
              go_wp2_with fail
              refine hK.out _ _ trivial (fun hHeld => ?_)
              clear hK K
              try simp only [Act.put, List.setIfInBounds_toArray, List.set_cons_zero, List.set_cons_succ]
              refine wpAnyH_ready (rs := [8, 12]) (by kernel_rfl) (by simp) ?_
              refine AllReadyH.cons (o := { dst := some 33, op := Op.call { callee := Callee.value (Operand.func 32), args := #[Operand.tmp 28, Operand.tmp 32], argTypes := #[9, 9] }, type := 57, pos := "ref.go:103", after := #[{ on := 3, ground := Ground.data }, { on := 7, ground := Ground.data }, { on := 3, ground := Ground.chain }], guard := none }) rfl (fun K hK => ?_) ?_
              · go_simp
                refine (HSp.out _).mono ?_
                rintro e' Wxx ⟨rfl, bX⟩
                have hWxx : Below V0.heap.size V0 Wxx := hWx.trans (bX.mono hWx.size)
                clear bX
                go_wp2_with fail
                refine hK.out _ _ trivial (fun hHeld => ?_)
                clear hK K
                try simp only [Act.put, List.setIfInBounds_toArray, List.set_cons_zero, List.set_cons_succ]
                refine wpAnyH_take (i := 9) (oi := { dst := some 24, op := Op.move (Operand.tmp 33), type := 57, pos := "ref.go:103", after := #[{ on := 8, ground := Ground.data }], guard := none }) (v := ?vv27) rfl (by kernel_rfl) (by kernel_rfl) (by kernel_rfl) (fun _ _ _ h => h) (Or.inl ⟨by rfl, ?hy27⟩) (by assumption) ?_
                case hy27 => (intro w hSw; (try dsimp only at hSw); go_simp; all_goals with_reducible rfl)
                try simp only [Act.put, List.setIfInBounds_toArray, List.set_cons_zero, List.set_cons_succ]
                refine wpAnyH_take (i := 10) (oi := { dst := some 34, op := Op.extract (Operand.tmp 24) 0, type := 23, pos := "ref.go:103", after := #[{ on := 9, ground := Ground.data }], guard := none }) (v := ?vv28) rfl (by kernel_rfl) (by kernel_rfl) (by kernel_rfl) (fun _ _ _ h => h) (Or.inl ⟨by rfl, ?hy28⟩) (by assumption) ?_
                case hy28 => (intro w hSw; (try dsimp only at hSw); go_simp; all_goals with_reducible rfl)
                try simp only [Act.put, List.setIfInBounds_toArray, List.set_cons_zero, List.set_cons_succ]
                refine wpAnyH_take (i := 11) (oi := { dst := some 35, op := Op.extract (Operand.tmp 24) 1, type := 4, pos := "ref.go:103", after := #[{ on := 9, ground := Ground.data }, { on := 13, ground := Ground.gcOnly Departure.lateStores }], guard := none }) (v := ?vv29) rfl (by kernel_rfl) (by kernel_rfl) (by kernel_rfl) (fun _ _ _ h => h) (Or.inl ⟨by rfl, ?hy29⟩) (by assumption) ?_
                case hy29 => (intro w hSw; (try dsimp only at hSw); go_simp; all_goals with_reducible rfl)
                try simp only [Act.put, List.setIfInBounds_toArray, List.set_cons_zero, List.set_cons_succ]
                refine wpAnyH_ready (rs := [12]) (by kernel_rfl) (by simp) ?_
                refine AllReadyH.cons (o := { dst := some 5, op := Op.alloc 23, type := 0, pos := "ref.go:103", after := #[], guard := none }) rfl (fun K hK => ?_) AllReadyH.nil
                obtain ⟨m, hm⟩ : ∃ m, Wxx.heap.size = m := ⟨_, rfl⟩
                obtain ⟨Wxxx, hV9⟩ : ∃ V, Wxx.alloc (.cells #[.string ⟨#[]⟩, .string ⟨#[]⟩, .int .i64 0] 23) = V := ⟨_, rfl⟩
                have hWxxx : Below V0.heap.size V0 Wxxx := by rw [← hV9]; exact hWxx.trans ((bel1 _ _).mono hWxx.size)
                have oWxxx : OB Wxxx m og0 := by rw [← hV9, ← hm]; unfold OB; rw [heap_al, if_pos rfl]; rfl
                have hmn : n < m := by have := hWxx.size; rw [hm] at this; have := HO0.out.lt; omega
                go_simp
                go_wp2_with fail
                refine hK.out _ _ trivial (fun hHeld => ?_)
                clear hK K hV9 hm
                try simp only [Act.put, List.setIfInBounds_toArray, List.set_cons_zero, List.set_cons_succ]
                refine wpAnyH_ready (rs := [13]) (by kernel_rfl) (by simp) ?_
                refine AllReadyH.cons (o := { dst := none, op := Op.store 23 (Operand.tmp 5) (Operand.tmp 34), type := 0, pos := "ref.go:103", after := #[{ on := 12, ground := Ground.data }, { on := 10, ground := Ground.data }, { on := 8, ground := Ground.chain }, { on := 0, ground := Ground.phase }, { on := 1, ground := Ground.phase }, { on := 2, ground := Ground.phase }, { on := 3, ground := Ground.phase }, { on := 4, ground := Ground.phase }, { on := 5, ground := Ground.phase }, { on := 6, ground := Ground.phase }, { on := 7, ground := Ground.phase }, { on := 8, ground := Ground.phase }, { on := 9, ground := Ground.phase }, { on := 10, ground := Ground.phase }, { on := 11, ground := Ground.textOnly Departure.lateStores }, { on := 12, ground := Ground.phase }], guard := none }) rfl (fun K hK => ?_) AllReadyH.nil
                have hg := oWxxx
                obtain ⟨f0, f1, f2, f3, f4, f5⟩ := hg.cells
                simp only [og0] at f0 f1 f2
                have HG : Hid (OB (setO Wxxx m O) m O) := hg.set O
                have HNg : Hid (OB (setO Wxxx m O) n og0) := (HO0.out.below hWxxx).keep (setO_other _ (by omega))
                have HB : Hid (Below n w (setO Wxxx m O)) := (HB0.out.trans (hWxxx.mono (Nat.le_of_lt HO0.out.lt))).trans (setO_below _ (by omega))
                clear hg
                unfold setO at HG HB HNg
                go_simp
                go_wp2_with fail
                refine hK.out _ _ trivial (fun hHeld => ?_)
                clear hK K f0 f1 f2 f3 f4 f5
                generalize ((Wxxx.setCell ⟨m, 0, none⟩ (.string O.s)).setCell ⟨m, 1, none⟩ (.string O.h)).setCell ⟨m, 2, none⟩ (.int .i64 O.p) = Z at HG HB HNg ⊢
                try simp only [Act.put, List.setIfInBounds_toArray, List.set_cons_zero, List.set_cons_succ]
                refine wpAnyH_take (i := 14) (oi := { dst := some 6, op := Op.assign (Operand.tmp 35), type := 4, pos := "ref.go:103", after := #[{ on := 11, ground := Ground.data }, { on := 13, ground := Ground.chain }, { on := 0, ground := Ground.phase }, { on := 1, ground := Ground.phase }, { on := 2, ground := Ground.phase }, { on := 3, ground := Ground.phase }, { on := 4, ground := Ground.phase }, { on := 5, ground := Ground.phase }, { on := 6, ground := Ground.phase }, { on := 7, ground := Ground.phase }, { on := 8, ground := Ground.phase }, { on := 9, ground := Ground.phase }, { on := 10, ground := Ground.phase }, { on := 11, ground := Ground.phase }, { on := 12, ground := Ground.phase }, { on := 13, ground := Ground.phase }], guard := none }) (v := ?vv30) rfl (by kernel_rfl) (by kernel_rfl) (by kernel_rfl) (fun _ _ _ h => h) (Or.inl ⟨by rfl, ?hy30⟩) (by assumption) ?_
                case hy30 => (intro w hSw; (try dsimp only at hSw); go_simp; all_goals with_reducible rfl)
                try simp only [Act.put, List.setIfInBounds_toArray, List.set_cons_zero, List.set_cons_succ]
                refine wpAnyH_done (by kernel_rfl) ?_ _
                obtain ⟨c0, c1, c2, f0, f1, f2⟩ := HNg.out.cells
                obtain ⟨d0, d1, d2, _, _, _⟩ := HG.out.cells
                simp only [og0] at c0 c1 c2
                have FG : Hid (OB (setO Z n O) n O) := HNg.out.set _
                have FB : Hid (Below n w (setO Z n O)) := HB.out.trans (setO_below _ (Nat.le_refl _))
                go_wp2_with fail
                refine bodyPost_ret (results_ct (p := 2) (r := 3) (ty := 23) rfl _ _ n 23 _ (0, 0) _ rfl FG.out Tryd.underlying23 rfl (by kernel_rfl)) rfl ⟨by rw [HV.out]; rfl, ?_⟩
                rw [HNN.out]
                exact FB.out
              refine AllReadyH.cons (o := { dst := some 5, op := Op.alloc 23, type := 0, pos := "ref.go:103", after := #[], guard := none }) rfl (fun K hK => ?_) AllReadyH.nil
              obtain ⟨m, hm⟩ : ∃ m, Wx.heap.size = m := ⟨_, rfl⟩
              obtain ⟨Wxx, hV9⟩ : ∃ V, Wx.alloc (.cells #[.string ⟨#[]⟩, .string ⟨#[]⟩, .int .i64 0] 23) = V := ⟨_, rfl⟩
              have hWxx : Below V0.heap.size V0 Wxx := by rw [← hV9]; exact hWx.trans ((bel1 _ _).mono hWx.size)
              have oWxx : OB Wxx m og0 := by rw [← hV9, ← hm]; unfold OB; rw [heap_al, if_pos rfl]; rfl
              have hmn : n < m := by have := hWx.size; rw [hm] at this; have := HO0.out.lt; omega
              go_simp
              go_wp2_with fail
              refine hK.out _ _ trivial (fun hHeld => ?_)
              clear hK K hV9 hm
              try simp only [Act.put, List.setIfInBounds_toArray, List.set_cons_zero, List.set_cons_succ]
              refine wpAnyH_ready (rs := [8]) (by kernel_rfl) (by simp) ?_
              refine AllReadyH.cons (o := { dst := some 33, op := Op.call { callee := Callee.value (Operand.func 32), args := #[Operand.tmp 28, Operand.tmp 32], argTypes := #[9, 9] }, type := 57, pos := "ref.go:103", after := #[{ on := 3, ground := Ground.data }, { on := 7, ground := Ground.data }, { on := 3, ground := Ground.chain }], guard := none }) rfl (fun K hK => ?_) AllReadyH.nil
              go_simp
              refine (HSp.out _).mono ?_
              rintro e' Wxxx ⟨rfl, bX⟩
              have hWxxx : Below V0.heap.size V0 Wxxx := hWxx.trans (bX.mono hWxx.size)
              have oWxxx : OB Wxxx m og0 := oWxx.below bX
              clear bX
              go_wp2_with fail
              refine hK.out _ _ trivial (fun hHeld => ?_)
              clear hK K
              try simp only [Act.put, List.setIfInBounds_toArray, List.set_cons_zero, List.set_cons_succ]
              refine wpAnyH_take (i := 9) (oi := { dst := some 24, op := Op.move (Operand.tmp 33), type := 57, pos := "ref.go:103", after := #[{ on := 8, ground := Ground.data }], guard := none }) (v := ?vv31) rfl (by kernel_rfl) (by kernel_rfl) (by kernel_rfl) (fun _ _ _ h => h) (Or.inl ⟨by rfl, ?hy31⟩) (by assumption) ?_
              case hy31 => (intro w hSw; (try dsimp only at hSw); go_simp; all_goals with_reducible rfl)
              try simp only [Act.put, List.setIfInBounds_toArray, List.set_cons_zero, List.set_cons_succ]
              refine wpAnyH_take (i := 10) (oi := { dst := some 34, op := Op.extract (Operand.tmp 24) 0, type := 23, pos := "ref.go:103", after := #[{ on := 9, ground := Ground.data }], guard := none }) (v := ?vv32) rfl (by kernel_rfl) (by kernel_rfl) (by kernel_rfl) (fun _ _ _ h => h) (Or.inl ⟨by rfl, ?hy32⟩) (by assumption) ?_
              case hy32 => (intro w hSw; (try dsimp only at hSw); go_simp; all_goals with_reducible rfl)
              try simp only [Act.put, List.setIfInBounds_toArray, List.set_cons_zero, List.set_cons_succ]
              refine wpAnyH_take (i := 11) (oi := { dst := some 35, op := Op.extract (Operand.tmp 24) 1, type := 4, pos := "ref.go:103", after := #[{ on := 9, ground := Ground.data }, { on := 13, ground := Ground.gcOnly Departure.lateStores }], guard := none }) (v := ?vv33) rfl (by kernel_rfl) (by kernel_rfl) (by kernel_rfl) (fun _ _ _ h => h) (Or.inl ⟨by rfl, ?hy33⟩) (by assumption) ?_
              case hy33 => (intro w hSw; (try dsimp only at hSw); go_simp; all_goals with_reducible rfl)
              try simp only [Act.put, List.setIfInBounds_toArray, List.set_cons_zero, List.set_cons_succ]
              refine wpAnyH_ready (rs := [13]) (by kernel_rfl) (by simp) ?_
              refine AllReadyH.cons (o := { dst := none, op := Op.store 23 (Operand.tmp 5) (Operand.tmp 34), type := 0, pos := "ref.go:103", after := #[{ on := 12, ground := Ground.data }, { on := 10, ground := Ground.data }, { on := 8, ground := Ground.chain }, { on := 0, ground := Ground.phase }, { on := 1, ground := Ground.phase }, { on := 2, ground := Ground.phase }, { on := 3, ground := Ground.phase }, { on := 4, ground := Ground.phase }, { on := 5, ground := Ground.phase }, { on := 6, ground := Ground.phase }, { on := 7, ground := Ground.phase }, { on := 8, ground := Ground.phase }, { on := 9, ground := Ground.phase }, { on := 10, ground := Ground.phase }, { on := 11, ground := Ground.textOnly Departure.lateStores }, { on := 12, ground := Ground.phase }], guard := none }) rfl (fun K hK => ?_) AllReadyH.nil
              have hg := oWxxx
              obtain ⟨f0, f1, f2, f3, f4, f5⟩ := hg.cells
              simp only [og0] at f0 f1 f2
              have HG : Hid (OB (setO Wxxx m O) m O) := hg.set O
              have HNg : Hid (OB (setO Wxxx m O) n og0) := (HO0.out.below hWxxx).keep (setO_other _ (by omega))
              have HB : Hid (Below n w (setO Wxxx m O)) := (HB0.out.trans (hWxxx.mono (Nat.le_of_lt HO0.out.lt))).trans (setO_below _ (by omega))
              clear hg
              unfold setO at HG HB HNg
              go_simp
              go_wp2_with fail
              refine hK.out _ _ trivial (fun hHeld => ?_)
              clear hK K f0 f1 f2 f3 f4 f5
              generalize ((Wxxx.setCell ⟨m, 0, none⟩ (.string O.s)).setCell ⟨m, 1, none⟩ (.string O.h)).setCell ⟨m, 2, none⟩ (.int .i64 O.p) = Z at HG HB HNg ⊢
              try simp only [Act.put, List.setIfInBounds_toArray, List.set_cons_zero, List.set_cons_succ]
              refine wpAnyH_take (i := 14) (oi := { dst := some 6, op := Op.assign (Operand.tmp 35), type := 4, pos := "ref.go:103", after := #[{ on := 11, ground := Ground.data }, { on := 13, ground := Ground.chain }, { on := 0, ground := Ground.phase }, { on := 1, ground := Ground.phase }, { on := 2, ground := Ground.phase }, { on := 3, ground := Ground.phase }, { on := 4, ground := Ground.phase }, { on := 5, ground := Ground.phase }, { on := 6, ground := Ground.phase }, { on := 7, ground := Ground.phase }, { on := 8, ground := Ground.phase }, { on := 9, ground := Ground.phase }, { on := 10, ground := Ground.phase }, { on := 11, ground := Ground.phase }, { on := 12, ground := Ground.phase }, { on := 13, ground := Ground.phase }], guard := none }) (v := ?vv34) rfl (by kernel_rfl) (by kernel_rfl) (by kernel_rfl) (fun _ _ _ h => h) (Or.inl ⟨by rfl, ?hy34⟩) (by assumption) ?_
              case hy34 => (intro w hSw; (try dsimp only at hSw); go_simp; all_goals with_reducible rfl)
              try simp only [Act.put, List.setIfInBounds_toArray, List.set_cons_zero, List.set_cons_succ]
              refine wpAnyH_done (by kernel_rfl) ?_ _
              obtain ⟨c0, c1, c2, f0, f1, f2⟩ := HNg.out.cells
              obtain ⟨d0, d1, d2, _, _, _⟩ := HG.out.cells
              simp only [og0] at c0 c1 c2
              have FG : Hid (OB (setO Z n O) n O) := HNg.out.set _
              have FB : Hid (Below n w (setO Z n O)) := HB.out.trans (setO_below _ (Nat.le_refl _))
              go_wp2_with fail
              refine bodyPost_ret (results_ct (p := 2) (r := 3) (ty := 23) rfl _ _ n 23 _ (0, 0) _ rfl FG.out Tryd.underlying23 rfl (by kernel_rfl)) rfl ⟨by rw [HV.out]; rfl, ?_⟩
              rw [HNN.out]
              exact FB.out
            refine AllReadyH.cons (o := { dst := some 5, op := Op.alloc 23, type := 0, pos := "ref.go:103", after := #[], guard := none }) rfl (fun K hK => ?_) AllReadyH.nil
            obtain ⟨m, hm⟩ : ∃ m, W.heap.size = m := ⟨_, rfl⟩
            obtain ⟨Wx, hV9⟩ : ∃ V, W.alloc (.cells #[.string ⟨#[]⟩, .string ⟨#[]⟩, .int .i64 0] 23) = V := ⟨_, rfl⟩
            have hWx : Below V0.heap.size V0 Wx := by rw [← hV9]; exact hIW.trans ((bel1 _ _).mono hIW.size)
            have oWx : OB Wx m og0 := by rw [← hV9, ← hm]; unfold OB; rw [heap_al, if_pos rfl]; rfl
            have hmn : n < m := by have := hIW.size; rw [hm] at this; have := HO0.out.lt; omega
            go_simp
            go_wp2_with fail
            refine hK.out _ _ trivial (fun hHeld => ?_)
            clear hK K hV9 hm
            try simp only [Act.put, List.setIfInBounds_toArray, List.set_cons_zero, List.set_cons_succ]
            refine wpAnyH_ready (rs := [3]) (by kernel_rfl) (by simp) ?_
            refine AllReadyH.cons (o := { dst := some 28, op := Op.call { callee := Callee.value (Operand.func 33), args := #[Operand.tmp 27], argTypes := #[9] }, type := 9, pos := "ref.go:103", after := #[{ on := 2, ground := Ground.data }], guard := none }) rfl (fun K hK => ?_) AllReadyH.nil
            go_simp
            refine (HSm.out _).mono ?_
            rintro e' Wxx ⟨rfl, bX⟩
            have hWxx : Below V0.heap.size V0 Wxx := hWx.trans (bX.mono hWx.size)
            have oWxx : OB Wxx m og0 := oWx.below bX
            clear bX
            go_wp2_with fail
            refine hK.out _ _ trivial (fun hHeld => ?_)
            clear hK K
            try simp only [Act.put, List.setIfInBounds_toArray, List.set_cons_zero, List.set_cons_succ]
            refine wpAnyH_ready (rs := [8]) (by kernel_rfl) (by simp) ?_
            refine AllReadyH.cons (o := { dst := some 33, op := Op.call { callee := Callee.value (Operand.func 32), args := #[Operand.tmp 28, Operand.tmp 32], argTypes := #[9, 9] }, type := 57, pos := "ref.go:103", after := #[{ on := 3, ground := Ground.data }, { on := 7, ground := Ground.data }, { on := 3, ground := Ground.chain }], guard := none }) rfl (fun K hK => ?_) AllReadyH.nil
            go_simp
            refine (HSp.out _).mono ?_
            rintro e' Wxxx ⟨rfl, bX⟩
            have hWxxx : Below V0.heap.size V0 Wxxx := hWxx.trans (bX.mono hWxx.size)
            have oWxxx : OB Wxxx m og0 := oWxx.below bX
            clear bX
            go_wp2_with fail
            refine hK.out _ _ trivial (fun hHeld => ?_)
            clear hK K
            try simp only [Act.put, List.setIfInBounds_toArray, List.set_cons_zero, List.set_cons_succ]
            refine wpAnyH_take (i := 9) (oi := { dst := some 24, op := Op.move (Operand.tmp 33), type := 57, pos := "ref.go:103", after := #[{ on := 8, ground := Ground.data }], guard := none }) (v := ?vv35) rfl (by kernel_rfl) (by kernel_rfl) (by kernel_rfl) (fun _ _ _ h => h) (Or.inl ⟨by rfl, ?hy35⟩) (by assumption) ?_
            case hy35 => (intro w hSw; (try dsimp only at hSw); go_simp; all_goals with_reducible rfl)
            try simp only [Act.put, List.setIfInBounds_toArray, List.set_cons_zero, List.set_cons_succ]
            refine wpAnyH_take (i := 10) (oi := { dst := some 34, op := Op.extract (Operand.tmp 24) 0, type := 23, pos := "ref.go:103", after := #[{ on := 9, ground := Ground.data }], guard := none }) (v := ?vv36) rfl (by kernel_rfl) (by kernel_rfl) (by kernel_rfl) (fun _ _ _ h => h) (Or.inl ⟨by rfl, ?hy36⟩) (by assumption) ?_
            case hy36 => (intro w hSw; (try dsimp only at hSw); go_simp; all_goals with_reducible rfl)
            try simp only [Act.put, List.setIfInBounds_toArray, List.set_cons_zero, List.set_cons_succ]
            refine wpAnyH_take (i := 11) (oi := { dst := some 35, op := Op.extract (Operand.tmp 24) 1, type := 4, pos := "ref.go:103", after := #[{ on := 9, ground := Ground.data }, { on := 13, ground := Ground.gcOnly Departure.lateStores }], guard := none }) (v := ?vv37) rfl (by kernel_rfl) (by kernel_rfl) (by kernel_rfl) (fun _ _ _ h => h) (Or.inl ⟨by rfl, ?hy37⟩) (by assumption) ?_
            case hy37 => (intro w hSw; (try dsimp only at hSw); go_simp; all_goals with_reducible rfl)
            try simp only [Act.put, List.setIfInBounds_toArray, List.set_cons_zero, List.set_cons_succ]
            refine wpAnyH_ready (rs := [13]) (by kernel_rfl) (by simp) ?_
            refine AllReadyH.cons (o := { dst := none, op := Op.store 23 (Operand.tmp 5) (Operand.tmp 34), type := 0, pos := "ref.go:103", after := #[{ on := 12, ground := Ground.data }, { on := 10, ground := Ground.data }, { on := 8, ground := Ground.chain }, { on := 0, ground := Ground.phase }, { on := 1, ground := Ground.phase }, { on := 2, ground := Ground.phase }, { on := 3, ground := Ground.phase }, { on := 4, ground := Ground.phase }, { on := 5, ground := Ground.phase }, { on := 6, ground := Ground.phase }, { on := 7, ground := Ground.phase }, { on := 8, ground := Ground.phase }, { on := 9, ground := Ground.phase }, { on := 10, ground := Ground.phase }, { on := 11, ground := Ground.textOnly Departure.lateStores }, { on := 12, ground := Ground.phase }], guard := none }) rfl (fun K hK => ?_) AllReadyH.nil
            have hg := oWxxx
            obtain ⟨f0, f1, f2, f3, f4, f5⟩ := hg.cells
            simp only [og0] at f0 f1 f2
            have HG : Hid (OB (setO Wxxx m O) m O) := hg.set O
            have HNg : Hid (OB (setO Wxxx m O) n og0) := (HO0.out.below hWxxx).keep (setO_other _ (by omega))
            have HB : Hid (Below n w (setO Wxxx m O)) := (HB0.out.trans (hWxxx.mono (Nat.le_of_lt HO0.out.lt))).trans (setO_below _ (by omega))
            clear hg
            unfold setO at HG HB HNg
            go_simp
            go_wp2_with fail
            refine hK.out _ _ trivial (fun hHeld => ?_)
            clear hK K f0 f1 f2 f3 f4 f5
            generalize ((Wxxx.setCell ⟨m, 0, none⟩ (.string O.s)).setCell ⟨m, 1, none⟩ (.string O.h)).setCell ⟨m, 2, none⟩ (.int .i64 O.p) = Z at HG HB HNg ⊢
            try simp only [Act.put, List.setIfInBounds_toArray, List.set_cons_zero, List.set_cons_succ]
            refine wpAnyH_take (i := 14) (oi := { dst := some 6, op := Op.assign (Operand.tmp 35), type := 4, pos := "ref.go:103", after := #[{ on := 11, ground := Ground.data }, { on := 13, ground := Ground.chain }, { on := 0, ground := Ground.phase }, { on := 1, ground := Ground.phase }, { on := 2, ground := Ground.phase }, { on := 3, ground := Ground.phase }, { on := 4, ground := Ground.phase }, { on := 5, ground := Ground.phase }, { on := 6, ground := Ground.phase }, { on := 7, ground := Ground.phase }, { on := 8, ground := Ground.phase }, { on := 9, ground := Ground.phase }, { on := 10, ground := Ground.phase }, { on := 11, ground := Ground.phase }, { on := 12, ground := Ground.phase }, { on := 13, ground := Ground.phase }], guard := none }) (v := ?vv38) rfl (by kernel_rfl) (by kernel_rfl) (by kernel_rfl) (fun _ _ _ h => h) (Or.inl ⟨by rfl, ?hy38⟩) (by assumption) ?_
            case hy38 => (intro w hSw; (try dsimp only at hSw); go_simp; all_goals with_reducible rfl)
            try simp only [Act.put, List.setIfInBounds_toArray, List.set_cons_zero, List.set_cons_succ]
            refine wpAnyH_done (by kernel_rfl) ?_ _
            obtain ⟨c0, c1, c2, f0, f1, f2⟩ := HNg.out.cells
            obtain ⟨d0, d1, d2, _, _, _⟩ := HG.out.cells
            simp only [og0] at c0 c1 c2
            have FG : Hid (OB (setO Z n O) n O) := HNg.out.set _
            have FB : Hid (Below n w (setO Z n O)) := HB.out.trans (setO_below _ (Nat.le_refl _))
            go_wp2_with fail
            refine bodyPost_ret (results_ct (p := 2) (r := 3) (ty := 23) rfl _ _ n 23 _ (0, 0) _ rfl FG.out Tryd.underlying23 rfl (by kernel_rfl)) rfl ⟨by rw [HV.out]; rfl, ?_⟩
            rw [HNN.out]
            exact FB.out
      · obtain rfl : i = 6 := by omega
        have a6 : ¬ ((6 : Nat) : Int) < 6 := by omega
        have HF : Hid (paV t = .tuple #[.agg (ogv og0), .int .i64 150]) := HBAD.out (pa_long hI.out)
        clear hI
        obtain ⟨c0, c1, c2, f0, f1, f2⟩ := HO0.out.cells
        simp only [og0] at c0 c1 c2
        have FG : Hid (OB (setO V0 n og0) n og0) := HO0.out.set _
        have FB : Hid (Below n w (setO V0 n og0)) := HB0.out.trans (setO_below _ (Nat.le_refl _))
        go_wp2_with fail
        refine bodyPost_ret (results_ct (p := 2) (r := 3) (ty := 23) rfl _ _ n 23 _ (0, 0) _ rfl FG.out Tryd.underlying23 rfl (by kernel_rfl)) rfl ⟨by rw [HF.out]; rfl, ?_⟩
        rw [HNN.out]
        exact FB.out
    · have a3 : ¬ (i : Int) + 3 ≤ (t.size : Int) := by omega
      have HF : Hid (paV t = .tuple #[.agg (ogv og0), .int .i64 150]) := HBAD.out (pa_none (Lib.past t c3S i hI.out (by decide) (by show _ < i + 3; omega)))
      clear hI
      obtain ⟨c0, c1, c2, f0, f1, f2⟩ := HO0.out.cells
      simp only [og0] at c0 c1 c2
      have FG : Hid (OB (setO V0 n og0) n og0) := HO0.out.set _
      have FB : Hid (Below n w (setO V0 n og0)) := HB0.out.trans (setO_below _ (Nat.le_refl _))
      go_wp2_with fail
      refine bodyPost_ret (results_ct (p := 2) (r := 3) (ty := 23) rfl _ _ n 23 _ (0, 0) _ rfl FG.out Tryd.underlying23 rfl (by kernel_rfl)) rfl ⟨by rw [HF.out]; rfl, ?_⟩
      rw [HNN.out]
      exact FB.out
end Go.Proofs.YtbifmikndpeafaaDoor
