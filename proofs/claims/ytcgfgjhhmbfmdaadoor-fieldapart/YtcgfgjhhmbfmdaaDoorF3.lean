/- The document's WriteResponse. -/
import Derived.Test.YtcgfgjhhmbfmdaaDoorF1
import Derived.Test.YtcgfgjhhmbfmdaaDoorF2
namespace Go.Proofs.YtcgfgjhhmbfmdaaDoor
open Go.RowKit Go.Maps
set_option linter.unusedVariables false
set_option linter.unusedSimpArgs false

theorem wrL_sz {n : Int} {l : List Fd} (h0 : -9223372036854775808 ≤ n) (h1 : n ≤ 9223372036854775807) (hz : SzOk l) (hlen : (1 + l.length) * 40 ≤ 140737488355328) : SzOk (wrL n l) := by
  refine ⟨fun f hf => ?_, by simp only [wrL, List.length_cons]; omega⟩
  unfold wrL at hf
  rcases List.mem_cons.1 hf with rfl | hf
  · refine ⟨show statusName.size ≤ 140737488355328 by decide, ?_⟩
    show (itoaS n).size ≤ _
    unfold itoaS Lib.itoa
    have h3 : Lib.nDigits n.natAbs ≤ 19 + 1 := nDigits_le 19 n.natAbs (by
      have : n.natAbs ≤ 9223372036854775808 := by omega
      omega)
    rw [Lib.size_eq]
    by_cases hn : n < 0
    · simp only [if_pos hn, List.length_cons, Lib.decDigits_length]; omega
    · have : n.toNat = n.natAbs := by omega
      simp only [if_neg hn, Lib.decDigits_length, this]; omega
  · exact hz.1 f hf
set_option maxHeartbeats 8000000 in
set_option maxRecDepth 100000 in
theorem rwriteResponse_any (n : Int) (h0 : -9223372036854775808 ≤ n) (h1 : n ≤ 9223372036854775807) (f : SV) (b : ByteArray) (l : List Fd) (w : World) (hI : In EFd w (sv f) l) (hz : SzOk l) (hlen : (1 + l.length) * 40 ≤ 140737488355328) :
    Calls Tryd.prog 36 #[.agg (rsv n (sv f) b)] w fun e w' => WsPost n l w e w' := by
  obtain ⟨fb, fl, fc⟩ := f
  have F0 : RsB (w.alloc (.cells (rsv n (sv (fb, fl, fc)) b) 37)) w.heap.size n (sv (fb, fl, fc)) b := by unfold RsB; rw [heap_al, if_pos rfl]
  have B0 := bel1 w (.cells (rsv n (sv (fb, fl, fc)) b) 37)
  have hcl : Hid (Calls Tryd.prog 61 #[.int .i64 n] (w.alloc (.cells (rsv n (sv (fb, fl, fc)) b) 37)) fun e w6 => e = .returned (.string (itoaS n)) ∧ w6.cell? ⟨w.heap.size, 1, none⟩ = some (sv (fb, fl, fc)) ∧ w.heap.size < w6.heap.size ∧ ∃ base cap w7, Hid ((Builtin.append_ #[24, 24] 24 #[.slice (some ⟨w6.heap.size, 0, none⟩) 1 1, sv (fb, fl, fc)]).run Tryd.prog (w6.alloc (.cells #[.string statusName, .string (itoaS n), .bool false] 34)) = .ok (.slice base (1 + l.length) cap) w7) ∧ Hid (R EFd w7 (.slice base (1 + l.length) cap) (wrL n l) ∧ Below w.heap.size w w7 ∧ ∀ k, (Value.slice base (1 + l.length) cap).ownBlock = some k → w.heap.size ≤ k)) := by
    refine (decimal_any n h0 h1 _).mono ?_
    rintro e w6 ⟨rfl, hb6⟩
    have hw6 := B0.trans (hb6.mono B0.size)
    have hrow : R EFd (w6.alloc (.cells #[.string statusName, .string (itoaS n), .bool false] 34)) (.slice (some ⟨w6.heap.size, 0, none⟩) 1 1) [⟨statusName, itoaS n, false⟩] := R.one okFd _ (by rw [heap_al, if_pos rfl]; rfl) rfl
    have hba := bel1 w6 (.cells #[.string statusName, .string (itoaS n), .bool false] 34)
    obtain ⟨base, cap, w7, g1, g2, g3⟩ := app okFd _ _ _ hrow _ _ ((hI.below hw6).below hba) (by simpa [EFd] using hlen)
    have hw7 := hw6.trans (hba.mono hw6.size)
    refine ⟨rfl, cell_blk ((hb6.block _ (heap_lt F0)).trans F0) 1, heap_lt ((hb6.block _ (heap_lt F0)).trans F0), base, cap, w7, g1, g2, hw7.trans (g3.belowB hw7.size fun k hk => ?_), fun k hk => ?_⟩
    · simp [Value.ownBlock] at hk
      have := hw6.size
      omega
    · rcases g3.own k hk with e | e
      · simp [Value.ownBlock] at e
        have := hw6.size
        omega
      · exact Nat.le_trans hw7.size e
  have hsz := wrL_sz h0 h1 hz hlen
  have hRd : Hid (∀ W s, In EFd W (sv s) (wrL n l) → Calls Tryd.prog 29 #[sv s] W fun e w' => RsPost (wrL n l) W e w') := fun W s hs => rreadResponse_any s (wrL n l) W hs hsz
  obtain ⟨I, hII⟩ : ∃ I, itoaS n = I := ⟨_, rfl⟩
  rw [hII] at hcl
  unfold statusName at hcl
  simp only [sv] at hcl F0 ⊢
  unfold rsv at hcl F0 ⊢
  clear hII hI hz hlen F0 B0 hsz
  go_enter Tryd.func36, Tryd.ntmps36
  go_wp2_with fail
  go_at_call 61
  refine hcl.out.mono ?_
  rintro e' w6 ⟨rfl, d2, d3, base', cap', w7, hrun, S7⟩
  go_wp2_with (at_builtin; refine Lib.wpList_append_run _ rfl _ _ _ _ rfl _ _ rfl rfl _ _ hrun.out ?_)
  go_at_call 29
  refine (hRd.out w7 (base', 1 + l.length, cap') (R.isIn S7.out.1)).mono ?_
  rintro e w8 ⟨N, ⟨yb, yl, yc⟩, rfl, hb8, r1, r2⟩
  have HW : Hid (∀ o, Below w.heap.size w (w8.alloc o) ∧ R EFd (w8.alloc o) (.slice base' (1 + l.length) cap') (wrL n l)) := fun o => ⟨(S7.out.2.1.trans (hb8.mono S7.out.2.1.size)).trans ((bel1 w8 o).mono (Nat.le_trans S7.out.2.1.size hb8.size)), (R.below S7.out.1 hb8).below (bel1 w8 o)⟩
  have HO : Hid (∀ k, (Value.slice base' (1 + l.length) cap').ownBlock = some k → w.heap.size ≤ k) := S7.out.2.2
  obtain ⟨E, hE⟩ : ∃ E, rsE (wrL n l) = E := ⟨_, rfl⟩
  rw [hE]
  have HE : Hid (rsE (wrL n l) = E) := hE
  clear r1 r2 hE hb8 S7 hrun hcl hRd
  simp only [sv, rsv]
  by_cases h0 : E = 0
  · subst h0
    go_wp2_with fail
    go_ret2
    exact ⟨(base', 1 + l.length, cap'), by rw [HE.out]; rfl, (HW.out _).1, fun _ => ⟨(HW.out _).2, HO.out⟩, fun h => absurd HE.out h⟩
  · have h0' : (E != 0) = true := by simp [h0]
    have H0 : Hid (E ≠ 0) := h0
    clear h0
    go_wp2_with fail
    go_ret2
    exact ⟨(none, 0, 0), by rw [HE.out]; rfl, (HW.out _).1, fun h => absurd (HE.out.symm.trans h) H0.out, fun _ => rfl⟩
end Go.Proofs.YtcgfgjhhmbfmdaaDoor
