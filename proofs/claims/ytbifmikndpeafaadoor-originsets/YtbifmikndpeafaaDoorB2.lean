/- HasPrefix, portOf, isRight. -/
import Derived.Test.YtbifmikndpeafaaDoorB1
import Derived.Laws.ResultCell
import Derived.Deep.RegionHeld3
namespace Go.Proofs.YtbifmikndpeafaaDoor
open Go.RowKit
set_option linter.unusedVariables false
set_option linter.unusedSimpArgs false
theorem ext_list (s : ByteArray) (i j : Nat) : (s.extract i j).data.toList = (s.data.toList.take j).drop i := by
  rw [ByteArray.data_extract]
  simp
  rw [List.drop_take]
theorem pre_zero (s : ByteArray) : ((s.extract 0 1).toList == [48]) = zeroB s.data.toList := by
  rw [ByteArray.toList_eq, ext_list, List.drop_zero]
  cases h : s.data.toList with
  | nil => rfl
  | cons x r =>
    simp only [List.take_succ_cons, List.take_zero, zeroB]
    by_cases e : x = 48
    · subst e; rfl
    · have : ¬ x.toNat = 48 := fun h => e (UInt8.toNat_inj.1 h)
      simp [e, this]
set_option maxHeartbeats 1000000 in
theorem slPrefix_any (s : ByteArray) (w : World) (hs : s.size ≤ 140737488355328) : Calls Tryd.prog 55 #[.string s, .string ⟨#[48]⟩] w fun e w' => e = .returned (.bool (zeroB s.data.toList)) ∧ w' = w := by
  have hp := pre_zero s
  by_cases h : 1 ≤ s.size
  · have h1 : (1 : Int) ≤ (s.size : Int) := by omega
    have h2 : (s.size : Int) ≥ 1 := by omega
    cases hz : zeroB s.data.toList
    · rw [hz] at hp
      clear hz h
      go_enter Tryd.func55, Tryd.ntmps55
      go_wp2_with fail
      go_ret
      exact ⟨rfl, rfl⟩
    · rw [hz] at hp
      clear hz h
      go_enter Tryd.func55, Tryd.ntmps55
      go_wp2_with fail
      go_ret
      exact ⟨rfl, rfl⟩
  · have h2 : ¬ (s.size : Int) ≥ 1 := by omega
    have hz : zeroB s.data.toList = false := by
      have : s.data.toList = [] := List.eq_nil_of_length_eq_zero (by rw [← Lib.size_eq]; omega)
      rw [this]
      rfl
    rw [hz]
    clear hz h hp
    go_enter Tryd.func55, Tryd.ntmps55
    go_wp2_with fail
    go_ret
    exact ⟨rfl, rfl⟩
set_option maxHeartbeats 1000000 in
theorem prefix_any (s : ByteArray) (w : World) (hs : s.size ≤ 140737488355328) : Calls Tryd.prog 44 #[.string s, .string ⟨#[48]⟩] w fun e w' => e = .returned (.bool (zeroB s.data.toList)) ∧ w' = w := by
  go_enter Tryd.func44, Tryd.ntmps44
  go_wp2_with fail
  go_at_call 55
  refine (slPrefix_any s w hs).mono ?_
  rintro e w1 ⟨rfl, h⟩
  rw [h]
  clear h
  go_wp2_with fail
  go_ret
  exact ⟨rfl, rfl⟩
theorem bytesW_below (w : World) (s : ByteArray) : Below w.heap.size w (Lib.bytesWorld w 5 s) :=
  ⟨rfl, rfl, rfl, by rw [Lib.bytesWorld_size]; omega, fun k hk => Lib.bytesWorld_at_old w 5 s k hk⟩
theorem pt_le (d : ByteArray) : ptN d ≤ 65535 := by
  unfold ptN
  split
  · omega
  · split
    · rename_i u h
      unfold Lib.parseUintB at h
      split at h
      · cases h
      · exact Lib.parseUintM_le _ _ 0 u (by omega) h
    · omega
set_option maxHeartbeats 4000000 in
set_option maxRecDepth 100000 in
theorem port_any (s : ByteArray) (w : World) (hs : s.size ≤ 140737488355328) (he : Env w) : Calls Tryd.prog 37 #[.string s] w fun e w' => e = .returned (.int .i64 (ptN s : Int)) ∧ Below w.heap.size w w' := by
  have HP : Hid (∀ W, Calls Tryd.prog 44 #[.string s, .string ⟨#[48]⟩] W fun e w' => e = .returned (.bool (zeroB s.data.toList)) ∧ w' = W) := fun W => prefix_any s W hs
  obtain ⟨⟨t1, p1, h1⟩, ⟨t2, p2, h2⟩, _, _⟩ := he
  cases hz : zeroB s.data.toList
  · rw [hz] at HP
    cases hp : Lib.parseUintB 16 s.data.toList with
    | ok u =>
      have hc : Hid (Calls Tryd.prog 45 #[.string s, .int .i64 10, .int .i64 16] w fun e w' => e = .returned (.tuple #[.int .u64 u, .nilIface]) ∧ Below w.heap.size w w') := (Tryd.strconv_ParseUint_10_at16_ok s (by omega) u hp w).mono fun e w' h => ⟨h.1, by
        rcases h.2 with e | e
        · rw [e]; exact Below.refl _ _
        · rw [e]; exact bytesW_below w s⟩
      have hu := pt_le s
      have HN : ptN s = u := by unfold ptN; rw [hz, hp]; rfl
      rw [HN] at hu ⊢
      have hw : IntKind.i64.wrap (u : Int) = (u : Int) := by rw [IntKind.wrap_i64]; omega
      clear HN hp hz h1 h2
      go_enter Tryd.func37, Tryd.ntmps37
      go_wp2_with fail
      go_at_call 44
      refine (HP.out _).mono ?_
      rintro e w1 ⟨rfl, hw1⟩
      rw [hw1]
      clear hw1
      go_wp2_with fail
      go_at_call 45
      refine hc.out.mono ?_
      rintro e w1 ⟨rfl, bX⟩
      go_wp2_with fail
      go_ret
      exact ⟨by first | rfl | simp, bX⟩
    | «syntax» =>
      have hc : Hid (Calls Tryd.prog 45 #[.string s, .int .i64 10, .int .i64 16] w fun e w' => ∃ N, e = .returned (.tuple #[.int .u64 0, .iface 93 (.pointer (some ⟨N, 0, none⟩))]) ∧ Below w.heap.size w w') := (Tryd.strconv_ParseUint_10_at16_syntax s (by omega) hp _ w h1 (.inr ⟨t1, p1, rfl⟩)).mono fun e w' ⟨N, k1, _, _, k2⟩ => ⟨N, k1, k2⟩
      have HN : ptN s = 0 := by unfold ptN; rw [hz, hp]; rfl
      rw [HN]
      clear HN hp hz h1 h2
      go_enter Tryd.func37, Tryd.ntmps37
      go_wp2_with fail
      go_at_call 44
      refine (HP.out _).mono ?_
      rintro e w1 ⟨rfl, hw1⟩
      rw [hw1]
      clear hw1
      go_wp2_with fail
      go_at_call 45
      refine hc.out.mono ?_
      rintro e w1 ⟨N, rfl, bX⟩
      go_wp2_with fail
      go_ret
      exact ⟨by first | rfl | simp, bX⟩
    | range =>
      have hc : Hid (Calls Tryd.prog 45 #[.string s, .int .i64 10, .int .i64 16] w fun e w' => ∃ N, e = .returned (.tuple #[.int .u64 65535, .iface 93 (.pointer (some ⟨N, 0, none⟩))]) ∧ Below w.heap.size w w') := (Tryd.strconv_ParseUint_10_at16_range s (by omega) hp _ w h2 (.inr ⟨t2, p2, rfl⟩)).mono fun e w' ⟨N, k1, _, _, k2⟩ => ⟨N, k1, k2⟩
      have HN : ptN s = 0 := by unfold ptN; rw [hz, hp]; rfl
      rw [HN]
      clear HN hp hz h1 h2
      go_enter Tryd.func37, Tryd.ntmps37
      go_wp2_with fail
      go_at_call 44
      refine (HP.out _).mono ?_
      rintro e w1 ⟨rfl, hw1⟩
      rw [hw1]
      clear hw1
      go_wp2_with fail
      go_at_call 45
      refine hc.out.mono ?_
      rintro e w1 ⟨N, rfl, bX⟩
      go_wp2_with fail
      go_ret
      exact ⟨by first | rfl | simp, bX⟩
  · rw [hz] at HP
    have HN : ptN s = 0 := by unfold ptN; rw [hz]; rfl
    rw [HN]
    clear HN hz h1 h2
    go_enter Tryd.func37, Tryd.ntmps37
    go_wp2_with fail
    go_at_call 44
    refine (HP.out _).mono ?_
    rintro e w1 ⟨rfl, hw1⟩
    rw [hw1]
    clear hw1
    go_wp2_with fail
    go_ret
    exact ⟨by first | rfl | simp, Below.refl _ _⟩
theorem rt_s {o : Og} (h : usP o.s = 0) : rtB o = false := by unfold rtB; simp [h]
theorem rt_h {o : Og} (h : hostB o.h = false) : rtB o = false := by unfold rtB; simp [h]
theorem rt_p {o : Og} (h : ¬ (1 ≤ o.p ∧ o.p ≤ 65535)) : rtB o = false := by unfold rtB; rw [decide_eq_false h]; simp
set_option maxHeartbeats 4000000 in
set_option maxRecDepth 100000 in
theorem right_any (o : Og) (w : World) : Calls Tryd.prog 22 #[.agg (ogv o)] w fun e w' => e = .returned (.bool (rtB o)) ∧ Below w.heap.size w w' := by
  obtain ⟨s, h, p⟩ := o
  unfold ogv
  simp only
  have HU : Hid (∀ W, Calls Tryd.prog 23 #[.string s] W fun e w' => e = .returned (.int .i64 (usP s)) ∧ w' = W) := fun W => usual_any s W
  have HH : Hid (∀ W, Calls Tryd.prog 34 #[.string h] W fun e w' => e = .returned (.bool (hostB h)) ∧ Below W.heap.size W w') := fun W => host_any h W
  have hb0 : Hid (Below w.heap.size w (w.alloc (.cells #[.string s, .string h, .int .i64 p] 23))) := bel1 _ _
  have hblk : (w.alloc (.cells #[.string s, .string h, .int .i64 p] 23)).heap[w.heap.size]? = some (.cells #[.string s, .string h, .int .i64 p] 23 (0, 0)) := by rw [heap_al, if_pos rfl]
  have hcell : Hid (∀ W', Below (w.heap.size + 1) (w.alloc (.cells #[.string s, .string h, .int .i64 p] 23)) W' → W'.cell? ⟨w.heap.size, 2, none⟩ = some (.int .i64 p)) := fun W' hb => cell_blk ((hb.block _ (by omega)).trans hblk) 2
  clear hblk
  by_cases hu : usP s = 0
  · rw [rt_s hu]
    have hu' : (usP s != 0) = false := by rw [hu]; rfl
    rw [hu] at HU
    clear hu hu'
    go_enter Tryd.func22, Tryd.ntmps22
    go_wp2_with fail
    go_at_call 23
    refine (HU.out _).mono ?_
    rintro e w1 ⟨rfl, hw1⟩
    rw [hw1]
    clear hw1
    go_wp2_with fail
    go_ret
    exact ⟨by first | rfl | simp, hb0.out⟩
  · have hu' : (usP s != 0) = true := bne_iff_ne.2 hu
    obtain ⟨u, hus⟩ : ∃ u, usP s = u := ⟨_, rfl⟩
    have HUS : Hid (usP s = u) := hus
    rw [hus] at HU hu'
    clear hu hus
    cases hh : hostB h
    · rw [rt_h hh]
      rw [hh] at HH
      clear hh
      go_enter Tryd.func22, Tryd.ntmps22
      go_wp2_with fail
      go_at_call 23
      refine (HU.out _).mono ?_
      rintro e w1 ⟨rfl, hw1⟩
      rw [hw1]
      clear hw1
      go_wp2_with fail
      go_at_call 34
      refine (HH.out _).mono ?_
      rintro e w1 ⟨rfl, hb1⟩
      have hb2 : Hid (Below w.heap.size w w1) := hb0.out.trans (hb1.mono hb0.out.size)
      clear hb1
      go_wp2_with fail
      go_ret
      exact ⟨by first | rfl | (simp; done) | (simp; omega), hb2.out⟩
    · have HHT : Hid (hostB h = true) := hh
      rw [hh] at HH
      clear hh
      by_cases hp : 1 ≤ p ∧ p ≤ 65535
      · have e : rtB ⟨s, h, p⟩ = true := rtB_iff.2 ⟨by rw [HUS.out]; simpa using hu', HHT.out, hp⟩
        rw [e]
        obtain ⟨hp1, hp2⟩ := hp
        clear e
        go_enter Tryd.func22, Tryd.ntmps22
        go_wp2_with fail
        go_at_call 23
        refine (HU.out _).mono ?_
        rintro e w1 ⟨rfl, hw1⟩
        rw [hw1]
        clear hw1
        go_wp2_with fail
        go_at_call 34
        refine (HH.out _).mono ?_
        rintro e w1 ⟨rfl, hb1⟩
        have hb2 : Hid (Below w.heap.size w w1) := hb0.out.trans (hb1.mono hb0.out.size)
        have hcl := hcell.out w1 (by rw [size_al] at hb1; exact hb1)
        clear hb1
        go_wp2_with fail
        go_ret
        exact ⟨by first | rfl | (simp; done) | (simp; omega), hb2.out⟩
      · rw [rt_p hp]
        by_cases hp1 : 1 ≤ p
        · have hp2 : ¬ p ≤ 65535 := fun h => hp ⟨hp1, h⟩
          clear hp
          go_enter Tryd.func22, Tryd.ntmps22
          go_wp2_with fail
          go_at_call 23
          refine (HU.out _).mono ?_
          rintro e w1 ⟨rfl, hw1⟩
          rw [hw1]
          clear hw1
          go_wp2_with fail
          go_at_call 34
          refine (HH.out _).mono ?_
          rintro e w1 ⟨rfl, hb1⟩
          have hb2 : Hid (Below w.heap.size w w1) := hb0.out.trans (hb1.mono hb0.out.size)
          have hcl := hcell.out w1 (by rw [size_al] at hb1; exact hb1)
          clear hb1
          go_wp2_with fail
          go_ret
          exact ⟨by first | rfl | (simp; done) | (simp; omega), hb2.out⟩
        · clear hp
          go_enter Tryd.func22, Tryd.ntmps22
          go_wp2_with fail
          go_at_call 23
          refine (HU.out _).mono ?_
          rintro e w1 ⟨rfl, hw1⟩
          rw [hw1]
          clear hw1
          go_wp2_with fail
          go_at_call 34
          refine (HH.out _).mono ?_
          rintro e w1 ⟨rfl, hb1⟩
          have hb2 : Hid (Below w.heap.size w w1) := hb0.out.trans (hb1.mono hb0.out.size)
          have hcl := hcell.out w1 (by rw [size_al] at hb1; exact hb1)
          clear hb1
          go_wp2_with fail
          go_ret
          exact ⟨by first | rfl | (simp; done) | (simp; omega), hb2.out⟩
end Go.Proofs.YtbifmikndpeafaaDoor
