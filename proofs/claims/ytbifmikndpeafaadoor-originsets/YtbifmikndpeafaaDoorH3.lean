/- OriginFull. -/
import Derived.Test.YtbifmikndpeafaaDoorF1
import Derived.Test.YtbifmikndpeafaaDoorK1
namespace Go.Proofs.YtbifmikndpeafaaDoor
open Go.RowKit Go.Maps
set_option linter.unusedVariables false
set_option linter.unusedSimpArgs false
/-- origins that grow while another block is written -/
def Rf (V : World) (g : Nat) (wr : World) (v : Value) (L : List Og) : Prop := R EO wr v L ∧ Below V.heap.size V wr ∧ (∀ j, v.ownBlock = some j → V.heap.size ≤ j ∧ j ≠ g) ∧ g < wr.heap.size
theorem Rf.app {V wr : World} {g : Nat} {b : Option Addr} {k c : Nat} {L : List Og} (h : Rf V g wr (.slice b k c) L) (hk : k = L.length) (hl : (L.length + 1) * 40 ≤ 140737488355328) (x : Og) :
    ∃ b2 c2 w2, (Builtin.append_ #[35, 35] 35 #[.slice b k c, .slice (some ⟨wr.heap.size, 0, none⟩) 1 1]).run Tryd.prog (wr.alloc (.cells #[.string x.s, .string x.h, .int .i64 x.p] 23)) = .ok (.slice b2 (k + 1) c2) w2 ∧ Rf V g w2 (.slice b2 (k + 1) c2) (L ++ [x]) ∧ w2.heap[g]? = wr.heap[g]? := by
  subst hk
  have ba := bel1 wr (.cells #[.string x.s, .string x.h, .int .i64 x.p] 23)
  obtain ⟨b2, c2, w2, e1, e2, e3⟩ := Go.Proofs.YtbifmikndpeafaaDoor.app okO (wr.alloc (.cells #[.string x.s, .string x.h, .int .i64 x.p] 23)) _ _ (R.below h.1 ba) (.slice (some ⟨wr.heap.size, 0, none⟩) 1 1) [x] (in_one (x := x) _ _ #[.string x.s, .string x.h, .int .i64 x.p] 23 (0, 0) (by rw [heap_al, if_pos rfl]) rfl) (by simp only [EO, List.length_singleton]; exact hl)
  have el : L.length + [x].length = L.length + 1 := rfl
  rw [el] at e1 e2 e3
  have hg := h.2.2.2
  have hg1 : w2.heap[g]? = wr.heap[g]? := by
    rw [e3.block g (by rw [size_al]; omega) (fun e => (h.2.2.1 g e).2 rfl)]
    exact ba.block g hg
  refine ⟨b2, c2, w2, e1, ⟨e2, ?_, fun j hj => ?_, ?_⟩, hg1⟩
  · exact h.2.1.trans (Below.trans (ba.mono h.2.1.size) (e3.belowB (Nat.le_trans h.2.1.size ba.size) (fun j hj => (h.2.2.1 j hj).1)))
  · rcases e3.own j hj with e | e
    · exact h.2.2.1 j e
    · rw [size_al] at e
      have := h.2.1.size
      omega
  · have := e3.size
    rw [size_al] at this
    omega
/-- n origins, alike but for their ports -/
def fuL (o : Og) (n : Nat) : List Og := (List.range n).map fun (j : Nat) => (⟨o.s, o.h, (j : Int) + 1⟩ : Og)
theorem fu_len (o : Og) (n : Nat) : (fuL o n).length = n := by simp [fuL]
theorem fu_succ (o : Og) (n : Nat) : fuL o (n + 1) = fuL o n ++ [⟨o.s, o.h, (n : Int) + 1⟩] := by
  unfold fuL
  rw [List.range_succ, List.map_append]
  rfl
theorem fu_rt {o : Og} (h : rtB o = true) {n : Nat} (hn : n ≤ 17) : ∀ z ∈ fuL o n, rtB z = true := fun z hz => by
  obtain ⟨h1, h2, _, _⟩ := rtB_iff.1 h
  obtain ⟨j, hj, rfl⟩ := List.mem_map.1 hz
  have := List.mem_range.1 hj
  exact rtB_iff.2 ⟨h1, h2, by simp only; omega, by simp only; omega⟩
theorem fu_nd (o : Og) (n : Nat) : (fuL o n).Nodup := by
  induction n with
  | zero => exact List.nodup_nil
  | succ n ih =>
    rw [fu_succ, List.nodup_append]
    refine ⟨ih, by simp, fun x hx y hy e => ?_⟩
    rw [List.mem_singleton.1 hy] at e
    obtain ⟨j, hj, rfl⟩ := List.mem_map.1 hx
    have h1 := (Og.eq_iff.1 e).2.2
    have := List.mem_range.1 hj
    simp only at h1
    omega
theorem fu_get (o : Og) (n j : Nat) (h : j < (fuL o n).length) : (fuL o n)[j] = ⟨o.s, o.h, (j : Int) + 1⟩ := by simp [fuL]
theorem fu_take (o : Og) (n m : Nat) (h : m ≤ n) : (fuL o n).take m = fuL o m := by
  unfold fuL
  rw [← List.map_take, List.take_range, Nat.min_eq_left h]
theorem fu_twice (o : Og) (t : Nat) (ht : t < 16) (x : Og) (hx : x = ⟨o.s, o.h, (t : Int) + 1⟩) : ¬ ((fuL o 17).set 16 x).Nodup := by
  intro h
  have h1 : ((fuL o 17).set 16 x)[16]'(by rw [List.length_set, fu_len]; omega) = ((fuL o 17).set 16 x)[t]'(by rw [List.length_set, fu_len]; omega) := by
    rw [List.getElem_set_self, List.getElem_set_ne (by omega), fu_get, hx]
  have := (List.getElem_inj h).1 h1
  omega
theorem ow_of {o : Og} (h : rtB o = true) (p : Int) (h1 : -9223372036854775808 ≤ p) (h2 : p ≤ 9223372036854775807) : ow ⟨o.s, o.h, p⟩ := ⟨(rt_ow h).1, h1, h2⟩
theorem In.take' {w : World} {B off cap n : Nat} {l : List Og} (h : In EO w (.slice (some ⟨B, off, none⟩) n cap) l) (m : Nat) (hm : m ≤ l.length) : In EO w (.slice (some ⟨B, off, none⟩) m cap) (l.take m) := by
  rcases h with ⟨e, _⟩ | ⟨a, c, e, h1, h2, h3⟩
  · cases e
  · injection e with e1 e2 e3
    subst e3
    refine .inr ⟨⟨B, off, none⟩, cap, by rw [List.length_take, Nat.min_eq_left hm], by rw [List.length_take]; omega, h2, fun j u hu => ?_⟩
    injection e1 with e1
    subst e1
    apply h3
    have hcs : EO.cs l = EO.cs (l.take m) ++ EO.cs (l.drop m) := by rw [← El.cs_append, List.take_append_drop]
    rw [hcs, List.getElem?_append_left (List.getElem?_eq_some_iff.1 hu).1]
    exact hu
set_option maxHeartbeats 16000000 in
set_option maxRecDepth 100000 in
theorem originFull_any (raw : Og) (at' : Int) (w : World) (he : Env w) (hz : ow raw) (ha0 : -9223372036854775808 ≤ at') (ha1 : at' ≤ 9223372036854775807) : Calls Tryd.prog 5 #[.agg (ogv raw), .int .i64 at'] w fun e w' => e = .returned (.bool true) ∧ Below w.heap.size w w' := by
  have HE : Hid (Env w) := he
  have HMd : Hid (∀ W, Calls Tryd.prog 10 #[.agg (ogv raw)] W (MdPost W)) := fun W => made_any raw W hz.1.2 hz.1.1 hz.2
  obtain ⟨n0, hn0⟩ : ∃ n, w.heap.size = n := ⟨_, rfl⟩
  obtain ⟨A0, hA0⟩ : ∃ W, w.alloc (.cells #[.string raw.s, .string raw.h, .int .i64 raw.p] 23) = W := ⟨_, rfl⟩
  have HB0 : Hid (Below w.heap.size w A0) := by rw [← hA0]; exact bel1 _ _
  have HO0 : Hid (OB A0 n0 raw) := by show OB _ _ _; rw [← hA0, ← hn0]; unfold OB; rw [heap_al, if_pos rfl]; rfl
  unfold ogv at HMd ⊢
  clear he hz
  go_enter Tryd.func5, Tryd.ntmps5
  go_wp2_with fail
  clear hA0
  go_at_call 9
  refine (first_any _ (HE.out.below HB0.out)).mono ?_
  rintro e A1 ⟨rfl, b1⟩
  have B1 : Hid (Below w.heap.size w A1) := HB0.out.trans (b1.mono HB0.out.size)
  have O1 : Hid (OB A1 n0 raw) := HO0.out.below b1
  clear b1
  obtain ⟨d0, d1, d2, _, _, _⟩ := O1.out.cells
  go_wp2_with fail
  go_at_call 10
  refine (HMd.out _).mono ?_
  rintro e A2 ⟨o, rfl, hrt, b2⟩
  unfold ogv
  have HRT : Hid (rtB o = true) := hrt
  have HB2 : Hid (Below w.heap.size w A2) := B1.out.trans (b2.mono B1.out.size)
  clear b2 hrt d0 d1 d2
  go_wp2_with fail
  obtain ⟨a, ha⟩ : ∃ a, A2.heap.size = a := ⟨_, rfl⟩
  obtain ⟨X0, hX0⟩ : ∃ V, A2.alloc (.cells #[.string o.s, .string o.h, .int .i64 o.p] 23) = V := ⟨_, rfl⟩
  have HA0 : Hid (OB X0 a ⟨o.s, o.h, o.p⟩) := by show OB _ _ _; rw [← hX0, ← ha]; unfold OB; rw [heap_al, if_pos rfl]; rfl
  have HRf0 : Hid (Rf A2 a X0 (.slice none 0 0) (fuL o 0)) := ⟨R.nil EO X0, by rw [← hX0]; exact bel1 _ _, fun j hj => by simp [Value.ownBlock] at hj, HA0.out.lt⟩
  have HaA : Hid (A2.heap.size = a) := ha
  rw [hX0, ha]
  clear hX0 ha hn0
  go_loopw [6, 7] (fun lv iv wr => ∃ (i k c : Nat) (b : Option Addr) (P : Int), lv = .slice b k c ∧ iv = .int .i64 ((i : Int) + 1) ∧ i ≤ 17 ∧ k ≤ 17 ∧ Hid (k = i ∧ OB wr a ⟨o.s, o.h, P⟩ ∧ Rf A2 a wr (.slice b k c) (fuL o i))) (fun _ iv _ => 18 - (intOf iv).toNat)
  case atStart => exact ⟨0, 0, 0, none, o.p, rfl, rfl, by omega, by omega, rfl, HA0.out, HRf0.out⟩
  case round =>
    obtain ⟨i, k, c, b, P, rfl, rfl, hi, hk, hJ⟩ := hrel
    by_cases hlt : i < 17
    · have a1 : (i : Int) + 1 ≤ 17 := by omega
      obtain ⟨d0, d1, d2, f0, f1, f2⟩ := hJ.out.2.1.cells
      simp only at d0 d1 d2
      obtain ⟨Y, hY⟩ : ∃ Y, wr.setCell ⟨a, 2, none⟩ (.int .i64 ((i : Int) + 1)) = Y := ⟨_, rfl⟩
      have OY : Hid (OB Y a ⟨o.s, o.h, (i : Int) + 1⟩) := by show OB _ _ _; rw [← hY]; exact hJ.out.2.1.setP _
      have RY : Hid (Rf A2 a Y (.slice b k c) (fuL o i)) := by
        rw [← hY]
        refine ⟨hJ.out.2.2.1.stays fun j hj _ => setCell_other _ _ _ _ _ ((hJ.out.2.2.2.2.1 j hj).2), hJ.out.2.2.2.1.setCell (p := ⟨a, 2, none⟩) (by rw [HaA.out]; exact Nat.le_refl _) _, hJ.out.2.2.2.2.1, ?_⟩
        have := hJ.out.2.2.2.2.2
        simpa [World.setCell] using this
      obtain ⟨g0, g1, g2, _, _, _⟩ := OY.out.cells
      simp only at g0 g1 g2
      obtain ⟨b3, c3, w3, e3, e4, e5⟩ := RY.out.app (by rw [fu_len]; exact hJ.out.1) (by rw [fu_len]; omega) ⟨o.s, o.h, (i : Int) + 1⟩
      have HN2 : Hid (k + 1 = i + 1 ∧ OB w3 a ⟨o.s, o.h, (i : Int) + 1⟩ ∧ Rf A2 a w3 (.slice b3 (k + 1) c3) (fuL o (i + 1))) := ⟨by rw [hJ.out.1], OY.out.keep e5, by rw [fu_succ]; exact e4⟩
      have hk2 : k + 1 ≤ 17 := by have := hJ.out.1; omega
      replace e3 : Hid _ := e3
      clear hJ e4 e5
      go_wp2_with (at_builtin; refine Lib.wpList_append_run _ rfl _ _ _ _ rfl _ _ rfl rfl _ _ e3.out ?_)
      go_roundw
      case rel => exact ⟨i + 1, k + 1, c3, b3, (i : Int) + 1, by first | rfl | simp, by simp, by omega, hk2, HN2.out⟩
      case measure => first | (simp [intOf]; done) | (simp [intOf]; omega)
    · obtain rfl : i = 17 := by omega
      obtain rfl : k = 17 := hJ.out.1
      have HBB : Hid (∃ B cap, (Value.slice b 17 c) = .slice (some ⟨B, 0, none⟩) 17 cap ∧ A2.heap.size ≤ B) := by
        rcases hJ.out.2.2.1.2 with ⟨hv, h0⟩ | ⟨B, cap, cur, hv, _⟩
        · rw [fu_len] at h0
          omega
        · rw [fu_len] at hv
          exact ⟨B, cap, hv, (hJ.out.2.2.2.2.1 B (by rw [hv]; rfl)).1⟩
      obtain ⟨B, cap, hv, hB⟩ := HBB.out
      injection hv with hv1 hv2 hv3
      subst hv1
      subst hv3
      have HBA : Hid (A2.heap.size ≤ B) := hB
      have HR : Hid (R EO wr (.slice (some ⟨B, 0, none⟩) 17 c) (fuL o 17)) := hJ.out.2.2.1
      have HBw : Hid (Below w.heap.size w wr) := HB2.out.trans (hJ.out.2.2.2.1.mono HB2.out.size)
      have a1 : ¬ ((17 : Nat) : Int) + 1 ≤ 17 := by omega
      clear hJ hv2 HBB hB
      have hU0 : 0 ≤ IntKind.u64.wrap at' := by rw [IntKind.wrap_u64]; omega
      obtain ⟨T, hT⟩ : ∃ T : Nat, (IntKind.u64.wrap at').tmod 16 = (T : Int) := ⟨((IntKind.u64.wrap at').tmod 16).toNat, by rw [Int.tmod_eq_emod_of_nonneg hU0]; omega⟩
      have hT16 : T < 16 := by rw [Int.tmod_eq_emod_of_nonneg hU0] at hT; omega
      have hT17 : (T : Int) < 17 := by omega
      have hcc : (17 : Int) ≤ (c : Int) ∧ c ≤ 9223372036854775807 := by
        obtain ⟨_, _, e, h1, h2⟩ := HR.out.slice
        injection e with _ _ e3
        rw [fu_len] at h1
        omega
      obtain ⟨hc17, hcm⟩ := hcc
      have hc16 : (16 : Int) ≤ (c : Int) := by omega
      have HOf1 : Hid (Calls Tryd.prog 14 #[.slice (some ⟨B, 0, none⟩) 16 c] wr (OfPost (fuL o 16) wr)) := of_any (some ⟨B, 0, none⟩, 16, c) (fuL o 16) wr (by have h1 := In.take' HR.out.isIn 16 (by rw [fu_len]; omega); rw [fu_take o 17 16 (by omega)] at h1; exact h1) (fun z hz => rt_ow (fu_rt HRT.out (by omega) z hz)) (by rw [fu_len]; omega)
      have HE1 : Hid (ofE (fuL o 16) = 0) := ofE_ok ⟨fu_rt HRT.out (by omega), fu_nd o 16, by rw [fu_len]; omega⟩
      have HE2 : Hid (ofE (fuL o 17) = 6) := ofE_full (fu_rt HRT.out (by omega)) (fu_nd o 17) (by rw [fu_len]; omega)
      have HBl : Hid (B < wr.heap.size) := HR.out.lt B rfl
      clear hU0
      go_wp2_with fail
      go_at_call 14
      refine HOf1.out.mono ?_
      rintro e X1 ⟨b1, h5⟩
      rcases h5 with ⟨_, P1, Q1, rfl, hS⟩ | ⟨h5, _⟩
      · have HS1 : Hid (Se X1 wr.heap.size P1 Q1 (fuL o 16)) := hS
        have HR1 : Hid (R EO X1 (.slice (some ⟨B, 0, none⟩) 17 c) (fuL o 17)) := HR.out.below b1
        have HB1 : Hid (Below w.heap.size w X1) := HBw.out.trans (b1.mono HBw.out.size)
        generalize wr.heap.size = lo at HS1 HBl
        have HOf2 : Hid (Calls Tryd.prog 14 #[.slice (some ⟨B, 0, none⟩) 17 c] X1 (OfPost (fuL o 17) X1)) := of_any (some ⟨B, 0, none⟩, 17, c) (fuL o 17) X1 HR1.out.isIn (fun z hz => rt_ow (fu_rt HRT.out (by omega) z hz)) (by rw [fu_len]; omega)
        clear hS b1
        go_wp2_with fail
        go_at_call 14
        refine HOf2.out.mono ?_
        rintro e X2 ⟨b2, h5⟩
        rcases h5 with ⟨h5, _⟩ | ⟨_, rfl⟩
        · exact absurd (h5.symm.trans HE2.out) (by decide)
        · rw [HE2.out]
          have HS2 : Hid (Se X2 lo P1 Q1 (fuL o 16)) := HS1.out.below b2
          have HR2 : Hid (R EO X2 (.slice (some ⟨B, 0, none⟩) 17 c) (fuL o 17)) := HR1.out.below b2
          have HB2' : Hid (Below w.heap.size w X2) := HB1.out.trans (b2.mono HB1.out.size)
          obtain ⟨y, hy⟩ : ∃ y : Og, y = ⟨o.s, o.h, (T : Int) + 1⟩ := ⟨_, rfl⟩
          obtain ⟨t0, t1, t2, _, _, _⟩ := HR2.out.cellsR T (by rw [fu_len]; omega)
          rw [fu_get] at t0 t1 t2
          rw [← hy] at t0 t1 t2
          obtain ⟨l0, l1, l2, q0, q1, q2⟩ := HR2.out.cellsR 16 (by rw [fu_len]; omega)
          obtain ⟨x16, hx16⟩ : ∃ x, (fuL o 17)[16]'(by rw [fu_len]; omega) = x := ⟨_, rfl⟩
          rw [hx16] at l0 l1 l2
          have HR3 : Hid (R EO (setR X2 B 16 y) (.slice (some ⟨B, 0, none⟩) 17 c) ((fuL o 17).set 16 y)) := HR2.out.setR 16 (by rw [fu_len]; omega) y
          have HS3 : Hid (Se (setR X2 B 16 y) lo P1 Q1 (fuL o 16)) := HS2.out.keep fun kk h1 h2 => by
            unfold setR
            have hne : kk ≠ B := by have := HBl.out; omega
            rw [setCell_other _ _ _ _ _ hne, setCell_other _ _ _ _ _ hne, setCell_other _ _ _ _ _ hne]
          have hwB : w.heap.size ≤ B := Nat.le_trans HB2.out.size HBA.out
          have HB3 : Hid (Below w.heap.size w (setR X2 B 16 y)) := ((HB2'.out.setCell (p := ⟨B, 16 * 3, none⟩) hwB _).setCell (p := ⟨B, 16 * 3 + 1, none⟩) hwB _).setCell (p := ⟨B, 16 * 3 + 2, none⟩) hwB _
          have HOW3 : Hid (∀ z ∈ (fuL o 17).set 16 y, ow z ∧ rtB z = true) := fun z hz => by
            rcases List.mem_or_eq_of_mem_set hz with hz | hz
            · exact ⟨rt_ow (fu_rt HRT.out (by omega) z hz), fu_rt HRT.out (by omega) z hz⟩
            · have hm : y ∈ fuL o 17 := by
                rw [hy, ← fu_get o 17 T (by rw [fu_len]; omega)]
                exact List.getElem_mem _
              rw [hz]
              exact ⟨rt_ow (fu_rt HRT.out (by omega) y hm), fu_rt HRT.out (by omega) y hm⟩
          have HE3 : Hid (ofE ((fuL o 17).set 16 y) = 7) := ofE_twice (fun z hz => (HOW3.out z hz).2) (fu_twice o T hT16 y hy)
          have HOf3 : Hid (Calls Tryd.prog 14 #[.slice (some ⟨B, 0, none⟩) 17 c] (setR X2 B 16 y) (OfPost ((fuL o 17).set 16 y) (setR X2 B 16 y))) := of_any (some ⟨B, 0, none⟩, 17, c) _ _ HR3.out.isIn (fun z hz => (HOW3.out z hz).1) (by rw [List.length_set, fu_len]; omega)
          unfold setR at HR3 HS3 HB3 HOf3
          obtain ⟨X3, hX3⟩ : ∃ X, ((X2.setCell ⟨B, 16 * 3, none⟩ (.string y.s)).setCell ⟨B, 16 * 3 + 1, none⟩ (.string y.h)).setCell ⟨B, 16 * 3 + 2, none⟩ (.int .i64 y.p) = X := ⟨_, rfl⟩
          rw [hX3] at HR3 HS3 HB3 HOf3
          have HY : Hid (y.s = o.s ∧ y.h = o.h) := by rw [hy]; exact ⟨rfl, rfl⟩
          clear b2 hx16 hy
          go_wp2_with fail
          clear hX3 t0 t1 t2 l0 l1 l2 q0 q1 q2
          go_at_call 14
          refine HOf3.out.mono ?_
          rintro e X4 ⟨b4, h5⟩
          rcases h5 with ⟨h5, _⟩ | ⟨_, rfl⟩
          · exact absurd (h5.symm.trans HE3.out) (by decide)
          · rw [HE3.out]
            obtain ⟨L3, hL3⟩ : ∃ L3, (fuL o 17).set 16 y = L3 := ⟨_, rfl⟩
            rw [hL3] at HR3 HOW3
            have HL3 : Hid (L3.length = 17) := by show _ = _; rw [← hL3, List.length_set, fu_len]
            have HS4 : Hid (Se X4 lo P1 Q1 (fuL o 16)) := HS3.out.below b4
            have HR4 : Hid (R EO X4 (.slice (some ⟨B, 0, none⟩) 17 c) L3) := HR3.out.below b4
            have HB4 : Hid (Below w.heap.size w X4) := HB3.out.trans (b4.mono HB3.out.size)
            obtain ⟨t0, t1, t2, q0, q1, q2⟩ := HR4.out.cellsR T (by rw [HL3.out]; omega)
            obtain ⟨v, hv⟩ : ∃ v, L3[T]'(by rw [HL3.out]; omega) = v := ⟨_, rfl⟩
            rw [hv] at t0 t1 t2
            have HVm : Hid (v ∈ L3) := by rw [← hv]; exact List.getElem_mem _
            obtain ⟨X5, hX5⟩ : ∃ X, X4.setCell ⟨B, T * 3 + 2, none⟩ (.int .i64 65536) = X := ⟨_, rfl⟩
            have HR5 : Hid (R EO X5 (.slice (some ⟨B, 0, none⟩) 17 c) (L3.set T ⟨v.s, v.h, 65536⟩)) := by
              have h0 : R EO X4 (.slice (some ⟨B, 0, none⟩) 17 c) (L3.set T v) := by rw [← hv, List.set_getElem_self]; exact HR4.out
              rw [← hX5]
              exact h0.setw okO (by rw [HL3.out]; omega) (i := 2) (by decide) (.int .i64 65536) ⟨v.s, v.h, 65536⟩ rfl
            have HS5 : Hid (Se X5 lo P1 Q1 (fuL o 16)) := HS4.out.keep fun kk h1 h2 => by
              rw [← hX5]
              exact setCell_other _ _ _ _ _ (by have := HBl.out; omega)
            have HB5 : Hid (Below w.heap.size w X5) := by rw [← hX5]; exact HB4.out.setCell (p := ⟨B, T * 3 + 2, none⟩) hwB _
            have HE5 : Hid (ofE (L3.set T ⟨v.s, v.h, 65536⟩) = 150) := ofE_bad (o := ⟨v.s, v.h, 65536⟩) (List.mem_iff_getElem.2 ⟨T, by rw [List.length_set, HL3.out]; omega, by rw [List.getElem_set_self]⟩) (rt_p (by simp))
            have HOf5 : Hid (Calls Tryd.prog 14 #[.slice (some ⟨B, 0, none⟩) 17 c] X5 (OfPost (L3.set T ⟨v.s, v.h, 65536⟩) X5)) := of_any (some ⟨B, 0, none⟩, 17, c) _ _ HR5.out.isIn (fun z hz => by
              rcases List.mem_or_eq_of_mem_set hz with hz | hz
              · exact (HOW3.out z hz).1
              · rw [hz]
                exact ow_of (HOW3.out v HVm.out).2 65536 (by decide) (by decide)) (by rw [List.length_set, HL3.out]; omega)
            clear b4 hL3 hv
            go_wp2_with fail
            clear hX5 t0 t1 t2 q0 q1 q2
            go_at_call 14
            refine HOf5.out.mono ?_
            rintro e X6 ⟨b6, h5⟩
            rcases h5 with ⟨h5, _⟩ | ⟨_, rfl⟩
            · exact absurd (h5.symm.trans HE5.out) (by decide)
            · rw [HE5.out]
              have HS6 : Hid (Se X6 lo P1 Q1 (fuL o 16)) := HS5.out.below b6
              have HB6 : Hid (Below w.heap.size w X6) := HB5.out.trans (b6.mono HB5.out.size)
              clear b6
              go_wp2_with fail
              go_at_call 16
              refine (list_any _ _ _ _ _ HS6.out).mono ?_
              rintro e X7 ⟨Nn, rfl, _, _, b7⟩
              have HB7 : Hid (Below w.heap.size w X7) := HB6.out.trans (b7.mono HB6.out.size)
              have h16 := fu_len o 16
              rw [h16]
              clear b7 h16
              go_wp2_with fail
              go_ret
              exact ⟨by first | rfl | simp, HB7.out⟩
      · exact absurd HE1.out h5
end Go.Proofs.YtbifmikndpeafaaDoor
