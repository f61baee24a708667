/- The document's Params. -/
import Derived.Test.YtfkimdgbkfogcaaDoorA4
import Derived.Test.YtfkimdgbkfogcaaDoorD1
namespace Go.Proofs.YtfkimdgbkfogcaaDoor
open Go.RowKit
set_option linter.unusedVariables false
set_option linter.unusedSimpArgs false

theorem six_b (s : St) (w : World) : Calls Tryd.prog 42 #[.agg s.a] w fun e w' => e = .returned (.agg s.a) ∧ Below w.heap.size w w' := (six_any s w).mono (by rintro e w' ⟨rfl, rfl⟩; exact ⟨rfl, bel2 _ _ _⟩)

/-- what the loop of Params keeps -/
def Rp (w : World) (g7 g8 : Nat) (a b : St) (W : World) : Prop := Below w.heap.size w W ∧ W.heap[g7]? = some (.cells a.a 68 (0, 0)) ∧ W.heap[g8]? = some (.cells b.a 68 (0, 0))
theorem Rp.below {w : World} {g7 g8 : Nat} {a b : St} {W W' : World} (h : Rp w g7 g8 a b W) (hb : Below W.heap.size W W') : Rp w g7 g8 a b W' :=
  ⟨h.1.trans (hb.mono h.1.size), (hb.block _ (heap_lt h.2.1)).trans h.2.1, (hb.block _ (heap_lt h.2.2)).trans h.2.2⟩
theorem Rp.grow {w : World} {g7 g8 : Nat} {a b : St} {W W' : World} {o o' : Value} {l : List (Int × Int)} (h : Rp w g7 g8 a b W) (hR : R EP W o l) (hfr : ∀ k, o.ownBlock = some k → w.heap.size ≤ k) (hG : Gr W W' o o') : Rp w g7 g8 a b W' := by
  refine ⟨h.1.trans (hG.belowB h.1.size hfr), (hG.block _ (heap_lt h.2.1) fun e => ?_).trans h.2.1, (hG.block _ (heap_lt h.2.2) fun e => ?_).trans h.2.2⟩
  · obtain ⟨c, hc⟩ := hR.ty _ e
    rw [h.2.1] at hc
    simp [EP] at hc
  · obtain ⟨c, hc⟩ := hR.ty _ e
    rw [h.2.2] at hc
    simp [EP] at hc

set_option maxRecDepth 100000 in
set_option maxHeartbeats 4000000 in
theorem rparams_any (a b : St) (c : Bool) (w : World) :
    Calls Tryd.prog 28 #[.agg a.a, .agg b.a, .bool c] w fun e w' => ∃ o, e = .returned o ∧ R EP w' o (parS a b c) ∧ (∀ k, o.ownBlock = some k → w.heap.size ≤ k) ∧ Below w.heap.size w w' := by
  obtain ⟨a1, a2, a3, a4, a5, a6⟩ := a
  obtain ⟨b1, b2, b3, b4, b5, b6⟩ := b
  obtain ⟨SA, hSA⟩ : ∃ S : St, S = ⟨a1, a2, a3, a4, a5, a6⟩ := ⟨_, rfl⟩
  obtain ⟨SB, hSB⟩ : ∃ S : St, S = ⟨b1, b2, b3, b4, b5, b6⟩ := ⟨_, rfl⟩
  have hW0 : Hid (Below w.heap.size w ((w.alloc (.cells (St.mk a1 a2 a3 a4 a5 a6).a 27)).alloc (.cells (St.mk b1 b2 b3 b4 b5 b6).a 27)) ∧ ((w.alloc (.cells (St.mk a1 a2 a3 a4 a5 a6).a 27)).alloc (.cells (St.mk b1 b2 b3 b4 b5 b6).a 27)).heap[w.heap.size + 1]? = some (.cells (St.mk b1 b2 b3 b4 b5 b6).a 27)) := ⟨bel2 _ _ _, fresh2 _ _ _⟩
  have hio1 : ∀ W : World, Hid (Below w.heap.size w W ∧ W.heap[w.heap.size + 1]? = some (.cells (St.mk b1 b2 b3 b4 b5 b6).a 27)) → Calls Tryd.prog 42 #[.agg (St.mk a1 a2 a3 a4 a5 a6).a] W fun e w' => e = .returned (.agg (St.mk a1 a2 a3 a4 a5 a6).a) ∧ C6 (w'.alloc (.cells (St.mk a1 a2 a3 a4 a5 a6).a 68)) (w.heap.size + 1) ⟨b1, b2, b3, b4, b5, b6⟩ ∧ Hid (Below w.heap.size w (w'.alloc (.cells (St.mk a1 a2 a3 a4 a5 a6).a 68)) ∧ (w'.alloc (.cells (St.mk a1 a2 a3 a4 a5 a6).a 68)).heap[w'.heap.size]? = some (.cells (St.mk a1 a2 a3 a4 a5 a6).a 68)) := by
    intro W h
    obtain ⟨k1, k2⟩ := h.out
    refine (six_b _ W).mono ?_
    rintro e w' ⟨rfl, hb⟩
    have k2' : w'.heap[w.heap.size + 1]? = some (.cells (St.mk b1 b2 b3 b4 b5 b6).a 27 (0, 0)) := (hb.block _ (heap_lt k2)).trans k2
    have k3 : (w'.alloc (.cells (St.mk a1 a2 a3 a4 a5 a6).a 68)).heap[w.heap.size + 1]? = some (.cells (St.mk b1 b2 b3 b4 b5 b6).a 27 (0, 0)) := ((bel1 w' _).block _ (heap_lt k2')).trans k2'
    exact ⟨rfl, c6 k3, k1.trans ((hb.mono k1.size).trans ((bel1 w' _).mono (Nat.le_trans k1.size hb.size))), heap_alloc_new _ _⟩
  have hio2 : ∀ (W : World) (g : Nat), Hid (Below w.heap.size w W ∧ W.heap[g]? = some (.cells (St.mk a1 a2 a3 a4 a5 a6).a 68)) → Calls Tryd.prog 42 #[.agg (St.mk b1 b2 b3 b4 b5 b6).a] W fun e w' => e = .returned (.agg (St.mk b1 b2 b3 b4 b5 b6).a) ∧ Hid (Rp w g w'.heap.size SA SB (w'.alloc (.cells (St.mk b1 b2 b3 b4 b5 b6).a 68))) := by
    intro W g h
    obtain ⟨k1, k2⟩ := h.out
    refine (six_b _ W).mono ?_
    rintro e w' ⟨rfl, hb⟩
    rw [hSA, hSB]
    have k2' := (hb.block _ (heap_lt k2)).trans k2
    exact ⟨rfl, k1.trans ((hb.mono k1.size).trans ((bel1 w' _).mono (Nat.le_trans k1.size hb.size))), ((bel1 w' _).block _ (heap_lt k2')).trans k2', heap_alloc_new _ _⟩
  rw [← hSA, ← hSB]
  rw [show SA.a = (St.mk a1 a2 a3 a4 a5 a6).a by rw [hSA], show SB.a = (St.mk b1 b2 b3 b4 b5 b6).a by rw [hSB]]
  clear hSA hSB
  simp only [St.a] at hio1 hW0 ⊢
  simp only [St.a] at hio2
  go_enter Tryd.func28, Tryd.ntmps28
  go_wp2_with (go_at_call 42; refine (hio1 _ hW0).mono ?_; clear hW0 hio1; rintro e w1 ⟨rfl, ⟨c0, c1, c2, c3, c4, c5⟩, H1⟩; simp only at c0 c1 c2 c3 c4 c5)
  refine (hio2 _ _ H1).mono ?_
  rintro e w2 ⟨rfl, H2⟩
  go_wp2_with fail
  clear hio2 H1 c0 c1 c2 c3 c4 c5
  go_loopw [9, 10] (fun o i wr => ∃ k : Nat, k ≤ 6 ∧ i = .int .i64 (k : Int) ∧ Hid (R EP wr o (parK SA SB c k) ∧ (∀ j, o.ownBlock = some j → w.heap.size ≤ j) ∧ Rp w w1.heap.size w2.heap.size SA SB wr)) (fun _ i _ => 6 - (intOf i).toNat)
  case atStart => exact ⟨0, by omega, rfl, R.nil _ _, fun j hj => by simp [Value.ownBlock] at hj, H2.out⟩
  case round =>
    obtain ⟨k, hk, rfl, HP⟩ := hrel
    clear H2
    obtain ⟨hR, hfr, hRp⟩ := HP.out
    obtain ⟨ob, oc, ho, _, _⟩ := hR.slice
    subst ho
    by_cases hlt : k < 6
    · have d7 := nth_cell hRp.2.1 k hlt
      have d8 := nth_cell hRp.2.2 k hlt
      have hstep := parK_succ SA SB c k
      have hll := parK_length SA SB c k
      have hlti : (k : Int) < 6 := by omega
      obtain ⟨X, hX⟩ : ∃ X, SB.nth k = X := ⟨_, rfl⟩
      obtain ⟨Y, hY⟩ : ∃ Y, SA.nth k = Y := ⟨_, rfl⟩
      rw [hX] at d8 hstep
      rw [hY] at d7 hstep
      clear hX hY
      by_cases hne0 : Y = X
      · rw [if_pos (.inl hne0), List.append_nil] at hstep
        have hfin : Hid (R EP wr.drew (.slice ob (parK SA SB c k).length oc) (parK SA SB c (k + 1)) ∧ (∀ j, (Value.slice ob (parK SA SB c k).length oc).ownBlock = some j → w.heap.size ≤ j) ∧ Rp w w1.heap.size w2.heap.size SA SB wr.drew) := ⟨by rw [hstep]; exact hR.below (Below.refl _ wr).drew, hfr, hRp.below (Below.refl _ wr).drew⟩
        obtain ⟨L, hL⟩ : ∃ L, (parK SA SB c k).length = L := ⟨_, rfl⟩
        rw [hL] at hfin ⊢
        have hne : (Y != X) = false := by rw [hne0]; simp
        clear hR hfr HP hstep hll hL hRp hne0
        go_wp2_with fail
        go_region
        all_goals
          go_wp2_with fail
          go_roundw
          case rel => exact ⟨k + 1, by omega, by simp, hfin.out⟩
          case measure => simp [intOf]; omega
      · have hne : (Y != X) = true := by simpa using hne0
        by_cases hc1 : c = false ∧ k = 1
        · rw [if_pos (.inr hc1), List.append_nil] at hstep
          obtain ⟨rfl, rfl⟩ := hc1
          have hfin : Hid (R EP wr.drew (.slice ob (parK SA SB false 1).length oc) (parK SA SB false (1 + 1)) ∧ (∀ j, (Value.slice ob (parK SA SB false 1).length oc).ownBlock = some j → w.heap.size ≤ j) ∧ Rp w w1.heap.size w2.heap.size SA SB wr.drew) := ⟨by rw [hstep]; exact hR.below (Below.refl _ wr).drew, hfr, hRp.below (Below.refl _ wr).drew⟩
          obtain ⟨L, hL⟩ : ∃ L, (parK SA SB false 1).length = L := ⟨_, rfl⟩
          rw [hL] at hfin ⊢
          clear hR hfr HP hstep hll hL hRp hne0
          go_wp2_with fail
          go_region
          all_goals
            go_wp2_with fail
            go_roundw
            case rel => exact ⟨1 + 1, by omega, by simp, hfin.out⟩
            case measure => simp [intOf]
        · rw [if_neg (by rintro (h | h); exact hne0 h; exact hc1 h)] at hstep
          have hb1 : Below wr.heap.size wr ((wr.alloc (.cells #[.int .i64 ((k : Int) + 1), .int .i64 X] 46)).drew) := (bel1 _ _).drew
          have hIn := in_one (E := EP) ((wr.alloc (.cells #[.int .i64 ((k : Int) + 1), .int .i64 X] 46)).drew) wr.heap.size ((k : Int) + 1, X) _ 46 (0, 0) (heap_alloc_new wr _) rfl
          obtain ⟨base, cap, w3, hrun, hR2, hG2⟩ := app okP _ _ _ (hR.below hb1) _ _ hIn (by simp only [EP, List.length_cons, List.length_nil]; omega)
          simp only [List.length_cons, List.length_nil, Nat.zero_add] at hrun hR2 hG2
          have hfin : Hid (R EP w3 (.slice base ((parK SA SB c k).length + 1) cap) (parK SA SB c (k + 1)) ∧ (∀ j, (Value.slice base ((parK SA SB c k).length + 1) cap).ownBlock = some j → w.heap.size ≤ j) ∧ Rp w w1.heap.size w2.heap.size SA SB w3) := by
            refine ⟨by rw [hstep]; exact hR2, fun j hj => (hG2.own j hj).elim (hfr j) fun hh => ?_, (hRp.below hb1).grow (hR.below hb1) hfr hG2⟩
            have := hRp.1.size
            have := hb1.size
            omega
          obtain ⟨L, hL⟩ : ∃ L, (parK SA SB c k).length = L := ⟨_, rfl⟩
          rw [hL] at hrun hfin ⊢
          obtain ⟨L1, hL1⟩ : ∃ L1, L + 1 = L1 := ⟨_, rfl⟩
          rw [hL1] at hrun hfin
          simp only [EP] at hrun
          obtain ⟨K1, hK1⟩ : ∃ K1 : Int, (k : Int) + 1 = K1 := ⟨_, rfl⟩
          have hKw : wrap64 ((k : Int) + 1) = K1 := by unfold wrap64; omega
          rw [hK1] at hrun
          replace hrun : Hid _ := hrun
          clear hR2 hG2 hIn hb1 hR hfr HP hstep hll hL hL1 hRp hne0
          cases c
          · have hk1 : ¬ k = 1 := fun e => hc1 ⟨rfl, e⟩
            have hkb : (((k : Nat) : Int) != 1) = true := by simp; omega
            clear hc1
            go_wp2_with fail
            go_region
            all_goals
              go_wp2_with (at_builtin; refine Lib.wpList_append_run _ rfl (.tmp 33) (.tmp 40) 30 30 rfl _ _ rfl rfl _ _ hrun.out ?_)
              go_roundw
              case rel => exact ⟨k + 1, by omega, by simp [hK1], hfin.out⟩
              case measure => simp [intOf]; omega
          · clear hc1
            go_wp2_with fail
            go_region
            all_goals
              go_wp2_with (at_builtin; refine Lib.wpList_append_run _ rfl (.tmp 33) (.tmp 40) 30 30 rfl _ _ rfl rfl _ _ hrun.out ?_)
              go_roundw
              case rel => exact ⟨k + 1, by omega, by simp [hK1], hfin.out⟩
              case measure => simp [intOf]; omega
    · obtain rfl : k = 6 := by omega
      have hfin : Hid (R EP wr (.slice ob (parK SA SB c 6).length oc) (parS SA SB c) ∧ (∀ k, (Value.slice ob (parK SA SB c 6).length oc).ownBlock = some k → w.heap.size ≤ k) ∧ Below w.heap.size w wr) := ⟨hR, hfr, hRp.1⟩
      obtain ⟨L, hL⟩ : ∃ L, (parK SA SB c 6).length = L := ⟨_, rfl⟩
      rw [hL] at hfin ⊢
      clear hR hfr HP hL hRp
      go_wp2
      go_ret
      exact ⟨_, rfl, hfin.out⟩
end Go.Proofs.YtfkimdgbkfogcaaDoor
