/- inOrder, Params. -/
import Derived.Test.YtfkimdgbkfogcaaDoorA1
namespace Go.Proofs.YtfkimdgbkfogcaaDoor
open Go.RowKit
set_option linter.unusedVariables false
set_option linter.unusedSimpArgs false

def St.nth (s : St) (k : Nat) : Int := ([s.tab, s.psh, s.str, s.win, s.frm, s.lst] : List Int).getD k 0
theorem idx64 (s : St) (k : Nat) (W : World) (hk : k < 6) : (Instr.index 64 (.agg s.a) (.int .i64 (k : Int))).run Tryd.prog W = .ok (.int .i64 (s.nth k)) W := by
  obtain rfl | rfl | rfl | rfl | rfl | rfl : k = 0 ∨ k = 1 ∨ k = 2 ∨ k = 3 ∨ k = 4 ∨ k = 5 := by omega
  all_goals simp [Instr.index, asIntOf, asAgg, run_underlying Tryd.underlying64, part, Tryd.isAgg2, Tryd.sizeOf2, St.nth, St.a]
theorem nth_cell {w : World} {g : Nat} {s : St} {t : TypeId} {fz : Nat × Nat} (h : w.heap[g]? = some (.cells s.a t fz)) (k : Nat) (hk : k < 6) : w.cell? ⟨g, k, none⟩ = some (.int .i64 (s.nth k)) := by
  rw [cell_blk h]
  obtain rfl | rfl | rfl | rfl | rfl | rfl : k = 0 ∨ k = 1 ∨ k = 2 ∨ k = 3 ∨ k = 4 ∨ k = 5 := by omega
  all_goals rfl

/-- the params that make b of a, of the first k fields -/
def parK (a b : St) (c : Bool) (k : Nat) : List (Int × Int) := (List.range k).flatMap fun i => if a.nth i = b.nth i ∨ (c = false ∧ i = 1) then [] else [((i : Int) + 1, b.nth i)]
theorem parK_succ (a b : St) (c : Bool) (k : Nat) : parK a b c (k + 1) = parK a b c k ++ if a.nth k = b.nth k ∨ (c = false ∧ k = 1) then [] else [((k : Int) + 1, b.nth k)] := by
  simp [parK, List.range_succ]
theorem parK_length (a b : St) (c : Bool) (k : Nat) : (parK a b c k).length ≤ k := by
  induction k with
  | zero => simp [parK]
  | succ k ih =>
    rw [parK_succ, List.length_append]
    split <;> simp <;> omega
def parS (a b : St) (c : Bool) : List (Int × Int) := parK a b c 6

set_option maxRecDepth 100000 in
set_option maxHeartbeats 1000000 in
theorem inOrder_any (s : St) (w : World) : Calls Tryd.prog 38 #[.agg s.a] w fun e w' => e = .returned (.agg s.a) ∧ Below w.heap.size w w' := by
  obtain ⟨s1, s2, s3, s4, s5, s6⟩ := s
  unfold St.a
  simp only
  go_enter Tryd.func38, Tryd.ntmps38
  go_wp2
  refine bodyPost_ret (results_cell_row (p := 2) (ty := 64) rfl _ _ (w.heap.size + 1) 64 _ (0, 0) _ rfl ?hr Tryd.underlying64 rfl (by kernel_rfl)) rfl ⟨rfl, ?_⟩
  case hr => exact fresh2 _ _ _
  exact bel2 _ _ _

set_option maxRecDepth 100000 in
set_option maxHeartbeats 4000000 in
theorem params_any (a b : St) (c : Bool) (w : World) :
    Calls Tryd.prog 17 #[.agg a.a, .agg b.a, .bool c] w fun e w' => ∃ o, e = .returned o ∧ R EP w' o (parS a b c) ∧ (∀ k, o.ownBlock = some k → w.heap.size ≤ k) ∧ Below w.heap.size w w' := by
  obtain ⟨a1, a2, a3, a4, a5, a6⟩ := a
  obtain ⟨b1, b2, b3, b4, b5, b6⟩ := b
  obtain ⟨SA, hSA⟩ : ∃ S : St, S = ⟨a1, a2, a3, a4, a5, a6⟩ := ⟨_, rfl⟩
  obtain ⟨SB, hSB⟩ : ∃ S : St, S = ⟨b1, b2, b3, b4, b5, b6⟩ := ⟨_, rfl⟩
  have hW0 : Hid (Below w.heap.size w ((w.alloc (.cells #[.int .i64 a1, .int .i64 a2, .int .i64 a3, .int .i64 a4, .int .i64 a5, .int .i64 a6] 27)).alloc (.cells #[.int .i64 b1, .int .i64 b2, .int .i64 b3, .int .i64 b4, .int .i64 b5, .int .i64 b6] 27)) ∧ ((w.alloc (.cells #[.int .i64 a1, .int .i64 a2, .int .i64 a3, .int .i64 a4, .int .i64 a5, .int .i64 a6] 27)).alloc (.cells #[.int .i64 b1, .int .i64 b2, .int .i64 b3, .int .i64 b4, .int .i64 b5, .int .i64 b6] 27)).heap[w.heap.size + 1]? = some (.cells #[.int .i64 b1, .int .i64 b2, .int .i64 b3, .int .i64 b4, .int .i64 b5, .int .i64 b6] 27)) := ⟨bel2 _ _ _, fresh2 _ _ _⟩
  have hio1 : ∀ W : World, Hid (Below w.heap.size w W ∧ W.heap[w.heap.size + 1]? = some (.cells #[.int .i64 b1, .int .i64 b2, .int .i64 b3, .int .i64 b4, .int .i64 b5, .int .i64 b6] 27)) → Calls Tryd.prog 38 #[.agg (St.mk a1 a2 a3 a4 a5 a6).a] W fun e w' => e = .returned (.agg (St.mk a1 a2 a3 a4 a5 a6).a) ∧ C6 (w'.alloc (.cells (St.mk a1 a2 a3 a4 a5 a6).a 64)) (w.heap.size + 1) ⟨b1, b2, b3, b4, b5, b6⟩ ∧ Hid (Below w.heap.size w (w'.alloc (.cells (St.mk a1 a2 a3 a4 a5 a6).a 64)) ∧ (w'.alloc (.cells (St.mk a1 a2 a3 a4 a5 a6).a 64)).heap[w'.heap.size]? = some (.cells (St.mk a1 a2 a3 a4 a5 a6).a 64)) := by
    intro W h
    obtain ⟨k1, k2⟩ := h.out
    refine (inOrder_any _ W).mono ?_
    rintro e w' ⟨rfl, hb⟩
    have k2' : w'.heap[w.heap.size + 1]? = some (.cells (St.mk b1 b2 b3 b4 b5 b6).a 27 (0, 0)) := (hb.block _ (heap_lt k2)).trans k2
    have k3 : (w'.alloc (.cells (St.mk a1 a2 a3 a4 a5 a6).a 64)).heap[w.heap.size + 1]? = some (.cells (St.mk b1 b2 b3 b4 b5 b6).a 27 (0, 0)) := ((bel1 w' _).block _ (heap_lt k2')).trans k2'
    exact ⟨rfl, c6 k3, k1.trans ((hb.mono k1.size).trans ((bel1 w' _).mono (Nat.le_trans k1.size hb.size))), heap_alloc_new _ _⟩
  have hio2 : ∀ (W : World) (g : Nat), Hid (Below w.heap.size w W ∧ W.heap[g]? = some (.cells (St.mk a1 a2 a3 a4 a5 a6).a 64)) → Calls Tryd.prog 38 #[.agg (St.mk b1 b2 b3 b4 b5 b6).a] W fun e w' => e = .returned (.agg (St.mk b1 b2 b3 b4 b5 b6).a) ∧ Hid (Below w.heap.size w w' ∧ w'.heap[g]? = some (.cells SA.a 64 (0, 0))) := by
    intro W g h
    obtain ⟨k1, k2⟩ := h.out
    refine (inOrder_any _ W).mono ?_
    rintro e w' ⟨rfl, hb⟩
    exact ⟨rfl, k1.trans (hb.mono k1.size), by rw [hSA]; exact (hb.block _ (heap_lt k2)).trans k2⟩
  have hidx : ∀ (k : Nat) (W : World), k < 6 → (Instr.index 64 (.agg (St.mk b1 b2 b3 b4 b5 b6).a) (.int .i64 (k : Int))).run Tryd.prog W = .ok (.int .i64 (SB.nth k)) W := fun k W hk => by rw [hSB]; exact idx64 _ k W hk
  rw [← hSA, ← hSB]
  rw [show SA.a = (St.mk a1 a2 a3 a4 a5 a6).a by rw [hSA], show SB.a = (St.mk b1 b2 b3 b4 b5 b6).a by rw [hSB]]
  clear hSA hSB
  simp only [St.a] at hio1 hidx ⊢
  simp only [St.a] at hio2
  go_enter Tryd.func17, Tryd.ntmps17
  go_wp2_with (go_at_call 38; refine (hio1 _ hW0).mono ?_; clear hW0 hio1; rintro e w1 ⟨rfl, ⟨c0, c1, c2, c3, c4, c5⟩, H1⟩; simp only at c0 c1 c2 c3 c4 c5)
  refine (hio2 _ _ H1).mono ?_
  rintro e w2 ⟨rfl, H2⟩
  go_wp2_with fail
  clear hio2 H1 c0 c1 c2 c3 c4 c5
  go_loopw [7, 16] (fun o i wr => ∃ k : Nat, k ≤ 6 ∧ i = .int .i64 (k : Int) ∧ Hid (R EP wr o (parK SA SB c k) ∧ (∀ j, o.ownBlock = some j → w.heap.size ≤ j ∧ j ≠ w1.heap.size) ∧ Below w.heap.size w wr ∧ wr.heap[w1.heap.size]? = some (.cells SA.a 64 (0, 0)))) (fun _ i _ => 6 - (intOf i).toNat)
  case atStart => exact ⟨0, by omega, rfl, R.nil _ _, fun j hj => by simp [Value.ownBlock] at hj, H2.out.1, H2.out.2⟩
  case round =>
    obtain ⟨k, hk, rfl, HP⟩ := hrel
    clear H2
    obtain ⟨hR, hfr, hB, h8⟩ := HP.out
    obtain ⟨ob, oc, ho, _, _⟩ := hR.slice
    subst ho
    by_cases hlt : k < 6
    · have hi := fun W => hidx k W hlt
      have d8 := nth_cell h8 k hlt
      have hstep := parK_succ SA SB c k
      have hll := parK_length SA SB c k
      have hlti : (k : Int) < 6 := by omega
      clear hidx
      by_cases hne0 : SA.nth k = SB.nth k
      · rw [if_pos (.inl hne0)] at hstep
        have hfin : Hid (R EP wr (.slice ob (parK SA SB c k).length oc) (parK SA SB c (k + 1)) ∧ (∀ j, (Value.slice ob (parK SA SB c k).length oc).ownBlock = some j → w.heap.size ≤ j ∧ j ≠ w1.heap.size) ∧ Below w.heap.size w wr ∧ wr.heap[w1.heap.size]? = some (.cells SA.a 64 (0, 0))) := ⟨by rw [hstep, List.append_nil]; exact hR, hfr, hB, h8⟩
        obtain ⟨L, hL⟩ : ∃ L, (parK SA SB c k).length = L := ⟨_, rfl⟩
        rw [hL] at hfin ⊢
        have hne : (SB.nth k != SA.nth k) = false := by rw [hne0]; simp
        clear hne0
        obtain ⟨X, hX⟩ : ∃ X, SB.nth k = X := ⟨_, rfl⟩
        obtain ⟨Y, hY⟩ : ∃ Y, SA.nth k = Y := ⟨_, rfl⟩
        rw [hX] at hi hne
        rw [hY] at d8 hne
        clear hR hfr HP hstep hll hL h8 hB hX hY
        go_wp2_with fail
        go_roundw
        case rel => exact ⟨k + 1, by omega, by simp, hfin.out⟩
        case measure => simp [intOf]; omega
      · cases c
        · by_cases hk1 : k = 1
          · subst hk1
            replace hi : ∀ W, (Instr.index 64 (.agg #[.int .i64 b1, .int .i64 b2, .int .i64 b3, .int .i64 b4, .int .i64 b5, .int .i64 b6]) (.int .i64 1)).run Tryd.prog W = .ok (.int .i64 (SB.nth 1)) W := hi
            rw [if_pos (.inr ⟨rfl, rfl⟩)] at hstep
            have hfin : Hid (R EP wr (.slice ob (parK SA SB false 1).length oc) (parK SA SB false (1 + 1)) ∧ (∀ j, (Value.slice ob (parK SA SB false 1).length oc).ownBlock = some j → w.heap.size ≤ j ∧ j ≠ w1.heap.size) ∧ Below w.heap.size w wr ∧ wr.heap[w1.heap.size]? = some (.cells SA.a 64 (0, 0))) := ⟨by rw [hstep, List.append_nil]; exact hR, hfr, hB, h8⟩
            obtain ⟨L, hL⟩ : ∃ L, (parK SA SB false 1).length = L := ⟨_, rfl⟩
            rw [hL] at hfin ⊢
            have hne : (SB.nth 1 != SA.nth 1) = true := by simpa using fun e => hne0 e.symm
            clear hne0
            obtain ⟨X, hX⟩ : ∃ X, SB.nth 1 = X := ⟨_, rfl⟩
            obtain ⟨Y, hY⟩ : ∃ Y, SA.nth 1 = Y := ⟨_, rfl⟩
            rw [hX] at hi hne
            rw [hY] at d8 hne
            clear hR hfr HP hstep hll hL h8 hB hX hY
            go_wp2_with fail
            go_roundw
            case rel => exact ⟨1 + 1, by omega, by simp, hfin.out⟩
            case measure => simp [intOf]
          · rw [if_neg (by rintro (h | h); exact hne0 h; exact hk1 h.2)] at hstep
            have hBk : ((wr.alloc (.cells #[.int .i64 ((k : Int) + 1), .int .i64 (SB.nth k)] 46))).heap[wr.heap.size]? = some (.cells #[.int .i64 ((k : Int) + 1), .int .i64 (SB.nth k)] 46 (0, 0)) := heap_alloc_new wr _
            have hb1 : Below wr.heap.size wr (wr.alloc (.cells #[.int .i64 ((k : Int) + 1), .int .i64 (SB.nth k)] 46)) := bel1 _ _
            have hIn := in_one (E := EP) (wr.alloc (.cells #[.int .i64 ((k : Int) + 1), .int .i64 (SB.nth k)] 46)) wr.heap.size ((k : Int) + 1, SB.nth k) _ 46 (0, 0) hBk rfl
            obtain ⟨base, cap, w3, hrun, hR2, hG2⟩ := app okP _ _ _ (hR.below hb1) _ _ hIn (by simp only [EP, List.length_cons, List.length_nil]; omega)
            simp only [List.length_cons, List.length_nil, Nat.zero_add] at hrun hR2 hG2
            have hfin : Hid (R EP w3 (.slice base ((parK SA SB false k).length + 1) cap) (parK SA SB false (k + 1)) ∧ (∀ j, (Value.slice base ((parK SA SB false k).length + 1) cap).ownBlock = some j → w.heap.size ≤ j ∧ j ≠ w1.heap.size) ∧ Below w.heap.size w w3 ∧ w3.heap[w1.heap.size]? = some (.cells SA.a 64 (0, 0))) := by
              refine ⟨by rw [hstep]; exact hR2, fun j hj => (hG2.own j hj).elim (hfr j) fun hh => ?_, hB.trans ((hb1.mono hB.size).trans (hG2.belowB (Nat.le_trans hB.size hb1.size) fun j hj => (hfr j hj).1)), (hG2.block _ (by rw [size_al]; have := heap_lt h8; omega) (fun e => (hfr _ e).2 rfl)).trans ((hb1.block _ (heap_lt h8)).trans h8)⟩
              rw [size_al] at hh
              have := heap_lt h8
              have := hB.size
              omega
            obtain ⟨L, hL⟩ : ∃ L, (parK SA SB false k).length = L := ⟨_, rfl⟩
            rw [hL] at hrun hfin ⊢
            obtain ⟨L1, hL1⟩ : ∃ L1, L + 1 = L1 := ⟨_, rfl⟩
            rw [hL1] at hrun hfin
            simp only [EP] at hrun
            obtain ⟨K1, hK1⟩ : ∃ K1 : Int, (k : Int) + 1 = K1 := ⟨_, rfl⟩
            have hK1' : 1 + (k : Int) = K1 := by omega
            have hKw : wrap64 (1 + (k : Int)) = K1 := by unfold wrap64; omega
            rw [hK1] at hrun
            replace hrun : Hid _ := hrun
            have hne : (SB.nth k != SA.nth k) = true := by simpa using fun e => hne0 e.symm
            have hk2 : (K1 != 2) = true := by simp; omega
            clear hne0
            obtain ⟨X, hX⟩ : ∃ X, SB.nth k = X := ⟨_, rfl⟩
            obtain ⟨Y, hY⟩ : ∃ Y, SA.nth k = Y := ⟨_, rfl⟩
            rw [hX] at hi hrun hne
            rw [hY] at d8 hne
            have HK : Hid ((k : Int) + 1 = K1) := hK1
            clear hR2 hG2 hIn hBk hb1 hR hfr HP hstep hll hL hL1 h8 hB hX hY hK1
            go_wp2_with (at_builtin; refine Lib.wpList_append_run _ rfl (.tmp 34) (.tmp 38) 30 30 rfl _ _ rfl rfl _ _ hrun.out ?_)
            go_roundw
            case rel => exact ⟨k + 1, by omega, by simp, hfin.out⟩
            case measure => simp [intOf]; omega
        · rw [if_neg (by rintro (h | h); exact hne0 h; exact absurd h.1 (by simp))] at hstep
          have hBk : ((wr.alloc (.cells #[.int .i64 ((k : Int) + 1), .int .i64 (SB.nth k)] 46))).heap[wr.heap.size]? = some (.cells #[.int .i64 ((k : Int) + 1), .int .i64 (SB.nth k)] 46 (0, 0)) := heap_alloc_new wr _
          have hb1 : Below wr.heap.size wr (wr.alloc (.cells #[.int .i64 ((k : Int) + 1), .int .i64 (SB.nth k)] 46)) := bel1 _ _
          have hIn := in_one (E := EP) (wr.alloc (.cells #[.int .i64 ((k : Int) + 1), .int .i64 (SB.nth k)] 46)) wr.heap.size ((k : Int) + 1, SB.nth k) _ 46 (0, 0) hBk rfl
          obtain ⟨base, cap, w3, hrun, hR2, hG2⟩ := app okP _ _ _ (hR.below hb1) _ _ hIn (by simp only [EP, List.length_cons, List.length_nil]; omega)
          simp only [List.length_cons, List.length_nil, Nat.zero_add] at hrun hR2 hG2
          have hfin : Hid (R EP w3 (.slice base ((parK SA SB true k).length + 1) cap) (parK SA SB true (k + 1)) ∧ (∀ j, (Value.slice base ((parK SA SB true k).length + 1) cap).ownBlock = some j → w.heap.size ≤ j ∧ j ≠ w1.heap.size) ∧ Below w.heap.size w w3 ∧ w3.heap[w1.heap.size]? = some (.cells SA.a 64 (0, 0))) := by
            refine ⟨by rw [hstep]; exact hR2, fun j hj => (hG2.own j hj).elim (hfr j) fun hh => ?_, hB.trans ((hb1.mono hB.size).trans (hG2.belowB (Nat.le_trans hB.size hb1.size) fun j hj => (hfr j hj).1)), (hG2.block _ (by rw [size_al]; have := heap_lt h8; omega) (fun e => (hfr _ e).2 rfl)).trans ((hb1.block _ (heap_lt h8)).trans h8)⟩
            rw [size_al] at hh
            have := heap_lt h8
            have := hB.size
            omega
          obtain ⟨L, hL⟩ : ∃ L, (parK SA SB true k).length = L := ⟨_, rfl⟩
          rw [hL] at hrun hfin ⊢
          obtain ⟨L1, hL1⟩ : ∃ L1, L + 1 = L1 := ⟨_, rfl⟩
          rw [hL1] at hrun hfin
          simp only [EP] at hrun
          obtain ⟨K1, hK1⟩ : ∃ K1 : Int, (k : Int) + 1 = K1 := ⟨_, rfl⟩
          have hK1' : 1 + (k : Int) = K1 := by omega
          have hKw : wrap64 (1 + (k : Int)) = K1 := by unfold wrap64; omega
          rw [hK1] at hrun
          replace hrun : Hid _ := hrun
          have hne : (SB.nth k != SA.nth k) = true := by simpa using fun e => hne0 e.symm
          clear hne0
          obtain ⟨X, hX⟩ : ∃ X, SB.nth k = X := ⟨_, rfl⟩
          obtain ⟨Y, hY⟩ : ∃ Y, SA.nth k = Y := ⟨_, rfl⟩
          rw [hX] at hi hrun hne
          rw [hY] at d8 hne
          have HK : Hid ((k : Int) + 1 = K1) := hK1
          clear hR2 hG2 hIn hBk hb1 hR hfr HP hstep hll hL hL1 h8 hB hX hY hK1
          go_wp2_with (at_builtin; refine Lib.wpList_append_run _ rfl (.tmp 34) (.tmp 38) 30 30 rfl _ _ rfl rfl _ _ hrun.out ?_)
          go_roundw
          case rel => exact ⟨k + 1, by omega, by simp, hfin.out⟩
          case measure => simp [intOf]; omega
    · obtain rfl : k = 6 := by omega
      have hfin : Hid (R EP wr (.slice ob (parK SA SB c 6).length oc) (parS SA SB c) ∧ (∀ k, (Value.slice ob (parK SA SB c 6).length oc).ownBlock = some k → w.heap.size ≤ k) ∧ Below w.heap.size w wr) := ⟨hR, fun k hk => (hfr k hk).1, hB⟩
      obtain ⟨L, hL⟩ : ∃ L, (parK SA SB c 6).length = L := ⟨_, rfl⟩
      rw [hL] at hfin ⊢
      clear hR hfr HP hL h8 hB
      go_wp2
      go_ret
      exact ⟨_, rfl, hfin.out⟩
end Go.Proofs.YtfkimdgbkfogcaaDoor
