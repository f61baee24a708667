/- The document's Split, of a block that may be cut. -/
import Derived.Test.YtdgdjanchpfleaaD2
import Derived.Deep.Cut
namespace Go.Proofs.Ytdgdjanchpfleaa
open Go.RowKit
set_option linter.unusedVariables false
set_option linter.unusedSimpArgs false

/-- the first frame in a row of its own -/
theorem Sp.rfirst {w w1 : World} {h : Fr} {x : SV} (f : Fr) (b1 : FB w1 w.heap.size h (sv x)) (bel : Below w.heap.size w w1) :
    Sp w ((w1.alloc (.cells (fv f (sv x)) 24)).alloc (.cells (fv f (sv x)) 24)) h x (none, 0, 0) [] (.slice (some ⟨w1.heap.size + 1, 0, none⟩) 1 1) [(f, x)] := by
  have l1 := b1.lt
  have hb3 := bel2 w1 (.cells (fv f (sv x)) 24) (.cells (fv f (sv x)) 24)
  refine ⟨b1.below hb3, R.nil _ _, fun k hk => by simp [sv, Value.ownBlock] at hk, R.one okF _ (fresh2 _ _ _) rfl, fun k hk => ?_, bel.trans (hb3.mono bel.size)⟩
  simp [Value.ownBlock] at hk
  omega

set_option maxHeartbeats 8000000 in
set_option maxRecDepth 100000 in
theorem rsplit_ok (h : Fr) (x : SV) (t : ByteArray) (n : Nat) (w : World) (hm : MS h) (h1 : 16384 ≤ n) (h2 : n ≤ 65536) (hl : t.size ≤ 131072) (T a : Nat) (hT : tkI h = (T : Int)) (hT2 : T ≤ 261) (ha : a = min (n - T) t.size) :
    Calls Try.prog 17 #[.agg (fv h (sv x)), .string t, .int .i64 (n : Int)] w fun e w' => ∃ (v : Value) (k : Nat), e = .returned (.tuple #[v, .int .i64 0]) ∧ Needs a n t.size k ∧ Sp w w' h x (none, 0, 0) [] v (splL h x t a n k) := by
  obtain ⟨m1, m2, m3, m4, m5, m6⟩ := hm.parts
  have hC : Hid (∀ W, Calls Try.prog 29 #[.agg (fv h (sv x))] W fun e w' => e = .returned (.bool true) ∧ Below W.heap.size W w') := fun W => by have := rhead_any h (sv x) W; rw [m1] at this; exact this
  have hC2 : Hid (h.pad ≠ 0 → ∀ W, Calls Try.prog 30 #[.int .i64 h.fl, .int .i64 8] W fun e w' => e = .returned (.bool true) ∧ w' = W) := fun h0 W => by have := rhas_any h.fl 8 W; rw [m6 h0] at this; exact this
  have hC3 : Hid (∀ W, Calls Try.prog 31 #[.agg (fv h (sv x)), .int .i64 (n : Int)] W fun e w' => e = .returned (.int .i64 (((n - T : Nat) : Nat) : Int)) ∧ Below W.heap.size W w') := fun W => by
    have := room_any h (sv x) (n : Int) W (dH_iff.1 m1) (by omega) (by omega) (by omega) (by omega)
    rw [hT, show (n : Int) - (T : Int) = ((n - T : Nat) : Int) by omega] at this
    exact this
  obtain ⟨r, hr⟩ : ∃ r, n - T = r := ⟨_, rfl⟩
  rw [hr] at hC3 ha
  have F0 : Hid (FB (w.alloc (.cells (fv h (sv x)) 24)) w.heap.size h (sv x)) := by show FB _ _ _ _; unfold FB; rw [heap_al, if_pos rfl]
  have B0 : Hid (Below w.heap.size w (w.alloc (.cells (fv h (sv x)) 24))) := bel1 w _
  have hl' : ¬ (131072 : Int) < (t.size : Int) := by omega
  have s1' : ¬ (n : Int) < 16384 := by omega
  have s2' : ¬ 65536 < (n : Int) := by omega
  have g4 : min (t.size : Int) (r : Int) = (a : Int) := by omega
  have g6 : (a : Int) ≤ (t.size : Int) := by omega
  have HA : Hid (a ≤ t.size ∧ t.size ≤ 131072 ∧ 16384 ≤ n ∧ n ≤ 65536) := ⟨by omega, hl, h1, h2⟩
  have hSp : Hid (∀ w1, FB w1 w.heap.size h (sv x) → Below w.heap.size w w1 → Sp w ((w1.alloc (.cells (fv (f0F h t a) (sv x)) 24)).alloc (.cells (fv (f0F h t a) (sv x)) 24)) h x (none, 0, 0) [] (.slice (some ⟨w1.heap.size + 1, 0, none⟩) 1 1) (cutL h x t a n 0)) := fun w1 q1 q2 => Sp.rfirst (f0F h t a) q1 q2
  obtain ⟨xb, xl, xc⟩ := x
  simp only [sv] at hC hC3 F0 B0 hSp ⊢
  unfold f0F at hSp
  unfold fv at hC hC3 B0 F0 hSp ⊢
  simp only [] at hSp
  clear hm m1 m6 hl h1 h2 hT hr ha
  go_enter Try.func17, Try.ntmps17
  go_upto_region 1 with fail
  go_cut [3, 53] from 54 (fun p q wx => p = .pointer (some ⟨w.heap.size, 0, none⟩) ∧ q = .bool false ∧ Hid (FB wx w.heap.size h (.slice xb xl xc) ∧ Below w.heap.size w wx))
  case first =>
    go_wp2_with fail
    go_at_call 29
    refine (hC.out _).mono ?_
    rintro e w1 ⟨rfl, hb⟩
    have B1 : Below w.heap.size w w1 := B0.out.trans (hb.mono B0.out.size)
    have F1 := FB.below F0.out hb
    obtain ⟨c0, c1, c2, c3, c4, c5, c6, c7, c8, c9, c10⟩ := F1.cells
    have HR : Hid (FB w1 w.heap.size h (.slice xb xl xc) ∧ Below w.heap.size w w1) := ⟨F1, B1⟩
    clear hb hC B0 F0 B1 F1
    by_cases h0 : h.pad = 0
    · have h0' : (h.pad != 0) = false := by simp [h0]
      clear hC2 h0
      go_wp2_with fail
      go_meet
      case rel => exact ⟨rfl, by first | rfl | (simp; omega), HR.out⟩
    · have h0' : (h.pad != 0) = true := by simp [h0]
      replace hC2 : Hid (∀ W, _) := hC2.out h0
      clear h0
      go_wp2_with fail
      go_at_call 30
      refine (hC2.out _).mono ?_
      rintro e w2 ⟨rfl, rfl⟩
      go_wp2_with fail
      go_meet
      case rel => exact ⟨rfl, by first | rfl | (simp; omega), HR.out⟩
  obtain ⟨rfl, rfl, HR⟩ := hcut
  obtain ⟨c0, c1, c2, c3, c4, c5, c6, c7, c8, c9, c10⟩ := FB.cells HR.out.1
  clear hC hC2 B0 F0
  go_wp2_with fail
  go_at_call 31
  refine (hC3.out _).mono ?_
  rintro e w4 ⟨rfl, hb⟩
  clear c0 c1 c2 c3 c4 c5 c6 c7 c8 c9 c10
  have F4 := FB.below HR.out.1 hb
  obtain ⟨c0, c1, c2, c3, c4, c5, c6, c7, c8, c9, c10⟩ := F4.cells
  have S4 : Hid _ := hSp.out w4 F4 (HR.out.2.trans (hb.mono HR.out.2.size))
  clear hb HR F4 hSp hC3
  go_wp2_with fail
  go_loopw [8, 10] (fun av fs wr => ∃ (k A : Nat) (base : Option Addr) (cap : Nat), k ≤ 9 ∧ av = .int .i64 (A : Int) ∧ fs = .slice base (k + 1) cap ∧ Hid (A = min (a + k * n) t.size ∧ (k = 0 ∨ a + (k - 1) * n < t.size)) ∧ Hid (Sp w wr h (xb, xl, xc) (none, 0, 0) [] (.slice base (k + 1) cap) (cutL h (xb, xl, xc) t a n k))) (fun av _ _ => t.size + 65536 - (intOf av).toNat)
  case atStart =>
    exact ⟨0, a, _, _, by omega, rfl, rfl, ⟨by have := HA.out.1; omega, .inl rfl⟩, S4.out⟩
  case round =>
    obtain ⟨k, A, base, cap, hk9, rfl, rfl, hAk, hS⟩ := hrel
    clear S4
    by_cases hlt : A < t.size
    · obtain ⟨e, he⟩ : ∃ e, e = min (A + n) t.size := ⟨_, rfl⟩
      have q1 : min (t.size : Int) ((A : Int) + (n : Int)) = (e : Int) := by omega
      have q2 : (A : Int) ≤ (e : Int) := by omega
      have q3 : (e : Int) ≤ (t.size : Int) := by omega
      have q4 : (A : Int) < (t.size : Int) := by omega
      have q5 : A + n ≤ 9223372036854775807 := by have := HA.out; omega
      have hAA : A = a + k * n := by have := hAk.out.1; omega
      obtain ⟨c0, c1, c2, c3, c4, c5, c6, c7, c8, c9, c10⟩ := hS.out.b1.cells
      have hM : Hid (∃ base' cap' w7, (Builtin.append_ #[37, 37] 37 #[.slice base (k + 1) cap, .slice (some ⟨wr.heap.size, 0, none⟩) 1 1]).run Try.prog (wr.drew.alloc (.cells #[.int .i64 9, .int .i64 0, .int .i64 h.st, .string (t.extract A e), .int .i64 0, .int .i64 0, .bool false, .int .i64 0, .int .i64 0, .int .i64 0, .slice none 0 0] 24)) = .ok (.slice base' (k + 1 + 1) cap') w7 ∧
          Hid (Sp w w7 h (xb, xl, xc) (none, 0, 0) [] (.slice base' (k + 1 + 1) cap') (cutL h (xb, xl, xc) t a n (k + 1)))) := by
        obtain ⟨base', cap', w7, m1, m2⟩ := (hS.out.below ((Below.refl _ wr).drew)).more (by rw [cutL_length]; omega) h.st (t.extract A e)
        rw [cutL_length] at m1 m2
        refine ⟨base', cap', w7, m1, ?_⟩
        rw [cutL_succ]
        unfold pieceF
        rw [← hAA, ← he]
        exact m2
      have HNX : Hid (∀ (base' : Option Addr) (cap' : Nat) (w7 : World), Sp w w7 h (xb, xl, xc) (none, 0, 0) [] (.slice base' (k + 1 + 1) cap') (cutL h (xb, xl, xc) t a n (k + 1)) → ∃ (k' A' : Nat) (base : Option Addr) (cap : Nat), k' ≤ 9 ∧ Value.int .i64 (e : Int) = .int .i64 (A' : Int) ∧ Value.slice base' (k + 1 + 1) cap' = .slice base (k' + 1) cap ∧ Hid (A' = min (a + k' * n) t.size ∧ (k' = 0 ∨ a + (k' - 1) * n < t.size)) ∧ Hid (Sp w w7 h (xb, xl, xc) (none, 0, 0) [] (.slice base (k' + 1) cap) (cutL h (xb, xl, xc) t a n k'))) := fun base' cap' w7 hS7 => by
        have hA2 := HA.out
        have h10 : k * n ≤ 131072 := by omega
        have h11 : k ≤ 8 := by
          apply Classical.byContradiction
          intro h9
          have := Nat.mul_le_mul (show 9 ≤ k by omega) hA2.2.2.1
          omega
        refine ⟨k + 1, e, base', cap', by omega, rfl, rfl, ⟨by rw [Nat.succ_mul]; omega, .inr ?_⟩, hS7⟩
        simp only [Nat.add_sub_cancel]
        omega
      have hme : Hid (A < e) := by show A < e; have := HA.out; omega
      obtain ⟨base', cap', w7, hrun, S7⟩ := hM.out
      replace hrun : Hid _ := hrun
      clear hM hAk hS he hAA hlt
      go_upto_region 12 with fail
      go_region_law (refine step_append_run rfl (.tmp 84) (.tmp 92) 37 37 rfl hrun.out (by simp [Act.eval]) (by simp [Act.eval]) ?_)
      all_goals
        go_wp2_with fail
        go_roundw
        case rel => exact HNX.out base' cap' w7 S7.out
        case measure => simp [intOf]; have := hme.out; omega
    · have q4 : ¬ ((A : Int) < (t.size : Int)) := by omega
      have hN : Hid (Needs a n t.size k) := ⟨hAk.out.2, by have := hAk.out.1; omega⟩
      obtain ⟨g, cap', e1, m1, m2, m3, m4, m5, m6, m7⟩ := hS.out.rf.setc okF k 1 (by rw [cutL_length]; omega) (by decide)
      injection e1 with e1 e2 e3
      subst e1
      subst e3
      clear e2
      rw [cutL_length] at m1
      obtain ⟨X, hX⟩ : ∃ X, (cutL h (xb, xl, xc) t a n k)[k]'(by rw [cutL_length]; omega) = X := ⟨_, rfl⟩
      have d1 : wr.cell? ⟨g, k * 11 + 1, none⟩ = some (.int .i64 X.1.fl) := m5 1 _ (by rw [hX]; rfl)
      have d2 := m6 (k * 11 + 1)
      have hfin : Hid (Sp w (wr.setCell ⟨g, k * 11 + 1, none⟩ (.int .i64 (bits .or .i64 X.1.fl 4))) h (xb, xl, xc) (none, 0, 0) [] (.slice (some ⟨g, 0, none⟩) (k + 1) cap) (splL h (xb, xl, xc) t a n k)) := by
        have hr := m7 (.int .i64 (bits .or .i64 X.1.fl 4)) (endF X) (by rw [hX]; rfl)
        have hne := hS.out.ff g m4
        refine ⟨(setCell_other _ _ _ _ _ (by omega)).trans hS.out.b1, R.nil _ _, hS.out.fp, ?_, hS.out.ff, hS.out.bel.trans ((Below.refl _ wr).setCell (p := ⟨g, k * 11 + 1, none⟩) (Nat.le_of_lt hne) _)⟩
        unfold splL
        rw [show (cutL h (xb, xl, xc) t a n k).getD k (f0F h t a, (xb, xl, xc)) = X by rw [List.getD_eq_getElem?_getD, List.getElem?_eq_getElem (by rw [cutL_length]; omega), hX]; rfl]
        exact hr
      have k1 : (0 : Int) ≤ (k : Int) := by omega
      clear m5 m6 m7 hX hAk m1 m2 m4
      go_wp2_with fail
      go_ret2
      exact ⟨_, rfl, k, hN.out, hfin.out⟩
end Go.Proofs.Ytdgdjanchpfleaa
