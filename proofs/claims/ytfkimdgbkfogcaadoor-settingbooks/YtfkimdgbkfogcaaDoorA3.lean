/- Apply. -/
import Derived.Test.YtfkimdgbkfogcaaDoorA2
namespace Go.Proofs.YtfkimdgbkfogcaaDoor
open Go.RowKit
set_option linter.unusedVariables false
set_option linter.unusedSimpArgs false

theorem applyS_take_succ (s s' : St) (l : List (Int × Int)) (c : Bool) (k : Nat) (hk : k < l.length) (h : applyS s (l.take k) c = (s', 0)) :
    applyS s (l.take (k + 1)) c = if validS l[k] c = 0 then (withS s' l[k], 0) else (St.zero, validS l[k] c) := by
  rw [List.take_succ_eq_append_getElem hk, applyS_append, h]
  simp only [if_true, applyS]
theorem applyS_stop (s : St) (l : List (Int × Int)) (c : Bool) (k : Nat) (h : (applyS s (l.take k) c).2 ≠ 0) : applyS s l c = applyS s (l.take k) c := by
  conv => lhs; rw [← List.take_append_drop k l, applyS_append, if_neg h]

set_option maxRecDepth 100000 in
set_option maxHeartbeats 4000000 in
theorem apply_any (s : St) (v : Value) (l : List (Int × Int)) (c : Bool) (w : World) (hv : In EP w v l) :
    Calls Tryd.prog 11 #[.agg s.a, v, .bool c] w fun e w' => e = .returned (.tuple #[.agg (applyS s l c).1.a, .int .i64 (applyS s l c).2]) ∧ Below w.heap.size w w' := by
  have HV : Hid (In EP w v l) := hv
  obtain ⟨vb, vc, rfl, hc1, hc2⟩ := hv.slice
  obtain ⟨n, hn⟩ : ∃ n, l.length = n := ⟨_, rfl⟩
  rw [hn] at hc1 HV ⊢
  have HN : Hid (l.length = n) := hn
  clear hn hv
  obtain ⟨s1, s2, s3, s4, s5, s6⟩ := s
  obtain ⟨S0, hS0⟩ : ∃ S0 : St, S0 = ⟨s1, s2, s3, s4, s5, s6⟩ := ⟨_, rfl⟩
  obtain ⟨A, hA⟩ : ∃ A, A = applyS S0 l c := ⟨_, rfl⟩
  have HA : Hid (A = applyS S0 l c) := hA
  have HS0 : Hid (S0 = ⟨s1, s2, s3, s4, s5, s6⟩) := hS0
  rw [← hS0, ← hA]
  rw [hS0]
  clear hA hS0
  unfold St.a
  simp only
  go_enter Tryd.func11, Tryd.ntmps11
  go_wp2
  go_loopw [13] (fun i wr => ∃ k : Nat, k ≤ n ∧ i = .int .i64 (k : Int) ∧ Hid (∃ s', applyS S0 (l.take k) c = (s', 0) ∧ wr.heap[w.heap.size]? = some (.cells s'.a 27 (0, 0)) ∧ wr.heap[w.heap.size + 1]? = some (.cells St.zero.a 27 (0, 0)) ∧ Below w.heap.size w wr)) (fun i _ => n - (intOf i).toNat)
  case atStart =>
    refine ⟨0, Nat.zero_le _, rfl, S0, rfl, ?_, fresh2 _ _ _, bel2 _ _ _⟩
    rw [heap_al, if_neg (by simp), HS0.out]
    exact heap_alloc_new _ _
  case round =>
    obtain ⟨k, hk, rfl, HP⟩ := hrel
    obtain ⟨s', hs', h3, h6, hB⟩ := HP.out
    have hlen := HN.out
    by_cases hlt : k < n
    · obtain ⟨B, off, cap, hvb, hBl, d1, d2⟩ := (HV.out.below hB).par k (by omega)
      injection hvb with e1 e2 e3
      subst e1
      clear e2 e3
      obtain ⟨x, y, hq⟩ : ∃ x y, l[k]'(by omega) = (x, y) := ⟨_, _, rfl⟩
      rw [hq] at d1 d2
      simp only at d1 d2
      have hstep := applyS_take_succ S0 s' l c k (by omega) hs'
      rw [hq] at hstep
      have hg0 : w.heap.size < wr.heap.size := heap_lt h3
      have hg1 : w.heap.size + 1 < wr.heap.size := heap_lt h6
      have hW1 : Below wr.heap.size wr (wr.alloc (.cells #[.int .i64 x, .int .i64 y] 46)) := bel1 _ _
      have hcall : Calls Tryd.prog 20 #[.agg #[.int .i64 x, .int .i64 y], .bool c] (wr.alloc (.cells #[.int .i64 x, .int .i64 y] 46)) fun e w1 => e = .returned (.int .i64 (validS (x, y) c)) ∧ Hid (w1.heap[w.heap.size]? = some (.cells s'.a 27 (0, 0)) ∧ w1.heap[w.heap.size + 1]? = some (.cells St.zero.a 27 (0, 0)) ∧ Below w.heap.size w w1) ∧ w1.cell? ⟨wr.heap.size, 0, none⟩ = some (.int .i64 x) ∧ w1.cell? ⟨wr.heap.size, 1, none⟩ = some (.int .i64 y) ∧ C6 w1 w.heap.size s' ∧ F6 w1 w.heap.size ∧ C6 w1 (w.heap.size + 1) St.zero ∧ F6 w1 (w.heap.size + 1) ∧ w.heap.size < w1.heap.size ∧ w.heap.size + 1 < w1.heap.size ∧ wr.heap.size < w1.heap.size := by
        refine (valid_any x y c _).mono ?_
        rintro e w1 ⟨rfl, hb⟩
        have k3 : w1.heap[w.heap.size]? = some (.cells s'.a 27 (0, 0)) := (hb.block _ (by rw [size_al]; omega)).trans ((hW1.block _ hg0).trans h3)
        have k6 : w1.heap[w.heap.size + 1]? = some (.cells St.zero.a 27 (0, 0)) := (hb.block _ (by rw [size_al]; omega)).trans ((hW1.block _ hg1).trans h6)
        have k9 : w1.heap[wr.heap.size]? = some (.cells #[.int .i64 x, .int .i64 y] 46 (0, 0)) := (hb.block _ (by rw [size_al]; omega)).trans (heap_alloc_new _ _)
        exact ⟨rfl, ⟨k3, k6, hB.trans ((hW1.mono hB.size).trans (hb.mono (by rw [size_al]; omega)))⟩, cell_blk k9 0, cell_blk k9 1, c6 k3, f6 k3, c6 k6, f6 k6, heap_lt k3, heap_lt k6, heap_lt k9⟩
      have hlti : (k : Int) < (n : Int) := by omega
      have hlts : w.heap.size ≠ w.heap.size + 1 := by omega
      by_cases hz : validS (x, y) c = 0
      · rw [hz] at hcall
        rw [if_pos hz] at hstep
        have HS : Hid _ := hstep
        obtain ⟨r1, r2, r3, r4, r5, r6⟩ : St := s'
        obtain ⟨q, hqq⟩ : ∃ q, withS ⟨r1, r2, r3, r4, r5, r6⟩ (x, y) = q := ⟨_, rfl⟩
        rw [hqq] at HS
        obtain ⟨q1, q2, q3, q4, q5, q6⟩ := q
        have hwith : ∀ w1 : World, Hid (w1.heap[w.heap.size]? = some (.cells (St.mk r1 r2 r3 r4 r5 r6).a 27 (0, 0)) ∧ w1.heap[w.heap.size + 1]? = some (.cells St.zero.a 27 (0, 0)) ∧ Below w.heap.size w w1) → Calls Tryd.prog 35 #[.agg (St.mk r1 r2 r3 r4 r5 r6).a, .agg #[.int .i64 x, .int .i64 y]] w1 fun e w2 => e = .returned (.agg (St.mk q1 q2 q3 q4 q5 q6).a) ∧ C6 w2 w.heap.size ⟨r1, r2, r3, r4, r5, r6⟩ ∧ F6 w2 w.heap.size ∧ Hid (∃ s', applyS S0 (l.take (k + 1)) c = (s', 0) ∧ (set6 w2 w.heap.size ⟨q1, q2, q3, q4, q5, q6⟩).heap[w.heap.size]? = some (.cells s'.a 27 (0, 0)) ∧ (set6 w2 w.heap.size ⟨q1, q2, q3, q4, q5, q6⟩).heap[w.heap.size + 1]? = some (.cells St.zero.a 27 (0, 0)) ∧ Below w.heap.size w (set6 w2 w.heap.size ⟨q1, q2, q3, q4, q5, q6⟩)) := by
          intro w1 h
          obtain ⟨k3, k6, kB⟩ := h.out
          refine (with_any ⟨r1, r2, r3, r4, r5, r6⟩ x y w1).mono ?_
          rintro e w2 ⟨rfl, rfl⟩
          rw [hqq]
          generalize hw2 : ((w1.alloc (.cells (St.mk q1 q2 q3 q4 q5 q6).a 27)).alloc (.cells #[.int .i64 x, .int .i64 y] 46)).alloc (.cells (St.mk q1 q2 q3 q4 q5 q6).a 27) = w2
          have hb3 : Below w1.heap.size w1 w2 := by rw [← hw2]; exact bel3 _ _ _ _
          have k3' := (hb3.block _ (heap_lt k3)).trans k3
          have k6' := (hb3.block _ (heap_lt k6)).trans k6
          refine ⟨rfl, c6 k3', f6 k3', _, HS.out, set6_blk _ k3', (set6_other _ _ _ _ (by omega)).trans k6', ?_⟩
          exact kB.trans ((hb3.mono kB.size).trans ((set6_ks _ _ _).below (Nat.le_trans kB.size hb3.size) (fun i hi => by omega)))
        simp only [set6, St.a] at hwith
        clear hstep hqq hz h3 h6 hB hs' HP hW1 HS hq hlen
        go_wp2_with (first | (go_at_call 20; refine hcall.mono ?_; rintro e w1 ⟨rfl, HH, m0, m1, ⟨a0, a1, a2, a3, a4, a5⟩, ⟨f0, f1, f2, f3, f4, f5⟩, ⟨b0, b1, b2, b3, b4, b5⟩, ⟨g0, g1, g2, g3, g4, g5⟩, hl0, hl1, hl2⟩; simp only at a0 a1 a2 a3 a4 a5; replace hwith := hwith _ HH) | (go_at_call 35; refine hwith.mono ?_; rintro e w2 ⟨rfl, ⟨A0, A1, A2, A3, A4, A5⟩, ⟨F0, F1, F2, F3, F4, F5⟩, hfin⟩; simp only at A0 A1 A2 A3 A4 A5))
        go_roundw
        case rel => exact ⟨k + 1, by omega, by simp, hfin⟩
        case measure => simp [intOf]; omega
      · rw [if_neg hz] at hstep
        obtain ⟨V, hV⟩ : ∃ V, validS (x, y) c = V := ⟨_, rfl⟩
        rw [hV] at hcall hz hstep
        have hA2 : Hid (applyS S0 l c = (St.zero, V)) := by
          rw [applyS_stop S0 l c (k + 1) (by rw [hstep]; exact hz), hstep]
          trivial
        have hfin : ∀ w1 : World, Hid (w1.heap[w.heap.size]? = some (.cells s'.a 27 (0, 0)) ∧ w1.heap[w.heap.size + 1]? = some (.cells St.zero.a 27 (0, 0)) ∧ Below w.heap.size w w1) → Hid ((set6 w1 (w.heap.size + 1) St.zero).heap[w.heap.size + 1]? = some (.cells St.zero.a 27 (0, 0)) ∧ Below w.heap.size w (set6 w1 (w.heap.size + 1) St.zero)) := by
          intro w1 h
          obtain ⟨k3, k6, kB⟩ := h.out
          exact ⟨set6_blk _ k6, kB.trans ((set6_ks w1 _ _).below kB.size (fun i hi => by omega))⟩
        have hE : Hid (Value.tuple #[.agg #[.int .i64 0, .int .i64 0, .int .i64 0, .int .i64 0, .int .i64 0, .int .i64 0], .int .i64 V] = Value.tuple #[.agg #[.int .i64 A.1.tab, .int .i64 A.1.psh, .int .i64 A.1.str, .int .i64 A.1.win, .int .i64 A.1.frm, .int .i64 A.1.lst], .int .i64 A.2]) := by
          have e : A = (St.zero, V) := HA.out.trans hA2.out
          rw [e]
          exact rfl
        simp only [set6, St.a, St.zero] at hfin
        have hvn : (V != 0) = true := by simpa using hz
        clear hstep hz h3 h6 hB hs' HP hW1 hq hV hlen
        go_wp2_with (first | (go_at_call 20; refine hcall.mono ?_; rintro e w1 ⟨rfl, HH, m0, m1, ⟨a0, a1, a2, a3, a4, a5⟩, ⟨f0, f1, f2, f3, f4, f5⟩, ⟨b0, b1, b2, b3, b4, b5⟩, ⟨g0, g1, g2, g3, g4, g5⟩, hl0, hl1, hl2⟩))
        have H6 := (hfin _ HH).out
        refine bodyPost_ret (results_ct (p := 6) (r := 7) (ty := 27) rfl _ _ (w.heap.size + 1) 27 _ (0, 0) _ rfl H6.1 Tryd.underlying27 rfl (by kernel_rfl)) rfl ⟨?_, H6.2⟩
        exact congrArg Ending.returned hE.out
    · have hkn : k = n := by omega
      subst hkn
      have hfin : Hid (applyS S0 l c = (s', 0)) := by
        rw [List.take_of_length_le (by omega)] at hs'
        exact hs'
      have hL : w.heap.size + 1 < wr.heap.size := heap_lt h6
      have hL0 : w.heap.size < wr.heap.size := by omega
      obtain ⟨x1, x2, x3, x4, x5, x6⟩ := s'
      obtain ⟨a0, a1, a2, a3, a4, a5⟩ := c6 h3
      obtain ⟨b0, b1, b2, b3, b4, b5⟩ := c6 h6
      obtain ⟨f0, f1, f2, f3, f4, f5⟩ := f6 h6
      simp only at a0 a1 a2 a3 a4 a5
      have H6 : Hid ((set6 wr (w.heap.size + 1) ⟨x1, x2, x3, x4, x5, x6⟩).heap[w.heap.size + 1]? = some (.cells (St.mk x1 x2 x3 x4 x5 x6).a 27 (0, 0)) ∧ Below w.heap.size w (set6 wr (w.heap.size + 1) ⟨x1, x2, x3, x4, x5, x6⟩)) :=
        ⟨set6_blk _ h6, hB.trans ((set6_ks wr _ _).below hB.size (fun i hi => by omega))⟩
      simp only [set6, St.a] at H6
      have hE : Hid (Value.tuple #[.agg #[.int .i64 x1, .int .i64 x2, .int .i64 x3, .int .i64 x4, .int .i64 x5, .int .i64 x6], .int .i64 0] = Value.tuple #[.agg #[.int .i64 A.1.tab, .int .i64 A.1.psh, .int .i64 A.1.str, .int .i64 A.1.win, .int .i64 A.1.frm, .int .i64 A.1.lst], .int .i64 A.2]) := by
        have e : A = (⟨x1, x2, x3, x4, x5, x6⟩, 0) := HA.out.trans hfin.out
        rw [e]
        exact rfl
      clear h3 h6 hB hs' HP
      go_wp2
      refine bodyPost_ret (results_ct (p := 6) (r := 7) (ty := 27) rfl _ _ (w.heap.size + 1) 27 _ (0, 0) _ rfl H6.out.1 Tryd.underlying27 rfl (by kernel_rfl)) rfl ⟨?_, H6.out.2⟩
      exact congrArg Ending.returned hE.out
end Go.Proofs.YtfkimdgbkfogcaaDoor
