/- SettingParams. -/
import Derived.Test.YtfkimdgbkfogcaaDoorB5
import Derived.Test.YtfkimdgbkfogcaaDoorD3
import Derived.Test.YtfkimdgbkfogcaaDoorD4
import Derived.Test.YtfkimdgbkfogcaaDoorD5
import Derived.Test.YtfkimdgbkfogcaaDoorD6
import Derived.Test.YtfkimdgbkfogcaaDoorD7
namespace Go.Proofs.YtfkimdgbkfogcaaDoor
open Go.RowKit
set_option linter.unusedVariables false
set_option linter.unusedSimpArgs false

/-- Two sets of the law's own, and the lent list. -/
structure Pv (w : World) (s to' : St) (g cap : Nat) (l : List (Int × Int)) (W : World) : Prop where
  bel : Below w.heap.size w W
  d4 : W.heap[w.heap.size]? = some (.cells s.a 27 (0, 0))
  d5 : W.heap[w.heap.size + 1]? = some (.cells to'.a 27 (0, 0))
  row : R EP W (.slice (some ⟨g, 0, none⟩) (l.length + 2) cap) (l ++ marks)
theorem Pv.below {w : World} {s to' : St} {g cap : Nat} {l : List (Int × Int)} {W W' : World} (h : Pv w s to' g cap l W) (hb : Below W.heap.size W W') : Pv w s to' g cap l W' :=
  ⟨h.bel.trans (hb.mono h.bel.size), (hb.block _ (heap_lt h.d4)).trans h.d4, (hb.block _ (heap_lt h.d5)).trans h.d5, h.row.below hb⟩
theorem Pv.front {w : World} {s to' : St} {g cap : Nat} {l : List (Int × Int)} {W : World} (h : Pv w s to' g cap l W) : In EP W (.slice (some ⟨g, 0, none⟩) l.length cap) l := (R.front okP (r := marks) h.row (fun e => by cases e)).isIn
/-- and what Apply told, the program's and the document's -/
def Pw (w : World) (s to' : St) (g cap : Nat) (l : List (Int × Int)) (q : St) (g11 g13 : Nat) (W : World) : Prop :=
  Pv w s to' g cap l W ∧ W.heap[g11]? = some (.cells q.a 27 (0, 0)) ∧ W.heap[g13]? = some (.cells q.a 27 (0, 0))
theorem Pw.below {w : World} {s to' : St} {g cap : Nat} {l : List (Int × Int)} {q : St} {g11 g13 : Nat} {W W' : World} (h : Pw w s to' g cap l q g11 g13 W) (hb : Below W.heap.size W W') : Pw w s to' g cap l q g11 g13 W' :=
  ⟨h.1.below hb, (hb.block _ (heap_lt h.2.1)).trans h.2.1, (hb.block _ (heap_lt h.2.2)).trans h.2.2⟩

set_option maxRecDepth 100000 in
set_option maxHeartbeats 16000000 in
theorem settingParams_any (s to' : St) (v : Value) (l : List (Int × Int)) (c : Bool) (w : World) (hS : Std w) (hT : Top w) (hLo : Low w) (hHi : High w) (hv : In EP w v l) (hn0 : l.length * 16 ≤ 140737488351232) :
    Calls Tryd.prog 6 #[.agg s.a, .agg to'.a, v, .bool c] w fun e w' => e = .returned (.bool true) ∧ Below w.heap.size w w' := by
  have HV : Hid (In EP w v l) := hv
  have HS : Hid (Std w) := hS
  have HT : Hid (Top w) := hT
  have HLo : Hid (Low w) := hLo
  have HHi : Hid (High w) := hHi
  have HN0 : Hid (l.length * 16 ≤ 140737488351232) := hn0
  obtain ⟨vb, vc, rfl, hc1, hc2⟩ := hv.slice
  obtain ⟨n, hn⟩ : ∃ n, l.length = n := ⟨_, rfl⟩
  have HN : Hid (l.length = n) := hn
  rw [hn] at hc1 HV ⊢
  obtain ⟨A, hA⟩ : ∃ A, applyS s l c = A := ⟨_, rfl⟩
  have HA : Hid (applyS s l c = A) := hA
  obtain ⟨q, code⟩ := A
  have hLe : Calls Tryd.prog 22 #[.slice vb n vc] ((w.alloc (.cells s.a 27)).alloc (.cells to'.a 27)) fun e w1 => ∃ g cap, e = .returned (.slice (some ⟨g, 0, none⟩) n cap) ∧ n ≤ cap ∧ cap ≤ 9223372036854775807 ∧ Hid (Pv w s to' g cap l w1) := by
    have hb0 := bel2 w (.cells s.a 27) (.cells to'.a 27)
    have hIn : In EP ((w.alloc (.cells s.a 27)).alloc (.cells to'.a 27)) (.slice vb n vc) l := HV.out.below hb0
    refine (lent_any _ _ l hIn (by omega)).mono ?_
    rintro e w1 ⟨g, cap, rfl, hR, hg, hb⟩
    obtain ⟨_, _, e, h1, h2⟩ := hR.slice
    injection e with _ _ e3
    subst e3
    have k4 : ((w.alloc (.cells s.a 27)).alloc (.cells to'.a 27)).heap[w.heap.size]? = some (.cells s.a 27 (0, 0)) := by
      rw [heap_al, if_neg (by simp)]
      exact heap_alloc_new _ _
    have k5 : ((w.alloc (.cells s.a 27)).alloc (.cells to'.a 27)).heap[w.heap.size + 1]? = some (.cells to'.a 27 (0, 0)) := fresh2 _ _ _
    rw [List.length_append] at h1
    refine ⟨g, cap, by rw [hn], by simp [marks] at h1; omega, h2, hb0.trans (hb.mono hb0.size), (hb.block _ (heap_lt k4)).trans k4, (hb.block _ (heap_lt k5)).trans k5, hR⟩
  have hAp : ∀ (W : World) (g cap : Nat), Hid (Pv w s to' g cap l W) → Calls Tryd.prog 11 #[.agg s.a, .slice (some ⟨g, 0, none⟩) n cap, .bool c] W fun e w1 => e = .returned (.tuple #[.agg q.a, .int .i64 code]) ∧ C6 (w1.alloc (.cells q.a 27)) w.heap.size s ∧ Hid (Pv w s to' g cap l (w1.alloc (.cells q.a 27)) ∧ (w1.alloc (.cells q.a 27)).heap[w1.heap.size]? = some (.cells q.a 27 (0, 0))) := by
    intro W g cap h
    have hf := h.out.front
    rw [hn] at hf
    refine (apply_any s _ l c W hf).mono ?_
    rintro e w1 ⟨rfl, hb⟩
    have hP := (h.out.below hb).below (bel1 w1 (.cells q.a 27))
    exact ⟨by rw [hA], c6 hP.d4, hP, heap_alloc_new _ _⟩
  have hRA : ∀ (W : World) (g cap g11 : Nat), Hid (Pv w s to' g cap l W ∧ W.heap[g11]? = some (.cells q.a 27 (0, 0))) → Calls Tryd.prog 24 #[.agg s.a, .slice vb n vc, .bool c] W fun e w1 => e = .returned (.tuple #[.agg q.a, .int .i64 code]) ∧ Hid (Pw w s to' g cap l q g11 w1.heap.size (w1.alloc (.cells q.a 27))) := by
    intro W g cap g11 h
    obtain ⟨h1, h2⟩ := h.out
    refine (rapply_any s _ l c W (HV.out.below h1.bel) (HT.out.below h1.bel)).mono ?_
    rintro e w1 ⟨rfl, hb⟩
    have hb1 := bel1 w1 (.cells q.a 27)
    have h2' := (hb.block _ (heap_lt h2)).trans h2
    exact ⟨by rw [hA], (h1.below hb).below hb1, (hb1.block _ (heap_lt h2')).trans h2', heap_alloc_new _ _⟩
  have hTa : ∀ (W : World) (g cap g11 g13 : Nat), Hid (Pw w s to' g cap l q g11 g13 W) → Calls Tryd.prog 25 #[.slice (some ⟨g, 0, none⟩) n cap] W fun e w1 => ∃ tb tn tc, e = .returned (.slice tb tn tc) ∧ C6 w1 w.heap.size s ∧ C6 w1 (w.heap.size + 1) to' ∧ Hid (Pw w s to' g cap l q g11 g13 w1 ∧ R EI w1 (.slice tb tn tc) (tabS l)) := by
    intro W g cap g11 g13 h
    have hf := h.out.1.front
    rw [hn] at hf
    refine (tables_any _ l W hf (by omega)).mono ?_
    rintro e w1 ⟨o, rfl, hR, _, hb⟩
    obtain ⟨tb, tc, rfl, _, _⟩ := hR.slice
    have hP := h.out.below hb
    exact ⟨tb, _, tc, rfl, c6 hP.1.d4, c6 hP.1.d5, hP, hR⟩
  have hPa : ∀ (W : World) (g cap g11 g13 : Nat) (tv : Value), Hid (Pw w s to' g cap l q g11 g13 W ∧ R EI W tv (tabS l)) → Calls Tryd.prog 17 #[.agg s.a, .agg to'.a, .bool c] W fun e w1 => ∃ pb pn pc, e = .returned (.slice pb pn pc) ∧ C6 w1 g11 q ∧ C6 w1 g13 q ∧ Hid (Pw w s to' g cap l q g11 g13 w1 ∧ R EI w1 tv (tabS l) ∧ R EP w1 (.slice pb pn pc) (parS s to' c)) := by
    intro W g cap g11 g13 tv h
    obtain ⟨h1, h2⟩ := h.out
    refine (params_any s to' c W).mono ?_
    rintro e w1 ⟨o, rfl, hR, _, hb⟩
    obtain ⟨tb, tc, rfl, _, _⟩ := hR.slice
    have hP := h1.below hb
    exact ⟨tb, _, tc, rfl, c6 hP.2.1, c6 hP.2.2, hP, h2.below hb, hR⟩
  have hRT : ∀ (W : World) (g cap g11 g13 : Nat) (tv pv : Value), Hid (Pw w s to' g cap l q g11 g13 W ∧ R EI W tv (tabS l) ∧ R EP W pv (parS s to' c)) → Calls Tryd.prog 27 #[.slice vb n vc] W fun e w1 => ∃ tb tn tc, e = .returned (.slice tb tn tc) ∧ Hid (Pw w s to' g cap l q g11 g13 w1 ∧ R EI w1 tv (tabS l) ∧ R EP w1 pv (parS s to' c) ∧ R EI w1 (.slice tb tn tc) (tabS l)) := by
    intro W g cap g11 g13 tv pv h
    obtain ⟨h1, h2, h3⟩ := h.out
    refine (rtables_any _ l W (HT.out.below h1.1.bel) (HV.out.below h1.1.bel) (by omega)).mono ?_
    rintro e w1 ⟨o, rfl, hR, _, hb⟩
    obtain ⟨tb, tc, rfl, _, _⟩ := hR.slice
    exact ⟨tb, _, tc, rfl, h1.below hb, h2.below hb, h3.below hb, hR⟩
  have hSI : ∀ (W : World) (g cap g11 g13 : Nat) (tv pv rv : Value), Hid (Pw w s to' g cap l q g11 g13 W ∧ R EI W tv (tabS l) ∧ R EP W pv (parS s to' c) ∧ R EI W rv (tabS l)) → Calls Tryd.prog 26 #[tv, rv] W fun e w1 => e = .returned (.bool true) ∧ C6 w1 w.heap.size s ∧ C6 w1 (w.heap.size + 1) to' ∧ Hid (Pw w s to' g cap l q g11 g13 w1 ∧ R EP w1 pv (parS s to' c)) := by
    intro W g cap g11 g13 tv pv rv h
    obtain ⟨h1, h2, h3, h4⟩ := h.out
    refine (sameInts_eq W _ _ (tabS l) h2.isIn h4.isIn).mono ?_
    rintro e w1 ⟨rfl, hb⟩
    have hP := h1.below hb
    exact ⟨rfl, c6 hP.1.d4, c6 hP.1.d5, hP, h3.below hb⟩
  have hRP : ∀ (W : World) (g cap g11 g13 : Nat) (pv : Value), Hid (Pw w s to' g cap l q g11 g13 W ∧ R EP W pv (parS s to' c)) → Calls Tryd.prog 28 #[.agg s.a, .agg to'.a, .bool c] W fun e w1 => ∃ tb tn tc, e = .returned (.slice tb tn tc) ∧ Hid (Pw w s to' g cap l q g11 g13 w1 ∧ R EP w1 pv (parS s to' c) ∧ R EP w1 (.slice tb tn tc) (parS s to' c)) := by
    intro W g cap g11 g13 pv h
    obtain ⟨h1, h2⟩ := h.out
    refine (rparams_any s to' c W).mono ?_
    rintro e w1 ⟨o, rfl, hR, _, hb⟩
    obtain ⟨tb, tc, rfl, _, _⟩ := hR.slice
    exact ⟨tb, _, tc, rfl, h1.below hb, h2.below hb, hR⟩
  have hSP : ∀ (W : World) (g cap g11 g13 : Nat) (pv rv : Value), Hid (Pw w s to' g cap l q g11 g13 W ∧ R EP W pv (parS s to' c) ∧ R EP W rv (parS s to' c)) → Calls Tryd.prog 19 #[pv, rv] W fun e w1 => e = .returned (.bool true) ∧ Hid (Pw w s to' g cap l q g11 g13 w1) := by
    intro W g cap g11 g13 pv rv h
    obtain ⟨h1, h2, h3⟩ := h.out
    refine (sameParams_eq W _ _ _ h2.isIn h3.isIn).mono ?_
    rintro e w1 ⟨rfl, hb⟩
    exact ⟨rfl, h1.below hb⟩
  clear hn hv hS hT hLo hHi hn0 hA
  obtain ⟨s1, s2, s3, s4, s5, s6⟩ := s
  obtain ⟨t1, t2, t3, t4, t5, t6⟩ := to'
  obtain ⟨q1, q2, q3, q4, q5, q6⟩ := q
  simp only [St.a] at hLe hAp hRA hTa hPa hSI hRP ⊢
  go_enter Tryd.func6, Tryd.ntmps6
  go_wp2_with (go_at_call 22; refine hLe.mono ?_; clear hLe; rintro e w1 ⟨g, cap, rfl, hgc, hgm, H1⟩)
  go_loopw [10] (fun i wr => ∃ k : Nat, k ≤ n ∧ i = .int .i64 (k : Int) ∧ Hid (Pv w (St.mk s1 s2 s3 s4 s5 s6) (St.mk t1 t2 t3 t4 t5 t6) g cap l wr)) (fun i _ => n - (intOf i).toNat)
  case atStart => exact ⟨0, Nat.zero_le _, rfl, H1⟩
  case round =>
    obtain ⟨k, hk, rfl, HP⟩ := hrel
    clear H1
    have hlen := HN.out
    by_cases hlt : k < n
    · obtain ⟨B, off, cap', hvb, hBl, d1, d2⟩ := HV.out.par k (by omega)
      injection hvb with e1 e2 e3
      subst e1
      clear e2 e3
      obtain ⟨x, y, hq⟩ : ∃ x y, l[k]'(by omega) = (x, y) := ⟨_, _, rfl⟩
      rw [hq] at d1 d2
      simp only at d1 d2
      have hlti : (k : Int) < (n : Int) := by omega
      clear hq hlen
      clear hAp hRA hTa hPa hRT hSI hRP hSP
      go_wp2_with fail
      have hIW := HP.out.below (Below.refl _ wr).drew
      have hfull : Hid (∀ W, Pv w (St.mk s1 s2 s3 s4 s5 s6) (St.mk t1 t2 t3 t4 t5 t6) g cap l W → (fun W => W.cell? ⟨B, off + k * 2, none⟩ = some (.int .i64 x) ∧ W.cell? ⟨B, off + k * 2 + 1, none⟩ = some (.int .i64 y)) W) := fun W hW => ⟨(hW.bel.cell hBl).trans d1, (hW.bel.cell hBl).trans d2⟩
      clear d1 d2
      refine wp_region_held_drew (S := (fun W => W.cell? ⟨B, off + k * 2, none⟩ = some (.int .i64 x) ∧ W.cell? ⟨B, off + k * 2 + 1, none⟩ = some (.int .i64 y))) (by kernel_rfl) (hfull.out _ hIW) (fun hHeld => ?_)
      generalize hWg : World.drew _ = W at hIW hHeld ⊢
      clear hWg HP
      refine wpAnyH_take (i := 0) (oi := { dst := some 25, op := Op.move (Operand.tmp 2), type := 30, pos := "law.go:64", after := #[], guard := none }) (v := ?vv1) rfl (by kernel_rfl) (by kernel_rfl) (by kernel_rfl) (fun _ _ _ h => h) (Or.inl ⟨by rfl, ?hy1⟩) (by assumption) ?_
      case hy1 => (intro w hSw; (try dsimp only at hSw); go_simp; all_goals with_reducible rfl)
      try simp only [Act.put, List.setIfInBounds_toArray, List.set_cons_zero, List.set_cons_succ]
      refine wpAnyH_take (i := 1) (oi := { dst := some 26, op := Op.move (Operand.tmp 10), type := 3, pos := "law.go:64", after := #[], guard := none }) (v := ?vv2) rfl (by kernel_rfl) (by kernel_rfl) (by kernel_rfl) (fun _ _ _ h => h) (Or.inl ⟨by rfl, ?hy2⟩) (by assumption) ?_
      case hy2 => (intro w hSw; (try dsimp only at hSw); go_simp; all_goals with_reducible rfl)
      try simp only [Act.put, List.setIfInBounds_toArray, List.set_cons_zero, List.set_cons_succ]
      refine wpAnyH_take (i := 2) (oi := { dst := some 27, op := Op.indexAddr 30 (Operand.tmp 25) (Operand.tmp 26), type := 0, pos := "law.go:64", after := #[{ on := 0, ground := Ground.data }, { on := 1, ground := Ground.data }], guard := none }) (v := ?vv3) rfl (by kernel_rfl) (by kernel_rfl) (by kernel_rfl) (fun _ _ _ h => h) (Or.inl ⟨by rfl, ?hy3⟩) (by assumption) ?_
      case hy3 => (intro w hSw; (try dsimp only at hSw); go_simp; all_goals with_reducible rfl)
      try simp only [Act.put, List.setIfInBounds_toArray, List.set_cons_zero, List.set_cons_succ]
      refine wpAnyH_take (i := 3) (oi := { dst := some 28, op := Op.load 46 (Operand.tmp 27), type := 46, pos := "law.go:64", after := #[{ on := 2, ground := Ground.data }], guard := none }) (v := ?vv4) rfl (by kernel_rfl) (by kernel_rfl) (by kernel_rfl) (fun _ _ _ h => h) (Or.inl ⟨by rfl, ?hy4⟩) (by assumption) ?_
      case hy4 => (intro w hSw; (try dsimp only at hSw); go_simp; all_goals with_reducible rfl)
      try simp only [Act.put, List.setIfInBounds_toArray, List.set_cons_zero, List.set_cons_succ]
      refine wpAnyH_take (i := 4) (oi := { dst := some 29, op := Op.move (Operand.tmp 3), type := 4, pos := "law.go:64", after := #[], guard := none }) (v := ?vv5) rfl (by kernel_rfl) (by kernel_rfl) (by kernel_rfl) (fun _ _ _ h => h) (Or.inl ⟨by rfl, ?hy5⟩) (by assumption) ?_
      case hy5 => (intro w hSw; (try dsimp only at hSw); go_simp; all_goals with_reducible rfl)
      try simp only [Act.put, List.setIfInBounds_toArray, List.set_cons_zero, List.set_cons_succ]
      refine wpAnyH_take (i := 6) (oi := { dst := some 31, op := Op.move (Operand.tmp 2), type := 30, pos := "law.go:64", after := #[], guard := none }) (v := ?vv6) rfl (by kernel_rfl) (by kernel_rfl) (by kernel_rfl) (fun _ _ _ h => h) (Or.inl ⟨by rfl, ?hy6⟩) (by assumption) ?_
      case hy6 => (intro w hSw; (try dsimp only at hSw); go_simp; all_goals with_reducible rfl)
      try simp only [Act.put, List.setIfInBounds_toArray, List.set_cons_zero, List.set_cons_succ]
      refine wpAnyH_take (i := 7) (oi := { dst := some 32, op := Op.move (Operand.tmp 10), type := 3, pos := "law.go:64", after := #[], guard := none }) (v := ?vv7) rfl (by kernel_rfl) (by kernel_rfl) (by kernel_rfl) (fun _ _ _ h => h) (Or.inl ⟨by rfl, ?hy7⟩) (by assumption) ?_
      case hy7 => (intro w hSw; (try dsimp only at hSw); go_simp; all_goals with_reducible rfl)
      try simp only [Act.put, List.setIfInBounds_toArray, List.set_cons_zero, List.set_cons_succ]
      refine wpAnyH_take (i := 8) (oi := { dst := some 33, op := Op.indexAddr 30 (Operand.tmp 31) (Operand.tmp 32), type := 0, pos := "law.go:64", after := #[{ on := 6, ground := Ground.data }, { on := 7, ground := Ground.data }], guard := none }) (v := ?vv8) rfl (by kernel_rfl) (by kernel_rfl) (by kernel_rfl) (fun _ _ _ h => h) (Or.inl ⟨by rfl, ?hy8⟩) (by assumption) ?_
      case hy8 => (intro w hSw; (try dsimp only at hSw); go_simp; all_goals with_reducible rfl)
      try simp only [Act.put, List.setIfInBounds_toArray, List.set_cons_zero, List.set_cons_succ]
      refine wpAnyH_take (i := 9) (oi := { dst := some 34, op := Op.load 46 (Operand.tmp 33), type := 46, pos := "law.go:64", after := #[{ on := 8, ground := Ground.data }], guard := none }) (v := ?vv9) rfl (by kernel_rfl) (by kernel_rfl) (by kernel_rfl) (fun _ _ _ h => h) (Or.inl ⟨by rfl, ?hy9⟩) (by assumption) ?_
      case hy9 => (intro w hSw; (try dsimp only at hSw); go_simp; all_goals with_reducible rfl)
      try simp only [Act.put, List.setIfInBounds_toArray, List.set_cons_zero, List.set_cons_succ]
      refine wpAnyH_take (i := 10) (oi := { dst := some 35, op := Op.move (Operand.tmp 3), type := 4, pos := "law.go:64", after := #[], guard := none }) (v := ?vv10) rfl (by kernel_rfl) (by kernel_rfl) (by kernel_rfl) (fun _ _ _ h => h) (Or.inl ⟨by rfl, ?hy10⟩) (by assumption) ?_
      case hy10 => (intro w hSw; (try dsimp only at hSw); go_simp; all_goals with_reducible rfl)
      try simp only [Act.put, List.setIfInBounds_toArray, List.set_cons_zero, List.set_cons_succ]
      refine wpAnyH_ready (rs := [5]) (by kernel_rfl) (by simp) ?_
      refine AllReadyH.cons (o := { dst := some 30, op := Op.call { callee := Callee.value (Operand.func 20), args := #[Operand.tmp 28, Operand.tmp 29], argTypes := #[46, 4] }, type := 2, pos := "law.go:64", after := #[{ on := 3, ground := Ground.data }, { on := 4, ground := Ground.data }], guard := none }) rfl (fun K hK => ?_) AllReadyH.nil
      go_simp
      refine (valid_any x y c W).mono ?_
      rintro e' Wx ⟨rfl, hb⟩
      have hIWx := hIW.below hb
      go_wp2_with fail
      refine hK.out _ _ (hfull.out _ hIWx) (fun hHeld => ?_)
      clear hK K hb hIW
      try simp only [Act.put, List.setIfInBounds_toArray, List.set_cons_zero, List.set_cons_succ]
      refine wpAnyH_ready (rs := [11]) (by kernel_rfl) (by simp) ?_
      refine AllReadyH.cons (o := { dst := some 36, op := Op.call { callee := Callee.value (Operand.func 23), args := #[Operand.tmp 34, Operand.tmp 35], argTypes := #[46, 4] }, type := 2, pos := "law.go:64", after := #[{ on := 9, ground := Ground.data }, { on := 10, ground := Ground.data }, { on := 5, ground := Ground.chain }], guard := none }) rfl (fun K hK => ?_) AllReadyH.nil
      go_simp
      refine (rvalid_any x y c Wx).mono ?_
      rintro e' Wxx ⟨rfl, hb⟩
      have hIWxx := hIWx.below hb
      go_wp2_with fail
      refine hK.out _ _ (hfull.out _ hIWxx) (fun hHeld => ?_)
      clear hK K hb hIWx
      try simp only [Act.put, List.setIfInBounds_toArray, List.set_cons_zero, List.set_cons_succ]
      refine wpAnyH_take (i := 12) (oi := { dst := some 37, op := Op.binOp BinOp.neq 2 (Operand.tmp 30) (Operand.tmp 36) 2, type := 4, pos := "law.go:64", after := #[{ on := 5, ground := Ground.data }, { on := 11, ground := Ground.data }], guard := none }) (v := ?vv11) rfl (by kernel_rfl) (by kernel_rfl) (by kernel_rfl) (fun _ _ _ h => h) (Or.inl ⟨by rfl, ?hy11⟩) (by assumption) ?_
      case hy11 => (intro w hSw; (try dsimp only at hSw); go_simp; all_goals with_reducible rfl)
      try simp only [Act.put, List.setIfInBounds_toArray, List.set_cons_zero, List.set_cons_succ]
      refine wpAnyH_done (by kernel_rfl) ?_ _
      go_wp2_with fail
      go_roundw
      case rel => exact ⟨k + 1, by omega, by simp, hIWxx⟩
      case measure => simp [intOf]; omega
    · have hkn : k = n := by omega
      subst hkn
      obtain ⟨f0, f1, f2, f3, f4, f5⟩ := c6 HP.out.d4
      simp only at f0 f1 f2 f3 f4 f5
      have hwl : w.heap.size < wr.heap.size := heap_lt HP.out.d4
      clear hlen
      go_wp2_with (first | (go_at_call 11; refine (hAp _ _ _ HP).mono ?_; clear hAp; rintro e w3 ⟨rfl, ⟨a0, a1, a2, a3, a4, a5⟩, H3⟩; simp only at a0 a1 a2 a3 a4 a5) | (go_at_call 24; refine (hRA _ _ _ _ H3).mono ?_; clear hRA H3; rintro e w4 ⟨rfl, H4⟩) | (go_at_call 25; refine (hTa _ _ _ _ _ H4).mono ?_; clear hTa H4; rintro e w5 ⟨tb, tn, tc, rfl, ⟨b0, b1, b2, b3, b4, b5⟩, ⟨c0, c1, c2, c3, c4, c5⟩, H5⟩; simp only at b0 b1 b2 b3 b4 b5 c0 c1 c2 c3 c4 c5) | (go_at_call 17; refine (hPa _ _ _ _ _ _ H5).mono ?_; clear hPa H5; rintro e w6 ⟨pb, pn, pc, rfl, ⟨m0, m1, m2, m3, m4, m5⟩, ⟨n0, n1, n2, n3, n4, n5⟩, H6⟩; simp only at m0 m1 m2 m3 m4 m5 n0 n1 n2 n3 n4 n5) | (go_at_call 27; refine (hRT _ _ _ _ _ _ _ H6).mono ?_; clear hRT H6; rintro e w7 ⟨rb, rn, rc, rfl, H7⟩) | (go_at_call 26; refine (hSI _ _ _ _ _ _ _ _ H7).mono ?_; clear hSI H7; rintro e w8 ⟨rfl, ⟨i0, i1, i2, i3, i4, i5⟩, ⟨j0, j1, j2, j3, j4, j5⟩, H8⟩; simp only at i0 i1 i2 i3 i4 i5 j0 j1 j2 j3 j4 j5) | (go_at_call 28; refine (hRP _ _ _ _ _ _ H8).mono ?_; clear hRP H8; rintro e w9 ⟨ub, un, uc, rfl, H9⟩) | (go_at_call 19; refine (hSP _ _ _ _ _ _ _ H9).mono ?_; clear hSP H9; rintro e wA ⟨rfl, HA9⟩))
      obtain ⟨fs, hfs⟩ : ∃ b, fitsS (St.mk s1 s2 s3 s4 s5 s6) = b := ⟨_, rfl⟩
      obtain ⟨fq, hfq⟩ : ∃ b, fitsS (St.mk q1 q2 q3 q4 q5 q6) = b := ⟨_, rfl⟩
      have hD : Hid (∀ W, Pw w (St.mk s1 s2 s3 s4 s5 s6) (St.mk t1 t2 t3 t4 t5 t6) g cap l (St.mk q1 q2 q3 q4 q5 q6) w3.heap.size w4.heap.size W → Calls Tryd.prog 10 #[] W fun e w' => e = .returned (.agg #[.int .i64 4096, .int .i64 1, .int .i64 2147483647, .int .i64 65535, .int .i64 16384, .int .i64 2147483647]) ∧ Below W.heap.size W w') := fun W hW => (dflt (HS.out.below hW.1.bel)).mono (by rintro e w' ⟨rfl, rfl⟩; exact ⟨rfl, bel1 _ _⟩)
      have hD2 : Hid (∀ W, Calls Tryd.prog 29 #[] W fun e w' => e = .returned (.agg #[.int .i64 4096, .int .i64 1, .int .i64 2147483647, .int .i64 65535, .int .i64 16384, .int .i64 2147483647]) ∧ Below W.heap.size W w') := fun W => rdefault_any W
      have hFs : Hid (∀ W, Calls Tryd.prog 18 #[.agg #[.int .i64 s1, .int .i64 s2, .int .i64 s3, .int .i64 s4, .int .i64 s5, .int .i64 s6]] W fun e w' => e = .returned (.bool fs) ∧ Below W.heap.size W w') := fun W => by rw [← hfs]; exact fits_any (St.mk s1 s2 s3 s4 s5 s6) W
      have hFq : Hid (∀ W, Calls Tryd.prog 18 #[.agg #[.int .i64 q1, .int .i64 q2, .int .i64 q3, .int .i64 q4, .int .i64 q5, .int .i64 q6]] W fun e w' => e = .returned (.bool fq) ∧ Below W.heap.size W w') := fun W => by rw [← hfq]; exact fits_any (St.mk q1 q2 q3 q4 q5 q6) W
      have hGs : Hid (∀ W, Pw w (St.mk s1 s2 s3 s4 s5 s6) (St.mk t1 t2 t3 t4 t5 t6) g cap l (St.mk q1 q2 q3 q4 q5 q6) w3.heap.size w4.heap.size W → Calls Tryd.prog 30 #[.agg #[.int .i64 s1, .int .i64 s2, .int .i64 s3, .int .i64 s4, .int .i64 s5, .int .i64 s6]] W fun e w' => e = .returned (.bool fs) ∧ Below W.heap.size W w') := fun W hW => by rw [← hfs]; exact rfits_any (St.mk s1 s2 s3 s4 s5 s6) W (HLo.out.below hW.1.bel) (HHi.out.below hW.1.bel)
      have hGq : Hid (∀ W, Pw w (St.mk s1 s2 s3 s4 s5 s6) (St.mk t1 t2 t3 t4 t5 t6) g cap l (St.mk q1 q2 q3 q4 q5 q6) w3.heap.size w4.heap.size W → Calls Tryd.prog 30 #[.agg #[.int .i64 q1, .int .i64 q2, .int .i64 q3, .int .i64 q4, .int .i64 q5, .int .i64 q6]] W fun e w' => e = .returned (.bool fq) ∧ Below W.heap.size W w') := fun W hW => by rw [← hfq]; exact rfits_any (St.mk q1 q2 q3 q4 q5 q6) W (HLo.out.below hW.1.bel) (HHi.out.below hW.1.bel)
      have hKp : Hid (∀ W, Pw w (St.mk s1 s2 s3 s4 s5 s6) (St.mk t1 t2 t3 t4 t5 t6) g cap l (St.mk q1 q2 q3 q4 q5 q6) w3.heap.size w4.heap.size W → Calls Tryd.prog 31 #[.slice (some ⟨g, 0, none⟩) k cap, .slice vb k vc] W fun e w' => e = .returned (.bool true) ∧ Below W.heap.size W w') := fun W hW => by
        have := kept_any W g cap _ l hW.1.row (HV.out.below hW.1.bel)
        rw [HN.out] at this
        exact this
      have hF : Hid (∀ W, Pw w (St.mk s1 s2 s3 s4 s5 s6) (St.mk t1 t2 t3 t4 t5 t6) g cap l (St.mk q1 q2 q3 q4 q5 q6) w3.heap.size w4.heap.size W → Calls Tryd.prog 9 #[] W fun e w' => e = .returned (.bool true) ∧ Below W.heap.size W w') := fun W hW => first_any W (HS.out.below hW.1.bel)
      have hfull : Hid (∀ W, Pw w (St.mk s1 s2 s3 s4 s5 s6) (St.mk t1 t2 t3 t4 t5 t6) g cap l (St.mk q1 q2 q3 q4 q5 q6) w3.heap.size w4.heap.size W → (fun W => W.cell? ⟨w.heap.size, 0, none⟩ = some (.int .i64 s1) ∧ W.cell? ⟨w.heap.size, 1, none⟩ = some (.int .i64 s2) ∧ W.cell? ⟨w.heap.size, 2, none⟩ = some (.int .i64 s3) ∧ W.cell? ⟨w.heap.size, 3, none⟩ = some (.int .i64 s4) ∧ W.cell? ⟨w.heap.size, 4, none⟩ = some (.int .i64 s5) ∧ W.cell? ⟨w.heap.size, 5, none⟩ = some (.int .i64 s6) ∧ W.cell? ⟨w3.heap.size, 0, none⟩ = some (.int .i64 q1) ∧ W.cell? ⟨w3.heap.size, 1, none⟩ = some (.int .i64 q2) ∧ W.cell? ⟨w3.heap.size, 2, none⟩ = some (.int .i64 q3) ∧ W.cell? ⟨w3.heap.size, 3, none⟩ = some (.int .i64 q4) ∧ W.cell? ⟨w3.heap.size, 4, none⟩ = some (.int .i64 q5) ∧ W.cell? ⟨w3.heap.size, 5, none⟩ = some (.int .i64 q6) ∧ W.cell? ⟨w4.heap.size, 0, none⟩ = some (.int .i64 q1) ∧ W.cell? ⟨w4.heap.size, 1, none⟩ = some (.int .i64 q2) ∧ W.cell? ⟨w4.heap.size, 2, none⟩ = some (.int .i64 q3) ∧ W.cell? ⟨w4.heap.size, 3, none⟩ = some (.int .i64 q4) ∧ W.cell? ⟨w4.heap.size, 4, none⟩ = some (.int .i64 q5) ∧ W.cell? ⟨w4.heap.size, 5, none⟩ = some (.int .i64 q6)) W) := fun W hW => ⟨cell_blk hW.1.d4 0, cell_blk hW.1.d4 1, cell_blk hW.1.d4 2, cell_blk hW.1.d4 3, cell_blk hW.1.d4 4, cell_blk hW.1.d4 5, cell_blk hW.2.1 0, cell_blk hW.2.1 1, cell_blk hW.2.1 2, cell_blk hW.2.1 3, cell_blk hW.2.1 4, cell_blk hW.2.1 5, cell_blk hW.2.2 0, cell_blk hW.2.2 1, cell_blk hW.2.2 2, cell_blk hW.2.2 3, cell_blk hW.2.2 4, cell_blk hW.2.2 5⟩
      have hIW := HA9.out.below (Below.refl _ wA).drew
      clear hfs hfq HP a0 a1 a2 a3 a4 a5 b0 b1 b2 b3 b4 b5 c0 c1 c2 c3 c4 c5 m0 m1 m2 m3 m4 m5 n0 n1 n2 n3 n4 n5 i0 i1 i2 i3 i4 i5 j0 j1 j2 j3 j4 j5 f0 f1 f2 f3 f4 f5
      refine wp_region_held_drew (S := (fun W => W.cell? ⟨w.heap.size, 0, none⟩ = some (.int .i64 s1) ∧ W.cell? ⟨w.heap.size, 1, none⟩ = some (.int .i64 s2) ∧ W.cell? ⟨w.heap.size, 2, none⟩ = some (.int .i64 s3) ∧ W.cell? ⟨w.heap.size, 3, none⟩ = some (.int .i64 s4) ∧ W.cell? ⟨w.heap.size, 4, none⟩ = some (.int .i64 s5) ∧ W.cell? ⟨w.heap.size, 5, none⟩ = some (.int .i64 s6) ∧ W.cell? ⟨w3.heap.size, 0, none⟩ = some (.int .i64 q1) ∧ W.cell? ⟨w3.heap.size, 1, none⟩ = some (.int .i64 q2) ∧ W.cell? ⟨w3.heap.size, 2, none⟩ = some (.int .i64 q3) ∧ W.cell? ⟨w3.heap.size, 3, none⟩ = some (.int .i64 q4) ∧ W.cell? ⟨w3.heap.size, 4, none⟩ = some (.int .i64 q5) ∧ W.cell? ⟨w3.heap.size, 5, none⟩ = some (.int .i64 q6) ∧ W.cell? ⟨w4.heap.size, 0, none⟩ = some (.int .i64 q1) ∧ W.cell? ⟨w4.heap.size, 1, none⟩ = some (.int .i64 q2) ∧ W.cell? ⟨w4.heap.size, 2, none⟩ = some (.int .i64 q3) ∧ W.cell? ⟨w4.heap.size, 3, none⟩ = some (.int .i64 q4) ∧ W.cell? ⟨w4.heap.size, 4, none⟩ = some (.int .i64 q5) ∧ W.cell? ⟨w4.heap.size, 5, none⟩ = some (.int .i64 q6))) (by kernel_rfl) (hfull.out _ hIW) (fun hHeld => ?_)
      generalize hWg : World.drew _ = W at hIW hHeld ⊢
      clear hWg HA9
      refine wpAnyH_ready (rs := [0]) (by kernel_rfl) (by simp) ?_
      refine AllReadyH.cons (o := { dst := some 82, op := Op.call { callee := Callee.value (Operand.func 10), args := #[], argTypes := #[] }, type := 27, pos := "law.go:75", after := #[], guard := none }) rfl (fun K hK => ?_) AllReadyH.nil
      go_simp
      refine (hD.out W hIW).mono ?_
      rintro e' Wx ⟨rfl, hb⟩
      have hIWx := hIW.below hb
      go_wp2_with fail
      refine hK.out _ _ (hfull.out _ hIWx) (fun hHeld => ?_)
      clear hK K hb hIW
      try simp only [Act.put, List.setIfInBounds_toArray, List.set_cons_zero, List.set_cons_succ]
      refine wpAnyH_ready (rs := [1]) (by kernel_rfl) (by simp) ?_
      refine AllReadyH.cons (o := { dst := some 83, op := Op.call { callee := Callee.value (Operand.func 29), args := #[], argTypes := #[] }, type := 27, pos := "law.go:75", after := #[{ on := 0, ground := Ground.chain }], guard := none }) rfl (fun K hK => ?_) AllReadyH.nil
      go_simp
      refine (hD2.out Wx).mono ?_
      rintro e' Wxx ⟨rfl, hb⟩
      have hIWxx := hIWx.below hb
      go_wp2_with fail
      refine hK.out _ _ (hfull.out _ hIWxx) (fun hHeld => ?_)
      clear hK K hb hIWx
      try simp only [Act.put, List.setIfInBounds_toArray, List.set_cons_zero, List.set_cons_succ]
      refine wpAnyH_take (i := 2) (oi := { dst := some 84, op := Op.binOp BinOp.eql 27 (Operand.tmp 82) (Operand.tmp 83) 27, type := 4, pos := "law.go:75", after := #[{ on := 0, ground := Ground.data }, { on := 1, ground := Ground.data }], guard := none }) (v := ?vv12) rfl (by kernel_rfl) (by kernel_rfl) (by kernel_rfl) (fun _ _ _ h => h) (Or.inl ⟨by rfl, ?hy12⟩) (by assumption) ?_
      case hy12 => (intro w hSw; (try dsimp only at hSw); go_simp; all_goals with_reducible rfl)
      try simp only [Act.put, List.setIfInBounds_toArray, List.set_cons_zero, List.set_cons_succ]
      refine wpAnyH_take (i := 3) (oi := { dst := some 85, op := Op.move (Operand.tmp 84), type := 4, pos := "law.go:75", after := #[{ on := 2, ground := Ground.data }, { on := 1, ground := Ground.chain }], guard := none }) (v := ?vv13) rfl (by kernel_rfl) (by kernel_rfl) (by kernel_rfl) (fun _ _ _ h => h) (Or.inl ⟨by rfl, ?hy13⟩) (by assumption) ?_
      case hy13 => (intro w hSw; (try dsimp only at hSw); go_simp; all_goals with_reducible rfl)
      try simp only [Act.put, List.setIfInBounds_toArray, List.set_cons_zero, List.set_cons_succ]
      refine wpAnyH_take (i := 4) (oi := { dst := some 86, op := Op.load 27 (Operand.tmp 4), type := 27, pos := "law.go:75", after := #[{ on := 3, ground := Ground.guard }], guard := some (3, true) }) (v := ?vv14) rfl (by kernel_rfl) (by kernel_rfl) (by kernel_rfl) (fun _ _ _ h => h) (Or.inl ⟨by rfl, ?hy14⟩) (by assumption) ?_
      case hy14 => (intro w hSw; (try dsimp only at hSw); go_simp; all_goals with_reducible rfl)
      try simp only [Act.put, List.setIfInBounds_toArray, List.set_cons_zero, List.set_cons_succ]
      refine wpAnyH_take (i := 6) (oi := { dst := some 88, op := Op.load 27 (Operand.tmp 4), type := 27, pos := "law.go:75", after := #[{ on := 3, ground := Ground.guard }], guard := some (3, true) }) (v := ?vv15) rfl (by kernel_rfl) (by kernel_rfl) (by kernel_rfl) (fun _ _ _ h => h) (Or.inl ⟨by rfl, ?hy15⟩) (by assumption) ?_
      case hy15 => (intro w hSw; (try dsimp only at hSw); go_simp; all_goals with_reducible rfl)
      try simp only [Act.put, List.setIfInBounds_toArray, List.set_cons_zero, List.set_cons_succ]
      refine wpAnyH_ready (rs := [5]) (by kernel_rfl) (by simp) ?_
      refine AllReadyH.cons (o := { dst := some 87, op := Op.call { callee := Callee.value (Operand.func 18), args := #[Operand.tmp 86], argTypes := #[27] }, type := 4, pos := "law.go:75", after := #[{ on := 4, ground := Ground.data }, { on := 3, ground := Ground.chain }, { on := 3, ground := Ground.guard }], guard := some (3, true) }) rfl (fun K hK => ?_) AllReadyH.nil
      go_simp
      refine (hFs.out Wxx).mono ?_
      rintro e' Wxxx ⟨rfl, hb⟩
      have hIWxxx := hIWxx.below hb
      go_wp2_with fail
      refine hK.out _ _ (hfull.out _ hIWxxx) (fun hHeld => ?_)
      clear hK K hb hIWxx
      try simp only [Act.put, List.setIfInBounds_toArray, List.set_cons_zero, List.set_cons_succ]
      refine wpAnyH_ready (rs := [7]) (by kernel_rfl) (by simp) ?_
      refine AllReadyH.cons (o := { dst := some 89, op := Op.call { callee := Callee.value (Operand.func 30), args := #[Operand.tmp 88], argTypes := #[27] }, type := 4, pos := "law.go:75", after := #[{ on := 6, ground := Ground.data }, { on := 5, ground := Ground.chain }, { on := 3, ground := Ground.guard }], guard := some (3, true) }) rfl (fun K hK => ?_) AllReadyH.nil
      go_simp
      refine (hGs.out Wxxx hIWxxx).mono ?_
      rintro e' Wxxxx ⟨rfl, hb⟩
      have hIWxxxx := hIWxxx.below hb
      go_wp2_with fail
      refine hK.out _ _ (hfull.out _ hIWxxxx) (fun hHeld => ?_)
      clear hK K hb hIWxxx
      try simp only [Act.put, List.setIfInBounds_toArray, List.set_cons_zero, List.set_cons_succ]
      refine wpAnyH_take (i := 8) (oi := { dst := some 90, op := Op.binOp BinOp.eql 4 (Operand.tmp 87) (Operand.tmp 89) 4, type := 4, pos := "law.go:75", after := #[{ on := 5, ground := Ground.data }, { on := 7, ground := Ground.data }, { on := 3, ground := Ground.guard }], guard := some (3, true) }) (v := ?vv16) rfl (by kernel_rfl) (by kernel_rfl) (by kernel_rfl) (fun _ _ _ h => h) (Or.inl ⟨by rfl, ?hy16⟩) (by assumption) ?_
      case hy16 => (intro w hSw; (try dsimp only at hSw); go_simp; all_goals with_reducible rfl)
      try simp only [Act.put, List.setIfInBounds_toArray, List.set_cons_zero, List.set_cons_succ]
      refine wpAnyH_take (i := 9) (oi := { dst := some 91, op := Op.pick (Operand.tmp 85) (Operand.tmp 90) (Operand.const (Value.bool false)), type := 4, pos := "law.go:75", after := #[{ on := 3, ground := Ground.data }, { on := 8, ground := Ground.data }], guard := none }) (v := ?vv17) rfl (by kernel_rfl) (by kernel_rfl) (by kernel_rfl) (fun _ _ _ h => h) (Or.inl ⟨by rfl, ?hy17⟩) (by assumption) ?_
      case hy17 => (intro w hSw; (try dsimp only at hSw); go_simp; all_goals with_reducible rfl)
      try simp only [Act.put, List.setIfInBounds_toArray, List.set_cons_zero, List.set_cons_succ]
      refine wpAnyH_take (i := 10) (oi := { dst := some 92, op := Op.move (Operand.tmp 91), type := 4, pos := "law.go:75", after := #[{ on := 9, ground := Ground.data }, { on := 7, ground := Ground.chain }], guard := none }) (v := ?vv18) rfl (by kernel_rfl) (by kernel_rfl) (by kernel_rfl) (fun _ _ _ h => h) (Or.inl ⟨by rfl, ?hy18⟩) (by assumption) ?_
      case hy18 => (intro w hSw; (try dsimp only at hSw); go_simp; all_goals with_reducible rfl)
      try simp only [Act.put, List.setIfInBounds_toArray, List.set_cons_zero, List.set_cons_succ]
      refine wpAnyH_take (i := 11) (oi := { dst := some 93, op := Op.load 27 (Operand.tmp 11), type := 27, pos := "law.go:75", after := #[{ on := 10, ground := Ground.guard }], guard := some (10, true) }) (v := ?vv19) rfl (by kernel_rfl) (by kernel_rfl) (by kernel_rfl) (fun _ _ _ h => h) (Or.inl ⟨by rfl, ?hy19⟩) (by assumption) ?_
      case hy19 => (intro w hSw; (try dsimp only at hSw); go_simp; all_goals with_reducible rfl)
      try simp only [Act.put, List.setIfInBounds_toArray, List.set_cons_zero, List.set_cons_succ]
      refine wpAnyH_take (i := 13) (oi := { dst := some 95, op := Op.load 27 (Operand.tmp 13), type := 27, pos := "law.go:75", after := #[{ on := 10, ground := Ground.guard }], guard := some (10, true) }) (v := ?vv20) rfl (by kernel_rfl) (by kernel_rfl) (by kernel_rfl) (fun _ _ _ h => h) (Or.inl ⟨by rfl, ?hy20⟩) (by assumption) ?_
      case hy20 => (intro w hSw; (try dsimp only at hSw); go_simp; all_goals with_reducible rfl)
      try simp only [Act.put, List.setIfInBounds_toArray, List.set_cons_zero, List.set_cons_succ]
      refine wpAnyH_ready (rs := [12]) (by kernel_rfl) (by simp) ?_
      refine AllReadyH.cons (o := { dst := some 94, op := Op.call { callee := Callee.value (Operand.func 18), args := #[Operand.tmp 93], argTypes := #[27] }, type := 4, pos := "law.go:75", after := #[{ on := 11, ground := Ground.data }, { on := 10, ground := Ground.chain }, { on := 10, ground := Ground.guard }], guard := some (10, true) }) rfl (fun K hK => ?_) AllReadyH.nil
      go_simp
      refine (hFq.out Wxxxx).mono ?_
      rintro e' Wxxxxx ⟨rfl, hb⟩
      have hIWxxxxx := hIWxxxx.below hb
      go_wp2_with fail
      refine hK.out _ _ (hfull.out _ hIWxxxxx) (fun hHeld => ?_)
      clear hK K hb hIWxxxx
      try simp only [Act.put, List.setIfInBounds_toArray, List.set_cons_zero, List.set_cons_succ]
      refine wpAnyH_ready (rs := [14]) (by kernel_rfl) (by simp) ?_
      refine AllReadyH.cons (o := { dst := some 96, op := Op.call { callee := Callee.value (Operand.func 30), args := #[Operand.tmp 95], argTypes := #[27] }, type := 4, pos := "law.go:75", after := #[{ on := 13, ground := Ground.data }, { on := 12, ground := Ground.chain }, { on := 10, ground := Ground.guard }], guard := some (10, true) }) rfl (fun K hK => ?_) AllReadyH.nil
      go_simp
      refine (hGq.out Wxxxxx hIWxxxxx).mono ?_
      rintro e' Wxxxxxx ⟨rfl, hb⟩
      have hIWxxxxxx := hIWxxxxx.below hb
      go_wp2_with fail
      refine hK.out _ _ (hfull.out _ hIWxxxxxx) (fun hHeld => ?_)
      clear hK K hb hIWxxxxx
      try simp only [Act.put, List.setIfInBounds_toArray, List.set_cons_zero, List.set_cons_succ]
      refine wpAnyH_take (i := 15) (oi := { dst := some 97, op := Op.binOp BinOp.eql 4 (Operand.tmp 94) (Operand.tmp 96) 4, type := 4, pos := "law.go:75", after := #[{ on := 12, ground := Ground.data }, { on := 14, ground := Ground.data }, { on := 10, ground := Ground.guard }], guard := some (10, true) }) (v := ?vv21) rfl (by kernel_rfl) (by kernel_rfl) (by kernel_rfl) (fun _ _ _ h => h) (Or.inl ⟨by rfl, ?hy21⟩) (by assumption) ?_
      case hy21 => (intro w hSw; (try dsimp only at hSw); go_simp; all_goals with_reducible rfl)
      try simp only [Act.put, List.setIfInBounds_toArray, List.set_cons_zero, List.set_cons_succ]
      refine wpAnyH_take (i := 16) (oi := { dst := some 98, op := Op.pick (Operand.tmp 92) (Operand.tmp 97) (Operand.const (Value.bool false)), type := 4, pos := "law.go:75", after := #[{ on := 10, ground := Ground.data }, { on := 15, ground := Ground.data }], guard := none }) (v := ?vv22) rfl (by kernel_rfl) (by kernel_rfl) (by kernel_rfl) (fun _ _ _ h => h) (Or.inl ⟨by rfl, ?hy22⟩) (by assumption) ?_
      case hy22 => (intro w hSw; (try dsimp only at hSw); go_simp; all_goals with_reducible rfl)
      try simp only [Act.put, List.setIfInBounds_toArray, List.set_cons_zero, List.set_cons_succ]
      refine wpAnyH_take (i := 17) (oi := { dst := some 99, op := Op.move (Operand.tmp 98), type := 4, pos := "law.go:75", after := #[{ on := 16, ground := Ground.data }, { on := 14, ground := Ground.chain }], guard := none }) (v := ?vv23) rfl (by kernel_rfl) (by kernel_rfl) (by kernel_rfl) (fun _ _ _ h => h) (Or.inl ⟨by rfl, ?hy23⟩) (by assumption) ?_
      case hy23 => (intro w hSw; (try dsimp only at hSw); go_simp; all_goals with_reducible rfl)
      try simp only [Act.put, List.setIfInBounds_toArray, List.set_cons_zero, List.set_cons_succ]
      refine wpAnyH_take (i := 18) (oi := { dst := some 100, op := Op.move (Operand.tmp 9), type := 30, pos := "law.go:75", after := #[{ on := 17, ground := Ground.guard }], guard := some (17, true) }) (v := ?vv24) rfl (by kernel_rfl) (by kernel_rfl) (by kernel_rfl) (fun _ _ _ h => h) (Or.inl ⟨by rfl, ?hy24⟩) (by assumption) ?_
      case hy24 => (intro w hSw; (try dsimp only at hSw); go_simp; all_goals with_reducible rfl)
      try simp only [Act.put, List.setIfInBounds_toArray, List.set_cons_zero, List.set_cons_succ]
      refine wpAnyH_take (i := 19) (oi := { dst := some 101, op := Op.move (Operand.tmp 2), type := 30, pos := "law.go:75", after := #[{ on := 17, ground := Ground.guard }], guard := some (17, true) }) (v := ?vv25) rfl (by kernel_rfl) (by kernel_rfl) (by kernel_rfl) (fun _ _ _ h => h) (Or.inl ⟨by rfl, ?hy25⟩) (by assumption) ?_
      case hy25 => (intro w hSw; (try dsimp only at hSw); go_simp; all_goals with_reducible rfl)
      try simp only [Act.put, List.setIfInBounds_toArray, List.set_cons_zero, List.set_cons_succ]
      refine wpAnyH_ready (rs := [20]) (by kernel_rfl) (by simp) ?_
      refine AllReadyH.cons (o := { dst := some 102, op := Op.call { callee := Callee.value (Operand.func 31), args := #[Operand.tmp 100, Operand.tmp 101], argTypes := #[30, 30] }, type := 4, pos := "law.go:75", after := #[{ on := 18, ground := Ground.data }, { on := 19, ground := Ground.data }, { on := 17, ground := Ground.chain }, { on := 17, ground := Ground.guard }], guard := some (17, true) }) rfl (fun K hK => ?_) AllReadyH.nil
      go_simp
      refine (hKp.out Wxxxxxx hIWxxxxxx).mono ?_
      rintro e' Wxxxxxxx ⟨rfl, hb⟩
      have hIWxxxxxxx := hIWxxxxxx.below hb
      go_wp2_with fail
      refine hK.out _ _ (hfull.out _ hIWxxxxxxx) (fun hHeld => ?_)
      clear hK K hb hIWxxxxxx
      try simp only [Act.put, List.setIfInBounds_toArray, List.set_cons_zero, List.set_cons_succ]
      refine wpAnyH_take (i := 21) (oi := { dst := some 103, op := Op.pick (Operand.tmp 99) (Operand.tmp 102) (Operand.const (Value.bool false)), type := 4, pos := "law.go:75", after := #[{ on := 17, ground := Ground.data }, { on := 20, ground := Ground.data }], guard := none }) (v := ?vv26) rfl (by kernel_rfl) (by kernel_rfl) (by kernel_rfl) (fun _ _ _ h => h) (Or.inl ⟨by rfl, ?hy26⟩) (by assumption) ?_
      case hy26 => (intro w hSw; (try dsimp only at hSw); go_simp; all_goals with_reducible rfl)
      try simp only [Act.put, List.setIfInBounds_toArray, List.set_cons_zero, List.set_cons_succ]
      refine wpAnyH_take (i := 22) (oi := { dst := some 104, op := Op.move (Operand.tmp 103), type := 4, pos := "law.go:75", after := #[{ on := 21, ground := Ground.data }, { on := 20, ground := Ground.chain }], guard := none }) (v := ?vv27) rfl (by kernel_rfl) (by kernel_rfl) (by kernel_rfl) (fun _ _ _ h => h) (Or.inl ⟨by rfl, ?hy27⟩) (by assumption) ?_
      case hy27 => (intro w hSw; (try dsimp only at hSw); go_simp; all_goals with_reducible rfl)
      try simp only [Act.put, List.setIfInBounds_toArray, List.set_cons_zero, List.set_cons_succ]
      refine wpAnyH_ready (rs := [23]) (by kernel_rfl) (by simp) ?_
      refine AllReadyH.cons (o := { dst := some 105, op := Op.call { callee := Callee.value (Operand.func 9), args := #[], argTypes := #[] }, type := 4, pos := "law.go:75", after := #[{ on := 22, ground := Ground.chain }, { on := 22, ground := Ground.guard }], guard := some (22, true) }) rfl (fun K hK => ?_) AllReadyH.nil
      go_simp
      refine (hF.out Wxxxxxxx hIWxxxxxxx).mono ?_
      rintro e' Wxxxxxxxx ⟨rfl, hb⟩
      have hIWxxxxxxxx := hIWxxxxxxx.below hb
      go_wp2_with fail
      refine hK.out _ _ (hfull.out _ hIWxxxxxxxx) (fun hHeld => ?_)
      clear hK K hb hIWxxxxxxx
      try simp only [Act.put, List.setIfInBounds_toArray, List.set_cons_zero, List.set_cons_succ]
      refine wpAnyH_take (i := 24) (oi := { dst := some 106, op := Op.pick (Operand.tmp 104) (Operand.tmp 105) (Operand.const (Value.bool false)), type := 4, pos := "law.go:75", after := #[{ on := 22, ground := Ground.data }, { on := 23, ground := Ground.data }], guard := none }) (v := ?vv28) rfl (by kernel_rfl) (by kernel_rfl) (by kernel_rfl) (fun _ _ _ h => h) (Or.inl ⟨by rfl, ?hy28⟩) (by assumption) ?_
      case hy28 => (intro w hSw; (try dsimp only at hSw); go_simp; all_goals with_reducible rfl)
      try simp only [Act.put, List.setIfInBounds_toArray, List.set_cons_zero, List.set_cons_succ]
      refine wpAnyH_take (i := 25) (oi := { dst := some 8, op := Op.assign (Operand.tmp 106), type := 4, pos := "law.go:75", after := #[{ on := 24, ground := Ground.data }, { on := 23, ground := Ground.chain }, { on := 0, ground := Ground.phase }, { on := 1, ground := Ground.phase }, { on := 2, ground := Ground.phase }, { on := 3, ground := Ground.phase }, { on := 4, ground := Ground.phase }, { on := 5, ground := Ground.phase }, { on := 6, ground := Ground.phase }, { on := 7, ground := Ground.phase }, { on := 8, ground := Ground.phase }, { on := 9, ground := Ground.phase }, { on := 10, ground := Ground.phase }, { on := 11, ground := Ground.phase }, { on := 12, ground := Ground.phase }, { on := 13, ground := Ground.phase }, { on := 14, ground := Ground.phase }, { on := 15, ground := Ground.phase }, { on := 16, ground := Ground.phase }, { on := 17, ground := Ground.phase }, { on := 18, ground := Ground.phase }, { on := 19, ground := Ground.phase }, { on := 20, ground := Ground.phase }, { on := 21, ground := Ground.phase }, { on := 22, ground := Ground.phase }, { on := 23, ground := Ground.phase }, { on := 24, ground := Ground.phase }], guard := none }) (v := ?vv29) rfl (by kernel_rfl) (by kernel_rfl) (by kernel_rfl) (fun _ _ _ h => h) (Or.inl ⟨by rfl, ?hy29⟩) (by assumption) ?_
      case hy29 => (intro w hSw; (try dsimp only at hSw); go_simp; all_goals with_reducible rfl)
      try simp only [Act.put, List.setIfInBounds_toArray, List.set_cons_zero, List.set_cons_succ]
      refine wpAnyH_done (by kernel_rfl) ?_ _
      go_wp2_with fail
      go_ret
      exact ⟨rfl, hIWxxxxxxxx.1.bel⟩
end Go.Proofs.YtfkimdgbkfogcaaDoor
