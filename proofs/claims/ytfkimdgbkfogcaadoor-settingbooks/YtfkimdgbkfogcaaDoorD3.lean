/- The document's Apply. -/
import Derived.Test.YtfkimdgbkfogcaaDoorD2
import Derived.Deep.RegionHeld3
namespace Go.Proofs.YtfkimdgbkfogcaaDoor
open Go.RowKit
set_option linter.unusedVariables false
set_option linter.unusedSimpArgs false

theorem applyS_valid (s : St) (l : List (Int × Int)) (c : Bool) (h : ∀ q ∈ l, validS q c = 0) : (applyS s l c).2 = 0 := by
  induction l generalizing s with
  | nil => rfl
  | cons q r ih =>
    simp only [applyS]
    rw [if_pos (h q (List.mem_cons_self ..))]
    exact ih _ fun x hx => h x (List.mem_cons_of_mem _ hx)
theorem applyS_take_valid (s : St) (l : List (Int × Int)) (c : Bool) (k : Nat) (hk : k < l.length) (h : ∀ q ∈ l, validS q c = 0) : (applyS s (l.take (k + 1)) c).1 = withS (applyS s (l.take k) c).1 l[k] := by
  have h0 := applyS_valid s (l.take k) c fun q hq => h q (List.mem_of_mem_take hq)
  rw [applyS_take_succ s (applyS s (l.take k) c).1 l c k hk (Prod.ext rfl h0), if_pos (h _ (List.getElem_mem _))]

/-- what the second loop keeps -/
def Ra (w : World) (s : St) (W : World) : Prop := W.heap[w.heap.size]? = some (.cells s.a 27 (0, 0)) ∧ W.heap[w.heap.size + 1]? = some (.cells St.zero.a 27 (0, 0)) ∧ Below w.heap.size w W
theorem Ra.below {w : World} {s : St} {W W' : World} (h : Ra w s W) (hb : Below W.heap.size W W') : Ra w s W' :=
  ⟨(hb.block _ (heap_lt h.1)).trans h.1, (hb.block _ (heap_lt h.2.1)).trans h.2.1, h.2.2.trans (hb.mono h.2.2.size)⟩
theorem Ra.set {w : World} {s : St} {W : World} (h : Ra w s W) (t : St) : Ra w t (set6 W w.heap.size t) :=
  ⟨set6_blk _ h.1, (set6_other _ _ _ _ (by omega)).trans h.2.1, h.2.2.trans ((set6_ks W _ _).below h.2.2.size (fun i hi => by omega))⟩

set_option maxRecDepth 100000 in
set_option maxHeartbeats 8000000 in
theorem rapply_any (s : St) (v : Value) (l : List (Int × Int)) (c : Bool) (w : World) (hv : In EP w v l) (hT : Top w) :
    Calls Tryd.prog 24 #[.agg s.a, v, .bool c] w fun e w' => e = .returned (.tuple #[.agg (applyS s l c).1.a, .int .i64 (applyS s l c).2]) ∧ Below w.heap.size w w' := by
  have HV : Hid (In EP w v l) := hv
  obtain ⟨vb, vc, rfl, hc1, hc2⟩ := hv.slice
  obtain ⟨n, hn⟩ : ∃ n, l.length = n := ⟨_, rfl⟩
  rw [hn] at hc1 HV ⊢
  have HN : Hid (l.length = n) := hn
  have HT : Hid (Top w) := hT
  clear hn hv hT
  obtain ⟨s1, s2, s3, s4, s5, s6⟩ := s
  obtain ⟨S0, hS0⟩ : ∃ S0 : St, S0 = ⟨s1, s2, s3, s4, s5, s6⟩ := ⟨_, rfl⟩
  obtain ⟨A, hA⟩ : ∃ A, A = applyS S0 l c := ⟨_, rfl⟩
  have HA : Hid (A = applyS S0 l c) := hA
  have HS0 : Hid (S0 = ⟨s1, s2, s3, s4, s5, s6⟩) := hS0
  rw [← hS0, ← hA]
  rw [hS0]
  clear hA hS0
  unfold St.a
  simp only
  go_enter Tryd.func24, Tryd.ntmps24
  go_wp2
  go_loopw [8] (fun i wr => ∃ k : Nat, k ≤ n ∧ i = .int .i64 (k : Int) ∧ Hid ((∀ q ∈ l.take k, validS q c = 0) ∧ Ra w S0 wr)) (fun i _ => n - (intOf i).toNat)
  case atStart =>
    refine ⟨0, Nat.zero_le _, rfl, fun q hq => by simp at hq, ?_, fresh2 _ _ _, bel2 _ _ _⟩
    rw [heap_al, if_neg (by simp), HS0.out]
    exact heap_alloc_new _ _
  case round =>
    obtain ⟨k, hk, rfl, HP⟩ := hrel
    obtain ⟨hvk, hRa⟩ := HP.out
    have hlen := HN.out
    by_cases hlt : k < n
    · obtain ⟨B, off, cap, hvb, hBl, d1, d2⟩ := (HV.out.below hRa.2.2).par k (by omega)
      injection hvb with e1 e2 e3
      subst e1
      clear e2 e3
      obtain ⟨x, y, hq⟩ : ∃ x y, l[k]'(by omega) = (x, y) := ⟨_, _, rfl⟩
      rw [hq] at d1 d2
      simp only at d1 d2
      have hlti : (k : Int) < (n : Int) := by omega
      have hcall : Calls Tryd.prog 23 #[.agg #[.int .i64 x, .int .i64 y], .bool c] wr fun e w1 => e = .returned (.int .i64 (validS (x, y) c)) ∧ C6 w1 (w.heap.size + 1) St.zero ∧ F6 w1 (w.heap.size + 1) ∧ Hid (Ra w S0 w1) := by
        refine (rvalid_any x y c wr).mono ?_
        rintro e w1 ⟨rfl, hb⟩
        have := hRa.below hb
        exact ⟨rfl, c6 this.2.1, f6 this.2.1, this⟩
      by_cases hz : validS (x, y) c = 0
      · rw [hz] at hcall
        have hvk1 : ∀ q ∈ l.take (k + 1), validS q c = 0 := by
          intro q hq2
          rw [List.take_succ_eq_append_getElem (by omega), List.mem_append] at hq2
          rcases hq2 with h | h
          · exact hvk q h
          · rw [List.mem_singleton.1 h, hq]; exact hz
        have HK : Hid _ := hvk1
        clear hvk1 hvk hRa HP hz hq hlen
        go_wp2_with (go_at_call 23; refine hcall.mono ?_; clear hcall; rintro e w1 ⟨rfl, ⟨b0, b1, b2, b3, b4, b5⟩, ⟨g0, g1, g2, g3, g4, g5⟩, HH⟩)
        go_roundw
        case rel => exact ⟨k + 1, by omega, by simp, HK.out, HH.out⟩
        case measure => simp [intOf]; omega
      · obtain ⟨V, hV⟩ : ∃ V, validS (x, y) c = V := ⟨_, rfl⟩
        have hA2 : Hid (applyS S0 l c = (St.zero, V)) := by
          have h0 := applyS_valid S0 (l.take k) c hvk
          have hs := applyS_take_succ S0 (applyS S0 (l.take k) c).1 l c k (by omega) (Prod.ext rfl h0)
          rw [hq, if_neg hz] at hs
          show applyS S0 l c = _
          rw [applyS_stop S0 l c (k + 1) (by rw [hs]; exact hz), hs, hV]
        rw [hV] at hcall hz
        have hfin : ∀ w1 : World, Hid (Ra w S0 w1) → Hid ((set6 w1 (w.heap.size + 1) St.zero).heap[w.heap.size + 1]? = some (.cells St.zero.a 27 (0, 0)) ∧ Below w.heap.size w (set6 w1 (w.heap.size + 1) St.zero)) := by
          intro w1 h
          obtain ⟨k3, k6, kB⟩ := h.out
          exact ⟨set6_blk _ k6, kB.trans ((set6_ks w1 _ _).below kB.size (fun i hi => by omega))⟩
        have hE : Hid (Value.tuple #[.agg #[.int .i64 0, .int .i64 0, .int .i64 0, .int .i64 0, .int .i64 0, .int .i64 0], .int .i64 V] = Value.tuple #[.agg #[.int .i64 A.1.tab, .int .i64 A.1.psh, .int .i64 A.1.str, .int .i64 A.1.win, .int .i64 A.1.frm, .int .i64 A.1.lst], .int .i64 A.2]) := by
          have e : A = (St.zero, V) := HA.out.trans hA2.out
          rw [e]
          exact rfl
        simp only [set6, St.a, St.zero] at hfin
        have hvn : (V != 0) = true := by simpa using hz
        clear hz hvk hRa HP hq hlen hV
        go_wp2_with (go_at_call 23; refine hcall.mono ?_; clear hcall; rintro e w1 ⟨rfl, ⟨b0, b1, b2, b3, b4, b5⟩, ⟨g0, g1, g2, g3, g4, g5⟩, HH⟩)
        have H6 := (hfin _ HH).out
        refine bodyPost_ret (results_ct (p := 6) (r := 7) (ty := 27) rfl _ _ (w.heap.size + 1) 27 _ (0, 0) _ rfl H6.1 Tryd.underlying27 rfl (by kernel_rfl)) rfl ⟨?_, H6.2⟩
        exact congrArg Ending.returned hE.out
    · have hkn : k = n := by omega
      subst hkn
      rw [List.take_of_length_le (by omega)] at hvk
      have hA0 : Hid (∀ q ∈ l, validS q c = 0) := hvk
      have HR : Hid (Ra w S0 wr) := hRa
      clear hvk hRa HP hlen
      go_wp2_with fail
      go_loopw [10] (fun i wr => ∃ k' : Nat, k' ≤ k ∧ i = .int .i64 (k' : Int) ∧ Hid (Ra w (applyS S0 (l.take k') c).1 wr)) (fun i _ => k - (intOf i).toNat)
      case atStart => exact ⟨0, Nat.zero_le _, rfl, HR.out⟩
      case round =>
        obtain ⟨j, hj, rfl, HP⟩ := hrel
        clear HR
        have hRa := HP.out
        have hlen := HN.out
        by_cases hlt : j < k
        · obtain ⟨B, off, cap, hvb, hBl, d1, d2⟩ := HV.out.par j (by omega)
          injection hvb with e1 e2 e3
          subst e1
          clear e2 e3
          obtain ⟨x, y, hq⟩ : ∃ x y, l[j]'(by omega) = (x, y) := ⟨_, _, rfl⟩
          have hstep := applyS_take_valid S0 l c j (by omega) hA0.out
          have hvq := hA0.out (l[j]'(by omega)) (List.getElem_mem _)
          rw [hq] at d1 d2 hstep hvq
          simp only at d1 d2
          obtain ⟨q, hqq⟩ : ∃ q, (applyS S0 (l.take j) c).1 = q := ⟨_, rfl⟩
          obtain ⟨p, hpp⟩ : ∃ p, withS q (x, y) = p := ⟨_, rfl⟩
          rw [hqq] at hRa hstep
          rw [hpp] at hstep
          have hone : Hid (∀ W, Ra w q W → Calls Tryd.prog 41 #[.agg q.a, .agg #[.int .i64 x, .int .i64 y]] W fun e w' => e = .returned (.agg p.a) ∧ Below W.heap.size W w') := fun W hW => by
            rw [← hpp]
            exact one_any q (x, y) c hvq W (HT.out.below hW.2.2)
          have hst : Hid (∀ W, Ra w q W → Ra w (applyS S0 (l.take (j + 1)) c).1 (set6 W w.heap.size p)) := fun W hW => by
            rw [hstep]
            exact hW.set p
          have hfull : Hid (∀ W, Ra w q W → W.cell? ⟨B, off + j * 2, none⟩ = some (.int .i64 x) ∧ W.cell? ⟨B, off + j * 2 + 1, none⟩ = some (.int .i64 y)) := fun W hW => ⟨(hW.2.2.cell hBl).trans d1, (hW.2.2.cell hBl).trans d2⟩
          have hf2 : Hid (∀ W, Ra w (applyS S0 (l.take (j + 1)) c).1 W → W.cell? ⟨B, off + j * 2, none⟩ = some (.int .i64 x) ∧ W.cell? ⟨B, off + j * 2 + 1, none⟩ = some (.int .i64 y)) := fun W hW => ⟨(hW.2.2.cell hBl).trans d1, (hW.2.2.cell hBl).trans d2⟩
          have hlti : (j : Int) < (k : Int) := by omega
          obtain ⟨q1, q2, q3, q4, q5, q6⟩ := q
          obtain ⟨p1, p2, p3, p4, p5, p6⟩ := p
          simp only [St.a] at hone
          clear hstep hvq hqq hpp hq HP hlen d1 d2
          go_wp2_with fail
          have hIW := hRa.below (Below.refl _ wr).drew
          refine wp_region_held_drew (S := (fun W => W.cell? ⟨B, off + j * 2, none⟩ = some (.int .i64 x) ∧ W.cell? ⟨B, off + j * 2 + 1, none⟩ = some (.int .i64 y))) (by kernel_rfl) (hfull.out _ hIW) (fun hHeld => ?_)
          generalize hWg : World.drew _ = W at hIW hHeld ⊢
          clear hWg hRa
          refine wpAnyH_take (i := 1) (oi := { dst := some 34, op := Op.move (Operand.tmp 1), type := 30, pos := "ref.go:85", after := #[], guard := none }) (v := ?vv1) rfl (by kernel_rfl) (by kernel_rfl) (by kernel_rfl) (fun _ _ _ h => h) (Or.inl ⟨by rfl, ?hy1⟩) (by assumption) ?_
          case hy1 => (intro w hSw; (try dsimp only at hSw); go_simp; all_goals with_reducible rfl)
          try simp only [Act.put, List.setIfInBounds_toArray, List.set_cons_zero, List.set_cons_succ]
          refine wpAnyH_take (i := 2) (oi := { dst := some 35, op := Op.move (Operand.tmp 10), type := 3, pos := "ref.go:85", after := #[], guard := none }) (v := ?vv2) rfl (by kernel_rfl) (by kernel_rfl) (by kernel_rfl) (fun _ _ _ h => h) (Or.inl ⟨by rfl, ?hy2⟩) (by assumption) ?_
          case hy2 => (intro w hSw; (try dsimp only at hSw); go_simp; all_goals with_reducible rfl)
          try simp only [Act.put, List.setIfInBounds_toArray, List.set_cons_zero, List.set_cons_succ]
          refine wpAnyH_take (i := 3) (oi := { dst := some 36, op := Op.indexAddr 30 (Operand.tmp 34) (Operand.tmp 35), type := 0, pos := "ref.go:85", after := #[{ on := 1, ground := Ground.data }, { on := 2, ground := Ground.data }], guard := none }) (v := ?vv3) rfl (by kernel_rfl) (by kernel_rfl) (by kernel_rfl) (fun _ _ _ h => h) (Or.inl ⟨by rfl, ?hy3⟩) (by assumption) ?_
          case hy3 => (intro w hSw; (try dsimp only at hSw); go_simp; all_goals with_reducible rfl)
          try simp only [Act.put, List.setIfInBounds_toArray, List.set_cons_zero, List.set_cons_succ]
          refine wpAnyH_take (i := 4) (oi := { dst := some 37, op := Op.load 46 (Operand.tmp 36), type := 46, pos := "ref.go:85", after := #[{ on := 3, ground := Ground.data }], guard := none }) (v := ?vv4) rfl (by kernel_rfl) (by kernel_rfl) (by kernel_rfl) (fun _ _ _ h => h) (Or.inl ⟨by rfl, ?hy4⟩) (by assumption) ?_
          case hy4 => (intro w hSw; (try dsimp only at hSw); go_simp; all_goals with_reducible rfl)
          try simp only [Act.put, List.setIfInBounds_toArray, List.set_cons_zero, List.set_cons_succ]
          refine wpAnyH_ready (rs := [0]) (by kernel_rfl) (by simp) ?_
          refine AllReadyH.cons (o := { dst := some 33, op := Op.load 27 (Operand.tmp 3), type := 27, pos := "ref.go:85", after := #[], guard := none }) rfl (fun K hK => ?_) AllReadyH.nil
          obtain ⟨z0', z1', z2', z3', z4', z5'⟩ := c6 hIW.1
          simp only at z0' z1' z2' z3' z4' z5'
          go_simp
          refine hK.out _ _ (hfull.out _ hIW) (fun hHeld => ?_)
          clear hK K z0' z1' z2' z3' z4' z5'
          have hIWx := hIW
          clear hIW
          generalize W = Wx at hIWx hHeld ⊢
          try simp only [Act.put, List.setIfInBounds_toArray, List.set_cons_zero, List.set_cons_succ]
          refine wpAnyH_ready (rs := [5]) (by kernel_rfl) (by simp) ?_
          refine AllReadyH.cons (o := { dst := some 38, op := Op.call { callee := Callee.value (Operand.func 41), args := #[Operand.tmp 33, Operand.tmp 37], argTypes := #[27, 46] }, type := 27, pos := "ref.go:85", after := #[{ on := 0, ground := Ground.data }, { on := 4, ground := Ground.data }], guard := none }) rfl (fun K hK => ?_) AllReadyH.nil
          go_simp
          refine (hone.out Wx hIWx).mono ?_
          rintro e' Wxx ⟨rfl, hb⟩
          have hIWxx := hIWx.below hb
          go_wp2_with fail
          refine hK.out _ _ (hfull.out _ hIWxx) (fun hHeld => ?_)
          clear hK K hb hIWx
          try simp only [Act.put, List.setIfInBounds_toArray, List.set_cons_zero, List.set_cons_succ]
          refine wpAnyH_ready (rs := [6]) (by kernel_rfl) (by simp) ?_
          refine AllReadyH.cons (o := { dst := none, op := Op.store 27 (Operand.tmp 3) (Operand.tmp 38), type := 0, pos := "ref.go:85", after := #[{ on := 5, ground := Ground.data }, { on := 5, ground := Ground.chain }, { on := 0, ground := Ground.phase }, { on := 1, ground := Ground.phase }, { on := 2, ground := Ground.phase }, { on := 3, ground := Ground.phase }, { on := 4, ground := Ground.phase }, { on := 5, ground := Ground.phase }], guard := none }) rfl (fun K hK => ?_) AllReadyH.nil
          obtain ⟨z0', z1', z2', z3', z4', z5'⟩ := c6 hIWxx.1
          obtain ⟨y0', y1', y2', y3', y4', y5'⟩ := f6 hIWxx.1
          simp only at z0' z1' z2' z3' z4' z5'
          go_simp
          change K _ (set6 Wxx w.heap.size (St.mk p1 p2 p3 p4 p5 p6))
          have hT2 := hst.out Wxx hIWxx
          refine hK.out _ _ (hf2.out _ hT2) (fun hHeld => ?_)
          generalize hWn : set6 Wxx w.heap.size (St.mk p1 p2 p3 p4 p5 p6) = Wxxx at hT2 hHeld ⊢
          clear hWn z0' z1' z2' z3' z4' z5' y0' y1' y2' y3' y4' y5' hK K hIWxx
          try simp only [Act.put, List.setIfInBounds_toArray, List.set_cons_zero, List.set_cons_succ]
          refine wpAnyH_done (by kernel_rfl) ?_ _
          go_wp2_with fail
          go_roundw
          case rel => exact ⟨j + 1, by omega, by simp, hT2⟩
          case measure => simp [intOf]; omega
        · have hjk : j = k := by omega
          subst hjk
          rw [List.take_of_length_le (by omega)] at hRa
          have h0 := applyS_valid S0 l c hA0.out
          obtain ⟨a, ha⟩ : ∃ a, (applyS S0 l c).1 = a := ⟨_, rfl⟩
          rw [ha] at hRa
          obtain ⟨h3, h6, hB⟩ := hRa
          have hL : w.heap.size + 1 < wr.heap.size := heap_lt h6
          have hL0 : w.heap.size < wr.heap.size := by omega
          have eA : A = (a, 0) := HA.out.trans (Prod.ext ha h0)
          obtain ⟨x1, x2, x3, x4, x5, x6⟩ := a
          obtain ⟨a0, a1, a2, a3, a4, a5⟩ := c6 h3
          obtain ⟨b0, b1, b2, b3, b4, b5⟩ := c6 h6
          obtain ⟨f0, f1, f2, f3, f4, f5⟩ := f6 h6
          simp only at a0 a1 a2 a3 a4 a5
          have H6 : Hid ((set6 wr (w.heap.size + 1) ⟨x1, x2, x3, x4, x5, x6⟩).heap[w.heap.size + 1]? = some (.cells (St.mk x1 x2 x3 x4 x5 x6).a 27 (0, 0)) ∧ Below w.heap.size w (set6 wr (w.heap.size + 1) ⟨x1, x2, x3, x4, x5, x6⟩)) :=
            ⟨set6_blk _ h6, hB.trans ((set6_ks wr _ _).below hB.size (fun i hi => by omega))⟩
          simp only [set6, St.a] at H6
          have hE : Hid (Value.tuple #[.agg #[.int .i64 x1, .int .i64 x2, .int .i64 x3, .int .i64 x4, .int .i64 x5, .int .i64 x6], .int .i64 0] = Value.tuple #[.agg #[.int .i64 A.1.tab, .int .i64 A.1.psh, .int .i64 A.1.str, .int .i64 A.1.win, .int .i64 A.1.frm, .int .i64 A.1.lst], .int .i64 A.2]) := by
            rw [eA]
            exact rfl
          clear h3 h6 hB HP ha h0 eA hlen
          go_wp2
          refine bodyPost_ret (results_ct (p := 6) (r := 7) (ty := 27) rfl _ _ (w.heap.size + 1) 27 _ (0, 0) _ rfl H6.out.1 Tryd.underlying27 rfl (by kernel_rfl)) rfl ⟨?_, H6.out.2⟩
          exact congrArg Ending.returned hE.out
end Go.Proofs.YtfkimdgbkfogcaaDoor
