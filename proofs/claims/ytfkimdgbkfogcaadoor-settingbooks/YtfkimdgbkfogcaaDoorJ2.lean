/- The document's Acked. -/
import Derived.Test.YtfkimdgbkfogcaaDoorJ1
import Derived.Deep.RegionHeld3
namespace Go.Proofs.YtfkimdgbkfogcaaDoor
open Go.RowKit
set_option linter.unusedVariables false
set_option linter.unusedSimpArgs false

/-- what the loop of Acked keeps -/
def Rk (w : World) (g3 : Nat) (s : St) (W : World) : Prop := W.heap[g3]? = some (.cells s.a 27 (0, 0)) ∧ W.heap[w.heap.size]? = some (.cells St.zero.a 27 (0, 0)) ∧ Below w.heap.size w W ∧ w.heap.size < g3
theorem Rk.below {w : World} {g3 : Nat} {s : St} {W W' : World} (h : Rk w g3 s W) (hb : Below W.heap.size W W') : Rk w g3 s W' :=
  ⟨(hb.block _ (heap_lt h.1)).trans h.1, (hb.block _ (heap_lt h.2.1)).trans h.2.1, h.2.2.1.trans (hb.mono h.2.2.1.size), h.2.2.2⟩
theorem Rk.set {w : World} {g3 : Nat} {s : St} {W : World} (h : Rk w g3 s W) (t : St) : Rk w g3 t (set6 W g3 t) :=
  ⟨set6_blk _ h.1, (set6_other _ _ _ _ (by have := h.2.2.2; omega)).trans h.2.1, h.2.2.1.trans ((set6_ks W _ _).below h.2.2.1.size (fun i hi => by have := h.2.2.2; omega)), h.2.2.2⟩

set_option maxRecDepth 100000 in
set_option maxHeartbeats 8000000 in
theorem racked_any (w : World) (r : Nat) (c : Bool) (sx : SV) (xs : List SV) (ls : List (List (Int × Int))) (d : Nat) (h : Rb w r c sx xs ls d) (hT : Top w) :
    Calls Tryd.prog 34 #[.pointer (some ⟨r, 0, none⟩)] w fun e w' => e = .returned (.agg (allS c (ls.take d)).a) ∧ Below w.heap.size w w' := by
  have HR : Hid (Rb w r c sx xs ls d) := h
  have HT : Hid (Top w) := hT
  have hrl := h.lt
  obtain ⟨c0, c1, c2⟩ := h.cells
  have HC : Hid (w.cell? ⟨r, 0, none⟩ = some (.bool c) ∧ w.cell? ⟨r, 1, none⟩ = some (sv sx) ∧ w.cell? ⟨r, 2, none⟩ = some (.int .i64 (d : Int))) := ⟨c0, c1, c2⟩
  obtain ⟨A, hA⟩ : ∃ A, A = allS c (ls.take d) := ⟨_, rfl⟩
  have HA : Hid (A = allS c (ls.take d)) := hA
  rw [← hA]
  have hDf : Calls Tryd.prog 29 #[] (w.alloc (.cells St.zero.a 27)) fun e w1 => e = .returned (.agg St.dfl.a) ∧ Hid (Rk w w1.heap.size (allS c (ls.take 0)) (w1.alloc (.cells St.dfl.a 27))) := by
    refine (rdefault_any _).mono ?_
    rintro e w1 ⟨rfl, hb⟩
    have h0 := bel1 w (.cells St.zero.a 27)
    have k := (hb.block _ (heap_lt (heap_alloc_new w (.cells St.zero.a 27)))).trans (heap_alloc_new w _)
    have hb1 := bel1 w1 (.cells St.dfl.a 27)
    have h1 := h0.trans (hb.mono h0.size)
    exact ⟨rfl, heap_alloc_new _ _, (hb1.block _ (heap_lt k)).trans k, h1.trans (hb1.mono h1.size), heap_lt k⟩
  obtain ⟨sb, scap, rfl, hs1, hs2⟩ := h.slice
  have hdn := h.done
  have hxl := h.len
  obtain ⟨N, hN⟩ : ∃ N, xs.length = N := ⟨_, rfl⟩
  rw [hN] at HR HC hs1 hxl
  have HN : Hid (xs.length = N) := hN
  simp only [sv] at HC
  simp only [St.a, St.dfl, St.zero] at hDf
  have hdN : d ≤ N := by omega
  clear h hT hA c0 c1 c2 hdn hxl hN
  unfold St.a
  go_enter Tryd.func34, Tryd.ntmps34
  go_wp2_with (go_at_call 29; refine hDf.mono ?_; clear hDf; rintro e w1 ⟨rfl, H1⟩)
  obtain ⟨g3, hg3⟩ : ∃ g, w1.heap.size = g := ⟨_, rfl⟩
  rw [hg3] at H1 ⊢
  generalize w1.alloc _ = w2 at H1 ⊢
  clear hg3
  go_loopw [4] (fun i wr => ∃ k : Nat, k ≤ d ∧ i = .int .i64 (k : Int) ∧ Hid (Rk w g3 (allS c (ls.take k)) wr)) (fun i _ => d - (intOf i).toNat)
  case atStart => exact ⟨0, Nat.zero_le _, rfl, H1⟩
  case round =>
    obtain ⟨k, hk, rfl, HP⟩ := hrel
    clear H1
    have hRk := HP.out
    have e0 := (hRk.2.2.1.cell hrl).trans HC.out.1
    have e1 := (hRk.2.2.1.cell hrl).trans HC.out.2.1
    have e2 := (hRk.2.2.1.cell hrl).trans HC.out.2.2
    by_cases hlt : k < d
    · have hb := HR.out
      have hln := HN.out
      have hkx : k < xs.length := by omega
      have hkl : k < ls.length := by have := hb.len; omega
      obtain ⟨gs, off, cap', hvb, hgl, hcx⟩ := hb.row.isIn.get okL k hkx
      simp only [sv] at hvb
      injection hvb with f1 f2 f3
      subst f1
      clear f2 f3
      have dx := hcx 0 _ rfl
      simp only [EL, Nat.mul_one, Nat.add_zero] at dx
      obtain ⟨x1, x2, x3, hx⟩ : ∃ x1 x2 x3, xs[k]'hkx = (x1, x2, x3) := ⟨_, _, _, rfl⟩
      rw [hx] at dx
      simp only [sv] at dx
      have hIn : In EP w (.slice x1 x2 x3) (ls[k]'hkl) := by
        have := (hb.lists k hkx).isIn
        rw [hx] at this
        exact this
      have hstep := allS_succ c ls k hkl
      obtain ⟨q, hqq⟩ : ∃ q, allS c (ls.take k) = q := ⟨_, rfl⟩
      rw [hqq] at hRk hstep
      obtain ⟨⟨p, code⟩, hpp⟩ : ∃ A, applyS q (ls[k]'hkl) c = A := ⟨_, rfl⟩
      rw [hpp] at hstep
      simp only at hstep
      have hap : Hid (∀ W, Rk w g3 q W → Calls Tryd.prog 24 #[.agg q.a, .slice x1 x2 x3, .bool c] W fun e w' => e = .returned (.tuple #[.agg p.a, .int .i64 code]) ∧ Below W.heap.size W w') := fun W hW => by
        refine (rapply_any q _ _ c W (hIn.below hW.2.2.1) (HT.out.below hW.2.2.1)).mono ?_
        rintro e w' ⟨rfl, hb'⟩
        exact ⟨by rw [hpp], hb'⟩
      have hst : Hid (∀ W, Rk w g3 q W → Rk w g3 (allS c (ls.take (k + 1))) (set6 W g3 p)) := fun W hW => by
        rw [hstep]
        exact hW.set p
      have hfull : Hid (∀ W, Below w.heap.size w W → W.cell? ⟨r, 0, none⟩ = some (.bool c) ∧ W.cell? ⟨r, 1, none⟩ = some (.slice (some ⟨gs, off, none⟩) N scap) ∧ W.cell? ⟨gs, off + k, none⟩ = some (.slice x1 x2 x3)) := fun W hW => ⟨(hW.cell hrl).trans HC.out.1, (hW.cell hrl).trans HC.out.2.1, (hW.cell hgl).trans dx⟩
      have hlti : (k : Int) < (d : Int) := by omega
      have hkN : (k : Int) < (N : Int) := by omega
      obtain ⟨q1, q2, q3, q4, q5, q6⟩ := q
      obtain ⟨p1, p2, p3, p4, p5, p6⟩ := p
      simp only [St.a] at hap
      clear hstep hqq hpp hx HP hln dx hb hcx hIn e0 e1
      go_wp2_with fail
      have hIW := hRk.below (Below.refl _ wr).drew
      refine wp_region_held_drew (S := (fun W => W.cell? ⟨r, 0, none⟩ = some (.bool c) ∧ W.cell? ⟨r, 1, none⟩ = some (.slice (some ⟨gs, off, none⟩) N scap) ∧ W.cell? ⟨gs, off + k, none⟩ = some (.slice x1 x2 x3))) (by kernel_rfl) (hfull.out _ hIW.2.2.1) (fun hHeld => ?_)
      generalize hWg : World.drew _ = W at hIW hHeld ⊢
      clear hWg hRk
      refine wpAnyH_take (i := 1) (oi := { dst := some 16, op := Op.move (Operand.tmp 0), type := 55, pos := "ref.go:142", after := #[], guard := none }) (v := ?vv1) rfl (by kernel_rfl) (by kernel_rfl) (by kernel_rfl) (fun _ _ _ h => h) (Or.inl ⟨by rfl, ?hy1⟩) (by assumption) ?_
      case hy1 => (intro w hSw; (try dsimp only at hSw); go_simp; all_goals with_reducible rfl)
      try simp only [Act.put, List.setIfInBounds_toArray, List.set_cons_zero, List.set_cons_succ]
      refine wpAnyH_take (i := 2) (oi := { dst := some 17, op := Op.nilCheck (Operand.tmp 16), type := 0, pos := "ref.go:142", after := #[{ on := 1, ground := Ground.data }], guard := none }) (v := ?vv2) rfl (by kernel_rfl) (by kernel_rfl) (by kernel_rfl) (fun _ _ _ h => h) (Or.inl ⟨by rfl, ?hy2⟩) (by assumption) ?_
      case hy2 => (intro w hSw; (try dsimp only at hSw); go_simp; all_goals with_reducible rfl)
      try simp only [Act.put, List.setIfInBounds_toArray, List.set_cons_zero, List.set_cons_succ]
      refine wpAnyH_take (i := 3) (oi := { dst := some 18, op := Op.fieldAddr 72 (Operand.tmp 17) 1, type := 0, pos := "ref.go:142", after := #[{ on := 2, ground := Ground.data }], guard := none }) (v := ?vv3) rfl (by kernel_rfl) (by kernel_rfl) (by kernel_rfl) (fun _ _ _ h => h) (Or.inl ⟨by rfl, ?hy3⟩) (by assumption) ?_
      case hy3 => (intro w hSw; (try dsimp only at hSw); go_simp; all_goals with_reducible rfl)
      try simp only [Act.put, List.setIfInBounds_toArray, List.set_cons_zero, List.set_cons_succ]
      refine wpAnyH_take (i := 4) (oi := { dst := some 19, op := Op.load 29 (Operand.tmp 18), type := 29, pos := "ref.go:142", after := #[{ on := 3, ground := Ground.data }], guard := none }) (v := ?vv4) rfl (by kernel_rfl) (by kernel_rfl) (by kernel_rfl) (fun _ _ _ h => h) (Or.inl ⟨by rfl, ?hy4⟩) (by assumption) ?_
      case hy4 => (intro w hSw; (try dsimp only at hSw); go_simp; all_goals with_reducible rfl)
      try simp only [Act.put, List.setIfInBounds_toArray, List.set_cons_zero, List.set_cons_succ]
      refine wpAnyH_take (i := 5) (oi := { dst := some 20, op := Op.move (Operand.tmp 4), type := 3, pos := "ref.go:142", after := #[], guard := none }) (v := ?vv5) rfl (by kernel_rfl) (by kernel_rfl) (by kernel_rfl) (fun _ _ _ h => h) (Or.inl ⟨by rfl, ?hy5⟩) (by assumption) ?_
      case hy5 => (intro w hSw; (try dsimp only at hSw); go_simp; all_goals with_reducible rfl)
      try simp only [Act.put, List.setIfInBounds_toArray, List.set_cons_zero, List.set_cons_succ]
      refine wpAnyH_take (i := 6) (oi := { dst := some 21, op := Op.indexAddr 29 (Operand.tmp 19) (Operand.tmp 20), type := 0, pos := "ref.go:142", after := #[{ on := 4, ground := Ground.data }, { on := 5, ground := Ground.data }], guard := none }) (v := ?vv6) rfl (by kernel_rfl) (by kernel_rfl) (by kernel_rfl) (fun _ _ _ h => h) (Or.inl ⟨by rfl, ?hy6⟩) (by assumption) ?_
      case hy6 => (intro w hSw; (try dsimp only at hSw); go_simp; all_goals with_reducible rfl)
      try simp only [Act.put, List.setIfInBounds_toArray, List.set_cons_zero, List.set_cons_succ]
      refine wpAnyH_take (i := 7) (oi := { dst := some 22, op := Op.load 30 (Operand.tmp 21), type := 30, pos := "ref.go:142", after := #[{ on := 6, ground := Ground.data }], guard := none }) (v := ?vv7) rfl (by kernel_rfl) (by kernel_rfl) (by kernel_rfl) (fun _ _ _ h => h) (Or.inl ⟨by rfl, ?hy7⟩) (by assumption) ?_
      case hy7 => (intro w hSw; (try dsimp only at hSw); go_simp; all_goals with_reducible rfl)
      try simp only [Act.put, List.setIfInBounds_toArray, List.set_cons_zero, List.set_cons_succ]
      refine wpAnyH_take (i := 8) (oi := { dst := some 23, op := Op.move (Operand.tmp 0), type := 55, pos := "ref.go:142", after := #[], guard := none }) (v := ?vv8) rfl (by kernel_rfl) (by kernel_rfl) (by kernel_rfl) (fun _ _ _ h => h) (Or.inl ⟨by rfl, ?hy8⟩) (by assumption) ?_
      case hy8 => (intro w hSw; (try dsimp only at hSw); go_simp; all_goals with_reducible rfl)
      try simp only [Act.put, List.setIfInBounds_toArray, List.set_cons_zero, List.set_cons_succ]
      refine wpAnyH_take (i := 9) (oi := { dst := some 24, op := Op.nilCheck (Operand.tmp 23), type := 0, pos := "ref.go:142", after := #[{ on := 8, ground := Ground.data }], guard := none }) (v := ?vv9) rfl (by kernel_rfl) (by kernel_rfl) (by kernel_rfl) (fun _ _ _ h => h) (Or.inl ⟨by rfl, ?hy9⟩) (by assumption) ?_
      case hy9 => (intro w hSw; (try dsimp only at hSw); go_simp; all_goals with_reducible rfl)
      try simp only [Act.put, List.setIfInBounds_toArray, List.set_cons_zero, List.set_cons_succ]
      refine wpAnyH_take (i := 10) (oi := { dst := some 25, op := Op.fieldAddr 72 (Operand.tmp 24) 0, type := 0, pos := "ref.go:142", after := #[{ on := 9, ground := Ground.data }], guard := none }) (v := ?vv10) rfl (by kernel_rfl) (by kernel_rfl) (by kernel_rfl) (fun _ _ _ h => h) (Or.inl ⟨by rfl, ?hy10⟩) (by assumption) ?_
      case hy10 => (intro w hSw; (try dsimp only at hSw); go_simp; all_goals with_reducible rfl)
      try simp only [Act.put, List.setIfInBounds_toArray, List.set_cons_zero, List.set_cons_succ]
      refine wpAnyH_take (i := 11) (oi := { dst := some 26, op := Op.load 4 (Operand.tmp 25), type := 4, pos := "ref.go:142", after := #[{ on := 10, ground := Ground.data }], guard := none }) (v := ?vv11) rfl (by kernel_rfl) (by kernel_rfl) (by kernel_rfl) (fun _ _ _ h => h) (Or.inl ⟨by rfl, ?hy11⟩) (by assumption) ?_
      case hy11 => (intro w hSw; (try dsimp only at hSw); go_simp; all_goals with_reducible rfl)
      try simp only [Act.put, List.setIfInBounds_toArray, List.set_cons_zero, List.set_cons_succ]
      refine wpAnyH_ready (rs := [0]) (by kernel_rfl) (by simp) ?_
      refine AllReadyH.cons (o := { dst := some 15, op := Op.load 27 (Operand.tmp 3), type := 27, pos := "ref.go:142", after := #[], guard := none }) rfl (fun K hK => ?_) AllReadyH.nil
      obtain ⟨z0', z1', z2', z3', z4', z5'⟩ := c6 hIW.1
      simp only at z0' z1' z2' z3' z4' z5'
      go_simp
      refine hK.out _ _ (hfull.out _ hIW.2.2.1) (fun hHeld => ?_)
      clear hK K z0' z1' z2' z3' z4' z5'
      have hIWx := hIW
      clear hIW
      generalize W = Wx at hIWx hHeld ⊢
      try simp only [Act.put, List.setIfInBounds_toArray, List.set_cons_zero, List.set_cons_succ]
      refine wpAnyH_ready (rs := [12]) (by kernel_rfl) (by simp) ?_
      refine AllReadyH.cons (o := { dst := some 27, op := Op.call { callee := Callee.value (Operand.func 24), args := #[Operand.tmp 15, Operand.tmp 22, Operand.tmp 26], argTypes := #[27, 30, 4] }, type := 33, pos := "ref.go:142", after := #[{ on := 0, ground := Ground.data }, { on := 7, ground := Ground.data }, { on := 11, ground := Ground.data }], guard := none }) rfl (fun K hK => ?_) AllReadyH.nil
      go_simp
      refine (hap.out Wx hIWx).mono ?_
      rintro e' Wxx ⟨rfl, hb⟩
      have hIWxx := hIWx.below hb
      go_wp2_with fail
      refine hK.out _ _ (hfull.out _ hIWxx.2.2.1) (fun hHeld => ?_)
      clear hK K hb hIWx
      try simp only [Act.put, List.setIfInBounds_toArray, List.set_cons_zero, List.set_cons_succ]
      refine wpAnyH_take (i := 13) (oi := { dst := some 14, op := Op.move (Operand.tmp 27), type := 33, pos := "ref.go:142", after := #[{ on := 12, ground := Ground.data }], guard := none }) (v := ?vv12) rfl (by kernel_rfl) (by kernel_rfl) (by kernel_rfl) (fun _ _ _ h => h) (Or.inl ⟨by rfl, ?hy12⟩) (by assumption) ?_
      case hy12 => (intro w hSw; (try dsimp only at hSw); go_simp; all_goals with_reducible rfl)
      try simp only [Act.put, List.setIfInBounds_toArray, List.set_cons_zero, List.set_cons_succ]
      refine wpAnyH_take (i := 14) (oi := { dst := some 28, op := Op.extract (Operand.tmp 14) 0, type := 27, pos := "ref.go:142", after := #[{ on := 13, ground := Ground.data }], guard := none }) (v := ?vv13) rfl (by kernel_rfl) (by kernel_rfl) (by kernel_rfl) (fun _ _ _ h => h) (Or.inl ⟨by rfl, ?hy13⟩) (by assumption) ?_
      case hy13 => (intro w hSw; (try dsimp only at hSw); go_simp; all_goals with_reducible rfl)
      try simp only [Act.put, List.setIfInBounds_toArray, List.set_cons_zero, List.set_cons_succ]
      refine wpAnyH_take (i := 15) (oi := { dst := some 29, op := Op.extract (Operand.tmp 14) 1, type := 2, pos := "ref.go:142", after := #[{ on := 13, ground := Ground.data }, { on := 16, ground := Ground.gcOnly Departure.lateStores }], guard := none }) (v := ?vv14) rfl (by kernel_rfl) (by kernel_rfl) (by kernel_rfl) (fun _ _ _ h => h) (Or.inl ⟨by rfl, ?hy14⟩) (by assumption) ?_
      case hy14 => (intro w hSw; (try dsimp only at hSw); go_simp; all_goals with_reducible rfl)
      try simp only [Act.put, List.setIfInBounds_toArray, List.set_cons_zero, List.set_cons_succ]
      refine wpAnyH_ready (rs := [16]) (by kernel_rfl) (by simp) ?_
      refine AllReadyH.cons (o := { dst := none, op := Op.store 27 (Operand.tmp 3) (Operand.tmp 28), type := 0, pos := "ref.go:142", after := #[{ on := 14, ground := Ground.data }, { on := 12, ground := Ground.chain }, { on := 0, ground := Ground.phase }, { on := 1, ground := Ground.phase }, { on := 2, ground := Ground.phase }, { on := 3, ground := Ground.phase }, { on := 4, ground := Ground.phase }, { on := 5, ground := Ground.phase }, { on := 6, ground := Ground.phase }, { on := 7, ground := Ground.phase }, { on := 8, ground := Ground.phase }, { on := 9, ground := Ground.phase }, { on := 10, ground := Ground.phase }, { on := 11, ground := Ground.phase }, { on := 12, ground := Ground.phase }, { on := 13, ground := Ground.phase }, { on := 14, ground := Ground.phase }, { on := 15, ground := Ground.textOnly Departure.lateStores }], guard := none }) rfl (fun K hK => ?_) AllReadyH.nil
      obtain ⟨z0', z1', z2', z3', z4', z5'⟩ := c6 hIWxx.1
      obtain ⟨y0', y1', y2', y3', y4', y5'⟩ := f6 hIWxx.1
      simp only at z0' z1' z2' z3' z4' z5'
      go_simp
      change K _ (set6 Wxx g3 (St.mk p1 p2 p3 p4 p5 p6))
      have hT2 := hst.out Wxx hIWxx
      refine hK.out _ _ (hfull.out _ hT2.2.2.1) (fun hHeld => ?_)
      generalize hWn : set6 Wxx g3 (St.mk p1 p2 p3 p4 p5 p6) = Wxxx at hT2 hHeld ⊢
      clear hWn z0' z1' z2' z3' z4' z5' y0' y1' y2' y3' y4' y5' hK K hIWxx
      try simp only [Act.put, List.setIfInBounds_toArray, List.set_cons_zero, List.set_cons_succ]
      refine wpAnyH_done (by kernel_rfl) ?_ _
      go_wp2_with fail
      go_roundw
      case rel => exact ⟨k + 1, by omega, by simp, hT2⟩
      case measure => simp [intOf]; omega
    · obtain rfl : k = d := by omega
      obtain ⟨a, ha⟩ : ∃ a, allS c (ls.take k) = a := ⟨_, rfl⟩
      rw [ha] at hRk
      obtain ⟨h3, h2, hB, hlt3⟩ := hRk
      have eA : A = a := HA.out.trans ha
      subst eA
      obtain ⟨x1, x2, x3, x4, x5, x6⟩ := A
      obtain ⟨a0, a1, a2, a3, a4, a5⟩ := c6 h3
      obtain ⟨b0, b1, b2, b3, b4, b5⟩ := c6 h2
      obtain ⟨f0, f1, f2, f3, f4, f5⟩ := f6 h2
      simp only at a0 a1 a2 a3 a4 a5
      have H6 : Hid ((set6 wr w.heap.size ⟨x1, x2, x3, x4, x5, x6⟩).heap[w.heap.size]? = some (.cells (St.mk x1 x2 x3 x4 x5 x6).a 27 (0, 0)) ∧ Below w.heap.size w (set6 wr w.heap.size ⟨x1, x2, x3, x4, x5, x6⟩)) :=
        ⟨set6_blk _ h2, hB.trans ((set6_ks wr _ _).below hB.size (fun i hi => by omega))⟩
      simp only [set6, St.a] at H6
      have hne : g3 ≠ w.heap.size := by omega
      clear h3 h2 hB HP ha HA e0 e1
      go_wp2
      refine bodyPost_ret (results_cell_row (p := 2) (ty := 27) rfl _ _ w.heap.size 27 _ (0, 0) _ rfl H6.out.1 Tryd.underlying27 rfl (by kernel_rfl)) rfl ⟨rfl, H6.out.2⟩
end Go.Proofs.YtfkimdgbkfogcaaDoor
