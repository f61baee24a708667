/- StreamsEnds. -/
import Derived.Test.YtaaocgppniflcaaQ0
namespace Go.Proofs.Ytaaocgppniflcaa
open Go.RowKit Go.Maps
set_option linter.unusedVariables false
set_option linter.unusedSimpArgs false

/-- two tables behind an array -/
structure En (w W : World) (p0 b0 p1 b1 : Nat) (A B : Tb) : Prop where
  ar : W.heap[w.heap.size]? = some (.cells #[.pointer (some ⟨p0, 0, none⟩), .pointer (some ⟨p1, 0, none⟩)] 42)
  tw : Tw w W p0 b0 p1 b1 A B
theorem En.below {w W W' : World} {p0 b0 p1 b1 : Nat} {A B : Tb} (h : En w W p0 b0 p1 b1 A B) (hB : Below W.heap.size W W') : En w W' p0 b0 p1 b1 A B :=
  ⟨(hB.block _ (heap_lt h.ar)).trans h.ar, h.tw.below hB⟩
theorem ty_ne {W : World} {q p b : Nat} {T : Tb} {c : Array Value} {t : TypeId} (h : W.heap[q]? = some (.cells c t)) (ti : TI W p b T) (ht : t ≠ 61) : ¬ (q = p ∨ q = b) := by
  rintro (e | e)
  · rw [e, ti.blk] at h; injection h with h; injection h with _ h; exact ht h.symm
  · obtain ⟨es, clock, hb, _⟩ := ti.mp
    rw [e, hb] at h
    cases h
theorem ar_ne {W : World} {q p b : Nat} {T : Tb} {c : Array Value} (h : W.heap[q]? = some (.cells c 42)) (t : TI W p b T) : ¬ (q = p ∨ q = b) := ty_ne h t (by decide)
theorem En.do0 {w W W' : World} {p0 b0 p1 b1 : Nat} {A B A' : Tb} (h : En w W p0 b0 p1 b1 A B) (ht : TI W' p0 b0 A') (hk : K2s p0 b0 W W') : En w W' p0 b0 p1 b1 A' B :=
  ⟨(hk.block _ (heap_lt h.ar) (ar_ne h.ar h.tw.t0)).trans h.ar, h.tw.do0 ht hk⟩
theorem En.do1 {w W W' : World} {p0 b0 p1 b1 : Nat} {A B B' : Tb} (h : En w W p0 b0 p1 b1 A B) (ht : TI W' p1 b1 B') (hk : K2s p1 b1 W W') : En w W' p0 b0 p1 b1 A B' :=
  ⟨(hk.block _ (heap_lt h.ar) (ar_ne h.ar h.tw.t1)).trans h.ar, h.tw.do1 ht hk⟩
theorem En.cells {w W : World} {p0 b0 p1 b1 : Nat} {A B : Tb} (h : En w W p0 b0 p1 b1 A B) : W.cell? ⟨w.heap.size, 0, none⟩ = some (.pointer (some ⟨p0, 0, none⟩)) ∧ W.cell? ⟨w.heap.size, 1, none⟩ = some (.pointer (some ⟨p1, 0, none⟩)) ∧ w.heap.size < W.heap.size :=
  ⟨cell_blk h.ar 0, cell_blk h.ar 1, heap_lt h.ar⟩
/-- verdicts' blocks are as they were -/
def S44 (W W' : World) : Prop := ∀ (j : Nat) (x : Array Value), W.heap[j]? = some (.cells x 44) → W'.heap[j]? = some (.cells x 44)
theorem S44.of {W W' : World} {p b : Nat} {T : Tb} (ti : TI W p b T) (hk : K2s p b W W') : S44 W W' := fun j x h => (hk.block j (heap_lt h) (ty_ne h ti (by decide))).trans h
/-- .. and a step of the script in its block -/
structure Ev (w : World) (O : Nat) (opc : Array Value) (p0 b0 p1 b1 : Nat) (A B : Tb) (W : World) : Prop where
  en : En w W p0 b0 p1 b1 A B
  op : W.heap[O]? = some (.cells opc 29)
theorem Ev.below {w W W' : World} {O : Nat} {opc : Array Value} {p0 b0 p1 b1 : Nat} {A B : Tb} (h : Ev w O opc p0 b0 p1 b1 A B W) (hB : Below W.heap.size W W') : Ev w O opc p0 b0 p1 b1 A B W' :=
  ⟨h.en.below hB, (hB.block _ (heap_lt h.op)).trans h.op⟩
theorem Ev.call0 {w W : World} {O : Nat} {opc : Array Value} {p0 b0 p1 b1 : Nat} {A B : Tb} (h : Ev w O opc p0 b0 p1 b1 A B W) (id : Int) (g : Bool) (k : Int) (hid : I64 id) :
    Calls Try.prog 19 #[.pointer (some ⟨p0, 0, none⟩), .int .i64 id, .agg #[.bool g, .int .i64 k]] W fun e W' => e = .returned (.agg #[.int .i64 (A.doo id g k).2.1, .int .i64 (A.doo id g k).2.2]) ∧ Ev w O opc p0 b0 p1 b1 (A.doo id g k).1 B W' ∧ S44 W W' :=
  (do_any W p0 b0 A id g k h.en.tw.t0 hid).mono fun e W' ⟨h1, h2, h3⟩ => ⟨h1, ⟨h.en.do0 h2 h3, (h3.block _ (heap_lt h.op) (ty_ne h.op h.en.tw.t0 (by decide))).trans h.op⟩, S44.of h.en.tw.t0 h3⟩
theorem Ev.call1 {w W : World} {O : Nat} {opc : Array Value} {p0 b0 p1 b1 : Nat} {A B : Tb} (h : Ev w O opc p0 b0 p1 b1 A B W) (id : Int) (g : Bool) (k : Int) (hid : I64 id) :
    Calls Try.prog 19 #[.pointer (some ⟨p1, 0, none⟩), .int .i64 id, .agg #[.bool g, .int .i64 k]] W fun e W' => e = .returned (.agg #[.int .i64 (B.doo id g k).2.1, .int .i64 (B.doo id g k).2.2]) ∧ Ev w O opc p0 b0 p1 b1 A (B.doo id g k).1 W' ∧ S44 W W' :=
  (do_any W p1 b1 B id g k h.en.tw.t1 hid).mono fun e W' ⟨h1, h2, h3⟩ => ⟨h1, ⟨h.en.do1 h2 h3, (h3.block _ (heap_lt h.op) (ty_ne h.op h.en.tw.t1 (by decide))).trans h.op⟩, S44.of h.en.tw.t1 h3⟩
/-- a store into a verdict's block -/
theorem Ev.set {w W : World} {O : Nat} {opc : Array Value} {p0 b0 p1 b1 : Nat} {A B : Tb} (h : Ev w O opc p0 b0 p1 b1 A B W) {g7 : Nat} {a b : Value} (h7 : W.heap[g7]? = some (.cells #[a, b] 44)) (hw7 : w.heap.size ≤ g7) (x y : Value) :
    ((W.setCell ⟨g7, 0, none⟩ x).setCell ⟨g7, 1, none⟩ y).heap[g7]? = some (.cells #[x, y] 44) ∧ Ev w O opc p0 b0 p1 b1 A B ((W.setCell ⟨g7, 0, none⟩ x).setCell ⟨g7, 1, none⟩ y) := by
  have o : ∀ j, j ≠ g7 → ((W.setCell ⟨g7, 0, none⟩ x).setCell ⟨g7, 1, none⟩ y).heap[j]? = W.heap[j]? := fun j hj => (setCell_other _ _ _ _ _ hj).trans (setCell_other _ _ _ _ _ hj)
  have n0 := ty_ne h7 h.en.tw.t0 (by decide)
  have n1 := ty_ne h7 h.en.tw.t1 (by decide)
  have nq : w.heap.size ≠ g7 := by
    intro e
    have := h.en.ar
    rw [e, h7] at this
    injection this with h; injection h with _ h; exact absurd h (by decide)
  have no : O ≠ g7 := by
    intro e
    have := h.op
    rw [e, h7] at this
    injection this with h; injection h with _ h; exact absurd h (by decide)
  refine ⟨setCell_block _ _ 1 y _ _ _ (setCell_block _ _ 0 x _ _ _ h7), ⟨⟨(o _ nq).trans h.en.ar, ?_⟩, (o _ no).trans h.op⟩⟩
  have hs : ((W.setCell ⟨g7, 0, none⟩ x).setCell ⟨g7, 1, none⟩ y).heap.size = W.heap.size := by simp [World.setCell]
  exact { h.en.tw with
    t0 := h.en.tw.t0.stays (o _ fun e => n0 (.inl e.symm)) (o _ fun e => n0 (.inr e.symm))
    t1 := h.en.tw.t1.stays (o _ fun e => n1 (.inl e.symm)) (o _ fun e => n1 (.inr e.symm))
    bel := ⟨h.en.tw.bel.os, h.en.tw.bel.tape, h.en.tw.bel.output, by rw [hs]; exact h.en.tw.bel.size, fun i hi => (o _ (by omega)).trans (h.en.tw.bel.block i hi)⟩ }

set_option maxRecDepth 100000 in
set_option maxHeartbeats 8000000 in
theorem streamsEnds_any (v : Value) (os : List OP) (w : World) (ho : In EO w v os) (hi : ∀ o ∈ os, I64 o.2.1) : Calls Try.prog 5 #[v] w fun e w' => e = .returned (.bool true) ∧ Below w.heap.size w w' := by
  have HO : Hid (In EO w v os) := ho
  have HI : Hid (∀ o ∈ os, I64 o.2.1) := hi
  obtain ⟨vb, vc, rfl, hv1, hv2⟩ := ho.slice
  clear ho hi
  obtain ⟨n, hn⟩ : ∃ n, os.length = n := ⟨_, rfl⟩
  have HN : Hid (os.length = n) := hn
  rw [hn] at HO hv1 ⊢
  clear hn
  go_enter Try.func5, Try.ntmps5
  go_wp2_with fail
  refine (new_at true _).mono ?_
  rintro e w1 ⟨p0, b0, rfl, t0, hB0, n0, m0⟩
  have q1 : w1.heap[w.heap.size]? = some (.cells #[.pointer none, .pointer none] 42) := (hB0.block _ (by simp)).trans (heap_alloc_new _ _)
  have f1 : w1.frozen? ⟨w.heap.size, 0, none⟩ = false := frozen_blk q1 0
  have c1 : w1.cell? ⟨w.heap.size, 0, none⟩ = some (.pointer none) := cell_blk q1 0
  have z0 : w.heap.size ≤ p0 ∧ w.heap.size ≤ b0 ∧ Below w.heap.size w w1 := ⟨by simp at n0; omega, by simp at m0; omega, (bel1 w _).trans (hB0.mono (by simp))⟩
  have q2 := setCell_block w1 w.heap.size 0 (.pointer (some ⟨p0, 0, none⟩)) _ _ _ q1
  have hne0 := ar_ne q1 t0
  have t0' : TI (w1.setCell ⟨w.heap.size, 0, none⟩ (.pointer (some ⟨p0, 0, none⟩))) p0 b0 (Tb.new true) := t0.stays (setCell_other _ _ _ _ _ (fun e => hne0 (.inl e.symm))) (setCell_other _ _ _ _ _ (fun e => hne0 (.inr e.symm)))
  clear hB0 n0 m0
  go_wp2_with fail
  refine (new_at false _).mono ?_
  rintro e w2 ⟨p1, b1, rfl, t1, hB1, n1, m1⟩
  have hs1 : (w1.setCell ⟨w.heap.size, 0, none⟩ (.pointer (some ⟨p0, 0, none⟩))).heap.size = w1.heap.size := by simp [World.setCell]
  have hb12 : Below w.heap.size w (w1.setCell ⟨w.heap.size, 0, none⟩ (.pointer (some ⟨p0, 0, none⟩))) := ⟨z0.2.2.os, z0.2.2.tape, z0.2.2.output, by rw [hs1]; exact z0.2.2.size, fun i hi => (setCell_other _ _ _ _ _ (by omega)).trans (z0.2.2.block i hi)⟩
  have hT := Tw.start hb12 t0' z0.1 z0.2.1 t1 hB1 n1 m1
  have q3 : w2.heap[w.heap.size]? = some (.cells #[.pointer (some ⟨p0, 0, none⟩), .pointer none] 42) := (hB1.block _ (heap_lt q2)).trans q2
  have f3 : w2.frozen? ⟨w.heap.size, 1, none⟩ = false := frozen_blk q3 1
  have c3 : w2.cell? ⟨w.heap.size, 1, none⟩ = some (.pointer none) := cell_blk q3 1
  have q4 := setCell_block w2 w.heap.size 1 (.pointer (some ⟨p1, 0, none⟩)) _ _ _ q3
  have HE : Hid (En w (w2.setCell ⟨w.heap.size, 1, none⟩ (.pointer (some ⟨p1, 0, none⟩))) p0 b0 p1 b1 (Tb.new true) (Tb.new false)) := by
    refine ⟨q4, ?_⟩
    have h0 := ar_ne q3 hT.t0
    have h1 := ar_ne q3 hT.t1
    have hs2 : (w2.setCell ⟨w.heap.size, 1, none⟩ (.pointer (some ⟨p1, 0, none⟩))).heap.size = w2.heap.size := by simp [World.setCell]
    exact { hT with
      t0 := hT.t0.stays (setCell_other _ _ _ _ _ (fun e => h0 (.inl e.symm))) (setCell_other _ _ _ _ _ (fun e => h0 (.inr e.symm)))
      t1 := hT.t1.stays (setCell_other _ _ _ _ _ (fun e => h1 (.inl e.symm))) (setCell_other _ _ _ _ _ (fun e => h1 (.inr e.symm)))
      bel := ⟨hT.bel.os, hT.bel.tape, hT.bel.output, by rw [hs2]; exact hT.bel.size, fun i hi => (setCell_other _ _ _ _ _ (by omega)).trans (hT.bel.block i hi)⟩ }
  have cc := HE.out.cells
  obtain ⟨a0, a1, a2⟩ := cc
  clear t0 t0' t1 hB1 n1 m1 hs1 hb12 hT q1 q2 f1 c1 q3 q4 z0 hne0
  have HM : Hid (Mir (Tb.new true) (Tb.new false)) := Mir.new true
  go_wp2_with fail
  refine (first_any _).mono ?_
  rintro e w3 ⟨rfl, hB3⟩
  have HE3 : Hid (En w w3 p0 b0 p1 b1 (Tb.new true) (Tb.new false)) := HE.out.below hB3
  clear HE hB3 a0 a1 a2 f3 c3
  go_wp2_with fail
  go_loopw [4] (fun x wr => ∃ (k : Nat) (A B : Tb), k ≤ n ∧ x = .int .i64 (k : Int) ∧ Hid (En w wr p0 b0 p1 b1 A B) ∧ Hid (Mir A B)) (fun x _ => n - (intOf x).toNat)
  case atStart => exact ⟨0, _, _, by omega, rfl, HE3, HM⟩
  case round =>
    obtain ⟨k, A, B, hk, hx, hE, hM⟩ := hrel
    subst hx
    clear HE3 HM
    by_cases hlt : k < n
    · have hl := HN.out
      have hin := HO.out.below (hE.out.tw.bel)
      obtain ⟨B', off, cap, e, hBl, d0, d1, d2, d3⟩ := hin.op k (by omega)
      injection e with e1 e2 e3
      subst e1
      clear e2 e3 hin
      have hid := HI.out _ (List.getElem_mem (show k < os.length by omega))
      obtain ⟨o, hoo⟩ : ∃ o, os[k]'(by omega) = o := ⟨_, rfl⟩
      rw [hoo] at d0 d1 d2 d3 hid
      clear hoo hl
      obtain ⟨two, id, g, kd⟩ := o
      simp only at d0 d1 d2 d3 hid
      cases two
      · obtain ⟨O, hO⟩ : ∃ O, wr.heap.size = O := ⟨_, rfl⟩
        have hV : Ev w O #[.bool false, .int .i64 id, .bool g, .int .i64 kd] p0 b0 p1 b1 A B (wr.alloc (.cells #[.bool false, .int .i64 id, .bool g, .int .i64 kd] 29)) := ⟨hE.out.below (bel1 wr _), by rw [← hO]; exact heap_alloc_new _ _⟩
        have HOO : Hid (wr.heap.size = O) := hO
        clear hO
        obtain ⟨d4, d5, d6⟩ := hV.en.cells
        have d7 : (wr.alloc (.cells #[.bool false, .int .i64 id, .bool g, .int .i64 kd] 29)).cell? ⟨wr.heap.size, 0, none⟩ = some (.bool false) := cell_blk (heap_alloc_new _ _) 0
        go_upto_region 13 with fail
        rw [HOO.out]
        go_cut [7] from 25 to 112 (fun x wx => ∃ g7, x = .pointer (some ⟨g7, 0, none⟩) ∧ wx.heap[g7]? = some (.cells #[.int .i64 (A.doo id false kd).2.1, .int .i64 (A.doo id false kd).2.2] 44) ∧ Ev w O #[.bool false, .int .i64 id, .bool g, .int .i64 kd] p0 b0 p1 b1 (A.doo id false kd).1 B wx)
        case first =>
          have hcall : Hid (∀ W, Ev w O #[.bool false, .int .i64 id, .bool g, .int .i64 kd] p0 b0 p1 b1 A B W → Calls Try.prog 19 #[.pointer (some ⟨p0, 0, none⟩), .int .i64 id, .agg #[.bool false, .int .i64 kd]] W fun e W' => e = .returned (.agg #[.int .i64 (A.doo id false kd).2.1, .int .i64 (A.doo id false kd).2.2]) ∧ Ev w O #[.bool false, .int .i64 id, .bool g, .int .i64 kd] p0 b0 p1 b1 (A.doo id false kd).1 B W' ∧ S44 W W') := fun W h => h.call0 id false kd hid
          have hfull : Hid (∀ A B W, Ev w O #[.bool false, .int .i64 id, .bool g, .int .i64 kd] p0 b0 p1 b1 A B W → (fun W => W.cell? ⟨w.heap.size, 0, none⟩ = some (.pointer (some ⟨p0, 0, none⟩)) ∧ W.cell? ⟨w.heap.size, 1, none⟩ = some (.pointer (some ⟨p1, 0, none⟩)) ∧ W.cell? ⟨O, 1, none⟩ = some (.int .i64 id) ∧ W.cell? ⟨O, 3, none⟩ = some (.int .i64 kd)) W) := fun A B W h => ⟨cell_blk h.en.ar 0, cell_blk h.en.ar 1, cell_blk h.op 1, cell_blk h.op 3⟩
          obtain ⟨v7, hv7⟩ : ∃ v7, (A.doo id false kd).2.1 = v7 := ⟨_, rfl⟩
          obtain ⟨c7, hc7⟩ : ∃ c7, (A.doo id false kd).2.2 = c7 := ⟨_, rfl⟩
          rw [hv7, hc7] at hcall
          have HV7 : Hid _ := hv7
          have HC7 : Hid _ := hc7
          clear hv7 hc7
          have hIW := hV.below (Below.refl _ _).drew
          refine wp_region_held_drew (S := (fun W => W.cell? ⟨w.heap.size, 0, none⟩ = some (.pointer (some ⟨p0, 0, none⟩)) ∧ W.cell? ⟨w.heap.size, 1, none⟩ = some (.pointer (some ⟨p1, 0, none⟩)) ∧ W.cell? ⟨O, 1, none⟩ = some (.int .i64 id) ∧ W.cell? ⟨O, 3, none⟩ = some (.int .i64 kd))) (by kernel_rfl) (hfull.out _ _ _ hIW) (fun hHeld => ?_)
          generalize hWg : World.drew _ = W at hIW hHeld ⊢
          clear hWg hV
          refine wpAnyH_take (i := 0) (oi := { dst := some 37, op := Op.move (Operand.tmp 6), type := 3, pos := "outright.go:110", after := #[], guard := none }) (v := ?vv1) rfl (by kernel_rfl) (by kernel_rfl) (by kernel_rfl) (fun _ _ _ h => h) (Or.inl ⟨by rfl, ?hy1⟩) (by assumption) ?_
          case hy1 => (intro w hSw; (try dsimp only at hSw); go_simp; all_goals with_reducible rfl)
          try simp only [Act.put, List.setIfInBounds_toArray, List.set_cons_zero, List.set_cons_succ]
          refine wpAnyH_take (i := 1) (oi := { dst := some 38, op := Op.indexAddr 42 (Operand.tmp 3) (Operand.tmp 37), type := 0, pos := "outright.go:110", after := #[{ on := 0, ground := Ground.data }], guard := none }) (v := ?vv2) rfl (by kernel_rfl) (by kernel_rfl) (by kernel_rfl) (fun _ _ _ h => h) (Or.inl ⟨by rfl, ?hy2⟩) (by assumption) ?_
          case hy2 => (intro w hSw; (try dsimp only at hSw); go_simp; all_goals with_reducible rfl)
          try simp only [Act.put, List.setIfInBounds_toArray, List.set_cons_zero, List.set_cons_succ]
          refine wpAnyH_take (i := 2) (oi := { dst := some 39, op := Op.load 23 (Operand.tmp 38), type := 23, pos := "outright.go:110", after := #[{ on := 1, ground := Ground.data }], guard := none }) (v := ?vv3) rfl (by kernel_rfl) (by kernel_rfl) (by kernel_rfl) (fun _ _ _ h => h) (Or.inl ⟨by rfl, ?hy3⟩) (by assumption) ?_
          case hy3 => (intro w hSw; (try dsimp only at hSw); go_simp; all_goals with_reducible rfl)
          try simp only [Act.put, List.setIfInBounds_toArray, List.set_cons_zero, List.set_cons_succ]
          refine wpAnyH_take (i := 3) (oi := { dst := some 40, op := Op.fieldAddr 29 (Operand.tmp 5) 1, type := 0, pos := "outright.go:110", after := #[], guard := none }) (v := ?vv4) rfl (by kernel_rfl) (by kernel_rfl) (by kernel_rfl) (fun _ _ _ h => h) (Or.inl ⟨by rfl, ?hy4⟩) (by assumption) ?_
          case hy4 => (intro w hSw; (try dsimp only at hSw); go_simp; all_goals with_reducible rfl)
          try simp only [Act.put, List.setIfInBounds_toArray, List.set_cons_zero, List.set_cons_succ]
          refine wpAnyH_take (i := 4) (oi := { dst := some 41, op := Op.load 2 (Operand.tmp 40), type := 2, pos := "outright.go:110", after := #[{ on := 3, ground := Ground.data }], guard := none }) (v := ?vv5) rfl (by kernel_rfl) (by kernel_rfl) (by kernel_rfl) (fun _ _ _ h => h) (Or.inl ⟨by rfl, ?hy5⟩) (by assumption) ?_
          case hy5 => (intro w hSw; (try dsimp only at hSw); go_simp; all_goals with_reducible rfl)
          try simp only [Act.put, List.setIfInBounds_toArray, List.set_cons_zero, List.set_cons_succ]
          refine wpAnyH_take (i := 5) (oi := { dst := some 42, op := Op.fieldAddr 29 (Operand.tmp 5) 3, type := 0, pos := "outright.go:110", after := #[], guard := none }) (v := ?vv6) rfl (by kernel_rfl) (by kernel_rfl) (by kernel_rfl) (fun _ _ _ h => h) (Or.inl ⟨by rfl, ?hy6⟩) (by assumption) ?_
          case hy6 => (intro w hSw; (try dsimp only at hSw); go_simp; all_goals with_reducible rfl)
          try simp only [Act.put, List.setIfInBounds_toArray, List.set_cons_zero, List.set_cons_succ]
          refine wpAnyH_take (i := 6) (oi := { dst := some 43, op := Op.load 3 (Operand.tmp 42), type := 3, pos := "outright.go:110", after := #[{ on := 5, ground := Ground.data }], guard := none }) (v := ?vv7) rfl (by kernel_rfl) (by kernel_rfl) (by kernel_rfl) (fun _ _ _ h => h) (Or.inl ⟨by rfl, ?hy7⟩) (by assumption) ?_
          case hy7 => (intro w hSw; (try dsimp only at hSw); go_simp; all_goals with_reducible rfl)
          try simp only [Act.put, List.setIfInBounds_toArray, List.set_cons_zero, List.set_cons_succ]
          refine wpAnyH_take (i := 7) (oi := { dst := some 44, op := Op.build 47 #[(1, Operand.tmp 43)], type := 47, pos := "outright.go:110", after := #[{ on := 6, ground := Ground.data }], guard := none }) (v := ?vv8) rfl (by kernel_rfl) (by kernel_rfl) (by kernel_rfl) (fun _ _ _ h => h) (Or.inl ⟨by rfl, ?hy8⟩) (by assumption) ?_
          case hy8 => (intro w hSw; (try dsimp only at hSw); go_simp; all_goals with_reducible rfl)
          try simp only [Act.put, List.setIfInBounds_toArray, List.set_cons_zero, List.set_cons_succ]
          refine wpAnyH_ready (rs := [8, 9]) (by kernel_rfl) (by simp) ?_
          refine AllReadyH.cons (o := { dst := some 45, op := Op.call { callee := Callee.value (Operand.func 19), args := #[Operand.tmp 39, Operand.tmp 41, Operand.tmp 44], argTypes := #[23, 2, 47] }, type := 44, pos := "outright.go:110", after := #[{ on := 2, ground := Ground.data }, { on := 4, ground := Ground.data }, { on := 7, ground := Ground.data }], guard := none }) rfl (fun K hK => ?_) ?_
          · go_simp
            refine (hcall.out W hIW).mono ?_
            rintro e' Wx ⟨rfl, hIWx, h44⟩
            go_wp2_with fail
            refine hK.out _ _ (hfull.out _ _ _ hIWx) (fun hHeld => ?_)
            clear hK K hIW h44
            try simp only [Act.put, List.setIfInBounds_toArray, List.set_cons_zero, List.set_cons_succ]
            refine wpAnyH_ready (rs := [9]) (by kernel_rfl) (by simp) ?_
            refine AllReadyH.cons (o := { dst := some 7, op := Op.alloc 44, type := 0, pos := "outright.go:110", after := #[], guard := none }) rfl (fun K hK => ?_) AllReadyH.nil
            go_simp
            obtain ⟨Wxx, hVd⟩ : ∃ Wxx, Wxx = Wx.alloc (.cells #[.int .i64 0, .int .i64 0] 44) := ⟨_, rfl⟩
            obtain ⟨g7, hg7⟩ : ∃ g7, g7 = Wx.heap.size := ⟨_, rfl⟩
            have h7 : Wxx.heap[g7]? = some (.cells #[.int .i64 0, .int .i64 0] 44) := by rw [hVd, hg7]; exact heap_alloc_new _ _
            have hIWxx := hIWx.below (bel1 Wx (.cells #[.int .i64 0, .int .i64 0] 44))
            have hw7 : Hid (w.heap.size ≤ g7) := by rw [hg7]; exact hIWx.en.tw.sz
            rw [← hVd] at hIWxx
            rw [← hVd, ← hg7]
            clear hVd hg7
            refine hK.out _ _ (hfull.out _ _ _ hIWxx) (fun hHeld => ?_)
            clear hK K hIWx
            try simp only [Act.put, List.setIfInBounds_toArray, List.set_cons_zero, List.set_cons_succ]
            refine wpAnyH_ready (rs := [10]) (by kernel_rfl) (by simp) ?_
            refine AllReadyH.cons (o := { dst := none, op := Op.store 44 (Operand.tmp 7) (Operand.tmp 45), type := 0, pos := "outright.go:110", after := #[{ on := 9, ground := Ground.data }, { on := 8, ground := Ground.data }, { on := 8, ground := Ground.chain }, { on := 0, ground := Ground.phase }, { on := 1, ground := Ground.phase }, { on := 2, ground := Ground.phase }, { on := 3, ground := Ground.phase }, { on := 4, ground := Ground.phase }, { on := 5, ground := Ground.phase }, { on := 6, ground := Ground.phase }, { on := 7, ground := Ground.phase }, { on := 8, ground := Ground.phase }, { on := 9, ground := Ground.phase }], guard := none }) rfl (fun K hK => ?_) AllReadyH.nil
            have z0 : Wxx.cell? ⟨g7, 0, none⟩ = some (.int .i64 0) := cell_blk h7 0
            have z1 : Wxx.cell? ⟨g7, 1, none⟩ = some (.int .i64 0) := cell_blk h7 1
            have y0 := frozen_blk h7 0
            have y1 := frozen_blk h7 1
            go_simp
            change K _ ((Wxx.setCell ⟨g7, 0, none⟩ (.int .i64 v7)).setCell ⟨g7, 1, none⟩ (.int .i64 c7))
            obtain ⟨x1, x2⟩ := hIWxx.set h7 hw7.out (.int .i64 v7) (.int .i64 c7)
            refine hK.out _ _ (hfull.out _ _ _ x2) (fun hHeld => ?_)
            generalize hWn : ((Wxx.setCell ⟨g7, 0, none⟩ (.int .i64 v7)).setCell ⟨g7, 1, none⟩ (.int .i64 c7)) = Wxxx at x1 x2 hHeld ⊢
            clear hWn z0 z1 y0 y1 hK K
            try simp only [Act.put, List.setIfInBounds_toArray, List.set_cons_zero, List.set_cons_succ]
            refine wpAnyH_done (by kernel_rfl) ?_ _
            clear hfull hHeld
            go_wp2_with fail
            go_meet
            exact ⟨_, rfl, by rw [HV7.out, HC7.out]; exact x1, x2⟩
          refine AllReadyH.cons (o := { dst := some 7, op := Op.alloc 44, type := 0, pos := "outright.go:110", after := #[], guard := none }) rfl (fun K hK => ?_) AllReadyH.nil
          go_simp
          obtain ⟨Wx, hVd⟩ : ∃ Wx, Wx = W.alloc (.cells #[.int .i64 0, .int .i64 0] 44) := ⟨_, rfl⟩
          obtain ⟨g7, hg7⟩ : ∃ g7, g7 = W.heap.size := ⟨_, rfl⟩
          have h7 : Wx.heap[g7]? = some (.cells #[.int .i64 0, .int .i64 0] 44) := by rw [hVd, hg7]; exact heap_alloc_new _ _
          have hIWx := hIW.below (bel1 W (.cells #[.int .i64 0, .int .i64 0] 44))
          have hw7 : Hid (w.heap.size ≤ g7) := by rw [hg7]; exact hIW.en.tw.sz
          rw [← hVd] at hIWx
          rw [← hVd, ← hg7]
          clear hVd hg7
          refine hK.out _ _ (hfull.out _ _ _ hIWx) (fun hHeld => ?_)
          clear hK K hIW
          try simp only [Act.put, List.setIfInBounds_toArray, List.set_cons_zero, List.set_cons_succ]
          refine wpAnyH_ready (rs := [8]) (by kernel_rfl) (by simp) ?_
          refine AllReadyH.cons (o := { dst := some 45, op := Op.call { callee := Callee.value (Operand.func 19), args := #[Operand.tmp 39, Operand.tmp 41, Operand.tmp 44], argTypes := #[23, 2, 47] }, type := 44, pos := "outright.go:110", after := #[{ on := 2, ground := Ground.data }, { on := 4, ground := Ground.data }, { on := 7, ground := Ground.data }], guard := none }) rfl (fun K hK => ?_) AllReadyH.nil
          go_simp
          refine (hcall.out Wx hIWx).mono ?_
          rintro e' Wxx ⟨rfl, hIWxx, h44⟩
          go_wp2_with fail
          refine hK.out _ _ (hfull.out _ _ _ hIWxx) (fun hHeld => ?_)
          replace h7 := h44 _ _ h7
          clear hK K hIWx h44
          try simp only [Act.put, List.setIfInBounds_toArray, List.set_cons_zero, List.set_cons_succ]
          refine wpAnyH_ready (rs := [10]) (by kernel_rfl) (by simp) ?_
          refine AllReadyH.cons (o := { dst := none, op := Op.store 44 (Operand.tmp 7) (Operand.tmp 45), type := 0, pos := "outright.go:110", after := #[{ on := 9, ground := Ground.data }, { on := 8, ground := Ground.data }, { on := 8, ground := Ground.chain }, { on := 0, ground := Ground.phase }, { on := 1, ground := Ground.phase }, { on := 2, ground := Ground.phase }, { on := 3, ground := Ground.phase }, { on := 4, ground := Ground.phase }, { on := 5, ground := Ground.phase }, { on := 6, ground := Ground.phase }, { on := 7, ground := Ground.phase }, { on := 8, ground := Ground.phase }, { on := 9, ground := Ground.phase }], guard := none }) rfl (fun K hK => ?_) AllReadyH.nil
          have z0 : Wxx.cell? ⟨g7, 0, none⟩ = some (.int .i64 0) := cell_blk h7 0
          have z1 : Wxx.cell? ⟨g7, 1, none⟩ = some (.int .i64 0) := cell_blk h7 1
          have y0 := frozen_blk h7 0
          have y1 := frozen_blk h7 1
          go_simp
          change K _ ((Wxx.setCell ⟨g7, 0, none⟩ (.int .i64 v7)).setCell ⟨g7, 1, none⟩ (.int .i64 c7))
          obtain ⟨x1, x2⟩ := hIWxx.set h7 hw7.out (.int .i64 v7) (.int .i64 c7)
          refine hK.out _ _ (hfull.out _ _ _ x2) (fun hHeld => ?_)
          generalize hWn : ((Wxx.setCell ⟨g7, 0, none⟩ (.int .i64 v7)).setCell ⟨g7, 1, none⟩ (.int .i64 c7)) = Wxxx at x1 x2 hHeld ⊢
          clear hWn z0 z1 y0 y1 hK K
          try simp only [Act.put, List.setIfInBounds_toArray, List.set_cons_zero, List.set_cons_succ]
          refine wpAnyH_done (by kernel_rfl) ?_ _
          clear hfull hHeld
          go_wp2_with fail
          go_meet
          exact ⟨_, rfl, by rw [HV7.out, HC7.out]; exact x1, x2⟩
        case rest =>
          obtain ⟨g7, rfl, h7, hV⟩ := hcut
          clear d0 d1 d2 d3 d4 d5 d6 d7
          have oka : A.Ok := hE.out.tw.t0.ok
          have okb : B.Ok := hE.out.tw.t1.ok
          have hstep := hM.out.step oka okb id kd
          clear oka okb
          obtain ⟨d4, d5, d6⟩ := hV.en.cells
          rcases hstep with ⟨hx4, hsame⟩ | ⟨hx0, hxr, hm'⟩
          · rw [hx4] at h7
            rw [hsame] at hV
            have e0 := cell_blk h7 0
            simp only [List.getElem?_toArray, List.getElem?_cons_zero] at e0
            have e1 := heap_lt h7
            clear h7 hx4 hsame
            go_wp2_with fail
            go_roundw
            case rel => exact ⟨k + 1, A, B, by omega, by simp, hV.en, hM⟩
            case measure => simp [intOf]; omega
          · rw [hx0] at h7
            have e0 := cell_blk h7 0
            simp only [List.getElem?_toArray, List.getElem?_cons_zero] at e0
            have e1 := heap_lt h7
            have HMs : Hid (Mir ((A.doo id false kd).1) ((B.doo id true kd).1)) := hm'
            clear h7 hx0 hm'
            have HXR : Hid _ := hxr
            clear hxr
            have hwr1 : IntKind.i64.wrap 1 = 1 := by decide
            have hwr0 : IntKind.i64.wrap 0 = 0 := by decide
            go_upto_region 17 with fail
            go_cut [8] from 25 to 112 (fun x wx => ∃ g7, x = .pointer (some ⟨g7, 0, none⟩) ∧ wx.heap[g7]? = some (.cells #[.int .i64 (B.doo id true kd).2.1, .int .i64 (B.doo id true kd).2.2] 44) ∧ Ev w O #[.bool false, .int .i64 id, .bool g, .int .i64 kd] p0 b0 p1 b1 (A.doo id false kd).1 (B.doo id true kd).1 wx)
            case first =>
              have hcall : Hid (∀ W, Ev w O #[.bool false, .int .i64 id, .bool g, .int .i64 kd] p0 b0 p1 b1 (A.doo id false kd).1 B W → Calls Try.prog 19 #[.pointer (some ⟨p1, 0, none⟩), .int .i64 id, .agg #[.bool true, .int .i64 kd]] W fun e W' => e = .returned (.agg #[.int .i64 (B.doo id true kd).2.1, .int .i64 (B.doo id true kd).2.2]) ∧ Ev w O #[.bool false, .int .i64 id, .bool g, .int .i64 kd] p0 b0 p1 b1 (A.doo id false kd).1 (B.doo id true kd).1 W' ∧ S44 W W') := fun W h => h.call1 id true kd hid
              have hfull : Hid (∀ A B W, Ev w O #[.bool false, .int .i64 id, .bool g, .int .i64 kd] p0 b0 p1 b1 A B W → (fun W => W.cell? ⟨w.heap.size, 0, none⟩ = some (.pointer (some ⟨p0, 0, none⟩)) ∧ W.cell? ⟨w.heap.size, 1, none⟩ = some (.pointer (some ⟨p1, 0, none⟩)) ∧ W.cell? ⟨O, 1, none⟩ = some (.int .i64 id) ∧ W.cell? ⟨O, 3, none⟩ = some (.int .i64 kd)) W) := fun A B W h => ⟨cell_blk h.en.ar 0, cell_blk h.en.ar 1, cell_blk h.op 1, cell_blk h.op 3⟩
              obtain ⟨v7, hv7⟩ : ∃ v7, (B.doo id true kd).2.1 = v7 := ⟨_, rfl⟩
              obtain ⟨c7, hc7⟩ : ∃ c7, (B.doo id true kd).2.2 = c7 := ⟨_, rfl⟩
              rw [hv7, hc7] at hcall
              have HV7 : Hid _ := hv7
              have HC7 : Hid _ := hc7
              clear hv7 hc7
              have hIW := hV.below (Below.refl _ _).drew
              refine wp_region_held_drew (S := (fun W => W.cell? ⟨w.heap.size, 0, none⟩ = some (.pointer (some ⟨p0, 0, none⟩)) ∧ W.cell? ⟨w.heap.size, 1, none⟩ = some (.pointer (some ⟨p1, 0, none⟩)) ∧ W.cell? ⟨O, 1, none⟩ = some (.int .i64 id) ∧ W.cell? ⟨O, 3, none⟩ = some (.int .i64 kd))) (by kernel_rfl) (hfull.out _ _ _ hIW) (fun hHeld => ?_)
              generalize hWg : World.drew _ = W at hIW hHeld ⊢
              clear hWg hV
              refine wpAnyH_take (i := 0) (oi := { dst := some 52, op := Op.move (Operand.tmp 6), type := 3, pos := "outright.go:117", after := #[], guard := none }) (v := ?vv9) rfl (by kernel_rfl) (by kernel_rfl) (by kernel_rfl) (fun _ _ _ h => h) (Or.inl ⟨by rfl, ?hy9⟩) (by assumption) ?_
              case hy9 => (intro w hSw; (try dsimp only at hSw); go_simp; all_goals with_reducible rfl)
              try simp only [Act.put, List.setIfInBounds_toArray, List.set_cons_zero, List.set_cons_succ]
              refine wpAnyH_take (i := 1) (oi := { dst := some 53, op := Op.binOp BinOp.sub 3 (Operand.const (Value.int IntKind.i64 1)) (Operand.tmp 52) 3, type := 3, pos := "outright.go:117", after := #[{ on := 0, ground := Ground.data }], guard := none }) (v := ?vv10) rfl (by kernel_rfl) (by kernel_rfl) (by kernel_rfl) (fun _ _ _ h => h) (Or.inl ⟨by rfl, ?hy10⟩) (by assumption) ?_
              case hy10 => (intro w hSw; (try dsimp only at hSw); go_simp; all_goals with_reducible rfl)
              try simp only [Act.put, List.setIfInBounds_toArray, List.set_cons_zero, List.set_cons_succ]
              refine wpAnyH_take (i := 2) (oi := { dst := some 54, op := Op.indexAddr 42 (Operand.tmp 3) (Operand.tmp 53), type := 0, pos := "outright.go:117", after := #[{ on := 1, ground := Ground.data }], guard := none }) (v := ?vv11) rfl (by kernel_rfl) (by kernel_rfl) (by kernel_rfl) (fun _ _ _ h => h) (Or.inl ⟨by rfl, ?hy11⟩) (by assumption) ?_
              case hy11 => (intro w hSw; (try dsimp only at hSw); go_simp; all_goals with_reducible rfl)
              try simp only [Act.put, List.setIfInBounds_toArray, List.set_cons_zero, List.set_cons_succ]
              refine wpAnyH_take (i := 3) (oi := { dst := some 55, op := Op.load 23 (Operand.tmp 54), type := 23, pos := "outright.go:117", after := #[{ on := 2, ground := Ground.data }], guard := none }) (v := ?vv12) rfl (by kernel_rfl) (by kernel_rfl) (by kernel_rfl) (fun _ _ _ h => h) (Or.inl ⟨by rfl, ?hy12⟩) (by assumption) ?_
              case hy12 => (intro w hSw; (try dsimp only at hSw); go_simp; all_goals with_reducible rfl)
              try simp only [Act.put, List.setIfInBounds_toArray, List.set_cons_zero, List.set_cons_succ]
              refine wpAnyH_take (i := 4) (oi := { dst := some 56, op := Op.fieldAddr 29 (Operand.tmp 5) 1, type := 0, pos := "outright.go:117", after := #[], guard := none }) (v := ?vv13) rfl (by kernel_rfl) (by kernel_rfl) (by kernel_rfl) (fun _ _ _ h => h) (Or.inl ⟨by rfl, ?hy13⟩) (by assumption) ?_
              case hy13 => (intro w hSw; (try dsimp only at hSw); go_simp; all_goals with_reducible rfl)
              try simp only [Act.put, List.setIfInBounds_toArray, List.set_cons_zero, List.set_cons_succ]
              refine wpAnyH_take (i := 5) (oi := { dst := some 57, op := Op.load 2 (Operand.tmp 56), type := 2, pos := "outright.go:117", after := #[{ on := 4, ground := Ground.data }], guard := none }) (v := ?vv14) rfl (by kernel_rfl) (by kernel_rfl) (by kernel_rfl) (fun _ _ _ h => h) (Or.inl ⟨by rfl, ?hy14⟩) (by assumption) ?_
              case hy14 => (intro w hSw; (try dsimp only at hSw); go_simp; all_goals with_reducible rfl)
              try simp only [Act.put, List.setIfInBounds_toArray, List.set_cons_zero, List.set_cons_succ]
              refine wpAnyH_take (i := 6) (oi := { dst := some 58, op := Op.fieldAddr 29 (Operand.tmp 5) 3, type := 0, pos := "outright.go:117", after := #[], guard := none }) (v := ?vv15) rfl (by kernel_rfl) (by kernel_rfl) (by kernel_rfl) (fun _ _ _ h => h) (Or.inl ⟨by rfl, ?hy15⟩) (by assumption) ?_
              case hy15 => (intro w hSw; (try dsimp only at hSw); go_simp; all_goals with_reducible rfl)
              try simp only [Act.put, List.setIfInBounds_toArray, List.set_cons_zero, List.set_cons_succ]
              refine wpAnyH_take (i := 7) (oi := { dst := some 59, op := Op.load 3 (Operand.tmp 58), type := 3, pos := "outright.go:117", after := #[{ on := 6, ground := Ground.data }], guard := none }) (v := ?vv16) rfl (by kernel_rfl) (by kernel_rfl) (by kernel_rfl) (fun _ _ _ h => h) (Or.inl ⟨by rfl, ?hy16⟩) (by assumption) ?_
              case hy16 => (intro w hSw; (try dsimp only at hSw); go_simp; all_goals with_reducible rfl)
              try simp only [Act.put, List.setIfInBounds_toArray, List.set_cons_zero, List.set_cons_succ]
              refine wpAnyH_take (i := 8) (oi := { dst := some 60, op := Op.build 47 #[(0, Operand.const (Value.bool true)), (1, Operand.tmp 59)], type := 47, pos := "outright.go:117", after := #[{ on := 7, ground := Ground.data }], guard := none }) (v := ?vv17) rfl (by kernel_rfl) (by kernel_rfl) (by kernel_rfl) (fun _ _ _ h => h) (Or.inl ⟨by rfl, ?hy17⟩) (by assumption) ?_
              case hy17 => (intro w hSw; (try dsimp only at hSw); go_simp; all_goals with_reducible rfl)
              try simp only [Act.put, List.setIfInBounds_toArray, List.set_cons_zero, List.set_cons_succ]
              refine wpAnyH_ready (rs := [9, 10]) (by kernel_rfl) (by simp) ?_
              refine AllReadyH.cons (o := { dst := some 61, op := Op.call { callee := Callee.value (Operand.func 19), args := #[Operand.tmp 55, Operand.tmp 57, Operand.tmp 60], argTypes := #[23, 2, 47] }, type := 44, pos := "outright.go:117", after := #[{ on := 3, ground := Ground.data }, { on := 5, ground := Ground.data }, { on := 8, ground := Ground.data }], guard := none }) rfl (fun K hK => ?_) ?_
              · go_simp
                refine (hcall.out W hIW).mono ?_
                rintro e' Wx ⟨rfl, hIWx, h44⟩
                go_wp2_with fail
                refine hK.out _ _ (hfull.out _ _ _ hIWx) (fun hHeld => ?_)
                clear hK K hIW h44
                try simp only [Act.put, List.setIfInBounds_toArray, List.set_cons_zero, List.set_cons_succ]
                refine wpAnyH_ready (rs := [10]) (by kernel_rfl) (by simp) ?_
                refine AllReadyH.cons (o := { dst := some 8, op := Op.alloc 44, type := 0, pos := "outright.go:117", after := #[], guard := none }) rfl (fun K hK => ?_) AllReadyH.nil
                go_simp
                obtain ⟨Wxx, hVd⟩ : ∃ Wxx, Wxx = Wx.alloc (.cells #[.int .i64 0, .int .i64 0] 44) := ⟨_, rfl⟩
                obtain ⟨g7, hg7⟩ : ∃ g7, g7 = Wx.heap.size := ⟨_, rfl⟩
                have h7 : Wxx.heap[g7]? = some (.cells #[.int .i64 0, .int .i64 0] 44) := by rw [hVd, hg7]; exact heap_alloc_new _ _
                have hIWxx := hIWx.below (bel1 Wx (.cells #[.int .i64 0, .int .i64 0] 44))
                have hw7 : Hid (w.heap.size ≤ g7) := by rw [hg7]; exact hIWx.en.tw.sz
                rw [← hVd] at hIWxx
                rw [← hVd, ← hg7]
                clear hVd hg7
                refine hK.out _ _ (hfull.out _ _ _ hIWxx) (fun hHeld => ?_)
                clear hK K hIWx
                try simp only [Act.put, List.setIfInBounds_toArray, List.set_cons_zero, List.set_cons_succ]
                refine wpAnyH_ready (rs := [11]) (by kernel_rfl) (by simp) ?_
                refine AllReadyH.cons (o := { dst := none, op := Op.store 44 (Operand.tmp 8) (Operand.tmp 61), type := 0, pos := "outright.go:117", after := #[{ on := 10, ground := Ground.data }, { on := 9, ground := Ground.data }, { on := 9, ground := Ground.chain }, { on := 0, ground := Ground.phase }, { on := 1, ground := Ground.phase }, { on := 2, ground := Ground.phase }, { on := 3, ground := Ground.phase }, { on := 4, ground := Ground.phase }, { on := 5, ground := Ground.phase }, { on := 6, ground := Ground.phase }, { on := 7, ground := Ground.phase }, { on := 8, ground := Ground.phase }, { on := 9, ground := Ground.phase }, { on := 10, ground := Ground.phase }], guard := none }) rfl (fun K hK => ?_) AllReadyH.nil
                have z0 : Wxx.cell? ⟨g7, 0, none⟩ = some (.int .i64 0) := cell_blk h7 0
                have z1 : Wxx.cell? ⟨g7, 1, none⟩ = some (.int .i64 0) := cell_blk h7 1
                have y0 := frozen_blk h7 0
                have y1 := frozen_blk h7 1
                go_simp
                change K _ ((Wxx.setCell ⟨g7, 0, none⟩ (.int .i64 v7)).setCell ⟨g7, 1, none⟩ (.int .i64 c7))
                obtain ⟨x1, x2⟩ := hIWxx.set h7 hw7.out (.int .i64 v7) (.int .i64 c7)
                refine hK.out _ _ (hfull.out _ _ _ x2) (fun hHeld => ?_)
                generalize hWn : ((Wxx.setCell ⟨g7, 0, none⟩ (.int .i64 v7)).setCell ⟨g7, 1, none⟩ (.int .i64 c7)) = Wxxx at x1 x2 hHeld ⊢
                clear hWn z0 z1 y0 y1 hK K
                try simp only [Act.put, List.setIfInBounds_toArray, List.set_cons_zero, List.set_cons_succ]
                refine wpAnyH_done (by kernel_rfl) ?_ _
                clear hfull hHeld
                go_wp2_with fail
                go_meet
                exact ⟨_, rfl, by rw [HV7.out, HC7.out]; exact x1, x2⟩
              refine AllReadyH.cons (o := { dst := some 8, op := Op.alloc 44, type := 0, pos := "outright.go:117", after := #[], guard := none }) rfl (fun K hK => ?_) AllReadyH.nil
              go_simp
              obtain ⟨Wx, hVd⟩ : ∃ Wx, Wx = W.alloc (.cells #[.int .i64 0, .int .i64 0] 44) := ⟨_, rfl⟩
              obtain ⟨g7, hg7⟩ : ∃ g7, g7 = W.heap.size := ⟨_, rfl⟩
              have h7 : Wx.heap[g7]? = some (.cells #[.int .i64 0, .int .i64 0] 44) := by rw [hVd, hg7]; exact heap_alloc_new _ _
              have hIWx := hIW.below (bel1 W (.cells #[.int .i64 0, .int .i64 0] 44))
              have hw7 : Hid (w.heap.size ≤ g7) := by rw [hg7]; exact hIW.en.tw.sz
              rw [← hVd] at hIWx
              rw [← hVd, ← hg7]
              clear hVd hg7
              refine hK.out _ _ (hfull.out _ _ _ hIWx) (fun hHeld => ?_)
              clear hK K hIW
              try simp only [Act.put, List.setIfInBounds_toArray, List.set_cons_zero, List.set_cons_succ]
              refine wpAnyH_ready (rs := [9]) (by kernel_rfl) (by simp) ?_
              refine AllReadyH.cons (o := { dst := some 61, op := Op.call { callee := Callee.value (Operand.func 19), args := #[Operand.tmp 55, Operand.tmp 57, Operand.tmp 60], argTypes := #[23, 2, 47] }, type := 44, pos := "outright.go:117", after := #[{ on := 3, ground := Ground.data }, { on := 5, ground := Ground.data }, { on := 8, ground := Ground.data }], guard := none }) rfl (fun K hK => ?_) AllReadyH.nil
              go_simp
              refine (hcall.out Wx hIWx).mono ?_
              rintro e' Wxx ⟨rfl, hIWxx, h44⟩
              go_wp2_with fail
              refine hK.out _ _ (hfull.out _ _ _ hIWxx) (fun hHeld => ?_)
              replace h7 := h44 _ _ h7
              clear hK K hIWx h44
              try simp only [Act.put, List.setIfInBounds_toArray, List.set_cons_zero, List.set_cons_succ]
              refine wpAnyH_ready (rs := [11]) (by kernel_rfl) (by simp) ?_
              refine AllReadyH.cons (o := { dst := none, op := Op.store 44 (Operand.tmp 8) (Operand.tmp 61), type := 0, pos := "outright.go:117", after := #[{ on := 10, ground := Ground.data }, { on := 9, ground := Ground.data }, { on := 9, ground := Ground.chain }, { on := 0, ground := Ground.phase }, { on := 1, ground := Ground.phase }, { on := 2, ground := Ground.phase }, { on := 3, ground := Ground.phase }, { on := 4, ground := Ground.phase }, { on := 5, ground := Ground.phase }, { on := 6, ground := Ground.phase }, { on := 7, ground := Ground.phase }, { on := 8, ground := Ground.phase }, { on := 9, ground := Ground.phase }, { on := 10, ground := Ground.phase }], guard := none }) rfl (fun K hK => ?_) AllReadyH.nil
              have z0 : Wxx.cell? ⟨g7, 0, none⟩ = some (.int .i64 0) := cell_blk h7 0
              have z1 : Wxx.cell? ⟨g7, 1, none⟩ = some (.int .i64 0) := cell_blk h7 1
              have y0 := frozen_blk h7 0
              have y1 := frozen_blk h7 1
              go_simp
              change K _ ((Wxx.setCell ⟨g7, 0, none⟩ (.int .i64 v7)).setCell ⟨g7, 1, none⟩ (.int .i64 c7))
              obtain ⟨x1, x2⟩ := hIWxx.set h7 hw7.out (.int .i64 v7) (.int .i64 c7)
              refine hK.out _ _ (hfull.out _ _ _ x2) (fun hHeld => ?_)
              generalize hWn : ((Wxx.setCell ⟨g7, 0, none⟩ (.int .i64 v7)).setCell ⟨g7, 1, none⟩ (.int .i64 c7)) = Wxxx at x1 x2 hHeld ⊢
              clear hWn z0 z1 y0 y1 hK K
              try simp only [Act.put, List.setIfInBounds_toArray, List.set_cons_zero, List.set_cons_succ]
              refine wpAnyH_done (by kernel_rfl) ?_ _
              clear hfull hHeld
              go_wp2_with fail
              go_meet
              exact ⟨_, rfl, by rw [HV7.out, HC7.out]; exact x1, x2⟩
            case rest =>
              obtain ⟨g8, rfl, h8, hV⟩ := hcut
              clear e0 e1 d4 d5 d6
              obtain ⟨d4, d5, d6⟩ := hV.en.cells
              obtain ⟨c8, hc8⟩ : ∃ c8, (B.doo id true kd).2.2 = c8 := ⟨_, rfl⟩
              rw [hc8] at h8
              clear hc8
              obtain ⟨A', hA'⟩ : ∃ A', (A.doo id false kd).1 = A' := ⟨_, rfl⟩
              obtain ⟨B', hB'⟩ : ∃ B', (B.doo id true kd).1 = B' := ⟨_, rfl⟩
              have hMM := HMs.out
              rw [hA', hB'] at hMM
              rw [hA', hB'] at hV
              clear HMs
              have hxr := HXR.out
              clear HXR
              have hMs : Mir A' B' := hMM
              clear hMM hA' hB'
              have e8 := heap_lt h8
              rcases hxr with hx | hx
              · rw [hx] at h8
                clear hx
                have e7 := cell_blk h8 0
                simp only [List.getElem?_toArray, List.getElem?_cons_zero] at e7
                go_upto_region 18 with fail
                go_cut [86] from 25 to 112 (fun x wx => x = .bool false ∧ Ev w O #[.bool false, .int .i64 id, .bool g, .int .i64 kd] p0 b0 p1 b1 A' B' wx)
                case first =>
                  obtain ⟨P, hP⟩ : ∃ P : World → Prop, P = fun W => Ev w O #[.bool false, .int .i64 id, .bool g, .int .i64 kd] p0 b0 p1 b1 A' B' W ∧ W.heap[g8]? = some (.cells #[.int .i64 0, .int .i64 c8] 44) := ⟨_, rfl⟩
                  obtain ⟨sx, hsx⟩ : ∃ sx, mi (A'.st id) = sx := ⟨_, rfl⟩
                  obtain ⟨sy, hsy⟩ : ∃ sy, A'.st id = sy := ⟨_, rfl⟩
                  have hst := hMs.st id
                  rw [hsx] at hst
                  rw [hsy] at hsx
                  have c14r : Hid (∀ W, P W → Calls Try.prog 14 #[.pointer (some ⟨p1, 0, none⟩), .int .i64 id] W fun e W' => e = .returned (.int .i64 sx) ∧ P W') := fun W h => by
                    subst hP
                    refine (state_any W p1 b1 B' id h.1.en.tw.t1 hid).mono ?_
                    rintro e W' ⟨rfl, hB⟩
                    exact ⟨by rw [hst], h.1.below hB, (hB.block _ (heap_lt h.2)).trans h.2⟩
                  have c14s : Hid (∀ W, P W → Calls Try.prog 14 #[.pointer (some ⟨p0, 0, none⟩), .int .i64 id] W fun e W' => e = .returned (.int .i64 sy) ∧ P W') := fun W h => by
                    subst hP
                    refine (state_any W p0 b0 A' id h.1.en.tw.t0 hid).mono ?_
                    rintro e W' ⟨rfl, hB⟩
                    exact ⟨by rw [hsy], h.1.below hB, (hB.block _ (heap_lt h.2)).trans h.2⟩
                  have c20 : Hid (∀ W, P W → Calls Try.prog 20 #[.int .i64 sy] W fun e W' => e = .returned (.int .i64 sx) ∧ P W') := fun W h => by
                    refine (mirror_any sy W).mono ?_
                    rintro e W' ⟨rfl, rfl⟩
                    exact ⟨by rw [hsx], h⟩
                  have hfull : Hid (∀ W, P W → (fun W => W.cell? ⟨w.heap.size, 0, none⟩ = some (.pointer (some ⟨p0, 0, none⟩)) ∧ W.cell? ⟨w.heap.size, 1, none⟩ = some (.pointer (some ⟨p1, 0, none⟩)) ∧ W.cell? ⟨O, 1, none⟩ = some (.int .i64 id) ∧ W.cell? ⟨g8, 0, none⟩ = some (.int .i64 0)) W) := fun W h => by
                    subst hP
                    exact ⟨cell_blk h.1.en.ar 0, cell_blk h.1.en.ar 1, cell_blk h.1.op 1, cell_blk h.2 0⟩
                  have hend : Hid (∀ W, P W → Ev w O #[.bool false, .int .i64 id, .bool g, .int .i64 kd] p0 b0 p1 b1 A' B' W) := fun W h => by subst hP; exact h.1
                  have q0 : (sx != sx) = false := by simp
                  have hin : ∀ W, Ev w O #[.bool false, .int .i64 id, .bool g, .int .i64 kd] p0 b0 p1 b1 A' B' W → W.heap[g8]? = some (.cells #[.int .i64 0, .int .i64 c8] 44) → P W := fun W h1 h2 => by subst hP; exact ⟨h1, h2⟩
                  clear hst hsx hsy
                  have hIW := hV.below (Below.refl _ _).drew
                  replace hIW := hin _ hIW h8
                  clear hP h8 hin
                  refine wp_region_held_drew (S := (fun W => W.cell? ⟨w.heap.size, 0, none⟩ = some (.pointer (some ⟨p0, 0, none⟩)) ∧ W.cell? ⟨w.heap.size, 1, none⟩ = some (.pointer (some ⟨p1, 0, none⟩)) ∧ W.cell? ⟨O, 1, none⟩ = some (.int .i64 id) ∧ W.cell? ⟨g8, 0, none⟩ = some (.int .i64 0))) (by kernel_rfl) (hfull.out _ hIW) (fun hHeld => ?_)
                  generalize hWg : World.drew _ = W at hIW hHeld ⊢
                  clear hWg hV
                  refine wpAnyH_take (i := 0) (oi := { dst := some 62, op := Op.fieldAddr 44 (Operand.tmp 8) 0, type := 0, pos := "outright.go:118", after := #[], guard := none }) (v := ?vv18) rfl (by kernel_rfl) (by kernel_rfl) (by kernel_rfl) (fun _ _ _ h => h) (Or.inl ⟨by rfl, ?hy18⟩) (by assumption) ?_
                  case hy18 => (intro w hSw; (try dsimp only at hSw); go_simp; all_goals with_reducible rfl)
                  try simp only [Act.put, List.setIfInBounds_toArray, List.set_cons_zero, List.set_cons_succ]
                  refine wpAnyH_take (i := 1) (oi := { dst := some 63, op := Op.load 3 (Operand.tmp 62), type := 3, pos := "outright.go:118", after := #[{ on := 0, ground := Ground.data }], guard := none }) (v := ?vv19) rfl (by kernel_rfl) (by kernel_rfl) (by kernel_rfl) (fun _ _ _ h => h) (Or.inl ⟨by rfl, ?hy19⟩) (by assumption) ?_
                  case hy19 => (intro w hSw; (try dsimp only at hSw); go_simp; all_goals with_reducible rfl)
                  try simp only [Act.put, List.setIfInBounds_toArray, List.set_cons_zero, List.set_cons_succ]
                  refine wpAnyH_take (i := 2) (oi := { dst := some 64, op := Op.binOp BinOp.neq 3 (Operand.tmp 63) (Operand.const (Value.int IntKind.i64 0)) 3, type := 4, pos := "outright.go:118", after := #[{ on := 1, ground := Ground.data }], guard := none }) (v := ?vv20) rfl (by kernel_rfl) (by kernel_rfl) (by kernel_rfl) (fun _ _ _ h => h) (Or.inl ⟨by rfl, ?hy20⟩) (by assumption) ?_
                  case hy20 => (intro w hSw; (try dsimp only at hSw); go_simp; all_goals with_reducible rfl)
                  try simp only [Act.put, List.setIfInBounds_toArray, List.set_cons_zero, List.set_cons_succ]
                  refine wpAnyH_take (i := 3) (oi := { dst := some 65, op := Op.move (Operand.tmp 64), type := 4, pos := "outright.go:118", after := #[{ on := 2, ground := Ground.data }], guard := none }) (v := ?vv21) rfl (by kernel_rfl) (by kernel_rfl) (by kernel_rfl) (fun _ _ _ h => h) (Or.inl ⟨by rfl, ?hy21⟩) (by assumption) ?_
                  case hy21 => (intro w hSw; (try dsimp only at hSw); go_simp; all_goals with_reducible rfl)
                  try simp only [Act.put, List.setIfInBounds_toArray, List.set_cons_zero, List.set_cons_succ]
                  refine wpAnyH_take (i := 4) (oi := { dst := some 66, op := Op.fieldAddr 44 (Operand.tmp 8) 0, type := 0, pos := "outright.go:118", after := #[{ on := 3, ground := Ground.guard }], guard := some (3, true) }) (v := undef) rfl (by kernel_rfl) (by kernel_rfl) (by kernel_rfl) (fun _ _ _ h => h) (Or.inr ⟨by rfl, rfl⟩) (by assumption) ?_
                  try simp only [Act.put, List.setIfInBounds_toArray, List.set_cons_zero, List.set_cons_succ]
                  refine wpAnyH_take (i := 5) (oi := { dst := some 67, op := Op.load 3 (Operand.tmp 66), type := 3, pos := "outright.go:118", after := #[{ on := 4, ground := Ground.data }, { on := 3, ground := Ground.guard }], guard := some (3, true) }) (v := undef) rfl (by kernel_rfl) (by kernel_rfl) (by kernel_rfl) (fun _ _ _ h => h) (Or.inr ⟨by rfl, rfl⟩) (by assumption) ?_
                  try simp only [Act.put, List.setIfInBounds_toArray, List.set_cons_zero, List.set_cons_succ]
                  refine wpAnyH_take (i := 6) (oi := { dst := some 68, op := Op.binOp BinOp.neq 3 (Operand.tmp 67) (Operand.const (Value.int IntKind.i64 1)) 3, type := 4, pos := "outright.go:118", after := #[{ on := 5, ground := Ground.data }, { on := 3, ground := Ground.guard }], guard := some (3, true) }) (v := undef) rfl (by kernel_rfl) (by kernel_rfl) (by kernel_rfl) (fun _ _ _ h => h) (Or.inr ⟨by rfl, rfl⟩) (by assumption) ?_
                  try simp only [Act.put, List.setIfInBounds_toArray, List.set_cons_zero, List.set_cons_succ]
                  refine wpAnyH_take (i := 7) (oi := { dst := some 69, op := Op.pick (Operand.tmp 65) (Operand.tmp 68) (Operand.const (Value.bool false)), type := 4, pos := "outright.go:118", after := #[{ on := 3, ground := Ground.data }, { on := 6, ground := Ground.data }], guard := none }) (v := ?vv22) rfl (by kernel_rfl) (by kernel_rfl) (by kernel_rfl) (fun _ _ _ h => h) (Or.inl ⟨by rfl, ?hy22⟩) (by assumption) ?_
                  case hy22 => (intro w hSw; (try dsimp only at hSw); go_simp; all_goals with_reducible rfl)
                  try simp only [Act.put, List.setIfInBounds_toArray, List.set_cons_zero, List.set_cons_succ]
                  refine wpAnyH_take (i := 8) (oi := { dst := some 70, op := Op.move (Operand.tmp 69), type := 4, pos := "outright.go:118", after := #[{ on := 7, ground := Ground.data }, { on := 3, ground := Ground.chain }], guard := none }) (v := ?vv23) rfl (by kernel_rfl) (by kernel_rfl) (by kernel_rfl) (fun _ _ _ h => h) (Or.inl ⟨by rfl, ?hy23⟩) (by assumption) ?_
                  case hy23 => (intro w hSw; (try dsimp only at hSw); go_simp; all_goals with_reducible rfl)
                  try simp only [Act.put, List.setIfInBounds_toArray, List.set_cons_zero, List.set_cons_succ]
                  refine wpAnyH_take (i := 9) (oi := { dst := some 71, op := Op.move (Operand.tmp 6), type := 3, pos := "outright.go:118", after := #[{ on := 8, ground := Ground.guard }], guard := some (8, false) }) (v := ?vv24) rfl (by kernel_rfl) (by kernel_rfl) (by kernel_rfl) (fun _ _ _ h => h) (Or.inl ⟨by rfl, ?hy24⟩) (by assumption) ?_
                  case hy24 => (intro w hSw; (try dsimp only at hSw); go_simp; all_goals with_reducible rfl)
                  try simp only [Act.put, List.setIfInBounds_toArray, List.set_cons_zero, List.set_cons_succ]
                  refine wpAnyH_take (i := 10) (oi := { dst := some 72, op := Op.binOp BinOp.sub 3 (Operand.const (Value.int IntKind.i64 1)) (Operand.tmp 71) 3, type := 3, pos := "outright.go:118", after := #[{ on := 9, ground := Ground.data }, { on := 8, ground := Ground.guard }], guard := some (8, false) }) (v := ?vv25) rfl (by kernel_rfl) (by kernel_rfl) (by kernel_rfl) (fun _ _ _ h => h) (Or.inl ⟨by rfl, ?hy25⟩) (by assumption) ?_
                  case hy25 => (intro w hSw; (try dsimp only at hSw); go_simp; all_goals with_reducible rfl)
                  try simp only [Act.put, List.setIfInBounds_toArray, List.set_cons_zero, List.set_cons_succ]
                  refine wpAnyH_take (i := 11) (oi := { dst := some 73, op := Op.indexAddr 42 (Operand.tmp 3) (Operand.tmp 72), type := 0, pos := "outright.go:118", after := #[{ on := 10, ground := Ground.data }, { on := 8, ground := Ground.guard }], guard := some (8, false) }) (v := ?vv26) rfl (by kernel_rfl) (by kernel_rfl) (by kernel_rfl) (fun _ _ _ h => h) (Or.inl ⟨by rfl, ?hy26⟩) (by assumption) ?_
                  case hy26 => (intro w hSw; (try dsimp only at hSw); go_simp; all_goals with_reducible rfl)
                  try simp only [Act.put, List.setIfInBounds_toArray, List.set_cons_zero, List.set_cons_succ]
                  refine wpAnyH_take (i := 12) (oi := { dst := some 74, op := Op.load 23 (Operand.tmp 73), type := 23, pos := "outright.go:118", after := #[{ on := 11, ground := Ground.data }, { on := 8, ground := Ground.guard }], guard := some (8, false) }) (v := ?vv27) rfl (by kernel_rfl) (by kernel_rfl) (by kernel_rfl) (fun _ _ _ h => h) (Or.inl ⟨by rfl, ?hy27⟩) (by assumption) ?_
                  case hy27 => (intro w hSw; (try dsimp only at hSw); go_simp; all_goals with_reducible rfl)
                  try simp only [Act.put, List.setIfInBounds_toArray, List.set_cons_zero, List.set_cons_succ]
                  refine wpAnyH_take (i := 13) (oi := { dst := some 75, op := Op.fieldAddr 29 (Operand.tmp 5) 1, type := 0, pos := "outright.go:118", after := #[{ on := 8, ground := Ground.guard }], guard := some (8, false) }) (v := ?vv28) rfl (by kernel_rfl) (by kernel_rfl) (by kernel_rfl) (fun _ _ _ h => h) (Or.inl ⟨by rfl, ?hy28⟩) (by assumption) ?_
                  case hy28 => (intro w hSw; (try dsimp only at hSw); go_simp; all_goals with_reducible rfl)
                  try simp only [Act.put, List.setIfInBounds_toArray, List.set_cons_zero, List.set_cons_succ]
                  refine wpAnyH_take (i := 14) (oi := { dst := some 76, op := Op.load 2 (Operand.tmp 75), type := 2, pos := "outright.go:118", after := #[{ on := 13, ground := Ground.data }, { on := 8, ground := Ground.guard }], guard := some (8, false) }) (v := ?vv29) rfl (by kernel_rfl) (by kernel_rfl) (by kernel_rfl) (fun _ _ _ h => h) (Or.inl ⟨by rfl, ?hy29⟩) (by assumption) ?_
                  case hy29 => (intro w hSw; (try dsimp only at hSw); go_simp; all_goals with_reducible rfl)
                  try simp only [Act.put, List.setIfInBounds_toArray, List.set_cons_zero, List.set_cons_succ]
                  refine wpAnyH_take (i := 16) (oi := { dst := some 78, op := Op.move (Operand.tmp 6), type := 3, pos := "outright.go:118", after := #[{ on := 8, ground := Ground.guard }], guard := some (8, false) }) (v := ?vv30) rfl (by kernel_rfl) (by kernel_rfl) (by kernel_rfl) (fun _ _ _ h => h) (Or.inl ⟨by rfl, ?hy30⟩) (by assumption) ?_
                  case hy30 => (intro w hSw; (try dsimp only at hSw); go_simp; all_goals with_reducible rfl)
                  try simp only [Act.put, List.setIfInBounds_toArray, List.set_cons_zero, List.set_cons_succ]
                  refine wpAnyH_take (i := 17) (oi := { dst := some 79, op := Op.indexAddr 42 (Operand.tmp 3) (Operand.tmp 78), type := 0, pos := "outright.go:118", after := #[{ on := 16, ground := Ground.data }, { on := 8, ground := Ground.guard }], guard := some (8, false) }) (v := ?vv31) rfl (by kernel_rfl) (by kernel_rfl) (by kernel_rfl) (fun _ _ _ h => h) (Or.inl ⟨by rfl, ?hy31⟩) (by assumption) ?_
                  case hy31 => (intro w hSw; (try dsimp only at hSw); go_simp; all_goals with_reducible rfl)
                  try simp only [Act.put, List.setIfInBounds_toArray, List.set_cons_zero, List.set_cons_succ]
                  refine wpAnyH_take (i := 18) (oi := { dst := some 80, op := Op.load 23 (Operand.tmp 79), type := 23, pos := "outright.go:118", after := #[{ on := 17, ground := Ground.data }, { on := 8, ground := Ground.guard }], guard := some (8, false) }) (v := ?vv32) rfl (by kernel_rfl) (by kernel_rfl) (by kernel_rfl) (fun _ _ _ h => h) (Or.inl ⟨by rfl, ?hy32⟩) (by assumption) ?_
                  case hy32 => (intro w hSw; (try dsimp only at hSw); go_simp; all_goals with_reducible rfl)
                  try simp only [Act.put, List.setIfInBounds_toArray, List.set_cons_zero, List.set_cons_succ]
                  refine wpAnyH_take (i := 19) (oi := { dst := some 81, op := Op.fieldAddr 29 (Operand.tmp 5) 1, type := 0, pos := "outright.go:118", after := #[{ on := 8, ground := Ground.guard }], guard := some (8, false) }) (v := ?vv33) rfl (by kernel_rfl) (by kernel_rfl) (by kernel_rfl) (fun _ _ _ h => h) (Or.inl ⟨by rfl, ?hy33⟩) (by assumption) ?_
                  case hy33 => (intro w hSw; (try dsimp only at hSw); go_simp; all_goals with_reducible rfl)
                  try simp only [Act.put, List.setIfInBounds_toArray, List.set_cons_zero, List.set_cons_succ]
                  refine wpAnyH_take (i := 20) (oi := { dst := some 82, op := Op.load 2 (Operand.tmp 81), type := 2, pos := "outright.go:118", after := #[{ on := 19, ground := Ground.data }, { on := 8, ground := Ground.guard }], guard := some (8, false) }) (v := ?vv34) rfl (by kernel_rfl) (by kernel_rfl) (by kernel_rfl) (fun _ _ _ h => h) (Or.inl ⟨by rfl, ?hy34⟩) (by assumption) ?_
                  case hy34 => (intro w hSw; (try dsimp only at hSw); go_simp; all_goals with_reducible rfl)
                  try simp only [Act.put, List.setIfInBounds_toArray, List.set_cons_zero, List.set_cons_succ]
                  refine wpAnyH_ready (rs := [15]) (by kernel_rfl) (by simp) ?_
                  refine AllReadyH.cons (o := { dst := some 77, op := Op.call { callee := Callee.value (Operand.func 14), args := #[Operand.tmp 74, Operand.tmp 76], argTypes := #[23, 2] }, type := 3, pos := "outright.go:118", after := #[{ on := 12, ground := Ground.data }, { on := 14, ground := Ground.data }, { on := 8, ground := Ground.chain }, { on := 8, ground := Ground.guard }], guard := some (8, false) }) rfl (fun K hK => ?_) AllReadyH.nil
                  go_simp
                  refine (c14r.out W hIW).mono ?_
                  rintro e' Wx ⟨rfl, hIWx⟩
                  go_wp2_with fail
                  refine hK.out _ _ (hfull.out _ hIWx) (fun hHeld => ?_)
                  clear hK K hIW
                  try simp only [Act.put, List.setIfInBounds_toArray, List.set_cons_zero, List.set_cons_succ]
                  refine wpAnyH_ready (rs := [21]) (by kernel_rfl) (by simp) ?_
                  refine AllReadyH.cons (o := { dst := some 83, op := Op.call { callee := Callee.value (Operand.func 14), args := #[Operand.tmp 80, Operand.tmp 82], argTypes := #[23, 2] }, type := 3, pos := "outright.go:118", after := #[{ on := 18, ground := Ground.data }, { on := 20, ground := Ground.data }, { on := 15, ground := Ground.chain }, { on := 8, ground := Ground.guard }], guard := some (8, false) }) rfl (fun K hK => ?_) AllReadyH.nil
                  go_simp
                  refine (c14s.out Wx hIWx).mono ?_
                  rintro e' Wxx ⟨rfl, hIWxx⟩
                  go_wp2_with fail
                  refine hK.out _ _ (hfull.out _ hIWxx) (fun hHeld => ?_)
                  clear hK K hIWx
                  try simp only [Act.put, List.setIfInBounds_toArray, List.set_cons_zero, List.set_cons_succ]
                  refine wpAnyH_ready (rs := [22]) (by kernel_rfl) (by simp) ?_
                  refine AllReadyH.cons (o := { dst := some 84, op := Op.call { callee := Callee.value (Operand.func 20), args := #[Operand.tmp 83], argTypes := #[3] }, type := 3, pos := "outright.go:118", after := #[{ on := 21, ground := Ground.data }, { on := 21, ground := Ground.chain }, { on := 8, ground := Ground.guard }], guard := some (8, false) }) rfl (fun K hK => ?_) AllReadyH.nil
                  go_simp
                  refine (c20.out Wxx hIWxx).mono ?_
                  rintro e' Wxxx ⟨rfl, hIWxxx⟩
                  go_wp2_with fail
                  refine hK.out _ _ (hfull.out _ hIWxxx) (fun hHeld => ?_)
                  clear hK K hIWxx
                  try simp only [Act.put, List.setIfInBounds_toArray, List.set_cons_zero, List.set_cons_succ]
                  refine wpAnyH_take (i := 23) (oi := { dst := some 85, op := Op.binOp BinOp.neq 3 (Operand.tmp 77) (Operand.tmp 84) 3, type := 4, pos := "outright.go:118", after := #[{ on := 15, ground := Ground.data }, { on := 22, ground := Ground.data }, { on := 8, ground := Ground.guard }], guard := some (8, false) }) (v := ?vv35) rfl (by kernel_rfl) (by kernel_rfl) (by kernel_rfl) (fun _ _ _ h => h) (Or.inl ⟨by rfl, ?hy35⟩) (by assumption) ?_
                  case hy35 => (intro w hSw; (try dsimp only at hSw); go_simp; all_goals with_reducible rfl)
                  try simp only [Act.put, List.setIfInBounds_toArray, List.set_cons_zero, List.set_cons_succ]
                  refine wpAnyH_take (i := 24) (oi := { dst := some 86, op := Op.pick (Operand.tmp 70) (Operand.const (Value.bool true)) (Operand.tmp 85), type := 4, pos := "outright.go:118", after := #[{ on := 8, ground := Ground.data }, { on := 23, ground := Ground.data }], guard := none }) (v := ?vv36) rfl (by kernel_rfl) (by kernel_rfl) (by kernel_rfl) (fun _ _ _ h => h) (Or.inl ⟨by rfl, ?hy36⟩) (by assumption) ?_
                  case hy36 => (intro w hSw; (try dsimp only at hSw); go_simp; all_goals with_reducible rfl)
                  try simp only [Act.put, List.setIfInBounds_toArray, List.set_cons_zero, List.set_cons_succ]
                  refine wpAnyH_done (by kernel_rfl) ?_ _
                  clear hfull hHeld
                  go_wp2_with fail
                  go_meet
                  exact ⟨rfl, (hend.out _ hIWxxx)⟩
                case rest =>
                  obtain ⟨rfl, hV⟩ := hcut
                  clear e7 h8 e8 d4 d5 d6
                  obtain ⟨d4, d5, d6⟩ := hV.en.cells
                  go_upto_region 20 with fail
                  go_cut [112] from 25 to 112 (fun x wx => x = .bool false ∧ Ev w O #[.bool false, .int .i64 id, .bool g, .int .i64 kd] p0 b0 p1 b1 A' B' wx)
                  case first =>
                    obtain ⟨N1, hN1⟩ : ∃ N1, (A').count true = N1 := ⟨_, rfl⟩
                    obtain ⟨N2, hN2⟩ : ∃ N2, (A').count false = N2 := ⟨_, rfl⟩
                    obtain ⟨ll, hll⟩ : ∃ ll, (A').live = ll := ⟨_, rfl⟩
                    have hM1 := hMs.count hV.en.tw.t0.ok hV.en.tw.t1.ok false
                    have hM2 := hMs.count hV.en.tw.t0.ok hV.en.tw.t1.ok true
                    have hM3 := hMs.live hV.en.tw.t0.ok hV.en.tw.t1.ok
                    simp only [Bool.not_false, Bool.not_true] at hM1 hM2
                    rw [hN1] at hM1
                    rw [hN2] at hM2
                    rw [hll] at hM3
                    obtain ⟨P, hP⟩ : ∃ P : World → Prop, P = fun W => Ev w O #[.bool false, .int .i64 id, .bool g, .int .i64 kd] p0 b0 p1 b1 A' B' W := ⟨_, rfl⟩
                    have c18 : Hid (∀ W, P W → Calls Try.prog 18 #[.pointer (some ⟨p0, 0, none⟩), .bool true] W fun e W' => e = .returned (.int .i64 (N1 : Int)) ∧ P W') := fun W h => by
                      subst hP
                      refine (count_any W p0 b0 _ true h.en.tw.t0).mono ?_
                      rintro e W' ⟨rfl, hB⟩
                      exact ⟨by rw [hN1], h.below hB⟩
                    have c18b : Hid (∀ W, P W → Calls Try.prog 18 #[.pointer (some ⟨p1, 0, none⟩), .bool false] W fun e W' => e = .returned (.int .i64 (N1 : Int)) ∧ P W') := fun W h => by
                      subst hP
                      refine (count_any W p1 b1 _ false h.en.tw.t1).mono ?_
                      rintro e W' ⟨rfl, hB⟩
                      exact ⟨by rw [hM1], h.below hB⟩
                    have c18c : Hid (∀ W, P W → Calls Try.prog 18 #[.pointer (some ⟨p0, 0, none⟩), .bool false] W fun e W' => e = .returned (.int .i64 (N2 : Int)) ∧ P W') := fun W h => by
                      subst hP
                      refine (count_any W p0 b0 _ false h.en.tw.t0).mono ?_
                      rintro e W' ⟨rfl, hB⟩
                      exact ⟨by rw [hN2], h.below hB⟩
                    have c18d : Hid (∀ W, P W → Calls Try.prog 18 #[.pointer (some ⟨p1, 0, none⟩), .bool true] W fun e W' => e = .returned (.int .i64 (N2 : Int)) ∧ P W') := fun W h => by
                      subst hP
                      refine (count_any W p1 b1 _ true h.en.tw.t1).mono ?_
                      rintro e W' ⟨rfl, hB⟩
                      exact ⟨by rw [hM2], h.below hB⟩
                    have c11a : Hid (∀ W, P W → Calls Try.prog 11 #[.pointer (some ⟨p0, 0, none⟩)] W fun e W' => ∃ v, e = .returned v ∧ P W' ∧ R EI W' v ll) := fun W h => by
                      subst hP
                      refine (live_any W p0 b0 _ h.en.tw.t0).mono ?_
                      rintro e W' ⟨v, rfl, hR, _, hB⟩
                      exact ⟨v, rfl, h.below hB, by rw [← hll]; exact hR⟩
                    have c11b : Hid (∀ W, P W → Calls Try.prog 11 #[.pointer (some ⟨p1, 0, none⟩)] W fun e W' => ∃ v, e = .returned v ∧ P W' ∧ R EI W' v ll ∧ Below W.heap.size W W') := fun W h => by
                      subst hP
                      refine (live_any W p1 b1 _ h.en.tw.t1).mono ?_
                      rintro e W' ⟨v, rfl, hR, _, hB⟩
                      exact ⟨v, rfl, h.below hB, by rw [← hM3]; exact hR, hB⟩
                    have c12 : Hid (∀ W v1 v2, P W → R EI W v1 ll → R EI W v2 ll → Calls Try.prog 12 #[v1, v2] W fun e W' => e = .returned (.bool true) ∧ P W') := fun W v1 v2 h r1 r2 => by
                      subst hP
                      refine (sameInts_eq W v1 v2 ll r1.isIn r2.isIn).mono ?_
                      rintro e W' ⟨rfl, hB⟩
                      exact ⟨rfl, h.below hB⟩
                    have hfull : Hid (∀ W, P W → (fun W => W.cell? ⟨w.heap.size, 0, none⟩ = some (.pointer (some ⟨p0, 0, none⟩)) ∧ W.cell? ⟨w.heap.size, 1, none⟩ = some (.pointer (some ⟨p1, 0, none⟩)) ∧ W.cell? ⟨O, 1, none⟩ = some (.int .i64 id)) W) := fun W h => by
                      subst hP
                      exact ⟨cell_blk h.en.ar 0, cell_blk h.en.ar 1, cell_blk h.op 1⟩
                    have hend : Hid (∀ W, P W → Ev w O #[.bool false, .int .i64 id, .bool g, .int .i64 kd] p0 b0 p1 b1 A' B' W) := fun W h => by subst hP; exact h
                    have q0 : ((N1 : Int) != (N1 : Int)) = false := by simp
                    have q1 : ((N2 : Int) != (N2 : Int)) = false := by simp
                    have hin : ∀ W, Ev w O #[.bool false, .int .i64 id, .bool g, .int .i64 kd] p0 b0 p1 b1 A' B' W → P W := fun W h1 => by subst hP; exact h1
                    clear hN1 hN2 hll hM1 hM2 hM3
                    have hIW := hV.below (Below.refl _ _).drew
                    replace hIW := hin _ hIW
                    clear hP hin
                    refine wp_region_held_drew (S := (fun W => W.cell? ⟨w.heap.size, 0, none⟩ = some (.pointer (some ⟨p0, 0, none⟩)) ∧ W.cell? ⟨w.heap.size, 1, none⟩ = some (.pointer (some ⟨p1, 0, none⟩)) ∧ W.cell? ⟨O, 1, none⟩ = some (.int .i64 id))) (by kernel_rfl) (hfull.out _ hIW) (fun hHeld => ?_)
                    generalize hWg : World.drew _ = W at hIW hHeld ⊢
                    clear hWg hV
                    refine wpAnyH_take (i := 0) (oi := { dst := some 87, op := Op.indexAddr 42 (Operand.tmp 3) (Operand.const (Value.int IntKind.i64 0)), type := 0, pos := "outright.go:121", after := #[], guard := none }) (v := ?vv37) rfl (by kernel_rfl) (by kernel_rfl) (by kernel_rfl) (fun _ _ _ h => h) (Or.inl ⟨by rfl, ?hy37⟩) (by assumption) ?_
                    case hy37 => (intro w hSw; (try dsimp only at hSw); go_simp; all_goals with_reducible rfl)
                    try simp only [Act.put, List.setIfInBounds_toArray, List.set_cons_zero, List.set_cons_succ]
                    refine wpAnyH_take (i := 1) (oi := { dst := some 88, op := Op.load 23 (Operand.tmp 87), type := 23, pos := "outright.go:121", after := #[{ on := 0, ground := Ground.data }], guard := none }) (v := ?vv38) rfl (by kernel_rfl) (by kernel_rfl) (by kernel_rfl) (fun _ _ _ h => h) (Or.inl ⟨by rfl, ?hy38⟩) (by assumption) ?_
                    case hy38 => (intro w hSw; (try dsimp only at hSw); go_simp; all_goals with_reducible rfl)
                    try simp only [Act.put, List.setIfInBounds_toArray, List.set_cons_zero, List.set_cons_succ]
                    refine wpAnyH_take (i := 3) (oi := { dst := some 90, op := Op.indexAddr 42 (Operand.tmp 3) (Operand.const (Value.int IntKind.i64 1)), type := 0, pos := "outright.go:121", after := #[], guard := none }) (v := ?vv39) rfl (by kernel_rfl) (by kernel_rfl) (by kernel_rfl) (fun _ _ _ h => h) (Or.inl ⟨by rfl, ?hy39⟩) (by assumption) ?_
                    case hy39 => (intro w hSw; (try dsimp only at hSw); go_simp; all_goals with_reducible rfl)
                    try simp only [Act.put, List.setIfInBounds_toArray, List.set_cons_zero, List.set_cons_succ]
                    refine wpAnyH_take (i := 4) (oi := { dst := some 91, op := Op.load 23 (Operand.tmp 90), type := 23, pos := "outright.go:121", after := #[{ on := 3, ground := Ground.data }], guard := none }) (v := ?vv40) rfl (by kernel_rfl) (by kernel_rfl) (by kernel_rfl) (fun _ _ _ h => h) (Or.inl ⟨by rfl, ?hy40⟩) (by assumption) ?_
                    case hy40 => (intro w hSw; (try dsimp only at hSw); go_simp; all_goals with_reducible rfl)
                    try simp only [Act.put, List.setIfInBounds_toArray, List.set_cons_zero, List.set_cons_succ]
                    refine wpAnyH_ready (rs := [2]) (by kernel_rfl) (by simp) ?_
                    refine AllReadyH.cons (o := { dst := some 89, op := Op.call { callee := Callee.value (Operand.func 18), args := #[Operand.tmp 88, Operand.const (Value.bool true)], argTypes := #[23, 4] }, type := 3, pos := "outright.go:121", after := #[{ on := 1, ground := Ground.data }], guard := none }) rfl (fun K hK => ?_) AllReadyH.nil
                    go_simp
                    refine (c18.out W hIW).mono ?_
                    rintro e' Wx ⟨rfl, hIWx⟩
                    go_wp2_with fail
                    refine hK.out _ _ (hfull.out _ hIWx) (fun hHeld => ?_)
                    clear hK K hIW
                    try simp only [Act.put, List.setIfInBounds_toArray, List.set_cons_zero, List.set_cons_succ]
                    refine wpAnyH_ready (rs := [5]) (by kernel_rfl) (by simp) ?_
                    refine AllReadyH.cons (o := { dst := some 92, op := Op.call { callee := Callee.value (Operand.func 18), args := #[Operand.tmp 91, Operand.const (Value.bool false)], argTypes := #[23, 4] }, type := 3, pos := "outright.go:121", after := #[{ on := 4, ground := Ground.data }, { on := 2, ground := Ground.chain }], guard := none }) rfl (fun K hK => ?_) AllReadyH.nil
                    go_simp
                    refine (c18b.out Wx hIWx).mono ?_
                    rintro e' Wxx ⟨rfl, hIWxx⟩
                    go_wp2_with fail
                    refine hK.out _ _ (hfull.out _ hIWxx) (fun hHeld => ?_)
                    clear hK K hIWx
                    try simp only [Act.put, List.setIfInBounds_toArray, List.set_cons_zero, List.set_cons_succ]
                    refine wpAnyH_take (i := 6) (oi := { dst := some 93, op := Op.binOp BinOp.neq 3 (Operand.tmp 89) (Operand.tmp 92) 3, type := 4, pos := "outright.go:121", after := #[{ on := 2, ground := Ground.data }, { on := 5, ground := Ground.data }], guard := none }) (v := ?vv41) rfl (by kernel_rfl) (by kernel_rfl) (by kernel_rfl) (fun _ _ _ h => h) (Or.inl ⟨by rfl, ?hy41⟩) (by assumption) ?_
                    case hy41 => (intro w hSw; (try dsimp only at hSw); go_simp; all_goals with_reducible rfl)
                    try simp only [Act.put, List.setIfInBounds_toArray, List.set_cons_zero, List.set_cons_succ]
                    refine wpAnyH_take (i := 7) (oi := { dst := some 94, op := Op.move (Operand.tmp 93), type := 4, pos := "outright.go:121", after := #[{ on := 6, ground := Ground.data }, { on := 5, ground := Ground.chain }], guard := none }) (v := ?vv42) rfl (by kernel_rfl) (by kernel_rfl) (by kernel_rfl) (fun _ _ _ h => h) (Or.inl ⟨by rfl, ?hy42⟩) (by assumption) ?_
                    case hy42 => (intro w hSw; (try dsimp only at hSw); go_simp; all_goals with_reducible rfl)
                    try simp only [Act.put, List.setIfInBounds_toArray, List.set_cons_zero, List.set_cons_succ]
                    refine wpAnyH_take (i := 8) (oi := { dst := some 95, op := Op.indexAddr 42 (Operand.tmp 3) (Operand.const (Value.int IntKind.i64 0)), type := 0, pos := "outright.go:121", after := #[{ on := 7, ground := Ground.guard }], guard := some (7, false) }) (v := ?vv43) rfl (by kernel_rfl) (by kernel_rfl) (by kernel_rfl) (fun _ _ _ h => h) (Or.inl ⟨by rfl, ?hy43⟩) (by assumption) ?_
                    case hy43 => (intro w hSw; (try dsimp only at hSw); go_simp; all_goals with_reducible rfl)
                    try simp only [Act.put, List.setIfInBounds_toArray, List.set_cons_zero, List.set_cons_succ]
                    refine wpAnyH_take (i := 9) (oi := { dst := some 96, op := Op.load 23 (Operand.tmp 95), type := 23, pos := "outright.go:121", after := #[{ on := 8, ground := Ground.data }, { on := 7, ground := Ground.guard }], guard := some (7, false) }) (v := ?vv44) rfl (by kernel_rfl) (by kernel_rfl) (by kernel_rfl) (fun _ _ _ h => h) (Or.inl ⟨by rfl, ?hy44⟩) (by assumption) ?_
                    case hy44 => (intro w hSw; (try dsimp only at hSw); go_simp; all_goals with_reducible rfl)
                    try simp only [Act.put, List.setIfInBounds_toArray, List.set_cons_zero, List.set_cons_succ]
                    refine wpAnyH_take (i := 11) (oi := { dst := some 98, op := Op.indexAddr 42 (Operand.tmp 3) (Operand.const (Value.int IntKind.i64 1)), type := 0, pos := "outright.go:121", after := #[{ on := 7, ground := Ground.guard }], guard := some (7, false) }) (v := ?vv45) rfl (by kernel_rfl) (by kernel_rfl) (by kernel_rfl) (fun _ _ _ h => h) (Or.inl ⟨by rfl, ?hy45⟩) (by assumption) ?_
                    case hy45 => (intro w hSw; (try dsimp only at hSw); go_simp; all_goals with_reducible rfl)
                    try simp only [Act.put, List.setIfInBounds_toArray, List.set_cons_zero, List.set_cons_succ]
                    refine wpAnyH_take (i := 12) (oi := { dst := some 99, op := Op.load 23 (Operand.tmp 98), type := 23, pos := "outright.go:121", after := #[{ on := 11, ground := Ground.data }, { on := 7, ground := Ground.guard }], guard := some (7, false) }) (v := ?vv46) rfl (by kernel_rfl) (by kernel_rfl) (by kernel_rfl) (fun _ _ _ h => h) (Or.inl ⟨by rfl, ?hy46⟩) (by assumption) ?_
                    case hy46 => (intro w hSw; (try dsimp only at hSw); go_simp; all_goals with_reducible rfl)
                    try simp only [Act.put, List.setIfInBounds_toArray, List.set_cons_zero, List.set_cons_succ]
                    refine wpAnyH_ready (rs := [10]) (by kernel_rfl) (by simp) ?_
                    refine AllReadyH.cons (o := { dst := some 97, op := Op.call { callee := Callee.value (Operand.func 18), args := #[Operand.tmp 96, Operand.const (Value.bool false)], argTypes := #[23, 4] }, type := 3, pos := "outright.go:121", after := #[{ on := 9, ground := Ground.data }, { on := 7, ground := Ground.chain }, { on := 7, ground := Ground.guard }], guard := some (7, false) }) rfl (fun K hK => ?_) AllReadyH.nil
                    go_simp
                    refine (c18c.out Wxx hIWxx).mono ?_
                    rintro e' Wxxx ⟨rfl, hIWxxx⟩
                    go_wp2_with fail
                    refine hK.out _ _ (hfull.out _ hIWxxx) (fun hHeld => ?_)
                    clear hK K hIWxx
                    try simp only [Act.put, List.setIfInBounds_toArray, List.set_cons_zero, List.set_cons_succ]
                    refine wpAnyH_ready (rs := [13]) (by kernel_rfl) (by simp) ?_
                    refine AllReadyH.cons (o := { dst := some 100, op := Op.call { callee := Callee.value (Operand.func 18), args := #[Operand.tmp 99, Operand.const (Value.bool true)], argTypes := #[23, 4] }, type := 3, pos := "outright.go:121", after := #[{ on := 12, ground := Ground.data }, { on := 10, ground := Ground.chain }, { on := 7, ground := Ground.guard }], guard := some (7, false) }) rfl (fun K hK => ?_) AllReadyH.nil
                    go_simp
                    refine (c18d.out Wxxx hIWxxx).mono ?_
                    rintro e' Wxxxx ⟨rfl, hIWxxxx⟩
                    go_wp2_with fail
                    refine hK.out _ _ (hfull.out _ hIWxxxx) (fun hHeld => ?_)
                    clear hK K hIWxxx
                    try simp only [Act.put, List.setIfInBounds_toArray, List.set_cons_zero, List.set_cons_succ]
                    refine wpAnyH_take (i := 14) (oi := { dst := some 101, op := Op.binOp BinOp.neq 3 (Operand.tmp 97) (Operand.tmp 100) 3, type := 4, pos := "outright.go:121", after := #[{ on := 10, ground := Ground.data }, { on := 13, ground := Ground.data }, { on := 7, ground := Ground.guard }], guard := some (7, false) }) (v := ?vv47) rfl (by kernel_rfl) (by kernel_rfl) (by kernel_rfl) (fun _ _ _ h => h) (Or.inl ⟨by rfl, ?hy47⟩) (by assumption) ?_
                    case hy47 => (intro w hSw; (try dsimp only at hSw); go_simp; all_goals with_reducible rfl)
                    try simp only [Act.put, List.setIfInBounds_toArray, List.set_cons_zero, List.set_cons_succ]
                    refine wpAnyH_take (i := 15) (oi := { dst := some 102, op := Op.pick (Operand.tmp 94) (Operand.const (Value.bool true)) (Operand.tmp 101), type := 4, pos := "outright.go:121", after := #[{ on := 7, ground := Ground.data }, { on := 14, ground := Ground.data }], guard := none }) (v := ?vv48) rfl (by kernel_rfl) (by kernel_rfl) (by kernel_rfl) (fun _ _ _ h => h) (Or.inl ⟨by rfl, ?hy48⟩) (by assumption) ?_
                    case hy48 => (intro w hSw; (try dsimp only at hSw); go_simp; all_goals with_reducible rfl)
                    try simp only [Act.put, List.setIfInBounds_toArray, List.set_cons_zero, List.set_cons_succ]
                    refine wpAnyH_take (i := 16) (oi := { dst := some 103, op := Op.move (Operand.tmp 102), type := 4, pos := "outright.go:121", after := #[{ on := 15, ground := Ground.data }, { on := 13, ground := Ground.chain }], guard := none }) (v := ?vv49) rfl (by kernel_rfl) (by kernel_rfl) (by kernel_rfl) (fun _ _ _ h => h) (Or.inl ⟨by rfl, ?hy49⟩) (by assumption) ?_
                    case hy49 => (intro w hSw; (try dsimp only at hSw); go_simp; all_goals with_reducible rfl)
                    try simp only [Act.put, List.setIfInBounds_toArray, List.set_cons_zero, List.set_cons_succ]
                    refine wpAnyH_take (i := 17) (oi := { dst := some 104, op := Op.indexAddr 42 (Operand.tmp 3) (Operand.const (Value.int IntKind.i64 0)), type := 0, pos := "outright.go:121", after := #[{ on := 16, ground := Ground.guard }], guard := some (16, false) }) (v := ?vv50) rfl (by kernel_rfl) (by kernel_rfl) (by kernel_rfl) (fun _ _ _ h => h) (Or.inl ⟨by rfl, ?hy50⟩) (by assumption) ?_
                    case hy50 => (intro w hSw; (try dsimp only at hSw); go_simp; all_goals with_reducible rfl)
                    try simp only [Act.put, List.setIfInBounds_toArray, List.set_cons_zero, List.set_cons_succ]
                    refine wpAnyH_take (i := 18) (oi := { dst := some 105, op := Op.load 23 (Operand.tmp 104), type := 23, pos := "outright.go:121", after := #[{ on := 17, ground := Ground.data }, { on := 16, ground := Ground.guard }], guard := some (16, false) }) (v := ?vv51) rfl (by kernel_rfl) (by kernel_rfl) (by kernel_rfl) (fun _ _ _ h => h) (Or.inl ⟨by rfl, ?hy51⟩) (by assumption) ?_
                    case hy51 => (intro w hSw; (try dsimp only at hSw); go_simp; all_goals with_reducible rfl)
                    try simp only [Act.put, List.setIfInBounds_toArray, List.set_cons_zero, List.set_cons_succ]
                    refine wpAnyH_take (i := 20) (oi := { dst := some 107, op := Op.indexAddr 42 (Operand.tmp 3) (Operand.const (Value.int IntKind.i64 1)), type := 0, pos := "outright.go:121", after := #[{ on := 16, ground := Ground.guard }], guard := some (16, false) }) (v := ?vv52) rfl (by kernel_rfl) (by kernel_rfl) (by kernel_rfl) (fun _ _ _ h => h) (Or.inl ⟨by rfl, ?hy52⟩) (by assumption) ?_
                    case hy52 => (intro w hSw; (try dsimp only at hSw); go_simp; all_goals with_reducible rfl)
                    try simp only [Act.put, List.setIfInBounds_toArray, List.set_cons_zero, List.set_cons_succ]
                    refine wpAnyH_take (i := 21) (oi := { dst := some 108, op := Op.load 23 (Operand.tmp 107), type := 23, pos := "outright.go:121", after := #[{ on := 20, ground := Ground.data }, { on := 16, ground := Ground.guard }], guard := some (16, false) }) (v := ?vv53) rfl (by kernel_rfl) (by kernel_rfl) (by kernel_rfl) (fun _ _ _ h => h) (Or.inl ⟨by rfl, ?hy53⟩) (by assumption) ?_
                    case hy53 => (intro w hSw; (try dsimp only at hSw); go_simp; all_goals with_reducible rfl)
                    try simp only [Act.put, List.setIfInBounds_toArray, List.set_cons_zero, List.set_cons_succ]
                    refine wpAnyH_ready (rs := [19]) (by kernel_rfl) (by simp) ?_
                    refine AllReadyH.cons (o := { dst := some 106, op := Op.call { callee := Callee.value (Operand.func 11), args := #[Operand.tmp 105], argTypes := #[23] }, type := 30, pos := "outright.go:121", after := #[{ on := 18, ground := Ground.data }, { on := 16, ground := Ground.chain }, { on := 16, ground := Ground.guard }], guard := some (16, false) }) rfl (fun K hK => ?_) AllReadyH.nil
                    go_simp
                    refine (c11a.out Wxxxx hIWxxxx).mono ?_
                    rintro e' Wxxxxx ⟨v1, rfl, hIWxxxxx, hR1⟩
                    go_wp2_with fail
                    refine hK.out _ _ (hfull.out _ hIWxxxxx) (fun hHeld => ?_)
                    clear hK K hIWxxxx
                    try simp only [Act.put, List.setIfInBounds_toArray, List.set_cons_zero, List.set_cons_succ]
                    refine wpAnyH_ready (rs := [22]) (by kernel_rfl) (by simp) ?_
                    refine AllReadyH.cons (o := { dst := some 109, op := Op.call { callee := Callee.value (Operand.func 11), args := #[Operand.tmp 108], argTypes := #[23] }, type := 30, pos := "outright.go:121", after := #[{ on := 21, ground := Ground.data }, { on := 19, ground := Ground.chain }, { on := 16, ground := Ground.guard }], guard := some (16, false) }) rfl (fun K hK => ?_) AllReadyH.nil
                    go_simp
                    refine (c11b.out Wxxxxx hIWxxxxx).mono ?_
                    rintro e' Wxxxxxx ⟨v2, rfl, hIWxxxxxx, hR2, hB2⟩
                    replace hR1 := hR1.below hB2
                    clear hB2
                    go_wp2_with fail
                    refine hK.out _ _ (hfull.out _ hIWxxxxxx) (fun hHeld => ?_)
                    clear hK K hIWxxxxx
                    try simp only [Act.put, List.setIfInBounds_toArray, List.set_cons_zero, List.set_cons_succ]
                    refine wpAnyH_ready (rs := [23]) (by kernel_rfl) (by simp) ?_
                    refine AllReadyH.cons (o := { dst := some 110, op := Op.call { callee := Callee.value (Operand.func 12), args := #[Operand.tmp 106, Operand.tmp 109], argTypes := #[30, 30] }, type := 4, pos := "outright.go:121", after := #[{ on := 19, ground := Ground.data }, { on := 22, ground := Ground.data }, { on := 22, ground := Ground.chain }, { on := 16, ground := Ground.guard }], guard := some (16, false) }) rfl (fun K hK => ?_) AllReadyH.nil
                    go_simp
                    refine (c12.out Wxxxxxx _ _ hIWxxxxxx hR1 hR2).mono ?_
                    rintro e' Wxxxxxxx ⟨rfl, hIWxxxxxxx⟩
                    clear hR1 hR2
                    go_wp2_with fail
                    refine hK.out _ _ (hfull.out _ hIWxxxxxxx) (fun hHeld => ?_)
                    clear hK K hIWxxxxxx
                    try simp only [Act.put, List.setIfInBounds_toArray, List.set_cons_zero, List.set_cons_succ]
                    refine wpAnyH_take (i := 24) (oi := { dst := some 111, op := Op.unOp UnOp.not 4 (Operand.tmp 110), type := 4, pos := "outright.go:121", after := #[{ on := 23, ground := Ground.data }, { on := 16, ground := Ground.guard }], guard := some (16, false) }) (v := ?vv54) rfl (by kernel_rfl) (by kernel_rfl) (by kernel_rfl) (fun _ _ _ h => h) (Or.inl ⟨by rfl, ?hy54⟩) (by assumption) ?_
                    case hy54 => (intro w hSw; (try dsimp only at hSw); go_simp; all_goals with_reducible rfl)
                    try simp only [Act.put, List.setIfInBounds_toArray, List.set_cons_zero, List.set_cons_succ]
                    refine wpAnyH_take (i := 25) (oi := { dst := some 112, op := Op.pick (Operand.tmp 103) (Operand.const (Value.bool true)) (Operand.tmp 111), type := 4, pos := "outright.go:121", after := #[{ on := 16, ground := Ground.data }, { on := 24, ground := Ground.data }], guard := none }) (v := ?vv55) rfl (by kernel_rfl) (by kernel_rfl) (by kernel_rfl) (fun _ _ _ h => h) (Or.inl ⟨by rfl, ?hy55⟩) (by assumption) ?_
                    case hy55 => (intro w hSw; (try dsimp only at hSw); go_simp; all_goals with_reducible rfl)
                    try simp only [Act.put, List.setIfInBounds_toArray, List.set_cons_zero, List.set_cons_succ]
                    refine wpAnyH_done (by kernel_rfl) ?_ _
                    clear hfull hHeld
                    go_wp2_with fail
                    go_meet
                    exact ⟨rfl, (hend.out _ hIWxxxxxxx)⟩
                  case rest =>
                    obtain ⟨rfl, hV⟩ := hcut
                    clear d4 d5 d6
                    go_wp2_with fail
                    go_roundw
                    case rel => exact ⟨k + 1, A', B', by omega, by simp, hV.en, hMs⟩
                    case measure => simp [intOf]; omega
              · rw [hx] at h8
                clear hx
                have e7 := cell_blk h8 0
                simp only [List.getElem?_toArray, List.getElem?_cons_zero] at e7
                go_upto_region 18 with fail
                go_cut [86] from 25 to 112 (fun x wx => x = .bool false ∧ Ev w O #[.bool false, .int .i64 id, .bool g, .int .i64 kd] p0 b0 p1 b1 A' B' wx)
                case first =>
                  obtain ⟨P, hP⟩ : ∃ P : World → Prop, P = fun W => Ev w O #[.bool false, .int .i64 id, .bool g, .int .i64 kd] p0 b0 p1 b1 A' B' W ∧ W.heap[g8]? = some (.cells #[.int .i64 1, .int .i64 c8] 44) := ⟨_, rfl⟩
                  obtain ⟨sx, hsx⟩ : ∃ sx, mi (A'.st id) = sx := ⟨_, rfl⟩
                  obtain ⟨sy, hsy⟩ : ∃ sy, A'.st id = sy := ⟨_, rfl⟩
                  have hst := hMs.st id
                  rw [hsx] at hst
                  rw [hsy] at hsx
                  have c14r : Hid (∀ W, P W → Calls Try.prog 14 #[.pointer (some ⟨p1, 0, none⟩), .int .i64 id] W fun e W' => e = .returned (.int .i64 sx) ∧ P W') := fun W h => by
                    subst hP
                    refine (state_any W p1 b1 B' id h.1.en.tw.t1 hid).mono ?_
                    rintro e W' ⟨rfl, hB⟩
                    exact ⟨by rw [hst], h.1.below hB, (hB.block _ (heap_lt h.2)).trans h.2⟩
                  have c14s : Hid (∀ W, P W → Calls Try.prog 14 #[.pointer (some ⟨p0, 0, none⟩), .int .i64 id] W fun e W' => e = .returned (.int .i64 sy) ∧ P W') := fun W h => by
                    subst hP
                    refine (state_any W p0 b0 A' id h.1.en.tw.t0 hid).mono ?_
                    rintro e W' ⟨rfl, hB⟩
                    exact ⟨by rw [hsy], h.1.below hB, (hB.block _ (heap_lt h.2)).trans h.2⟩
                  have c20 : Hid (∀ W, P W → Calls Try.prog 20 #[.int .i64 sy] W fun e W' => e = .returned (.int .i64 sx) ∧ P W') := fun W h => by
                    refine (mirror_any sy W).mono ?_
                    rintro e W' ⟨rfl, rfl⟩
                    exact ⟨by rw [hsx], h⟩
                  have hfull : Hid (∀ W, P W → (fun W => W.cell? ⟨w.heap.size, 0, none⟩ = some (.pointer (some ⟨p0, 0, none⟩)) ∧ W.cell? ⟨w.heap.size, 1, none⟩ = some (.pointer (some ⟨p1, 0, none⟩)) ∧ W.cell? ⟨O, 1, none⟩ = some (.int .i64 id) ∧ W.cell? ⟨g8, 0, none⟩ = some (.int .i64 1)) W) := fun W h => by
                    subst hP
                    exact ⟨cell_blk h.1.en.ar 0, cell_blk h.1.en.ar 1, cell_blk h.1.op 1, cell_blk h.2 0⟩
                  have hend : Hid (∀ W, P W → Ev w O #[.bool false, .int .i64 id, .bool g, .int .i64 kd] p0 b0 p1 b1 A' B' W) := fun W h => by subst hP; exact h.1
                  have q0 : (sx != sx) = false := by simp
                  have hin : ∀ W, Ev w O #[.bool false, .int .i64 id, .bool g, .int .i64 kd] p0 b0 p1 b1 A' B' W → W.heap[g8]? = some (.cells #[.int .i64 1, .int .i64 c8] 44) → P W := fun W h1 h2 => by subst hP; exact ⟨h1, h2⟩
                  clear hst hsx hsy
                  have hIW := hV.below (Below.refl _ _).drew
                  replace hIW := hin _ hIW h8
                  clear hP h8 hin
                  refine wp_region_held_drew (S := (fun W => W.cell? ⟨w.heap.size, 0, none⟩ = some (.pointer (some ⟨p0, 0, none⟩)) ∧ W.cell? ⟨w.heap.size, 1, none⟩ = some (.pointer (some ⟨p1, 0, none⟩)) ∧ W.cell? ⟨O, 1, none⟩ = some (.int .i64 id) ∧ W.cell? ⟨g8, 0, none⟩ = some (.int .i64 1))) (by kernel_rfl) (hfull.out _ hIW) (fun hHeld => ?_)
                  generalize hWg : World.drew _ = W at hIW hHeld ⊢
                  clear hWg hV
                  refine wpAnyH_take (i := 0) (oi := { dst := some 62, op := Op.fieldAddr 44 (Operand.tmp 8) 0, type := 0, pos := "outright.go:118", after := #[], guard := none }) (v := ?vv56) rfl (by kernel_rfl) (by kernel_rfl) (by kernel_rfl) (fun _ _ _ h => h) (Or.inl ⟨by rfl, ?hy56⟩) (by assumption) ?_
                  case hy56 => (intro w hSw; (try dsimp only at hSw); go_simp; all_goals with_reducible rfl)
                  try simp only [Act.put, List.setIfInBounds_toArray, List.set_cons_zero, List.set_cons_succ]
                  refine wpAnyH_take (i := 1) (oi := { dst := some 63, op := Op.load 3 (Operand.tmp 62), type := 3, pos := "outright.go:118", after := #[{ on := 0, ground := Ground.data }], guard := none }) (v := ?vv57) rfl (by kernel_rfl) (by kernel_rfl) (by kernel_rfl) (fun _ _ _ h => h) (Or.inl ⟨by rfl, ?hy57⟩) (by assumption) ?_
                  case hy57 => (intro w hSw; (try dsimp only at hSw); go_simp; all_goals with_reducible rfl)
                  try simp only [Act.put, List.setIfInBounds_toArray, List.set_cons_zero, List.set_cons_succ]
                  refine wpAnyH_take (i := 2) (oi := { dst := some 64, op := Op.binOp BinOp.neq 3 (Operand.tmp 63) (Operand.const (Value.int IntKind.i64 0)) 3, type := 4, pos := "outright.go:118", after := #[{ on := 1, ground := Ground.data }], guard := none }) (v := ?vv58) rfl (by kernel_rfl) (by kernel_rfl) (by kernel_rfl) (fun _ _ _ h => h) (Or.inl ⟨by rfl, ?hy58⟩) (by assumption) ?_
                  case hy58 => (intro w hSw; (try dsimp only at hSw); go_simp; all_goals with_reducible rfl)
                  try simp only [Act.put, List.setIfInBounds_toArray, List.set_cons_zero, List.set_cons_succ]
                  refine wpAnyH_take (i := 3) (oi := { dst := some 65, op := Op.move (Operand.tmp 64), type := 4, pos := "outright.go:118", after := #[{ on := 2, ground := Ground.data }], guard := none }) (v := ?vv59) rfl (by kernel_rfl) (by kernel_rfl) (by kernel_rfl) (fun _ _ _ h => h) (Or.inl ⟨by rfl, ?hy59⟩) (by assumption) ?_
                  case hy59 => (intro w hSw; (try dsimp only at hSw); go_simp; all_goals with_reducible rfl)
                  try simp only [Act.put, List.setIfInBounds_toArray, List.set_cons_zero, List.set_cons_succ]
                  refine wpAnyH_take (i := 4) (oi := { dst := some 66, op := Op.fieldAddr 44 (Operand.tmp 8) 0, type := 0, pos := "outright.go:118", after := #[{ on := 3, ground := Ground.guard }], guard := some (3, true) }) (v := ?vv60) rfl (by kernel_rfl) (by kernel_rfl) (by kernel_rfl) (fun _ _ _ h => h) (Or.inl ⟨by rfl, ?hy60⟩) (by assumption) ?_
                  case hy60 => (intro w hSw; (try dsimp only at hSw); go_simp; all_goals with_reducible rfl)
                  try simp only [Act.put, List.setIfInBounds_toArray, List.set_cons_zero, List.set_cons_succ]
                  refine wpAnyH_take (i := 5) (oi := { dst := some 67, op := Op.load 3 (Operand.tmp 66), type := 3, pos := "outright.go:118", after := #[{ on := 4, ground := Ground.data }, { on := 3, ground := Ground.guard }], guard := some (3, true) }) (v := ?vv61) rfl (by kernel_rfl) (by kernel_rfl) (by kernel_rfl) (fun _ _ _ h => h) (Or.inl ⟨by rfl, ?hy61⟩) (by assumption) ?_
                  case hy61 => (intro w hSw; (try dsimp only at hSw); go_simp; all_goals with_reducible rfl)
                  try simp only [Act.put, List.setIfInBounds_toArray, List.set_cons_zero, List.set_cons_succ]
                  refine wpAnyH_take (i := 6) (oi := { dst := some 68, op := Op.binOp BinOp.neq 3 (Operand.tmp 67) (Operand.const (Value.int IntKind.i64 1)) 3, type := 4, pos := "outright.go:118", after := #[{ on := 5, ground := Ground.data }, { on := 3, ground := Ground.guard }], guard := some (3, true) }) (v := ?vv62) rfl (by kernel_rfl) (by kernel_rfl) (by kernel_rfl) (fun _ _ _ h => h) (Or.inl ⟨by rfl, ?hy62⟩) (by assumption) ?_
                  case hy62 => (intro w hSw; (try dsimp only at hSw); go_simp; all_goals with_reducible rfl)
                  try simp only [Act.put, List.setIfInBounds_toArray, List.set_cons_zero, List.set_cons_succ]
                  refine wpAnyH_take (i := 7) (oi := { dst := some 69, op := Op.pick (Operand.tmp 65) (Operand.tmp 68) (Operand.const (Value.bool false)), type := 4, pos := "outright.go:118", after := #[{ on := 3, ground := Ground.data }, { on := 6, ground := Ground.data }], guard := none }) (v := ?vv63) rfl (by kernel_rfl) (by kernel_rfl) (by kernel_rfl) (fun _ _ _ h => h) (Or.inl ⟨by rfl, ?hy63⟩) (by assumption) ?_
                  case hy63 => (intro w hSw; (try dsimp only at hSw); go_simp; all_goals with_reducible rfl)
                  try simp only [Act.put, List.setIfInBounds_toArray, List.set_cons_zero, List.set_cons_succ]
                  refine wpAnyH_take (i := 8) (oi := { dst := some 70, op := Op.move (Operand.tmp 69), type := 4, pos := "outright.go:118", after := #[{ on := 7, ground := Ground.data }, { on := 3, ground := Ground.chain }], guard := none }) (v := ?vv64) rfl (by kernel_rfl) (by kernel_rfl) (by kernel_rfl) (fun _ _ _ h => h) (Or.inl ⟨by rfl, ?hy64⟩) (by assumption) ?_
                  case hy64 => (intro w hSw; (try dsimp only at hSw); go_simp; all_goals with_reducible rfl)
                  try simp only [Act.put, List.setIfInBounds_toArray, List.set_cons_zero, List.set_cons_succ]
                  refine wpAnyH_take (i := 9) (oi := { dst := some 71, op := Op.move (Operand.tmp 6), type := 3, pos := "outright.go:118", after := #[{ on := 8, ground := Ground.guard }], guard := some (8, false) }) (v := ?vv65) rfl (by kernel_rfl) (by kernel_rfl) (by kernel_rfl) (fun _ _ _ h => h) (Or.inl ⟨by rfl, ?hy65⟩) (by assumption) ?_
                  case hy65 => (intro w hSw; (try dsimp only at hSw); go_simp; all_goals with_reducible rfl)
                  try simp only [Act.put, List.setIfInBounds_toArray, List.set_cons_zero, List.set_cons_succ]
                  refine wpAnyH_take (i := 10) (oi := { dst := some 72, op := Op.binOp BinOp.sub 3 (Operand.const (Value.int IntKind.i64 1)) (Operand.tmp 71) 3, type := 3, pos := "outright.go:118", after := #[{ on := 9, ground := Ground.data }, { on := 8, ground := Ground.guard }], guard := some (8, false) }) (v := ?vv66) rfl (by kernel_rfl) (by kernel_rfl) (by kernel_rfl) (fun _ _ _ h => h) (Or.inl ⟨by rfl, ?hy66⟩) (by assumption) ?_
                  case hy66 => (intro w hSw; (try dsimp only at hSw); go_simp; all_goals with_reducible rfl)
                  try simp only [Act.put, List.setIfInBounds_toArray, List.set_cons_zero, List.set_cons_succ]
                  refine wpAnyH_take (i := 11) (oi := { dst := some 73, op := Op.indexAddr 42 (Operand.tmp 3) (Operand.tmp 72), type := 0, pos := "outright.go:118", after := #[{ on := 10, ground := Ground.data }, { on := 8, ground := Ground.guard }], guard := some (8, false) }) (v := ?vv67) rfl (by kernel_rfl) (by kernel_rfl) (by kernel_rfl) (fun _ _ _ h => h) (Or.inl ⟨by rfl, ?hy67⟩) (by assumption) ?_
                  case hy67 => (intro w hSw; (try dsimp only at hSw); go_simp; all_goals with_reducible rfl)
                  try simp only [Act.put, List.setIfInBounds_toArray, List.set_cons_zero, List.set_cons_succ]
                  refine wpAnyH_take (i := 12) (oi := { dst := some 74, op := Op.load 23 (Operand.tmp 73), type := 23, pos := "outright.go:118", after := #[{ on := 11, ground := Ground.data }, { on := 8, ground := Ground.guard }], guard := some (8, false) }) (v := ?vv68) rfl (by kernel_rfl) (by kernel_rfl) (by kernel_rfl) (fun _ _ _ h => h) (Or.inl ⟨by rfl, ?hy68⟩) (by assumption) ?_
                  case hy68 => (intro w hSw; (try dsimp only at hSw); go_simp; all_goals with_reducible rfl)
                  try simp only [Act.put, List.setIfInBounds_toArray, List.set_cons_zero, List.set_cons_succ]
                  refine wpAnyH_take (i := 13) (oi := { dst := some 75, op := Op.fieldAddr 29 (Operand.tmp 5) 1, type := 0, pos := "outright.go:118", after := #[{ on := 8, ground := Ground.guard }], guard := some (8, false) }) (v := ?vv69) rfl (by kernel_rfl) (by kernel_rfl) (by kernel_rfl) (fun _ _ _ h => h) (Or.inl ⟨by rfl, ?hy69⟩) (by assumption) ?_
                  case hy69 => (intro w hSw; (try dsimp only at hSw); go_simp; all_goals with_reducible rfl)
                  try simp only [Act.put, List.setIfInBounds_toArray, List.set_cons_zero, List.set_cons_succ]
                  refine wpAnyH_take (i := 14) (oi := { dst := some 76, op := Op.load 2 (Operand.tmp 75), type := 2, pos := "outright.go:118", after := #[{ on := 13, ground := Ground.data }, { on := 8, ground := Ground.guard }], guard := some (8, false) }) (v := ?vv70) rfl (by kernel_rfl) (by kernel_rfl) (by kernel_rfl) (fun _ _ _ h => h) (Or.inl ⟨by rfl, ?hy70⟩) (by assumption) ?_
                  case hy70 => (intro w hSw; (try dsimp only at hSw); go_simp; all_goals with_reducible rfl)
                  try simp only [Act.put, List.setIfInBounds_toArray, List.set_cons_zero, List.set_cons_succ]
                  refine wpAnyH_take (i := 16) (oi := { dst := some 78, op := Op.move (Operand.tmp 6), type := 3, pos := "outright.go:118", after := #[{ on := 8, ground := Ground.guard }], guard := some (8, false) }) (v := ?vv71) rfl (by kernel_rfl) (by kernel_rfl) (by kernel_rfl) (fun _ _ _ h => h) (Or.inl ⟨by rfl, ?hy71⟩) (by assumption) ?_
                  case hy71 => (intro w hSw; (try dsimp only at hSw); go_simp; all_goals with_reducible rfl)
                  try simp only [Act.put, List.setIfInBounds_toArray, List.set_cons_zero, List.set_cons_succ]
                  refine wpAnyH_take (i := 17) (oi := { dst := some 79, op := Op.indexAddr 42 (Operand.tmp 3) (Operand.tmp 78), type := 0, pos := "outright.go:118", after := #[{ on := 16, ground := Ground.data }, { on := 8, ground := Ground.guard }], guard := some (8, false) }) (v := ?vv72) rfl (by kernel_rfl) (by kernel_rfl) (by kernel_rfl) (fun _ _ _ h => h) (Or.inl ⟨by rfl, ?hy72⟩) (by assumption) ?_
                  case hy72 => (intro w hSw; (try dsimp only at hSw); go_simp; all_goals with_reducible rfl)
                  try simp only [Act.put, List.setIfInBounds_toArray, List.set_cons_zero, List.set_cons_succ]
                  refine wpAnyH_take (i := 18) (oi := { dst := some 80, op := Op.load 23 (Operand.tmp 79), type := 23, pos := "outright.go:118", after := #[{ on := 17, ground := Ground.data }, { on := 8, ground := Ground.guard }], guard := some (8, false) }) (v := ?vv73) rfl (by kernel_rfl) (by kernel_rfl) (by kernel_rfl) (fun _ _ _ h => h) (Or.inl ⟨by rfl, ?hy73⟩) (by assumption) ?_
                  case hy73 => (intro w hSw; (try dsimp only at hSw); go_simp; all_goals with_reducible rfl)
                  try simp only [Act.put, List.setIfInBounds_toArray, List.set_cons_zero, List.set_cons_succ]
                  refine wpAnyH_take (i := 19) (oi := { dst := some 81, op := Op.fieldAddr 29 (Operand.tmp 5) 1, type := 0, pos := "outright.go:118", after := #[{ on := 8, ground := Ground.guard }], guard := some (8, false) }) (v := ?vv74) rfl (by kernel_rfl) (by kernel_rfl) (by kernel_rfl) (fun _ _ _ h => h) (Or.inl ⟨by rfl, ?hy74⟩) (by assumption) ?_
                  case hy74 => (intro w hSw; (try dsimp only at hSw); go_simp; all_goals with_reducible rfl)
                  try simp only [Act.put, List.setIfInBounds_toArray, List.set_cons_zero, List.set_cons_succ]
                  refine wpAnyH_take (i := 20) (oi := { dst := some 82, op := Op.load 2 (Operand.tmp 81), type := 2, pos := "outright.go:118", after := #[{ on := 19, ground := Ground.data }, { on := 8, ground := Ground.guard }], guard := some (8, false) }) (v := ?vv75) rfl (by kernel_rfl) (by kernel_rfl) (by kernel_rfl) (fun _ _ _ h => h) (Or.inl ⟨by rfl, ?hy75⟩) (by assumption) ?_
                  case hy75 => (intro w hSw; (try dsimp only at hSw); go_simp; all_goals with_reducible rfl)
                  try simp only [Act.put, List.setIfInBounds_toArray, List.set_cons_zero, List.set_cons_succ]
                  refine wpAnyH_ready (rs := [15]) (by kernel_rfl) (by simp) ?_
                  refine AllReadyH.cons (o := { dst := some 77, op := Op.call { callee := Callee.value (Operand.func 14), args := #[Operand.tmp 74, Operand.tmp 76], argTypes := #[23, 2] }, type := 3, pos := "outright.go:118", after := #[{ on := 12, ground := Ground.data }, { on := 14, ground := Ground.data }, { on := 8, ground := Ground.chain }, { on := 8, ground := Ground.guard }], guard := some (8, false) }) rfl (fun K hK => ?_) AllReadyH.nil
                  go_simp
                  refine (c14r.out W hIW).mono ?_
                  rintro e' Wx ⟨rfl, hIWx⟩
                  go_wp2_with fail
                  refine hK.out _ _ (hfull.out _ hIWx) (fun hHeld => ?_)
                  clear hK K hIW
                  try simp only [Act.put, List.setIfInBounds_toArray, List.set_cons_zero, List.set_cons_succ]
                  refine wpAnyH_ready (rs := [21]) (by kernel_rfl) (by simp) ?_
                  refine AllReadyH.cons (o := { dst := some 83, op := Op.call { callee := Callee.value (Operand.func 14), args := #[Operand.tmp 80, Operand.tmp 82], argTypes := #[23, 2] }, type := 3, pos := "outright.go:118", after := #[{ on := 18, ground := Ground.data }, { on := 20, ground := Ground.data }, { on := 15, ground := Ground.chain }, { on := 8, ground := Ground.guard }], guard := some (8, false) }) rfl (fun K hK => ?_) AllReadyH.nil
                  go_simp
                  refine (c14s.out Wx hIWx).mono ?_
                  rintro e' Wxx ⟨rfl, hIWxx⟩
                  go_wp2_with fail
                  refine hK.out _ _ (hfull.out _ hIWxx) (fun hHeld => ?_)
                  clear hK K hIWx
                  try simp only [Act.put, List.setIfInBounds_toArray, List.set_cons_zero, List.set_cons_succ]
                  refine wpAnyH_ready (rs := [22]) (by kernel_rfl) (by simp) ?_
                  refine AllReadyH.cons (o := { dst := some 84, op := Op.call { callee := Callee.value (Operand.func 20), args := #[Operand.tmp 83], argTypes := #[3] }, type := 3, pos := "outright.go:118", after := #[{ on := 21, ground := Ground.data }, { on := 21, ground := Ground.chain }, { on := 8, ground := Ground.guard }], guard := some (8, false) }) rfl (fun K hK => ?_) AllReadyH.nil
                  go_simp
                  refine (c20.out Wxx hIWxx).mono ?_
                  rintro e' Wxxx ⟨rfl, hIWxxx⟩
                  go_wp2_with fail
                  refine hK.out _ _ (hfull.out _ hIWxxx) (fun hHeld => ?_)
                  clear hK K hIWxx
                  try simp only [Act.put, List.setIfInBounds_toArray, List.set_cons_zero, List.set_cons_succ]
                  refine wpAnyH_take (i := 23) (oi := { dst := some 85, op := Op.binOp BinOp.neq 3 (Operand.tmp 77) (Operand.tmp 84) 3, type := 4, pos := "outright.go:118", after := #[{ on := 15, ground := Ground.data }, { on := 22, ground := Ground.data }, { on := 8, ground := Ground.guard }], guard := some (8, false) }) (v := ?vv76) rfl (by kernel_rfl) (by kernel_rfl) (by kernel_rfl) (fun _ _ _ h => h) (Or.inl ⟨by rfl, ?hy76⟩) (by assumption) ?_
                  case hy76 => (intro w hSw; (try dsimp only at hSw); go_simp; all_goals with_reducible rfl)
                  try simp only [Act.put, List.setIfInBounds_toArray, List.set_cons_zero, List.set_cons_succ]
                  refine wpAnyH_take (i := 24) (oi := { dst := some 86, op := Op.pick (Operand.tmp 70) (Operand.const (Value.bool true)) (Operand.tmp 85), type := 4, pos := "outright.go:118", after := #[{ on := 8, ground := Ground.data }, { on := 23, ground := Ground.data }], guard := none }) (v := ?vv77) rfl (by kernel_rfl) (by kernel_rfl) (by kernel_rfl) (fun _ _ _ h => h) (Or.inl ⟨by rfl, ?hy77⟩) (by assumption) ?_
                  case hy77 => (intro w hSw; (try dsimp only at hSw); go_simp; all_goals with_reducible rfl)
                  try simp only [Act.put, List.setIfInBounds_toArray, List.set_cons_zero, List.set_cons_succ]
                  refine wpAnyH_done (by kernel_rfl) ?_ _
                  clear hfull hHeld
                  go_wp2_with fail
                  go_meet
                  exact ⟨rfl, (hend.out _ hIWxxx)⟩
                case rest =>
                  obtain ⟨rfl, hV⟩ := hcut
                  clear e7 h8 e8 d4 d5 d6
                  obtain ⟨d4, d5, d6⟩ := hV.en.cells
                  go_upto_region 20 with fail
                  go_cut [112] from 25 to 112 (fun x wx => x = .bool false ∧ Ev w O #[.bool false, .int .i64 id, .bool g, .int .i64 kd] p0 b0 p1 b1 A' B' wx)
                  case first =>
                    obtain ⟨N1, hN1⟩ : ∃ N1, (A').count true = N1 := ⟨_, rfl⟩
                    obtain ⟨N2, hN2⟩ : ∃ N2, (A').count false = N2 := ⟨_, rfl⟩
                    obtain ⟨ll, hll⟩ : ∃ ll, (A').live = ll := ⟨_, rfl⟩
                    have hM1 := hMs.count hV.en.tw.t0.ok hV.en.tw.t1.ok false
                    have hM2 := hMs.count hV.en.tw.t0.ok hV.en.tw.t1.ok true
                    have hM3 := hMs.live hV.en.tw.t0.ok hV.en.tw.t1.ok
                    simp only [Bool.not_false, Bool.not_true] at hM1 hM2
                    rw [hN1] at hM1
                    rw [hN2] at hM2
                    rw [hll] at hM3
                    obtain ⟨P, hP⟩ : ∃ P : World → Prop, P = fun W => Ev w O #[.bool false, .int .i64 id, .bool g, .int .i64 kd] p0 b0 p1 b1 A' B' W := ⟨_, rfl⟩
                    have c18 : Hid (∀ W, P W → Calls Try.prog 18 #[.pointer (some ⟨p0, 0, none⟩), .bool true] W fun e W' => e = .returned (.int .i64 (N1 : Int)) ∧ P W') := fun W h => by
                      subst hP
                      refine (count_any W p0 b0 _ true h.en.tw.t0).mono ?_
                      rintro e W' ⟨rfl, hB⟩
                      exact ⟨by rw [hN1], h.below hB⟩
                    have c18b : Hid (∀ W, P W → Calls Try.prog 18 #[.pointer (some ⟨p1, 0, none⟩), .bool false] W fun e W' => e = .returned (.int .i64 (N1 : Int)) ∧ P W') := fun W h => by
                      subst hP
                      refine (count_any W p1 b1 _ false h.en.tw.t1).mono ?_
                      rintro e W' ⟨rfl, hB⟩
                      exact ⟨by rw [hM1], h.below hB⟩
                    have c18c : Hid (∀ W, P W → Calls Try.prog 18 #[.pointer (some ⟨p0, 0, none⟩), .bool false] W fun e W' => e = .returned (.int .i64 (N2 : Int)) ∧ P W') := fun W h => by
                      subst hP
                      refine (count_any W p0 b0 _ false h.en.tw.t0).mono ?_
                      rintro e W' ⟨rfl, hB⟩
                      exact ⟨by rw [hN2], h.below hB⟩
                    have c18d : Hid (∀ W, P W → Calls Try.prog 18 #[.pointer (some ⟨p1, 0, none⟩), .bool true] W fun e W' => e = .returned (.int .i64 (N2 : Int)) ∧ P W') := fun W h => by
                      subst hP
                      refine (count_any W p1 b1 _ true h.en.tw.t1).mono ?_
                      rintro e W' ⟨rfl, hB⟩
                      exact ⟨by rw [hM2], h.below hB⟩
                    have c11a : Hid (∀ W, P W → Calls Try.prog 11 #[.pointer (some ⟨p0, 0, none⟩)] W fun e W' => ∃ v, e = .returned v ∧ P W' ∧ R EI W' v ll) := fun W h => by
                      subst hP
                      refine (live_any W p0 b0 _ h.en.tw.t0).mono ?_
                      rintro e W' ⟨v, rfl, hR, _, hB⟩
                      exact ⟨v, rfl, h.below hB, by rw [← hll]; exact hR⟩
                    have c11b : Hid (∀ W, P W → Calls Try.prog 11 #[.pointer (some ⟨p1, 0, none⟩)] W fun e W' => ∃ v, e = .returned v ∧ P W' ∧ R EI W' v ll ∧ Below W.heap.size W W') := fun W h => by
                      subst hP
                      refine (live_any W p1 b1 _ h.en.tw.t1).mono ?_
                      rintro e W' ⟨v, rfl, hR, _, hB⟩
                      exact ⟨v, rfl, h.below hB, by rw [← hM3]; exact hR, hB⟩
                    have c12 : Hid (∀ W v1 v2, P W → R EI W v1 ll → R EI W v2 ll → Calls Try.prog 12 #[v1, v2] W fun e W' => e = .returned (.bool true) ∧ P W') := fun W v1 v2 h r1 r2 => by
                      subst hP
                      refine (sameInts_eq W v1 v2 ll r1.isIn r2.isIn).mono ?_
                      rintro e W' ⟨rfl, hB⟩
                      exact ⟨rfl, h.below hB⟩
                    have hfull : Hid (∀ W, P W → (fun W => W.cell? ⟨w.heap.size, 0, none⟩ = some (.pointer (some ⟨p0, 0, none⟩)) ∧ W.cell? ⟨w.heap.size, 1, none⟩ = some (.pointer (some ⟨p1, 0, none⟩)) ∧ W.cell? ⟨O, 1, none⟩ = some (.int .i64 id)) W) := fun W h => by
                      subst hP
                      exact ⟨cell_blk h.en.ar 0, cell_blk h.en.ar 1, cell_blk h.op 1⟩
                    have hend : Hid (∀ W, P W → Ev w O #[.bool false, .int .i64 id, .bool g, .int .i64 kd] p0 b0 p1 b1 A' B' W) := fun W h => by subst hP; exact h
                    have q0 : ((N1 : Int) != (N1 : Int)) = false := by simp
                    have q1 : ((N2 : Int) != (N2 : Int)) = false := by simp
                    have hin : ∀ W, Ev w O #[.bool false, .int .i64 id, .bool g, .int .i64 kd] p0 b0 p1 b1 A' B' W → P W := fun W h1 => by subst hP; exact h1
                    clear hN1 hN2 hll hM1 hM2 hM3
                    have hIW := hV.below (Below.refl _ _).drew
                    replace hIW := hin _ hIW
                    clear hP hin
                    refine wp_region_held_drew (S := (fun W => W.cell? ⟨w.heap.size, 0, none⟩ = some (.pointer (some ⟨p0, 0, none⟩)) ∧ W.cell? ⟨w.heap.size, 1, none⟩ = some (.pointer (some ⟨p1, 0, none⟩)) ∧ W.cell? ⟨O, 1, none⟩ = some (.int .i64 id))) (by kernel_rfl) (hfull.out _ hIW) (fun hHeld => ?_)
                    generalize hWg : World.drew _ = W at hIW hHeld ⊢
                    clear hWg hV
                    refine wpAnyH_take (i := 0) (oi := { dst := some 87, op := Op.indexAddr 42 (Operand.tmp 3) (Operand.const (Value.int IntKind.i64 0)), type := 0, pos := "outright.go:121", after := #[], guard := none }) (v := ?vv78) rfl (by kernel_rfl) (by kernel_rfl) (by kernel_rfl) (fun _ _ _ h => h) (Or.inl ⟨by rfl, ?hy78⟩) (by assumption) ?_
                    case hy78 => (intro w hSw; (try dsimp only at hSw); go_simp; all_goals with_reducible rfl)
                    try simp only [Act.put, List.setIfInBounds_toArray, List.set_cons_zero, List.set_cons_succ]
                    refine wpAnyH_take (i := 1) (oi := { dst := some 88, op := Op.load 23 (Operand.tmp 87), type := 23, pos := "outright.go:121", after := #[{ on := 0, ground := Ground.data }], guard := none }) (v := ?vv79) rfl (by kernel_rfl) (by kernel_rfl) (by kernel_rfl) (fun _ _ _ h => h) (Or.inl ⟨by rfl, ?hy79⟩) (by assumption) ?_
                    case hy79 => (intro w hSw; (try dsimp only at hSw); go_simp; all_goals with_reducible rfl)
                    try simp only [Act.put, List.setIfInBounds_toArray, List.set_cons_zero, List.set_cons_succ]
                    refine wpAnyH_take (i := 3) (oi := { dst := some 90, op := Op.indexAddr 42 (Operand.tmp 3) (Operand.const (Value.int IntKind.i64 1)), type := 0, pos := "outright.go:121", after := #[], guard := none }) (v := ?vv80) rfl (by kernel_rfl) (by kernel_rfl) (by kernel_rfl) (fun _ _ _ h => h) (Or.inl ⟨by rfl, ?hy80⟩) (by assumption) ?_
                    case hy80 => (intro w hSw; (try dsimp only at hSw); go_simp; all_goals with_reducible rfl)
                    try simp only [Act.put, List.setIfInBounds_toArray, List.set_cons_zero, List.set_cons_succ]
                    refine wpAnyH_take (i := 4) (oi := { dst := some 91, op := Op.load 23 (Operand.tmp 90), type := 23, pos := "outright.go:121", after := #[{ on := 3, ground := Ground.data }], guard := none }) (v := ?vv81) rfl (by kernel_rfl) (by kernel_rfl) (by kernel_rfl) (fun _ _ _ h => h) (Or.inl ⟨by rfl, ?hy81⟩) (by assumption) ?_
                    case hy81 => (intro w hSw; (try dsimp only at hSw); go_simp; all_goals with_reducible rfl)
                    try simp only [Act.put, List.setIfInBounds_toArray, List.set_cons_zero, List.set_cons_succ]
                    refine wpAnyH_ready (rs := [2]) (by kernel_rfl) (by simp) ?_
                    refine AllReadyH.cons (o := { dst := some 89, op := Op.call { callee := Callee.value (Operand.func 18), args := #[Operand.tmp 88, Operand.const (Value.bool true)], argTypes := #[23, 4] }, type := 3, pos := "outright.go:121", after := #[{ on := 1, ground := Ground.data }], guard := none }) rfl (fun K hK => ?_) AllReadyH.nil
                    go_simp
                    refine (c18.out W hIW).mono ?_
                    rintro e' Wx ⟨rfl, hIWx⟩
                    go_wp2_with fail
                    refine hK.out _ _ (hfull.out _ hIWx) (fun hHeld => ?_)
                    clear hK K hIW
                    try simp only [Act.put, List.setIfInBounds_toArray, List.set_cons_zero, List.set_cons_succ]
                    refine wpAnyH_ready (rs := [5]) (by kernel_rfl) (by simp) ?_
                    refine AllReadyH.cons (o := { dst := some 92, op := Op.call { callee := Callee.value (Operand.func 18), args := #[Operand.tmp 91, Operand.const (Value.bool false)], argTypes := #[23, 4] }, type := 3, pos := "outright.go:121", after := #[{ on := 4, ground := Ground.data }, { on := 2, ground := Ground.chain }], guard := none }) rfl (fun K hK => ?_) AllReadyH.nil
                    go_simp
                    refine (c18b.out Wx hIWx).mono ?_
                    rintro e' Wxx ⟨rfl, hIWxx⟩
                    go_wp2_with fail
                    refine hK.out _ _ (hfull.out _ hIWxx) (fun hHeld => ?_)
                    clear hK K hIWx
                    try simp only [Act.put, List.setIfInBounds_toArray, List.set_cons_zero, List.set_cons_succ]
                    refine wpAnyH_take (i := 6) (oi := { dst := some 93, op := Op.binOp BinOp.neq 3 (Operand.tmp 89) (Operand.tmp 92) 3, type := 4, pos := "outright.go:121", after := #[{ on := 2, ground := Ground.data }, { on := 5, ground := Ground.data }], guard := none }) (v := ?vv82) rfl (by kernel_rfl) (by kernel_rfl) (by kernel_rfl) (fun _ _ _ h => h) (Or.inl ⟨by rfl, ?hy82⟩) (by assumption) ?_
                    case hy82 => (intro w hSw; (try dsimp only at hSw); go_simp; all_goals with_reducible rfl)
                    try simp only [Act.put, List.setIfInBounds_toArray, List.set_cons_zero, List.set_cons_succ]
                    refine wpAnyH_take (i := 7) (oi := { dst := some 94, op := Op.move (Operand.tmp 93), type := 4, pos := "outright.go:121", after := #[{ on := 6, ground := Ground.data }, { on := 5, ground := Ground.chain }], guard := none }) (v := ?vv83) rfl (by kernel_rfl) (by kernel_rfl) (by kernel_rfl) (fun _ _ _ h => h) (Or.inl ⟨by rfl, ?hy83⟩) (by assumption) ?_
                    case hy83 => (intro w hSw; (try dsimp only at hSw); go_simp; all_goals with_reducible rfl)
                    try simp only [Act.put, List.setIfInBounds_toArray, List.set_cons_zero, List.set_cons_succ]
                    refine wpAnyH_take (i := 8) (oi := { dst := some 95, op := Op.indexAddr 42 (Operand.tmp 3) (Operand.const (Value.int IntKind.i64 0)), type := 0, pos := "outright.go:121", after := #[{ on := 7, ground := Ground.guard }], guard := some (7, false) }) (v := ?vv84) rfl (by kernel_rfl) (by kernel_rfl) (by kernel_rfl) (fun _ _ _ h => h) (Or.inl ⟨by rfl, ?hy84⟩) (by assumption) ?_
                    case hy84 => (intro w hSw; (try dsimp only at hSw); go_simp; all_goals with_reducible rfl)
                    try simp only [Act.put, List.setIfInBounds_toArray, List.set_cons_zero, List.set_cons_succ]
                    refine wpAnyH_take (i := 9) (oi := { dst := some 96, op := Op.load 23 (Operand.tmp 95), type := 23, pos := "outright.go:121", after := #[{ on := 8, ground := Ground.data }, { on := 7, ground := Ground.guard }], guard := some (7, false) }) (v := ?vv85) rfl (by kernel_rfl) (by kernel_rfl) (by kernel_rfl) (fun _ _ _ h => h) (Or.inl ⟨by rfl, ?hy85⟩) (by assumption) ?_
                    case hy85 => (intro w hSw; (try dsimp only at hSw); go_simp; all_goals with_reducible rfl)
                    try simp only [Act.put, List.setIfInBounds_toArray, List.set_cons_zero, List.set_cons_succ]
                    refine wpAnyH_take (i := 11) (oi := { dst := some 98, op := Op.indexAddr 42 (Operand.tmp 3) (Operand.const (Value.int IntKind.i64 1)), type := 0, pos := "outright.go:121", after := #[{ on := 7, ground := Ground.guard }], guard := some (7, false) }) (v := ?vv86) rfl (by kernel_rfl) (by kernel_rfl) (by kernel_rfl) (fun _ _ _ h => h) (Or.inl ⟨by rfl, ?hy86⟩) (by assumption) ?_
                    case hy86 => (intro w hSw; (try dsimp only at hSw); go_simp; all_goals with_reducible rfl)
                    try simp only [Act.put, List.setIfInBounds_toArray, List.set_cons_zero, List.set_cons_succ]
                    refine wpAnyH_take (i := 12) (oi := { dst := some 99, op := Op.load 23 (Operand.tmp 98), type := 23, pos := "outright.go:121", after := #[{ on := 11, ground := Ground.data }, { on := 7, ground := Ground.guard }], guard := some (7, false) }) (v := ?vv87) rfl (by kernel_rfl) (by kernel_rfl) (by kernel_rfl) (fun _ _ _ h => h) (Or.inl ⟨by rfl, ?hy87⟩) (by assumption) ?_
                    case hy87 => (intro w hSw; (try dsimp only at hSw); go_simp; all_goals with_reducible rfl)
                    try simp only [Act.put, List.setIfInBounds_toArray, List.set_cons_zero, List.set_cons_succ]
                    refine wpAnyH_ready (rs := [10]) (by kernel_rfl) (by simp) ?_
                    refine AllReadyH.cons (o := { dst := some 97, op := Op.call { callee := Callee.value (Operand.func 18), args := #[Operand.tmp 96, Operand.const (Value.bool false)], argTypes := #[23, 4] }, type := 3, pos := "outright.go:121", after := #[{ on := 9, ground := Ground.data }, { on := 7, ground := Ground.chain }, { on := 7, ground := Ground.guard }], guard := some (7, false) }) rfl (fun K hK => ?_) AllReadyH.nil
                    go_simp
                    refine (c18c.out Wxx hIWxx).mono ?_
                    rintro e' Wxxx ⟨rfl, hIWxxx⟩
                    go_wp2_with fail
                    refine hK.out _ _ (hfull.out _ hIWxxx) (fun hHeld => ?_)
                    clear hK K hIWxx
                    try simp only [Act.put, List.setIfInBounds_toArray, List.set_cons_zero, List.set_cons_succ]
                    refine wpAnyH_ready (rs := [13]) (by kernel_rfl) (by simp) ?_
                    refine AllReadyH.cons (o := { dst := some 100, op := Op.call { callee := Callee.value (Operand.func 18), args := #[Operand.tmp 99, Operand.const (Value.bool true)], argTypes := #[23, 4] }, type := 3, pos := "outright.go:121", after := #[{ on := 12, ground := Ground.data }, { on := 10, ground := Ground.chain }, { on := 7, ground := Ground.guard }], guard := some (7, false) }) rfl (fun K hK => ?_) AllReadyH.nil
                    go_simp
                    refine (c18d.out Wxxx hIWxxx).mono ?_
                    rintro e' Wxxxx ⟨rfl, hIWxxxx⟩
                    go_wp2_with fail
                    refine hK.out _ _ (hfull.out _ hIWxxxx) (fun hHeld => ?_)
                    clear hK K hIWxxx
                    try simp only [Act.put, List.setIfInBounds_toArray, List.set_cons_zero, List.set_cons_succ]
                    refine wpAnyH_take (i := 14) (oi := { dst := some 101, op := Op.binOp BinOp.neq 3 (Operand.tmp 97) (Operand.tmp 100) 3, type := 4, pos := "outright.go:121", after := #[{ on := 10, ground := Ground.data }, { on := 13, ground := Ground.data }, { on := 7, ground := Ground.guard }], guard := some (7, false) }) (v := ?vv88) rfl (by kernel_rfl) (by kernel_rfl) (by kernel_rfl) (fun _ _ _ h => h) (Or.inl ⟨by rfl, ?hy88⟩) (by assumption) ?_
                    case hy88 => (intro w hSw; (try dsimp only at hSw); go_simp; all_goals with_reducible rfl)
                    try simp only [Act.put, List.setIfInBounds_toArray, List.set_cons_zero, List.set_cons_succ]
                    refine wpAnyH_take (i := 15) (oi := { dst := some 102, op := Op.pick (Operand.tmp 94) (Operand.const (Value.bool true)) (Operand.tmp 101), type := 4, pos := "outright.go:121", after := #[{ on := 7, ground := Ground.data }, { on := 14, ground := Ground.data }], guard := none }) (v := ?vv89) rfl (by kernel_rfl) (by kernel_rfl) (by kernel_rfl) (fun _ _ _ h => h) (Or.inl ⟨by rfl, ?hy89⟩) (by assumption) ?_
                    case hy89 => (intro w hSw; (try dsimp only at hSw); go_simp; all_goals with_reducible rfl)
                    try simp only [Act.put, List.setIfInBounds_toArray, List.set_cons_zero, List.set_cons_succ]
                    refine wpAnyH_take (i := 16) (oi := { dst := some 103, op := Op.move (Operand.tmp 102), type := 4, pos := "outright.go:121", after := #[{ on := 15, ground := Ground.data }, { on := 13, ground := Ground.chain }], guard := none }) (v := ?vv90) rfl (by kernel_rfl) (by kernel_rfl) (by kernel_rfl) (fun _ _ _ h => h) (Or.inl ⟨by rfl, ?hy90⟩) (by assumption) ?_
                    case hy90 => (intro w hSw; (try dsimp only at hSw); go_simp; all_goals with_reducible rfl)
                    try simp only [Act.put, List.setIfInBounds_toArray, List.set_cons_zero, List.set_cons_succ]
                    refine wpAnyH_take (i := 17) (oi := { dst := some 104, op := Op.indexAddr 42 (Operand.tmp 3) (Operand.const (Value.int IntKind.i64 0)), type := 0, pos := "outright.go:121", after := #[{ on := 16, ground := Ground.guard }], guard := some (16, false) }) (v := ?vv91) rfl (by kernel_rfl) (by kernel_rfl) (by kernel_rfl) (fun _ _ _ h => h) (Or.inl ⟨by rfl, ?hy91⟩) (by assumption) ?_
                    case hy91 => (intro w hSw; (try dsimp only at hSw); go_simp; all_goals with_reducible rfl)
                    try simp only [Act.put, List.setIfInBounds_toArray, List.set_cons_zero, List.set_cons_succ]
                    refine wpAnyH_take (i := 18) (oi := { dst := some 105, op := Op.load 23 (Operand.tmp 104), type := 23, pos := "outright.go:121", after := #[{ on := 17, ground := Ground.data }, { on := 16, ground := Ground.guard }], guard := some (16, false) }) (v := ?vv92) rfl (by kernel_rfl) (by kernel_rfl) (by kernel_rfl) (fun _ _ _ h => h) (Or.inl ⟨by rfl, ?hy92⟩) (by assumption) ?_
                    case hy92 => (intro w hSw; (try dsimp only at hSw); go_simp; all_goals with_reducible rfl)
                    try simp only [Act.put, List.setIfInBounds_toArray, List.set_cons_zero, List.set_cons_succ]
                    refine wpAnyH_take (i := 20) (oi := { dst := some 107, op := Op.indexAddr 42 (Operand.tmp 3) (Operand.const (Value.int IntKind.i64 1)), type := 0, pos := "outright.go:121", after := #[{ on := 16, ground := Ground.guard }], guard := some (16, false) }) (v := ?vv93) rfl (by kernel_rfl) (by kernel_rfl) (by kernel_rfl) (fun _ _ _ h => h) (Or.inl ⟨by rfl, ?hy93⟩) (by assumption) ?_
                    case hy93 => (intro w hSw; (try dsimp only at hSw); go_simp; all_goals with_reducible rfl)
                    try simp only [Act.put, List.setIfInBounds_toArray, List.set_cons_zero, List.set_cons_succ]
                    refine wpAnyH_take (i := 21) (oi := { dst := some 108, op := Op.load 23 (Operand.tmp 107), type := 23, pos := "outright.go:121", after := #[{ on := 20, ground := Ground.data }, { on := 16, ground := Ground.guard }], guard := some (16, false) }) (v := ?vv94) rfl (by kernel_rfl) (by kernel_rfl) (by kernel_rfl) (fun _ _ _ h => h) (Or.inl ⟨by rfl, ?hy94⟩) (by assumption) ?_
                    case hy94 => (intro w hSw; (try dsimp only at hSw); go_simp; all_goals with_reducible rfl)
                    try simp only [Act.put, List.setIfInBounds_toArray, List.set_cons_zero, List.set_cons_succ]
                    refine wpAnyH_ready (rs := [19]) (by kernel_rfl) (by simp) ?_
                    refine AllReadyH.cons (o := { dst := some 106, op := Op.call { callee := Callee.value (Operand.func 11), args := #[Operand.tmp 105], argTypes := #[23] }, type := 30, pos := "outright.go:121", after := #[{ on := 18, ground := Ground.data }, { on := 16, ground := Ground.chain }, { on := 16, ground := Ground.guard }], guard := some (16, false) }) rfl (fun K hK => ?_) AllReadyH.nil
                    go_simp
                    refine (c11a.out Wxxxx hIWxxxx).mono ?_
                    rintro e' Wxxxxx ⟨v1, rfl, hIWxxxxx, hR1⟩
                    go_wp2_with fail
                    refine hK.out _ _ (hfull.out _ hIWxxxxx) (fun hHeld => ?_)
                    clear hK K hIWxxxx
                    try simp only [Act.put, List.setIfInBounds_toArray, List.set_cons_zero, List.set_cons_succ]
                    refine wpAnyH_ready (rs := [22]) (by kernel_rfl) (by simp) ?_
                    refine AllReadyH.cons (o := { dst := some 109, op := Op.call { callee := Callee.value (Operand.func 11), args := #[Operand.tmp 108], argTypes := #[23] }, type := 30, pos := "outright.go:121", after := #[{ on := 21, ground := Ground.data }, { on := 19, ground := Ground.chain }, { on := 16, ground := Ground.guard }], guard := some (16, false) }) rfl (fun K hK => ?_) AllReadyH.nil
                    go_simp
                    refine (c11b.out Wxxxxx hIWxxxxx).mono ?_
                    rintro e' Wxxxxxx ⟨v2, rfl, hIWxxxxxx, hR2, hB2⟩
                    replace hR1 := hR1.below hB2
                    clear hB2
                    go_wp2_with fail
                    refine hK.out _ _ (hfull.out _ hIWxxxxxx) (fun hHeld => ?_)
                    clear hK K hIWxxxxx
                    try simp only [Act.put, List.setIfInBounds_toArray, List.set_cons_zero, List.set_cons_succ]
                    refine wpAnyH_ready (rs := [23]) (by kernel_rfl) (by simp) ?_
                    refine AllReadyH.cons (o := { dst := some 110, op := Op.call { callee := Callee.value (Operand.func 12), args := #[Operand.tmp 106, Operand.tmp 109], argTypes := #[30, 30] }, type := 4, pos := "outright.go:121", after := #[{ on := 19, ground := Ground.data }, { on := 22, ground := Ground.data }, { on := 22, ground := Ground.chain }, { on := 16, ground := Ground.guard }], guard := some (16, false) }) rfl (fun K hK => ?_) AllReadyH.nil
                    go_simp
                    refine (c12.out Wxxxxxx _ _ hIWxxxxxx hR1 hR2).mono ?_
                    rintro e' Wxxxxxxx ⟨rfl, hIWxxxxxxx⟩
                    clear hR1 hR2
                    go_wp2_with fail
                    refine hK.out _ _ (hfull.out _ hIWxxxxxxx) (fun hHeld => ?_)
                    clear hK K hIWxxxxxx
                    try simp only [Act.put, List.setIfInBounds_toArray, List.set_cons_zero, List.set_cons_succ]
                    refine wpAnyH_take (i := 24) (oi := { dst := some 111, op := Op.unOp UnOp.not 4 (Operand.tmp 110), type := 4, pos := "outright.go:121", after := #[{ on := 23, ground := Ground.data }, { on := 16, ground := Ground.guard }], guard := some (16, false) }) (v := ?vv95) rfl (by kernel_rfl) (by kernel_rfl) (by kernel_rfl) (fun _ _ _ h => h) (Or.inl ⟨by rfl, ?hy95⟩) (by assumption) ?_
                    case hy95 => (intro w hSw; (try dsimp only at hSw); go_simp; all_goals with_reducible rfl)
                    try simp only [Act.put, List.setIfInBounds_toArray, List.set_cons_zero, List.set_cons_succ]
                    refine wpAnyH_take (i := 25) (oi := { dst := some 112, op := Op.pick (Operand.tmp 103) (Operand.const (Value.bool true)) (Operand.tmp 111), type := 4, pos := "outright.go:121", after := #[{ on := 16, ground := Ground.data }, { on := 24, ground := Ground.data }], guard := none }) (v := ?vv96) rfl (by kernel_rfl) (by kernel_rfl) (by kernel_rfl) (fun _ _ _ h => h) (Or.inl ⟨by rfl, ?hy96⟩) (by assumption) ?_
                    case hy96 => (intro w hSw; (try dsimp only at hSw); go_simp; all_goals with_reducible rfl)
                    try simp only [Act.put, List.setIfInBounds_toArray, List.set_cons_zero, List.set_cons_succ]
                    refine wpAnyH_done (by kernel_rfl) ?_ _
                    clear hfull hHeld
                    go_wp2_with fail
                    go_meet
                    exact ⟨rfl, (hend.out _ hIWxxxxxxx)⟩
                  case rest =>
                    obtain ⟨rfl, hV⟩ := hcut
                    clear d4 d5 d6
                    go_wp2_with fail
                    go_roundw
                    case rel => exact ⟨k + 1, A', B', by omega, by simp, hV.en, hMs⟩
                    case measure => simp [intOf]; omega
      · obtain ⟨O, hO⟩ : ∃ O, wr.heap.size = O := ⟨_, rfl⟩
        have hV : Ev w O #[.bool true, .int .i64 id, .bool g, .int .i64 kd] p0 b0 p1 b1 A B (wr.alloc (.cells #[.bool true, .int .i64 id, .bool g, .int .i64 kd] 29)) := ⟨hE.out.below (bel1 wr _), by rw [← hO]; exact heap_alloc_new _ _⟩
        have HOO : Hid (wr.heap.size = O) := hO
        clear hO
        obtain ⟨d4, d5, d6⟩ := hV.en.cells
        have d7 : (wr.alloc (.cells #[.bool true, .int .i64 id, .bool g, .int .i64 kd] 29)).cell? ⟨wr.heap.size, 0, none⟩ = some (.bool true) := cell_blk (heap_alloc_new _ _) 0
        go_upto_region 13 with fail
        rw [HOO.out]
        go_cut [7] from 25 to 112 (fun x wx => ∃ g7, x = .pointer (some ⟨g7, 0, none⟩) ∧ wx.heap[g7]? = some (.cells #[.int .i64 (B.doo id false kd).2.1, .int .i64 (B.doo id false kd).2.2] 44) ∧ Ev w O #[.bool true, .int .i64 id, .bool g, .int .i64 kd] p0 b0 p1 b1 A (B.doo id false kd).1 wx)
        case first =>
          have hcall : Hid (∀ W, Ev w O #[.bool true, .int .i64 id, .bool g, .int .i64 kd] p0 b0 p1 b1 A B W → Calls Try.prog 19 #[.pointer (some ⟨p1, 0, none⟩), .int .i64 id, .agg #[.bool false, .int .i64 kd]] W fun e W' => e = .returned (.agg #[.int .i64 (B.doo id false kd).2.1, .int .i64 (B.doo id false kd).2.2]) ∧ Ev w O #[.bool true, .int .i64 id, .bool g, .int .i64 kd] p0 b0 p1 b1 A (B.doo id false kd).1 W' ∧ S44 W W') := fun W h => h.call1 id false kd hid
          have hfull : Hid (∀ A B W, Ev w O #[.bool true, .int .i64 id, .bool g, .int .i64 kd] p0 b0 p1 b1 A B W → (fun W => W.cell? ⟨w.heap.size, 0, none⟩ = some (.pointer (some ⟨p0, 0, none⟩)) ∧ W.cell? ⟨w.heap.size, 1, none⟩ = some (.pointer (some ⟨p1, 0, none⟩)) ∧ W.cell? ⟨O, 1, none⟩ = some (.int .i64 id) ∧ W.cell? ⟨O, 3, none⟩ = some (.int .i64 kd)) W) := fun A B W h => ⟨cell_blk h.en.ar 0, cell_blk h.en.ar 1, cell_blk h.op 1, cell_blk h.op 3⟩
          obtain ⟨v7, hv7⟩ : ∃ v7, (B.doo id false kd).2.1 = v7 := ⟨_, rfl⟩
          obtain ⟨c7, hc7⟩ : ∃ c7, (B.doo id false kd).2.2 = c7 := ⟨_, rfl⟩
          rw [hv7, hc7] at hcall
          have HV7 : Hid _ := hv7
          have HC7 : Hid _ := hc7
          clear hv7 hc7
          have hIW := hV.below (Below.refl _ _).drew
          refine wp_region_held_drew (S := (fun W => W.cell? ⟨w.heap.size, 0, none⟩ = some (.pointer (some ⟨p0, 0, none⟩)) ∧ W.cell? ⟨w.heap.size, 1, none⟩ = some (.pointer (some ⟨p1, 0, none⟩)) ∧ W.cell? ⟨O, 1, none⟩ = some (.int .i64 id) ∧ W.cell? ⟨O, 3, none⟩ = some (.int .i64 kd))) (by kernel_rfl) (hfull.out _ _ _ hIW) (fun hHeld => ?_)
          generalize hWg : World.drew _ = W at hIW hHeld ⊢
          clear hWg hV
          refine wpAnyH_take (i := 0) (oi := { dst := some 37, op := Op.move (Operand.tmp 6), type := 3, pos := "outright.go:110", after := #[], guard := none }) (v := ?vv97) rfl (by kernel_rfl) (by kernel_rfl) (by kernel_rfl) (fun _ _ _ h => h) (Or.inl ⟨by rfl, ?hy97⟩) (by assumption) ?_
          case hy97 => (intro w hSw; (try dsimp only at hSw); go_simp; all_goals with_reducible rfl)
          try simp only [Act.put, List.setIfInBounds_toArray, List.set_cons_zero, List.set_cons_succ]
          refine wpAnyH_take (i := 1) (oi := { dst := some 38, op := Op.indexAddr 42 (Operand.tmp 3) (Operand.tmp 37), type := 0, pos := "outright.go:110", after := #[{ on := 0, ground := Ground.data }], guard := none }) (v := ?vv98) rfl (by kernel_rfl) (by kernel_rfl) (by kernel_rfl) (fun _ _ _ h => h) (Or.inl ⟨by rfl, ?hy98⟩) (by assumption) ?_
          case hy98 => (intro w hSw; (try dsimp only at hSw); go_simp; all_goals with_reducible rfl)
          try simp only [Act.put, List.setIfInBounds_toArray, List.set_cons_zero, List.set_cons_succ]
          refine wpAnyH_take (i := 2) (oi := { dst := some 39, op := Op.load 23 (Operand.tmp 38), type := 23, pos := "outright.go:110", after := #[{ on := 1, ground := Ground.data }], guard := none }) (v := ?vv99) rfl (by kernel_rfl) (by kernel_rfl) (by kernel_rfl) (fun _ _ _ h => h) (Or.inl ⟨by rfl, ?hy99⟩) (by assumption) ?_
          case hy99 => (intro w hSw; (try dsimp only at hSw); go_simp; all_goals with_reducible rfl)
          try simp only [Act.put, List.setIfInBounds_toArray, List.set_cons_zero, List.set_cons_succ]
          refine wpAnyH_take (i := 3) (oi := { dst := some 40, op := Op.fieldAddr 29 (Operand.tmp 5) 1, type := 0, pos := "outright.go:110", after := #[], guard := none }) (v := ?vv100) rfl (by kernel_rfl) (by kernel_rfl) (by kernel_rfl) (fun _ _ _ h => h) (Or.inl ⟨by rfl, ?hy100⟩) (by assumption) ?_
          case hy100 => (intro w hSw; (try dsimp only at hSw); go_simp; all_goals with_reducible rfl)
          try simp only [Act.put, List.setIfInBounds_toArray, List.set_cons_zero, List.set_cons_succ]
          refine wpAnyH_take (i := 4) (oi := { dst := some 41, op := Op.load 2 (Operand.tmp 40), type := 2, pos := "outright.go:110", after := #[{ on := 3, ground := Ground.data }], guard := none }) (v := ?vv101) rfl (by kernel_rfl) (by kernel_rfl) (by kernel_rfl) (fun _ _ _ h => h) (Or.inl ⟨by rfl, ?hy101⟩) (by assumption) ?_
          case hy101 => (intro w hSw; (try dsimp only at hSw); go_simp; all_goals with_reducible rfl)
          try simp only [Act.put, List.setIfInBounds_toArray, List.set_cons_zero, List.set_cons_succ]
          refine wpAnyH_take (i := 5) (oi := { dst := some 42, op := Op.fieldAddr 29 (Operand.tmp 5) 3, type := 0, pos := "outright.go:110", after := #[], guard := none }) (v := ?vv102) rfl (by kernel_rfl) (by kernel_rfl) (by kernel_rfl) (fun _ _ _ h => h) (Or.inl ⟨by rfl, ?hy102⟩) (by assumption) ?_
          case hy102 => (intro w hSw; (try dsimp only at hSw); go_simp; all_goals with_reducible rfl)
          try simp only [Act.put, List.setIfInBounds_toArray, List.set_cons_zero, List.set_cons_succ]
          refine wpAnyH_take (i := 6) (oi := { dst := some 43, op := Op.load 3 (Operand.tmp 42), type := 3, pos := "outright.go:110", after := #[{ on := 5, ground := Ground.data }], guard := none }) (v := ?vv103) rfl (by kernel_rfl) (by kernel_rfl) (by kernel_rfl) (fun _ _ _ h => h) (Or.inl ⟨by rfl, ?hy103⟩) (by assumption) ?_
          case hy103 => (intro w hSw; (try dsimp only at hSw); go_simp; all_goals with_reducible rfl)
          try simp only [Act.put, List.setIfInBounds_toArray, List.set_cons_zero, List.set_cons_succ]
          refine wpAnyH_take (i := 7) (oi := { dst := some 44, op := Op.build 47 #[(1, Operand.tmp 43)], type := 47, pos := "outright.go:110", after := #[{ on := 6, ground := Ground.data }], guard := none }) (v := ?vv104) rfl (by kernel_rfl) (by kernel_rfl) (by kernel_rfl) (fun _ _ _ h => h) (Or.inl ⟨by rfl, ?hy104⟩) (by assumption) ?_
          case hy104 => (intro w hSw; (try dsimp only at hSw); go_simp; all_goals with_reducible rfl)
          try simp only [Act.put, List.setIfInBounds_toArray, List.set_cons_zero, List.set_cons_succ]
          refine wpAnyH_ready (rs := [8, 9]) (by kernel_rfl) (by simp) ?_
          refine AllReadyH.cons (o := { dst := some 45, op := Op.call { callee := Callee.value (Operand.func 19), args := #[Operand.tmp 39, Operand.tmp 41, Operand.tmp 44], argTypes := #[23, 2, 47] }, type := 44, pos := "outright.go:110", after := #[{ on := 2, ground := Ground.data }, { on := 4, ground := Ground.data }, { on := 7, ground := Ground.data }], guard := none }) rfl (fun K hK => ?_) ?_
          · go_simp
            refine (hcall.out W hIW).mono ?_
            rintro e' Wx ⟨rfl, hIWx, h44⟩
            go_wp2_with fail
            refine hK.out _ _ (hfull.out _ _ _ hIWx) (fun hHeld => ?_)
            clear hK K hIW h44
            try simp only [Act.put, List.setIfInBounds_toArray, List.set_cons_zero, List.set_cons_succ]
            refine wpAnyH_ready (rs := [9]) (by kernel_rfl) (by simp) ?_
            refine AllReadyH.cons (o := { dst := some 7, op := Op.alloc 44, type := 0, pos := "outright.go:110", after := #[], guard := none }) rfl (fun K hK => ?_) AllReadyH.nil
            go_simp
            obtain ⟨Wxx, hVd⟩ : ∃ Wxx, Wxx = Wx.alloc (.cells #[.int .i64 0, .int .i64 0] 44) := ⟨_, rfl⟩
            obtain ⟨g7, hg7⟩ : ∃ g7, g7 = Wx.heap.size := ⟨_, rfl⟩
            have h7 : Wxx.heap[g7]? = some (.cells #[.int .i64 0, .int .i64 0] 44) := by rw [hVd, hg7]; exact heap_alloc_new _ _
            have hIWxx := hIWx.below (bel1 Wx (.cells #[.int .i64 0, .int .i64 0] 44))
            have hw7 : Hid (w.heap.size ≤ g7) := by rw [hg7]; exact hIWx.en.tw.sz
            rw [← hVd] at hIWxx
            rw [← hVd, ← hg7]
            clear hVd hg7
            refine hK.out _ _ (hfull.out _ _ _ hIWxx) (fun hHeld => ?_)
            clear hK K hIWx
            try simp only [Act.put, List.setIfInBounds_toArray, List.set_cons_zero, List.set_cons_succ]
            refine wpAnyH_ready (rs := [10]) (by kernel_rfl) (by simp) ?_
            refine AllReadyH.cons (o := { dst := none, op := Op.store 44 (Operand.tmp 7) (Operand.tmp 45), type := 0, pos := "outright.go:110", after := #[{ on := 9, ground := Ground.data }, { on := 8, ground := Ground.data }, { on := 8, ground := Ground.chain }, { on := 0, ground := Ground.phase }, { on := 1, ground := Ground.phase }, { on := 2, ground := Ground.phase }, { on := 3, ground := Ground.phase }, { on := 4, ground := Ground.phase }, { on := 5, ground := Ground.phase }, { on := 6, ground := Ground.phase }, { on := 7, ground := Ground.phase }, { on := 8, ground := Ground.phase }, { on := 9, ground := Ground.phase }], guard := none }) rfl (fun K hK => ?_) AllReadyH.nil
            have z0 : Wxx.cell? ⟨g7, 0, none⟩ = some (.int .i64 0) := cell_blk h7 0
            have z1 : Wxx.cell? ⟨g7, 1, none⟩ = some (.int .i64 0) := cell_blk h7 1
            have y0 := frozen_blk h7 0
            have y1 := frozen_blk h7 1
            go_simp
            change K _ ((Wxx.setCell ⟨g7, 0, none⟩ (.int .i64 v7)).setCell ⟨g7, 1, none⟩ (.int .i64 c7))
            obtain ⟨x1, x2⟩ := hIWxx.set h7 hw7.out (.int .i64 v7) (.int .i64 c7)
            refine hK.out _ _ (hfull.out _ _ _ x2) (fun hHeld => ?_)
            generalize hWn : ((Wxx.setCell ⟨g7, 0, none⟩ (.int .i64 v7)).setCell ⟨g7, 1, none⟩ (.int .i64 c7)) = Wxxx at x1 x2 hHeld ⊢
            clear hWn z0 z1 y0 y1 hK K
            try simp only [Act.put, List.setIfInBounds_toArray, List.set_cons_zero, List.set_cons_succ]
            refine wpAnyH_done (by kernel_rfl) ?_ _
            clear hfull hHeld
            go_wp2_with fail
            go_meet
            exact ⟨_, rfl, by rw [HV7.out, HC7.out]; exact x1, x2⟩
          refine AllReadyH.cons (o := { dst := some 7, op := Op.alloc 44, type := 0, pos := "outright.go:110", after := #[], guard := none }) rfl (fun K hK => ?_) AllReadyH.nil
          go_simp
          obtain ⟨Wx, hVd⟩ : ∃ Wx, Wx = W.alloc (.cells #[.int .i64 0, .int .i64 0] 44) := ⟨_, rfl⟩
          obtain ⟨g7, hg7⟩ : ∃ g7, g7 = W.heap.size := ⟨_, rfl⟩
          have h7 : Wx.heap[g7]? = some (.cells #[.int .i64 0, .int .i64 0] 44) := by rw [hVd, hg7]; exact heap_alloc_new _ _
          have hIWx := hIW.below (bel1 W (.cells #[.int .i64 0, .int .i64 0] 44))
          have hw7 : Hid (w.heap.size ≤ g7) := by rw [hg7]; exact hIW.en.tw.sz
          rw [← hVd] at hIWx
          rw [← hVd, ← hg7]
          clear hVd hg7
          refine hK.out _ _ (hfull.out _ _ _ hIWx) (fun hHeld => ?_)
          clear hK K hIW
          try simp only [Act.put, List.setIfInBounds_toArray, List.set_cons_zero, List.set_cons_succ]
          refine wpAnyH_ready (rs := [8]) (by kernel_rfl) (by simp) ?_
          refine AllReadyH.cons (o := { dst := some 45, op := Op.call { callee := Callee.value (Operand.func 19), args := #[Operand.tmp 39, Operand.tmp 41, Operand.tmp 44], argTypes := #[23, 2, 47] }, type := 44, pos := "outright.go:110", after := #[{ on := 2, ground := Ground.data }, { on := 4, ground := Ground.data }, { on := 7, ground := Ground.data }], guard := none }) rfl (fun K hK => ?_) AllReadyH.nil
          go_simp
          refine (hcall.out Wx hIWx).mono ?_
          rintro e' Wxx ⟨rfl, hIWxx, h44⟩
          go_wp2_with fail
          refine hK.out _ _ (hfull.out _ _ _ hIWxx) (fun hHeld => ?_)
          replace h7 := h44 _ _ h7
          clear hK K hIWx h44
          try simp only [Act.put, List.setIfInBounds_toArray, List.set_cons_zero, List.set_cons_succ]
          refine wpAnyH_ready (rs := [10]) (by kernel_rfl) (by simp) ?_
          refine AllReadyH.cons (o := { dst := none, op := Op.store 44 (Operand.tmp 7) (Operand.tmp 45), type := 0, pos := "outright.go:110", after := #[{ on := 9, ground := Ground.data }, { on := 8, ground := Ground.data }, { on := 8, ground := Ground.chain }, { on := 0, ground := Ground.phase }, { on := 1, ground := Ground.phase }, { on := 2, ground := Ground.phase }, { on := 3, ground := Ground.phase }, { on := 4, ground := Ground.phase }, { on := 5, ground := Ground.phase }, { on := 6, ground := Ground.phase }, { on := 7, ground := Ground.phase }, { on := 8, ground := Ground.phase }, { on := 9, ground := Ground.phase }], guard := none }) rfl (fun K hK => ?_) AllReadyH.nil
          have z0 : Wxx.cell? ⟨g7, 0, none⟩ = some (.int .i64 0) := cell_blk h7 0
          have z1 : Wxx.cell? ⟨g7, 1, none⟩ = some (.int .i64 0) := cell_blk h7 1
          have y0 := frozen_blk h7 0
          have y1 := frozen_blk h7 1
          go_simp
          change K _ ((Wxx.setCell ⟨g7, 0, none⟩ (.int .i64 v7)).setCell ⟨g7, 1, none⟩ (.int .i64 c7))
          obtain ⟨x1, x2⟩ := hIWxx.set h7 hw7.out (.int .i64 v7) (.int .i64 c7)
          refine hK.out _ _ (hfull.out _ _ _ x2) (fun hHeld => ?_)
          generalize hWn : ((Wxx.setCell ⟨g7, 0, none⟩ (.int .i64 v7)).setCell ⟨g7, 1, none⟩ (.int .i64 c7)) = Wxxx at x1 x2 hHeld ⊢
          clear hWn z0 z1 y0 y1 hK K
          try simp only [Act.put, List.setIfInBounds_toArray, List.set_cons_zero, List.set_cons_succ]
          refine wpAnyH_done (by kernel_rfl) ?_ _
          clear hfull hHeld
          go_wp2_with fail
          go_meet
          exact ⟨_, rfl, by rw [HV7.out, HC7.out]; exact x1, x2⟩
        case rest =>
          obtain ⟨g7, rfl, h7, hV⟩ := hcut
          clear d0 d1 d2 d3 d4 d5 d6 d7
          have oka : A.Ok := hE.out.tw.t0.ok
          have okb : B.Ok := hE.out.tw.t1.ok
          have hstep := hM.out.sym.step okb oka id kd
          clear oka okb
          obtain ⟨d4, d5, d6⟩ := hV.en.cells
          rcases hstep with ⟨hx4, hsame⟩ | ⟨hx0, hxr, hm'⟩
          · rw [hx4] at h7
            rw [hsame] at hV
            have e0 := cell_blk h7 0
            simp only [List.getElem?_toArray, List.getElem?_cons_zero] at e0
            have e1 := heap_lt h7
            clear h7 hx4 hsame
            go_wp2_with fail
            go_roundw
            case rel => exact ⟨k + 1, A, B, by omega, by simp, hV.en, hM⟩
            case measure => simp [intOf]; omega
          · rw [hx0] at h7
            have e0 := cell_blk h7 0
            simp only [List.getElem?_toArray, List.getElem?_cons_zero] at e0
            have e1 := heap_lt h7
            have HMs : Hid (Mir ((A.doo id true kd).1) ((B.doo id false kd).1)) := hm'.sym
            clear h7 hx0 hm'
            have HXR : Hid _ := hxr
            clear hxr
            have hwr1 : IntKind.i64.wrap 1 = 1 := by decide
            have hwr0 : IntKind.i64.wrap 0 = 0 := by decide
            go_upto_region 17 with fail
            go_cut [8] from 25 to 112 (fun x wx => ∃ g7, x = .pointer (some ⟨g7, 0, none⟩) ∧ wx.heap[g7]? = some (.cells #[.int .i64 (A.doo id true kd).2.1, .int .i64 (A.doo id true kd).2.2] 44) ∧ Ev w O #[.bool true, .int .i64 id, .bool g, .int .i64 kd] p0 b0 p1 b1 (A.doo id true kd).1 (B.doo id false kd).1 wx)
            case first =>
              have hcall : Hid (∀ W, Ev w O #[.bool true, .int .i64 id, .bool g, .int .i64 kd] p0 b0 p1 b1 A (B.doo id false kd).1 W → Calls Try.prog 19 #[.pointer (some ⟨p0, 0, none⟩), .int .i64 id, .agg #[.bool true, .int .i64 kd]] W fun e W' => e = .returned (.agg #[.int .i64 (A.doo id true kd).2.1, .int .i64 (A.doo id true kd).2.2]) ∧ Ev w O #[.bool true, .int .i64 id, .bool g, .int .i64 kd] p0 b0 p1 b1 (A.doo id true kd).1 (B.doo id false kd).1 W' ∧ S44 W W') := fun W h => h.call0 id true kd hid
              have hfull : Hid (∀ A B W, Ev w O #[.bool true, .int .i64 id, .bool g, .int .i64 kd] p0 b0 p1 b1 A B W → (fun W => W.cell? ⟨w.heap.size, 0, none⟩ = some (.pointer (some ⟨p0, 0, none⟩)) ∧ W.cell? ⟨w.heap.size, 1, none⟩ = some (.pointer (some ⟨p1, 0, none⟩)) ∧ W.cell? ⟨O, 1, none⟩ = some (.int .i64 id) ∧ W.cell? ⟨O, 3, none⟩ = some (.int .i64 kd)) W) := fun A B W h => ⟨cell_blk h.en.ar 0, cell_blk h.en.ar 1, cell_blk h.op 1, cell_blk h.op 3⟩
              obtain ⟨v7, hv7⟩ : ∃ v7, (A.doo id true kd).2.1 = v7 := ⟨_, rfl⟩
              obtain ⟨c7, hc7⟩ : ∃ c7, (A.doo id true kd).2.2 = c7 := ⟨_, rfl⟩
              rw [hv7, hc7] at hcall
              have HV7 : Hid _ := hv7
              have HC7 : Hid _ := hc7
              clear hv7 hc7
              have hIW := hV.below (Below.refl _ _).drew
              refine wp_region_held_drew (S := (fun W => W.cell? ⟨w.heap.size, 0, none⟩ = some (.pointer (some ⟨p0, 0, none⟩)) ∧ W.cell? ⟨w.heap.size, 1, none⟩ = some (.pointer (some ⟨p1, 0, none⟩)) ∧ W.cell? ⟨O, 1, none⟩ = some (.int .i64 id) ∧ W.cell? ⟨O, 3, none⟩ = some (.int .i64 kd))) (by kernel_rfl) (hfull.out _ _ _ hIW) (fun hHeld => ?_)
              generalize hWg : World.drew _ = W at hIW hHeld ⊢
              clear hWg hV
              refine wpAnyH_take (i := 0) (oi := { dst := some 52, op := Op.move (Operand.tmp 6), type := 3, pos := "outright.go:117", after := #[], guard := none }) (v := ?vv105) rfl (by kernel_rfl) (by kernel_rfl) (by kernel_rfl) (fun _ _ _ h => h) (Or.inl ⟨by rfl, ?hy105⟩) (by assumption) ?_
              case hy105 => (intro w hSw; (try dsimp only at hSw); go_simp; all_goals with_reducible rfl)
              try simp only [Act.put, List.setIfInBounds_toArray, List.set_cons_zero, List.set_cons_succ]
              refine wpAnyH_take (i := 1) (oi := { dst := some 53, op := Op.binOp BinOp.sub 3 (Operand.const (Value.int IntKind.i64 1)) (Operand.tmp 52) 3, type := 3, pos := "outright.go:117", after := #[{ on := 0, ground := Ground.data }], guard := none }) (v := ?vv106) rfl (by kernel_rfl) (by kernel_rfl) (by kernel_rfl) (fun _ _ _ h => h) (Or.inl ⟨by rfl, ?hy106⟩) (by assumption) ?_
              case hy106 => (intro w hSw; (try dsimp only at hSw); go_simp; all_goals with_reducible rfl)
              try simp only [Act.put, List.setIfInBounds_toArray, List.set_cons_zero, List.set_cons_succ]
              refine wpAnyH_take (i := 2) (oi := { dst := some 54, op := Op.indexAddr 42 (Operand.tmp 3) (Operand.tmp 53), type := 0, pos := "outright.go:117", after := #[{ on := 1, ground := Ground.data }], guard := none }) (v := ?vv107) rfl (by kernel_rfl) (by kernel_rfl) (by kernel_rfl) (fun _ _ _ h => h) (Or.inl ⟨by rfl, ?hy107⟩) (by assumption) ?_
              case hy107 => (intro w hSw; (try dsimp only at hSw); go_simp; all_goals with_reducible rfl)
              try simp only [Act.put, List.setIfInBounds_toArray, List.set_cons_zero, List.set_cons_succ]
              refine wpAnyH_take (i := 3) (oi := { dst := some 55, op := Op.load 23 (Operand.tmp 54), type := 23, pos := "outright.go:117", after := #[{ on := 2, ground := Ground.data }], guard := none }) (v := ?vv108) rfl (by kernel_rfl) (by kernel_rfl) (by kernel_rfl) (fun _ _ _ h => h) (Or.inl ⟨by rfl, ?hy108⟩) (by assumption) ?_
              case hy108 => (intro w hSw; (try dsimp only at hSw); go_simp; all_goals with_reducible rfl)
              try simp only [Act.put, List.setIfInBounds_toArray, List.set_cons_zero, List.set_cons_succ]
              refine wpAnyH_take (i := 4) (oi := { dst := some 56, op := Op.fieldAddr 29 (Operand.tmp 5) 1, type := 0, pos := "outright.go:117", after := #[], guard := none }) (v := ?vv109) rfl (by kernel_rfl) (by kernel_rfl) (by kernel_rfl) (fun _ _ _ h => h) (Or.inl ⟨by rfl, ?hy109⟩) (by assumption) ?_
              case hy109 => (intro w hSw; (try dsimp only at hSw); go_simp; all_goals with_reducible rfl)
              try simp only [Act.put, List.setIfInBounds_toArray, List.set_cons_zero, List.set_cons_succ]
              refine wpAnyH_take (i := 5) (oi := { dst := some 57, op := Op.load 2 (Operand.tmp 56), type := 2, pos := "outright.go:117", after := #[{ on := 4, ground := Ground.data }], guard := none }) (v := ?vv110) rfl (by kernel_rfl) (by kernel_rfl) (by kernel_rfl) (fun _ _ _ h => h) (Or.inl ⟨by rfl, ?hy110⟩) (by assumption) ?_
              case hy110 => (intro w hSw; (try dsimp only at hSw); go_simp; all_goals with_reducible rfl)
              try simp only [Act.put, List.setIfInBounds_toArray, List.set_cons_zero, List.set_cons_succ]
              refine wpAnyH_take (i := 6) (oi := { dst := some 58, op := Op.fieldAddr 29 (Operand.tmp 5) 3, type := 0, pos := "outright.go:117", after := #[], guard := none }) (v := ?vv111) rfl (by kernel_rfl) (by kernel_rfl) (by kernel_rfl) (fun _ _ _ h => h) (Or.inl ⟨by rfl, ?hy111⟩) (by assumption) ?_
              case hy111 => (intro w hSw; (try dsimp only at hSw); go_simp; all_goals with_reducible rfl)
              try simp only [Act.put, List.setIfInBounds_toArray, List.set_cons_zero, List.set_cons_succ]
              refine wpAnyH_take (i := 7) (oi := { dst := some 59, op := Op.load 3 (Operand.tmp 58), type := 3, pos := "outright.go:117", after := #[{ on := 6, ground := Ground.data }], guard := none }) (v := ?vv112) rfl (by kernel_rfl) (by kernel_rfl) (by kernel_rfl) (fun _ _ _ h => h) (Or.inl ⟨by rfl, ?hy112⟩) (by assumption) ?_
              case hy112 => (intro w hSw; (try dsimp only at hSw); go_simp; all_goals with_reducible rfl)
              try simp only [Act.put, List.setIfInBounds_toArray, List.set_cons_zero, List.set_cons_succ]
              refine wpAnyH_take (i := 8) (oi := { dst := some 60, op := Op.build 47 #[(0, Operand.const (Value.bool true)), (1, Operand.tmp 59)], type := 47, pos := "outright.go:117", after := #[{ on := 7, ground := Ground.data }], guard := none }) (v := ?vv113) rfl (by kernel_rfl) (by kernel_rfl) (by kernel_rfl) (fun _ _ _ h => h) (Or.inl ⟨by rfl, ?hy113⟩) (by assumption) ?_
              case hy113 => (intro w hSw; (try dsimp only at hSw); go_simp; all_goals with_reducible rfl)
              try simp only [Act.put, List.setIfInBounds_toArray, List.set_cons_zero, List.set_cons_succ]
              refine wpAnyH_ready (rs := [9, 10]) (by kernel_rfl) (by simp) ?_
              refine AllReadyH.cons (o := { dst := some 61, op := Op.call { callee := Callee.value (Operand.func 19), args := #[Operand.tmp 55, Operand.tmp 57, Operand.tmp 60], argTypes := #[23, 2, 47] }, type := 44, pos := "outright.go:117", after := #[{ on := 3, ground := Ground.data }, { on := 5, ground := Ground.data }, { on := 8, ground := Ground.data }], guard := none }) rfl (fun K hK => ?_) ?_
              · go_simp
                refine (hcall.out W hIW).mono ?_
                rintro e' Wx ⟨rfl, hIWx, h44⟩
                go_wp2_with fail
                refine hK.out _ _ (hfull.out _ _ _ hIWx) (fun hHeld => ?_)
                clear hK K hIW h44
                try simp only [Act.put, List.setIfInBounds_toArray, List.set_cons_zero, List.set_cons_succ]
                refine wpAnyH_ready (rs := [10]) (by kernel_rfl) (by simp) ?_
                refine AllReadyH.cons (o := { dst := some 8, op := Op.alloc 44, type := 0, pos := "outright.go:117", after := #[], guard := none }) rfl (fun K hK => ?_) AllReadyH.nil
                go_simp
                obtain ⟨Wxx, hVd⟩ : ∃ Wxx, Wxx = Wx.alloc (.cells #[.int .i64 0, .int .i64 0] 44) := ⟨_, rfl⟩
                obtain ⟨g7, hg7⟩ : ∃ g7, g7 = Wx.heap.size := ⟨_, rfl⟩
                have h7 : Wxx.heap[g7]? = some (.cells #[.int .i64 0, .int .i64 0] 44) := by rw [hVd, hg7]; exact heap_alloc_new _ _
                have hIWxx := hIWx.below (bel1 Wx (.cells #[.int .i64 0, .int .i64 0] 44))
                have hw7 : Hid (w.heap.size ≤ g7) := by rw [hg7]; exact hIWx.en.tw.sz
                rw [← hVd] at hIWxx
                rw [← hVd, ← hg7]
                clear hVd hg7
                refine hK.out _ _ (hfull.out _ _ _ hIWxx) (fun hHeld => ?_)
                clear hK K hIWx
                try simp only [Act.put, List.setIfInBounds_toArray, List.set_cons_zero, List.set_cons_succ]
                refine wpAnyH_ready (rs := [11]) (by kernel_rfl) (by simp) ?_
                refine AllReadyH.cons (o := { dst := none, op := Op.store 44 (Operand.tmp 8) (Operand.tmp 61), type := 0, pos := "outright.go:117", after := #[{ on := 10, ground := Ground.data }, { on := 9, ground := Ground.data }, { on := 9, ground := Ground.chain }, { on := 0, ground := Ground.phase }, { on := 1, ground := Ground.phase }, { on := 2, ground := Ground.phase }, { on := 3, ground := Ground.phase }, { on := 4, ground := Ground.phase }, { on := 5, ground := Ground.phase }, { on := 6, ground := Ground.phase }, { on := 7, ground := Ground.phase }, { on := 8, ground := Ground.phase }, { on := 9, ground := Ground.phase }, { on := 10, ground := Ground.phase }], guard := none }) rfl (fun K hK => ?_) AllReadyH.nil
                have z0 : Wxx.cell? ⟨g7, 0, none⟩ = some (.int .i64 0) := cell_blk h7 0
                have z1 : Wxx.cell? ⟨g7, 1, none⟩ = some (.int .i64 0) := cell_blk h7 1
                have y0 := frozen_blk h7 0
                have y1 := frozen_blk h7 1
                go_simp
                change K _ ((Wxx.setCell ⟨g7, 0, none⟩ (.int .i64 v7)).setCell ⟨g7, 1, none⟩ (.int .i64 c7))
                obtain ⟨x1, x2⟩ := hIWxx.set h7 hw7.out (.int .i64 v7) (.int .i64 c7)
                refine hK.out _ _ (hfull.out _ _ _ x2) (fun hHeld => ?_)
                generalize hWn : ((Wxx.setCell ⟨g7, 0, none⟩ (.int .i64 v7)).setCell ⟨g7, 1, none⟩ (.int .i64 c7)) = Wxxx at x1 x2 hHeld ⊢
                clear hWn z0 z1 y0 y1 hK K
                try simp only [Act.put, List.setIfInBounds_toArray, List.set_cons_zero, List.set_cons_succ]
                refine wpAnyH_done (by kernel_rfl) ?_ _
                clear hfull hHeld
                go_wp2_with fail
                go_meet
                exact ⟨_, rfl, by rw [HV7.out, HC7.out]; exact x1, x2⟩
              refine AllReadyH.cons (o := { dst := some 8, op := Op.alloc 44, type := 0, pos := "outright.go:117", after := #[], guard := none }) rfl (fun K hK => ?_) AllReadyH.nil
              go_simp
              obtain ⟨Wx, hVd⟩ : ∃ Wx, Wx = W.alloc (.cells #[.int .i64 0, .int .i64 0] 44) := ⟨_, rfl⟩
              obtain ⟨g7, hg7⟩ : ∃ g7, g7 = W.heap.size := ⟨_, rfl⟩
              have h7 : Wx.heap[g7]? = some (.cells #[.int .i64 0, .int .i64 0] 44) := by rw [hVd, hg7]; exact heap_alloc_new _ _
              have hIWx := hIW.below (bel1 W (.cells #[.int .i64 0, .int .i64 0] 44))
              have hw7 : Hid (w.heap.size ≤ g7) := by rw [hg7]; exact hIW.en.tw.sz
              rw [← hVd] at hIWx
              rw [← hVd, ← hg7]
              clear hVd hg7
              refine hK.out _ _ (hfull.out _ _ _ hIWx) (fun hHeld => ?_)
              clear hK K hIW
              try simp only [Act.put, List.setIfInBounds_toArray, List.set_cons_zero, List.set_cons_succ]
              refine wpAnyH_ready (rs := [9]) (by kernel_rfl) (by simp) ?_
              refine AllReadyH.cons (o := { dst := some 61, op := Op.call { callee := Callee.value (Operand.func 19), args := #[Operand.tmp 55, Operand.tmp 57, Operand.tmp 60], argTypes := #[23, 2, 47] }, type := 44, pos := "outright.go:117", after := #[{ on := 3, ground := Ground.data }, { on := 5, ground := Ground.data }, { on := 8, ground := Ground.data }], guard := none }) rfl (fun K hK => ?_) AllReadyH.nil
              go_simp
              refine (hcall.out Wx hIWx).mono ?_
              rintro e' Wxx ⟨rfl, hIWxx, h44⟩
              go_wp2_with fail
              refine hK.out _ _ (hfull.out _ _ _ hIWxx) (fun hHeld => ?_)
              replace h7 := h44 _ _ h7
              clear hK K hIWx h44
              try simp only [Act.put, List.setIfInBounds_toArray, List.set_cons_zero, List.set_cons_succ]
              refine wpAnyH_ready (rs := [11]) (by kernel_rfl) (by simp) ?_
              refine AllReadyH.cons (o := { dst := none, op := Op.store 44 (Operand.tmp 8) (Operand.tmp 61), type := 0, pos := "outright.go:117", after := #[{ on := 10, ground := Ground.data }, { on := 9, ground := Ground.data }, { on := 9, ground := Ground.chain }, { on := 0, ground := Ground.phase }, { on := 1, ground := Ground.phase }, { on := 2, ground := Ground.phase }, { on := 3, ground := Ground.phase }, { on := 4, ground := Ground.phase }, { on := 5, ground := Ground.phase }, { on := 6, ground := Ground.phase }, { on := 7, ground := Ground.phase }, { on := 8, ground := Ground.phase }, { on := 9, ground := Ground.phase }, { on := 10, ground := Ground.phase }], guard := none }) rfl (fun K hK => ?_) AllReadyH.nil
              have z0 : Wxx.cell? ⟨g7, 0, none⟩ = some (.int .i64 0) := cell_blk h7 0
              have z1 : Wxx.cell? ⟨g7, 1, none⟩ = some (.int .i64 0) := cell_blk h7 1
              have y0 := frozen_blk h7 0
              have y1 := frozen_blk h7 1
              go_simp
              change K _ ((Wxx.setCell ⟨g7, 0, none⟩ (.int .i64 v7)).setCell ⟨g7, 1, none⟩ (.int .i64 c7))
              obtain ⟨x1, x2⟩ := hIWxx.set h7 hw7.out (.int .i64 v7) (.int .i64 c7)
              refine hK.out _ _ (hfull.out _ _ _ x2) (fun hHeld => ?_)
              generalize hWn : ((Wxx.setCell ⟨g7, 0, none⟩ (.int .i64 v7)).setCell ⟨g7, 1, none⟩ (.int .i64 c7)) = Wxxx at x1 x2 hHeld ⊢
              clear hWn z0 z1 y0 y1 hK K
              try simp only [Act.put, List.setIfInBounds_toArray, List.set_cons_zero, List.set_cons_succ]
              refine wpAnyH_done (by kernel_rfl) ?_ _
              clear hfull hHeld
              go_wp2_with fail
              go_meet
              exact ⟨_, rfl, by rw [HV7.out, HC7.out]; exact x1, x2⟩
            case rest =>
              obtain ⟨g8, rfl, h8, hV⟩ := hcut
              clear e0 e1 d4 d5 d6
              obtain ⟨d4, d5, d6⟩ := hV.en.cells
              obtain ⟨c8, hc8⟩ : ∃ c8, (A.doo id true kd).2.2 = c8 := ⟨_, rfl⟩
              rw [hc8] at h8
              clear hc8
              obtain ⟨A', hA'⟩ : ∃ A', (A.doo id true kd).1 = A' := ⟨_, rfl⟩
              obtain ⟨B', hB'⟩ : ∃ B', (B.doo id false kd).1 = B' := ⟨_, rfl⟩
              have hMM := HMs.out
              rw [hA', hB'] at hMM
              rw [hA', hB'] at hV
              clear HMs
              have hxr := HXR.out
              clear HXR
              have hMs : Mir B' A' := hMM.sym
              clear hMM hA' hB'
              have e8 := heap_lt h8
              rcases hxr with hx | hx
              · rw [hx] at h8
                clear hx
                have e7 := cell_blk h8 0
                simp only [List.getElem?_toArray, List.getElem?_cons_zero] at e7
                go_upto_region 18 with fail
                go_cut [86] from 25 to 112 (fun x wx => x = .bool false ∧ Ev w O #[.bool true, .int .i64 id, .bool g, .int .i64 kd] p0 b0 p1 b1 A' B' wx)
                case first =>
                  obtain ⟨P, hP⟩ : ∃ P : World → Prop, P = fun W => Ev w O #[.bool true, .int .i64 id, .bool g, .int .i64 kd] p0 b0 p1 b1 A' B' W ∧ W.heap[g8]? = some (.cells #[.int .i64 0, .int .i64 c8] 44) := ⟨_, rfl⟩
                  obtain ⟨sx, hsx⟩ : ∃ sx, mi (B'.st id) = sx := ⟨_, rfl⟩
                  obtain ⟨sy, hsy⟩ : ∃ sy, B'.st id = sy := ⟨_, rfl⟩
                  have hst := hMs.st id
                  rw [hsx] at hst
                  rw [hsy] at hsx
                  have c14r : Hid (∀ W, P W → Calls Try.prog 14 #[.pointer (some ⟨p0, 0, none⟩), .int .i64 id] W fun e W' => e = .returned (.int .i64 sx) ∧ P W') := fun W h => by
                    subst hP
                    refine (state_any W p0 b0 A' id h.1.en.tw.t0 hid).mono ?_
                    rintro e W' ⟨rfl, hB⟩
                    exact ⟨by rw [hst], h.1.below hB, (hB.block _ (heap_lt h.2)).trans h.2⟩
                  have c14s : Hid (∀ W, P W → Calls Try.prog 14 #[.pointer (some ⟨p1, 0, none⟩), .int .i64 id] W fun e W' => e = .returned (.int .i64 sy) ∧ P W') := fun W h => by
                    subst hP
                    refine (state_any W p1 b1 B' id h.1.en.tw.t1 hid).mono ?_
                    rintro e W' ⟨rfl, hB⟩
                    exact ⟨by rw [hsy], h.1.below hB, (hB.block _ (heap_lt h.2)).trans h.2⟩
                  have c20 : Hid (∀ W, P W → Calls Try.prog 20 #[.int .i64 sy] W fun e W' => e = .returned (.int .i64 sx) ∧ P W') := fun W h => by
                    refine (mirror_any sy W).mono ?_
                    rintro e W' ⟨rfl, rfl⟩
                    exact ⟨by rw [hsx], h⟩
                  have hfull : Hid (∀ W, P W → (fun W => W.cell? ⟨w.heap.size, 0, none⟩ = some (.pointer (some ⟨p0, 0, none⟩)) ∧ W.cell? ⟨w.heap.size, 1, none⟩ = some (.pointer (some ⟨p1, 0, none⟩)) ∧ W.cell? ⟨O, 1, none⟩ = some (.int .i64 id) ∧ W.cell? ⟨g8, 0, none⟩ = some (.int .i64 0)) W) := fun W h => by
                    subst hP
                    exact ⟨cell_blk h.1.en.ar 0, cell_blk h.1.en.ar 1, cell_blk h.1.op 1, cell_blk h.2 0⟩
                  have hend : Hid (∀ W, P W → Ev w O #[.bool true, .int .i64 id, .bool g, .int .i64 kd] p0 b0 p1 b1 A' B' W) := fun W h => by subst hP; exact h.1
                  have q0 : (sx != sx) = false := by simp
                  have hin : ∀ W, Ev w O #[.bool true, .int .i64 id, .bool g, .int .i64 kd] p0 b0 p1 b1 A' B' W → W.heap[g8]? = some (.cells #[.int .i64 0, .int .i64 c8] 44) → P W := fun W h1 h2 => by subst hP; exact ⟨h1, h2⟩
                  clear hst hsx hsy
                  have hIW := hV.below (Below.refl _ _).drew
                  replace hIW := hin _ hIW h8
                  clear hP h8 hin
                  refine wp_region_held_drew (S := (fun W => W.cell? ⟨w.heap.size, 0, none⟩ = some (.pointer (some ⟨p0, 0, none⟩)) ∧ W.cell? ⟨w.heap.size, 1, none⟩ = some (.pointer (some ⟨p1, 0, none⟩)) ∧ W.cell? ⟨O, 1, none⟩ = some (.int .i64 id) ∧ W.cell? ⟨g8, 0, none⟩ = some (.int .i64 0))) (by kernel_rfl) (hfull.out _ hIW) (fun hHeld => ?_)
                  generalize hWg : World.drew _ = W at hIW hHeld ⊢
                  clear hWg hV
                  refine wpAnyH_take (i := 0) (oi := { dst := some 62, op := Op.fieldAddr 44 (Operand.tmp 8) 0, type := 0, pos := "outright.go:118", after := #[], guard := none }) (v := ?vv114) rfl (by kernel_rfl) (by kernel_rfl) (by kernel_rfl) (fun _ _ _ h => h) (Or.inl ⟨by rfl, ?hy114⟩) (by assumption) ?_
                  case hy114 => (intro w hSw; (try dsimp only at hSw); go_simp; all_goals with_reducible rfl)
                  try simp only [Act.put, List.setIfInBounds_toArray, List.set_cons_zero, List.set_cons_succ]
                  refine wpAnyH_take (i := 1) (oi := { dst := some 63, op := Op.load 3 (Operand.tmp 62), type := 3, pos := "outright.go:118", after := #[{ on := 0, ground := Ground.data }], guard := none }) (v := ?vv115) rfl (by kernel_rfl) (by kernel_rfl) (by kernel_rfl) (fun _ _ _ h => h) (Or.inl ⟨by rfl, ?hy115⟩) (by assumption) ?_
                  case hy115 => (intro w hSw; (try dsimp only at hSw); go_simp; all_goals with_reducible rfl)
                  try simp only [Act.put, List.setIfInBounds_toArray, List.set_cons_zero, List.set_cons_succ]
                  refine wpAnyH_take (i := 2) (oi := { dst := some 64, op := Op.binOp BinOp.neq 3 (Operand.tmp 63) (Operand.const (Value.int IntKind.i64 0)) 3, type := 4, pos := "outright.go:118", after := #[{ on := 1, ground := Ground.data }], guard := none }) (v := ?vv116) rfl (by kernel_rfl) (by kernel_rfl) (by kernel_rfl) (fun _ _ _ h => h) (Or.inl ⟨by rfl, ?hy116⟩) (by assumption) ?_
                  case hy116 => (intro w hSw; (try dsimp only at hSw); go_simp; all_goals with_reducible rfl)
                  try simp only [Act.put, List.setIfInBounds_toArray, List.set_cons_zero, List.set_cons_succ]
                  refine wpAnyH_take (i := 3) (oi := { dst := some 65, op := Op.move (Operand.tmp 64), type := 4, pos := "outright.go:118", after := #[{ on := 2, ground := Ground.data }], guard := none }) (v := ?vv117) rfl (by kernel_rfl) (by kernel_rfl) (by kernel_rfl) (fun _ _ _ h => h) (Or.inl ⟨by rfl, ?hy117⟩) (by assumption) ?_
                  case hy117 => (intro w hSw; (try dsimp only at hSw); go_simp; all_goals with_reducible rfl)
                  try simp only [Act.put, List.setIfInBounds_toArray, List.set_cons_zero, List.set_cons_succ]
                  refine wpAnyH_take (i := 4) (oi := { dst := some 66, op := Op.fieldAddr 44 (Operand.tmp 8) 0, type := 0, pos := "outright.go:118", after := #[{ on := 3, ground := Ground.guard }], guard := some (3, true) }) (v := undef) rfl (by kernel_rfl) (by kernel_rfl) (by kernel_rfl) (fun _ _ _ h => h) (Or.inr ⟨by rfl, rfl⟩) (by assumption) ?_
                  try simp only [Act.put, List.setIfInBounds_toArray, List.set_cons_zero, List.set_cons_succ]
                  refine wpAnyH_take (i := 5) (oi := { dst := some 67, op := Op.load 3 (Operand.tmp 66), type := 3, pos := "outright.go:118", after := #[{ on := 4, ground := Ground.data }, { on := 3, ground := Ground.guard }], guard := some (3, true) }) (v := undef) rfl (by kernel_rfl) (by kernel_rfl) (by kernel_rfl) (fun _ _ _ h => h) (Or.inr ⟨by rfl, rfl⟩) (by assumption) ?_
                  try simp only [Act.put, List.setIfInBounds_toArray, List.set_cons_zero, List.set_cons_succ]
                  refine wpAnyH_take (i := 6) (oi := { dst := some 68, op := Op.binOp BinOp.neq 3 (Operand.tmp 67) (Operand.const (Value.int IntKind.i64 1)) 3, type := 4, pos := "outright.go:118", after := #[{ on := 5, ground := Ground.data }, { on := 3, ground := Ground.guard }], guard := some (3, true) }) (v := undef) rfl (by kernel_rfl) (by kernel_rfl) (by kernel_rfl) (fun _ _ _ h => h) (Or.inr ⟨by rfl, rfl⟩) (by assumption) ?_
                  try simp only [Act.put, List.setIfInBounds_toArray, List.set_cons_zero, List.set_cons_succ]
                  refine wpAnyH_take (i := 7) (oi := { dst := some 69, op := Op.pick (Operand.tmp 65) (Operand.tmp 68) (Operand.const (Value.bool false)), type := 4, pos := "outright.go:118", after := #[{ on := 3, ground := Ground.data }, { on := 6, ground := Ground.data }], guard := none }) (v := ?vv118) rfl (by kernel_rfl) (by kernel_rfl) (by kernel_rfl) (fun _ _ _ h => h) (Or.inl ⟨by rfl, ?hy118⟩) (by assumption) ?_
                  case hy118 => (intro w hSw; (try dsimp only at hSw); go_simp; all_goals with_reducible rfl)
                  try simp only [Act.put, List.setIfInBounds_toArray, List.set_cons_zero, List.set_cons_succ]
                  refine wpAnyH_take (i := 8) (oi := { dst := some 70, op := Op.move (Operand.tmp 69), type := 4, pos := "outright.go:118", after := #[{ on := 7, ground := Ground.data }, { on := 3, ground := Ground.chain }], guard := none }) (v := ?vv119) rfl (by kernel_rfl) (by kernel_rfl) (by kernel_rfl) (fun _ _ _ h => h) (Or.inl ⟨by rfl, ?hy119⟩) (by assumption) ?_
                  case hy119 => (intro w hSw; (try dsimp only at hSw); go_simp; all_goals with_reducible rfl)
                  try simp only [Act.put, List.setIfInBounds_toArray, List.set_cons_zero, List.set_cons_succ]
                  refine wpAnyH_take (i := 9) (oi := { dst := some 71, op := Op.move (Operand.tmp 6), type := 3, pos := "outright.go:118", after := #[{ on := 8, ground := Ground.guard }], guard := some (8, false) }) (v := ?vv120) rfl (by kernel_rfl) (by kernel_rfl) (by kernel_rfl) (fun _ _ _ h => h) (Or.inl ⟨by rfl, ?hy120⟩) (by assumption) ?_
                  case hy120 => (intro w hSw; (try dsimp only at hSw); go_simp; all_goals with_reducible rfl)
                  try simp only [Act.put, List.setIfInBounds_toArray, List.set_cons_zero, List.set_cons_succ]
                  refine wpAnyH_take (i := 10) (oi := { dst := some 72, op := Op.binOp BinOp.sub 3 (Operand.const (Value.int IntKind.i64 1)) (Operand.tmp 71) 3, type := 3, pos := "outright.go:118", after := #[{ on := 9, ground := Ground.data }, { on := 8, ground := Ground.guard }], guard := some (8, false) }) (v := ?vv121) rfl (by kernel_rfl) (by kernel_rfl) (by kernel_rfl) (fun _ _ _ h => h) (Or.inl ⟨by rfl, ?hy121⟩) (by assumption) ?_
                  case hy121 => (intro w hSw; (try dsimp only at hSw); go_simp; all_goals with_reducible rfl)
                  try simp only [Act.put, List.setIfInBounds_toArray, List.set_cons_zero, List.set_cons_succ]
                  refine wpAnyH_take (i := 11) (oi := { dst := some 73, op := Op.indexAddr 42 (Operand.tmp 3) (Operand.tmp 72), type := 0, pos := "outright.go:118", after := #[{ on := 10, ground := Ground.data }, { on := 8, ground := Ground.guard }], guard := some (8, false) }) (v := ?vv122) rfl (by kernel_rfl) (by kernel_rfl) (by kernel_rfl) (fun _ _ _ h => h) (Or.inl ⟨by rfl, ?hy122⟩) (by assumption) ?_
                  case hy122 => (intro w hSw; (try dsimp only at hSw); go_simp; all_goals with_reducible rfl)
                  try simp only [Act.put, List.setIfInBounds_toArray, List.set_cons_zero, List.set_cons_succ]
                  refine wpAnyH_take (i := 12) (oi := { dst := some 74, op := Op.load 23 (Operand.tmp 73), type := 23, pos := "outright.go:118", after := #[{ on := 11, ground := Ground.data }, { on := 8, ground := Ground.guard }], guard := some (8, false) }) (v := ?vv123) rfl (by kernel_rfl) (by kernel_rfl) (by kernel_rfl) (fun _ _ _ h => h) (Or.inl ⟨by rfl, ?hy123⟩) (by assumption) ?_
                  case hy123 => (intro w hSw; (try dsimp only at hSw); go_simp; all_goals with_reducible rfl)
                  try simp only [Act.put, List.setIfInBounds_toArray, List.set_cons_zero, List.set_cons_succ]
                  refine wpAnyH_take (i := 13) (oi := { dst := some 75, op := Op.fieldAddr 29 (Operand.tmp 5) 1, type := 0, pos := "outright.go:118", after := #[{ on := 8, ground := Ground.guard }], guard := some (8, false) }) (v := ?vv124) rfl (by kernel_rfl) (by kernel_rfl) (by kernel_rfl) (fun _ _ _ h => h) (Or.inl ⟨by rfl, ?hy124⟩) (by assumption) ?_
                  case hy124 => (intro w hSw; (try dsimp only at hSw); go_simp; all_goals with_reducible rfl)
                  try simp only [Act.put, List.setIfInBounds_toArray, List.set_cons_zero, List.set_cons_succ]
                  refine wpAnyH_take (i := 14) (oi := { dst := some 76, op := Op.load 2 (Operand.tmp 75), type := 2, pos := "outright.go:118", after := #[{ on := 13, ground := Ground.data }, { on := 8, ground := Ground.guard }], guard := some (8, false) }) (v := ?vv125) rfl (by kernel_rfl) (by kernel_rfl) (by kernel_rfl) (fun _ _ _ h => h) (Or.inl ⟨by rfl, ?hy125⟩) (by assumption) ?_
                  case hy125 => (intro w hSw; (try dsimp only at hSw); go_simp; all_goals with_reducible rfl)
                  try simp only [Act.put, List.setIfInBounds_toArray, List.set_cons_zero, List.set_cons_succ]
                  refine wpAnyH_take (i := 16) (oi := { dst := some 78, op := Op.move (Operand.tmp 6), type := 3, pos := "outright.go:118", after := #[{ on := 8, ground := Ground.guard }], guard := some (8, false) }) (v := ?vv126) rfl (by kernel_rfl) (by kernel_rfl) (by kernel_rfl) (fun _ _ _ h => h) (Or.inl ⟨by rfl, ?hy126⟩) (by assumption) ?_
                  case hy126 => (intro w hSw; (try dsimp only at hSw); go_simp; all_goals with_reducible rfl)
                  try simp only [Act.put, List.setIfInBounds_toArray, List.set_cons_zero, List.set_cons_succ]
                  refine wpAnyH_take (i := 17) (oi := { dst := some 79, op := Op.indexAddr 42 (Operand.tmp 3) (Operand.tmp 78), type := 0, pos := "outright.go:118", after := #[{ on := 16, ground := Ground.data }, { on := 8, ground := Ground.guard }], guard := some (8, false) }) (v := ?vv127) rfl (by kernel_rfl) (by kernel_rfl) (by kernel_rfl) (fun _ _ _ h => h) (Or.inl ⟨by rfl, ?hy127⟩) (by assumption) ?_
                  case hy127 => (intro w hSw; (try dsimp only at hSw); go_simp; all_goals with_reducible rfl)
                  try simp only [Act.put, List.setIfInBounds_toArray, List.set_cons_zero, List.set_cons_succ]
                  refine wpAnyH_take (i := 18) (oi := { dst := some 80, op := Op.load 23 (Operand.tmp 79), type := 23, pos := "outright.go:118", after := #[{ on := 17, ground := Ground.data }, { on := 8, ground := Ground.guard }], guard := some (8, false) }) (v := ?vv128) rfl (by kernel_rfl) (by kernel_rfl) (by kernel_rfl) (fun _ _ _ h => h) (Or.inl ⟨by rfl, ?hy128⟩) (by assumption) ?_
                  case hy128 => (intro w hSw; (try dsimp only at hSw); go_simp; all_goals with_reducible rfl)
                  try simp only [Act.put, List.setIfInBounds_toArray, List.set_cons_zero, List.set_cons_succ]
                  refine wpAnyH_take (i := 19) (oi := { dst := some 81, op := Op.fieldAddr 29 (Operand.tmp 5) 1, type := 0, pos := "outright.go:118", after := #[{ on := 8, ground := Ground.guard }], guard := some (8, false) }) (v := ?vv129) rfl (by kernel_rfl) (by kernel_rfl) (by kernel_rfl) (fun _ _ _ h => h) (Or.inl ⟨by rfl, ?hy129⟩) (by assumption) ?_
                  case hy129 => (intro w hSw; (try dsimp only at hSw); go_simp; all_goals with_reducible rfl)
                  try simp only [Act.put, List.setIfInBounds_toArray, List.set_cons_zero, List.set_cons_succ]
                  refine wpAnyH_take (i := 20) (oi := { dst := some 82, op := Op.load 2 (Operand.tmp 81), type := 2, pos := "outright.go:118", after := #[{ on := 19, ground := Ground.data }, { on := 8, ground := Ground.guard }], guard := some (8, false) }) (v := ?vv130) rfl (by kernel_rfl) (by kernel_rfl) (by kernel_rfl) (fun _ _ _ h => h) (Or.inl ⟨by rfl, ?hy130⟩) (by assumption) ?_
                  case hy130 => (intro w hSw; (try dsimp only at hSw); go_simp; all_goals with_reducible rfl)
                  try simp only [Act.put, List.setIfInBounds_toArray, List.set_cons_zero, List.set_cons_succ]
                  refine wpAnyH_ready (rs := [15]) (by kernel_rfl) (by simp) ?_
                  refine AllReadyH.cons (o := { dst := some 77, op := Op.call { callee := Callee.value (Operand.func 14), args := #[Operand.tmp 74, Operand.tmp 76], argTypes := #[23, 2] }, type := 3, pos := "outright.go:118", after := #[{ on := 12, ground := Ground.data }, { on := 14, ground := Ground.data }, { on := 8, ground := Ground.chain }, { on := 8, ground := Ground.guard }], guard := some (8, false) }) rfl (fun K hK => ?_) AllReadyH.nil
                  go_simp
                  refine (c14r.out W hIW).mono ?_
                  rintro e' Wx ⟨rfl, hIWx⟩
                  go_wp2_with fail
                  refine hK.out _ _ (hfull.out _ hIWx) (fun hHeld => ?_)
                  clear hK K hIW
                  try simp only [Act.put, List.setIfInBounds_toArray, List.set_cons_zero, List.set_cons_succ]
                  refine wpAnyH_ready (rs := [21]) (by kernel_rfl) (by simp) ?_
                  refine AllReadyH.cons (o := { dst := some 83, op := Op.call { callee := Callee.value (Operand.func 14), args := #[Operand.tmp 80, Operand.tmp 82], argTypes := #[23, 2] }, type := 3, pos := "outright.go:118", after := #[{ on := 18, ground := Ground.data }, { on := 20, ground := Ground.data }, { on := 15, ground := Ground.chain }, { on := 8, ground := Ground.guard }], guard := some (8, false) }) rfl (fun K hK => ?_) AllReadyH.nil
                  go_simp
                  refine (c14s.out Wx hIWx).mono ?_
                  rintro e' Wxx ⟨rfl, hIWxx⟩
                  go_wp2_with fail
                  refine hK.out _ _ (hfull.out _ hIWxx) (fun hHeld => ?_)
                  clear hK K hIWx
                  try simp only [Act.put, List.setIfInBounds_toArray, List.set_cons_zero, List.set_cons_succ]
                  refine wpAnyH_ready (rs := [22]) (by kernel_rfl) (by simp) ?_
                  refine AllReadyH.cons (o := { dst := some 84, op := Op.call { callee := Callee.value (Operand.func 20), args := #[Operand.tmp 83], argTypes := #[3] }, type := 3, pos := "outright.go:118", after := #[{ on := 21, ground := Ground.data }, { on := 21, ground := Ground.chain }, { on := 8, ground := Ground.guard }], guard := some (8, false) }) rfl (fun K hK => ?_) AllReadyH.nil
                  go_simp
                  refine (c20.out Wxx hIWxx).mono ?_
                  rintro e' Wxxx ⟨rfl, hIWxxx⟩
                  go_wp2_with fail
                  refine hK.out _ _ (hfull.out _ hIWxxx) (fun hHeld => ?_)
                  clear hK K hIWxx
                  try simp only [Act.put, List.setIfInBounds_toArray, List.set_cons_zero, List.set_cons_succ]
                  refine wpAnyH_take (i := 23) (oi := { dst := some 85, op := Op.binOp BinOp.neq 3 (Operand.tmp 77) (Operand.tmp 84) 3, type := 4, pos := "outright.go:118", after := #[{ on := 15, ground := Ground.data }, { on := 22, ground := Ground.data }, { on := 8, ground := Ground.guard }], guard := some (8, false) }) (v := ?vv131) rfl (by kernel_rfl) (by kernel_rfl) (by kernel_rfl) (fun _ _ _ h => h) (Or.inl ⟨by rfl, ?hy131⟩) (by assumption) ?_
                  case hy131 => (intro w hSw; (try dsimp only at hSw); go_simp; all_goals with_reducible rfl)
                  try simp only [Act.put, List.setIfInBounds_toArray, List.set_cons_zero, List.set_cons_succ]
                  refine wpAnyH_take (i := 24) (oi := { dst := some 86, op := Op.pick (Operand.tmp 70) (Operand.const (Value.bool true)) (Operand.tmp 85), type := 4, pos := "outright.go:118", after := #[{ on := 8, ground := Ground.data }, { on := 23, ground := Ground.data }], guard := none }) (v := ?vv132) rfl (by kernel_rfl) (by kernel_rfl) (by kernel_rfl) (fun _ _ _ h => h) (Or.inl ⟨by rfl, ?hy132⟩) (by assumption) ?_
                  case hy132 => (intro w hSw; (try dsimp only at hSw); go_simp; all_goals with_reducible rfl)
                  try simp only [Act.put, List.setIfInBounds_toArray, List.set_cons_zero, List.set_cons_succ]
                  refine wpAnyH_done (by kernel_rfl) ?_ _
                  clear hfull hHeld
                  go_wp2_with fail
                  go_meet
                  exact ⟨rfl, (hend.out _ hIWxxx)⟩
                case rest =>
                  obtain ⟨rfl, hV⟩ := hcut
                  clear e7 h8 e8 d4 d5 d6
                  obtain ⟨d4, d5, d6⟩ := hV.en.cells
                  replace hMs := hMs.sym
                  go_upto_region 20 with fail
                  go_cut [112] from 25 to 112 (fun x wx => x = .bool false ∧ Ev w O #[.bool true, .int .i64 id, .bool g, .int .i64 kd] p0 b0 p1 b1 A' B' wx)
                  case first =>
                    obtain ⟨N1, hN1⟩ : ∃ N1, (A').count true = N1 := ⟨_, rfl⟩
                    obtain ⟨N2, hN2⟩ : ∃ N2, (A').count false = N2 := ⟨_, rfl⟩
                    obtain ⟨ll, hll⟩ : ∃ ll, (A').live = ll := ⟨_, rfl⟩
                    have hM1 := hMs.count hV.en.tw.t0.ok hV.en.tw.t1.ok false
                    have hM2 := hMs.count hV.en.tw.t0.ok hV.en.tw.t1.ok true
                    have hM3 := hMs.live hV.en.tw.t0.ok hV.en.tw.t1.ok
                    simp only [Bool.not_false, Bool.not_true] at hM1 hM2
                    rw [hN1] at hM1
                    rw [hN2] at hM2
                    rw [hll] at hM3
                    obtain ⟨P, hP⟩ : ∃ P : World → Prop, P = fun W => Ev w O #[.bool true, .int .i64 id, .bool g, .int .i64 kd] p0 b0 p1 b1 A' B' W := ⟨_, rfl⟩
                    have c18 : Hid (∀ W, P W → Calls Try.prog 18 #[.pointer (some ⟨p0, 0, none⟩), .bool true] W fun e W' => e = .returned (.int .i64 (N1 : Int)) ∧ P W') := fun W h => by
                      subst hP
                      refine (count_any W p0 b0 _ true h.en.tw.t0).mono ?_
                      rintro e W' ⟨rfl, hB⟩
                      exact ⟨by rw [hN1], h.below hB⟩
                    have c18b : Hid (∀ W, P W → Calls Try.prog 18 #[.pointer (some ⟨p1, 0, none⟩), .bool false] W fun e W' => e = .returned (.int .i64 (N1 : Int)) ∧ P W') := fun W h => by
                      subst hP
                      refine (count_any W p1 b1 _ false h.en.tw.t1).mono ?_
                      rintro e W' ⟨rfl, hB⟩
                      exact ⟨by rw [hM1], h.below hB⟩
                    have c18c : Hid (∀ W, P W → Calls Try.prog 18 #[.pointer (some ⟨p0, 0, none⟩), .bool false] W fun e W' => e = .returned (.int .i64 (N2 : Int)) ∧ P W') := fun W h => by
                      subst hP
                      refine (count_any W p0 b0 _ false h.en.tw.t0).mono ?_
                      rintro e W' ⟨rfl, hB⟩
                      exact ⟨by rw [hN2], h.below hB⟩
                    have c18d : Hid (∀ W, P W → Calls Try.prog 18 #[.pointer (some ⟨p1, 0, none⟩), .bool true] W fun e W' => e = .returned (.int .i64 (N2 : Int)) ∧ P W') := fun W h => by
                      subst hP
                      refine (count_any W p1 b1 _ true h.en.tw.t1).mono ?_
                      rintro e W' ⟨rfl, hB⟩
                      exact ⟨by rw [hM2], h.below hB⟩
                    have c11a : Hid (∀ W, P W → Calls Try.prog 11 #[.pointer (some ⟨p0, 0, none⟩)] W fun e W' => ∃ v, e = .returned v ∧ P W' ∧ R EI W' v ll) := fun W h => by
                      subst hP
                      refine (live_any W p0 b0 _ h.en.tw.t0).mono ?_
                      rintro e W' ⟨v, rfl, hR, _, hB⟩
                      exact ⟨v, rfl, h.below hB, by rw [← hll]; exact hR⟩
                    have c11b : Hid (∀ W, P W → Calls Try.prog 11 #[.pointer (some ⟨p1, 0, none⟩)] W fun e W' => ∃ v, e = .returned v ∧ P W' ∧ R EI W' v ll ∧ Below W.heap.size W W') := fun W h => by
                      subst hP
                      refine (live_any W p1 b1 _ h.en.tw.t1).mono ?_
                      rintro e W' ⟨v, rfl, hR, _, hB⟩
                      exact ⟨v, rfl, h.below hB, by rw [← hM3]; exact hR, hB⟩
                    have c12 : Hid (∀ W v1 v2, P W → R EI W v1 ll → R EI W v2 ll → Calls Try.prog 12 #[v1, v2] W fun e W' => e = .returned (.bool true) ∧ P W') := fun W v1 v2 h r1 r2 => by
                      subst hP
                      refine (sameInts_eq W v1 v2 ll r1.isIn r2.isIn).mono ?_
                      rintro e W' ⟨rfl, hB⟩
                      exact ⟨rfl, h.below hB⟩
                    have hfull : Hid (∀ W, P W → (fun W => W.cell? ⟨w.heap.size, 0, none⟩ = some (.pointer (some ⟨p0, 0, none⟩)) ∧ W.cell? ⟨w.heap.size, 1, none⟩ = some (.pointer (some ⟨p1, 0, none⟩)) ∧ W.cell? ⟨O, 1, none⟩ = some (.int .i64 id)) W) := fun W h => by
                      subst hP
                      exact ⟨cell_blk h.en.ar 0, cell_blk h.en.ar 1, cell_blk h.op 1⟩
                    have hend : Hid (∀ W, P W → Ev w O #[.bool true, .int .i64 id, .bool g, .int .i64 kd] p0 b0 p1 b1 A' B' W) := fun W h => by subst hP; exact h
                    have q0 : ((N1 : Int) != (N1 : Int)) = false := by simp
                    have q1 : ((N2 : Int) != (N2 : Int)) = false := by simp
                    have hin : ∀ W, Ev w O #[.bool true, .int .i64 id, .bool g, .int .i64 kd] p0 b0 p1 b1 A' B' W → P W := fun W h1 => by subst hP; exact h1
                    clear hN1 hN2 hll hM1 hM2 hM3
                    have hIW := hV.below (Below.refl _ _).drew
                    replace hIW := hin _ hIW
                    clear hP hin
                    refine wp_region_held_drew (S := (fun W => W.cell? ⟨w.heap.size, 0, none⟩ = some (.pointer (some ⟨p0, 0, none⟩)) ∧ W.cell? ⟨w.heap.size, 1, none⟩ = some (.pointer (some ⟨p1, 0, none⟩)) ∧ W.cell? ⟨O, 1, none⟩ = some (.int .i64 id))) (by kernel_rfl) (hfull.out _ hIW) (fun hHeld => ?_)
                    generalize hWg : World.drew _ = W at hIW hHeld ⊢
                    clear hWg hV
                    refine wpAnyH_take (i := 0) (oi := { dst := some 87, op := Op.indexAddr 42 (Operand.tmp 3) (Operand.const (Value.int IntKind.i64 0)), type := 0, pos := "outright.go:121", after := #[], guard := none }) (v := ?vv133) rfl (by kernel_rfl) (by kernel_rfl) (by kernel_rfl) (fun _ _ _ h => h) (Or.inl ⟨by rfl, ?hy133⟩) (by assumption) ?_
                    case hy133 => (intro w hSw; (try dsimp only at hSw); go_simp; all_goals with_reducible rfl)
                    try simp only [Act.put, List.setIfInBounds_toArray, List.set_cons_zero, List.set_cons_succ]
                    refine wpAnyH_take (i := 1) (oi := { dst := some 88, op := Op.load 23 (Operand.tmp 87), type := 23, pos := "outright.go:121", after := #[{ on := 0, ground := Ground.data }], guard := none }) (v := ?vv134) rfl (by kernel_rfl) (by kernel_rfl) (by kernel_rfl) (fun _ _ _ h => h) (Or.inl ⟨by rfl, ?hy134⟩) (by assumption) ?_
                    case hy134 => (intro w hSw; (try dsimp only at hSw); go_simp; all_goals with_reducible rfl)
                    try simp only [Act.put, List.setIfInBounds_toArray, List.set_cons_zero, List.set_cons_succ]
                    refine wpAnyH_take (i := 3) (oi := { dst := some 90, op := Op.indexAddr 42 (Operand.tmp 3) (Operand.const (Value.int IntKind.i64 1)), type := 0, pos := "outright.go:121", after := #[], guard := none }) (v := ?vv135) rfl (by kernel_rfl) (by kernel_rfl) (by kernel_rfl) (fun _ _ _ h => h) (Or.inl ⟨by rfl, ?hy135⟩) (by assumption) ?_
                    case hy135 => (intro w hSw; (try dsimp only at hSw); go_simp; all_goals with_reducible rfl)
                    try simp only [Act.put, List.setIfInBounds_toArray, List.set_cons_zero, List.set_cons_succ]
                    refine wpAnyH_take (i := 4) (oi := { dst := some 91, op := Op.load 23 (Operand.tmp 90), type := 23, pos := "outright.go:121", after := #[{ on := 3, ground := Ground.data }], guard := none }) (v := ?vv136) rfl (by kernel_rfl) (by kernel_rfl) (by kernel_rfl) (fun _ _ _ h => h) (Or.inl ⟨by rfl, ?hy136⟩) (by assumption) ?_
                    case hy136 => (intro w hSw; (try dsimp only at hSw); go_simp; all_goals with_reducible rfl)
                    try simp only [Act.put, List.setIfInBounds_toArray, List.set_cons_zero, List.set_cons_succ]
                    refine wpAnyH_ready (rs := [2]) (by kernel_rfl) (by simp) ?_
                    refine AllReadyH.cons (o := { dst := some 89, op := Op.call { callee := Callee.value (Operand.func 18), args := #[Operand.tmp 88, Operand.const (Value.bool true)], argTypes := #[23, 4] }, type := 3, pos := "outright.go:121", after := #[{ on := 1, ground := Ground.data }], guard := none }) rfl (fun K hK => ?_) AllReadyH.nil
                    go_simp
                    refine (c18.out W hIW).mono ?_
                    rintro e' Wx ⟨rfl, hIWx⟩
                    go_wp2_with fail
                    refine hK.out _ _ (hfull.out _ hIWx) (fun hHeld => ?_)
                    clear hK K hIW
                    try simp only [Act.put, List.setIfInBounds_toArray, List.set_cons_zero, List.set_cons_succ]
                    refine wpAnyH_ready (rs := [5]) (by kernel_rfl) (by simp) ?_
                    refine AllReadyH.cons (o := { dst := some 92, op := Op.call { callee := Callee.value (Operand.func 18), args := #[Operand.tmp 91, Operand.const (Value.bool false)], argTypes := #[23, 4] }, type := 3, pos := "outright.go:121", after := #[{ on := 4, ground := Ground.data }, { on := 2, ground := Ground.chain }], guard := none }) rfl (fun K hK => ?_) AllReadyH.nil
                    go_simp
                    refine (c18b.out Wx hIWx).mono ?_
                    rintro e' Wxx ⟨rfl, hIWxx⟩
                    go_wp2_with fail
                    refine hK.out _ _ (hfull.out _ hIWxx) (fun hHeld => ?_)
                    clear hK K hIWx
                    try simp only [Act.put, List.setIfInBounds_toArray, List.set_cons_zero, List.set_cons_succ]
                    refine wpAnyH_take (i := 6) (oi := { dst := some 93, op := Op.binOp BinOp.neq 3 (Operand.tmp 89) (Operand.tmp 92) 3, type := 4, pos := "outright.go:121", after := #[{ on := 2, ground := Ground.data }, { on := 5, ground := Ground.data }], guard := none }) (v := ?vv137) rfl (by kernel_rfl) (by kernel_rfl) (by kernel_rfl) (fun _ _ _ h => h) (Or.inl ⟨by rfl, ?hy137⟩) (by assumption) ?_
                    case hy137 => (intro w hSw; (try dsimp only at hSw); go_simp; all_goals with_reducible rfl)
                    try simp only [Act.put, List.setIfInBounds_toArray, List.set_cons_zero, List.set_cons_succ]
                    refine wpAnyH_take (i := 7) (oi := { dst := some 94, op := Op.move (Operand.tmp 93), type := 4, pos := "outright.go:121", after := #[{ on := 6, ground := Ground.data }, { on := 5, ground := Ground.chain }], guard := none }) (v := ?vv138) rfl (by kernel_rfl) (by kernel_rfl) (by kernel_rfl) (fun _ _ _ h => h) (Or.inl ⟨by rfl, ?hy138⟩) (by assumption) ?_
                    case hy138 => (intro w hSw; (try dsimp only at hSw); go_simp; all_goals with_reducible rfl)
                    try simp only [Act.put, List.setIfInBounds_toArray, List.set_cons_zero, List.set_cons_succ]
                    refine wpAnyH_take (i := 8) (oi := { dst := some 95, op := Op.indexAddr 42 (Operand.tmp 3) (Operand.const (Value.int IntKind.i64 0)), type := 0, pos := "outright.go:121", after := #[{ on := 7, ground := Ground.guard }], guard := some (7, false) }) (v := ?vv139) rfl (by kernel_rfl) (by kernel_rfl) (by kernel_rfl) (fun _ _ _ h => h) (Or.inl ⟨by rfl, ?hy139⟩) (by assumption) ?_
                    case hy139 => (intro w hSw; (try dsimp only at hSw); go_simp; all_goals with_reducible rfl)
                    try simp only [Act.put, List.setIfInBounds_toArray, List.set_cons_zero, List.set_cons_succ]
                    refine wpAnyH_take (i := 9) (oi := { dst := some 96, op := Op.load 23 (Operand.tmp 95), type := 23, pos := "outright.go:121", after := #[{ on := 8, ground := Ground.data }, { on := 7, ground := Ground.guard }], guard := some (7, false) }) (v := ?vv140) rfl (by kernel_rfl) (by kernel_rfl) (by kernel_rfl) (fun _ _ _ h => h) (Or.inl ⟨by rfl, ?hy140⟩) (by assumption) ?_
                    case hy140 => (intro w hSw; (try dsimp only at hSw); go_simp; all_goals with_reducible rfl)
                    try simp only [Act.put, List.setIfInBounds_toArray, List.set_cons_zero, List.set_cons_succ]
                    refine wpAnyH_take (i := 11) (oi := { dst := some 98, op := Op.indexAddr 42 (Operand.tmp 3) (Operand.const (Value.int IntKind.i64 1)), type := 0, pos := "outright.go:121", after := #[{ on := 7, ground := Ground.guard }], guard := some (7, false) }) (v := ?vv141) rfl (by kernel_rfl) (by kernel_rfl) (by kernel_rfl) (fun _ _ _ h => h) (Or.inl ⟨by rfl, ?hy141⟩) (by assumption) ?_
                    case hy141 => (intro w hSw; (try dsimp only at hSw); go_simp; all_goals with_reducible rfl)
                    try simp only [Act.put, List.setIfInBounds_toArray, List.set_cons_zero, List.set_cons_succ]
                    refine wpAnyH_take (i := 12) (oi := { dst := some 99, op := Op.load 23 (Operand.tmp 98), type := 23, pos := "outright.go:121", after := #[{ on := 11, ground := Ground.data }, { on := 7, ground := Ground.guard }], guard := some (7, false) }) (v := ?vv142) rfl (by kernel_rfl) (by kernel_rfl) (by kernel_rfl) (fun _ _ _ h => h) (Or.inl ⟨by rfl, ?hy142⟩) (by assumption) ?_
                    case hy142 => (intro w hSw; (try dsimp only at hSw); go_simp; all_goals with_reducible rfl)
                    try simp only [Act.put, List.setIfInBounds_toArray, List.set_cons_zero, List.set_cons_succ]
                    refine wpAnyH_ready (rs := [10]) (by kernel_rfl) (by simp) ?_
                    refine AllReadyH.cons (o := { dst := some 97, op := Op.call { callee := Callee.value (Operand.func 18), args := #[Operand.tmp 96, Operand.const (Value.bool false)], argTypes := #[23, 4] }, type := 3, pos := "outright.go:121", after := #[{ on := 9, ground := Ground.data }, { on := 7, ground := Ground.chain }, { on := 7, ground := Ground.guard }], guard := some (7, false) }) rfl (fun K hK => ?_) AllReadyH.nil
                    go_simp
                    refine (c18c.out Wxx hIWxx).mono ?_
                    rintro e' Wxxx ⟨rfl, hIWxxx⟩
                    go_wp2_with fail
                    refine hK.out _ _ (hfull.out _ hIWxxx) (fun hHeld => ?_)
                    clear hK K hIWxx
                    try simp only [Act.put, List.setIfInBounds_toArray, List.set_cons_zero, List.set_cons_succ]
                    refine wpAnyH_ready (rs := [13]) (by kernel_rfl) (by simp) ?_
                    refine AllReadyH.cons (o := { dst := some 100, op := Op.call { callee := Callee.value (Operand.func 18), args := #[Operand.tmp 99, Operand.const (Value.bool true)], argTypes := #[23, 4] }, type := 3, pos := "outright.go:121", after := #[{ on := 12, ground := Ground.data }, { on := 10, ground := Ground.chain }, { on := 7, ground := Ground.guard }], guard := some (7, false) }) rfl (fun K hK => ?_) AllReadyH.nil
                    go_simp
                    refine (c18d.out Wxxx hIWxxx).mono ?_
                    rintro e' Wxxxx ⟨rfl, hIWxxxx⟩
                    go_wp2_with fail
                    refine hK.out _ _ (hfull.out _ hIWxxxx) (fun hHeld => ?_)
                    clear hK K hIWxxx
                    try simp only [Act.put, List.setIfInBounds_toArray, List.set_cons_zero, List.set_cons_succ]
                    refine wpAnyH_take (i := 14) (oi := { dst := some 101, op := Op.binOp BinOp.neq 3 (Operand.tmp 97) (Operand.tmp 100) 3, type := 4, pos := "outright.go:121", after := #[{ on := 10, ground := Ground.data }, { on := 13, ground := Ground.data }, { on := 7, ground := Ground.guard }], guard := some (7, false) }) (v := ?vv143) rfl (by kernel_rfl) (by kernel_rfl) (by kernel_rfl) (fun _ _ _ h => h) (Or.inl ⟨by rfl, ?hy143⟩) (by assumption) ?_
                    case hy143 => (intro w hSw; (try dsimp only at hSw); go_simp; all_goals with_reducible rfl)
                    try simp only [Act.put, List.setIfInBounds_toArray, List.set_cons_zero, List.set_cons_succ]
                    refine wpAnyH_take (i := 15) (oi := { dst := some 102, op := Op.pick (Operand.tmp 94) (Operand.const (Value.bool true)) (Operand.tmp 101), type := 4, pos := "outright.go:121", after := #[{ on := 7, ground := Ground.data }, { on := 14, ground := Ground.data }], guard := none }) (v := ?vv144) rfl (by kernel_rfl) (by kernel_rfl) (by kernel_rfl) (fun _ _ _ h => h) (Or.inl ⟨by rfl, ?hy144⟩) (by assumption) ?_
                    case hy144 => (intro w hSw; (try dsimp only at hSw); go_simp; all_goals with_reducible rfl)
                    try simp only [Act.put, List.setIfInBounds_toArray, List.set_cons_zero, List.set_cons_succ]
                    refine wpAnyH_take (i := 16) (oi := { dst := some 103, op := Op.move (Operand.tmp 102), type := 4, pos := "outright.go:121", after := #[{ on := 15, ground := Ground.data }, { on := 13, ground := Ground.chain }], guard := none }) (v := ?vv145) rfl (by kernel_rfl) (by kernel_rfl) (by kernel_rfl) (fun _ _ _ h => h) (Or.inl ⟨by rfl, ?hy145⟩) (by assumption) ?_
                    case hy145 => (intro w hSw; (try dsimp only at hSw); go_simp; all_goals with_reducible rfl)
                    try simp only [Act.put, List.setIfInBounds_toArray, List.set_cons_zero, List.set_cons_succ]
                    refine wpAnyH_take (i := 17) (oi := { dst := some 104, op := Op.indexAddr 42 (Operand.tmp 3) (Operand.const (Value.int IntKind.i64 0)), type := 0, pos := "outright.go:121", after := #[{ on := 16, ground := Ground.guard }], guard := some (16, false) }) (v := ?vv146) rfl (by kernel_rfl) (by kernel_rfl) (by kernel_rfl) (fun _ _ _ h => h) (Or.inl ⟨by rfl, ?hy146⟩) (by assumption) ?_
                    case hy146 => (intro w hSw; (try dsimp only at hSw); go_simp; all_goals with_reducible rfl)
                    try simp only [Act.put, List.setIfInBounds_toArray, List.set_cons_zero, List.set_cons_succ]
                    refine wpAnyH_take (i := 18) (oi := { dst := some 105, op := Op.load 23 (Operand.tmp 104), type := 23, pos := "outright.go:121", after := #[{ on := 17, ground := Ground.data }, { on := 16, ground := Ground.guard }], guard := some (16, false) }) (v := ?vv147) rfl (by kernel_rfl) (by kernel_rfl) (by kernel_rfl) (fun _ _ _ h => h) (Or.inl ⟨by rfl, ?hy147⟩) (by assumption) ?_
                    case hy147 => (intro w hSw; (try dsimp only at hSw); go_simp; all_goals with_reducible rfl)
                    try simp only [Act.put, List.setIfInBounds_toArray, List.set_cons_zero, List.set_cons_succ]
                    refine wpAnyH_take (i := 20) (oi := { dst := some 107, op := Op.indexAddr 42 (Operand.tmp 3) (Operand.const (Value.int IntKind.i64 1)), type := 0, pos := "outright.go:121", after := #[{ on := 16, ground := Ground.guard }], guard := some (16, false) }) (v := ?vv148) rfl (by kernel_rfl) (by kernel_rfl) (by kernel_rfl) (fun _ _ _ h => h) (Or.inl ⟨by rfl, ?hy148⟩) (by assumption) ?_
                    case hy148 => (intro w hSw; (try dsimp only at hSw); go_simp; all_goals with_reducible rfl)
                    try simp only [Act.put, List.setIfInBounds_toArray, List.set_cons_zero, List.set_cons_succ]
                    refine wpAnyH_take (i := 21) (oi := { dst := some 108, op := Op.load 23 (Operand.tmp 107), type := 23, pos := "outright.go:121", after := #[{ on := 20, ground := Ground.data }, { on := 16, ground := Ground.guard }], guard := some (16, false) }) (v := ?vv149) rfl (by kernel_rfl) (by kernel_rfl) (by kernel_rfl) (fun _ _ _ h => h) (Or.inl ⟨by rfl, ?hy149⟩) (by assumption) ?_
                    case hy149 => (intro w hSw; (try dsimp only at hSw); go_simp; all_goals with_reducible rfl)
                    try simp only [Act.put, List.setIfInBounds_toArray, List.set_cons_zero, List.set_cons_succ]
                    refine wpAnyH_ready (rs := [19]) (by kernel_rfl) (by simp) ?_
                    refine AllReadyH.cons (o := { dst := some 106, op := Op.call { callee := Callee.value (Operand.func 11), args := #[Operand.tmp 105], argTypes := #[23] }, type := 30, pos := "outright.go:121", after := #[{ on := 18, ground := Ground.data }, { on := 16, ground := Ground.chain }, { on := 16, ground := Ground.guard }], guard := some (16, false) }) rfl (fun K hK => ?_) AllReadyH.nil
                    go_simp
                    refine (c11a.out Wxxxx hIWxxxx).mono ?_
                    rintro e' Wxxxxx ⟨v1, rfl, hIWxxxxx, hR1⟩
                    go_wp2_with fail
                    refine hK.out _ _ (hfull.out _ hIWxxxxx) (fun hHeld => ?_)
                    clear hK K hIWxxxx
                    try simp only [Act.put, List.setIfInBounds_toArray, List.set_cons_zero, List.set_cons_succ]
                    refine wpAnyH_ready (rs := [22]) (by kernel_rfl) (by simp) ?_
                    refine AllReadyH.cons (o := { dst := some 109, op := Op.call { callee := Callee.value (Operand.func 11), args := #[Operand.tmp 108], argTypes := #[23] }, type := 30, pos := "outright.go:121", after := #[{ on := 21, ground := Ground.data }, { on := 19, ground := Ground.chain }, { on := 16, ground := Ground.guard }], guard := some (16, false) }) rfl (fun K hK => ?_) AllReadyH.nil
                    go_simp
                    refine (c11b.out Wxxxxx hIWxxxxx).mono ?_
                    rintro e' Wxxxxxx ⟨v2, rfl, hIWxxxxxx, hR2, hB2⟩
                    replace hR1 := hR1.below hB2
                    clear hB2
                    go_wp2_with fail
                    refine hK.out _ _ (hfull.out _ hIWxxxxxx) (fun hHeld => ?_)
                    clear hK K hIWxxxxx
                    try simp only [Act.put, List.setIfInBounds_toArray, List.set_cons_zero, List.set_cons_succ]
                    refine wpAnyH_ready (rs := [23]) (by kernel_rfl) (by simp) ?_
                    refine AllReadyH.cons (o := { dst := some 110, op := Op.call { callee := Callee.value (Operand.func 12), args := #[Operand.tmp 106, Operand.tmp 109], argTypes := #[30, 30] }, type := 4, pos := "outright.go:121", after := #[{ on := 19, ground := Ground.data }, { on := 22, ground := Ground.data }, { on := 22, ground := Ground.chain }, { on := 16, ground := Ground.guard }], guard := some (16, false) }) rfl (fun K hK => ?_) AllReadyH.nil
                    go_simp
                    refine (c12.out Wxxxxxx _ _ hIWxxxxxx hR1 hR2).mono ?_
                    rintro e' Wxxxxxxx ⟨rfl, hIWxxxxxxx⟩
                    clear hR1 hR2
                    go_wp2_with fail
                    refine hK.out _ _ (hfull.out _ hIWxxxxxxx) (fun hHeld => ?_)
                    clear hK K hIWxxxxxx
                    try simp only [Act.put, List.setIfInBounds_toArray, List.set_cons_zero, List.set_cons_succ]
                    refine wpAnyH_take (i := 24) (oi := { dst := some 111, op := Op.unOp UnOp.not 4 (Operand.tmp 110), type := 4, pos := "outright.go:121", after := #[{ on := 23, ground := Ground.data }, { on := 16, ground := Ground.guard }], guard := some (16, false) }) (v := ?vv150) rfl (by kernel_rfl) (by kernel_rfl) (by kernel_rfl) (fun _ _ _ h => h) (Or.inl ⟨by rfl, ?hy150⟩) (by assumption) ?_
                    case hy150 => (intro w hSw; (try dsimp only at hSw); go_simp; all_goals with_reducible rfl)
                    try simp only [Act.put, List.setIfInBounds_toArray, List.set_cons_zero, List.set_cons_succ]
                    refine wpAnyH_take (i := 25) (oi := { dst := some 112, op := Op.pick (Operand.tmp 103) (Operand.const (Value.bool true)) (Operand.tmp 111), type := 4, pos := "outright.go:121", after := #[{ on := 16, ground := Ground.data }, { on := 24, ground := Ground.data }], guard := none }) (v := ?vv151) rfl (by kernel_rfl) (by kernel_rfl) (by kernel_rfl) (fun _ _ _ h => h) (Or.inl ⟨by rfl, ?hy151⟩) (by assumption) ?_
                    case hy151 => (intro w hSw; (try dsimp only at hSw); go_simp; all_goals with_reducible rfl)
                    try simp only [Act.put, List.setIfInBounds_toArray, List.set_cons_zero, List.set_cons_succ]
                    refine wpAnyH_done (by kernel_rfl) ?_ _
                    clear hfull hHeld
                    go_wp2_with fail
                    go_meet
                    exact ⟨rfl, (hend.out _ hIWxxxxxxx)⟩
                  case rest =>
                    obtain ⟨rfl, hV⟩ := hcut
                    clear d4 d5 d6
                    go_wp2_with fail
                    go_roundw
                    case rel => exact ⟨k + 1, A', B', by omega, by simp, hV.en, hMs⟩
                    case measure => simp [intOf]; omega
              · rw [hx] at h8
                clear hx
                have e7 := cell_blk h8 0
                simp only [List.getElem?_toArray, List.getElem?_cons_zero] at e7
                go_upto_region 18 with fail
                go_cut [86] from 25 to 112 (fun x wx => x = .bool false ∧ Ev w O #[.bool true, .int .i64 id, .bool g, .int .i64 kd] p0 b0 p1 b1 A' B' wx)
                case first =>
                  obtain ⟨P, hP⟩ : ∃ P : World → Prop, P = fun W => Ev w O #[.bool true, .int .i64 id, .bool g, .int .i64 kd] p0 b0 p1 b1 A' B' W ∧ W.heap[g8]? = some (.cells #[.int .i64 1, .int .i64 c8] 44) := ⟨_, rfl⟩
                  obtain ⟨sx, hsx⟩ : ∃ sx, mi (B'.st id) = sx := ⟨_, rfl⟩
                  obtain ⟨sy, hsy⟩ : ∃ sy, B'.st id = sy := ⟨_, rfl⟩
                  have hst := hMs.st id
                  rw [hsx] at hst
                  rw [hsy] at hsx
                  have c14r : Hid (∀ W, P W → Calls Try.prog 14 #[.pointer (some ⟨p0, 0, none⟩), .int .i64 id] W fun e W' => e = .returned (.int .i64 sx) ∧ P W') := fun W h => by
                    subst hP
                    refine (state_any W p0 b0 A' id h.1.en.tw.t0 hid).mono ?_
                    rintro e W' ⟨rfl, hB⟩
                    exact ⟨by rw [hst], h.1.below hB, (hB.block _ (heap_lt h.2)).trans h.2⟩
                  have c14s : Hid (∀ W, P W → Calls Try.prog 14 #[.pointer (some ⟨p1, 0, none⟩), .int .i64 id] W fun e W' => e = .returned (.int .i64 sy) ∧ P W') := fun W h => by
                    subst hP
                    refine (state_any W p1 b1 B' id h.1.en.tw.t1 hid).mono ?_
                    rintro e W' ⟨rfl, hB⟩
                    exact ⟨by rw [hsy], h.1.below hB, (hB.block _ (heap_lt h.2)).trans h.2⟩
                  have c20 : Hid (∀ W, P W → Calls Try.prog 20 #[.int .i64 sy] W fun e W' => e = .returned (.int .i64 sx) ∧ P W') := fun W h => by
                    refine (mirror_any sy W).mono ?_
                    rintro e W' ⟨rfl, rfl⟩
                    exact ⟨by rw [hsx], h⟩
                  have hfull : Hid (∀ W, P W → (fun W => W.cell? ⟨w.heap.size, 0, none⟩ = some (.pointer (some ⟨p0, 0, none⟩)) ∧ W.cell? ⟨w.heap.size, 1, none⟩ = some (.pointer (some ⟨p1, 0, none⟩)) ∧ W.cell? ⟨O, 1, none⟩ = some (.int .i64 id) ∧ W.cell? ⟨g8, 0, none⟩ = some (.int .i64 1)) W) := fun W h => by
                    subst hP
                    exact ⟨cell_blk h.1.en.ar 0, cell_blk h.1.en.ar 1, cell_blk h.1.op 1, cell_blk h.2 0⟩
                  have hend : Hid (∀ W, P W → Ev w O #[.bool true, .int .i64 id, .bool g, .int .i64 kd] p0 b0 p1 b1 A' B' W) := fun W h => by subst hP; exact h.1
                  have q0 : (sx != sx) = false := by simp
                  have hin : ∀ W, Ev w O #[.bool true, .int .i64 id, .bool g, .int .i64 kd] p0 b0 p1 b1 A' B' W → W.heap[g8]? = some (.cells #[.int .i64 1, .int .i64 c8] 44) → P W := fun W h1 h2 => by subst hP; exact ⟨h1, h2⟩
                  clear hst hsx hsy
                  have hIW := hV.below (Below.refl _ _).drew
                  replace hIW := hin _ hIW h8
                  clear hP h8 hin
                  refine wp_region_held_drew (S := (fun W => W.cell? ⟨w.heap.size, 0, none⟩ = some (.pointer (some ⟨p0, 0, none⟩)) ∧ W.cell? ⟨w.heap.size, 1, none⟩ = some (.pointer (some ⟨p1, 0, none⟩)) ∧ W.cell? ⟨O, 1, none⟩ = some (.int .i64 id) ∧ W.cell? ⟨g8, 0, none⟩ = some (.int .i64 1))) (by kernel_rfl) (hfull.out _ hIW) (fun hHeld => ?_)
                  generalize hWg : World.drew _ = W at hIW hHeld ⊢
                  clear hWg hV
                  refine wpAnyH_take (i := 0) (oi := { dst := some 62, op := Op.fieldAddr 44 (Operand.tmp 8) 0, type := 0, pos := "outright.go:118", after := #[], guard := none }) (v := ?vv152) rfl (by kernel_rfl) (by kernel_rfl) (by kernel_rfl) (fun _ _ _ h => h) (Or.inl ⟨by rfl, ?hy152⟩) (by assumption) ?_
                  case hy152 => (intro w hSw; (try dsimp only at hSw); go_simp; all_goals with_reducible rfl)
                  try simp only [Act.put, List.setIfInBounds_toArray, List.set_cons_zero, List.set_cons_succ]
                  refine wpAnyH_take (i := 1) (oi := { dst := some 63, op := Op.load 3 (Operand.tmp 62), type := 3, pos := "outright.go:118", after := #[{ on := 0, ground := Ground.data }], guard := none }) (v := ?vv153) rfl (by kernel_rfl) (by kernel_rfl) (by kernel_rfl) (fun _ _ _ h => h) (Or.inl ⟨by rfl, ?hy153⟩) (by assumption) ?_
                  case hy153 => (intro w hSw; (try dsimp only at hSw); go_simp; all_goals with_reducible rfl)
                  try simp only [Act.put, List.setIfInBounds_toArray, List.set_cons_zero, List.set_cons_succ]
                  refine wpAnyH_take (i := 2) (oi := { dst := some 64, op := Op.binOp BinOp.neq 3 (Operand.tmp 63) (Operand.const (Value.int IntKind.i64 0)) 3, type := 4, pos := "outright.go:118", after := #[{ on := 1, ground := Ground.data }], guard := none }) (v := ?vv154) rfl (by kernel_rfl) (by kernel_rfl) (by kernel_rfl) (fun _ _ _ h => h) (Or.inl ⟨by rfl, ?hy154⟩) (by assumption) ?_
                  case hy154 => (intro w hSw; (try dsimp only at hSw); go_simp; all_goals with_reducible rfl)
                  try simp only [Act.put, List.setIfInBounds_toArray, List.set_cons_zero, List.set_cons_succ]
                  refine wpAnyH_take (i := 3) (oi := { dst := some 65, op := Op.move (Operand.tmp 64), type := 4, pos := "outright.go:118", after := #[{ on := 2, ground := Ground.data }], guard := none }) (v := ?vv155) rfl (by kernel_rfl) (by kernel_rfl) (by kernel_rfl) (fun _ _ _ h => h) (Or.inl ⟨by rfl, ?hy155⟩) (by assumption) ?_
                  case hy155 => (intro w hSw; (try dsimp only at hSw); go_simp; all_goals with_reducible rfl)
                  try simp only [Act.put, List.setIfInBounds_toArray, List.set_cons_zero, List.set_cons_succ]
                  refine wpAnyH_take (i := 4) (oi := { dst := some 66, op := Op.fieldAddr 44 (Operand.tmp 8) 0, type := 0, pos := "outright.go:118", after := #[{ on := 3, ground := Ground.guard }], guard := some (3, true) }) (v := ?vv156) rfl (by kernel_rfl) (by kernel_rfl) (by kernel_rfl) (fun _ _ _ h => h) (Or.inl ⟨by rfl, ?hy156⟩) (by assumption) ?_
                  case hy156 => (intro w hSw; (try dsimp only at hSw); go_simp; all_goals with_reducible rfl)
                  try simp only [Act.put, List.setIfInBounds_toArray, List.set_cons_zero, List.set_cons_succ]
                  refine wpAnyH_take (i := 5) (oi := { dst := some 67, op := Op.load 3 (Operand.tmp 66), type := 3, pos := "outright.go:118", after := #[{ on := 4, ground := Ground.data }, { on := 3, ground := Ground.guard }], guard := some (3, true) }) (v := ?vv157) rfl (by kernel_rfl) (by kernel_rfl) (by kernel_rfl) (fun _ _ _ h => h) (Or.inl ⟨by rfl, ?hy157⟩) (by assumption) ?_
                  case hy157 => (intro w hSw; (try dsimp only at hSw); go_simp; all_goals with_reducible rfl)
                  try simp only [Act.put, List.setIfInBounds_toArray, List.set_cons_zero, List.set_cons_succ]
                  refine wpAnyH_take (i := 6) (oi := { dst := some 68, op := Op.binOp BinOp.neq 3 (Operand.tmp 67) (Operand.const (Value.int IntKind.i64 1)) 3, type := 4, pos := "outright.go:118", after := #[{ on := 5, ground := Ground.data }, { on := 3, ground := Ground.guard }], guard := some (3, true) }) (v := ?vv158) rfl (by kernel_rfl) (by kernel_rfl) (by kernel_rfl) (fun _ _ _ h => h) (Or.inl ⟨by rfl, ?hy158⟩) (by assumption) ?_
                  case hy158 => (intro w hSw; (try dsimp only at hSw); go_simp; all_goals with_reducible rfl)
                  try simp only [Act.put, List.setIfInBounds_toArray, List.set_cons_zero, List.set_cons_succ]
                  refine wpAnyH_take (i := 7) (oi := { dst := some 69, op := Op.pick (Operand.tmp 65) (Operand.tmp 68) (Operand.const (Value.bool false)), type := 4, pos := "outright.go:118", after := #[{ on := 3, ground := Ground.data }, { on := 6, ground := Ground.data }], guard := none }) (v := ?vv159) rfl (by kernel_rfl) (by kernel_rfl) (by kernel_rfl) (fun _ _ _ h => h) (Or.inl ⟨by rfl, ?hy159⟩) (by assumption) ?_
                  case hy159 => (intro w hSw; (try dsimp only at hSw); go_simp; all_goals with_reducible rfl)
                  try simp only [Act.put, List.setIfInBounds_toArray, List.set_cons_zero, List.set_cons_succ]
                  refine wpAnyH_take (i := 8) (oi := { dst := some 70, op := Op.move (Operand.tmp 69), type := 4, pos := "outright.go:118", after := #[{ on := 7, ground := Ground.data }, { on := 3, ground := Ground.chain }], guard := none }) (v := ?vv160) rfl (by kernel_rfl) (by kernel_rfl) (by kernel_rfl) (fun _ _ _ h => h) (Or.inl ⟨by rfl, ?hy160⟩) (by assumption) ?_
                  case hy160 => (intro w hSw; (try dsimp only at hSw); go_simp; all_goals with_reducible rfl)
                  try simp only [Act.put, List.setIfInBounds_toArray, List.set_cons_zero, List.set_cons_succ]
                  refine wpAnyH_take (i := 9) (oi := { dst := some 71, op := Op.move (Operand.tmp 6), type := 3, pos := "outright.go:118", after := #[{ on := 8, ground := Ground.guard }], guard := some (8, false) }) (v := ?vv161) rfl (by kernel_rfl) (by kernel_rfl) (by kernel_rfl) (fun _ _ _ h => h) (Or.inl ⟨by rfl, ?hy161⟩) (by assumption) ?_
                  case hy161 => (intro w hSw; (try dsimp only at hSw); go_simp; all_goals with_reducible rfl)
                  try simp only [Act.put, List.setIfInBounds_toArray, List.set_cons_zero, List.set_cons_succ]
                  refine wpAnyH_take (i := 10) (oi := { dst := some 72, op := Op.binOp BinOp.sub 3 (Operand.const (Value.int IntKind.i64 1)) (Operand.tmp 71) 3, type := 3, pos := "outright.go:118", after := #[{ on := 9, ground := Ground.data }, { on := 8, ground := Ground.guard }], guard := some (8, false) }) (v := ?vv162) rfl (by kernel_rfl) (by kernel_rfl) (by kernel_rfl) (fun _ _ _ h => h) (Or.inl ⟨by rfl, ?hy162⟩) (by assumption) ?_
                  case hy162 => (intro w hSw; (try dsimp only at hSw); go_simp; all_goals with_reducible rfl)
                  try simp only [Act.put, List.setIfInBounds_toArray, List.set_cons_zero, List.set_cons_succ]
                  refine wpAnyH_take (i := 11) (oi := { dst := some 73, op := Op.indexAddr 42 (Operand.tmp 3) (Operand.tmp 72), type := 0, pos := "outright.go:118", after := #[{ on := 10, ground := Ground.data }, { on := 8, ground := Ground.guard }], guard := some (8, false) }) (v := ?vv163) rfl (by kernel_rfl) (by kernel_rfl) (by kernel_rfl) (fun _ _ _ h => h) (Or.inl ⟨by rfl, ?hy163⟩) (by assumption) ?_
                  case hy163 => (intro w hSw; (try dsimp only at hSw); go_simp; all_goals with_reducible rfl)
                  try simp only [Act.put, List.setIfInBounds_toArray, List.set_cons_zero, List.set_cons_succ]
                  refine wpAnyH_take (i := 12) (oi := { dst := some 74, op := Op.load 23 (Operand.tmp 73), type := 23, pos := "outright.go:118", after := #[{ on := 11, ground := Ground.data }, { on := 8, ground := Ground.guard }], guard := some (8, false) }) (v := ?vv164) rfl (by kernel_rfl) (by kernel_rfl) (by kernel_rfl) (fun _ _ _ h => h) (Or.inl ⟨by rfl, ?hy164⟩) (by assumption) ?_
                  case hy164 => (intro w hSw; (try dsimp only at hSw); go_simp; all_goals with_reducible rfl)
                  try simp only [Act.put, List.setIfInBounds_toArray, List.set_cons_zero, List.set_cons_succ]
                  refine wpAnyH_take (i := 13) (oi := { dst := some 75, op := Op.fieldAddr 29 (Operand.tmp 5) 1, type := 0, pos := "outright.go:118", after := #[{ on := 8, ground := Ground.guard }], guard := some (8, false) }) (v := ?vv165) rfl (by kernel_rfl) (by kernel_rfl) (by kernel_rfl) (fun _ _ _ h => h) (Or.inl ⟨by rfl, ?hy165⟩) (by assumption) ?_
                  case hy165 => (intro w hSw; (try dsimp only at hSw); go_simp; all_goals with_reducible rfl)
                  try simp only [Act.put, List.setIfInBounds_toArray, List.set_cons_zero, List.set_cons_succ]
                  refine wpAnyH_take (i := 14) (oi := { dst := some 76, op := Op.load 2 (Operand.tmp 75), type := 2, pos := "outright.go:118", after := #[{ on := 13, ground := Ground.data }, { on := 8, ground := Ground.guard }], guard := some (8, false) }) (v := ?vv166) rfl (by kernel_rfl) (by kernel_rfl) (by kernel_rfl) (fun _ _ _ h => h) (Or.inl ⟨by rfl, ?hy166⟩) (by assumption) ?_
                  case hy166 => (intro w hSw; (try dsimp only at hSw); go_simp; all_goals with_reducible rfl)
                  try simp only [Act.put, List.setIfInBounds_toArray, List.set_cons_zero, List.set_cons_succ]
                  refine wpAnyH_take (i := 16) (oi := { dst := some 78, op := Op.move (Operand.tmp 6), type := 3, pos := "outright.go:118", after := #[{ on := 8, ground := Ground.guard }], guard := some (8, false) }) (v := ?vv167) rfl (by kernel_rfl) (by kernel_rfl) (by kernel_rfl) (fun _ _ _ h => h) (Or.inl ⟨by rfl, ?hy167⟩) (by assumption) ?_
                  case hy167 => (intro w hSw; (try dsimp only at hSw); go_simp; all_goals with_reducible rfl)
                  try simp only [Act.put, List.setIfInBounds_toArray, List.set_cons_zero, List.set_cons_succ]
                  refine wpAnyH_take (i := 17) (oi := { dst := some 79, op := Op.indexAddr 42 (Operand.tmp 3) (Operand.tmp 78), type := 0, pos := "outright.go:118", after := #[{ on := 16, ground := Ground.data }, { on := 8, ground := Ground.guard }], guard := some (8, false) }) (v := ?vv168) rfl (by kernel_rfl) (by kernel_rfl) (by kernel_rfl) (fun _ _ _ h => h) (Or.inl ⟨by rfl, ?hy168⟩) (by assumption) ?_
                  case hy168 => (intro w hSw; (try dsimp only at hSw); go_simp; all_goals with_reducible rfl)
                  try simp only [Act.put, List.setIfInBounds_toArray, List.set_cons_zero, List.set_cons_succ]
                  refine wpAnyH_take (i := 18) (oi := { dst := some 80, op := Op.load 23 (Operand.tmp 79), type := 23, pos := "outright.go:118", after := #[{ on := 17, ground := Ground.data }, { on := 8, ground := Ground.guard }], guard := some (8, false) }) (v := ?vv169) rfl (by kernel_rfl) (by kernel_rfl) (by kernel_rfl) (fun _ _ _ h => h) (Or.inl ⟨by rfl, ?hy169⟩) (by assumption) ?_
                  case hy169 => (intro w hSw; (try dsimp only at hSw); go_simp; all_goals with_reducible rfl)
                  try simp only [Act.put, List.setIfInBounds_toArray, List.set_cons_zero, List.set_cons_succ]
                  refine wpAnyH_take (i := 19) (oi := { dst := some 81, op := Op.fieldAddr 29 (Operand.tmp 5) 1, type := 0, pos := "outright.go:118", after := #[{ on := 8, ground := Ground.guard }], guard := some (8, false) }) (v := ?vv170) rfl (by kernel_rfl) (by kernel_rfl) (by kernel_rfl) (fun _ _ _ h => h) (Or.inl ⟨by rfl, ?hy170⟩) (by assumption) ?_
                  case hy170 => (intro w hSw; (try dsimp only at hSw); go_simp; all_goals with_reducible rfl)
                  try simp only [Act.put, List.setIfInBounds_toArray, List.set_cons_zero, List.set_cons_succ]
                  refine wpAnyH_take (i := 20) (oi := { dst := some 82, op := Op.load 2 (Operand.tmp 81), type := 2, pos := "outright.go:118", after := #[{ on := 19, ground := Ground.data }, { on := 8, ground := Ground.guard }], guard := some (8, false) }) (v := ?vv171) rfl (by kernel_rfl) (by kernel_rfl) (by kernel_rfl) (fun _ _ _ h => h) (Or.inl ⟨by rfl, ?hy171⟩) (by assumption) ?_
                  case hy171 => (intro w hSw; (try dsimp only at hSw); go_simp; all_goals with_reducible rfl)
                  try simp only [Act.put, List.setIfInBounds_toArray, List.set_cons_zero, List.set_cons_succ]
                  refine wpAnyH_ready (rs := [15]) (by kernel_rfl) (by simp) ?_
                  refine AllReadyH.cons (o := { dst := some 77, op := Op.call { callee := Callee.value (Operand.func 14), args := #[Operand.tmp 74, Operand.tmp 76], argTypes := #[23, 2] }, type := 3, pos := "outright.go:118", after := #[{ on := 12, ground := Ground.data }, { on := 14, ground := Ground.data }, { on := 8, ground := Ground.chain }, { on := 8, ground := Ground.guard }], guard := some (8, false) }) rfl (fun K hK => ?_) AllReadyH.nil
                  go_simp
                  refine (c14r.out W hIW).mono ?_
                  rintro e' Wx ⟨rfl, hIWx⟩
                  go_wp2_with fail
                  refine hK.out _ _ (hfull.out _ hIWx) (fun hHeld => ?_)
                  clear hK K hIW
                  try simp only [Act.put, List.setIfInBounds_toArray, List.set_cons_zero, List.set_cons_succ]
                  refine wpAnyH_ready (rs := [21]) (by kernel_rfl) (by simp) ?_
                  refine AllReadyH.cons (o := { dst := some 83, op := Op.call { callee := Callee.value (Operand.func 14), args := #[Operand.tmp 80, Operand.tmp 82], argTypes := #[23, 2] }, type := 3, pos := "outright.go:118", after := #[{ on := 18, ground := Ground.data }, { on := 20, ground := Ground.data }, { on := 15, ground := Ground.chain }, { on := 8, ground := Ground.guard }], guard := some (8, false) }) rfl (fun K hK => ?_) AllReadyH.nil
                  go_simp
                  refine (c14s.out Wx hIWx).mono ?_
                  rintro e' Wxx ⟨rfl, hIWxx⟩
                  go_wp2_with fail
                  refine hK.out _ _ (hfull.out _ hIWxx) (fun hHeld => ?_)
                  clear hK K hIWx
                  try simp only [Act.put, List.setIfInBounds_toArray, List.set_cons_zero, List.set_cons_succ]
                  refine wpAnyH_ready (rs := [22]) (by kernel_rfl) (by simp) ?_
                  refine AllReadyH.cons (o := { dst := some 84, op := Op.call { callee := Callee.value (Operand.func 20), args := #[Operand.tmp 83], argTypes := #[3] }, type := 3, pos := "outright.go:118", after := #[{ on := 21, ground := Ground.data }, { on := 21, ground := Ground.chain }, { on := 8, ground := Ground.guard }], guard := some (8, false) }) rfl (fun K hK => ?_) AllReadyH.nil
                  go_simp
                  refine (c20.out Wxx hIWxx).mono ?_
                  rintro e' Wxxx ⟨rfl, hIWxxx⟩
                  go_wp2_with fail
                  refine hK.out _ _ (hfull.out _ hIWxxx) (fun hHeld => ?_)
                  clear hK K hIWxx
                  try simp only [Act.put, List.setIfInBounds_toArray, List.set_cons_zero, List.set_cons_succ]
                  refine wpAnyH_take (i := 23) (oi := { dst := some 85, op := Op.binOp BinOp.neq 3 (Operand.tmp 77) (Operand.tmp 84) 3, type := 4, pos := "outright.go:118", after := #[{ on := 15, ground := Ground.data }, { on := 22, ground := Ground.data }, { on := 8, ground := Ground.guard }], guard := some (8, false) }) (v := ?vv172) rfl (by kernel_rfl) (by kernel_rfl) (by kernel_rfl) (fun _ _ _ h => h) (Or.inl ⟨by rfl, ?hy172⟩) (by assumption) ?_
                  case hy172 => (intro w hSw; (try dsimp only at hSw); go_simp; all_goals with_reducible rfl)
                  try simp only [Act.put, List.setIfInBounds_toArray, List.set_cons_zero, List.set_cons_succ]
                  refine wpAnyH_take (i := 24) (oi := { dst := some 86, op := Op.pick (Operand.tmp 70) (Operand.const (Value.bool true)) (Operand.tmp 85), type := 4, pos := "outright.go:118", after := #[{ on := 8, ground := Ground.data }, { on := 23, ground := Ground.data }], guard := none }) (v := ?vv173) rfl (by kernel_rfl) (by kernel_rfl) (by kernel_rfl) (fun _ _ _ h => h) (Or.inl ⟨by rfl, ?hy173⟩) (by assumption) ?_
                  case hy173 => (intro w hSw; (try dsimp only at hSw); go_simp; all_goals with_reducible rfl)
                  try simp only [Act.put, List.setIfInBounds_toArray, List.set_cons_zero, List.set_cons_succ]
                  refine wpAnyH_done (by kernel_rfl) ?_ _
                  clear hfull hHeld
                  go_wp2_with fail
                  go_meet
                  exact ⟨rfl, (hend.out _ hIWxxx)⟩
                case rest =>
                  obtain ⟨rfl, hV⟩ := hcut
                  clear e7 h8 e8 d4 d5 d6
                  obtain ⟨d4, d5, d6⟩ := hV.en.cells
                  replace hMs := hMs.sym
                  go_upto_region 20 with fail
                  go_cut [112] from 25 to 112 (fun x wx => x = .bool false ∧ Ev w O #[.bool true, .int .i64 id, .bool g, .int .i64 kd] p0 b0 p1 b1 A' B' wx)
                  case first =>
                    obtain ⟨N1, hN1⟩ : ∃ N1, (A').count true = N1 := ⟨_, rfl⟩
                    obtain ⟨N2, hN2⟩ : ∃ N2, (A').count false = N2 := ⟨_, rfl⟩
                    obtain ⟨ll, hll⟩ : ∃ ll, (A').live = ll := ⟨_, rfl⟩
                    have hM1 := hMs.count hV.en.tw.t0.ok hV.en.tw.t1.ok false
                    have hM2 := hMs.count hV.en.tw.t0.ok hV.en.tw.t1.ok true
                    have hM3 := hMs.live hV.en.tw.t0.ok hV.en.tw.t1.ok
                    simp only [Bool.not_false, Bool.not_true] at hM1 hM2
                    rw [hN1] at hM1
                    rw [hN2] at hM2
                    rw [hll] at hM3
                    obtain ⟨P, hP⟩ : ∃ P : World → Prop, P = fun W => Ev w O #[.bool true, .int .i64 id, .bool g, .int .i64 kd] p0 b0 p1 b1 A' B' W := ⟨_, rfl⟩
                    have c18 : Hid (∀ W, P W → Calls Try.prog 18 #[.pointer (some ⟨p0, 0, none⟩), .bool true] W fun e W' => e = .returned (.int .i64 (N1 : Int)) ∧ P W') := fun W h => by
                      subst hP
                      refine (count_any W p0 b0 _ true h.en.tw.t0).mono ?_
                      rintro e W' ⟨rfl, hB⟩
                      exact ⟨by rw [hN1], h.below hB⟩
                    have c18b : Hid (∀ W, P W → Calls Try.prog 18 #[.pointer (some ⟨p1, 0, none⟩), .bool false] W fun e W' => e = .returned (.int .i64 (N1 : Int)) ∧ P W') := fun W h => by
                      subst hP
                      refine (count_any W p1 b1 _ false h.en.tw.t1).mono ?_
                      rintro e W' ⟨rfl, hB⟩
                      exact ⟨by rw [hM1], h.below hB⟩
                    have c18c : Hid (∀ W, P W → Calls Try.prog 18 #[.pointer (some ⟨p0, 0, none⟩), .bool false] W fun e W' => e = .returned (.int .i64 (N2 : Int)) ∧ P W') := fun W h => by
                      subst hP
                      refine (count_any W p0 b0 _ false h.en.tw.t0).mono ?_
                      rintro e W' ⟨rfl, hB⟩
                      exact ⟨by rw [hN2], h.below hB⟩
                    have c18d : Hid (∀ W, P W → Calls Try.prog 18 #[.pointer (some ⟨p1, 0, none⟩), .bool true] W fun e W' => e = .returned (.int .i64 (N2 : Int)) ∧ P W') := fun W h => by
                      subst hP
                      refine (count_any W p1 b1 _ true h.en.tw.t1).mono ?_
                      rintro e W' ⟨rfl, hB⟩
                      exact ⟨by rw [hM2], h.below hB⟩
                    have c11a : Hid (∀ W, P W → Calls Try.prog 11 #[.pointer (some ⟨p0, 0, none⟩)] W fun e W' => ∃ v, e = .returned v ∧ P W' ∧ R EI W' v ll) := fun W h => by
                      subst hP
                      refine (live_any W p0 b0 _ h.en.tw.t0).mono ?_
                      rintro e W' ⟨v, rfl, hR, _, hB⟩
                      exact ⟨v, rfl, h.below hB, by rw [← hll]; exact hR⟩
                    have c11b : Hid (∀ W, P W → Calls Try.prog 11 #[.pointer (some ⟨p1, 0, none⟩)] W fun e W' => ∃ v, e = .returned v ∧ P W' ∧ R EI W' v ll ∧ Below W.heap.size W W') := fun W h => by
                      subst hP
                      refine (live_any W p1 b1 _ h.en.tw.t1).mono ?_
                      rintro e W' ⟨v, rfl, hR, _, hB⟩
                      exact ⟨v, rfl, h.below hB, by rw [← hM3]; exact hR, hB⟩
                    have c12 : Hid (∀ W v1 v2, P W → R EI W v1 ll → R EI W v2 ll → Calls Try.prog 12 #[v1, v2] W fun e W' => e = .returned (.bool true) ∧ P W') := fun W v1 v2 h r1 r2 => by
                      subst hP
                      refine (sameInts_eq W v1 v2 ll r1.isIn r2.isIn).mono ?_
                      rintro e W' ⟨rfl, hB⟩
                      exact ⟨rfl, h.below hB⟩
                    have hfull : Hid (∀ W, P W → (fun W => W.cell? ⟨w.heap.size, 0, none⟩ = some (.pointer (some ⟨p0, 0, none⟩)) ∧ W.cell? ⟨w.heap.size, 1, none⟩ = some (.pointer (some ⟨p1, 0, none⟩)) ∧ W.cell? ⟨O, 1, none⟩ = some (.int .i64 id)) W) := fun W h => by
                      subst hP
                      exact ⟨cell_blk h.en.ar 0, cell_blk h.en.ar 1, cell_blk h.op 1⟩
                    have hend : Hid (∀ W, P W → Ev w O #[.bool true, .int .i64 id, .bool g, .int .i64 kd] p0 b0 p1 b1 A' B' W) := fun W h => by subst hP; exact h
                    have q0 : ((N1 : Int) != (N1 : Int)) = false := by simp
                    have q1 : ((N2 : Int) != (N2 : Int)) = false := by simp
                    have hin : ∀ W, Ev w O #[.bool true, .int .i64 id, .bool g, .int .i64 kd] p0 b0 p1 b1 A' B' W → P W := fun W h1 => by subst hP; exact h1
                    clear hN1 hN2 hll hM1 hM2 hM3
                    have hIW := hV.below (Below.refl _ _).drew
                    replace hIW := hin _ hIW
                    clear hP hin
                    refine wp_region_held_drew (S := (fun W => W.cell? ⟨w.heap.size, 0, none⟩ = some (.pointer (some ⟨p0, 0, none⟩)) ∧ W.cell? ⟨w.heap.size, 1, none⟩ = some (.pointer (some ⟨p1, 0, none⟩)) ∧ W.cell? ⟨O, 1, none⟩ = some (.int .i64 id))) (by kernel_rfl) (hfull.out _ hIW) (fun hHeld => ?_)
                    generalize hWg : World.drew _ = W at hIW hHeld ⊢
                    clear hWg hV
                    refine wpAnyH_take (i := 0) (oi := { dst := some 87, op := Op.indexAddr 42 (Operand.tmp 3) (Operand.const (Value.int IntKind.i64 0)), type := 0, pos := "outright.go:121", after := #[], guard := none }) (v := ?vv174) rfl (by kernel_rfl) (by kernel_rfl) (by kernel_rfl) (fun _ _ _ h => h) (Or.inl ⟨by rfl, ?hy174⟩) (by assumption) ?_
                    case hy174 => (intro w hSw; (try dsimp only at hSw); go_simp; all_goals with_reducible rfl)
                    try simp only [Act.put, List.setIfInBounds_toArray, List.set_cons_zero, List.set_cons_succ]
                    refine wpAnyH_take (i := 1) (oi := { dst := some 88, op := Op.load 23 (Operand.tmp 87), type := 23, pos := "outright.go:121", after := #[{ on := 0, ground := Ground.data }], guard := none }) (v := ?vv175) rfl (by kernel_rfl) (by kernel_rfl) (by kernel_rfl) (fun _ _ _ h => h) (Or.inl ⟨by rfl, ?hy175⟩) (by assumption) ?_
                    case hy175 => (intro w hSw; (try dsimp only at hSw); go_simp; all_goals with_reducible rfl)
                    try simp only [Act.put, List.setIfInBounds_toArray, List.set_cons_zero, List.set_cons_succ]
                    refine wpAnyH_take (i := 3) (oi := { dst := some 90, op := Op.indexAddr 42 (Operand.tmp 3) (Operand.const (Value.int IntKind.i64 1)), type := 0, pos := "outright.go:121", after := #[], guard := none }) (v := ?vv176) rfl (by kernel_rfl) (by kernel_rfl) (by kernel_rfl) (fun _ _ _ h => h) (Or.inl ⟨by rfl, ?hy176⟩) (by assumption) ?_
                    case hy176 => (intro w hSw; (try dsimp only at hSw); go_simp; all_goals with_reducible rfl)
                    try simp only [Act.put, List.setIfInBounds_toArray, List.set_cons_zero, List.set_cons_succ]
                    refine wpAnyH_take (i := 4) (oi := { dst := some 91, op := Op.load 23 (Operand.tmp 90), type := 23, pos := "outright.go:121", after := #[{ on := 3, ground := Ground.data }], guard := none }) (v := ?vv177) rfl (by kernel_rfl) (by kernel_rfl) (by kernel_rfl) (fun _ _ _ h => h) (Or.inl ⟨by rfl, ?hy177⟩) (by assumption) ?_
                    case hy177 => (intro w hSw; (try dsimp only at hSw); go_simp; all_goals with_reducible rfl)
                    try simp only [Act.put, List.setIfInBounds_toArray, List.set_cons_zero, List.set_cons_succ]
                    refine wpAnyH_ready (rs := [2]) (by kernel_rfl) (by simp) ?_
                    refine AllReadyH.cons (o := { dst := some 89, op := Op.call { callee := Callee.value (Operand.func 18), args := #[Operand.tmp 88, Operand.const (Value.bool true)], argTypes := #[23, 4] }, type := 3, pos := "outright.go:121", after := #[{ on := 1, ground := Ground.data }], guard := none }) rfl (fun K hK => ?_) AllReadyH.nil
                    go_simp
                    refine (c18.out W hIW).mono ?_
                    rintro e' Wx ⟨rfl, hIWx⟩
                    go_wp2_with fail
                    refine hK.out _ _ (hfull.out _ hIWx) (fun hHeld => ?_)
                    clear hK K hIW
                    try simp only [Act.put, List.setIfInBounds_toArray, List.set_cons_zero, List.set_cons_succ]
                    refine wpAnyH_ready (rs := [5]) (by kernel_rfl) (by simp) ?_
                    refine AllReadyH.cons (o := { dst := some 92, op := Op.call { callee := Callee.value (Operand.func 18), args := #[Operand.tmp 91, Operand.const (Value.bool false)], argTypes := #[23, 4] }, type := 3, pos := "outright.go:121", after := #[{ on := 4, ground := Ground.data }, { on := 2, ground := Ground.chain }], guard := none }) rfl (fun K hK => ?_) AllReadyH.nil
                    go_simp
                    refine (c18b.out Wx hIWx).mono ?_
                    rintro e' Wxx ⟨rfl, hIWxx⟩
                    go_wp2_with fail
                    refine hK.out _ _ (hfull.out _ hIWxx) (fun hHeld => ?_)
                    clear hK K hIWx
                    try simp only [Act.put, List.setIfInBounds_toArray, List.set_cons_zero, List.set_cons_succ]
                    refine wpAnyH_take (i := 6) (oi := { dst := some 93, op := Op.binOp BinOp.neq 3 (Operand.tmp 89) (Operand.tmp 92) 3, type := 4, pos := "outright.go:121", after := #[{ on := 2, ground := Ground.data }, { on := 5, ground := Ground.data }], guard := none }) (v := ?vv178) rfl (by kernel_rfl) (by kernel_rfl) (by kernel_rfl) (fun _ _ _ h => h) (Or.inl ⟨by rfl, ?hy178⟩) (by assumption) ?_
                    case hy178 => (intro w hSw; (try dsimp only at hSw); go_simp; all_goals with_reducible rfl)
                    try simp only [Act.put, List.setIfInBounds_toArray, List.set_cons_zero, List.set_cons_succ]
                    refine wpAnyH_take (i := 7) (oi := { dst := some 94, op := Op.move (Operand.tmp 93), type := 4, pos := "outright.go:121", after := #[{ on := 6, ground := Ground.data }, { on := 5, ground := Ground.chain }], guard := none }) (v := ?vv179) rfl (by kernel_rfl) (by kernel_rfl) (by kernel_rfl) (fun _ _ _ h => h) (Or.inl ⟨by rfl, ?hy179⟩) (by assumption) ?_
                    case hy179 => (intro w hSw; (try dsimp only at hSw); go_simp; all_goals with_reducible rfl)
                    try simp only [Act.put, List.setIfInBounds_toArray, List.set_cons_zero, List.set_cons_succ]
                    refine wpAnyH_take (i := 8) (oi := { dst := some 95, op := Op.indexAddr 42 (Operand.tmp 3) (Operand.const (Value.int IntKind.i64 0)), type := 0, pos := "outright.go:121", after := #[{ on := 7, ground := Ground.guard }], guard := some (7, false) }) (v := ?vv180) rfl (by kernel_rfl) (by kernel_rfl) (by kernel_rfl) (fun _ _ _ h => h) (Or.inl ⟨by rfl, ?hy180⟩) (by assumption) ?_
                    case hy180 => (intro w hSw; (try dsimp only at hSw); go_simp; all_goals with_reducible rfl)
                    try simp only [Act.put, List.setIfInBounds_toArray, List.set_cons_zero, List.set_cons_succ]
                    refine wpAnyH_take (i := 9) (oi := { dst := some 96, op := Op.load 23 (Operand.tmp 95), type := 23, pos := "outright.go:121", after := #[{ on := 8, ground := Ground.data }, { on := 7, ground := Ground.guard }], guard := some (7, false) }) (v := ?vv181) rfl (by kernel_rfl) (by kernel_rfl) (by kernel_rfl) (fun _ _ _ h => h) (Or.inl ⟨by rfl, ?hy181⟩) (by assumption) ?_
                    case hy181 => (intro w hSw; (try dsimp only at hSw); go_simp; all_goals with_reducible rfl)
                    try simp only [Act.put, List.setIfInBounds_toArray, List.set_cons_zero, List.set_cons_succ]
                    refine wpAnyH_take (i := 11) (oi := { dst := some 98, op := Op.indexAddr 42 (Operand.tmp 3) (Operand.const (Value.int IntKind.i64 1)), type := 0, pos := "outright.go:121", after := #[{ on := 7, ground := Ground.guard }], guard := some (7, false) }) (v := ?vv182) rfl (by kernel_rfl) (by kernel_rfl) (by kernel_rfl) (fun _ _ _ h => h) (Or.inl ⟨by rfl, ?hy182⟩) (by assumption) ?_
                    case hy182 => (intro w hSw; (try dsimp only at hSw); go_simp; all_goals with_reducible rfl)
                    try simp only [Act.put, List.setIfInBounds_toArray, List.set_cons_zero, List.set_cons_succ]
                    refine wpAnyH_take (i := 12) (oi := { dst := some 99, op := Op.load 23 (Operand.tmp 98), type := 23, pos := "outright.go:121", after := #[{ on := 11, ground := Ground.data }, { on := 7, ground := Ground.guard }], guard := some (7, false) }) (v := ?vv183) rfl (by kernel_rfl) (by kernel_rfl) (by kernel_rfl) (fun _ _ _ h => h) (Or.inl ⟨by rfl, ?hy183⟩) (by assumption) ?_
                    case hy183 => (intro w hSw; (try dsimp only at hSw); go_simp; all_goals with_reducible rfl)
                    try simp only [Act.put, List.setIfInBounds_toArray, List.set_cons_zero, List.set_cons_succ]
                    refine wpAnyH_ready (rs := [10]) (by kernel_rfl) (by simp) ?_
                    refine AllReadyH.cons (o := { dst := some 97, op := Op.call { callee := Callee.value (Operand.func 18), args := #[Operand.tmp 96, Operand.const (Value.bool false)], argTypes := #[23, 4] }, type := 3, pos := "outright.go:121", after := #[{ on := 9, ground := Ground.data }, { on := 7, ground := Ground.chain }, { on := 7, ground := Ground.guard }], guard := some (7, false) }) rfl (fun K hK => ?_) AllReadyH.nil
                    go_simp
                    refine (c18c.out Wxx hIWxx).mono ?_
                    rintro e' Wxxx ⟨rfl, hIWxxx⟩
                    go_wp2_with fail
                    refine hK.out _ _ (hfull.out _ hIWxxx) (fun hHeld => ?_)
                    clear hK K hIWxx
                    try simp only [Act.put, List.setIfInBounds_toArray, List.set_cons_zero, List.set_cons_succ]
                    refine wpAnyH_ready (rs := [13]) (by kernel_rfl) (by simp) ?_
                    refine AllReadyH.cons (o := { dst := some 100, op := Op.call { callee := Callee.value (Operand.func 18), args := #[Operand.tmp 99, Operand.const (Value.bool true)], argTypes := #[23, 4] }, type := 3, pos := "outright.go:121", after := #[{ on := 12, ground := Ground.data }, { on := 10, ground := Ground.chain }, { on := 7, ground := Ground.guard }], guard := some (7, false) }) rfl (fun K hK => ?_) AllReadyH.nil
                    go_simp
                    refine (c18d.out Wxxx hIWxxx).mono ?_
                    rintro e' Wxxxx ⟨rfl, hIWxxxx⟩
                    go_wp2_with fail
                    refine hK.out _ _ (hfull.out _ hIWxxxx) (fun hHeld => ?_)
                    clear hK K hIWxxx
                    try simp only [Act.put, List.setIfInBounds_toArray, List.set_cons_zero, List.set_cons_succ]
                    refine wpAnyH_take (i := 14) (oi := { dst := some 101, op := Op.binOp BinOp.neq 3 (Operand.tmp 97) (Operand.tmp 100) 3, type := 4, pos := "outright.go:121", after := #[{ on := 10, ground := Ground.data }, { on := 13, ground := Ground.data }, { on := 7, ground := Ground.guard }], guard := some (7, false) }) (v := ?vv184) rfl (by kernel_rfl) (by kernel_rfl) (by kernel_rfl) (fun _ _ _ h => h) (Or.inl ⟨by rfl, ?hy184⟩) (by assumption) ?_
                    case hy184 => (intro w hSw; (try dsimp only at hSw); go_simp; all_goals with_reducible rfl)
                    try simp only [Act.put, List.setIfInBounds_toArray, List.set_cons_zero, List.set_cons_succ]
                    refine wpAnyH_take (i := 15) (oi := { dst := some 102, op := Op.pick (Operand.tmp 94) (Operand.const (Value.bool true)) (Operand.tmp 101), type := 4, pos := "outright.go:121", after := #[{ on := 7, ground := Ground.data }, { on := 14, ground := Ground.data }], guard := none }) (v := ?vv185) rfl (by kernel_rfl) (by kernel_rfl) (by kernel_rfl) (fun _ _ _ h => h) (Or.inl ⟨by rfl, ?hy185⟩) (by assumption) ?_
                    case hy185 => (intro w hSw; (try dsimp only at hSw); go_simp; all_goals with_reducible rfl)
                    try simp only [Act.put, List.setIfInBounds_toArray, List.set_cons_zero, List.set_cons_succ]
                    refine wpAnyH_take (i := 16) (oi := { dst := some 103, op := Op.move (Operand.tmp 102), type := 4, pos := "outright.go:121", after := #[{ on := 15, ground := Ground.data }, { on := 13, ground := Ground.chain }], guard := none }) (v := ?vv186) rfl (by kernel_rfl) (by kernel_rfl) (by kernel_rfl) (fun _ _ _ h => h) (Or.inl ⟨by rfl, ?hy186⟩) (by assumption) ?_
                    case hy186 => (intro w hSw; (try dsimp only at hSw); go_simp; all_goals with_reducible rfl)
                    try simp only [Act.put, List.setIfInBounds_toArray, List.set_cons_zero, List.set_cons_succ]
                    refine wpAnyH_take (i := 17) (oi := { dst := some 104, op := Op.indexAddr 42 (Operand.tmp 3) (Operand.const (Value.int IntKind.i64 0)), type := 0, pos := "outright.go:121", after := #[{ on := 16, ground := Ground.guard }], guard := some (16, false) }) (v := ?vv187) rfl (by kernel_rfl) (by kernel_rfl) (by kernel_rfl) (fun _ _ _ h => h) (Or.inl ⟨by rfl, ?hy187⟩) (by assumption) ?_
                    case hy187 => (intro w hSw; (try dsimp only at hSw); go_simp; all_goals with_reducible rfl)
                    try simp only [Act.put, List.setIfInBounds_toArray, List.set_cons_zero, List.set_cons_succ]
                    refine wpAnyH_take (i := 18) (oi := { dst := some 105, op := Op.load 23 (Operand.tmp 104), type := 23, pos := "outright.go:121", after := #[{ on := 17, ground := Ground.data }, { on := 16, ground := Ground.guard }], guard := some (16, false) }) (v := ?vv188) rfl (by kernel_rfl) (by kernel_rfl) (by kernel_rfl) (fun _ _ _ h => h) (Or.inl ⟨by rfl, ?hy188⟩) (by assumption) ?_
                    case hy188 => (intro w hSw; (try dsimp only at hSw); go_simp; all_goals with_reducible rfl)
                    try simp only [Act.put, List.setIfInBounds_toArray, List.set_cons_zero, List.set_cons_succ]
                    refine wpAnyH_take (i := 20) (oi := { dst := some 107, op := Op.indexAddr 42 (Operand.tmp 3) (Operand.const (Value.int IntKind.i64 1)), type := 0, pos := "outright.go:121", after := #[{ on := 16, ground := Ground.guard }], guard := some (16, false) }) (v := ?vv189) rfl (by kernel_rfl) (by kernel_rfl) (by kernel_rfl) (fun _ _ _ h => h) (Or.inl ⟨by rfl, ?hy189⟩) (by assumption) ?_
                    case hy189 => (intro w hSw; (try dsimp only at hSw); go_simp; all_goals with_reducible rfl)
                    try simp only [Act.put, List.setIfInBounds_toArray, List.set_cons_zero, List.set_cons_succ]
                    refine wpAnyH_take (i := 21) (oi := { dst := some 108, op := Op.load 23 (Operand.tmp 107), type := 23, pos := "outright.go:121", after := #[{ on := 20, ground := Ground.data }, { on := 16, ground := Ground.guard }], guard := some (16, false) }) (v := ?vv190) rfl (by kernel_rfl) (by kernel_rfl) (by kernel_rfl) (fun _ _ _ h => h) (Or.inl ⟨by rfl, ?hy190⟩) (by assumption) ?_
                    case hy190 => (intro w hSw; (try dsimp only at hSw); go_simp; all_goals with_reducible rfl)
                    try simp only [Act.put, List.setIfInBounds_toArray, List.set_cons_zero, List.set_cons_succ]
                    refine wpAnyH_ready (rs := [19]) (by kernel_rfl) (by simp) ?_
                    refine AllReadyH.cons (o := { dst := some 106, op := Op.call { callee := Callee.value (Operand.func 11), args := #[Operand.tmp 105], argTypes := #[23] }, type := 30, pos := "outright.go:121", after := #[{ on := 18, ground := Ground.data }, { on := 16, ground := Ground.chain }, { on := 16, ground := Ground.guard }], guard := some (16, false) }) rfl (fun K hK => ?_) AllReadyH.nil
                    go_simp
                    refine (c11a.out Wxxxx hIWxxxx).mono ?_
                    rintro e' Wxxxxx ⟨v1, rfl, hIWxxxxx, hR1⟩
                    go_wp2_with fail
                    refine hK.out _ _ (hfull.out _ hIWxxxxx) (fun hHeld => ?_)
                    clear hK K hIWxxxx
                    try simp only [Act.put, List.setIfInBounds_toArray, List.set_cons_zero, List.set_cons_succ]
                    refine wpAnyH_ready (rs := [22]) (by kernel_rfl) (by simp) ?_
                    refine AllReadyH.cons (o := { dst := some 109, op := Op.call { callee := Callee.value (Operand.func 11), args := #[Operand.tmp 108], argTypes := #[23] }, type := 30, pos := "outright.go:121", after := #[{ on := 21, ground := Ground.data }, { on := 19, ground := Ground.chain }, { on := 16, ground := Ground.guard }], guard := some (16, false) }) rfl (fun K hK => ?_) AllReadyH.nil
                    go_simp
                    refine (c11b.out Wxxxxx hIWxxxxx).mono ?_
                    rintro e' Wxxxxxx ⟨v2, rfl, hIWxxxxxx, hR2, hB2⟩
                    replace hR1 := hR1.below hB2
                    clear hB2
                    go_wp2_with fail
                    refine hK.out _ _ (hfull.out _ hIWxxxxxx) (fun hHeld => ?_)
                    clear hK K hIWxxxxx
                    try simp only [Act.put, List.setIfInBounds_toArray, List.set_cons_zero, List.set_cons_succ]
                    refine wpAnyH_ready (rs := [23]) (by kernel_rfl) (by simp) ?_
                    refine AllReadyH.cons (o := { dst := some 110, op := Op.call { callee := Callee.value (Operand.func 12), args := #[Operand.tmp 106, Operand.tmp 109], argTypes := #[30, 30] }, type := 4, pos := "outright.go:121", after := #[{ on := 19, ground := Ground.data }, { on := 22, ground := Ground.data }, { on := 22, ground := Ground.chain }, { on := 16, ground := Ground.guard }], guard := some (16, false) }) rfl (fun K hK => ?_) AllReadyH.nil
                    go_simp
                    refine (c12.out Wxxxxxx _ _ hIWxxxxxx hR1 hR2).mono ?_
                    rintro e' Wxxxxxxx ⟨rfl, hIWxxxxxxx⟩
                    clear hR1 hR2
                    go_wp2_with fail
                    refine hK.out _ _ (hfull.out _ hIWxxxxxxx) (fun hHeld => ?_)
                    clear hK K hIWxxxxxx
                    try simp only [Act.put, List.setIfInBounds_toArray, List.set_cons_zero, List.set_cons_succ]
                    refine wpAnyH_take (i := 24) (oi := { dst := some 111, op := Op.unOp UnOp.not 4 (Operand.tmp 110), type := 4, pos := "outright.go:121", after := #[{ on := 23, ground := Ground.data }, { on := 16, ground := Ground.guard }], guard := some (16, false) }) (v := ?vv191) rfl (by kernel_rfl) (by kernel_rfl) (by kernel_rfl) (fun _ _ _ h => h) (Or.inl ⟨by rfl, ?hy191⟩) (by assumption) ?_
                    case hy191 => (intro w hSw; (try dsimp only at hSw); go_simp; all_goals with_reducible rfl)
                    try simp only [Act.put, List.setIfInBounds_toArray, List.set_cons_zero, List.set_cons_succ]
                    refine wpAnyH_take (i := 25) (oi := { dst := some 112, op := Op.pick (Operand.tmp 103) (Operand.const (Value.bool true)) (Operand.tmp 111), type := 4, pos := "outright.go:121", after := #[{ on := 16, ground := Ground.data }, { on := 24, ground := Ground.data }], guard := none }) (v := ?vv192) rfl (by kernel_rfl) (by kernel_rfl) (by kernel_rfl) (fun _ _ _ h => h) (Or.inl ⟨by rfl, ?hy192⟩) (by assumption) ?_
                    case hy192 => (intro w hSw; (try dsimp only at hSw); go_simp; all_goals with_reducible rfl)
                    try simp only [Act.put, List.setIfInBounds_toArray, List.set_cons_zero, List.set_cons_succ]
                    refine wpAnyH_done (by kernel_rfl) ?_ _
                    clear hfull hHeld
                    go_wp2_with fail
                    go_meet
                    exact ⟨rfl, (hend.out _ hIWxxxxxxx)⟩
                  case rest =>
                    obtain ⟨rfl, hV⟩ := hcut
                    clear d4 d5 d6
                    go_wp2_with fail
                    go_roundw
                    case rel => exact ⟨k + 1, A', B', by omega, by simp, hV.en, hMs⟩
                    case measure => simp [intOf]; omega
    · obtain rfl : k = n := by omega
      have hE' := hE.out
      have hl1 : B.last false = A.last true := hM.out.last false
      have hl2 : B.last true = A.last false := hM.out.last true
      obtain ⟨a0, a1, a2⟩ := hE'.cells
      obtain ⟨xt, hxt⟩ : ∃ xt, A.last true = xt := ⟨_, rfl⟩
      obtain ⟨xf, hxf⟩ : ∃ xf, A.last false = xf := ⟨_, rfl⟩
      rw [hxt] at hl1
      rw [hxf] at hl2
      have l0t : Hid (∀ W, En w W p0 b0 p1 b1 A B → Calls Try.prog 13 #[.pointer (some ⟨p0, 0, none⟩), .bool true] W fun e W' => e = .returned (.int .i64 xt) ∧ En w W' p0 b0 p1 b1 A B) := fun W h => by
        refine (last_any _ p0 b0 A true h.tw.t0).mono ?_
        rintro e W' ⟨rfl, rfl⟩
        exact ⟨by rw [hxt], h⟩
      have l0f : Hid (∀ W, En w W p0 b0 p1 b1 A B → Calls Try.prog 13 #[.pointer (some ⟨p0, 0, none⟩), .bool false] W fun e W' => e = .returned (.int .i64 xf) ∧ En w W' p0 b0 p1 b1 A B) := fun W h => by
        refine (last_any _ p0 b0 A false h.tw.t0).mono ?_
        rintro e W' ⟨rfl, rfl⟩
        exact ⟨by rw [hxf], h⟩
      have l1f : Hid (∀ W, En w W p0 b0 p1 b1 A B → Calls Try.prog 13 #[.pointer (some ⟨p1, 0, none⟩), .bool false] W fun e W' => e = .returned (.int .i64 xt) ∧ En w W' p0 b0 p1 b1 A B) := fun W h => by
        refine (last_any _ p1 b1 B false h.tw.t1).mono ?_
        rintro e W' ⟨rfl, rfl⟩
        exact ⟨by rw [hl1], h⟩
      have l1t : Hid (∀ W, En w W p0 b0 p1 b1 A B → Calls Try.prog 13 #[.pointer (some ⟨p1, 0, none⟩), .bool true] W fun e W' => e = .returned (.int .i64 xf) ∧ En w W' p0 b0 p1 b1 A B) := fun W h => by
        refine (last_any _ p1 b1 B true h.tw.t1).mono ?_
        rintro e W' ⟨rfl, rfl⟩
        exact ⟨by rw [hl2], h⟩
      have q0 : (xt == xt) = true := by simp
      have q1 : (xf == xf) = true := by simp
      clear hl1 hl2 hxt hxf
      have hfull : Hid (∀ W, En w W p0 b0 p1 b1 A B → (fun W => W.cell? ⟨w.heap.size, 0, none⟩ = some (.pointer (some ⟨p0, 0, none⟩)) ∧ W.cell? ⟨w.heap.size, 1, none⟩ = some (.pointer (some ⟨p1, 0, none⟩))) W) := fun W h => ⟨cell_blk h.ar 0, cell_blk h.ar 1⟩
      go_upto_region 22 with fail
      have hIW := hE'.below (Below.refl _ _).drew
      clear hE' hE hM a0 a1 a2
      refine wp_region_held_drew (S := (fun W => W.cell? ⟨w.heap.size, 0, none⟩ = some (.pointer (some ⟨p0, 0, none⟩)) ∧ W.cell? ⟨w.heap.size, 1, none⟩ = some (.pointer (some ⟨p1, 0, none⟩)))) (by kernel_rfl) (hfull.out _ hIW) (fun hHeld => ?_)
      generalize hWg : World.drew _ = W at hIW hHeld ⊢
      clear hWg
      refine wpAnyH_take (i := 0) (oi := { dst := some 113, op := Op.indexAddr 42 (Operand.tmp 3) (Operand.const (Value.int IntKind.i64 0)), type := 0, pos := "outright.go:125", after := #[], guard := none }) (v := ?vv193) rfl (by kernel_rfl) (by kernel_rfl) (by kernel_rfl) (fun _ _ _ h => h) (Or.inl ⟨by rfl, ?hy193⟩) (by assumption) ?_
      case hy193 => (intro w hSw; (try dsimp only at hSw); go_simp; all_goals with_reducible rfl)
      try simp only [Act.put, List.setIfInBounds_toArray, List.set_cons_zero, List.set_cons_succ]
      refine wpAnyH_take (i := 1) (oi := { dst := some 114, op := Op.load 23 (Operand.tmp 113), type := 23, pos := "outright.go:125", after := #[{ on := 0, ground := Ground.data }], guard := none }) (v := ?vv194) rfl (by kernel_rfl) (by kernel_rfl) (by kernel_rfl) (fun _ _ _ h => h) (Or.inl ⟨by rfl, ?hy194⟩) (by assumption) ?_
      case hy194 => (intro w hSw; (try dsimp only at hSw); go_simp; all_goals with_reducible rfl)
      try simp only [Act.put, List.setIfInBounds_toArray, List.set_cons_zero, List.set_cons_succ]
      refine wpAnyH_take (i := 3) (oi := { dst := some 116, op := Op.indexAddr 42 (Operand.tmp 3) (Operand.const (Value.int IntKind.i64 1)), type := 0, pos := "outright.go:125", after := #[], guard := none }) (v := ?vv195) rfl (by kernel_rfl) (by kernel_rfl) (by kernel_rfl) (fun _ _ _ h => h) (Or.inl ⟨by rfl, ?hy195⟩) (by assumption) ?_
      case hy195 => (intro w hSw; (try dsimp only at hSw); go_simp; all_goals with_reducible rfl)
      try simp only [Act.put, List.setIfInBounds_toArray, List.set_cons_zero, List.set_cons_succ]
      refine wpAnyH_take (i := 4) (oi := { dst := some 117, op := Op.load 23 (Operand.tmp 116), type := 23, pos := "outright.go:125", after := #[{ on := 3, ground := Ground.data }], guard := none }) (v := ?vv196) rfl (by kernel_rfl) (by kernel_rfl) (by kernel_rfl) (fun _ _ _ h => h) (Or.inl ⟨by rfl, ?hy196⟩) (by assumption) ?_
      case hy196 => (intro w hSw; (try dsimp only at hSw); go_simp; all_goals with_reducible rfl)
      try simp only [Act.put, List.setIfInBounds_toArray, List.set_cons_zero, List.set_cons_succ]
      refine wpAnyH_ready (rs := [2]) (by kernel_rfl) (by simp) ?_
      refine AllReadyH.cons (o := { dst := some 115, op := Op.call { callee := Callee.value (Operand.func 13), args := #[Operand.tmp 114, Operand.const (Value.bool true)], argTypes := #[23, 4] }, type := 2, pos := "outright.go:125", after := #[{ on := 1, ground := Ground.data }], guard := none }) rfl (fun K hK => ?_) AllReadyH.nil
      go_simp
      refine (l0t.out W hIW).mono ?_
      rintro e' Wx ⟨rfl, hIWx⟩
      go_wp2_with fail
      refine hK.out _ _ (hfull.out _ hIWx) (fun hHeld => ?_)
      clear hK K hIW
      try simp only [Act.put, List.setIfInBounds_toArray, List.set_cons_zero, List.set_cons_succ]
      refine wpAnyH_ready (rs := [5]) (by kernel_rfl) (by simp) ?_
      refine AllReadyH.cons (o := { dst := some 118, op := Op.call { callee := Callee.value (Operand.func 13), args := #[Operand.tmp 117, Operand.const (Value.bool false)], argTypes := #[23, 4] }, type := 2, pos := "outright.go:125", after := #[{ on := 4, ground := Ground.data }, { on := 2, ground := Ground.chain }], guard := none }) rfl (fun K hK => ?_) AllReadyH.nil
      go_simp
      refine (l1f.out Wx hIWx).mono ?_
      rintro e' Wxx ⟨rfl, hIWxx⟩
      go_wp2_with fail
      refine hK.out _ _ (hfull.out _ hIWxx) (fun hHeld => ?_)
      clear hK K hIWx
      try simp only [Act.put, List.setIfInBounds_toArray, List.set_cons_zero, List.set_cons_succ]
      refine wpAnyH_take (i := 6) (oi := { dst := some 119, op := Op.binOp BinOp.eql 2 (Operand.tmp 115) (Operand.tmp 118) 2, type := 4, pos := "outright.go:125", after := #[{ on := 2, ground := Ground.data }, { on := 5, ground := Ground.data }], guard := none }) (v := ?vv197) rfl (by kernel_rfl) (by kernel_rfl) (by kernel_rfl) (fun _ _ _ h => h) (Or.inl ⟨by rfl, ?hy197⟩) (by assumption) ?_
      case hy197 => (intro w hSw; (try dsimp only at hSw); go_simp; all_goals with_reducible rfl)
      try simp only [Act.put, List.setIfInBounds_toArray, List.set_cons_zero, List.set_cons_succ]
      refine wpAnyH_take (i := 7) (oi := { dst := some 120, op := Op.move (Operand.tmp 119), type := 4, pos := "outright.go:125", after := #[{ on := 6, ground := Ground.data }, { on := 5, ground := Ground.chain }], guard := none }) (v := ?vv198) rfl (by kernel_rfl) (by kernel_rfl) (by kernel_rfl) (fun _ _ _ h => h) (Or.inl ⟨by rfl, ?hy198⟩) (by assumption) ?_
      case hy198 => (intro w hSw; (try dsimp only at hSw); go_simp; all_goals with_reducible rfl)
      try simp only [Act.put, List.setIfInBounds_toArray, List.set_cons_zero, List.set_cons_succ]
      refine wpAnyH_take (i := 8) (oi := { dst := some 121, op := Op.indexAddr 42 (Operand.tmp 3) (Operand.const (Value.int IntKind.i64 0)), type := 0, pos := "outright.go:125", after := #[{ on := 7, ground := Ground.guard }], guard := some (7, true) }) (v := ?vv199) rfl (by kernel_rfl) (by kernel_rfl) (by kernel_rfl) (fun _ _ _ h => h) (Or.inl ⟨by rfl, ?hy199⟩) (by assumption) ?_
      case hy199 => (intro w hSw; (try dsimp only at hSw); go_simp; all_goals with_reducible rfl)
      try simp only [Act.put, List.setIfInBounds_toArray, List.set_cons_zero, List.set_cons_succ]
      refine wpAnyH_take (i := 9) (oi := { dst := some 122, op := Op.load 23 (Operand.tmp 121), type := 23, pos := "outright.go:125", after := #[{ on := 8, ground := Ground.data }, { on := 7, ground := Ground.guard }], guard := some (7, true) }) (v := ?vv200) rfl (by kernel_rfl) (by kernel_rfl) (by kernel_rfl) (fun _ _ _ h => h) (Or.inl ⟨by rfl, ?hy200⟩) (by assumption) ?_
      case hy200 => (intro w hSw; (try dsimp only at hSw); go_simp; all_goals with_reducible rfl)
      try simp only [Act.put, List.setIfInBounds_toArray, List.set_cons_zero, List.set_cons_succ]
      refine wpAnyH_take (i := 11) (oi := { dst := some 124, op := Op.indexAddr 42 (Operand.tmp 3) (Operand.const (Value.int IntKind.i64 1)), type := 0, pos := "outright.go:125", after := #[{ on := 7, ground := Ground.guard }], guard := some (7, true) }) (v := ?vv201) rfl (by kernel_rfl) (by kernel_rfl) (by kernel_rfl) (fun _ _ _ h => h) (Or.inl ⟨by rfl, ?hy201⟩) (by assumption) ?_
      case hy201 => (intro w hSw; (try dsimp only at hSw); go_simp; all_goals with_reducible rfl)
      try simp only [Act.put, List.setIfInBounds_toArray, List.set_cons_zero, List.set_cons_succ]
      refine wpAnyH_take (i := 12) (oi := { dst := some 125, op := Op.load 23 (Operand.tmp 124), type := 23, pos := "outright.go:125", after := #[{ on := 11, ground := Ground.data }, { on := 7, ground := Ground.guard }], guard := some (7, true) }) (v := ?vv202) rfl (by kernel_rfl) (by kernel_rfl) (by kernel_rfl) (fun _ _ _ h => h) (Or.inl ⟨by rfl, ?hy202⟩) (by assumption) ?_
      case hy202 => (intro w hSw; (try dsimp only at hSw); go_simp; all_goals with_reducible rfl)
      try simp only [Act.put, List.setIfInBounds_toArray, List.set_cons_zero, List.set_cons_succ]
      refine wpAnyH_ready (rs := [10]) (by kernel_rfl) (by simp) ?_
      refine AllReadyH.cons (o := { dst := some 123, op := Op.call { callee := Callee.value (Operand.func 13), args := #[Operand.tmp 122, Operand.const (Value.bool false)], argTypes := #[23, 4] }, type := 2, pos := "outright.go:125", after := #[{ on := 9, ground := Ground.data }, { on := 7, ground := Ground.chain }, { on := 7, ground := Ground.guard }], guard := some (7, true) }) rfl (fun K hK => ?_) AllReadyH.nil
      go_simp
      refine (l0f.out Wxx hIWxx).mono ?_
      rintro e' Wxxx ⟨rfl, hIWxxx⟩
      go_wp2_with fail
      refine hK.out _ _ (hfull.out _ hIWxxx) (fun hHeld => ?_)
      clear hK K hIWxx
      try simp only [Act.put, List.setIfInBounds_toArray, List.set_cons_zero, List.set_cons_succ]
      refine wpAnyH_ready (rs := [13]) (by kernel_rfl) (by simp) ?_
      refine AllReadyH.cons (o := { dst := some 126, op := Op.call { callee := Callee.value (Operand.func 13), args := #[Operand.tmp 125, Operand.const (Value.bool true)], argTypes := #[23, 4] }, type := 2, pos := "outright.go:125", after := #[{ on := 12, ground := Ground.data }, { on := 10, ground := Ground.chain }, { on := 7, ground := Ground.guard }], guard := some (7, true) }) rfl (fun K hK => ?_) AllReadyH.nil
      go_simp
      refine (l1t.out Wxxx hIWxxx).mono ?_
      rintro e' Wxxxx ⟨rfl, hIWxxxx⟩
      go_wp2_with fail
      refine hK.out _ _ (hfull.out _ hIWxxxx) (fun hHeld => ?_)
      clear hK K hIWxxx
      try simp only [Act.put, List.setIfInBounds_toArray, List.set_cons_zero, List.set_cons_succ]
      refine wpAnyH_take (i := 14) (oi := { dst := some 127, op := Op.binOp BinOp.eql 2 (Operand.tmp 123) (Operand.tmp 126) 2, type := 4, pos := "outright.go:125", after := #[{ on := 10, ground := Ground.data }, { on := 13, ground := Ground.data }, { on := 7, ground := Ground.guard }], guard := some (7, true) }) (v := ?vv203) rfl (by kernel_rfl) (by kernel_rfl) (by kernel_rfl) (fun _ _ _ h => h) (Or.inl ⟨by rfl, ?hy203⟩) (by assumption) ?_
      case hy203 => (intro w hSw; (try dsimp only at hSw); go_simp; all_goals with_reducible rfl)
      try simp only [Act.put, List.setIfInBounds_toArray, List.set_cons_zero, List.set_cons_succ]
      refine wpAnyH_take (i := 15) (oi := { dst := some 128, op := Op.pick (Operand.tmp 120) (Operand.tmp 127) (Operand.const (Value.bool false)), type := 4, pos := "outright.go:125", after := #[{ on := 7, ground := Ground.data }, { on := 14, ground := Ground.data }], guard := none }) (v := ?vv204) rfl (by kernel_rfl) (by kernel_rfl) (by kernel_rfl) (fun _ _ _ h => h) (Or.inl ⟨by rfl, ?hy204⟩) (by assumption) ?_
      case hy204 => (intro w hSw; (try dsimp only at hSw); go_simp; all_goals with_reducible rfl)
      try simp only [Act.put, List.setIfInBounds_toArray, List.set_cons_zero, List.set_cons_succ]
      refine wpAnyH_take (i := 16) (oi := { dst := some 2, op := Op.assign (Operand.tmp 128), type := 4, pos := "outright.go:125", after := #[{ on := 15, ground := Ground.data }, { on := 13, ground := Ground.chain }, { on := 0, ground := Ground.phase }, { on := 1, ground := Ground.phase }, { on := 2, ground := Ground.phase }, { on := 3, ground := Ground.phase }, { on := 4, ground := Ground.phase }, { on := 5, ground := Ground.phase }, { on := 6, ground := Ground.phase }, { on := 7, ground := Ground.phase }, { on := 8, ground := Ground.phase }, { on := 9, ground := Ground.phase }, { on := 10, ground := Ground.phase }, { on := 11, ground := Ground.phase }, { on := 12, ground := Ground.phase }, { on := 13, ground := Ground.phase }, { on := 14, ground := Ground.phase }, { on := 15, ground := Ground.phase }], guard := none }) (v := ?vv205) rfl (by kernel_rfl) (by kernel_rfl) (by kernel_rfl) (fun _ _ _ h => h) (Or.inl ⟨by rfl, ?hy205⟩) (by assumption) ?_
      case hy205 => (intro w hSw; (try dsimp only at hSw); go_simp; all_goals with_reducible rfl)
      try simp only [Act.put, List.setIfInBounds_toArray, List.set_cons_zero, List.set_cons_succ]
      refine wpAnyH_done (by kernel_rfl) ?_ _
      clear hfull hHeld
      go_wp2
      go_ret
      exact ⟨rfl, hIWxxxx.tw.bel⟩
end Go.Proofs.Ytaaocgppniflcaa
