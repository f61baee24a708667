/- The reader's loops: what holds at their heads; a region that draws, outside a fence, by what holds at each set of its operations. rule's region that draws: what holds at each set of its operations. rule's region that draws, whole. The reader: rule, walked. page's region that draws: what holds at each set of its operations. page's region that draws, whole. -/
import Derived.Test.YtghppkfopglgaaaGreatDoorRd
import Derived.OrdersHeld
import Derived.Deep.RegionHeld
namespace Go.Proofs.YtghppkfopglgaaaGreatDoor
open Go.RowKit
set_option linter.unusedVariables false
set_option linter.unusedSimpArgs false
def ETg : El Tg := ⟨62, 61, 2, 32, fun x => (tgA x).toList⟩
theorem okTg : ETg.Ok := ⟨Tryz.underlying62, by kernel_rfl, by decide, by decide, fun _ => rfl, fun a u hu => by
  simp [ETg, tgA] at hu
  rcases hu with rfl | rfl <;> rfl⟩
/-- a loop that reads into a row: what is left to read, what is read -/
structure LJ {α : Type} (E : El α) (f : Rd → Option (α × Rd)) (gr bw g0 g1 n : Nat) (ty : TypeId) (z pre : Array Value) (w : World) (r0 : Rd) (W : World) (rr : Rd) (v : Value) (acc : List α) : Prop where
  eq : lpS f r0 = (acc ++ (lpS f rr).1, (lpS f rr).2)
  rd : RdS gr bw rr W
  kr : Kr gr w W
  row : R E W v acc
  own : ∀ k, v.ownBlock = some k → g1 < k
  blk : W.heap[g1]? = some (.cells (pre.push v) ty (0, 0))
  zb : W.heap[g0]? = some (.cells z ty (0, 0))
  len : acc.length + rr.l.length ≤ n
/-- what is left of the words -/
def rdLen (gr : Nat) (W : World) : Nat := match W.cell? ⟨gr, 0, none⟩ with | some (.slice _ n _) => n | _ => 0
theorem RdS.len {gr bw : Nat} {r : Rd} {W : World} (h : RdS gr bw r W) : rdLen gr W = r.l.length := by
  obtain ⟨sl, h1, h2⟩ := h.st
  unfold rdLen
  rw [cell_blk h1]
  rcases h2 with ⟨base, cap, rfl, h, _⟩ | ⟨off, cap, rfl, _⟩
  · rw [h]; rfl
  · rfl
theorem lp_go {α : Type} {f : Rd → Option (α × Rd)} (hf : Shr f) {r0 rr r1 : Rd} {acc : List α} {x : α} (h : lpS f r0 = (acc ++ (lpS f rr).1, (lpS f rr).2)) (e : f rr = some (x, r1)) : lpS f r0 = ((acc ++ [x]) ++ (lpS f r1).1, (lpS f r1).2) := by
  rw [h, lp_some hf e]
  simp
theorem lp_end {α : Type} {f : Rd → Option (α × Rd)} {r0 rr : Rd} {acc : List α} (h : lpS f r0 = (acc ++ (lpS f rr).1, (lpS f rr).2)) (e : f rr = none) : lpS f r0 = (acc, rr) := by
  rw [h, lp_none e]
  simp
theorem wpOpP_step {P : Program} {ops : Array Oper} {Q : Exit → Act → World → Prop} {i : Nat} {o : Oper} {K : Act → World → Prop} {a : Act} {w : World} (ho : ops[i]? = some o)
    (h : if Region.wanted o (yielded ops a.tmps) = true then o.wp P a w K Q else K (a.put o.dst undef) w) : wpOp P ops Q i K a w := by
  unfold wpOp
  rw [ho]
  simp only
  split
  · rename_i hw; rw [if_pos hw] at h; exact .inl h
  · rename_i hw; rw [if_neg hw] at h; exact h
theorem wpAny_inv {P : Program} {md : Region.Mode} {ops : Array Oper} {Q : Exit → Act → World → Prop} {I : Array Bool → Act → World → Prop}
    (hstep : ∀ L a w, I L a w → ∀ i, i ∈ Region.ready md ops L → wpOp P ops Q i (I (L.setIfInBounds i true)) a w)
    (hdone : ∀ L a w, I L a w → Region.ready md ops L = [] → Q .normal a w) : ∀ (fuel : Nat) (L : Array Bool) (a : Act) (w : World), L.toList.count false ≤ fuel → I L a w → wpAny P md ops Q fuel L a w
  | 0, L, a, w, hf, hi => by
    have hr : Region.ready md ops L = [] := by
      apply List.eq_nil_iff_forall_not_mem.2
      intro i h
      obtain ⟨h1, _⟩ := mem_ready.1 h
      have h0 : false ∉ L.toList := List.count_eq_zero.1 (by omega)
      by_cases hl : i < L.size
      · have e : L[i] = false := by simpa [Array.getD, hl] using h1
        exact h0 (by rw [← e]; simp)
      · simp [Array.getD, hl] at h1
    exact ⟨hr, hdone L a w hi hr⟩
  | fuel + 1, L, a, w, hf, hi => by
    refine ⟨fun h => hdone L a w hi h, fun i h => ?_⟩
    refine wpOp_mono (fun a' w' h' => ?_) (hstep L a w hi i h)
    refine wpAny_inv hstep hdone fuel _ a' w' ?_ h'
    obtain ⟨h1, _⟩ := mem_ready.1 h
    by_cases hl : i < L.size
    · have e : L.toList[i]? = some false := by
        have : L[i] = false := by simpa [Array.getD, hl] using h1
        simp [hl, this]
      have := count_set _ _ e
      rw [Array.toList_setIfInBounds]
      omega
    · simp [Array.getD, hl] at h1
theorem InB.keepA {bw : Nat} {A : Nat → Prop} {W W' : World} {sl : Value} {l : List Wd} (h : InB bw W sl l) (ne : ¬ A bw) (hk : Ks A W W') : InB bw W' sl l := by
  rcases h with h | ⟨off, cap, h1, h2, h3, h4, h5⟩
  · exact .inl h
  · refine .inr ⟨off, cap, h1, h2, h3, h4, fun j u hu => ?_⟩
    have hc := h5 j u hu
    by_cases hb : bw < W.heap.size
    · rw [← hc]
      unfold World.cell?
      simp only
      rw [hk.block bw hb ne]
    · simp [World.cell?, Array.getElem?_eq_none (Nat.le_of_not_lt hb)] at hc
theorem RdS.offs {gr bw : Nat} {A : Nat → Prop} {r : Rd} {W W' : World} (h : RdS gr bw r W) (n : ∀ k, A k → k ≠ gr ∧ k ≠ bw ∧ 8 ≤ k) (hk : Ks A W W') : RdS gr bw r W' := by
  obtain ⟨sl, h1, h2⟩ := h.st
  refine ⟨h.ne, h.g8, h.env.of hk.size fun k hk' => hk.block k (by have := h.env.sz; omega) (fun e => by have := (n k e).2.2; omega), h.sm, Nat.lt_of_lt_of_le h.lb hk.size, sl, (hk.block _ (heap_lt h1) (fun e => (n _ e).1 rfl)).trans h1, h2.keepA (fun e => (n _ e).2.1 rfl) hk⟩
end Go.Proofs.YtghppkfopglgaaaGreatDoor
namespace Go.Proofs.YtghppkfopglgaaaGreatDoor
open Go.RowKit
set_option linter.unusedVariables false
set_option linter.unusedSimpArgs false
def ops87_3 : Array Oper := #[{ dst := some 10, op := Op.fieldAddr 64 (Operand.tmp 3) 1, type := 0, pos := "read.go:163", after := #[], guard := none },
  { dst := some 11, op := Op.load 62 (Operand.tmp 10), type := 62, pos := "read.go:163", after := #[{ on := 0, ground := Ground.data }], guard := none },
  { dst := some 12, op := Op.move (Operand.tmp 0), type := 109, pos := "read.go:163", after := #[], guard := none },
  { dst := some 13, op := Op.call { callee := Callee.value (Operand.func 108), args := #[Operand.tmp 12], argTypes := #[109] }, type := 61, pos := "read.go:163", after := #[{ on := 2, ground := Ground.data }], guard := none },
  { dst := some 14, op := Op.buildSlice 62 1 #[(0, Operand.tmp 13)], type := 62, pos := "read.go:163", after := #[{ on := 3, ground := Ground.data }], guard := none },
  { dst := some 15, op := Op.call { callee := Callee.builtin Builtin.append, args := #[Operand.tmp 11, Operand.tmp 14], argTypes := #[62, 62] }, type := 62, pos := "read.go:163", after := #[{ on := 1, ground := Ground.data }, { on := 4, ground := Ground.data }, { on := 3, ground := Ground.chain }], guard := none },
  { dst := some 16, op := Op.fieldAddr 64 (Operand.tmp 3) 1, type := 0, pos := "read.go:163", after := #[{ on := 0, ground := Ground.phase }, { on := 1, ground := Ground.phase }, { on := 2, ground := Ground.phase }, { on := 3, ground := Ground.phase }, { on := 4, ground := Ground.phase }, { on := 5, ground := Ground.phase }], guard := none },
  { dst := none, op := Op.store 62 (Operand.tmp 16) (Operand.tmp 15), type := 0, pos := "read.go:163", after := #[{ on := 6, ground := Ground.data }, { on := 5, ground := Ground.data }, { on := 5, ground := Ground.chain }, { on := 0, ground := Ground.phase }, { on := 1, ground := Ground.phase }, { on := 2, ground := Ground.phase }, { on := 3, ground := Ground.phase }, { on := 4, ground := Ground.phase }, { on := 5, ground := Ground.phase }], guard := none }]
structure Z8 (w : World) (gr bw g0 g1 : Nat) (ta tp : ByteArray) (z : Array Value) (v : Value) (acc : List Tg) (x : Tg) (rr r2 : Rd) (b0 b1 b2 b3 b4 b5 b6 b7 : Bool) (x10 x11 x12 x13 x14 x15 x16 : Value) (W : World) : Prop where
  i0 : b0 = true → x10 = .pointer (some ⟨g1, 2, none⟩)
  i1 : b1 = true → x11 = v
  i2 : b2 = true → x12 = .pointer (some ⟨gr, 0, none⟩)
  i3 : b3 = true → x13 = .agg (tgA x)
  i4 : b4 = true → b5 = false → ∃ B, x14 = .slice (some ⟨B, 0, none⟩) 1 1 ∧ W.heap[B]? = some (.cells (tgA x) 61 (0, 0))
  n5 : b5 = false → R ETg W v acc ∧ ∀ k, v.ownBlock = some k → g1 < k
  i5 : b5 = true → R ETg W x15 (acc ++ [x]) ∧ ∀ k, x15.ownBlock = some k → g1 < k
  i6 : b6 = true → x16 = .pointer (some ⟨g1, 2, none⟩)
  rd : RdS gr bw (if b3 then r2 else rr) W
  kr : Kr gr w W
  zb : W.heap[g0]? = some (.cells z 64 (0, 0))
  blk : W.heap[g1]? = some (.cells #[.string ta, .string tp, if b7 then x15 else v] 64 (0, 0))
  c7 : b7 = true → b1 = true ∧ b5 = true
  c5 : b5 = true → b1 = true ∧ b4 = true
  c4 : b4 = true → b3 = true
def I8 (w : World) (gr bw g0 g1 : Nat) (ta tp : ByteArray) (z : Array Value) (v : Value) (acc : List Tg) (x : Tg) (rr r2 : Rd) (t1 t2 t4 t5 t6 t7 t8 t9 t17 : Value) (L : Array Bool) (a : Act) (W : World) : Prop :=
  ∃ b0 b1 b2 b3 b4 b5 b6 b7 x10 x11 x12 x13 x14 x15 x16, L = #[b0, b1, b2, b3, b4, b5, b6, b7] ∧ a = { tmps := #[.pointer (some ⟨gr, 0, none⟩), t1, t2, .pointer (some ⟨g1, 0, none⟩), t4, t5, t6, t7, t8, t9, x10, x11, x12, x13, x14, x15, x16, t17], defers := [] } ∧ Z8 w gr bw g0 g1 ta tp z v acc x rr r2 b0 b1 b2 b3 b4 b5 b6 b7 x10 x11 x12 x13 x14 x15 x16 W
set_option maxRecDepth 100000 in
theorem z8_0 (Q : Exit → Act → World → Prop) (w : World) (gr bw g0 g1 : Nat) (ta tp : ByteArray) (z : Array Value) (v : Value) (acc : List Tg) (x : Tg) (rr r2 : Rd) (t1 t2 t4 t5 t6 t7 t8 t9 t17 : Value) (h01 : g0 < g1) (hr1 : gr < g1) (hr0 : gr ≠ g0) (hbw : bw < g0) (hw : w.heap.size ≤ g0) (h8 : 8 ≤ g0) (hx : rr.tg = (x, r2)) (hlen : acc.length ≤ 1073741824) (b1 b2 b3 b4 b5 b6 b7 : Bool) (x10 x11 x12 x13 x14 x15 x16 : Value) (W : World) (hZ : Z8 w gr bw g0 g1 ta tp z v acc x rr r2 false b1 b2 b3 b4 b5 b6 b7 x10 x11 x12 x13 x14 x15 x16 W) :
    wpOp Tryz.prog ops87_3 Q 0 (I8 w gr bw g0 g1 ta tp z v acc x rr r2 t1 t2 t4 t5 t6 t7 t8 t9 t17 #[true, b1, b2, b3, b4, b5, b6, b7]) { tmps := #[.pointer (some ⟨gr, 0, none⟩), t1, t2, .pointer (some ⟨g1, 0, none⟩), t4, t5, t6, t7, t8, t9, x10, x11, x12, x13, x14, x15, x16, t17], defers := [] } W := by
  refine wpOpP_step (o := { dst := some 10, op := Op.fieldAddr 64 (Operand.tmp 3) 1, type := 0, pos := "read.go:163", after := #[], guard := none }) rfl ?_
  obtain ⟨K, hKd⟩ : ∃ K, I8 w gr bw g0 g1 ta tp z v acc x rr r2 t1 t2 t4 t5 t6 t7 t8 t9 t17 #[true, b1, b2, b3, b4, b5, b6, b7] = K := ⟨_, rfl⟩
  have HK : Hid (∀ a V, I8 w gr bw g0 g1 ta tp z v acc x rr r2 t1 t2 t4 t5 t6 t7 t8 t9 t17 #[true, b1, b2, b3, b4, b5, b6, b7] a V → K a V) := hid fun a V h => by rw [← hKd]; exact h
  rw [hKd]
  clear hKd
  have HZ := hid hZ
  clear hZ
  go_wp2_with fail
  obtain ⟨i0, i1, i2, i3, i4, n5, i5, i6, rd, kr, zb, blk, c7, c5, c4⟩ := HZ.out
  refine HK.out _ _ ⟨_, _, _, _, _, _, _, _, _, _, _, _, _, _, _, rfl, rfl, ⟨fun _ => rfl, i1, i2, i3, i4, n5, i5, i6, rd, kr, zb, blk, c7, c5, c4⟩⟩
set_option maxRecDepth 100000 in
theorem z8_1 (Q : Exit → Act → World → Prop) (w : World) (gr bw g0 g1 : Nat) (ta tp : ByteArray) (z : Array Value) (v : Value) (acc : List Tg) (x : Tg) (rr r2 : Rd) (t1 t2 t4 t5 t6 t7 t8 t9 t17 : Value) (h01 : g0 < g1) (hr1 : gr < g1) (hr0 : gr ≠ g0) (hbw : bw < g0) (hw : w.heap.size ≤ g0) (h8 : 8 ≤ g0) (hx : rr.tg = (x, r2)) (hlen : acc.length ≤ 1073741824) (b2 b3 b4 b5 b6 b7 : Bool) (x10 x11 x12 x13 x14 x15 x16 : Value) (W : World) (hZ : Z8 w gr bw g0 g1 ta tp z v acc x rr r2 true false b2 b3 b4 b5 b6 b7 x10 x11 x12 x13 x14 x15 x16 W) :
    wpOp Tryz.prog ops87_3 Q 1 (I8 w gr bw g0 g1 ta tp z v acc x rr r2 t1 t2 t4 t5 t6 t7 t8 t9 t17 #[true, true, b2, b3, b4, b5, b6, b7]) { tmps := #[.pointer (some ⟨gr, 0, none⟩), t1, t2, .pointer (some ⟨g1, 0, none⟩), t4, t5, t6, t7, t8, t9, x10, x11, x12, x13, x14, x15, x16, t17], defers := [] } W := by
  refine wpOpP_step (o := { dst := some 11, op := Op.load 62 (Operand.tmp 10), type := 62, pos := "read.go:163", after := #[{ on := 0, ground := Ground.data }], guard := none }) rfl ?_
  obtain ⟨K, hKd⟩ : ∃ K, I8 w gr bw g0 g1 ta tp z v acc x rr r2 t1 t2 t4 t5 t6 t7 t8 t9 t17 #[true, true, b2, b3, b4, b5, b6, b7] = K := ⟨_, rfl⟩
  have HK : Hid (∀ a V, I8 w gr bw g0 g1 ta tp z v acc x rr r2 t1 t2 t4 t5 t6 t7 t8 t9 t17 #[true, true, b2, b3, b4, b5, b6, b7] a V → K a V) := hid fun a V h => by rw [← hKd]; exact h
  rw [hKd]
  clear hKd
  have hx0 := hZ.i0 rfl
  subst hx0
  have hb7 : b7 = false := by cases b7; rfl; exact absurd (hZ.c7 rfl).1 (by simp)
  subst hb7
  have c0 := cell_blk hZ.blk 2
  have f0 := frozen_blk hZ.blk
  have l0 := heap_lt hZ.blk
  simp only [List.getElem?_toArray, List.getElem?_cons_zero, List.getElem?_cons_succ, Bool.false_eq_true, if_false] at c0
  have HZ := hid hZ
  clear hZ
  go_wp2_with fail
  obtain ⟨i0, i1, i2, i3, i4, n5, i5, i6, rd, kr, zb, blk, c7, c5, c4⟩ := HZ.out
  refine HK.out _ _ ⟨_, _, _, _, _, _, _, _, _, _, _, _, _, _, _, rfl, rfl, ⟨i0, fun _ => rfl, i2, i3, i4, n5, i5, i6, rd, kr, zb, blk, fun h => absurd h (by simp), fun h => ⟨rfl, (c5 h).2⟩, c4⟩⟩
set_option maxRecDepth 100000 in
theorem z8_2 (Q : Exit → Act → World → Prop) (w : World) (gr bw g0 g1 : Nat) (ta tp : ByteArray) (z : Array Value) (v : Value) (acc : List Tg) (x : Tg) (rr r2 : Rd) (t1 t2 t4 t5 t6 t7 t8 t9 t17 : Value) (h01 : g0 < g1) (hr1 : gr < g1) (hr0 : gr ≠ g0) (hbw : bw < g0) (hw : w.heap.size ≤ g0) (h8 : 8 ≤ g0) (hx : rr.tg = (x, r2)) (hlen : acc.length ≤ 1073741824) (b0 b1 b3 b4 b5 b6 b7 : Bool) (x10 x11 x12 x13 x14 x15 x16 : Value) (W : World) (hZ : Z8 w gr bw g0 g1 ta tp z v acc x rr r2 b0 b1 false b3 b4 b5 b6 b7 x10 x11 x12 x13 x14 x15 x16 W) :
    wpOp Tryz.prog ops87_3 Q 2 (I8 w gr bw g0 g1 ta tp z v acc x rr r2 t1 t2 t4 t5 t6 t7 t8 t9 t17 #[b0, b1, true, b3, b4, b5, b6, b7]) { tmps := #[.pointer (some ⟨gr, 0, none⟩), t1, t2, .pointer (some ⟨g1, 0, none⟩), t4, t5, t6, t7, t8, t9, x10, x11, x12, x13, x14, x15, x16, t17], defers := [] } W := by
  refine wpOpP_step (o := { dst := some 12, op := Op.move (Operand.tmp 0), type := 109, pos := "read.go:163", after := #[], guard := none }) rfl ?_
  obtain ⟨K, hKd⟩ : ∃ K, I8 w gr bw g0 g1 ta tp z v acc x rr r2 t1 t2 t4 t5 t6 t7 t8 t9 t17 #[b0, b1, true, b3, b4, b5, b6, b7] = K := ⟨_, rfl⟩
  have HK : Hid (∀ a V, I8 w gr bw g0 g1 ta tp z v acc x rr r2 t1 t2 t4 t5 t6 t7 t8 t9 t17 #[b0, b1, true, b3, b4, b5, b6, b7] a V → K a V) := hid fun a V h => by rw [← hKd]; exact h
  rw [hKd]
  clear hKd
  have HZ := hid hZ
  clear hZ
  go_wp2_with fail
  obtain ⟨i0, i1, i2, i3, i4, n5, i5, i6, rd, kr, zb, blk, c7, c5, c4⟩ := HZ.out
  refine HK.out _ _ ⟨_, _, _, _, _, _, _, _, _, _, _, _, _, _, _, rfl, rfl, ⟨i0, i1, fun _ => rfl, i3, i4, n5, i5, i6, rd, kr, zb, blk, c7, c5, c4⟩⟩
set_option maxRecDepth 100000 in
theorem z8_3 (Q : Exit → Act → World → Prop) (w : World) (gr bw g0 g1 : Nat) (ta tp : ByteArray) (z : Array Value) (v : Value) (acc : List Tg) (x : Tg) (rr r2 : Rd) (t1 t2 t4 t5 t6 t7 t8 t9 t17 : Value) (h01 : g0 < g1) (hr1 : gr < g1) (hr0 : gr ≠ g0) (hbw : bw < g0) (hw : w.heap.size ≤ g0) (h8 : 8 ≤ g0) (hx : rr.tg = (x, r2)) (hlen : acc.length ≤ 1073741824) (b0 b1 b4 b5 b6 b7 : Bool) (x10 x11 x12 x13 x14 x15 x16 : Value) (W : World) (hZ : Z8 w gr bw g0 g1 ta tp z v acc x rr r2 b0 b1 true false b4 b5 b6 b7 x10 x11 x12 x13 x14 x15 x16 W) :
    wpOp Tryz.prog ops87_3 Q 3 (I8 w gr bw g0 g1 ta tp z v acc x rr r2 t1 t2 t4 t5 t6 t7 t8 t9 t17 #[b0, b1, true, true, b4, b5, b6, b7]) { tmps := #[.pointer (some ⟨gr, 0, none⟩), t1, t2, .pointer (some ⟨g1, 0, none⟩), t4, t5, t6, t7, t8, t9, x10, x11, x12, x13, x14, x15, x16, t17], defers := [] } W := by
  refine wpOpP_step (o := { dst := some 13, op := Op.call { callee := Callee.value (Operand.func 108), args := #[Operand.tmp 12], argTypes := #[109] }, type := 61, pos := "read.go:163", after := #[{ on := 2, ground := Ground.data }], guard := none }) rfl ?_
  obtain ⟨K, hKd⟩ : ∃ K, I8 w gr bw g0 g1 ta tp z v acc x rr r2 t1 t2 t4 t5 t6 t7 t8 t9 t17 #[b0, b1, true, true, b4, b5, b6, b7] = K := ⟨_, rfl⟩
  have HK : Hid (∀ a V, I8 w gr bw g0 g1 ta tp z v acc x rr r2 t1 t2 t4 t5 t6 t7 t8 t9 t17 #[b0, b1, true, true, b4, b5, b6, b7] a V → K a V) := hid fun a V h => by rw [← hKd]; exact h
  rw [hKd]
  clear hKd
  have hx2 := hZ.i2 rfl
  subst hx2
  have HT := hid (target_any gr bw rr W hZ.rd)
  rw [hx] at HT
  have HZ := hid hZ
  clear hZ
  go_wp2_with fail
  go_at_call 108
  refine HT.out.mono ?_
  rintro e V ⟨rfl, hS, hK⟩
  obtain ⟨i0, i1, i2, i3, i4, n5, i5, i6, rd, kr, zb, blk, c7, c5, c4⟩ := HZ.out
  have hg1 : gr ≠ g1 := by omega
  have hb4 : b4 = false := by cases b4; rfl; exact absurd (c4 rfl) (by simp)
  subst hb4
  have hb5 : b5 = false := by cases b5; rfl; exact absurd (c5 rfl).2 (by simp)
  subst hb5
  have hnb : b7 = false := by cases b7; rfl; exact absurd (c7 rfl).2 (by simp)
  subst hnb
  refine HK.out _ _ ⟨_, _, _, _, _, _, _, _, _, _, _, _, _, _, _, rfl, rfl, ⟨i0, i1, i2, fun _ => rfl, fun h => absurd h (by simp), fun h => ⟨(n5 h).1.stays (fun k e hl => hK.block k hl (by have := (n5 h).2 k e; omega)), (n5 h).2⟩, fun h => absurd h (by simp), i6, hS, Kr.tr kr hK, (hK.block _ (heap_lt zb) (fun e => hr0 e.symm)).trans zb, (hK.block _ (heap_lt blk) (fun e => hg1 e.symm)).trans blk, c7, c5, fun _ => rfl⟩⟩
set_option maxRecDepth 100000 in
theorem z8_4 (Q : Exit → Act → World → Prop) (w : World) (gr bw g0 g1 : Nat) (ta tp : ByteArray) (z : Array Value) (v : Value) (acc : List Tg) (x : Tg) (rr r2 : Rd) (t1 t2 t4 t5 t6 t7 t8 t9 t17 : Value) (h01 : g0 < g1) (hr1 : gr < g1) (hr0 : gr ≠ g0) (hbw : bw < g0) (hw : w.heap.size ≤ g0) (h8 : 8 ≤ g0) (hx : rr.tg = (x, r2)) (hlen : acc.length ≤ 1073741824) (b0 b1 b2 b5 b6 b7 : Bool) (x10 x11 x12 x13 x14 x15 x16 : Value) (W : World) (hZ : Z8 w gr bw g0 g1 ta tp z v acc x rr r2 b0 b1 b2 true false b5 b6 b7 x10 x11 x12 x13 x14 x15 x16 W) :
    wpOp Tryz.prog ops87_3 Q 4 (I8 w gr bw g0 g1 ta tp z v acc x rr r2 t1 t2 t4 t5 t6 t7 t8 t9 t17 #[b0, b1, b2, true, true, b5, b6, b7]) { tmps := #[.pointer (some ⟨gr, 0, none⟩), t1, t2, .pointer (some ⟨g1, 0, none⟩), t4, t5, t6, t7, t8, t9, x10, x11, x12, x13, x14, x15, x16, t17], defers := [] } W := by
  refine wpOpP_step (o := { dst := some 14, op := Op.buildSlice 62 1 #[(0, Operand.tmp 13)], type := 62, pos := "read.go:163", after := #[{ on := 3, ground := Ground.data }], guard := none }) rfl ?_
  obtain ⟨K, hKd⟩ : ∃ K, I8 w gr bw g0 g1 ta tp z v acc x rr r2 t1 t2 t4 t5 t6 t7 t8 t9 t17 #[b0, b1, b2, true, true, b5, b6, b7] = K := ⟨_, rfl⟩
  have HK : Hid (∀ a V, I8 w gr bw g0 g1 ta tp z v acc x rr r2 t1 t2 t4 t5 t6 t7 t8 t9 t17 #[b0, b1, b2, true, true, b5, b6, b7] a V → K a V) := hid fun a V h => by rw [← hKd]; exact h
  rw [hKd]
  clear hKd
  have hx3 := hZ.i3 rfl
  subst hx3
  simp only [tgA]
  have HZ := hid hZ
  clear hZ
  go_wp2_with fail
  obtain ⟨i0, i1, i2, i3, i4, n5, i5, i6, rd, kr, zb, blk, c7, c5, c4⟩ := HZ.out
  have hb : Below W.heap.size W (W.alloc (.cells #[.string x.a, .string x.p] 61)) := bel1 _ _
  have hb5 : b5 = false := by cases b5; rfl; exact absurd (c5 rfl).2 (by simp)
  subst hb5
  have hb7 : b7 = false := by cases b7; rfl; exact absurd (c7 rfl).2 (by simp)
  subst hb7
  refine HK.out _ _ ⟨_, _, _, _, _, _, _, _, _, _, _, _, _, _, _, rfl, rfl, ⟨i0, i1, i2, i3, fun _ _ => ⟨_, rfl, by rw [heap_al, if_pos rfl]; rfl⟩, fun h => ⟨(n5 h).1.below hb, (n5 h).2⟩, fun h => absurd h (by simp), i6, rd.below hb, Kr.tr kr (Ks.of_below hb), (hb.block _ (heap_lt zb)).trans zb, (hb.block _ (heap_lt blk)).trans blk, c7, fun h => absurd h (by simp), fun _ => rfl⟩⟩
set_option maxRecDepth 100000 in
theorem z8_5 (Q : Exit → Act → World → Prop) (w : World) (gr bw g0 g1 : Nat) (ta tp : ByteArray) (z : Array Value) (v : Value) (acc : List Tg) (x : Tg) (rr r2 : Rd) (t1 t2 t4 t5 t6 t7 t8 t9 t17 : Value) (h01 : g0 < g1) (hr1 : gr < g1) (hr0 : gr ≠ g0) (hbw : bw < g0) (hw : w.heap.size ≤ g0) (h8 : 8 ≤ g0) (hx : rr.tg = (x, r2)) (hlen : acc.length ≤ 1073741824) (b0 b2 b3 b6 b7 : Bool) (x10 x11 x12 x13 x14 x15 x16 : Value) (W : World) (hZ : Z8 w gr bw g0 g1 ta tp z v acc x rr r2 b0 true b2 b3 true false b6 b7 x10 x11 x12 x13 x14 x15 x16 W) :
    wpOp Tryz.prog ops87_3 Q 5 (I8 w gr bw g0 g1 ta tp z v acc x rr r2 t1 t2 t4 t5 t6 t7 t8 t9 t17 #[b0, true, b2, b3, true, true, b6, b7]) { tmps := #[.pointer (some ⟨gr, 0, none⟩), t1, t2, .pointer (some ⟨g1, 0, none⟩), t4, t5, t6, t7, t8, t9, x10, x11, x12, x13, x14, x15, x16, t17], defers := [] } W := by
  refine wpOpP_step (o := { dst := some 15, op := Op.call { callee := Callee.builtin Builtin.append, args := #[Operand.tmp 11, Operand.tmp 14], argTypes := #[62, 62] }, type := 62, pos := "read.go:163", after := #[{ on := 1, ground := Ground.data }, { on := 4, ground := Ground.data }, { on := 3, ground := Ground.chain }], guard := none }) rfl ?_
  obtain ⟨K, hKd⟩ : ∃ K, I8 w gr bw g0 g1 ta tp z v acc x rr r2 t1 t2 t4 t5 t6 t7 t8 t9 t17 #[b0, true, b2, b3, true, true, b6, b7] = K := ⟨_, rfl⟩
  have HK : Hid (∀ a V, I8 w gr bw g0 g1 ta tp z v acc x rr r2 t1 t2 t4 t5 t6 t7 t8 t9 t17 #[b0, true, b2, b3, true, true, b6, b7] a V → K a V) := hid fun a V h => by rw [← hKd]; exact h
  rw [hKd]
  clear hKd
  obtain ⟨i0, i1, i2, i3, i4, n5, i5, i6, rd, kr, zb, blk, c7, c5, c4⟩ := hZ
  have hb3 := c4 rfl
  subst hb3
  have hb7 : b7 = false := by cases b7; rfl; exact absurd (c7 rfl).2 (by simp)
  subst hb7
  have hx1 := i1 rfl
  subst hx1
  obtain ⟨nR, nO⟩ := n5 rfl
  obtain ⟨B, rfl, hB⟩ := i4 rfl rfl
  obtain ⟨base, cap, W', hrun, hR, hG⟩ := app okTg W x11 acc nR _ [x] (in_one (E := ETg) W B x (tgA x) 61 (0, 0) hB rfl) (by rw [show ETg.by' = 32 from rfl]; simp only [List.length_cons, List.length_nil]; omega)
  refine step_append_run rfl (.tmp 11) (.tmp 14) 62 62 rfl hrun rfl rfl ?_
  have hms : g1 < W.heap.size := heap_lt blk
  have hk := Ks.of_gr hG
  have hkr : Kr gr w W' := kr.trans hk (fun _ _ h => h) (fun i hi e => by have := nO i e; omega)
  refine HK.out _ _ ⟨_, _, _, _, _, _, _, _, _, _, _, _, _, _, _, rfl, rfl, ⟨i0, i1, i2, i3, fun _ h => absurd h (by simp), fun h => absurd h (by simp), fun _ => ⟨hR, fun k hk => (hG.own k hk).elim (nO k) fun e => Nat.lt_of_lt_of_le hms e⟩, i6, rd.offs (fun k e => by have := nO k e; omega) hk, hkr, (hk.block _ (heap_lt zb) (fun e => by have := nO _ e; omega)).trans zb, (hk.block _ (heap_lt blk) (fun e => by have := nO _ e; omega)).trans blk, fun h => absurd h (by simp), fun _ => ⟨rfl, rfl⟩, c4⟩⟩
set_option maxRecDepth 100000 in
theorem z8_6 (Q : Exit → Act → World → Prop) (w : World) (gr bw g0 g1 : Nat) (ta tp : ByteArray) (z : Array Value) (v : Value) (acc : List Tg) (x : Tg) (rr r2 : Rd) (t1 t2 t4 t5 t6 t7 t8 t9 t17 : Value) (h01 : g0 < g1) (hr1 : gr < g1) (hr0 : gr ≠ g0) (hbw : bw < g0) (hw : w.heap.size ≤ g0) (h8 : 8 ≤ g0) (hx : rr.tg = (x, r2)) (hlen : acc.length ≤ 1073741824) (b7 : Bool) (x10 x11 x12 x13 x14 x15 x16 : Value) (W : World) (hZ : Z8 w gr bw g0 g1 ta tp z v acc x rr r2 true true true true true true false b7 x10 x11 x12 x13 x14 x15 x16 W) :
    wpOp Tryz.prog ops87_3 Q 6 (I8 w gr bw g0 g1 ta tp z v acc x rr r2 t1 t2 t4 t5 t6 t7 t8 t9 t17 #[true, true, true, true, true, true, true, b7]) { tmps := #[.pointer (some ⟨gr, 0, none⟩), t1, t2, .pointer (some ⟨g1, 0, none⟩), t4, t5, t6, t7, t8, t9, x10, x11, x12, x13, x14, x15, x16, t17], defers := [] } W := by
  refine wpOpP_step (o := { dst := some 16, op := Op.fieldAddr 64 (Operand.tmp 3) 1, type := 0, pos := "read.go:163", after := #[{ on := 0, ground := Ground.phase }, { on := 1, ground := Ground.phase }, { on := 2, ground := Ground.phase }, { on := 3, ground := Ground.phase }, { on := 4, ground := Ground.phase }, { on := 5, ground := Ground.phase }], guard := none }) rfl ?_
  obtain ⟨K, hKd⟩ : ∃ K, I8 w gr bw g0 g1 ta tp z v acc x rr r2 t1 t2 t4 t5 t6 t7 t8 t9 t17 #[true, true, true, true, true, true, true, b7] = K := ⟨_, rfl⟩
  have HK : Hid (∀ a V, I8 w gr bw g0 g1 ta tp z v acc x rr r2 t1 t2 t4 t5 t6 t7 t8 t9 t17 #[true, true, true, true, true, true, true, b7] a V → K a V) := hid fun a V h => by rw [← hKd]; exact h
  rw [hKd]
  clear hKd
  have HZ := hid hZ
  clear hZ
  go_wp2_with fail
  obtain ⟨i0, i1, i2, i3, i4, n5, i5, i6, rd, kr, zb, blk, c7, c5, c4⟩ := HZ.out
  refine HK.out _ _ ⟨_, _, _, _, _, _, _, _, _, _, _, _, _, _, _, rfl, rfl, ⟨i0, i1, i2, i3, i4, n5, i5, fun _ => rfl, rd, kr, zb, blk, c7, c5, c4⟩⟩
set_option maxRecDepth 100000 in
theorem z8_7 (Q : Exit → Act → World → Prop) (w : World) (gr bw g0 g1 : Nat) (ta tp : ByteArray) (z : Array Value) (v : Value) (acc : List Tg) (x : Tg) (rr r2 : Rd) (t1 t2 t4 t5 t6 t7 t8 t9 t17 : Value) (h01 : g0 < g1) (hr1 : gr < g1) (hr0 : gr ≠ g0) (hbw : bw < g0) (hw : w.heap.size ≤ g0) (h8 : 8 ≤ g0) (hx : rr.tg = (x, r2)) (hlen : acc.length ≤ 1073741824) (x10 x11 x12 x13 x14 x15 x16 : Value) (W : World) (hZ : Z8 w gr bw g0 g1 ta tp z v acc x rr r2 true true true true true true true false x10 x11 x12 x13 x14 x15 x16 W) :
    wpOp Tryz.prog ops87_3 Q 7 (I8 w gr bw g0 g1 ta tp z v acc x rr r2 t1 t2 t4 t5 t6 t7 t8 t9 t17 #[true, true, true, true, true, true, true, true]) { tmps := #[.pointer (some ⟨gr, 0, none⟩), t1, t2, .pointer (some ⟨g1, 0, none⟩), t4, t5, t6, t7, t8, t9, x10, x11, x12, x13, x14, x15, x16, t17], defers := [] } W := by
  refine wpOpP_step (o := { dst := none, op := Op.store 62 (Operand.tmp 16) (Operand.tmp 15), type := 0, pos := "read.go:163", after := #[{ on := 6, ground := Ground.data }, { on := 5, ground := Ground.data }, { on := 5, ground := Ground.chain }, { on := 0, ground := Ground.phase }, { on := 1, ground := Ground.phase }, { on := 2, ground := Ground.phase }, { on := 3, ground := Ground.phase }, { on := 4, ground := Ground.phase }, { on := 5, ground := Ground.phase }], guard := none }) rfl ?_
  obtain ⟨K, hKd⟩ : ∃ K, I8 w gr bw g0 g1 ta tp z v acc x rr r2 t1 t2 t4 t5 t6 t7 t8 t9 t17 #[true, true, true, true, true, true, true, true] = K := ⟨_, rfl⟩
  have HK : Hid (∀ a V, I8 w gr bw g0 g1 ta tp z v acc x rr r2 t1 t2 t4 t5 t6 t7 t8 t9 t17 #[true, true, true, true, true, true, true, true] a V → K a V) := hid fun a V h => by rw [← hKd]; exact h
  rw [hKd]
  clear hKd
  have hx6 := hZ.i6 rfl
  subst hx6
  obtain ⟨ba, ca, e, _⟩ := (hZ.i5 rfl).1.slice
  obtain ⟨nn, hn⟩ : ∃ nn, (acc ++ [x]).length = nn := ⟨_, rfl⟩
  rw [hn] at e
  clear hn
  subst e
  have c0 := cell_blk hZ.blk 2
  have f0 := frozen_blk hZ.blk
  have l0 := heap_lt hZ.blk
  simp only [List.getElem?_toArray, List.getElem?_cons_zero, List.getElem?_cons_succ, Bool.false_eq_true, if_false] at c0
  have HZ := hid hZ
  clear hZ
  go_wp2_with fail
  obtain ⟨i0, i1, i2, i3, i4, n5, i5, i6, rd, kr, zb, blk, c7, c5, c4⟩ := HZ.out
  have hk := Ks.setCell (fun k => k = g1) W g1 2 (.slice ba nn ca) rfl
  have hms : g0 < W.heap.size := heap_lt zb
  refine HK.out _ _ ⟨_, _, _, _, _, _, _, _, _, _, _, _, _, _, _, rfl, rfl, ⟨i0, i1, i2, i3, fun _ h => absurd h (by simp), fun h => absurd h (by simp), fun _ => ⟨(i5 rfl).1.stays (fun k e hl => hk.block k hl (by have := (i5 rfl).2 k e; omega)), (i5 rfl).2⟩, i6, rd.offs (fun k e => by omega) hk, kr.trans hk (fun _ _ h => h) (fun i hi e => by omega), (hk.block _ (heap_lt zb) (by omega)).trans zb, by rw [setCell_block _ _ _ _ _ _ _ blk]; rfl, fun _ => ⟨rfl, rfl⟩, c5, c4⟩⟩
end Go.Proofs.YtghppkfopglgaaaGreatDoor
namespace Go.Proofs.YtghppkfopglgaaaGreatDoor
open Go.RowKit
set_option linter.unusedVariables false
set_option linter.unusedSimpArgs false
set_option synthInstance.maxSize 4096 in
set_option synthInstance.maxHeartbeats 400000 in
theorem z8_step (Q : Exit → Act → World → Prop) (w : World) (gr bw g0 g1 : Nat) (ta tp : ByteArray) (z : Array Value) (v : Value) (acc : List Tg) (x : Tg) (rr r2 : Rd) (t1 t2 t4 t5 t6 t7 t8 t9 t17 : Value) (h01 : g0 < g1) (hr1 : gr < g1) (hr0 : gr ≠ g0) (hbw : bw < g0) (hw : w.heap.size ≤ g0) (h8 : 8 ≤ g0) (hx : rr.tg = (x, r2)) (hlen : acc.length ≤ 1073741824) : ∀ L a W, I8 w gr bw g0 g1 ta tp z v acc x rr r2 t1 t2 t4 t5 t6 t7 t8 t9 t17 L a W → ∀ i, i ∈ Region.ready .any ops87_3 L → wpOp Tryz.prog ops87_3 Q i (I8 w gr bw g0 g1 ta tp z v acc x rr r2 t1 t2 t4 t5 t6 t7 t8 t9 t17 (L.setIfInBounds i true)) a W := by
  rintro L a W ⟨b0, b1, b2, b3, b4, b5, b6, b7, x10, x11, x12, x13, x14, x15, x16, rfl, rfl, hZ⟩ i h
  have hi : i < 8 := by
    obtain ⟨h1, _⟩ := mem_ready.1 h
    refine Decidable.byContradiction fun hn => ?_
    simp only [Array.getD, List.size_toArray, List.length_cons, List.length_nil, Nat.reduceAdd, dif_neg hn] at h1
    cases h1
  obtain rfl | rfl | rfl | rfl | rfl | rfl | rfl | rfl : i = 0 ∨ i = 1 ∨ i = 2 ∨ i = 3 ∨ i = 4 ∨ i = 5 ∨ i = 6 ∨ i = 7 := by omega
  · have hf : ∀ b0 b1 b2 b3 b4 b5 b6 b7 : Bool, 0 ∈ Region.ready .any ops87_3 #[b0, b1, b2, b3, b4, b5, b6, b7] → b0 = false := by decide +kernel
    obtain rfl := hf _ _ _ _ _ _ _ _ h
    exact z8_0 Q w gr bw g0 g1 ta tp z v acc x rr r2 t1 t2 t4 t5 t6 t7 t8 t9 t17 h01 hr1 hr0 hbw hw h8 hx hlen _ _ _ _ _ _ _ _ _ _ _ _ _ _ W hZ
  · have hf : ∀ b0 b1 b2 b3 b4 b5 b6 b7 : Bool, 1 ∈ Region.ready .any ops87_3 #[b0, b1, b2, b3, b4, b5, b6, b7] → b1 = false ∧ b0 = true := by decide +kernel
    obtain ⟨rfl, rfl⟩ := hf _ _ _ _ _ _ _ _ h
    exact z8_1 Q w gr bw g0 g1 ta tp z v acc x rr r2 t1 t2 t4 t5 t6 t7 t8 t9 t17 h01 hr1 hr0 hbw hw h8 hx hlen _ _ _ _ _ _ _ _ _ _ _ _ _ W hZ
  · have hf : ∀ b0 b1 b2 b3 b4 b5 b6 b7 : Bool, 2 ∈ Region.ready .any ops87_3 #[b0, b1, b2, b3, b4, b5, b6, b7] → b2 = false := by decide +kernel
    obtain rfl := hf _ _ _ _ _ _ _ _ h
    exact z8_2 Q w gr bw g0 g1 ta tp z v acc x rr r2 t1 t2 t4 t5 t6 t7 t8 t9 t17 h01 hr1 hr0 hbw hw h8 hx hlen _ _ _ _ _ _ _ _ _ _ _ _ _ _ W hZ
  · have hf : ∀ b0 b1 b2 b3 b4 b5 b6 b7 : Bool, 3 ∈ Region.ready .any ops87_3 #[b0, b1, b2, b3, b4, b5, b6, b7] → b3 = false ∧ b2 = true := by decide +kernel
    obtain ⟨rfl, rfl⟩ := hf _ _ _ _ _ _ _ _ h
    exact z8_3 Q w gr bw g0 g1 ta tp z v acc x rr r2 t1 t2 t4 t5 t6 t7 t8 t9 t17 h01 hr1 hr0 hbw hw h8 hx hlen _ _ _ _ _ _ _ _ _ _ _ _ _ W hZ
  · have hf : ∀ b0 b1 b2 b3 b4 b5 b6 b7 : Bool, 4 ∈ Region.ready .any ops87_3 #[b0, b1, b2, b3, b4, b5, b6, b7] → b4 = false ∧ b3 = true := by decide +kernel
    obtain ⟨rfl, rfl⟩ := hf _ _ _ _ _ _ _ _ h
    exact z8_4 Q w gr bw g0 g1 ta tp z v acc x rr r2 t1 t2 t4 t5 t6 t7 t8 t9 t17 h01 hr1 hr0 hbw hw h8 hx hlen _ _ _ _ _ _ _ _ _ _ _ _ _ W hZ
  · have hf : ∀ b0 b1 b2 b3 b4 b5 b6 b7 : Bool, 5 ∈ Region.ready .any ops87_3 #[b0, b1, b2, b3, b4, b5, b6, b7] → b5 = false ∧ b1 = true ∧ b4 = true := by decide +kernel
    obtain ⟨rfl, rfl, rfl⟩ := hf _ _ _ _ _ _ _ _ h
    exact z8_5 Q w gr bw g0 g1 ta tp z v acc x rr r2 t1 t2 t4 t5 t6 t7 t8 t9 t17 h01 hr1 hr0 hbw hw h8 hx hlen _ _ _ _ _ _ _ _ _ _ _ _ W hZ
  · have hf : ∀ b0 b1 b2 b3 b4 b5 b6 b7 : Bool, 6 ∈ Region.ready .any ops87_3 #[b0, b1, b2, b3, b4, b5, b6, b7] → b6 = false ∧ b0 = true ∧ b1 = true ∧ b2 = true ∧ b3 = true ∧ b4 = true ∧ b5 = true := by decide +kernel
    obtain ⟨rfl, rfl, rfl, rfl, rfl, rfl, rfl⟩ := hf _ _ _ _ _ _ _ _ h
    exact z8_6 Q w gr bw g0 g1 ta tp z v acc x rr r2 t1 t2 t4 t5 t6 t7 t8 t9 t17 h01 hr1 hr0 hbw hw h8 hx hlen _ _ _ _ _ _ _ _ W hZ
  · have hf : ∀ b0 b1 b2 b3 b4 b5 b6 b7 : Bool, 7 ∈ Region.ready .any ops87_3 #[b0, b1, b2, b3, b4, b5, b6, b7] → b7 = false ∧ b0 = true ∧ b1 = true ∧ b2 = true ∧ b3 = true ∧ b4 = true ∧ b5 = true ∧ b6 = true := by decide +kernel
    obtain ⟨rfl, rfl, rfl, rfl, rfl, rfl, rfl, rfl⟩ := hf _ _ _ _ _ _ _ _ h
    exact z8_7 Q w gr bw g0 g1 ta tp z v acc x rr r2 t1 t2 t4 t5 t6 t7 t8 t9 t17 h01 hr1 hr0 hbw hw h8 hx hlen  _ _ _ _ _ _ _ W hZ
theorem z8_region (Q : Exit → Act → World → Prop) (w : World) (gr bw g0 g1 : Nat) (ta tp : ByteArray) (z : Array Value) (v : Value) (acc : List Tg) (x : Tg) (rr r2 : Rd) (t1 t2 t4 t5 t6 t7 t8 t9 t17 : Value) (h01 : g0 < g1) (hr1 : gr < g1) (hr0 : gr ≠ g0) (hbw : bw < g0) (hw : w.heap.size ≤ g0) (h8 : 8 ≤ g0) (hx : rr.tg = (x, r2)) (hlen : acc.length ≤ 1073741824) (x10 x11 x12 x13 x14 x15 x16 : Value) (W0 : World) (hR : R ETg W0 v acc) (hO : ∀ k, v.ownBlock = some k → g1 < k) (hrd : RdS gr bw rr W0) (hkr : Kr gr w W0) (hz : W0.heap[g0]? = some (.cells z 64 (0, 0))) (hb : W0.heap[g1]? = some (.cells #[.string ta, .string tp, v] 64 (0, 0)))
    (hQ : ∀ x10 x11 x12 x13 x14 x15 x16 v' V, R ETg V v' (acc ++ [x]) → (∀ k, v'.ownBlock = some k → g1 < k) → RdS gr bw r2 V → Kr gr w V → V.heap[g0]? = some (.cells z 64 (0, 0)) → V.heap[g1]? = some (.cells #[.string ta, .string tp, v'] 64 (0, 0)) → Q .normal { tmps := #[.pointer (some ⟨gr, 0, none⟩), t1, t2, .pointer (some ⟨g1, 0, none⟩), t4, t5, t6, t7, t8, t9, x10, x11, x12, x13, x14, x15, x16, t17], defers := [] } V) :
    (Code.region 3 ops87_3 true).wp Tryz.prog Q { tmps := #[.pointer (some ⟨gr, 0, none⟩), t1, t2, .pointer (some ⟨g1, 0, none⟩), t4, t5, t6, t7, t8, t9, x10, x11, x12, x13, x14, x15, x16, t17], defers := [] } W0 := by
  refine wp_region_any (by kernel_rfl) ?_
  have hd : Below W0.heap.size W0 { W0 with drawn := W0.drawn + 1 } := (Below.refl _ _).drew
  refine wpAny_inv (z8_step Q w gr bw g0 g1 ta tp z v acc x rr r2 t1 t2 t4 t5 t6 t7 t8 t9 t17 h01 hr1 hr0 hbw hw h8 hx hlen) (fun L a V hI hr => ?_) _ _ _ _ ?_ ⟨false, false, false, false, false, false, false, false, _, _, _, _, _, _, _, rfl, rfl, ⟨nofun, nofun, nofun, nofun, nofun, fun _ => ⟨hR.below hd, hO⟩, nofun, nofun, hrd.below hd, Kr.tr hkr (Ks.of_below hd), (hd.block _ (heap_lt hz)).trans hz, (hd.block _ (heap_lt hb)).trans hb, nofun, nofun, nofun⟩⟩
  · obtain ⟨b0, b1, b2, b3, b4, b5, b6, b7, x10, x11, x12, x13, x14, x15, x16, rfl, rfl, hZ⟩ := hI
    have hall : ∀ b0 b1 b2 b3 b4 b5 b6 b7 : Bool, Region.ready .any ops87_3 #[b0, b1, b2, b3, b4, b5, b6, b7] = [] → b3 = true ∧ b5 = true ∧ b7 = true := by decide +kernel
    obtain ⟨rfl, rfl, rfl⟩ := hall _ _ _ _ _ _ _ _ hr
    exact hQ _ _ _ _ _ _ _ _ _ (hZ.i5 rfl).1 (hZ.i5 rfl).2 hZ.rd hZ.kr hZ.zb hZ.blk
  · decide
end Go.Proofs.YtghppkfopglgaaaGreatDoor
namespace Go.Proofs.YtghppkfopglgaaaGreatDoor
open Go.RowKit
set_option linter.unusedVariables false
set_option linter.unusedSimpArgs false
set_option maxRecDepth 100000 in
set_option maxHeartbeats 8000000 in
theorem rule_any (gr bw : Nat) (r : Rd) (w : World) (h : RdS gr bw r w) (hlen : r.l.length ≤ 1073741824) : Calls Tryz.prog 87 #[.pointer (some ⟨gr, 0, none⟩)] w fun e w' => ∃ v, e = .returned (.agg #[.string r.ru.1.of.a, .string r.ru.1.of.p, v]) ∧ R ETg w' v r.ru.1.push ∧ (∀ k, v.ownBlock = some k → w.heap.size ≤ k) ∧ RdS gr bw r.ru.2 w' ∧ Kr gr w w' := by
  have HT' := target_any gr bw
  simp only [tgA] at HT'
  have HT := hid HT'
  clear HT'
  have HO := hid (over_any gr bw)
  have HLN := hid hlen
  obtain ⟨g0, hg0⟩ : ∃ g0, w.heap.size = g0 := ⟨_, rfl⟩
  obtain ⟨W0, hW0⟩ : ∃ W0, w.alloc (.cells #[.string ⟨#[]⟩, .string ⟨#[]⟩, .slice none 0 0] 64) = W0 := ⟨_, rfl⟩
  have b0 : Below w.heap.size w W0 := by rw [← hW0]; exact bel1 _ _
  have q0 : W0.heap[g0]? = some (.cells #[.string ⟨#[]⟩, .string ⟨#[]⟩, .slice none 0 0] 64 (0, 0)) := by rw [← hW0, heap_al, if_pos hg0.symm]
  have hne : gr ≠ g0 := by have := h.lt; omega
  have hbw0 : bw < g0 := by have := h.lb; omega
  have hnb : bw ≠ g0 := by omega
  have h8 : 8 ≤ g0 := by have := h.lt; have := h.g8; omega
  have K0 := hid (And.intro (h.below b0) (And.intro (Ks.of_below (A := fun k => k = gr) b0) q0))
  have hl0 := heap_lt q0
  clear h b0 q0 hlen
  go_enter Tryz.func87, Tryz.ntmps87
  go_wp2_with fail
  try rw [hg0]
  try rw [hW0]
  go_at_call 108
  refine (HT.out _ _ K0.out.1).mono ?_
  rintro e W1 ⟨rfl, hS, hK⟩
  obtain ⟨g1, hg1⟩ : ∃ g1, W1.heap.size = g1 := ⟨_, rfl⟩
  have q1 := (hK.block g0 (heap_lt K0.out.2.2) (fun e => hne e.symm)).trans K0.out.2.2
  obtain ⟨⟨⟨ta, tp⟩, r1⟩, hr⟩ : ∃ q, r.tg = q := ⟨_, rfl⟩
  rw [hr] at hS ⊢
  have HRU : Hid (r.ru = (⟨⟨ta, tp⟩, (lpS tgR r1).1⟩, (lpS tgR r1).2)) := by
    show _ = _
    show ((⟨r.tg.1, (lpS tgR r.tg.2).1⟩ : Ru), (lpS tgR r.tg.2).2) = _
    rw [hr]
  have HL1 : Hid (r1.l.length ≤ 1073741824) := by
    have := tgx_le r
    rw [hr] at this
    exact hid (Nat.le_trans this HLN.out)
  obtain ⟨W2, hW2⟩ : ∃ W2, W1.alloc (.cells #[.string ta, .string tp, .slice none 0 0] 64) = W2 := ⟨_, rfl⟩
  have hB : Below W1.heap.size W1 W2 := by rw [← hW2]; exact bel1 _ _
  have hB1 : W2.heap[g1]? = some (.cells #[.string ta, .string tp, .slice none 0 0] 64 (0, 0)) := by rw [← hW2, heap_al, if_pos hg1.symm]
  have hg01 : g0 < g1 := by have := heap_lt q1; omega
  have hg1r : gr < g1 := by have := hS.lt; omega
  have HJ0 : Hid (LJ ETg tgR gr bw g0 g1 1073741824 64 #[.string ⟨#[]⟩, .string ⟨#[]⟩, .slice none 0 0] #[.string ta, .string tp] w r1 W2 r1 (.slice none 0 0) []) := hid ⟨rfl, hS.below hB, Kr.tr (Kr.tr K0.out.2.1 hK) (Ks.of_below hB), R.nil _ _, fun k hk => absurd hk (by simp [Value.ownBlock]), hB1, (hB.block _ (heap_lt q1)).trans q1, by simpa using HL1.out⟩
  have hA1 : (W1.alloc (.cells #[.string ⟨#[]⟩, .string ⟨#[]⟩, .slice none 0 0] 64)).heap[g1]? = some (.cells #[.string ⟨#[]⟩, .string ⟨#[]⟩, .slice none 0 0] 64 (0, 0)) := by rw [heap_al, if_pos hg1.symm]
  have f1 := frozen_blk hA1
  have hl2 := heap_lt hA1
  have HW2 := hid hW2
  clear hS hK q1 hB hB1 hA1 K0 hW2
  go_wp2_with fail
  try rw [hg1]
  rw [HW2.out]
  go_loopw [7] (fun cv wr => ∃ (rr : Rd) (v : Value) (acc : List Tg), Hid (LJ ETg tgR gr bw g0 g1 1073741824 64 #[.string ⟨#[]⟩, .string ⟨#[]⟩, .slice none 0 0] #[.string ta, .string tp] w r1 wr rr v acc)) (fun _ wr => rdLen gr wr)
  case atStart => exact ⟨r1, _, _, HJ0⟩
  case round =>
    obtain ⟨rr, v, acc, HJ⟩ := hrel
    clear HJ0
    have HM := hid (HJ.out.rd.len)
    go_wp2_with fail
    go_at_call 107
    refine (HO.out _ _ HJ.out.rd).mono ?_
    rintro e W3 ⟨rfl, e2⟩
    subst e2
    obtain ⟨vb, vc, e, _⟩ := HJ.out.row.slice
    obtain ⟨vn, hvn⟩ : ∃ vn, acc.length = vn := ⟨_, rfl⟩
    rw [hvn] at e
    clear hvn
    subst e
    have hb := HJ.out.blk
    simp only [List.push_toArray, List.cons_append, List.nil_append] at hb
    have c0 := cell_blk hb 0
    have c1 := cell_blk hb 1
    have c2 := cell_blk hb 2
    have f1 := frozen_blk hb
    have hz := HJ.out.zb
    have f0 := frozen_blk hz
    have d0 := cell_blk hz 0
    have d1 := cell_blk hz 1
    have d2 := cell_blk hz 2
    have l0 := heap_lt hz
    have l1 := heap_lt hb
    simp only [List.getElem?_toArray, List.getElem?_cons_zero, List.getElem?_cons_succ] at c0 c1 c2 d0 d1 d2
    cases hov : rr.ov with
    | true =>
      have HE : Hid (lpS tgR r1 = (acc, rr)) := hid (lp_end HJ.out.eq (by unfold tgR; rw [hov]; rfl))
      clear hb hz
      go_wp2_with fail
      (try simp only [Exit.inBlock, Exit.then])
      refine bodyPost_ret (results_cell_row (p := 2) (ty := 64) rfl _ _ g0 64 _ (0, 0) _ rfl (setCell_block _ _ _ _ _ _ _ (setCell_block _ _ _ _ _ _ _ (setCell_block _ _ _ _ _ _ _ HJ.out.zb))) Tryz.underlying64 rfl (by kernel_rfl)) rfl ?_
      have hk : Ks (fun k => k = g0) W3 (((W3.setCell ⟨g0, 0, none⟩ (.string ta)).setCell ⟨g0, 1, none⟩ (.string tp)).setCell ⟨g0, 2, none⟩ (.slice vb vn vc)) := by repeat (first | exact Ks.refl _ _ | refine Ks.then_set ?_)
      have hrd := rd_end HJ.out.rd HJ.out.kr hne hnb h8 (by omega) hk
      have hru := HRU.out
      rw [HE.out] at hru
      rw [hru]
      exact ⟨.slice vb vn vc, rfl, HJ.out.row.stays (fun k e hl => hk.block k hl (by have := HJ.out.own k e; omega)), fun k e => by have := HJ.out.own k e; omega, hrd.1, hrd.2⟩
    | false =>
      obtain ⟨⟨⟨xa, xp⟩, r2⟩, hx⟩ : ∃ q, rr.tg = q := ⟨_, rfl⟩
      have HE : Hid (tgR rr = some (⟨xa, xp⟩, r2)) := hid (by unfold tgR; rw [hov, hx]; rfl)
      have HLEN : Hid (acc.length ≤ 1073741824) := hid (by have := HJ.out.len; omega)
      have HSH : Hid (r2.l.length < rr.l.length) := hid (by
        exact tg_shr rr _ _ HE.out)
      go_wp2_with fail
      refine z8_region _ w gr bw g0 g1 ta tp _ (.slice vb vn vc) acc ⟨xa, xp⟩ rr r2 _ _ _ _ _ _ _ _ _ hg01 hg1r hne (by omega) (by omega) h8 hx HLEN.out _ _ _ _ _ _ _ _ HJ.out.row HJ.out.own HJ.out.rd HJ.out.kr HJ.out.zb hb (fun y0 y1 y2 y3 y4 y5 y6 v' V k1 k2 k3 k4 k5 k6 => ?_)
      have HJ2 : Hid (LJ ETg tgR gr bw g0 g1 1073741824 64 #[.string ⟨#[]⟩, .string ⟨#[]⟩, .slice none 0 0] #[.string ta, .string tp] w r1 V r2 v' (acc ++ [⟨xa, xp⟩])) := hid ⟨lp_go tg_shr HJ.out.eq HE.out, k3, k4, k1, k2, k6, k5, by have := HJ.out.len; have := HSH.out; simp; omega⟩
      go_wp2_with fail
      go_roundw
      case rel => exact ⟨r2, v', _, HJ2⟩
      case measure => rw [HM.out, k3.len]; exact HSH.out
end Go.Proofs.YtghppkfopglgaaaGreatDoor
namespace Go.Proofs.YtghppkfopglgaaaGreatDoor
open Go.RowKit
set_option linter.unusedVariables false
set_option linter.unusedSimpArgs false
def chA (x : Ch) : Array Value := #[.string x.v, .string x.b]
def ECh : El Ch := ⟨32, 59, 2, 32, fun x => (chA x).toList⟩
theorem okCh : ECh.Ok := ⟨Tryz.underlying32, by kernel_rfl, by decide, by decide, fun _ => rfl, fun a u hu => by
  simp [ECh, chA] at hu
  rcases hu with rfl | rfl <;> rfl⟩
def ops86 : Array Oper := #[{ dst := some 16, op := Op.fieldAddr 34 (Operand.tmp 3) 4, type := 0, pos := "read.go:155", after := #[], guard := none },
  { dst := some 17, op := Op.load 32 (Operand.tmp 16), type := 32, pos := "read.go:155", after := #[{ on := 0, ground := Ground.data }], guard := none },
  { dst := some 18, op := Op.move (Operand.tmp 0), type := 109, pos := "read.go:155", after := #[], guard := none },
  { dst := some 19, op := Op.call { callee := Callee.value (Operand.func 88), args := #[Operand.tmp 18], argTypes := #[109] }, type := 9, pos := "read.go:155", after := #[{ on := 2, ground := Ground.data }], guard := none },
  { dst := some 20, op := Op.move (Operand.tmp 0), type := 109, pos := "read.go:155", after := #[], guard := none },
  { dst := some 21, op := Op.call { callee := Callee.value (Operand.func 88), args := #[Operand.tmp 20], argTypes := #[109] }, type := 9, pos := "read.go:155", after := #[{ on := 4, ground := Ground.data }, { on := 3, ground := Ground.chain }], guard := none },
  { dst := some 22, op := Op.build 59 #[(0, Operand.tmp 19), (1, Operand.tmp 21)], type := 59, pos := "read.go:155", after := #[{ on := 3, ground := Ground.data }, { on := 5, ground := Ground.data }], guard := none },
  { dst := some 23, op := Op.buildSlice 32 1 #[(0, Operand.tmp 22)], type := 32, pos := "read.go:155", after := #[{ on := 6, ground := Ground.data }], guard := none },
  { dst := some 24, op := Op.call { callee := Callee.builtin Builtin.append, args := #[Operand.tmp 17, Operand.tmp 23], argTypes := #[32, 32] }, type := 32, pos := "read.go:155", after := #[{ on := 1, ground := Ground.data }, { on := 7, ground := Ground.data }, { on := 5, ground := Ground.chain }], guard := none },
  { dst := some 25, op := Op.fieldAddr 34 (Operand.tmp 3) 4, type := 0, pos := "read.go:155", after := #[{ on := 0, ground := Ground.phase }, { on := 1, ground := Ground.phase }, { on := 2, ground := Ground.phase }, { on := 3, ground := Ground.phase }, { on := 4, ground := Ground.phase }, { on := 5, ground := Ground.phase }, { on := 6, ground := Ground.phase }, { on := 7, ground := Ground.phase }, { on := 8, ground := Ground.phase }], guard := none },
  { dst := none, op := Op.store 32 (Operand.tmp 25) (Operand.tmp 24), type := 0, pos := "read.go:155", after := #[{ on := 9, ground := Ground.data }, { on := 8, ground := Ground.data }, { on := 8, ground := Ground.chain }, { on := 0, ground := Ground.phase }, { on := 1, ground := Ground.phase }, { on := 2, ground := Ground.phase }, { on := 3, ground := Ground.phase }, { on := 4, ground := Ground.phase }, { on := 5, ground := Ground.phase }, { on := 6, ground := Ground.phase }, { on := 7, ground := Ground.phase }, { on := 8, ground := Ground.phase }], guard := none }]
structure Z86 (w : World) (gr bw g0 g1 : Nat) (pa pp : ByteArray) (ps : Int) (pv : ByteArray) (z : Array Value) (v : Value) (acc : List Ch) (s1 s2 : ByteArray) (rr r2 r3 : Rd) (b0 b1 b2 b3 b4 b5 b6 b7 b8 b9 b10 : Bool) (x16 x17 x18 x19 x20 x21 x22 x23 x24 x25 : Value) (W : World) : Prop where
  i0 : b0 = true → x16 = .pointer (some ⟨g1, 4, none⟩)
  i1 : b1 = true → x17 = v
  m2 : b2 = true → x18 = .pointer (some ⟨gr, 0, none⟩)
  m4 : b4 = true → x20 = .pointer (some ⟨gr, 0, none⟩)
  v3 : b3 = true → x19 = .string s1
  v5 : b5 = true → x21 = .string s2
  ib : b6 = true → x22 = .agg #[.string s1, .string s2]
  «is» : b7 = true → b8 = false → ∃ B, x23 = .slice (some ⟨B, 0, none⟩) 1 1 ∧ W.heap[B]? = some (.cells #[.string s1, .string s2] 59 (0, 0))
  na : b8 = false → R ECh W v acc ∧ ∀ k, v.ownBlock = some k → g1 < k
  ia : b8 = true → R ECh W x24 (acc ++ [(⟨s1, s2⟩ : Ch)]) ∧ ∀ k, x24.ownBlock = some k → g1 < k
  fa : b9 = true → x25 = .pointer (some ⟨g1, 4, none⟩)
  rd : RdS gr bw (if b5 then r3 else (if b3 then r2 else rr)) W
  kr : Kr gr w W
  zb : W.heap[g0]? = some (.cells z 34 (0, 0))
  blk : W.heap[g1]? = some (.cells #[.string pa, .string pp, .int .i64 ps, .string pv, (if b10 then x24 else v)] 34 (0, 0))
  c10 : b10 = true → b1 = true ∧ b8 = true
  c8 : b8 = true → b1 = true ∧ b7 = true
  c7 : b7 = true → b6 = true
  c6 : b6 = true → b5 = true
  c5 : b5 = true → b3 = true
def I86 (w : World) (gr bw g0 g1 : Nat) (pa pp : ByteArray) (ps : Int) (pv : ByteArray) (z : Array Value) (v : Value) (acc : List Ch) (s1 s2 : ByteArray) (rr r2 r3 : Rd) (t1 t2 t4 t5 t6 t7 t8 t9 t10 t11 t12 t13 t14 t15 t26 : Value) (L : Array Bool) (a : Act) (W : World) : Prop :=
  ∃ b0 b1 b2 b3 b4 b5 b6 b7 b8 b9 b10 x16 x17 x18 x19 x20 x21 x22 x23 x24 x25, L = #[b0, b1, b2, b3, b4, b5, b6, b7, b8, b9, b10] ∧ a = { tmps := #[.pointer (some ⟨gr, 0, none⟩), t1, t2, .pointer (some ⟨g1, 0, none⟩), t4, t5, t6, t7, t8, t9, t10, t11, t12, t13, t14, t15, x16, x17, x18, x19, x20, x21, x22, x23, x24, x25, t26], defers := [] } ∧ Z86 w gr bw g0 g1 pa pp ps pv z v acc s1 s2 rr r2 r3 b0 b1 b2 b3 b4 b5 b6 b7 b8 b9 b10 x16 x17 x18 x19 x20 x21 x22 x23 x24 x25 W
set_option maxRecDepth 100000 in
theorem z86_0 (Q : Exit → Act → World → Prop) (w : World) (gr bw g0 g1 : Nat) (pa pp : ByteArray) (ps : Int) (pv : ByteArray) (z : Array Value) (v : Value) (acc : List Ch) (s1 s2 : ByteArray) (rr r2 r3 : Rd) (t1 t2 t4 t5 t6 t7 t8 t9 t10 t11 t12 t13 t14 t15 t26 : Value) (h01 : g0 < g1) (hr1 : gr < g1) (hr0 : gr ≠ g0) (hbw : bw < g0) (hw : w.heap.size ≤ g0) (h8 : 8 ≤ g0) (hx1 : rr.nx 1 = (s1, r2)) (hx2 : r2.nx 1 = (s2, r3)) (hlen : acc.length ≤ 1073741824) (b1 b2 b3 b4 b5 b6 b7 b8 b9 b10 : Bool) (x16 x17 x18 x19 x20 x21 x22 x23 x24 x25 : Value) (W : World) (hZ : Z86 w gr bw g0 g1 pa pp ps pv z v acc s1 s2 rr r2 r3 false b1 b2 b3 b4 b5 b6 b7 b8 b9 b10 x16 x17 x18 x19 x20 x21 x22 x23 x24 x25 W) :
    wpOp Tryz.prog ops86 Q 0 (I86 w gr bw g0 g1 pa pp ps pv z v acc s1 s2 rr r2 r3 t1 t2 t4 t5 t6 t7 t8 t9 t10 t11 t12 t13 t14 t15 t26 #[true, b1, b2, b3, b4, b5, b6, b7, b8, b9, b10]) { tmps := #[.pointer (some ⟨gr, 0, none⟩), t1, t2, .pointer (some ⟨g1, 0, none⟩), t4, t5, t6, t7, t8, t9, t10, t11, t12, t13, t14, t15, x16, x17, x18, x19, x20, x21, x22, x23, x24, x25, t26], defers := [] } W := by
  refine wpOpP_step (o := { dst := some 16, op := Op.fieldAddr 34 (Operand.tmp 3) 4, type := 0, pos := "read.go:155", after := #[], guard := none }) rfl ?_
  obtain ⟨K, hKd⟩ : ∃ K, I86 w gr bw g0 g1 pa pp ps pv z v acc s1 s2 rr r2 r3 t1 t2 t4 t5 t6 t7 t8 t9 t10 t11 t12 t13 t14 t15 t26 #[true, b1, b2, b3, b4, b5, b6, b7, b8, b9, b10] = K := ⟨_, rfl⟩
  have HK : Hid (∀ a V, I86 w gr bw g0 g1 pa pp ps pv z v acc s1 s2 rr r2 r3 t1 t2 t4 t5 t6 t7 t8 t9 t10 t11 t12 t13 t14 t15 t26 #[true, b1, b2, b3, b4, b5, b6, b7, b8, b9, b10] a V → K a V) := hid fun a V h => by rw [← hKd]; exact h
  rw [hKd]
  clear hKd
  have HZ := hid hZ
  clear hZ
  go_wp2_with fail
  obtain ⟨i0, i1, m2, m4, v3, v5, ib, «is», na, ia, fa, rd, kr, zb, blk, c10, c8, c7, c6, c5⟩ := HZ.out
  refine HK.out _ _ ⟨_, _, _, _, _, _, _, _, _, _, _, _, _, _, _, _, _, _, _, _, _, rfl, rfl, ⟨fun _ => rfl, i1, m2, m4, v3, v5, ib, «is», na, ia, fa, rd, kr, zb, blk, c10, c8, c7, c6, c5⟩⟩
set_option maxRecDepth 100000 in
theorem z86_1 (Q : Exit → Act → World → Prop) (w : World) (gr bw g0 g1 : Nat) (pa pp : ByteArray) (ps : Int) (pv : ByteArray) (z : Array Value) (v : Value) (acc : List Ch) (s1 s2 : ByteArray) (rr r2 r3 : Rd) (t1 t2 t4 t5 t6 t7 t8 t9 t10 t11 t12 t13 t14 t15 t26 : Value) (h01 : g0 < g1) (hr1 : gr < g1) (hr0 : gr ≠ g0) (hbw : bw < g0) (hw : w.heap.size ≤ g0) (h8 : 8 ≤ g0) (hx1 : rr.nx 1 = (s1, r2)) (hx2 : r2.nx 1 = (s2, r3)) (hlen : acc.length ≤ 1073741824) (b2 b3 b4 b5 b6 b7 b8 b9 b10 : Bool) (x16 x17 x18 x19 x20 x21 x22 x23 x24 x25 : Value) (W : World) (hZ : Z86 w gr bw g0 g1 pa pp ps pv z v acc s1 s2 rr r2 r3 true false b2 b3 b4 b5 b6 b7 b8 b9 b10 x16 x17 x18 x19 x20 x21 x22 x23 x24 x25 W) :
    wpOp Tryz.prog ops86 Q 1 (I86 w gr bw g0 g1 pa pp ps pv z v acc s1 s2 rr r2 r3 t1 t2 t4 t5 t6 t7 t8 t9 t10 t11 t12 t13 t14 t15 t26 #[true, true, b2, b3, b4, b5, b6, b7, b8, b9, b10]) { tmps := #[.pointer (some ⟨gr, 0, none⟩), t1, t2, .pointer (some ⟨g1, 0, none⟩), t4, t5, t6, t7, t8, t9, t10, t11, t12, t13, t14, t15, x16, x17, x18, x19, x20, x21, x22, x23, x24, x25, t26], defers := [] } W := by
  refine wpOpP_step (o := { dst := some 17, op := Op.load 32 (Operand.tmp 16), type := 32, pos := "read.go:155", after := #[{ on := 0, ground := Ground.data }], guard := none }) rfl ?_
  obtain ⟨K, hKd⟩ : ∃ K, I86 w gr bw g0 g1 pa pp ps pv z v acc s1 s2 rr r2 r3 t1 t2 t4 t5 t6 t7 t8 t9 t10 t11 t12 t13 t14 t15 t26 #[true, true, b2, b3, b4, b5, b6, b7, b8, b9, b10] = K := ⟨_, rfl⟩
  have HK : Hid (∀ a V, I86 w gr bw g0 g1 pa pp ps pv z v acc s1 s2 rr r2 r3 t1 t2 t4 t5 t6 t7 t8 t9 t10 t11 t12 t13 t14 t15 t26 #[true, true, b2, b3, b4, b5, b6, b7, b8, b9, b10] a V → K a V) := hid fun a V h => by rw [← hKd]; exact h
  rw [hKd]
  clear hKd
  have hx0 := hZ.i0 rfl
  subst hx0
  have hbt : b10 = false := by cases b10; rfl; exact absurd (hZ.c10 rfl).1 (by simp)
  subst hbt
  have c0 := cell_blk hZ.blk 4
  have f0 := frozen_blk hZ.blk
  have l0 := heap_lt hZ.blk
  simp only [List.getElem?_toArray, List.getElem?_cons_zero, List.getElem?_cons_succ, Bool.false_eq_true, if_false] at c0
  have HZ := hid hZ
  clear hZ
  go_wp2_with fail
  obtain ⟨i0, i1, m2, m4, v3, v5, ib, «is», na, ia, fa, rd, kr, zb, blk, c10, c8, c7, c6, c5⟩ := HZ.out
  refine HK.out _ _ ⟨_, _, _, _, _, _, _, _, _, _, _, _, _, _, _, _, _, _, _, _, _, rfl, rfl, ⟨i0, fun _ => rfl, m2, m4, v3, v5, ib, «is», na, ia, fa, rd, kr, zb, blk, fun h => absurd h (by simp), fun h => ⟨rfl, (c8 h).2⟩, c7, c6, c5⟩⟩
set_option maxRecDepth 100000 in
theorem z86_2 (Q : Exit → Act → World → Prop) (w : World) (gr bw g0 g1 : Nat) (pa pp : ByteArray) (ps : Int) (pv : ByteArray) (z : Array Value) (v : Value) (acc : List Ch) (s1 s2 : ByteArray) (rr r2 r3 : Rd) (t1 t2 t4 t5 t6 t7 t8 t9 t10 t11 t12 t13 t14 t15 t26 : Value) (h01 : g0 < g1) (hr1 : gr < g1) (hr0 : gr ≠ g0) (hbw : bw < g0) (hw : w.heap.size ≤ g0) (h8 : 8 ≤ g0) (hx1 : rr.nx 1 = (s1, r2)) (hx2 : r2.nx 1 = (s2, r3)) (hlen : acc.length ≤ 1073741824) (b0 b1 b3 b4 b5 b6 b7 b8 b9 b10 : Bool) (x16 x17 x18 x19 x20 x21 x22 x23 x24 x25 : Value) (W : World) (hZ : Z86 w gr bw g0 g1 pa pp ps pv z v acc s1 s2 rr r2 r3 b0 b1 false b3 b4 b5 b6 b7 b8 b9 b10 x16 x17 x18 x19 x20 x21 x22 x23 x24 x25 W) :
    wpOp Tryz.prog ops86 Q 2 (I86 w gr bw g0 g1 pa pp ps pv z v acc s1 s2 rr r2 r3 t1 t2 t4 t5 t6 t7 t8 t9 t10 t11 t12 t13 t14 t15 t26 #[b0, b1, true, b3, b4, b5, b6, b7, b8, b9, b10]) { tmps := #[.pointer (some ⟨gr, 0, none⟩), t1, t2, .pointer (some ⟨g1, 0, none⟩), t4, t5, t6, t7, t8, t9, t10, t11, t12, t13, t14, t15, x16, x17, x18, x19, x20, x21, x22, x23, x24, x25, t26], defers := [] } W := by
  refine wpOpP_step (o := { dst := some 18, op := Op.move (Operand.tmp 0), type := 109, pos := "read.go:155", after := #[], guard := none }) rfl ?_
  obtain ⟨K, hKd⟩ : ∃ K, I86 w gr bw g0 g1 pa pp ps pv z v acc s1 s2 rr r2 r3 t1 t2 t4 t5 t6 t7 t8 t9 t10 t11 t12 t13 t14 t15 t26 #[b0, b1, true, b3, b4, b5, b6, b7, b8, b9, b10] = K := ⟨_, rfl⟩
  have HK : Hid (∀ a V, I86 w gr bw g0 g1 pa pp ps pv z v acc s1 s2 rr r2 r3 t1 t2 t4 t5 t6 t7 t8 t9 t10 t11 t12 t13 t14 t15 t26 #[b0, b1, true, b3, b4, b5, b6, b7, b8, b9, b10] a V → K a V) := hid fun a V h => by rw [← hKd]; exact h
  rw [hKd]
  clear hKd
  have HZ := hid hZ
  clear hZ
  go_wp2_with fail
  obtain ⟨i0, i1, m2, m4, v3, v5, ib, «is», na, ia, fa, rd, kr, zb, blk, c10, c8, c7, c6, c5⟩ := HZ.out
  refine HK.out _ _ ⟨_, _, _, _, _, _, _, _, _, _, _, _, _, _, _, _, _, _, _, _, _, rfl, rfl, ⟨i0, i1, fun _ => rfl, m4, v3, v5, ib, «is», na, ia, fa, rd, kr, zb, blk, c10, c8, c7, c6, c5⟩⟩
set_option maxRecDepth 100000 in
theorem z86_3 (Q : Exit → Act → World → Prop) (w : World) (gr bw g0 g1 : Nat) (pa pp : ByteArray) (ps : Int) (pv : ByteArray) (z : Array Value) (v : Value) (acc : List Ch) (s1 s2 : ByteArray) (rr r2 r3 : Rd) (t1 t2 t4 t5 t6 t7 t8 t9 t10 t11 t12 t13 t14 t15 t26 : Value) (h01 : g0 < g1) (hr1 : gr < g1) (hr0 : gr ≠ g0) (hbw : bw < g0) (hw : w.heap.size ≤ g0) (h8 : 8 ≤ g0) (hx1 : rr.nx 1 = (s1, r2)) (hx2 : r2.nx 1 = (s2, r3)) (hlen : acc.length ≤ 1073741824) (b0 b1 b4 b5 b6 b7 b8 b9 b10 : Bool) (x16 x17 x18 x19 x20 x21 x22 x23 x24 x25 : Value) (W : World) (hZ : Z86 w gr bw g0 g1 pa pp ps pv z v acc s1 s2 rr r2 r3 b0 b1 true false b4 b5 b6 b7 b8 b9 b10 x16 x17 x18 x19 x20 x21 x22 x23 x24 x25 W) :
    wpOp Tryz.prog ops86 Q 3 (I86 w gr bw g0 g1 pa pp ps pv z v acc s1 s2 rr r2 r3 t1 t2 t4 t5 t6 t7 t8 t9 t10 t11 t12 t13 t14 t15 t26 #[b0, b1, true, true, b4, b5, b6, b7, b8, b9, b10]) { tmps := #[.pointer (some ⟨gr, 0, none⟩), t1, t2, .pointer (some ⟨g1, 0, none⟩), t4, t5, t6, t7, t8, t9, t10, t11, t12, t13, t14, t15, x16, x17, x18, x19, x20, x21, x22, x23, x24, x25, t26], defers := [] } W := by
  refine wpOpP_step (o := { dst := some 19, op := Op.call { callee := Callee.value (Operand.func 88), args := #[Operand.tmp 18], argTypes := #[109] }, type := 9, pos := "read.go:155", after := #[{ on := 2, ground := Ground.data }], guard := none }) rfl ?_
  obtain ⟨K, hKd⟩ : ∃ K, I86 w gr bw g0 g1 pa pp ps pv z v acc s1 s2 rr r2 r3 t1 t2 t4 t5 t6 t7 t8 t9 t10 t11 t12 t13 t14 t15 t26 #[b0, b1, true, true, b4, b5, b6, b7, b8, b9, b10] = K := ⟨_, rfl⟩
  have HK : Hid (∀ a V, I86 w gr bw g0 g1 pa pp ps pv z v acc s1 s2 rr r2 r3 t1 t2 t4 t5 t6 t7 t8 t9 t10 t11 t12 t13 t14 t15 t26 #[b0, b1, true, true, b4, b5, b6, b7, b8, b9, b10] a V → K a V) := hid fun a V h => by rw [← hKd]; exact h
  rw [hKd]
  clear hKd
  have hq5 : b5 = false := by cases b5; rfl; exact absurd (hZ.c5 rfl) (by simp)
  subst hq5
  have hxm := hZ.m2 rfl
  subst hxm
  have HT := hid (text_any gr bw rr  W hZ.rd)
  rw [hx1] at HT
  have HZ := hid hZ
  clear hZ
  go_wp2_with fail
  go_at_call 88
  refine HT.out.mono ?_
  rintro e V ⟨rfl, hS, hK⟩
  obtain ⟨i0, i1, m2, m4, v3, v5, ib, «is», na, ia, fa, rd, kr, zb, blk, c10, c8, c7, c6, c5⟩ := HZ.out
  have hg1 : gr ≠ g1 := by omega
  have hb6 : b6 = false := by cases b6; rfl; exact absurd (c6 rfl) (by simp)
  subst hb6
  have hb7 : b7 = false := by cases b7; rfl; exact absurd (c7 rfl) (by simp)
  subst hb7
  have hb8 : b8 = false := by cases b8; rfl; exact absurd ((c8 rfl).2) (by simp)
  subst hb8
  have hb10 : b10 = false := by cases b10; rfl; exact absurd ((c10 rfl).2) (by simp)
  subst hb10
  refine HK.out _ _ ⟨_, _, _, _, _, _, _, _, _, _, _, _, _, _, _, _, _, _, _, _, _, rfl, rfl, ⟨i0, i1, m2, m4, fun _ => rfl, v5, ib, fun h => absurd h (by simp), fun h => ⟨(na h).1.stays (fun k e hl => hK.block k hl (by have := (na h).2 k e; omega)), (na h).2⟩, fun h => absurd h (by simp), fa, hS, Kr.tr kr hK, (hK.block _ (heap_lt zb) (fun e => hr0 e.symm)).trans zb, (hK.block _ (heap_lt blk) (fun e => hg1 e.symm)).trans blk, c10, c8, c7, c6, fun h => absurd h (by simp)⟩⟩
set_option maxRecDepth 100000 in
theorem z86_4 (Q : Exit → Act → World → Prop) (w : World) (gr bw g0 g1 : Nat) (pa pp : ByteArray) (ps : Int) (pv : ByteArray) (z : Array Value) (v : Value) (acc : List Ch) (s1 s2 : ByteArray) (rr r2 r3 : Rd) (t1 t2 t4 t5 t6 t7 t8 t9 t10 t11 t12 t13 t14 t15 t26 : Value) (h01 : g0 < g1) (hr1 : gr < g1) (hr0 : gr ≠ g0) (hbw : bw < g0) (hw : w.heap.size ≤ g0) (h8 : 8 ≤ g0) (hx1 : rr.nx 1 = (s1, r2)) (hx2 : r2.nx 1 = (s2, r3)) (hlen : acc.length ≤ 1073741824) (b0 b1 b2 b3 b5 b6 b7 b8 b9 b10 : Bool) (x16 x17 x18 x19 x20 x21 x22 x23 x24 x25 : Value) (W : World) (hZ : Z86 w gr bw g0 g1 pa pp ps pv z v acc s1 s2 rr r2 r3 b0 b1 b2 b3 false b5 b6 b7 b8 b9 b10 x16 x17 x18 x19 x20 x21 x22 x23 x24 x25 W) :
    wpOp Tryz.prog ops86 Q 4 (I86 w gr bw g0 g1 pa pp ps pv z v acc s1 s2 rr r2 r3 t1 t2 t4 t5 t6 t7 t8 t9 t10 t11 t12 t13 t14 t15 t26 #[b0, b1, b2, b3, true, b5, b6, b7, b8, b9, b10]) { tmps := #[.pointer (some ⟨gr, 0, none⟩), t1, t2, .pointer (some ⟨g1, 0, none⟩), t4, t5, t6, t7, t8, t9, t10, t11, t12, t13, t14, t15, x16, x17, x18, x19, x20, x21, x22, x23, x24, x25, t26], defers := [] } W := by
  refine wpOpP_step (o := { dst := some 20, op := Op.move (Operand.tmp 0), type := 109, pos := "read.go:155", after := #[], guard := none }) rfl ?_
  obtain ⟨K, hKd⟩ : ∃ K, I86 w gr bw g0 g1 pa pp ps pv z v acc s1 s2 rr r2 r3 t1 t2 t4 t5 t6 t7 t8 t9 t10 t11 t12 t13 t14 t15 t26 #[b0, b1, b2, b3, true, b5, b6, b7, b8, b9, b10] = K := ⟨_, rfl⟩
  have HK : Hid (∀ a V, I86 w gr bw g0 g1 pa pp ps pv z v acc s1 s2 rr r2 r3 t1 t2 t4 t5 t6 t7 t8 t9 t10 t11 t12 t13 t14 t15 t26 #[b0, b1, b2, b3, true, b5, b6, b7, b8, b9, b10] a V → K a V) := hid fun a V h => by rw [← hKd]; exact h
  rw [hKd]
  clear hKd
  have HZ := hid hZ
  clear hZ
  go_wp2_with fail
  obtain ⟨i0, i1, m2, m4, v3, v5, ib, «is», na, ia, fa, rd, kr, zb, blk, c10, c8, c7, c6, c5⟩ := HZ.out
  refine HK.out _ _ ⟨_, _, _, _, _, _, _, _, _, _, _, _, _, _, _, _, _, _, _, _, _, rfl, rfl, ⟨i0, i1, m2, fun _ => rfl, v3, v5, ib, «is», na, ia, fa, rd, kr, zb, blk, c10, c8, c7, c6, c5⟩⟩
set_option maxRecDepth 100000 in
theorem z86_5 (Q : Exit → Act → World → Prop) (w : World) (gr bw g0 g1 : Nat) (pa pp : ByteArray) (ps : Int) (pv : ByteArray) (z : Array Value) (v : Value) (acc : List Ch) (s1 s2 : ByteArray) (rr r2 r3 : Rd) (t1 t2 t4 t5 t6 t7 t8 t9 t10 t11 t12 t13 t14 t15 t26 : Value) (h01 : g0 < g1) (hr1 : gr < g1) (hr0 : gr ≠ g0) (hbw : bw < g0) (hw : w.heap.size ≤ g0) (h8 : 8 ≤ g0) (hx1 : rr.nx 1 = (s1, r2)) (hx2 : r2.nx 1 = (s2, r3)) (hlen : acc.length ≤ 1073741824) (b0 b1 b2 b6 b7 b8 b9 b10 : Bool) (x16 x17 x18 x19 x20 x21 x22 x23 x24 x25 : Value) (W : World) (hZ : Z86 w gr bw g0 g1 pa pp ps pv z v acc s1 s2 rr r2 r3 b0 b1 b2 true true false b6 b7 b8 b9 b10 x16 x17 x18 x19 x20 x21 x22 x23 x24 x25 W) :
    wpOp Tryz.prog ops86 Q 5 (I86 w gr bw g0 g1 pa pp ps pv z v acc s1 s2 rr r2 r3 t1 t2 t4 t5 t6 t7 t8 t9 t10 t11 t12 t13 t14 t15 t26 #[b0, b1, b2, true, true, true, b6, b7, b8, b9, b10]) { tmps := #[.pointer (some ⟨gr, 0, none⟩), t1, t2, .pointer (some ⟨g1, 0, none⟩), t4, t5, t6, t7, t8, t9, t10, t11, t12, t13, t14, t15, x16, x17, x18, x19, x20, x21, x22, x23, x24, x25, t26], defers := [] } W := by
  refine wpOpP_step (o := { dst := some 21, op := Op.call { callee := Callee.value (Operand.func 88), args := #[Operand.tmp 20], argTypes := #[109] }, type := 9, pos := "read.go:155", after := #[{ on := 4, ground := Ground.data }, { on := 3, ground := Ground.chain }], guard := none }) rfl ?_
  obtain ⟨K, hKd⟩ : ∃ K, I86 w gr bw g0 g1 pa pp ps pv z v acc s1 s2 rr r2 r3 t1 t2 t4 t5 t6 t7 t8 t9 t10 t11 t12 t13 t14 t15 t26 #[b0, b1, b2, true, true, true, b6, b7, b8, b9, b10] = K := ⟨_, rfl⟩
  have HK : Hid (∀ a V, I86 w gr bw g0 g1 pa pp ps pv z v acc s1 s2 rr r2 r3 t1 t2 t4 t5 t6 t7 t8 t9 t10 t11 t12 t13 t14 t15 t26 #[b0, b1, b2, true, true, true, b6, b7, b8, b9, b10] a V → K a V) := hid fun a V h => by rw [← hKd]; exact h
  rw [hKd]
  clear hKd
  have hxm := hZ.m4 rfl
  subst hxm
  have HT := hid (text_any gr bw r2  W hZ.rd)
  rw [hx2] at HT
  have HZ := hid hZ
  clear hZ
  go_wp2_with fail
  go_at_call 88
  refine HT.out.mono ?_
  rintro e V ⟨rfl, hS, hK⟩
  obtain ⟨i0, i1, m2, m4, v3, v5, ib, «is», na, ia, fa, rd, kr, zb, blk, c10, c8, c7, c6, c5⟩ := HZ.out
  have hg1 : gr ≠ g1 := by omega
  have hb6 : b6 = false := by cases b6; rfl; exact absurd (c6 rfl) (by simp)
  subst hb6
  have hb7 : b7 = false := by cases b7; rfl; exact absurd (c7 rfl) (by simp)
  subst hb7
  have hb8 : b8 = false := by cases b8; rfl; exact absurd ((c8 rfl).2) (by simp)
  subst hb8
  have hb10 : b10 = false := by cases b10; rfl; exact absurd ((c10 rfl).2) (by simp)
  subst hb10
  refine HK.out _ _ ⟨_, _, _, _, _, _, _, _, _, _, _, _, _, _, _, _, _, _, _, _, _, rfl, rfl, ⟨i0, i1, m2, m4, v3, fun _ => rfl, ib, fun h => absurd h (by simp), fun h => ⟨(na h).1.stays (fun k e hl => hK.block k hl (by have := (na h).2 k e; omega)), (na h).2⟩, fun h => absurd h (by simp), fa, hS, Kr.tr kr hK, (hK.block _ (heap_lt zb) (fun e => hr0 e.symm)).trans zb, (hK.block _ (heap_lt blk) (fun e => hg1 e.symm)).trans blk, c10, c8, c7, fun h => absurd h (by simp), fun _ => rfl⟩⟩
set_option maxRecDepth 100000 in
theorem z86_6 (Q : Exit → Act → World → Prop) (w : World) (gr bw g0 g1 : Nat) (pa pp : ByteArray) (ps : Int) (pv : ByteArray) (z : Array Value) (v : Value) (acc : List Ch) (s1 s2 : ByteArray) (rr r2 r3 : Rd) (t1 t2 t4 t5 t6 t7 t8 t9 t10 t11 t12 t13 t14 t15 t26 : Value) (h01 : g0 < g1) (hr1 : gr < g1) (hr0 : gr ≠ g0) (hbw : bw < g0) (hw : w.heap.size ≤ g0) (h8 : 8 ≤ g0) (hx1 : rr.nx 1 = (s1, r2)) (hx2 : r2.nx 1 = (s2, r3)) (hlen : acc.length ≤ 1073741824) (b0 b1 b2 b4 b7 b8 b9 b10 : Bool) (x16 x17 x18 x19 x20 x21 x22 x23 x24 x25 : Value) (W : World) (hZ : Z86 w gr bw g0 g1 pa pp ps pv z v acc s1 s2 rr r2 r3 b0 b1 b2 true b4 true false b7 b8 b9 b10 x16 x17 x18 x19 x20 x21 x22 x23 x24 x25 W) :
    wpOp Tryz.prog ops86 Q 6 (I86 w gr bw g0 g1 pa pp ps pv z v acc s1 s2 rr r2 r3 t1 t2 t4 t5 t6 t7 t8 t9 t10 t11 t12 t13 t14 t15 t26 #[b0, b1, b2, true, b4, true, true, b7, b8, b9, b10]) { tmps := #[.pointer (some ⟨gr, 0, none⟩), t1, t2, .pointer (some ⟨g1, 0, none⟩), t4, t5, t6, t7, t8, t9, t10, t11, t12, t13, t14, t15, x16, x17, x18, x19, x20, x21, x22, x23, x24, x25, t26], defers := [] } W := by
  refine wpOpP_step (o := { dst := some 22, op := Op.build 59 #[(0, Operand.tmp 19), (1, Operand.tmp 21)], type := 59, pos := "read.go:155", after := #[{ on := 3, ground := Ground.data }, { on := 5, ground := Ground.data }], guard := none }) rfl ?_
  obtain ⟨K, hKd⟩ : ∃ K, I86 w gr bw g0 g1 pa pp ps pv z v acc s1 s2 rr r2 r3 t1 t2 t4 t5 t6 t7 t8 t9 t10 t11 t12 t13 t14 t15 t26 #[b0, b1, b2, true, b4, true, true, b7, b8, b9, b10] = K := ⟨_, rfl⟩
  have HK : Hid (∀ a V, I86 w gr bw g0 g1 pa pp ps pv z v acc s1 s2 rr r2 r3 t1 t2 t4 t5 t6 t7 t8 t9 t10 t11 t12 t13 t14 t15 t26 #[b0, b1, b2, true, b4, true, true, b7, b8, b9, b10] a V → K a V) := hid fun a V h => by rw [← hKd]; exact h
  rw [hKd]
  clear hKd
  have hxv3 := hZ.v3 rfl
  subst hxv3
  have hxv5 := hZ.v5 rfl
  subst hxv5
  have HZ := hid hZ
  clear hZ
  go_wp2_with fail
  obtain ⟨i0, i1, m2, m4, v3, v5, ib, «is», na, ia, fa, rd, kr, zb, blk, c10, c8, c7, c6, c5⟩ := HZ.out
  refine HK.out _ _ ⟨_, _, _, _, _, _, _, _, _, _, _, _, _, _, _, _, _, _, _, _, _, rfl, rfl, ⟨i0, i1, m2, m4, v3, v5, fun _ => rfl, «is», na, ia, fa, rd, kr, zb, blk, c10, c8, fun _ => rfl, fun _ => rfl, c5⟩⟩
set_option maxRecDepth 100000 in
theorem z86_7 (Q : Exit → Act → World → Prop) (w : World) (gr bw g0 g1 : Nat) (pa pp : ByteArray) (ps : Int) (pv : ByteArray) (z : Array Value) (v : Value) (acc : List Ch) (s1 s2 : ByteArray) (rr r2 r3 : Rd) (t1 t2 t4 t5 t6 t7 t8 t9 t10 t11 t12 t13 t14 t15 t26 : Value) (h01 : g0 < g1) (hr1 : gr < g1) (hr0 : gr ≠ g0) (hbw : bw < g0) (hw : w.heap.size ≤ g0) (h8 : 8 ≤ g0) (hx1 : rr.nx 1 = (s1, r2)) (hx2 : r2.nx 1 = (s2, r3)) (hlen : acc.length ≤ 1073741824) (b0 b1 b2 b3 b4 b5 b8 b9 b10 : Bool) (x16 x17 x18 x19 x20 x21 x22 x23 x24 x25 : Value) (W : World) (hZ : Z86 w gr bw g0 g1 pa pp ps pv z v acc s1 s2 rr r2 r3 b0 b1 b2 b3 b4 b5 true false b8 b9 b10 x16 x17 x18 x19 x20 x21 x22 x23 x24 x25 W) :
    wpOp Tryz.prog ops86 Q 7 (I86 w gr bw g0 g1 pa pp ps pv z v acc s1 s2 rr r2 r3 t1 t2 t4 t5 t6 t7 t8 t9 t10 t11 t12 t13 t14 t15 t26 #[b0, b1, b2, b3, b4, b5, true, true, b8, b9, b10]) { tmps := #[.pointer (some ⟨gr, 0, none⟩), t1, t2, .pointer (some ⟨g1, 0, none⟩), t4, t5, t6, t7, t8, t9, t10, t11, t12, t13, t14, t15, x16, x17, x18, x19, x20, x21, x22, x23, x24, x25, t26], defers := [] } W := by
  refine wpOpP_step (o := { dst := some 23, op := Op.buildSlice 32 1 #[(0, Operand.tmp 22)], type := 32, pos := "read.go:155", after := #[{ on := 6, ground := Ground.data }], guard := none }) rfl ?_
  obtain ⟨K, hKd⟩ : ∃ K, I86 w gr bw g0 g1 pa pp ps pv z v acc s1 s2 rr r2 r3 t1 t2 t4 t5 t6 t7 t8 t9 t10 t11 t12 t13 t14 t15 t26 #[b0, b1, b2, b3, b4, b5, true, true, b8, b9, b10] = K := ⟨_, rfl⟩
  have HK : Hid (∀ a V, I86 w gr bw g0 g1 pa pp ps pv z v acc s1 s2 rr r2 r3 t1 t2 t4 t5 t6 t7 t8 t9 t10 t11 t12 t13 t14 t15 t26 #[b0, b1, b2, b3, b4, b5, true, true, b8, b9, b10] a V → K a V) := hid fun a V h => by rw [← hKd]; exact h
  rw [hKd]
  clear hKd
  have hxs := hZ.ib rfl
  subst hxs
  have HZ := hid hZ
  clear hZ
  go_wp2_with fail
  obtain ⟨i0, i1, m2, m4, v3, v5, ib, «is», na, ia, fa, rd, kr, zb, blk, c10, c8, c7, c6, c5⟩ := HZ.out
  have hb : Below W.heap.size W (W.alloc (.cells #[.string s1, .string s2] 59)) := bel1 _ _
  have hb8 : b8 = false := by cases b8; rfl; exact absurd ((c8 rfl).2) (by simp)
  subst hb8
  have hb10 : b10 = false := by cases b10; rfl; exact absurd ((c10 rfl).2) (by simp)
  subst hb10
  refine HK.out _ _ ⟨_, _, _, _, _, _, _, _, _, _, _, _, _, _, _, _, _, _, _, _, _, rfl, rfl, ⟨i0, i1, m2, m4, v3, v5, ib, fun _ _ => ⟨_, rfl, by rw [heap_al, if_pos rfl]⟩, fun h => ⟨(na h).1.below hb, (na h).2⟩, fun h => absurd h (by simp), fa, rd.below hb, Kr.tr kr (Ks.of_below hb), (hb.block _ (heap_lt zb)).trans zb, (hb.block _ (heap_lt blk)).trans blk, c10, fun h => absurd h (by simp), fun _ => rfl, c6, c5⟩⟩
set_option maxRecDepth 100000 in
theorem z86_8 (Q : Exit → Act → World → Prop) (w : World) (gr bw g0 g1 : Nat) (pa pp : ByteArray) (ps : Int) (pv : ByteArray) (z : Array Value) (v : Value) (acc : List Ch) (s1 s2 : ByteArray) (rr r2 r3 : Rd) (t1 t2 t4 t5 t6 t7 t8 t9 t10 t11 t12 t13 t14 t15 t26 : Value) (h01 : g0 < g1) (hr1 : gr < g1) (hr0 : gr ≠ g0) (hbw : bw < g0) (hw : w.heap.size ≤ g0) (h8 : 8 ≤ g0) (hx1 : rr.nx 1 = (s1, r2)) (hx2 : r2.nx 1 = (s2, r3)) (hlen : acc.length ≤ 1073741824) (b0 b2 b3 b4 b5 b6 b9 b10 : Bool) (x16 x17 x18 x19 x20 x21 x22 x23 x24 x25 : Value) (W : World) (hZ : Z86 w gr bw g0 g1 pa pp ps pv z v acc s1 s2 rr r2 r3 b0 true b2 b3 b4 b5 b6 true false b9 b10 x16 x17 x18 x19 x20 x21 x22 x23 x24 x25 W) :
    wpOp Tryz.prog ops86 Q 8 (I86 w gr bw g0 g1 pa pp ps pv z v acc s1 s2 rr r2 r3 t1 t2 t4 t5 t6 t7 t8 t9 t10 t11 t12 t13 t14 t15 t26 #[b0, true, b2, b3, b4, b5, b6, true, true, b9, b10]) { tmps := #[.pointer (some ⟨gr, 0, none⟩), t1, t2, .pointer (some ⟨g1, 0, none⟩), t4, t5, t6, t7, t8, t9, t10, t11, t12, t13, t14, t15, x16, x17, x18, x19, x20, x21, x22, x23, x24, x25, t26], defers := [] } W := by
  refine wpOpP_step (o := { dst := some 24, op := Op.call { callee := Callee.builtin Builtin.append, args := #[Operand.tmp 17, Operand.tmp 23], argTypes := #[32, 32] }, type := 32, pos := "read.go:155", after := #[{ on := 1, ground := Ground.data }, { on := 7, ground := Ground.data }, { on := 5, ground := Ground.chain }], guard := none }) rfl ?_
  obtain ⟨K, hKd⟩ : ∃ K, I86 w gr bw g0 g1 pa pp ps pv z v acc s1 s2 rr r2 r3 t1 t2 t4 t5 t6 t7 t8 t9 t10 t11 t12 t13 t14 t15 t26 #[b0, true, b2, b3, b4, b5, b6, true, true, b9, b10] = K := ⟨_, rfl⟩
  have HK : Hid (∀ a V, I86 w gr bw g0 g1 pa pp ps pv z v acc s1 s2 rr r2 r3 t1 t2 t4 t5 t6 t7 t8 t9 t10 t11 t12 t13 t14 t15 t26 #[b0, true, b2, b3, b4, b5, b6, true, true, b9, b10] a V → K a V) := hid fun a V h => by rw [← hKd]; exact h
  rw [hKd]
  clear hKd
  obtain ⟨i0, i1, m2, m4, v3, v5, ib, «is», na, ia, fa, rd, kr, zb, blk, c10, c8, c7, c6, c5⟩ := hZ
  have hq6 := c7 rfl
  subst hq6
  have hq5 := c6 rfl
  subst hq5
  have hq3 := c5 rfl
  subst hq3
  have hbt : b10 = false := by cases b10; rfl; exact absurd ((c10 rfl).2) (by simp)
  subst hbt
  have hx1 := i1 rfl
  subst hx1
  obtain ⟨nR, nO⟩ := na rfl
  obtain ⟨B, rfl, hB⟩ := «is» rfl rfl
  obtain ⟨base, cap, W', hrun, hR, hG⟩ := app okCh W x17 acc nR _ [(⟨s1, s2⟩ : Ch)] (in_one (E := ECh) W B (⟨s1, s2⟩ : Ch) #[.string s1, .string s2] 59 (0, 0) hB rfl) (by rw [show ECh.by' = 32 from rfl]; simp only [List.length_cons, List.length_nil]; omega)
  refine step_append_run rfl (.tmp 17) (.tmp 23) 32 32 rfl hrun rfl rfl ?_
  have hms : g1 < W.heap.size := heap_lt blk
  have hk := Ks.of_gr hG
  have hkr : Kr gr w W' := kr.trans hk (fun _ _ h => h) (fun i hi e => by have := nO i e; omega)
  refine HK.out _ _ ⟨_, _, _, _, _, _, _, _, _, _, _, _, _, _, _, _, _, _, _, _, _, rfl, rfl, ⟨i0, i1, m2, m4, v3, v5, ib, fun _ h => absurd h (by simp), fun h => absurd h (by simp), fun _ => ⟨hR, fun k hk => (hG.own k hk).elim (nO k) fun e => Nat.lt_of_lt_of_le hms e⟩, fa, rd.offs (fun k e => by have := nO k e; omega) hk, hkr, (hk.block _ (heap_lt zb) (fun e => by have := nO _ e; omega)).trans zb, (hk.block _ (heap_lt blk) (fun e => by have := nO _ e; omega)).trans blk, fun h => absurd h (by simp), fun _ => ⟨rfl, rfl⟩, c7, c6, c5⟩⟩
set_option maxRecDepth 100000 in
theorem z86_9 (Q : Exit → Act → World → Prop) (w : World) (gr bw g0 g1 : Nat) (pa pp : ByteArray) (ps : Int) (pv : ByteArray) (z : Array Value) (v : Value) (acc : List Ch) (s1 s2 : ByteArray) (rr r2 r3 : Rd) (t1 t2 t4 t5 t6 t7 t8 t9 t10 t11 t12 t13 t14 t15 t26 : Value) (h01 : g0 < g1) (hr1 : gr < g1) (hr0 : gr ≠ g0) (hbw : bw < g0) (hw : w.heap.size ≤ g0) (h8 : 8 ≤ g0) (hx1 : rr.nx 1 = (s1, r2)) (hx2 : r2.nx 1 = (s2, r3)) (hlen : acc.length ≤ 1073741824) (b10 : Bool) (x16 x17 x18 x19 x20 x21 x22 x23 x24 x25 : Value) (W : World) (hZ : Z86 w gr bw g0 g1 pa pp ps pv z v acc s1 s2 rr r2 r3 true true true true true true true true true false b10 x16 x17 x18 x19 x20 x21 x22 x23 x24 x25 W) :
    wpOp Tryz.prog ops86 Q 9 (I86 w gr bw g0 g1 pa pp ps pv z v acc s1 s2 rr r2 r3 t1 t2 t4 t5 t6 t7 t8 t9 t10 t11 t12 t13 t14 t15 t26 #[true, true, true, true, true, true, true, true, true, true, b10]) { tmps := #[.pointer (some ⟨gr, 0, none⟩), t1, t2, .pointer (some ⟨g1, 0, none⟩), t4, t5, t6, t7, t8, t9, t10, t11, t12, t13, t14, t15, x16, x17, x18, x19, x20, x21, x22, x23, x24, x25, t26], defers := [] } W := by
  refine wpOpP_step (o := { dst := some 25, op := Op.fieldAddr 34 (Operand.tmp 3) 4, type := 0, pos := "read.go:155", after := #[{ on := 0, ground := Ground.phase }, { on := 1, ground := Ground.phase }, { on := 2, ground := Ground.phase }, { on := 3, ground := Ground.phase }, { on := 4, ground := Ground.phase }, { on := 5, ground := Ground.phase }, { on := 6, ground := Ground.phase }, { on := 7, ground := Ground.phase }, { on := 8, ground := Ground.phase }], guard := none }) rfl ?_
  obtain ⟨K, hKd⟩ : ∃ K, I86 w gr bw g0 g1 pa pp ps pv z v acc s1 s2 rr r2 r3 t1 t2 t4 t5 t6 t7 t8 t9 t10 t11 t12 t13 t14 t15 t26 #[true, true, true, true, true, true, true, true, true, true, b10] = K := ⟨_, rfl⟩
  have HK : Hid (∀ a V, I86 w gr bw g0 g1 pa pp ps pv z v acc s1 s2 rr r2 r3 t1 t2 t4 t5 t6 t7 t8 t9 t10 t11 t12 t13 t14 t15 t26 #[true, true, true, true, true, true, true, true, true, true, b10] a V → K a V) := hid fun a V h => by rw [← hKd]; exact h
  rw [hKd]
  clear hKd
  have HZ := hid hZ
  clear hZ
  go_wp2_with fail
  obtain ⟨i0, i1, m2, m4, v3, v5, ib, «is», na, ia, fa, rd, kr, zb, blk, c10, c8, c7, c6, c5⟩ := HZ.out
  refine HK.out _ _ ⟨_, _, _, _, _, _, _, _, _, _, _, _, _, _, _, _, _, _, _, _, _, rfl, rfl, ⟨i0, i1, m2, m4, v3, v5, ib, «is», na, ia, fun _ => rfl, rd, kr, zb, blk, c10, c8, c7, c6, c5⟩⟩
set_option maxRecDepth 100000 in
theorem z86_10 (Q : Exit → Act → World → Prop) (w : World) (gr bw g0 g1 : Nat) (pa pp : ByteArray) (ps : Int) (pv : ByteArray) (z : Array Value) (v : Value) (acc : List Ch) (s1 s2 : ByteArray) (rr r2 r3 : Rd) (t1 t2 t4 t5 t6 t7 t8 t9 t10 t11 t12 t13 t14 t15 t26 : Value) (h01 : g0 < g1) (hr1 : gr < g1) (hr0 : gr ≠ g0) (hbw : bw < g0) (hw : w.heap.size ≤ g0) (h8 : 8 ≤ g0) (hx1 : rr.nx 1 = (s1, r2)) (hx2 : r2.nx 1 = (s2, r3)) (hlen : acc.length ≤ 1073741824) (x16 x17 x18 x19 x20 x21 x22 x23 x24 x25 : Value) (W : World) (hZ : Z86 w gr bw g0 g1 pa pp ps pv z v acc s1 s2 rr r2 r3 true true true true true true true true true true false x16 x17 x18 x19 x20 x21 x22 x23 x24 x25 W) :
    wpOp Tryz.prog ops86 Q 10 (I86 w gr bw g0 g1 pa pp ps pv z v acc s1 s2 rr r2 r3 t1 t2 t4 t5 t6 t7 t8 t9 t10 t11 t12 t13 t14 t15 t26 #[true, true, true, true, true, true, true, true, true, true, true]) { tmps := #[.pointer (some ⟨gr, 0, none⟩), t1, t2, .pointer (some ⟨g1, 0, none⟩), t4, t5, t6, t7, t8, t9, t10, t11, t12, t13, t14, t15, x16, x17, x18, x19, x20, x21, x22, x23, x24, x25, t26], defers := [] } W := by
  refine wpOpP_step (o := { dst := none, op := Op.store 32 (Operand.tmp 25) (Operand.tmp 24), type := 0, pos := "read.go:155", after := #[{ on := 9, ground := Ground.data }, { on := 8, ground := Ground.data }, { on := 8, ground := Ground.chain }, { on := 0, ground := Ground.phase }, { on := 1, ground := Ground.phase }, { on := 2, ground := Ground.phase }, { on := 3, ground := Ground.phase }, { on := 4, ground := Ground.phase }, { on := 5, ground := Ground.phase }, { on := 6, ground := Ground.phase }, { on := 7, ground := Ground.phase }, { on := 8, ground := Ground.phase }], guard := none }) rfl ?_
  obtain ⟨K, hKd⟩ : ∃ K, I86 w gr bw g0 g1 pa pp ps pv z v acc s1 s2 rr r2 r3 t1 t2 t4 t5 t6 t7 t8 t9 t10 t11 t12 t13 t14 t15 t26 #[true, true, true, true, true, true, true, true, true, true, true] = K := ⟨_, rfl⟩
  have HK : Hid (∀ a V, I86 w gr bw g0 g1 pa pp ps pv z v acc s1 s2 rr r2 r3 t1 t2 t4 t5 t6 t7 t8 t9 t10 t11 t12 t13 t14 t15 t26 #[true, true, true, true, true, true, true, true, true, true, true] a V → K a V) := hid fun a V h => by rw [← hKd]; exact h
  rw [hKd]
  clear hKd
  have hx6 := hZ.fa rfl
  subst hx6
  obtain ⟨ba, ca, e, _⟩ := (hZ.ia rfl).1.slice
  obtain ⟨nn, hn⟩ : ∃ nn, (acc ++ [(⟨s1, s2⟩ : Ch)]).length = nn := ⟨_, rfl⟩
  rw [hn] at e
  clear hn
  subst e
  have c0 := cell_blk hZ.blk 4
  have f0 := frozen_blk hZ.blk
  have l0 := heap_lt hZ.blk
  simp only [List.getElem?_toArray, List.getElem?_cons_zero, List.getElem?_cons_succ, Bool.false_eq_true, if_false] at c0
  have HZ := hid hZ
  clear hZ
  go_wp2_with fail
  obtain ⟨i0, i1, m2, m4, v3, v5, ib, «is», na, ia, fa, rd, kr, zb, blk, c10, c8, c7, c6, c5⟩ := HZ.out
  have hk := Ks.setCell (fun k => k = g1) W g1 4 (.slice ba nn ca) rfl
  have hms : g0 < W.heap.size := heap_lt zb
  refine HK.out _ _ ⟨_, _, _, _, _, _, _, _, _, _, _, _, _, _, _, _, _, _, _, _, _, rfl, rfl, ⟨i0, i1, m2, m4, v3, v5, ib, fun _ h => absurd h (by simp), fun h => absurd h (by simp), fun _ => ⟨(ia rfl).1.stays (fun k e hl => hk.block k hl (by have := (ia rfl).2 k e; omega)), (ia rfl).2⟩, fa, rd.offs (fun k e => by omega) hk, kr.trans hk (fun _ _ h => h) (fun i hi e => by omega), (hk.block _ (heap_lt zb) (by omega)).trans zb, by rw [setCell_block _ _ _ _ _ _ _ blk]; rfl, fun _ => ⟨rfl, rfl⟩, c8, c7, c6, c5⟩⟩
end Go.Proofs.YtghppkfopglgaaaGreatDoor
namespace Go.Proofs.YtghppkfopglgaaaGreatDoor
open Go.RowKit
set_option linter.unusedVariables false
set_option linter.unusedSimpArgs false
theorem z86_step (Q : Exit → Act → World → Prop) (w : World) (gr bw g0 g1 : Nat) (pa pp : ByteArray) (ps : Int) (pv : ByteArray) (z : Array Value) (v : Value) (acc : List Ch) (s1 s2 : ByteArray) (rr r2 r3 : Rd) (t1 t2 t4 t5 t6 t7 t8 t9 t10 t11 t12 t13 t14 t15 t26 : Value) (h01 : g0 < g1) (hr1 : gr < g1) (hr0 : gr ≠ g0) (hbw : bw < g0) (hw : w.heap.size ≤ g0) (h8 : 8 ≤ g0) (hx1 : rr.nx 1 = (s1, r2)) (hx2 : r2.nx 1 = (s2, r3)) (hlen : acc.length ≤ 1073741824) : ∀ L a W, I86 w gr bw g0 g1 pa pp ps pv z v acc s1 s2 rr r2 r3 t1 t2 t4 t5 t6 t7 t8 t9 t10 t11 t12 t13 t14 t15 t26 L a W → ∀ i, i ∈ Region.ready .any ops86 L → wpOp Tryz.prog ops86 Q i (I86 w gr bw g0 g1 pa pp ps pv z v acc s1 s2 rr r2 r3 t1 t2 t4 t5 t6 t7 t8 t9 t10 t11 t12 t13 t14 t15 t26 (L.setIfInBounds i true)) a W := by
  rintro L a W ⟨b0, b1, b2, b3, b4, b5, b6, b7, b8, b9, b10, x16, x17, x18, x19, x20, x21, x22, x23, x24, x25, rfl, rfl, hZ⟩ i h
  obtain ⟨h1, o, ho, hp⟩ := mem_ready.1 h
  have hi : i < 11 := by
    refine Decidable.byContradiction fun hn => ?_
    simp only [Array.getD, List.size_toArray, List.length_cons, List.length_nil, Nat.reduceAdd, dif_neg hn] at h1
    cases h1
  obtain rfl | rfl | rfl | rfl | rfl | rfl | rfl | rfl | rfl | rfl | rfl : i = 0 ∨ i = 1 ∨ i = 2 ∨ i = 3 ∨ i = 4 ∨ i = 5 ∨ i = 6 ∨ i = 7 ∨ i = 8 ∨ i = 9 ∨ i = 10 := by omega
  · obtain rfl := Option.some.inj (show some ({ dst := some 16, op := Op.fieldAddr 34 (Operand.tmp 3) 4, type := 0, pos := "read.go:155", after := #[], guard := none } : Oper) = some o from ho)
    obtain rfl : b0 = false := h1
    exact z86_0 Q w gr bw g0 g1 pa pp ps pv z v acc s1 s2 rr r2 r3 t1 t2 t4 t5 t6 t7 t8 t9 t10 t11 t12 t13 t14 t15 t26 h01 hr1 hr0 hbw hw h8 hx1 hx2 hlen _ _ _ _ _ _ _ _ _ _ _ _ _ _ _ _ _ _ _ _ W hZ
  · obtain rfl := Option.some.inj (show some ({ dst := some 17, op := Op.load 32 (Operand.tmp 16), type := 32, pos := "read.go:155", after := #[{ on := 0, ground := Ground.data }], guard := none } : Oper) = some o from ho)
    obtain rfl : b1 = false := h1
    obtain rfl : b0 = true := hp { on := 0, ground := Ground.data } (by simp) rfl
    exact z86_1 Q w gr bw g0 g1 pa pp ps pv z v acc s1 s2 rr r2 r3 t1 t2 t4 t5 t6 t7 t8 t9 t10 t11 t12 t13 t14 t15 t26 h01 hr1 hr0 hbw hw h8 hx1 hx2 hlen _ _ _ _ _ _ _ _ _ _ _ _ _ _ _ _ _ _ _ W hZ
  · obtain rfl := Option.some.inj (show some ({ dst := some 18, op := Op.move (Operand.tmp 0), type := 109, pos := "read.go:155", after := #[], guard := none } : Oper) = some o from ho)
    obtain rfl : b2 = false := h1
    exact z86_2 Q w gr bw g0 g1 pa pp ps pv z v acc s1 s2 rr r2 r3 t1 t2 t4 t5 t6 t7 t8 t9 t10 t11 t12 t13 t14 t15 t26 h01 hr1 hr0 hbw hw h8 hx1 hx2 hlen _ _ _ _ _ _ _ _ _ _ _ _ _ _ _ _ _ _ _ _ W hZ
  · obtain rfl := Option.some.inj (show some ({ dst := some 19, op := Op.call { callee := Callee.value (Operand.func 88), args := #[Operand.tmp 18], argTypes := #[109] }, type := 9, pos := "read.go:155", after := #[{ on := 2, ground := Ground.data }], guard := none } : Oper) = some o from ho)
    obtain rfl : b3 = false := h1
    obtain rfl : b2 = true := hp { on := 2, ground := Ground.data } (by simp) rfl
    exact z86_3 Q w gr bw g0 g1 pa pp ps pv z v acc s1 s2 rr r2 r3 t1 t2 t4 t5 t6 t7 t8 t9 t10 t11 t12 t13 t14 t15 t26 h01 hr1 hr0 hbw hw h8 hx1 hx2 hlen _ _ _ _ _ _ _ _ _ _ _ _ _ _ _ _ _ _ _ W hZ
  · obtain rfl := Option.some.inj (show some ({ dst := some 20, op := Op.move (Operand.tmp 0), type := 109, pos := "read.go:155", after := #[], guard := none } : Oper) = some o from ho)
    obtain rfl : b4 = false := h1
    exact z86_4 Q w gr bw g0 g1 pa pp ps pv z v acc s1 s2 rr r2 r3 t1 t2 t4 t5 t6 t7 t8 t9 t10 t11 t12 t13 t14 t15 t26 h01 hr1 hr0 hbw hw h8 hx1 hx2 hlen _ _ _ _ _ _ _ _ _ _ _ _ _ _ _ _ _ _ _ _ W hZ
  · obtain rfl := Option.some.inj (show some ({ dst := some 21, op := Op.call { callee := Callee.value (Operand.func 88), args := #[Operand.tmp 20], argTypes := #[109] }, type := 9, pos := "read.go:155", after := #[{ on := 4, ground := Ground.data }, { on := 3, ground := Ground.chain }], guard := none } : Oper) = some o from ho)
    obtain rfl : b5 = false := h1
    obtain rfl : b4 = true := hp { on := 4, ground := Ground.data } (by simp) rfl
    obtain rfl : b3 = true := hp { on := 3, ground := Ground.chain } (by simp) rfl
    exact z86_5 Q w gr bw g0 g1 pa pp ps pv z v acc s1 s2 rr r2 r3 t1 t2 t4 t5 t6 t7 t8 t9 t10 t11 t12 t13 t14 t15 t26 h01 hr1 hr0 hbw hw h8 hx1 hx2 hlen _ _ _ _ _ _ _ _ _ _ _ _ _ _ _ _ _ _ W hZ
  · obtain rfl := Option.some.inj (show some ({ dst := some 22, op := Op.build 59 #[(0, Operand.tmp 19), (1, Operand.tmp 21)], type := 59, pos := "read.go:155", after := #[{ on := 3, ground := Ground.data }, { on := 5, ground := Ground.data }], guard := none } : Oper) = some o from ho)
    obtain rfl : b6 = false := h1
    obtain rfl : b3 = true := hp { on := 3, ground := Ground.data } (by simp) rfl
    obtain rfl : b5 = true := hp { on := 5, ground := Ground.data } (by simp) rfl
    exact z86_6 Q w gr bw g0 g1 pa pp ps pv z v acc s1 s2 rr r2 r3 t1 t2 t4 t5 t6 t7 t8 t9 t10 t11 t12 t13 t14 t15 t26 h01 hr1 hr0 hbw hw h8 hx1 hx2 hlen _ _ _ _ _ _ _ _ _ _ _ _ _ _ _ _ _ _ W hZ
  · obtain rfl := Option.some.inj (show some ({ dst := some 23, op := Op.buildSlice 32 1 #[(0, Operand.tmp 22)], type := 32, pos := "read.go:155", after := #[{ on := 6, ground := Ground.data }], guard := none } : Oper) = some o from ho)
    obtain rfl : b7 = false := h1
    obtain rfl : b6 = true := hp { on := 6, ground := Ground.data } (by simp) rfl
    exact z86_7 Q w gr bw g0 g1 pa pp ps pv z v acc s1 s2 rr r2 r3 t1 t2 t4 t5 t6 t7 t8 t9 t10 t11 t12 t13 t14 t15 t26 h01 hr1 hr0 hbw hw h8 hx1 hx2 hlen _ _ _ _ _ _ _ _ _ _ _ _ _ _ _ _ _ _ _ W hZ
  · obtain rfl := Option.some.inj (show some ({ dst := some 24, op := Op.call { callee := Callee.builtin Builtin.append, args := #[Operand.tmp 17, Operand.tmp 23], argTypes := #[32, 32] }, type := 32, pos := "read.go:155", after := #[{ on := 1, ground := Ground.data }, { on := 7, ground := Ground.data }, { on := 5, ground := Ground.chain }], guard := none } : Oper) = some o from ho)
    obtain rfl : b8 = false := h1
    obtain rfl : b1 = true := hp { on := 1, ground := Ground.data } (by simp) rfl
    obtain rfl : b7 = true := hp { on := 7, ground := Ground.data } (by simp) rfl
    exact z86_8 Q w gr bw g0 g1 pa pp ps pv z v acc s1 s2 rr r2 r3 t1 t2 t4 t5 t6 t7 t8 t9 t10 t11 t12 t13 t14 t15 t26 h01 hr1 hr0 hbw hw h8 hx1 hx2 hlen _ _ _ _ _ _ _ _ _ _ _ _ _ _ _ _ _ _ W hZ
  · obtain rfl := Option.some.inj (show some ({ dst := some 25, op := Op.fieldAddr 34 (Operand.tmp 3) 4, type := 0, pos := "read.go:155", after := #[{ on := 0, ground := Ground.phase }, { on := 1, ground := Ground.phase }, { on := 2, ground := Ground.phase }, { on := 3, ground := Ground.phase }, { on := 4, ground := Ground.phase }, { on := 5, ground := Ground.phase }, { on := 6, ground := Ground.phase }, { on := 7, ground := Ground.phase }, { on := 8, ground := Ground.phase }], guard := none } : Oper) = some o from ho)
    obtain rfl : b9 = false := h1
    obtain rfl : b0 = true := hp { on := 0, ground := Ground.phase } (by simp) rfl
    obtain rfl : b1 = true := hp { on := 1, ground := Ground.phase } (by simp) rfl
    obtain rfl : b2 = true := hp { on := 2, ground := Ground.phase } (by simp) rfl
    obtain rfl : b3 = true := hp { on := 3, ground := Ground.phase } (by simp) rfl
    obtain rfl : b4 = true := hp { on := 4, ground := Ground.phase } (by simp) rfl
    obtain rfl : b5 = true := hp { on := 5, ground := Ground.phase } (by simp) rfl
    obtain rfl : b6 = true := hp { on := 6, ground := Ground.phase } (by simp) rfl
    obtain rfl : b7 = true := hp { on := 7, ground := Ground.phase } (by simp) rfl
    obtain rfl : b8 = true := hp { on := 8, ground := Ground.phase } (by simp) rfl
    exact z86_9 Q w gr bw g0 g1 pa pp ps pv z v acc s1 s2 rr r2 r3 t1 t2 t4 t5 t6 t7 t8 t9 t10 t11 t12 t13 t14 t15 t26 h01 hr1 hr0 hbw hw h8 hx1 hx2 hlen _ _ _ _ _ _ _ _ _ _ _ W hZ
  · obtain rfl := Option.some.inj (show some ({ dst := none, op := Op.store 32 (Operand.tmp 25) (Operand.tmp 24), type := 0, pos := "read.go:155", after := #[{ on := 9, ground := Ground.data }, { on := 8, ground := Ground.data }, { on := 8, ground := Ground.chain }, { on := 0, ground := Ground.phase }, { on := 1, ground := Ground.phase }, { on := 2, ground := Ground.phase }, { on := 3, ground := Ground.phase }, { on := 4, ground := Ground.phase }, { on := 5, ground := Ground.phase }, { on := 6, ground := Ground.phase }, { on := 7, ground := Ground.phase }, { on := 8, ground := Ground.phase }], guard := none } : Oper) = some o from ho)
    obtain rfl : b10 = false := h1
    obtain rfl : b0 = true := hp { on := 0, ground := Ground.phase } (by simp) rfl
    obtain rfl : b1 = true := hp { on := 1, ground := Ground.phase } (by simp) rfl
    obtain rfl : b2 = true := hp { on := 2, ground := Ground.phase } (by simp) rfl
    obtain rfl : b3 = true := hp { on := 3, ground := Ground.phase } (by simp) rfl
    obtain rfl : b4 = true := hp { on := 4, ground := Ground.phase } (by simp) rfl
    obtain rfl : b5 = true := hp { on := 5, ground := Ground.phase } (by simp) rfl
    obtain rfl : b6 = true := hp { on := 6, ground := Ground.phase } (by simp) rfl
    obtain rfl : b7 = true := hp { on := 7, ground := Ground.phase } (by simp) rfl
    obtain rfl : b8 = true := hp { on := 8, ground := Ground.data } (by simp) rfl
    obtain rfl : b9 = true := hp { on := 9, ground := Ground.data } (by simp) rfl
    exact z86_10 Q w gr bw g0 g1 pa pp ps pv z v acc s1 s2 rr r2 r3 t1 t2 t4 t5 t6 t7 t8 t9 t10 t11 t12 t13 t14 t15 t26 h01 hr1 hr0 hbw hw h8 hx1 hx2 hlen  _ _ _ _ _ _ _ _ _ _ W hZ
theorem z86_region (Q : Exit → Act → World → Prop) (w : World) (gr bw g0 g1 : Nat) (pa pp : ByteArray) (ps : Int) (pv : ByteArray) (z : Array Value) (v : Value) (acc : List Ch) (s1 s2 : ByteArray) (rr r2 r3 : Rd) (t1 t2 t4 t5 t6 t7 t8 t9 t10 t11 t12 t13 t14 t15 t26 : Value) (h01 : g0 < g1) (hr1 : gr < g1) (hr0 : gr ≠ g0) (hbw : bw < g0) (hw : w.heap.size ≤ g0) (h8 : 8 ≤ g0) (hx1 : rr.nx 1 = (s1, r2)) (hx2 : r2.nx 1 = (s2, r3)) (hlen : acc.length ≤ 1073741824) (x16 x17 x18 x19 x20 x21 x22 x23 x24 x25 : Value) (W0 : World) (hR : R ECh W0 v acc) (hO : ∀ k, v.ownBlock = some k → g1 < k) (hrd : RdS gr bw rr W0) (hkr : Kr gr w W0) (hz : W0.heap[g0]? = some (.cells z 34 (0, 0))) (hb : W0.heap[g1]? = some (.cells #[.string pa, .string pp, .int .i64 ps, .string pv, v] 34 (0, 0)))
    (hQ : ∀ x16 x17 x18 x19 x20 x21 x22 x23 x24 x25 v' V, R ECh V v' (acc ++ [(⟨s1, s2⟩ : Ch)]) → (∀ k, v'.ownBlock = some k → g1 < k) → RdS gr bw r3 V → Kr gr w V → V.heap[g0]? = some (.cells z 34 (0, 0)) → V.heap[g1]? = some (.cells #[.string pa, .string pp, .int .i64 ps, .string pv, v'] 34 (0, 0)) → Q .normal { tmps := #[.pointer (some ⟨gr, 0, none⟩), t1, t2, .pointer (some ⟨g1, 0, none⟩), t4, t5, t6, t7, t8, t9, t10, t11, t12, t13, t14, t15, x16, x17, x18, x19, x20, x21, x22, x23, x24, x25, t26], defers := [] } V) :
    (Code.region 3 ops86 true).wp Tryz.prog Q { tmps := #[.pointer (some ⟨gr, 0, none⟩), t1, t2, .pointer (some ⟨g1, 0, none⟩), t4, t5, t6, t7, t8, t9, t10, t11, t12, t13, t14, t15, x16, x17, x18, x19, x20, x21, x22, x23, x24, x25, t26], defers := [] } W0 := by
  refine wp_region_any (by kernel_rfl) ?_
  have hd : Below W0.heap.size W0 { W0 with drawn := W0.drawn + 1 } := (Below.refl _ _).drew
  refine wpAny_inv (z86_step Q w gr bw g0 g1 pa pp ps pv z v acc s1 s2 rr r2 r3 t1 t2 t4 t5 t6 t7 t8 t9 t10 t11 t12 t13 t14 t15 t26 h01 hr1 hr0 hbw hw h8 hx1 hx2 hlen) (fun L a V hI hr => ?_) _ _ _ _ ?_ ⟨false, false, false, false, false, false, false, false, false, false, false, _, _, _, _, _, _, _, _, _, _, rfl, rfl, ⟨nofun, nofun, nofun, nofun, nofun, nofun, nofun, nofun, fun _ => ⟨hR.below hd, hO⟩, nofun, nofun, hrd.below hd, Kr.tr hkr (Ks.of_below hd), (hd.block _ (heap_lt hz)).trans hz, (hd.block _ (heap_lt hb)).trans hb, nofun, nofun, nofun, nofun, nofun⟩⟩
  · obtain ⟨b0, b1, b2, b3, b4, b5, b6, b7, b8, b9, b10, x16, x17, x18, x19, x20, x21, x22, x23, x24, x25, rfl, rfl, hZ⟩ := hI
    obtain rfl : b0 = true := by
      cases b0
      · have : 0 ∈ Region.ready .any ops86 #[false, b1, b2, b3, b4, b5, b6, b7, b8, b9, b10] := mem_ready.2 ⟨rfl, { dst := some 16, op := Op.fieldAddr 34 (Operand.tmp 3) 4, type := 0, pos := "read.go:155", after := #[], guard := none }, rfl, by simp⟩
        rw [hr] at this
        simp at this
      · rfl
    obtain rfl : b1 = true := by
      cases b1
      · have : 1 ∈ Region.ready .any ops86 #[true, false, b2, b3, b4, b5, b6, b7, b8, b9, b10] := mem_ready.2 ⟨rfl, { dst := some 17, op := Op.load 32 (Operand.tmp 16), type := 32, pos := "read.go:155", after := #[{ on := 0, ground := Ground.data }], guard := none }, rfl, by simp⟩
        rw [hr] at this
        simp at this
      · rfl
    obtain rfl : b2 = true := by
      cases b2
      · have : 2 ∈ Region.ready .any ops86 #[true, true, false, b3, b4, b5, b6, b7, b8, b9, b10] := mem_ready.2 ⟨rfl, { dst := some 18, op := Op.move (Operand.tmp 0), type := 109, pos := "read.go:155", after := #[], guard := none }, rfl, by simp⟩
        rw [hr] at this
        simp at this
      · rfl
    obtain rfl : b3 = true := by
      cases b3
      · have : 3 ∈ Region.ready .any ops86 #[true, true, true, false, b4, b5, b6, b7, b8, b9, b10] := mem_ready.2 ⟨rfl, { dst := some 19, op := Op.call { callee := Callee.value (Operand.func 88), args := #[Operand.tmp 18], argTypes := #[109] }, type := 9, pos := "read.go:155", after := #[{ on := 2, ground := Ground.data }], guard := none }, rfl, by simp⟩
        rw [hr] at this
        simp at this
      · rfl
    obtain rfl : b4 = true := by
      cases b4
      · have : 4 ∈ Region.ready .any ops86 #[true, true, true, true, false, b5, b6, b7, b8, b9, b10] := mem_ready.2 ⟨rfl, { dst := some 20, op := Op.move (Operand.tmp 0), type := 109, pos := "read.go:155", after := #[], guard := none }, rfl, by simp⟩
        rw [hr] at this
        simp at this
      · rfl
    obtain rfl : b5 = true := by
      cases b5
      · have : 5 ∈ Region.ready .any ops86 #[true, true, true, true, true, false, b6, b7, b8, b9, b10] := mem_ready.2 ⟨rfl, { dst := some 21, op := Op.call { callee := Callee.value (Operand.func 88), args := #[Operand.tmp 20], argTypes := #[109] }, type := 9, pos := "read.go:155", after := #[{ on := 4, ground := Ground.data }, { on := 3, ground := Ground.chain }], guard := none }, rfl, by simp⟩
        rw [hr] at this
        simp at this
      · rfl
    obtain rfl : b6 = true := by
      cases b6
      · have : 6 ∈ Region.ready .any ops86 #[true, true, true, true, true, true, false, b7, b8, b9, b10] := mem_ready.2 ⟨rfl, { dst := some 22, op := Op.build 59 #[(0, Operand.tmp 19), (1, Operand.tmp 21)], type := 59, pos := "read.go:155", after := #[{ on := 3, ground := Ground.data }, { on := 5, ground := Ground.data }], guard := none }, rfl, by simp⟩
        rw [hr] at this
        simp at this
      · rfl
    obtain rfl : b7 = true := by
      cases b7
      · have : 7 ∈ Region.ready .any ops86 #[true, true, true, true, true, true, true, false, b8, b9, b10] := mem_ready.2 ⟨rfl, { dst := some 23, op := Op.buildSlice 32 1 #[(0, Operand.tmp 22)], type := 32, pos := "read.go:155", after := #[{ on := 6, ground := Ground.data }], guard := none }, rfl, by simp⟩
        rw [hr] at this
        simp at this
      · rfl
    obtain rfl : b8 = true := by
      cases b8
      · have : 8 ∈ Region.ready .any ops86 #[true, true, true, true, true, true, true, true, false, b9, b10] := mem_ready.2 ⟨rfl, { dst := some 24, op := Op.call { callee := Callee.builtin Builtin.append, args := #[Operand.tmp 17, Operand.tmp 23], argTypes := #[32, 32] }, type := 32, pos := "read.go:155", after := #[{ on := 1, ground := Ground.data }, { on := 7, ground := Ground.data }, { on := 5, ground := Ground.chain }], guard := none }, rfl, by simp⟩
        rw [hr] at this
        simp at this
      · rfl
    obtain rfl : b9 = true := by
      cases b9
      · have : 9 ∈ Region.ready .any ops86 #[true, true, true, true, true, true, true, true, true, false, b10] := mem_ready.2 ⟨rfl, { dst := some 25, op := Op.fieldAddr 34 (Operand.tmp 3) 4, type := 0, pos := "read.go:155", after := #[{ on := 0, ground := Ground.phase }, { on := 1, ground := Ground.phase }, { on := 2, ground := Ground.phase }, { on := 3, ground := Ground.phase }, { on := 4, ground := Ground.phase }, { on := 5, ground := Ground.phase }, { on := 6, ground := Ground.phase }, { on := 7, ground := Ground.phase }, { on := 8, ground := Ground.phase }], guard := none }, rfl, by simp⟩
        rw [hr] at this
        simp at this
      · rfl
    obtain rfl : b10 = true := by
      cases b10
      · have : 10 ∈ Region.ready .any ops86 #[true, true, true, true, true, true, true, true, true, true, false] := mem_ready.2 ⟨rfl, { dst := none, op := Op.store 32 (Operand.tmp 25) (Operand.tmp 24), type := 0, pos := "read.go:155", after := #[{ on := 9, ground := Ground.data }, { on := 8, ground := Ground.data }, { on := 8, ground := Ground.chain }, { on := 0, ground := Ground.phase }, { on := 1, ground := Ground.phase }, { on := 2, ground := Ground.phase }, { on := 3, ground := Ground.phase }, { on := 4, ground := Ground.phase }, { on := 5, ground := Ground.phase }, { on := 6, ground := Ground.phase }, { on := 7, ground := Ground.phase }, { on := 8, ground := Ground.phase }], guard := none }, rfl, by simp⟩
        rw [hr] at this
        simp at this
      · rfl
    exact hQ _ _ _ _ _ _ _ _ _ _ _ _ (hZ.ia rfl).1 (hZ.ia rfl).2 hZ.rd hZ.kr hZ.zb hZ.blk
  · decide
end Go.Proofs.YtghppkfopglgaaaGreatDoor
