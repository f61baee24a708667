/- request's region that draws: what holds at each set of its operations. request's region that draws, whole. The reader: page, walked. -/
import Derived.Test.YtghppkfopglgaaaGreatDoorKak
namespace Go.Proofs.YtghppkfopglgaaaGreatDoor
open Go.RowKit
set_option linter.unusedVariables false
set_option linter.unusedSimpArgs false
def fdA (x : Fd) : Array Value := #[.string x.n, .string x.v, .bool x.nv]
def EFd : El Fd := ⟨29, 66, 3, 40, fun x => (fdA x).toList⟩
theorem okFd : EFd.Ok := ⟨Tryz.underlying29, by kernel_rfl, by decide, by decide, fun _ => rfl, fun a u hu => by
  simp [EFd, fdA] at hu
  rcases hu with rfl | rfl | rfl <;> rfl⟩
def ops91 : Array Oper := #[{ dst := some 18, op := Op.fieldAddr 31 (Operand.tmp 3) 4, type := 0, pos := "read.go:147", after := #[], guard := none },
  { dst := some 19, op := Op.load 29 (Operand.tmp 18), type := 29, pos := "read.go:147", after := #[{ on := 0, ground := Ground.data }], guard := none },
  { dst := some 20, op := Op.move (Operand.tmp 0), type := 109, pos := "read.go:147", after := #[], guard := none },
  { dst := some 21, op := Op.call { callee := Callee.value (Operand.func 63), args := #[Operand.tmp 20, Operand.const (Value.string { data := #[110, 101, 118, 101, 114] })], argTypes := #[109, 9] }, type := 4, pos := "read.go:147", after := #[{ on := 2, ground := Ground.data }], guard := none },
  { dst := some 22, op := Op.move (Operand.tmp 0), type := 109, pos := "read.go:147", after := #[], guard := none },
  { dst := some 23, op := Op.call { callee := Callee.value (Operand.func 88), args := #[Operand.tmp 22], argTypes := #[109] }, type := 9, pos := "read.go:147", after := #[{ on := 4, ground := Ground.data }, { on := 3, ground := Ground.chain }], guard := none },
  { dst := some 24, op := Op.move (Operand.tmp 0), type := 109, pos := "read.go:147", after := #[], guard := none },
  { dst := some 25, op := Op.call { callee := Callee.value (Operand.func 88), args := #[Operand.tmp 24], argTypes := #[109] }, type := 9, pos := "read.go:147", after := #[{ on := 6, ground := Ground.data }, { on := 5, ground := Ground.chain }], guard := none },
  { dst := some 26, op := Op.build 66 #[(2, Operand.tmp 21), (0, Operand.tmp 23), (1, Operand.tmp 25)], type := 66, pos := "read.go:147", after := #[{ on := 3, ground := Ground.data }, { on := 5, ground := Ground.data }, { on := 7, ground := Ground.data }], guard := none },
  { dst := some 27, op := Op.buildSlice 29 1 #[(0, Operand.tmp 26)], type := 29, pos := "read.go:147", after := #[{ on := 8, ground := Ground.data }], guard := none },
  { dst := some 28, op := Op.call { callee := Callee.builtin Builtin.append, args := #[Operand.tmp 19, Operand.tmp 27], argTypes := #[29, 29] }, type := 29, pos := "read.go:147", after := #[{ on := 1, ground := Ground.data }, { on := 9, ground := Ground.data }, { on := 7, ground := Ground.chain }], guard := none },
  { dst := some 29, op := Op.fieldAddr 31 (Operand.tmp 3) 4, type := 0, pos := "read.go:147", after := #[{ on := 0, ground := Ground.phase }, { on := 1, ground := Ground.phase }, { on := 2, ground := Ground.phase }, { on := 3, ground := Ground.phase }, { on := 4, ground := Ground.phase }, { on := 5, ground := Ground.phase }, { on := 6, ground := Ground.phase }, { on := 7, ground := Ground.phase }, { on := 8, ground := Ground.phase }, { on := 9, ground := Ground.phase }, { on := 10, ground := Ground.phase }], guard := none },
  { dst := none, op := Op.store 29 (Operand.tmp 29) (Operand.tmp 28), type := 0, pos := "read.go:147", after := #[{ on := 11, ground := Ground.data }, { on := 10, ground := Ground.data }, { on := 10, ground := Ground.chain }, { on := 0, ground := Ground.phase }, { on := 1, ground := Ground.phase }, { on := 2, ground := Ground.phase }, { on := 3, ground := Ground.phase }, { on := 4, ground := Ground.phase }, { on := 5, ground := Ground.phase }, { on := 6, ground := Ground.phase }, { on := 7, ground := Ground.phase }, { on := 8, ground := Ground.phase }, { on := 9, ground := Ground.phase }, { on := 10, ground := Ground.phase }], guard := none }]
structure Z91 (w : World) (gr bw g0 g1 : Nat) (pm ps pa pp pb : ByteArray) (z : Array Value) (v : Value) (acc : List Fd) (s1 s2 : ByteArray) (nv : Bool) (rr r2 r3 r4 : Rd) (b0 b1 b2 b3 b4 b5 b6 b7 b8 b9 b10 b11 b12 : Bool) (x18 x19 x20 x21 x22 x23 x24 x25 x26 x27 x28 x29 : Value) (W : World) : Prop where
  i0 : b0 = true → x18 = .pointer (some ⟨g1, 4, none⟩)
  i1 : b1 = true → x19 = v
  m2 : b2 = true → x20 = .pointer (some ⟨gr, 0, none⟩)
  m4 : b4 = true → x22 = .pointer (some ⟨gr, 0, none⟩)
  m6 : b6 = true → x24 = .pointer (some ⟨gr, 0, none⟩)
  v3 : b3 = true → x21 = .bool nv
  v5 : b5 = true → x23 = .string s1
  v7 : b7 = true → x25 = .string s2
  ib : b8 = true → x26 = .agg #[.string s1, .string s2, .bool nv]
  «is» : b9 = true → b10 = false → ∃ B, x27 = .slice (some ⟨B, 0, none⟩) 1 1 ∧ W.heap[B]? = some (.cells #[.string s1, .string s2, .bool nv] 66 (0, 0))
  na : b10 = false → R EFd W v acc ∧ ∀ k, v.ownBlock = some k → g1 < k
  ia : b10 = true → R EFd W x28 (acc ++ [(⟨s1, s2, nv⟩ : Fd)]) ∧ ∀ k, x28.ownBlock = some k → g1 < k
  fa : b11 = true → x29 = .pointer (some ⟨g1, 4, none⟩)
  rd : RdS gr bw (if b7 then r4 else (if b5 then r3 else (if b3 then r2 else rr))) W
  kr : Kr gr w W
  zb : W.heap[g0]? = some (.cells z 31 (0, 0))
  blk : W.heap[g1]? = some (.cells #[.string pm, .string ps, .string pa, .string pp, (if b12 then x28 else v), .string pb] 31 (0, 0))
  c12 : b12 = true → b1 = true ∧ b10 = true
  c10 : b10 = true → b1 = true ∧ b9 = true
  c9 : b9 = true → b8 = true
  c8 : b8 = true → b7 = true
  c5 : b5 = true → b3 = true
  c7 : b7 = true → b5 = true
def I91 (w : World) (gr bw g0 g1 : Nat) (pm ps pa pp pb : ByteArray) (z : Array Value) (v : Value) (acc : List Fd) (s1 s2 : ByteArray) (nv : Bool) (rr r2 r3 r4 : Rd) (t1 t2 t4 t5 t6 t7 t8 t9 t10 t11 t12 t13 t14 t15 t16 t17 t30 : Value) (L : Array Bool) (a : Act) (W : World) : Prop :=
  ∃ b0 b1 b2 b3 b4 b5 b6 b7 b8 b9 b10 b11 b12 x18 x19 x20 x21 x22 x23 x24 x25 x26 x27 x28 x29, L = #[b0, b1, b2, b3, b4, b5, b6, b7, b8, b9, b10, b11, b12] ∧ a = { tmps := #[.pointer (some ⟨gr, 0, none⟩), t1, t2, .pointer (some ⟨g1, 0, none⟩), t4, t5, t6, t7, t8, t9, t10, t11, t12, t13, t14, t15, t16, t17, x18, x19, x20, x21, x22, x23, x24, x25, x26, x27, x28, x29, t30], defers := [] } ∧ Z91 w gr bw g0 g1 pm ps pa pp pb z v acc s1 s2 nv rr r2 r3 r4 b0 b1 b2 b3 b4 b5 b6 b7 b8 b9 b10 b11 b12 x18 x19 x20 x21 x22 x23 x24 x25 x26 x27 x28 x29 W
set_option maxRecDepth 100000 in
theorem z91_0 (Q : Exit → Act → World → Prop) (w : World) (gr bw g0 g1 : Nat) (pm ps pa pp pb : ByteArray) (z : Array Value) (v : Value) (acc : List Fd) (s1 s2 : ByteArray) (nv : Bool) (rr r2 r3 r4 : Rd) (t1 t2 t4 t5 t6 t7 t8 t9 t10 t11 t12 t13 t14 t15 t16 t17 t30 : Value) (h01 : g0 < g1) (hr1 : gr < g1) (hr0 : gr ≠ g0) (hbw : bw < g0) (hw : w.heap.size ≤ g0) (h8 : 8 ≤ g0) (hx1 : rr.sk ⟨#[110, 101, 118, 101, 114]⟩ = (nv, r2)) (hx2 : r2.nx 1 = (s1, r3)) (hx3 : r3.nx 1 = (s2, r4)) (hlen : acc.length ≤ 1073741824) (b1 b2 b3 b4 b5 b6 b7 b8 b9 b10 b11 b12 : Bool) (x18 x19 x20 x21 x22 x23 x24 x25 x26 x27 x28 x29 : Value) (W : World) (hZ : Z91 w gr bw g0 g1 pm ps pa pp pb z v acc s1 s2 nv rr r2 r3 r4 false b1 b2 b3 b4 b5 b6 b7 b8 b9 b10 b11 b12 x18 x19 x20 x21 x22 x23 x24 x25 x26 x27 x28 x29 W) :
    wpOp Tryz.prog ops91 Q 0 (I91 w gr bw g0 g1 pm ps pa pp pb z v acc s1 s2 nv rr r2 r3 r4 t1 t2 t4 t5 t6 t7 t8 t9 t10 t11 t12 t13 t14 t15 t16 t17 t30 #[true, b1, b2, b3, b4, b5, b6, b7, b8, b9, b10, b11, b12]) { tmps := #[.pointer (some ⟨gr, 0, none⟩), t1, t2, .pointer (some ⟨g1, 0, none⟩), t4, t5, t6, t7, t8, t9, t10, t11, t12, t13, t14, t15, t16, t17, x18, x19, x20, x21, x22, x23, x24, x25, x26, x27, x28, x29, t30], defers := [] } W := by
  refine wpOpP_step (o := { dst := some 18, op := Op.fieldAddr 31 (Operand.tmp 3) 4, type := 0, pos := "read.go:147", after := #[], guard := none }) rfl ?_
  obtain ⟨K, hKd⟩ : ∃ K, I91 w gr bw g0 g1 pm ps pa pp pb z v acc s1 s2 nv rr r2 r3 r4 t1 t2 t4 t5 t6 t7 t8 t9 t10 t11 t12 t13 t14 t15 t16 t17 t30 #[true, b1, b2, b3, b4, b5, b6, b7, b8, b9, b10, b11, b12] = K := ⟨_, rfl⟩
  have HK : Hid (∀ a V, I91 w gr bw g0 g1 pm ps pa pp pb z v acc s1 s2 nv rr r2 r3 r4 t1 t2 t4 t5 t6 t7 t8 t9 t10 t11 t12 t13 t14 t15 t16 t17 t30 #[true, b1, b2, b3, b4, b5, b6, b7, b8, b9, b10, b11, b12] a V → K a V) := hid fun a V h => by rw [← hKd]; exact h
  rw [hKd]
  clear hKd
  have HZ := hid hZ
  clear hZ
  go_wp2_with fail
  obtain ⟨i0, i1, m2, m4, m6, v3, v5, v7, ib, «is», na, ia, fa, rd, kr, zb, blk, c12, c10, c9, c8, c5, c7⟩ := HZ.out
  refine HK.out _ _ ⟨_, _, _, _, _, _, _, _, _, _, _, _, _, _, _, _, _, _, _, _, _, _, _, _, _, rfl, rfl, ⟨fun _ => rfl, i1, m2, m4, m6, v3, v5, v7, ib, «is», na, ia, fa, rd, kr, zb, blk, c12, c10, c9, c8, c5, c7⟩⟩
set_option maxRecDepth 100000 in
theorem z91_1 (Q : Exit → Act → World → Prop) (w : World) (gr bw g0 g1 : Nat) (pm ps pa pp pb : ByteArray) (z : Array Value) (v : Value) (acc : List Fd) (s1 s2 : ByteArray) (nv : Bool) (rr r2 r3 r4 : Rd) (t1 t2 t4 t5 t6 t7 t8 t9 t10 t11 t12 t13 t14 t15 t16 t17 t30 : Value) (h01 : g0 < g1) (hr1 : gr < g1) (hr0 : gr ≠ g0) (hbw : bw < g0) (hw : w.heap.size ≤ g0) (h8 : 8 ≤ g0) (hx1 : rr.sk ⟨#[110, 101, 118, 101, 114]⟩ = (nv, r2)) (hx2 : r2.nx 1 = (s1, r3)) (hx3 : r3.nx 1 = (s2, r4)) (hlen : acc.length ≤ 1073741824) (b2 b3 b4 b5 b6 b7 b8 b9 b10 b11 b12 : Bool) (x18 x19 x20 x21 x22 x23 x24 x25 x26 x27 x28 x29 : Value) (W : World) (hZ : Z91 w gr bw g0 g1 pm ps pa pp pb z v acc s1 s2 nv rr r2 r3 r4 true false b2 b3 b4 b5 b6 b7 b8 b9 b10 b11 b12 x18 x19 x20 x21 x22 x23 x24 x25 x26 x27 x28 x29 W) :
    wpOp Tryz.prog ops91 Q 1 (I91 w gr bw g0 g1 pm ps pa pp pb z v acc s1 s2 nv rr r2 r3 r4 t1 t2 t4 t5 t6 t7 t8 t9 t10 t11 t12 t13 t14 t15 t16 t17 t30 #[true, true, b2, b3, b4, b5, b6, b7, b8, b9, b10, b11, b12]) { tmps := #[.pointer (some ⟨gr, 0, none⟩), t1, t2, .pointer (some ⟨g1, 0, none⟩), t4, t5, t6, t7, t8, t9, t10, t11, t12, t13, t14, t15, t16, t17, x18, x19, x20, x21, x22, x23, x24, x25, x26, x27, x28, x29, t30], defers := [] } W := by
  refine wpOpP_step (o := { dst := some 19, op := Op.load 29 (Operand.tmp 18), type := 29, pos := "read.go:147", after := #[{ on := 0, ground := Ground.data }], guard := none }) rfl ?_
  obtain ⟨K, hKd⟩ : ∃ K, I91 w gr bw g0 g1 pm ps pa pp pb z v acc s1 s2 nv rr r2 r3 r4 t1 t2 t4 t5 t6 t7 t8 t9 t10 t11 t12 t13 t14 t15 t16 t17 t30 #[true, true, b2, b3, b4, b5, b6, b7, b8, b9, b10, b11, b12] = K := ⟨_, rfl⟩
  have HK : Hid (∀ a V, I91 w gr bw g0 g1 pm ps pa pp pb z v acc s1 s2 nv rr r2 r3 r4 t1 t2 t4 t5 t6 t7 t8 t9 t10 t11 t12 t13 t14 t15 t16 t17 t30 #[true, true, b2, b3, b4, b5, b6, b7, b8, b9, b10, b11, b12] a V → K a V) := hid fun a V h => by rw [← hKd]; exact h
  rw [hKd]
  clear hKd
  have hx0 := hZ.i0 rfl
  subst hx0
  have hbt : b12 = false := by cases b12; rfl; exact absurd (hZ.c12 rfl).1 (by simp)
  subst hbt
  have c0 := cell_blk hZ.blk 4
  have f0 := frozen_blk hZ.blk
  have l0 := heap_lt hZ.blk
  simp only [List.getElem?_toArray, List.getElem?_cons_zero, List.getElem?_cons_succ, Bool.false_eq_true, if_false] at c0
  have HZ := hid hZ
  clear hZ
  go_wp2_with fail
  obtain ⟨i0, i1, m2, m4, m6, v3, v5, v7, ib, «is», na, ia, fa, rd, kr, zb, blk, c12, c10, c9, c8, c5, c7⟩ := HZ.out
  refine HK.out _ _ ⟨_, _, _, _, _, _, _, _, _, _, _, _, _, _, _, _, _, _, _, _, _, _, _, _, _, rfl, rfl, ⟨i0, fun _ => rfl, m2, m4, m6, v3, v5, v7, ib, «is», na, ia, fa, rd, kr, zb, blk, fun h => absurd h (by simp), fun h => ⟨rfl, (c10 h).2⟩, c9, c8, c5, c7⟩⟩
set_option maxRecDepth 100000 in
theorem z91_2 (Q : Exit → Act → World → Prop) (w : World) (gr bw g0 g1 : Nat) (pm ps pa pp pb : ByteArray) (z : Array Value) (v : Value) (acc : List Fd) (s1 s2 : ByteArray) (nv : Bool) (rr r2 r3 r4 : Rd) (t1 t2 t4 t5 t6 t7 t8 t9 t10 t11 t12 t13 t14 t15 t16 t17 t30 : Value) (h01 : g0 < g1) (hr1 : gr < g1) (hr0 : gr ≠ g0) (hbw : bw < g0) (hw : w.heap.size ≤ g0) (h8 : 8 ≤ g0) (hx1 : rr.sk ⟨#[110, 101, 118, 101, 114]⟩ = (nv, r2)) (hx2 : r2.nx 1 = (s1, r3)) (hx3 : r3.nx 1 = (s2, r4)) (hlen : acc.length ≤ 1073741824) (b0 b1 b3 b4 b5 b6 b7 b8 b9 b10 b11 b12 : Bool) (x18 x19 x20 x21 x22 x23 x24 x25 x26 x27 x28 x29 : Value) (W : World) (hZ : Z91 w gr bw g0 g1 pm ps pa pp pb z v acc s1 s2 nv rr r2 r3 r4 b0 b1 false b3 b4 b5 b6 b7 b8 b9 b10 b11 b12 x18 x19 x20 x21 x22 x23 x24 x25 x26 x27 x28 x29 W) :
    wpOp Tryz.prog ops91 Q 2 (I91 w gr bw g0 g1 pm ps pa pp pb z v acc s1 s2 nv rr r2 r3 r4 t1 t2 t4 t5 t6 t7 t8 t9 t10 t11 t12 t13 t14 t15 t16 t17 t30 #[b0, b1, true, b3, b4, b5, b6, b7, b8, b9, b10, b11, b12]) { tmps := #[.pointer (some ⟨gr, 0, none⟩), t1, t2, .pointer (some ⟨g1, 0, none⟩), t4, t5, t6, t7, t8, t9, t10, t11, t12, t13, t14, t15, t16, t17, x18, x19, x20, x21, x22, x23, x24, x25, x26, x27, x28, x29, t30], defers := [] } W := by
  refine wpOpP_step (o := { dst := some 20, op := Op.move (Operand.tmp 0), type := 109, pos := "read.go:147", after := #[], guard := none }) rfl ?_
  obtain ⟨K, hKd⟩ : ∃ K, I91 w gr bw g0 g1 pm ps pa pp pb z v acc s1 s2 nv rr r2 r3 r4 t1 t2 t4 t5 t6 t7 t8 t9 t10 t11 t12 t13 t14 t15 t16 t17 t30 #[b0, b1, true, b3, b4, b5, b6, b7, b8, b9, b10, b11, b12] = K := ⟨_, rfl⟩
  have HK : Hid (∀ a V, I91 w gr bw g0 g1 pm ps pa pp pb z v acc s1 s2 nv rr r2 r3 r4 t1 t2 t4 t5 t6 t7 t8 t9 t10 t11 t12 t13 t14 t15 t16 t17 t30 #[b0, b1, true, b3, b4, b5, b6, b7, b8, b9, b10, b11, b12] a V → K a V) := hid fun a V h => by rw [← hKd]; exact h
  rw [hKd]
  clear hKd
  have HZ := hid hZ
  clear hZ
  go_wp2_with fail
  obtain ⟨i0, i1, m2, m4, m6, v3, v5, v7, ib, «is», na, ia, fa, rd, kr, zb, blk, c12, c10, c9, c8, c5, c7⟩ := HZ.out
  refine HK.out _ _ ⟨_, _, _, _, _, _, _, _, _, _, _, _, _, _, _, _, _, _, _, _, _, _, _, _, _, rfl, rfl, ⟨i0, i1, fun _ => rfl, m4, m6, v3, v5, v7, ib, «is», na, ia, fa, rd, kr, zb, blk, c12, c10, c9, c8, c5, c7⟩⟩
set_option maxRecDepth 100000 in
theorem z91_3 (Q : Exit → Act → World → Prop) (w : World) (gr bw g0 g1 : Nat) (pm ps pa pp pb : ByteArray) (z : Array Value) (v : Value) (acc : List Fd) (s1 s2 : ByteArray) (nv : Bool) (rr r2 r3 r4 : Rd) (t1 t2 t4 t5 t6 t7 t8 t9 t10 t11 t12 t13 t14 t15 t16 t17 t30 : Value) (h01 : g0 < g1) (hr1 : gr < g1) (hr0 : gr ≠ g0) (hbw : bw < g0) (hw : w.heap.size ≤ g0) (h8 : 8 ≤ g0) (hx1 : rr.sk ⟨#[110, 101, 118, 101, 114]⟩ = (nv, r2)) (hx2 : r2.nx 1 = (s1, r3)) (hx3 : r3.nx 1 = (s2, r4)) (hlen : acc.length ≤ 1073741824) (b0 b1 b4 b5 b6 b7 b8 b9 b10 b11 b12 : Bool) (x18 x19 x20 x21 x22 x23 x24 x25 x26 x27 x28 x29 : Value) (W : World) (hZ : Z91 w gr bw g0 g1 pm ps pa pp pb z v acc s1 s2 nv rr r2 r3 r4 b0 b1 true false b4 b5 b6 b7 b8 b9 b10 b11 b12 x18 x19 x20 x21 x22 x23 x24 x25 x26 x27 x28 x29 W) :
    wpOp Tryz.prog ops91 Q 3 (I91 w gr bw g0 g1 pm ps pa pp pb z v acc s1 s2 nv rr r2 r3 r4 t1 t2 t4 t5 t6 t7 t8 t9 t10 t11 t12 t13 t14 t15 t16 t17 t30 #[b0, b1, true, true, b4, b5, b6, b7, b8, b9, b10, b11, b12]) { tmps := #[.pointer (some ⟨gr, 0, none⟩), t1, t2, .pointer (some ⟨g1, 0, none⟩), t4, t5, t6, t7, t8, t9, t10, t11, t12, t13, t14, t15, t16, t17, x18, x19, x20, x21, x22, x23, x24, x25, x26, x27, x28, x29, t30], defers := [] } W := by
  refine wpOpP_step (o := { dst := some 21, op := Op.call { callee := Callee.value (Operand.func 63), args := #[Operand.tmp 20, Operand.const (Value.string { data := #[110, 101, 118, 101, 114] })], argTypes := #[109, 9] }, type := 4, pos := "read.go:147", after := #[{ on := 2, ground := Ground.data }], guard := none }) rfl ?_
  obtain ⟨K, hKd⟩ : ∃ K, I91 w gr bw g0 g1 pm ps pa pp pb z v acc s1 s2 nv rr r2 r3 r4 t1 t2 t4 t5 t6 t7 t8 t9 t10 t11 t12 t13 t14 t15 t16 t17 t30 #[b0, b1, true, true, b4, b5, b6, b7, b8, b9, b10, b11, b12] = K := ⟨_, rfl⟩
  have HK : Hid (∀ a V, I91 w gr bw g0 g1 pm ps pa pp pb z v acc s1 s2 nv rr r2 r3 r4 t1 t2 t4 t5 t6 t7 t8 t9 t10 t11 t12 t13 t14 t15 t16 t17 t30 #[b0, b1, true, true, b4, b5, b6, b7, b8, b9, b10, b11, b12] a V → K a V) := hid fun a V h => by rw [← hKd]; exact h
  rw [hKd]
  clear hKd
  have hq5 : b5 = false := by cases b5; rfl; exact absurd (hZ.c5 rfl) (by simp)
  subst hq5
  have hq7 : b7 = false := by cases b7; rfl; exact absurd (hZ.c7 rfl) (by simp)
  subst hq7
  have hxm := hZ.m2 rfl
  subst hxm
  have HT := hid (skip_any gr bw rr ⟨#[110, 101, 118, 101, 114]⟩ W hZ.rd)
  rw [hx1] at HT
  have HZ := hid hZ
  clear hZ
  go_wp2_with fail
  go_at_call 63
  refine HT.out.mono ?_
  rintro e V ⟨rfl, hS, hK⟩
  obtain ⟨i0, i1, m2, m4, m6, v3, v5, v7, ib, «is», na, ia, fa, rd, kr, zb, blk, c12, c10, c9, c8, c5, c7⟩ := HZ.out
  have hg1 : gr ≠ g1 := by omega
  have hb8 : b8 = false := by cases b8; rfl; exact absurd (c8 rfl) (by simp)
  subst hb8
  have hb9 : b9 = false := by cases b9; rfl; exact absurd (c9 rfl) (by simp)
  subst hb9
  have hb10 : b10 = false := by cases b10; rfl; exact absurd ((c10 rfl).2) (by simp)
  subst hb10
  have hb12 : b12 = false := by cases b12; rfl; exact absurd ((c12 rfl).2) (by simp)
  subst hb12
  refine HK.out _ _ ⟨_, _, _, _, _, _, _, _, _, _, _, _, _, _, _, _, _, _, _, _, _, _, _, _, _, rfl, rfl, ⟨i0, i1, m2, m4, m6, fun _ => rfl, v5, v7, ib, fun h => absurd h (by simp), fun h => ⟨(na h).1.stays (fun k e hl => hK.block k hl (by have := (na h).2 k e; omega)), (na h).2⟩, fun h => absurd h (by simp), fa, hS, Kr.tr kr hK, (hK.block _ (heap_lt zb) (fun e => hr0 e.symm)).trans zb, (hK.block _ (heap_lt blk) (fun e => hg1 e.symm)).trans blk, c12, c10, c9, c8, fun h => absurd h (by simp), c7⟩⟩
set_option maxRecDepth 100000 in
theorem z91_4 (Q : Exit → Act → World → Prop) (w : World) (gr bw g0 g1 : Nat) (pm ps pa pp pb : ByteArray) (z : Array Value) (v : Value) (acc : List Fd) (s1 s2 : ByteArray) (nv : Bool) (rr r2 r3 r4 : Rd) (t1 t2 t4 t5 t6 t7 t8 t9 t10 t11 t12 t13 t14 t15 t16 t17 t30 : Value) (h01 : g0 < g1) (hr1 : gr < g1) (hr0 : gr ≠ g0) (hbw : bw < g0) (hw : w.heap.size ≤ g0) (h8 : 8 ≤ g0) (hx1 : rr.sk ⟨#[110, 101, 118, 101, 114]⟩ = (nv, r2)) (hx2 : r2.nx 1 = (s1, r3)) (hx3 : r3.nx 1 = (s2, r4)) (hlen : acc.length ≤ 1073741824) (b0 b1 b2 b3 b5 b6 b7 b8 b9 b10 b11 b12 : Bool) (x18 x19 x20 x21 x22 x23 x24 x25 x26 x27 x28 x29 : Value) (W : World) (hZ : Z91 w gr bw g0 g1 pm ps pa pp pb z v acc s1 s2 nv rr r2 r3 r4 b0 b1 b2 b3 false b5 b6 b7 b8 b9 b10 b11 b12 x18 x19 x20 x21 x22 x23 x24 x25 x26 x27 x28 x29 W) :
    wpOp Tryz.prog ops91 Q 4 (I91 w gr bw g0 g1 pm ps pa pp pb z v acc s1 s2 nv rr r2 r3 r4 t1 t2 t4 t5 t6 t7 t8 t9 t10 t11 t12 t13 t14 t15 t16 t17 t30 #[b0, b1, b2, b3, true, b5, b6, b7, b8, b9, b10, b11, b12]) { tmps := #[.pointer (some ⟨gr, 0, none⟩), t1, t2, .pointer (some ⟨g1, 0, none⟩), t4, t5, t6, t7, t8, t9, t10, t11, t12, t13, t14, t15, t16, t17, x18, x19, x20, x21, x22, x23, x24, x25, x26, x27, x28, x29, t30], defers := [] } W := by
  refine wpOpP_step (o := { dst := some 22, op := Op.move (Operand.tmp 0), type := 109, pos := "read.go:147", after := #[], guard := none }) rfl ?_
  obtain ⟨K, hKd⟩ : ∃ K, I91 w gr bw g0 g1 pm ps pa pp pb z v acc s1 s2 nv rr r2 r3 r4 t1 t2 t4 t5 t6 t7 t8 t9 t10 t11 t12 t13 t14 t15 t16 t17 t30 #[b0, b1, b2, b3, true, b5, b6, b7, b8, b9, b10, b11, b12] = K := ⟨_, rfl⟩
  have HK : Hid (∀ a V, I91 w gr bw g0 g1 pm ps pa pp pb z v acc s1 s2 nv rr r2 r3 r4 t1 t2 t4 t5 t6 t7 t8 t9 t10 t11 t12 t13 t14 t15 t16 t17 t30 #[b0, b1, b2, b3, true, b5, b6, b7, b8, b9, b10, b11, b12] a V → K a V) := hid fun a V h => by rw [← hKd]; exact h
  rw [hKd]
  clear hKd
  have HZ := hid hZ
  clear hZ
  go_wp2_with fail
  obtain ⟨i0, i1, m2, m4, m6, v3, v5, v7, ib, «is», na, ia, fa, rd, kr, zb, blk, c12, c10, c9, c8, c5, c7⟩ := HZ.out
  refine HK.out _ _ ⟨_, _, _, _, _, _, _, _, _, _, _, _, _, _, _, _, _, _, _, _, _, _, _, _, _, rfl, rfl, ⟨i0, i1, m2, fun _ => rfl, m6, v3, v5, v7, ib, «is», na, ia, fa, rd, kr, zb, blk, c12, c10, c9, c8, c5, c7⟩⟩
set_option maxRecDepth 100000 in
theorem z91_5 (Q : Exit → Act → World → Prop) (w : World) (gr bw g0 g1 : Nat) (pm ps pa pp pb : ByteArray) (z : Array Value) (v : Value) (acc : List Fd) (s1 s2 : ByteArray) (nv : Bool) (rr r2 r3 r4 : Rd) (t1 t2 t4 t5 t6 t7 t8 t9 t10 t11 t12 t13 t14 t15 t16 t17 t30 : Value) (h01 : g0 < g1) (hr1 : gr < g1) (hr0 : gr ≠ g0) (hbw : bw < g0) (hw : w.heap.size ≤ g0) (h8 : 8 ≤ g0) (hx1 : rr.sk ⟨#[110, 101, 118, 101, 114]⟩ = (nv, r2)) (hx2 : r2.nx 1 = (s1, r3)) (hx3 : r3.nx 1 = (s2, r4)) (hlen : acc.length ≤ 1073741824) (b0 b1 b2 b6 b7 b8 b9 b10 b11 b12 : Bool) (x18 x19 x20 x21 x22 x23 x24 x25 x26 x27 x28 x29 : Value) (W : World) (hZ : Z91 w gr bw g0 g1 pm ps pa pp pb z v acc s1 s2 nv rr r2 r3 r4 b0 b1 b2 true true false b6 b7 b8 b9 b10 b11 b12 x18 x19 x20 x21 x22 x23 x24 x25 x26 x27 x28 x29 W) :
    wpOp Tryz.prog ops91 Q 5 (I91 w gr bw g0 g1 pm ps pa pp pb z v acc s1 s2 nv rr r2 r3 r4 t1 t2 t4 t5 t6 t7 t8 t9 t10 t11 t12 t13 t14 t15 t16 t17 t30 #[b0, b1, b2, true, true, true, b6, b7, b8, b9, b10, b11, b12]) { tmps := #[.pointer (some ⟨gr, 0, none⟩), t1, t2, .pointer (some ⟨g1, 0, none⟩), t4, t5, t6, t7, t8, t9, t10, t11, t12, t13, t14, t15, t16, t17, x18, x19, x20, x21, x22, x23, x24, x25, x26, x27, x28, x29, t30], defers := [] } W := by
  refine wpOpP_step (o := { dst := some 23, op := Op.call { callee := Callee.value (Operand.func 88), args := #[Operand.tmp 22], argTypes := #[109] }, type := 9, pos := "read.go:147", after := #[{ on := 4, ground := Ground.data }, { on := 3, ground := Ground.chain }], guard := none }) rfl ?_
  obtain ⟨K, hKd⟩ : ∃ K, I91 w gr bw g0 g1 pm ps pa pp pb z v acc s1 s2 nv rr r2 r3 r4 t1 t2 t4 t5 t6 t7 t8 t9 t10 t11 t12 t13 t14 t15 t16 t17 t30 #[b0, b1, b2, true, true, true, b6, b7, b8, b9, b10, b11, b12] = K := ⟨_, rfl⟩
  have HK : Hid (∀ a V, I91 w gr bw g0 g1 pm ps pa pp pb z v acc s1 s2 nv rr r2 r3 r4 t1 t2 t4 t5 t6 t7 t8 t9 t10 t11 t12 t13 t14 t15 t16 t17 t30 #[b0, b1, b2, true, true, true, b6, b7, b8, b9, b10, b11, b12] a V → K a V) := hid fun a V h => by rw [← hKd]; exact h
  rw [hKd]
  clear hKd
  have hq7 : b7 = false := by cases b7; rfl; exact absurd (hZ.c7 rfl) (by simp)
  subst hq7
  have hxm := hZ.m4 rfl
  subst hxm
  have HT := hid (text_any gr bw r2  W hZ.rd)
  rw [hx2] at HT
  have HZ := hid hZ
  clear hZ
  go_wp2_with fail
  go_at_call 88
  refine HT.out.mono ?_
  rintro e V ⟨rfl, hS, hK⟩
  obtain ⟨i0, i1, m2, m4, m6, v3, v5, v7, ib, «is», na, ia, fa, rd, kr, zb, blk, c12, c10, c9, c8, c5, c7⟩ := HZ.out
  have hg1 : gr ≠ g1 := by omega
  have hb8 : b8 = false := by cases b8; rfl; exact absurd (c8 rfl) (by simp)
  subst hb8
  have hb9 : b9 = false := by cases b9; rfl; exact absurd (c9 rfl) (by simp)
  subst hb9
  have hb10 : b10 = false := by cases b10; rfl; exact absurd ((c10 rfl).2) (by simp)
  subst hb10
  have hb12 : b12 = false := by cases b12; rfl; exact absurd ((c12 rfl).2) (by simp)
  subst hb12
  refine HK.out _ _ ⟨_, _, _, _, _, _, _, _, _, _, _, _, _, _, _, _, _, _, _, _, _, _, _, _, _, rfl, rfl, ⟨i0, i1, m2, m4, m6, v3, fun _ => rfl, v7, ib, fun h => absurd h (by simp), fun h => ⟨(na h).1.stays (fun k e hl => hK.block k hl (by have := (na h).2 k e; omega)), (na h).2⟩, fun h => absurd h (by simp), fa, hS, Kr.tr kr hK, (hK.block _ (heap_lt zb) (fun e => hr0 e.symm)).trans zb, (hK.block _ (heap_lt blk) (fun e => hg1 e.symm)).trans blk, c12, c10, c9, c8, fun _ => rfl, fun h => absurd h (by simp)⟩⟩
set_option maxRecDepth 100000 in
theorem z91_6 (Q : Exit → Act → World → Prop) (w : World) (gr bw g0 g1 : Nat) (pm ps pa pp pb : ByteArray) (z : Array Value) (v : Value) (acc : List Fd) (s1 s2 : ByteArray) (nv : Bool) (rr r2 r3 r4 : Rd) (t1 t2 t4 t5 t6 t7 t8 t9 t10 t11 t12 t13 t14 t15 t16 t17 t30 : Value) (h01 : g0 < g1) (hr1 : gr < g1) (hr0 : gr ≠ g0) (hbw : bw < g0) (hw : w.heap.size ≤ g0) (h8 : 8 ≤ g0) (hx1 : rr.sk ⟨#[110, 101, 118, 101, 114]⟩ = (nv, r2)) (hx2 : r2.nx 1 = (s1, r3)) (hx3 : r3.nx 1 = (s2, r4)) (hlen : acc.length ≤ 1073741824) (b0 b1 b2 b3 b4 b5 b7 b8 b9 b10 b11 b12 : Bool) (x18 x19 x20 x21 x22 x23 x24 x25 x26 x27 x28 x29 : Value) (W : World) (hZ : Z91 w gr bw g0 g1 pm ps pa pp pb z v acc s1 s2 nv rr r2 r3 r4 b0 b1 b2 b3 b4 b5 false b7 b8 b9 b10 b11 b12 x18 x19 x20 x21 x22 x23 x24 x25 x26 x27 x28 x29 W) :
    wpOp Tryz.prog ops91 Q 6 (I91 w gr bw g0 g1 pm ps pa pp pb z v acc s1 s2 nv rr r2 r3 r4 t1 t2 t4 t5 t6 t7 t8 t9 t10 t11 t12 t13 t14 t15 t16 t17 t30 #[b0, b1, b2, b3, b4, b5, true, b7, b8, b9, b10, b11, b12]) { tmps := #[.pointer (some ⟨gr, 0, none⟩), t1, t2, .pointer (some ⟨g1, 0, none⟩), t4, t5, t6, t7, t8, t9, t10, t11, t12, t13, t14, t15, t16, t17, x18, x19, x20, x21, x22, x23, x24, x25, x26, x27, x28, x29, t30], defers := [] } W := by
  refine wpOpP_step (o := { dst := some 24, op := Op.move (Operand.tmp 0), type := 109, pos := "read.go:147", after := #[], guard := none }) rfl ?_
  obtain ⟨K, hKd⟩ : ∃ K, I91 w gr bw g0 g1 pm ps pa pp pb z v acc s1 s2 nv rr r2 r3 r4 t1 t2 t4 t5 t6 t7 t8 t9 t10 t11 t12 t13 t14 t15 t16 t17 t30 #[b0, b1, b2, b3, b4, b5, true, b7, b8, b9, b10, b11, b12] = K := ⟨_, rfl⟩
  have HK : Hid (∀ a V, I91 w gr bw g0 g1 pm ps pa pp pb z v acc s1 s2 nv rr r2 r3 r4 t1 t2 t4 t5 t6 t7 t8 t9 t10 t11 t12 t13 t14 t15 t16 t17 t30 #[b0, b1, b2, b3, b4, b5, true, b7, b8, b9, b10, b11, b12] a V → K a V) := hid fun a V h => by rw [← hKd]; exact h
  rw [hKd]
  clear hKd
  have HZ := hid hZ
  clear hZ
  go_wp2_with fail
  obtain ⟨i0, i1, m2, m4, m6, v3, v5, v7, ib, «is», na, ia, fa, rd, kr, zb, blk, c12, c10, c9, c8, c5, c7⟩ := HZ.out
  refine HK.out _ _ ⟨_, _, _, _, _, _, _, _, _, _, _, _, _, _, _, _, _, _, _, _, _, _, _, _, _, rfl, rfl, ⟨i0, i1, m2, m4, fun _ => rfl, v3, v5, v7, ib, «is», na, ia, fa, rd, kr, zb, blk, c12, c10, c9, c8, c5, c7⟩⟩
set_option maxRecDepth 100000 in
theorem z91_7 (Q : Exit → Act → World → Prop) (w : World) (gr bw g0 g1 : Nat) (pm ps pa pp pb : ByteArray) (z : Array Value) (v : Value) (acc : List Fd) (s1 s2 : ByteArray) (nv : Bool) (rr r2 r3 r4 : Rd) (t1 t2 t4 t5 t6 t7 t8 t9 t10 t11 t12 t13 t14 t15 t16 t17 t30 : Value) (h01 : g0 < g1) (hr1 : gr < g1) (hr0 : gr ≠ g0) (hbw : bw < g0) (hw : w.heap.size ≤ g0) (h8 : 8 ≤ g0) (hx1 : rr.sk ⟨#[110, 101, 118, 101, 114]⟩ = (nv, r2)) (hx2 : r2.nx 1 = (s1, r3)) (hx3 : r3.nx 1 = (s2, r4)) (hlen : acc.length ≤ 1073741824) (b0 b1 b2 b3 b4 b8 b9 b10 b11 b12 : Bool) (x18 x19 x20 x21 x22 x23 x24 x25 x26 x27 x28 x29 : Value) (W : World) (hZ : Z91 w gr bw g0 g1 pm ps pa pp pb z v acc s1 s2 nv rr r2 r3 r4 b0 b1 b2 b3 b4 true true false b8 b9 b10 b11 b12 x18 x19 x20 x21 x22 x23 x24 x25 x26 x27 x28 x29 W) :
    wpOp Tryz.prog ops91 Q 7 (I91 w gr bw g0 g1 pm ps pa pp pb z v acc s1 s2 nv rr r2 r3 r4 t1 t2 t4 t5 t6 t7 t8 t9 t10 t11 t12 t13 t14 t15 t16 t17 t30 #[b0, b1, b2, b3, b4, true, true, true, b8, b9, b10, b11, b12]) { tmps := #[.pointer (some ⟨gr, 0, none⟩), t1, t2, .pointer (some ⟨g1, 0, none⟩), t4, t5, t6, t7, t8, t9, t10, t11, t12, t13, t14, t15, t16, t17, x18, x19, x20, x21, x22, x23, x24, x25, x26, x27, x28, x29, t30], defers := [] } W := by
  refine wpOpP_step (o := { dst := some 25, op := Op.call { callee := Callee.value (Operand.func 88), args := #[Operand.tmp 24], argTypes := #[109] }, type := 9, pos := "read.go:147", after := #[{ on := 6, ground := Ground.data }, { on := 5, ground := Ground.chain }], guard := none }) rfl ?_
  obtain ⟨K, hKd⟩ : ∃ K, I91 w gr bw g0 g1 pm ps pa pp pb z v acc s1 s2 nv rr r2 r3 r4 t1 t2 t4 t5 t6 t7 t8 t9 t10 t11 t12 t13 t14 t15 t16 t17 t30 #[b0, b1, b2, b3, b4, true, true, true, b8, b9, b10, b11, b12] = K := ⟨_, rfl⟩
  have HK : Hid (∀ a V, I91 w gr bw g0 g1 pm ps pa pp pb z v acc s1 s2 nv rr r2 r3 r4 t1 t2 t4 t5 t6 t7 t8 t9 t10 t11 t12 t13 t14 t15 t16 t17 t30 #[b0, b1, b2, b3, b4, true, true, true, b8, b9, b10, b11, b12] a V → K a V) := hid fun a V h => by rw [← hKd]; exact h
  rw [hKd]
  clear hKd
  have hxm := hZ.m6 rfl
  subst hxm
  have HT := hid (text_any gr bw r3  W hZ.rd)
  rw [hx3] at HT
  have HZ := hid hZ
  clear hZ
  go_wp2_with fail
  go_at_call 88
  refine HT.out.mono ?_
  rintro e V ⟨rfl, hS, hK⟩
  obtain ⟨i0, i1, m2, m4, m6, v3, v5, v7, ib, «is», na, ia, fa, rd, kr, zb, blk, c12, c10, c9, c8, c5, c7⟩ := HZ.out
  have hg1 : gr ≠ g1 := by omega
  have hb8 : b8 = false := by cases b8; rfl; exact absurd (c8 rfl) (by simp)
  subst hb8
  have hb9 : b9 = false := by cases b9; rfl; exact absurd (c9 rfl) (by simp)
  subst hb9
  have hb10 : b10 = false := by cases b10; rfl; exact absurd ((c10 rfl).2) (by simp)
  subst hb10
  have hb12 : b12 = false := by cases b12; rfl; exact absurd ((c12 rfl).2) (by simp)
  subst hb12
  refine HK.out _ _ ⟨_, _, _, _, _, _, _, _, _, _, _, _, _, _, _, _, _, _, _, _, _, _, _, _, _, rfl, rfl, ⟨i0, i1, m2, m4, m6, v3, v5, fun _ => rfl, ib, fun h => absurd h (by simp), fun h => ⟨(na h).1.stays (fun k e hl => hK.block k hl (by have := (na h).2 k e; omega)), (na h).2⟩, fun h => absurd h (by simp), fa, hS, Kr.tr kr hK, (hK.block _ (heap_lt zb) (fun e => hr0 e.symm)).trans zb, (hK.block _ (heap_lt blk) (fun e => hg1 e.symm)).trans blk, c12, c10, c9, fun h => absurd h (by simp), c5, fun _ => rfl⟩⟩
set_option maxRecDepth 100000 in
theorem z91_8 (Q : Exit → Act → World → Prop) (w : World) (gr bw g0 g1 : Nat) (pm ps pa pp pb : ByteArray) (z : Array Value) (v : Value) (acc : List Fd) (s1 s2 : ByteArray) (nv : Bool) (rr r2 r3 r4 : Rd) (t1 t2 t4 t5 t6 t7 t8 t9 t10 t11 t12 t13 t14 t15 t16 t17 t30 : Value) (h01 : g0 < g1) (hr1 : gr < g1) (hr0 : gr ≠ g0) (hbw : bw < g0) (hw : w.heap.size ≤ g0) (h8 : 8 ≤ g0) (hx1 : rr.sk ⟨#[110, 101, 118, 101, 114]⟩ = (nv, r2)) (hx2 : r2.nx 1 = (s1, r3)) (hx3 : r3.nx 1 = (s2, r4)) (hlen : acc.length ≤ 1073741824) (b0 b1 b2 b4 b6 b9 b10 b11 b12 : Bool) (x18 x19 x20 x21 x22 x23 x24 x25 x26 x27 x28 x29 : Value) (W : World) (hZ : Z91 w gr bw g0 g1 pm ps pa pp pb z v acc s1 s2 nv rr r2 r3 r4 b0 b1 b2 true b4 true b6 true false b9 b10 b11 b12 x18 x19 x20 x21 x22 x23 x24 x25 x26 x27 x28 x29 W) :
    wpOp Tryz.prog ops91 Q 8 (I91 w gr bw g0 g1 pm ps pa pp pb z v acc s1 s2 nv rr r2 r3 r4 t1 t2 t4 t5 t6 t7 t8 t9 t10 t11 t12 t13 t14 t15 t16 t17 t30 #[b0, b1, b2, true, b4, true, b6, true, true, b9, b10, b11, b12]) { tmps := #[.pointer (some ⟨gr, 0, none⟩), t1, t2, .pointer (some ⟨g1, 0, none⟩), t4, t5, t6, t7, t8, t9, t10, t11, t12, t13, t14, t15, t16, t17, x18, x19, x20, x21, x22, x23, x24, x25, x26, x27, x28, x29, t30], defers := [] } W := by
  refine wpOpP_step (o := { dst := some 26, op := Op.build 66 #[(2, Operand.tmp 21), (0, Operand.tmp 23), (1, Operand.tmp 25)], type := 66, pos := "read.go:147", after := #[{ on := 3, ground := Ground.data }, { on := 5, ground := Ground.data }, { on := 7, ground := Ground.data }], guard := none }) rfl ?_
  obtain ⟨K, hKd⟩ : ∃ K, I91 w gr bw g0 g1 pm ps pa pp pb z v acc s1 s2 nv rr r2 r3 r4 t1 t2 t4 t5 t6 t7 t8 t9 t10 t11 t12 t13 t14 t15 t16 t17 t30 #[b0, b1, b2, true, b4, true, b6, true, true, b9, b10, b11, b12] = K := ⟨_, rfl⟩
  have HK : Hid (∀ a V, I91 w gr bw g0 g1 pm ps pa pp pb z v acc s1 s2 nv rr r2 r3 r4 t1 t2 t4 t5 t6 t7 t8 t9 t10 t11 t12 t13 t14 t15 t16 t17 t30 #[b0, b1, b2, true, b4, true, b6, true, true, b9, b10, b11, b12] a V → K a V) := hid fun a V h => by rw [← hKd]; exact h
  rw [hKd]
  clear hKd
  have hxv3 := hZ.v3 rfl
  subst hxv3
  have hxv5 := hZ.v5 rfl
  subst hxv5
  have hxv7 := hZ.v7 rfl
  subst hxv7
  have HZ := hid hZ
  clear hZ
  go_wp2_with fail
  obtain ⟨i0, i1, m2, m4, m6, v3, v5, v7, ib, «is», na, ia, fa, rd, kr, zb, blk, c12, c10, c9, c8, c5, c7⟩ := HZ.out
  refine HK.out _ _ ⟨_, _, _, _, _, _, _, _, _, _, _, _, _, _, _, _, _, _, _, _, _, _, _, _, _, rfl, rfl, ⟨i0, i1, m2, m4, m6, v3, v5, v7, fun _ => rfl, «is», na, ia, fa, rd, kr, zb, blk, c12, c10, fun _ => rfl, fun _ => rfl, c5, c7⟩⟩
set_option maxRecDepth 100000 in
theorem z91_9 (Q : Exit → Act → World → Prop) (w : World) (gr bw g0 g1 : Nat) (pm ps pa pp pb : ByteArray) (z : Array Value) (v : Value) (acc : List Fd) (s1 s2 : ByteArray) (nv : Bool) (rr r2 r3 r4 : Rd) (t1 t2 t4 t5 t6 t7 t8 t9 t10 t11 t12 t13 t14 t15 t16 t17 t30 : Value) (h01 : g0 < g1) (hr1 : gr < g1) (hr0 : gr ≠ g0) (hbw : bw < g0) (hw : w.heap.size ≤ g0) (h8 : 8 ≤ g0) (hx1 : rr.sk ⟨#[110, 101, 118, 101, 114]⟩ = (nv, r2)) (hx2 : r2.nx 1 = (s1, r3)) (hx3 : r3.nx 1 = (s2, r4)) (hlen : acc.length ≤ 1073741824) (b0 b1 b2 b3 b4 b5 b6 b7 b10 b11 b12 : Bool) (x18 x19 x20 x21 x22 x23 x24 x25 x26 x27 x28 x29 : Value) (W : World) (hZ : Z91 w gr bw g0 g1 pm ps pa pp pb z v acc s1 s2 nv rr r2 r3 r4 b0 b1 b2 b3 b4 b5 b6 b7 true false b10 b11 b12 x18 x19 x20 x21 x22 x23 x24 x25 x26 x27 x28 x29 W) :
    wpOp Tryz.prog ops91 Q 9 (I91 w gr bw g0 g1 pm ps pa pp pb z v acc s1 s2 nv rr r2 r3 r4 t1 t2 t4 t5 t6 t7 t8 t9 t10 t11 t12 t13 t14 t15 t16 t17 t30 #[b0, b1, b2, b3, b4, b5, b6, b7, true, true, b10, b11, b12]) { tmps := #[.pointer (some ⟨gr, 0, none⟩), t1, t2, .pointer (some ⟨g1, 0, none⟩), t4, t5, t6, t7, t8, t9, t10, t11, t12, t13, t14, t15, t16, t17, x18, x19, x20, x21, x22, x23, x24, x25, x26, x27, x28, x29, t30], defers := [] } W := by
  refine wpOpP_step (o := { dst := some 27, op := Op.buildSlice 29 1 #[(0, Operand.tmp 26)], type := 29, pos := "read.go:147", after := #[{ on := 8, ground := Ground.data }], guard := none }) rfl ?_
  obtain ⟨K, hKd⟩ : ∃ K, I91 w gr bw g0 g1 pm ps pa pp pb z v acc s1 s2 nv rr r2 r3 r4 t1 t2 t4 t5 t6 t7 t8 t9 t10 t11 t12 t13 t14 t15 t16 t17 t30 #[b0, b1, b2, b3, b4, b5, b6, b7, true, true, b10, b11, b12] = K := ⟨_, rfl⟩
  have HK : Hid (∀ a V, I91 w gr bw g0 g1 pm ps pa pp pb z v acc s1 s2 nv rr r2 r3 r4 t1 t2 t4 t5 t6 t7 t8 t9 t10 t11 t12 t13 t14 t15 t16 t17 t30 #[b0, b1, b2, b3, b4, b5, b6, b7, true, true, b10, b11, b12] a V → K a V) := hid fun a V h => by rw [← hKd]; exact h
  rw [hKd]
  clear hKd
  have hxs := hZ.ib rfl
  subst hxs
  have HZ := hid hZ
  clear hZ
  go_wp2_with fail
  obtain ⟨i0, i1, m2, m4, m6, v3, v5, v7, ib, «is», na, ia, fa, rd, kr, zb, blk, c12, c10, c9, c8, c5, c7⟩ := HZ.out
  have hb : Below W.heap.size W (W.alloc (.cells #[.string s1, .string s2, .bool nv] 66)) := bel1 _ _
  have hb10 : b10 = false := by cases b10; rfl; exact absurd ((c10 rfl).2) (by simp)
  subst hb10
  have hb12 : b12 = false := by cases b12; rfl; exact absurd ((c12 rfl).2) (by simp)
  subst hb12
  refine HK.out _ _ ⟨_, _, _, _, _, _, _, _, _, _, _, _, _, _, _, _, _, _, _, _, _, _, _, _, _, rfl, rfl, ⟨i0, i1, m2, m4, m6, v3, v5, v7, ib, fun _ _ => ⟨_, rfl, by rw [heap_al, if_pos rfl]⟩, fun h => ⟨(na h).1.below hb, (na h).2⟩, fun h => absurd h (by simp), fa, rd.below hb, Kr.tr kr (Ks.of_below hb), (hb.block _ (heap_lt zb)).trans zb, (hb.block _ (heap_lt blk)).trans blk, c12, fun h => absurd h (by simp), fun _ => rfl, c8, c5, c7⟩⟩
set_option maxRecDepth 100000 in
theorem z91_10 (Q : Exit → Act → World → Prop) (w : World) (gr bw g0 g1 : Nat) (pm ps pa pp pb : ByteArray) (z : Array Value) (v : Value) (acc : List Fd) (s1 s2 : ByteArray) (nv : Bool) (rr r2 r3 r4 : Rd) (t1 t2 t4 t5 t6 t7 t8 t9 t10 t11 t12 t13 t14 t15 t16 t17 t30 : Value) (h01 : g0 < g1) (hr1 : gr < g1) (hr0 : gr ≠ g0) (hbw : bw < g0) (hw : w.heap.size ≤ g0) (h8 : 8 ≤ g0) (hx1 : rr.sk ⟨#[110, 101, 118, 101, 114]⟩ = (nv, r2)) (hx2 : r2.nx 1 = (s1, r3)) (hx3 : r3.nx 1 = (s2, r4)) (hlen : acc.length ≤ 1073741824) (b0 b2 b3 b4 b5 b6 b7 b8 b11 b12 : Bool) (x18 x19 x20 x21 x22 x23 x24 x25 x26 x27 x28 x29 : Value) (W : World) (hZ : Z91 w gr bw g0 g1 pm ps pa pp pb z v acc s1 s2 nv rr r2 r3 r4 b0 true b2 b3 b4 b5 b6 b7 b8 true false b11 b12 x18 x19 x20 x21 x22 x23 x24 x25 x26 x27 x28 x29 W) :
    wpOp Tryz.prog ops91 Q 10 (I91 w gr bw g0 g1 pm ps pa pp pb z v acc s1 s2 nv rr r2 r3 r4 t1 t2 t4 t5 t6 t7 t8 t9 t10 t11 t12 t13 t14 t15 t16 t17 t30 #[b0, true, b2, b3, b4, b5, b6, b7, b8, true, true, b11, b12]) { tmps := #[.pointer (some ⟨gr, 0, none⟩), t1, t2, .pointer (some ⟨g1, 0, none⟩), t4, t5, t6, t7, t8, t9, t10, t11, t12, t13, t14, t15, t16, t17, x18, x19, x20, x21, x22, x23, x24, x25, x26, x27, x28, x29, t30], defers := [] } W := by
  refine wpOpP_step (o := { dst := some 28, op := Op.call { callee := Callee.builtin Builtin.append, args := #[Operand.tmp 19, Operand.tmp 27], argTypes := #[29, 29] }, type := 29, pos := "read.go:147", after := #[{ on := 1, ground := Ground.data }, { on := 9, ground := Ground.data }, { on := 7, ground := Ground.chain }], guard := none }) rfl ?_
  obtain ⟨K, hKd⟩ : ∃ K, I91 w gr bw g0 g1 pm ps pa pp pb z v acc s1 s2 nv rr r2 r3 r4 t1 t2 t4 t5 t6 t7 t8 t9 t10 t11 t12 t13 t14 t15 t16 t17 t30 #[b0, true, b2, b3, b4, b5, b6, b7, b8, true, true, b11, b12] = K := ⟨_, rfl⟩
  have HK : Hid (∀ a V, I91 w gr bw g0 g1 pm ps pa pp pb z v acc s1 s2 nv rr r2 r3 r4 t1 t2 t4 t5 t6 t7 t8 t9 t10 t11 t12 t13 t14 t15 t16 t17 t30 #[b0, true, b2, b3, b4, b5, b6, b7, b8, true, true, b11, b12] a V → K a V) := hid fun a V h => by rw [← hKd]; exact h
  rw [hKd]
  clear hKd
  obtain ⟨i0, i1, m2, m4, m6, v3, v5, v7, ib, «is», na, ia, fa, rd, kr, zb, blk, c12, c10, c9, c8, c5, c7⟩ := hZ
  have hq8 := c9 rfl
  subst hq8
  have hq7 := c8 rfl
  subst hq7
  have hq5 := c7 rfl
  subst hq5
  have hq3 := c5 rfl
  subst hq3
  have hbt : b12 = false := by cases b12; rfl; exact absurd ((c12 rfl).2) (by simp)
  subst hbt
  have hx1 := i1 rfl
  subst hx1
  obtain ⟨nR, nO⟩ := na rfl
  obtain ⟨B, rfl, hB⟩ := «is» rfl rfl
  obtain ⟨base, cap, W', hrun, hR, hG⟩ := app okFd W x19 acc nR _ [(⟨s1, s2, nv⟩ : Fd)] (in_one (E := EFd) W B (⟨s1, s2, nv⟩ : Fd) #[.string s1, .string s2, .bool nv] 66 (0, 0) hB rfl) (by rw [show EFd.by' = 40 from rfl]; simp only [List.length_cons, List.length_nil]; omega)
  refine step_append_run rfl (.tmp 19) (.tmp 27) 29 29 rfl hrun rfl rfl ?_
  have hms : g1 < W.heap.size := heap_lt blk
  have hk := Ks.of_gr hG
  have hkr : Kr gr w W' := kr.trans hk (fun _ _ h => h) (fun i hi e => by have := nO i e; omega)
  refine HK.out _ _ ⟨_, _, _, _, _, _, _, _, _, _, _, _, _, _, _, _, _, _, _, _, _, _, _, _, _, rfl, rfl, ⟨i0, i1, m2, m4, m6, v3, v5, v7, ib, fun _ h => absurd h (by simp), fun h => absurd h (by simp), fun _ => ⟨hR, fun k hk => (hG.own k hk).elim (nO k) fun e => Nat.lt_of_lt_of_le hms e⟩, fa, rd.offs (fun k e => by have := nO k e; omega) hk, hkr, (hk.block _ (heap_lt zb) (fun e => by have := nO _ e; omega)).trans zb, (hk.block _ (heap_lt blk) (fun e => by have := nO _ e; omega)).trans blk, fun h => absurd h (by simp), fun _ => ⟨rfl, rfl⟩, c9, c8, c5, c7⟩⟩
set_option maxRecDepth 100000 in
theorem z91_11 (Q : Exit → Act → World → Prop) (w : World) (gr bw g0 g1 : Nat) (pm ps pa pp pb : ByteArray) (z : Array Value) (v : Value) (acc : List Fd) (s1 s2 : ByteArray) (nv : Bool) (rr r2 r3 r4 : Rd) (t1 t2 t4 t5 t6 t7 t8 t9 t10 t11 t12 t13 t14 t15 t16 t17 t30 : Value) (h01 : g0 < g1) (hr1 : gr < g1) (hr0 : gr ≠ g0) (hbw : bw < g0) (hw : w.heap.size ≤ g0) (h8 : 8 ≤ g0) (hx1 : rr.sk ⟨#[110, 101, 118, 101, 114]⟩ = (nv, r2)) (hx2 : r2.nx 1 = (s1, r3)) (hx3 : r3.nx 1 = (s2, r4)) (hlen : acc.length ≤ 1073741824) (b12 : Bool) (x18 x19 x20 x21 x22 x23 x24 x25 x26 x27 x28 x29 : Value) (W : World) (hZ : Z91 w gr bw g0 g1 pm ps pa pp pb z v acc s1 s2 nv rr r2 r3 r4 true true true true true true true true true true true false b12 x18 x19 x20 x21 x22 x23 x24 x25 x26 x27 x28 x29 W) :
    wpOp Tryz.prog ops91 Q 11 (I91 w gr bw g0 g1 pm ps pa pp pb z v acc s1 s2 nv rr r2 r3 r4 t1 t2 t4 t5 t6 t7 t8 t9 t10 t11 t12 t13 t14 t15 t16 t17 t30 #[true, true, true, true, true, true, true, true, true, true, true, true, b12]) { tmps := #[.pointer (some ⟨gr, 0, none⟩), t1, t2, .pointer (some ⟨g1, 0, none⟩), t4, t5, t6, t7, t8, t9, t10, t11, t12, t13, t14, t15, t16, t17, x18, x19, x20, x21, x22, x23, x24, x25, x26, x27, x28, x29, t30], defers := [] } W := by
  refine wpOpP_step (o := { dst := some 29, op := Op.fieldAddr 31 (Operand.tmp 3) 4, type := 0, pos := "read.go:147", after := #[{ on := 0, ground := Ground.phase }, { on := 1, ground := Ground.phase }, { on := 2, ground := Ground.phase }, { on := 3, ground := Ground.phase }, { on := 4, ground := Ground.phase }, { on := 5, ground := Ground.phase }, { on := 6, ground := Ground.phase }, { on := 7, ground := Ground.phase }, { on := 8, ground := Ground.phase }, { on := 9, ground := Ground.phase }, { on := 10, ground := Ground.phase }], guard := none }) rfl ?_
  obtain ⟨K, hKd⟩ : ∃ K, I91 w gr bw g0 g1 pm ps pa pp pb z v acc s1 s2 nv rr r2 r3 r4 t1 t2 t4 t5 t6 t7 t8 t9 t10 t11 t12 t13 t14 t15 t16 t17 t30 #[true, true, true, true, true, true, true, true, true, true, true, true, b12] = K := ⟨_, rfl⟩
  have HK : Hid (∀ a V, I91 w gr bw g0 g1 pm ps pa pp pb z v acc s1 s2 nv rr r2 r3 r4 t1 t2 t4 t5 t6 t7 t8 t9 t10 t11 t12 t13 t14 t15 t16 t17 t30 #[true, true, true, true, true, true, true, true, true, true, true, true, b12] a V → K a V) := hid fun a V h => by rw [← hKd]; exact h
  rw [hKd]
  clear hKd
  have HZ := hid hZ
  clear hZ
  go_wp2_with fail
  obtain ⟨i0, i1, m2, m4, m6, v3, v5, v7, ib, «is», na, ia, fa, rd, kr, zb, blk, c12, c10, c9, c8, c5, c7⟩ := HZ.out
  refine HK.out _ _ ⟨_, _, _, _, _, _, _, _, _, _, _, _, _, _, _, _, _, _, _, _, _, _, _, _, _, rfl, rfl, ⟨i0, i1, m2, m4, m6, v3, v5, v7, ib, «is», na, ia, fun _ => rfl, rd, kr, zb, blk, c12, c10, c9, c8, c5, c7⟩⟩
set_option maxRecDepth 100000 in
theorem z91_12 (Q : Exit → Act → World → Prop) (w : World) (gr bw g0 g1 : Nat) (pm ps pa pp pb : ByteArray) (z : Array Value) (v : Value) (acc : List Fd) (s1 s2 : ByteArray) (nv : Bool) (rr r2 r3 r4 : Rd) (t1 t2 t4 t5 t6 t7 t8 t9 t10 t11 t12 t13 t14 t15 t16 t17 t30 : Value) (h01 : g0 < g1) (hr1 : gr < g1) (hr0 : gr ≠ g0) (hbw : bw < g0) (hw : w.heap.size ≤ g0) (h8 : 8 ≤ g0) (hx1 : rr.sk ⟨#[110, 101, 118, 101, 114]⟩ = (nv, r2)) (hx2 : r2.nx 1 = (s1, r3)) (hx3 : r3.nx 1 = (s2, r4)) (hlen : acc.length ≤ 1073741824) (x18 x19 x20 x21 x22 x23 x24 x25 x26 x27 x28 x29 : Value) (W : World) (hZ : Z91 w gr bw g0 g1 pm ps pa pp pb z v acc s1 s2 nv rr r2 r3 r4 true true true true true true true true true true true true false x18 x19 x20 x21 x22 x23 x24 x25 x26 x27 x28 x29 W) :
    wpOp Tryz.prog ops91 Q 12 (I91 w gr bw g0 g1 pm ps pa pp pb z v acc s1 s2 nv rr r2 r3 r4 t1 t2 t4 t5 t6 t7 t8 t9 t10 t11 t12 t13 t14 t15 t16 t17 t30 #[true, true, true, true, true, true, true, true, true, true, true, true, true]) { tmps := #[.pointer (some ⟨gr, 0, none⟩), t1, t2, .pointer (some ⟨g1, 0, none⟩), t4, t5, t6, t7, t8, t9, t10, t11, t12, t13, t14, t15, t16, t17, x18, x19, x20, x21, x22, x23, x24, x25, x26, x27, x28, x29, t30], defers := [] } W := by
  refine wpOpP_step (o := { dst := none, op := Op.store 29 (Operand.tmp 29) (Operand.tmp 28), type := 0, pos := "read.go:147", after := #[{ on := 11, ground := Ground.data }, { on := 10, ground := Ground.data }, { on := 10, ground := Ground.chain }, { on := 0, ground := Ground.phase }, { on := 1, ground := Ground.phase }, { on := 2, ground := Ground.phase }, { on := 3, ground := Ground.phase }, { on := 4, ground := Ground.phase }, { on := 5, ground := Ground.phase }, { on := 6, ground := Ground.phase }, { on := 7, ground := Ground.phase }, { on := 8, ground := Ground.phase }, { on := 9, ground := Ground.phase }, { on := 10, ground := Ground.phase }], guard := none }) rfl ?_
  obtain ⟨K, hKd⟩ : ∃ K, I91 w gr bw g0 g1 pm ps pa pp pb z v acc s1 s2 nv rr r2 r3 r4 t1 t2 t4 t5 t6 t7 t8 t9 t10 t11 t12 t13 t14 t15 t16 t17 t30 #[true, true, true, true, true, true, true, true, true, true, true, true, true] = K := ⟨_, rfl⟩
  have HK : Hid (∀ a V, I91 w gr bw g0 g1 pm ps pa pp pb z v acc s1 s2 nv rr r2 r3 r4 t1 t2 t4 t5 t6 t7 t8 t9 t10 t11 t12 t13 t14 t15 t16 t17 t30 #[true, true, true, true, true, true, true, true, true, true, true, true, true] a V → K a V) := hid fun a V h => by rw [← hKd]; exact h
  rw [hKd]
  clear hKd
  have hx6 := hZ.fa rfl
  subst hx6
  obtain ⟨ba, ca, e, _⟩ := (hZ.ia rfl).1.slice
  obtain ⟨nn, hn⟩ : ∃ nn, (acc ++ [(⟨s1, s2, nv⟩ : Fd)]).length = nn := ⟨_, rfl⟩
  rw [hn] at e
  clear hn
  subst e
  have c0 := cell_blk hZ.blk 4
  have f0 := frozen_blk hZ.blk
  have l0 := heap_lt hZ.blk
  simp only [List.getElem?_toArray, List.getElem?_cons_zero, List.getElem?_cons_succ, Bool.false_eq_true, if_false] at c0
  have HZ := hid hZ
  clear hZ
  go_wp2_with fail
  obtain ⟨i0, i1, m2, m4, m6, v3, v5, v7, ib, «is», na, ia, fa, rd, kr, zb, blk, c12, c10, c9, c8, c5, c7⟩ := HZ.out
  have hk := Ks.setCell (fun k => k = g1) W g1 4 (.slice ba nn ca) rfl
  have hms : g0 < W.heap.size := heap_lt zb
  refine HK.out _ _ ⟨_, _, _, _, _, _, _, _, _, _, _, _, _, _, _, _, _, _, _, _, _, _, _, _, _, rfl, rfl, ⟨i0, i1, m2, m4, m6, v3, v5, v7, ib, fun _ h => absurd h (by simp), fun h => absurd h (by simp), fun _ => ⟨(ia rfl).1.stays (fun k e hl => hk.block k hl (by have := (ia rfl).2 k e; omega)), (ia rfl).2⟩, fa, rd.offs (fun k e => by omega) hk, kr.trans hk (fun _ _ h => h) (fun i hi e => by omega), (hk.block _ (heap_lt zb) (by omega)).trans zb, by rw [setCell_block _ _ _ _ _ _ _ blk]; rfl, fun _ => ⟨rfl, rfl⟩, c10, c9, c8, c5, c7⟩⟩
end Go.Proofs.YtghppkfopglgaaaGreatDoor
namespace Go.Proofs.YtghppkfopglgaaaGreatDoor
open Go.RowKit
set_option linter.unusedVariables false
set_option linter.unusedSimpArgs false
theorem z91_step (Q : Exit → Act → World → Prop) (w : World) (gr bw g0 g1 : Nat) (pm ps pa pp pb : ByteArray) (z : Array Value) (v : Value) (acc : List Fd) (s1 s2 : ByteArray) (nv : Bool) (rr r2 r3 r4 : Rd) (t1 t2 t4 t5 t6 t7 t8 t9 t10 t11 t12 t13 t14 t15 t16 t17 t30 : Value) (h01 : g0 < g1) (hr1 : gr < g1) (hr0 : gr ≠ g0) (hbw : bw < g0) (hw : w.heap.size ≤ g0) (h8 : 8 ≤ g0) (hx1 : rr.sk ⟨#[110, 101, 118, 101, 114]⟩ = (nv, r2)) (hx2 : r2.nx 1 = (s1, r3)) (hx3 : r3.nx 1 = (s2, r4)) (hlen : acc.length ≤ 1073741824) : ∀ L a W, I91 w gr bw g0 g1 pm ps pa pp pb z v acc s1 s2 nv rr r2 r3 r4 t1 t2 t4 t5 t6 t7 t8 t9 t10 t11 t12 t13 t14 t15 t16 t17 t30 L a W → ∀ i, i ∈ Region.ready .any ops91 L → wpOp Tryz.prog ops91 Q i (I91 w gr bw g0 g1 pm ps pa pp pb z v acc s1 s2 nv rr r2 r3 r4 t1 t2 t4 t5 t6 t7 t8 t9 t10 t11 t12 t13 t14 t15 t16 t17 t30 (L.setIfInBounds i true)) a W := by
  rintro L a W ⟨b0, b1, b2, b3, b4, b5, b6, b7, b8, b9, b10, b11, b12, x18, x19, x20, x21, x22, x23, x24, x25, x26, x27, x28, x29, rfl, rfl, hZ⟩ i h
  obtain ⟨h1, o, ho, hp⟩ := mem_ready.1 h
  have hi : i < 13 := by
    refine Decidable.byContradiction fun hn => ?_
    simp only [Array.getD, List.size_toArray, List.length_cons, List.length_nil, Nat.reduceAdd, dif_neg hn] at h1
    cases h1
  obtain rfl | rfl | rfl | rfl | rfl | rfl | rfl | rfl | rfl | rfl | rfl | rfl | rfl : i = 0 ∨ i = 1 ∨ i = 2 ∨ i = 3 ∨ i = 4 ∨ i = 5 ∨ i = 6 ∨ i = 7 ∨ i = 8 ∨ i = 9 ∨ i = 10 ∨ i = 11 ∨ i = 12 := by omega
  · obtain rfl := Option.some.inj (show some ({ dst := some 18, op := Op.fieldAddr 31 (Operand.tmp 3) 4, type := 0, pos := "read.go:147", after := #[], guard := none } : Oper) = some o from ho)
    obtain rfl : b0 = false := h1
    exact z91_0 Q w gr bw g0 g1 pm ps pa pp pb z v acc s1 s2 nv rr r2 r3 r4 t1 t2 t4 t5 t6 t7 t8 t9 t10 t11 t12 t13 t14 t15 t16 t17 t30 h01 hr1 hr0 hbw hw h8 hx1 hx2 hx3 hlen _ _ _ _ _ _ _ _ _ _ _ _ _ _ _ _ _ _ _ _ _ _ _ _ W hZ
  · obtain rfl := Option.some.inj (show some ({ dst := some 19, op := Op.load 29 (Operand.tmp 18), type := 29, pos := "read.go:147", after := #[{ on := 0, ground := Ground.data }], guard := none } : Oper) = some o from ho)
    obtain rfl : b1 = false := h1
    obtain rfl : b0 = true := hp { on := 0, ground := Ground.data } (by simp) rfl
    exact z91_1 Q w gr bw g0 g1 pm ps pa pp pb z v acc s1 s2 nv rr r2 r3 r4 t1 t2 t4 t5 t6 t7 t8 t9 t10 t11 t12 t13 t14 t15 t16 t17 t30 h01 hr1 hr0 hbw hw h8 hx1 hx2 hx3 hlen _ _ _ _ _ _ _ _ _ _ _ _ _ _ _ _ _ _ _ _ _ _ _ W hZ
  · obtain rfl := Option.some.inj (show some ({ dst := some 20, op := Op.move (Operand.tmp 0), type := 109, pos := "read.go:147", after := #[], guard := none } : Oper) = some o from ho)
    obtain rfl : b2 = false := h1
    exact z91_2 Q w gr bw g0 g1 pm ps pa pp pb z v acc s1 s2 nv rr r2 r3 r4 t1 t2 t4 t5 t6 t7 t8 t9 t10 t11 t12 t13 t14 t15 t16 t17 t30 h01 hr1 hr0 hbw hw h8 hx1 hx2 hx3 hlen _ _ _ _ _ _ _ _ _ _ _ _ _ _ _ _ _ _ _ _ _ _ _ _ W hZ
  · obtain rfl := Option.some.inj (show some ({ dst := some 21, op := Op.call { callee := Callee.value (Operand.func 63), args := #[Operand.tmp 20, Operand.const (Value.string { data := #[110, 101, 118, 101, 114] })], argTypes := #[109, 9] }, type := 4, pos := "read.go:147", after := #[{ on := 2, ground := Ground.data }], guard := none } : Oper) = some o from ho)
    obtain rfl : b3 = false := h1
    obtain rfl : b2 = true := hp { on := 2, ground := Ground.data } (by simp) rfl
    exact z91_3 Q w gr bw g0 g1 pm ps pa pp pb z v acc s1 s2 nv rr r2 r3 r4 t1 t2 t4 t5 t6 t7 t8 t9 t10 t11 t12 t13 t14 t15 t16 t17 t30 h01 hr1 hr0 hbw hw h8 hx1 hx2 hx3 hlen _ _ _ _ _ _ _ _ _ _ _ _ _ _ _ _ _ _ _ _ _ _ _ W hZ
  · obtain rfl := Option.some.inj (show some ({ dst := some 22, op := Op.move (Operand.tmp 0), type := 109, pos := "read.go:147", after := #[], guard := none } : Oper) = some o from ho)
    obtain rfl : b4 = false := h1
    exact z91_4 Q w gr bw g0 g1 pm ps pa pp pb z v acc s1 s2 nv rr r2 r3 r4 t1 t2 t4 t5 t6 t7 t8 t9 t10 t11 t12 t13 t14 t15 t16 t17 t30 h01 hr1 hr0 hbw hw h8 hx1 hx2 hx3 hlen _ _ _ _ _ _ _ _ _ _ _ _ _ _ _ _ _ _ _ _ _ _ _ _ W hZ
  · obtain rfl := Option.some.inj (show some ({ dst := some 23, op := Op.call { callee := Callee.value (Operand.func 88), args := #[Operand.tmp 22], argTypes := #[109] }, type := 9, pos := "read.go:147", after := #[{ on := 4, ground := Ground.data }, { on := 3, ground := Ground.chain }], guard := none } : Oper) = some o from ho)
    obtain rfl : b5 = false := h1
    obtain rfl : b4 = true := hp { on := 4, ground := Ground.data } (by simp) rfl
    obtain rfl : b3 = true := hp { on := 3, ground := Ground.chain } (by simp) rfl
    exact z91_5 Q w gr bw g0 g1 pm ps pa pp pb z v acc s1 s2 nv rr r2 r3 r4 t1 t2 t4 t5 t6 t7 t8 t9 t10 t11 t12 t13 t14 t15 t16 t17 t30 h01 hr1 hr0 hbw hw h8 hx1 hx2 hx3 hlen _ _ _ _ _ _ _ _ _ _ _ _ _ _ _ _ _ _ _ _ _ _ W hZ
  · obtain rfl := Option.some.inj (show some ({ dst := some 24, op := Op.move (Operand.tmp 0), type := 109, pos := "read.go:147", after := #[], guard := none } : Oper) = some o from ho)
    obtain rfl : b6 = false := h1
    exact z91_6 Q w gr bw g0 g1 pm ps pa pp pb z v acc s1 s2 nv rr r2 r3 r4 t1 t2 t4 t5 t6 t7 t8 t9 t10 t11 t12 t13 t14 t15 t16 t17 t30 h01 hr1 hr0 hbw hw h8 hx1 hx2 hx3 hlen _ _ _ _ _ _ _ _ _ _ _ _ _ _ _ _ _ _ _ _ _ _ _ _ W hZ
  · obtain rfl := Option.some.inj (show some ({ dst := some 25, op := Op.call { callee := Callee.value (Operand.func 88), args := #[Operand.tmp 24], argTypes := #[109] }, type := 9, pos := "read.go:147", after := #[{ on := 6, ground := Ground.data }, { on := 5, ground := Ground.chain }], guard := none } : Oper) = some o from ho)
    obtain rfl : b7 = false := h1
    obtain rfl : b6 = true := hp { on := 6, ground := Ground.data } (by simp) rfl
    obtain rfl : b5 = true := hp { on := 5, ground := Ground.chain } (by simp) rfl
    exact z91_7 Q w gr bw g0 g1 pm ps pa pp pb z v acc s1 s2 nv rr r2 r3 r4 t1 t2 t4 t5 t6 t7 t8 t9 t10 t11 t12 t13 t14 t15 t16 t17 t30 h01 hr1 hr0 hbw hw h8 hx1 hx2 hx3 hlen _ _ _ _ _ _ _ _ _ _ _ _ _ _ _ _ _ _ _ _ _ _ W hZ
  · obtain rfl := Option.some.inj (show some ({ dst := some 26, op := Op.build 66 #[(2, Operand.tmp 21), (0, Operand.tmp 23), (1, Operand.tmp 25)], type := 66, pos := "read.go:147", after := #[{ on := 3, ground := Ground.data }, { on := 5, ground := Ground.data }, { on := 7, ground := Ground.data }], guard := none } : Oper) = some o from ho)
    obtain rfl : b8 = false := h1
    obtain rfl : b3 = true := hp { on := 3, ground := Ground.data } (by simp) rfl
    obtain rfl : b5 = true := hp { on := 5, ground := Ground.data } (by simp) rfl
    obtain rfl : b7 = true := hp { on := 7, ground := Ground.data } (by simp) rfl
    exact z91_8 Q w gr bw g0 g1 pm ps pa pp pb z v acc s1 s2 nv rr r2 r3 r4 t1 t2 t4 t5 t6 t7 t8 t9 t10 t11 t12 t13 t14 t15 t16 t17 t30 h01 hr1 hr0 hbw hw h8 hx1 hx2 hx3 hlen _ _ _ _ _ _ _ _ _ _ _ _ _ _ _ _ _ _ _ _ _ W hZ
  · obtain rfl := Option.some.inj (show some ({ dst := some 27, op := Op.buildSlice 29 1 #[(0, Operand.tmp 26)], type := 29, pos := "read.go:147", after := #[{ on := 8, ground := Ground.data }], guard := none } : Oper) = some o from ho)
    obtain rfl : b9 = false := h1
    obtain rfl : b8 = true := hp { on := 8, ground := Ground.data } (by simp) rfl
    exact z91_9 Q w gr bw g0 g1 pm ps pa pp pb z v acc s1 s2 nv rr r2 r3 r4 t1 t2 t4 t5 t6 t7 t8 t9 t10 t11 t12 t13 t14 t15 t16 t17 t30 h01 hr1 hr0 hbw hw h8 hx1 hx2 hx3 hlen _ _ _ _ _ _ _ _ _ _ _ _ _ _ _ _ _ _ _ _ _ _ _ W hZ
  · obtain rfl := Option.some.inj (show some ({ dst := some 28, op := Op.call { callee := Callee.builtin Builtin.append, args := #[Operand.tmp 19, Operand.tmp 27], argTypes := #[29, 29] }, type := 29, pos := "read.go:147", after := #[{ on := 1, ground := Ground.data }, { on := 9, ground := Ground.data }, { on := 7, ground := Ground.chain }], guard := none } : Oper) = some o from ho)
    obtain rfl : b10 = false := h1
    obtain rfl : b1 = true := hp { on := 1, ground := Ground.data } (by simp) rfl
    obtain rfl : b9 = true := hp { on := 9, ground := Ground.data } (by simp) rfl
    exact z91_10 Q w gr bw g0 g1 pm ps pa pp pb z v acc s1 s2 nv rr r2 r3 r4 t1 t2 t4 t5 t6 t7 t8 t9 t10 t11 t12 t13 t14 t15 t16 t17 t30 h01 hr1 hr0 hbw hw h8 hx1 hx2 hx3 hlen _ _ _ _ _ _ _ _ _ _ _ _ _ _ _ _ _ _ _ _ _ _ W hZ
  · obtain rfl := Option.some.inj (show some ({ dst := some 29, op := Op.fieldAddr 31 (Operand.tmp 3) 4, type := 0, pos := "read.go:147", after := #[{ on := 0, ground := Ground.phase }, { on := 1, ground := Ground.phase }, { on := 2, ground := Ground.phase }, { on := 3, ground := Ground.phase }, { on := 4, ground := Ground.phase }, { on := 5, ground := Ground.phase }, { on := 6, ground := Ground.phase }, { on := 7, ground := Ground.phase }, { on := 8, ground := Ground.phase }, { on := 9, ground := Ground.phase }, { on := 10, ground := Ground.phase }], guard := none } : Oper) = some o from ho)
    obtain rfl : b11 = false := h1
    obtain rfl : b0 = true := hp { on := 0, ground := Ground.phase } (by simp) rfl
    obtain rfl : b1 = true := hp { on := 1, ground := Ground.phase } (by simp) rfl
    obtain rfl : b2 = true := hp { on := 2, ground := Ground.phase } (by simp) rfl
    obtain rfl : b3 = true := hp { on := 3, ground := Ground.phase } (by simp) rfl
    obtain rfl : b4 = true := hp { on := 4, ground := Ground.phase } (by simp) rfl
    obtain rfl : b5 = true := hp { on := 5, ground := Ground.phase } (by simp) rfl
    obtain rfl : b6 = true := hp { on := 6, ground := Ground.phase } (by simp) rfl
    obtain rfl : b7 = true := hp { on := 7, ground := Ground.phase } (by simp) rfl
    obtain rfl : b8 = true := hp { on := 8, ground := Ground.phase } (by simp) rfl
    obtain rfl : b9 = true := hp { on := 9, ground := Ground.phase } (by simp) rfl
    obtain rfl : b10 = true := hp { on := 10, ground := Ground.phase } (by simp) rfl
    exact z91_11 Q w gr bw g0 g1 pm ps pa pp pb z v acc s1 s2 nv rr r2 r3 r4 t1 t2 t4 t5 t6 t7 t8 t9 t10 t11 t12 t13 t14 t15 t16 t17 t30 h01 hr1 hr0 hbw hw h8 hx1 hx2 hx3 hlen _ _ _ _ _ _ _ _ _ _ _ _ _ W hZ
  · obtain rfl := Option.some.inj (show some ({ dst := none, op := Op.store 29 (Operand.tmp 29) (Operand.tmp 28), type := 0, pos := "read.go:147", after := #[{ on := 11, ground := Ground.data }, { on := 10, ground := Ground.data }, { on := 10, ground := Ground.chain }, { on := 0, ground := Ground.phase }, { on := 1, ground := Ground.phase }, { on := 2, ground := Ground.phase }, { on := 3, ground := Ground.phase }, { on := 4, ground := Ground.phase }, { on := 5, ground := Ground.phase }, { on := 6, ground := Ground.phase }, { on := 7, ground := Ground.phase }, { on := 8, ground := Ground.phase }, { on := 9, ground := Ground.phase }, { on := 10, ground := Ground.phase }], guard := none } : Oper) = some o from ho)
    obtain rfl : b12 = false := h1
    obtain rfl : b0 = true := hp { on := 0, ground := Ground.phase } (by simp) rfl
    obtain rfl : b1 = true := hp { on := 1, ground := Ground.phase } (by simp) rfl
    obtain rfl : b2 = true := hp { on := 2, ground := Ground.phase } (by simp) rfl
    obtain rfl : b3 = true := hp { on := 3, ground := Ground.phase } (by simp) rfl
    obtain rfl : b4 = true := hp { on := 4, ground := Ground.phase } (by simp) rfl
    obtain rfl : b5 = true := hp { on := 5, ground := Ground.phase } (by simp) rfl
    obtain rfl : b6 = true := hp { on := 6, ground := Ground.phase } (by simp) rfl
    obtain rfl : b7 = true := hp { on := 7, ground := Ground.phase } (by simp) rfl
    obtain rfl : b8 = true := hp { on := 8, ground := Ground.phase } (by simp) rfl
    obtain rfl : b9 = true := hp { on := 9, ground := Ground.phase } (by simp) rfl
    obtain rfl : b10 = true := hp { on := 10, ground := Ground.data } (by simp) rfl
    obtain rfl : b11 = true := hp { on := 11, ground := Ground.data } (by simp) rfl
    exact z91_12 Q w gr bw g0 g1 pm ps pa pp pb z v acc s1 s2 nv rr r2 r3 r4 t1 t2 t4 t5 t6 t7 t8 t9 t10 t11 t12 t13 t14 t15 t16 t17 t30 h01 hr1 hr0 hbw hw h8 hx1 hx2 hx3 hlen  _ _ _ _ _ _ _ _ _ _ _ _ W hZ
theorem z91_region (Q : Exit → Act → World → Prop) (w : World) (gr bw g0 g1 : Nat) (pm ps pa pp pb : ByteArray) (z : Array Value) (v : Value) (acc : List Fd) (s1 s2 : ByteArray) (nv : Bool) (rr r2 r3 r4 : Rd) (t1 t2 t4 t5 t6 t7 t8 t9 t10 t11 t12 t13 t14 t15 t16 t17 t30 : Value) (h01 : g0 < g1) (hr1 : gr < g1) (hr0 : gr ≠ g0) (hbw : bw < g0) (hw : w.heap.size ≤ g0) (h8 : 8 ≤ g0) (hx1 : rr.sk ⟨#[110, 101, 118, 101, 114]⟩ = (nv, r2)) (hx2 : r2.nx 1 = (s1, r3)) (hx3 : r3.nx 1 = (s2, r4)) (hlen : acc.length ≤ 1073741824) (x18 x19 x20 x21 x22 x23 x24 x25 x26 x27 x28 x29 : Value) (W0 : World) (hR : R EFd W0 v acc) (hO : ∀ k, v.ownBlock = some k → g1 < k) (hrd : RdS gr bw rr W0) (hkr : Kr gr w W0) (hz : W0.heap[g0]? = some (.cells z 31 (0, 0))) (hb : W0.heap[g1]? = some (.cells #[.string pm, .string ps, .string pa, .string pp, v, .string pb] 31 (0, 0)))
    (hQ : ∀ x18 x19 x20 x21 x22 x23 x24 x25 x26 x27 x28 x29 v' V, R EFd V v' (acc ++ [(⟨s1, s2, nv⟩ : Fd)]) → (∀ k, v'.ownBlock = some k → g1 < k) → RdS gr bw r4 V → Kr gr w V → V.heap[g0]? = some (.cells z 31 (0, 0)) → V.heap[g1]? = some (.cells #[.string pm, .string ps, .string pa, .string pp, v', .string pb] 31 (0, 0)) → Q .normal { tmps := #[.pointer (some ⟨gr, 0, none⟩), t1, t2, .pointer (some ⟨g1, 0, none⟩), t4, t5, t6, t7, t8, t9, t10, t11, t12, t13, t14, t15, t16, t17, x18, x19, x20, x21, x22, x23, x24, x25, x26, x27, x28, x29, t30], defers := [] } V) :
    (Code.region 3 ops91 true).wp Tryz.prog Q { tmps := #[.pointer (some ⟨gr, 0, none⟩), t1, t2, .pointer (some ⟨g1, 0, none⟩), t4, t5, t6, t7, t8, t9, t10, t11, t12, t13, t14, t15, t16, t17, x18, x19, x20, x21, x22, x23, x24, x25, x26, x27, x28, x29, t30], defers := [] } W0 := by
  refine wp_region_any (by kernel_rfl) ?_
  have hd : Below W0.heap.size W0 { W0 with drawn := W0.drawn + 1 } := (Below.refl _ _).drew
  refine wpAny_inv (z91_step Q w gr bw g0 g1 pm ps pa pp pb z v acc s1 s2 nv rr r2 r3 r4 t1 t2 t4 t5 t6 t7 t8 t9 t10 t11 t12 t13 t14 t15 t16 t17 t30 h01 hr1 hr0 hbw hw h8 hx1 hx2 hx3 hlen) (fun L a V hI hr => ?_) _ _ _ _ ?_ ⟨false, false, false, false, false, false, false, false, false, false, false, false, false, _, _, _, _, _, _, _, _, _, _, _, _, rfl, rfl, ⟨nofun, nofun, nofun, nofun, nofun, nofun, nofun, nofun, nofun, nofun, fun _ => ⟨hR.below hd, hO⟩, nofun, nofun, hrd.below hd, Kr.tr hkr (Ks.of_below hd), (hd.block _ (heap_lt hz)).trans hz, (hd.block _ (heap_lt hb)).trans hb, nofun, nofun, nofun, nofun, nofun, nofun⟩⟩
  · obtain ⟨b0, b1, b2, b3, b4, b5, b6, b7, b8, b9, b10, b11, b12, x18, x19, x20, x21, x22, x23, x24, x25, x26, x27, x28, x29, rfl, rfl, hZ⟩ := hI
    obtain rfl : b0 = true := by
      cases b0
      · have : 0 ∈ Region.ready .any ops91 #[false, b1, b2, b3, b4, b5, b6, b7, b8, b9, b10, b11, b12] := mem_ready.2 ⟨rfl, { dst := some 18, op := Op.fieldAddr 31 (Operand.tmp 3) 4, type := 0, pos := "read.go:147", after := #[], guard := none }, rfl, by simp⟩
        rw [hr] at this
        simp at this
      · rfl
    obtain rfl : b1 = true := by
      cases b1
      · have : 1 ∈ Region.ready .any ops91 #[true, false, b2, b3, b4, b5, b6, b7, b8, b9, b10, b11, b12] := mem_ready.2 ⟨rfl, { dst := some 19, op := Op.load 29 (Operand.tmp 18), type := 29, pos := "read.go:147", after := #[{ on := 0, ground := Ground.data }], guard := none }, rfl, by simp⟩
        rw [hr] at this
        simp at this
      · rfl
    obtain rfl : b2 = true := by
      cases b2
      · have : 2 ∈ Region.ready .any ops91 #[true, true, false, b3, b4, b5, b6, b7, b8, b9, b10, b11, b12] := mem_ready.2 ⟨rfl, { dst := some 20, op := Op.move (Operand.tmp 0), type := 109, pos := "read.go:147", after := #[], guard := none }, rfl, by simp⟩
        rw [hr] at this
        simp at this
      · rfl
    obtain rfl : b3 = true := by
      cases b3
      · have : 3 ∈ Region.ready .any ops91 #[true, true, true, false, b4, b5, b6, b7, b8, b9, b10, b11, b12] := mem_ready.2 ⟨rfl, { dst := some 21, op := Op.call { callee := Callee.value (Operand.func 63), args := #[Operand.tmp 20, Operand.const (Value.string { data := #[110, 101, 118, 101, 114] })], argTypes := #[109, 9] }, type := 4, pos := "read.go:147", after := #[{ on := 2, ground := Ground.data }], guard := none }, rfl, by simp⟩
        rw [hr] at this
        simp at this
      · rfl
    obtain rfl : b4 = true := by
      cases b4
      · have : 4 ∈ Region.ready .any ops91 #[true, true, true, true, false, b5, b6, b7, b8, b9, b10, b11, b12] := mem_ready.2 ⟨rfl, { dst := some 22, op := Op.move (Operand.tmp 0), type := 109, pos := "read.go:147", after := #[], guard := none }, rfl, by simp⟩
        rw [hr] at this
        simp at this
      · rfl
    obtain rfl : b5 = true := by
      cases b5
      · have : 5 ∈ Region.ready .any ops91 #[true, true, true, true, true, false, b6, b7, b8, b9, b10, b11, b12] := mem_ready.2 ⟨rfl, { dst := some 23, op := Op.call { callee := Callee.value (Operand.func 88), args := #[Operand.tmp 22], argTypes := #[109] }, type := 9, pos := "read.go:147", after := #[{ on := 4, ground := Ground.data }, { on := 3, ground := Ground.chain }], guard := none }, rfl, by simp⟩
        rw [hr] at this
        simp at this
      · rfl
    obtain rfl : b6 = true := by
      cases b6
      · have : 6 ∈ Region.ready .any ops91 #[true, true, true, true, true, true, false, b7, b8, b9, b10, b11, b12] := mem_ready.2 ⟨rfl, { dst := some 24, op := Op.move (Operand.tmp 0), type := 109, pos := "read.go:147", after := #[], guard := none }, rfl, by simp⟩
        rw [hr] at this
        simp at this
      · rfl
    obtain rfl : b7 = true := by
      cases b7
      · have : 7 ∈ Region.ready .any ops91 #[true, true, true, true, true, true, true, false, b8, b9, b10, b11, b12] := mem_ready.2 ⟨rfl, { dst := some 25, op := Op.call { callee := Callee.value (Operand.func 88), args := #[Operand.tmp 24], argTypes := #[109] }, type := 9, pos := "read.go:147", after := #[{ on := 6, ground := Ground.data }, { on := 5, ground := Ground.chain }], guard := none }, rfl, by simp⟩
        rw [hr] at this
        simp at this
      · rfl
    obtain rfl : b8 = true := by
      cases b8
      · have : 8 ∈ Region.ready .any ops91 #[true, true, true, true, true, true, true, true, false, b9, b10, b11, b12] := mem_ready.2 ⟨rfl, { dst := some 26, op := Op.build 66 #[(2, Operand.tmp 21), (0, Operand.tmp 23), (1, Operand.tmp 25)], type := 66, pos := "read.go:147", after := #[{ on := 3, ground := Ground.data }, { on := 5, ground := Ground.data }, { on := 7, ground := Ground.data }], guard := none }, rfl, by simp⟩
        rw [hr] at this
        simp at this
      · rfl
    obtain rfl : b9 = true := by
      cases b9
      · have : 9 ∈ Region.ready .any ops91 #[true, true, true, true, true, true, true, true, true, false, b10, b11, b12] := mem_ready.2 ⟨rfl, { dst := some 27, op := Op.buildSlice 29 1 #[(0, Operand.tmp 26)], type := 29, pos := "read.go:147", after := #[{ on := 8, ground := Ground.data }], guard := none }, rfl, by simp⟩
        rw [hr] at this
        simp at this
      · rfl
    obtain rfl : b10 = true := by
      cases b10
      · have : 10 ∈ Region.ready .any ops91 #[true, true, true, true, true, true, true, true, true, true, false, b11, b12] := mem_ready.2 ⟨rfl, { dst := some 28, op := Op.call { callee := Callee.builtin Builtin.append, args := #[Operand.tmp 19, Operand.tmp 27], argTypes := #[29, 29] }, type := 29, pos := "read.go:147", after := #[{ on := 1, ground := Ground.data }, { on := 9, ground := Ground.data }, { on := 7, ground := Ground.chain }], guard := none }, rfl, by simp⟩
        rw [hr] at this
        simp at this
      · rfl
    obtain rfl : b11 = true := by
      cases b11
      · have : 11 ∈ Region.ready .any ops91 #[true, true, true, true, true, true, true, true, true, true, true, false, b12] := mem_ready.2 ⟨rfl, { dst := some 29, op := Op.fieldAddr 31 (Operand.tmp 3) 4, type := 0, pos := "read.go:147", after := #[{ on := 0, ground := Ground.phase }, { on := 1, ground := Ground.phase }, { on := 2, ground := Ground.phase }, { on := 3, ground := Ground.phase }, { on := 4, ground := Ground.phase }, { on := 5, ground := Ground.phase }, { on := 6, ground := Ground.phase }, { on := 7, ground := Ground.phase }, { on := 8, ground := Ground.phase }, { on := 9, ground := Ground.phase }, { on := 10, ground := Ground.phase }], guard := none }, rfl, by simp⟩
        rw [hr] at this
        simp at this
      · rfl
    obtain rfl : b12 = true := by
      cases b12
      · have : 12 ∈ Region.ready .any ops91 #[true, true, true, true, true, true, true, true, true, true, true, true, false] := mem_ready.2 ⟨rfl, { dst := none, op := Op.store 29 (Operand.tmp 29) (Operand.tmp 28), type := 0, pos := "read.go:147", after := #[{ on := 11, ground := Ground.data }, { on := 10, ground := Ground.data }, { on := 10, ground := Ground.chain }, { on := 0, ground := Ground.phase }, { on := 1, ground := Ground.phase }, { on := 2, ground := Ground.phase }, { on := 3, ground := Ground.phase }, { on := 4, ground := Ground.phase }, { on := 5, ground := Ground.phase }, { on := 6, ground := Ground.phase }, { on := 7, ground := Ground.phase }, { on := 8, ground := Ground.phase }, { on := 9, ground := Ground.phase }, { on := 10, ground := Ground.phase }], guard := none }, rfl, by simp⟩
        rw [hr] at this
        simp at this
      · rfl
    exact hQ _ _ _ _ _ _ _ _ _ _ _ _ _ _ (hZ.ia rfl).1 (hZ.ia rfl).2 hZ.rd hZ.kr hZ.zb hZ.blk
  · decide
end Go.Proofs.YtghppkfopglgaaaGreatDoor
namespace Go.Proofs.YtghppkfopglgaaaGreatDoor
open Go.RowKit
set_option linter.unusedVariables false
set_option linter.unusedSimpArgs false
/-- a loop that reads into a row of a block, wherever the row stands there -/
structure LJg {α : Type} (E : El α) (f : Rd → Option (α × Rd)) (gr bw g0 g1 n : Nat) (ty : TypeId) (z : Array Value) (cs : Value → Array Value) (w : World) (r0 : Rd) (W : World) (rr : Rd) (v : Value) (acc : List α) : Prop where
  eq : lpS f r0 = (acc ++ (lpS f rr).1, (lpS f rr).2)
  rd : RdS gr bw rr W
  kr : Kr gr w W
  row : R E W v acc
  own : ∀ k, v.ownBlock = some k → g1 < k
  blk : W.heap[g1]? = some (.cells (cs v) ty (0, 0))
  zb : W.heap[g0]? = some (.cells z ty (0, 0))
  len : acc.length + rr.l.length ≤ n

set_option maxRecDepth 100000 in
set_option maxHeartbeats 8000000 in
theorem page_any (gr bw : Nat) (r : Rd) (w : World) (h : RdS gr bw r w) (hlen : r.l.length ≤ 1073741824) : Calls Tryz.prog 86 #[.pointer (some ⟨gr, 0, none⟩)] w fun e w' => ∃ v, e = .returned (.agg #[.string r.pg.1.a, .string r.pg.1.p, .int .i64 r.pg.1.st, .string r.pg.1.vr, v]) ∧ R ECh w' v r.pg.1.ch ∧ (∀ k, v.ownBlock = some k → w.heap.size ≤ k) ∧ RdS gr bw r.pg.2 w' ∧ Kr gr w w' := by
  have HT := hid (text_any gr bw)
  have HN := hid (number_r gr bw)
  have HO := hid (over_any gr bw)
  obtain ⟨⟨pa, r1⟩, h1⟩ : ∃ q, r.nx 1 = q := ⟨_, rfl⟩
  have hl1 : r1.l.length ≤ 1073741824 := by
    have := nx_le r 1
    rw [h1] at this
    exact Nat.le_trans this hlen
  obtain ⟨⟨pp, r2⟩, h2⟩ : ∃ q, r1.nx 1 = q := ⟨_, rfl⟩
  have hl2 : r2.l.length ≤ 1073741824 := by
    have := nx_le r1 1
    rw [h2] at this
    exact Nat.le_trans this hl1
  obtain ⟨⟨ps, r3⟩, h3⟩ : ∃ q, r2.nu = q := ⟨_, rfl⟩
  have hl3 : r3.l.length ≤ 1073741824 := by
    have := nu_le r2
    rw [h3] at this
    exact Nat.le_trans this hl2
  obtain ⟨⟨pv, r4⟩, h4⟩ : ∃ q, r3.nx 1 = q := ⟨_, rfl⟩
  have hl4 : r4.l.length ≤ 1073741824 := by
    have := nx_le r3 1
    rw [h4] at this
    exact Nat.le_trans this hl3
  have HRU : Hid (r.pg = (⟨pa, pp, ps, pv, (lpS chR r4).1⟩, (lpS chR r4).2)) := by
    show _ = _
    unfold Rd.pg
    simp only [h1, h2, h3, h4]
    rfl
  have HL1 := hid hl4
  obtain ⟨g0, hg0⟩ : ∃ g0, w.heap.size = g0 := ⟨_, rfl⟩
  obtain ⟨W0, hW0⟩ : ∃ W0, w.alloc (.cells #[.string ⟨#[]⟩, .string ⟨#[]⟩, .int .i64 0, .string ⟨#[]⟩, .slice none 0 0] 34) = W0 := ⟨_, rfl⟩
  have b0 : Below w.heap.size w W0 := by rw [← hW0]; exact bel1 _ _
  have q0 : W0.heap[g0]? = some (.cells #[.string ⟨#[]⟩, .string ⟨#[]⟩, .int .i64 0, .string ⟨#[]⟩, .slice none 0 0] 34 (0, 0)) := by rw [← hW0, heap_al, if_pos hg0.symm]
  have hne : gr ≠ g0 := by have := h.lt; omega
  have hbw0 : bw < g0 := by have := h.lb; omega
  have hnb : bw ≠ g0 := by omega
  have h8 : 8 ≤ g0 := by have := h.lt; have := h.g8; omega
  have K0 : Hid (RdS gr bw r W0 ∧ Kr gr w W0 ∧ W0.heap[g0]? = some (.cells #[.string ⟨#[]⟩, .string ⟨#[]⟩, .int .i64 0, .string ⟨#[]⟩, .slice none 0 0] 34 (0, 0))) := hid ⟨h.below b0, Ks.of_below b0, q0⟩
  have hq0 := heap_lt q0
  have X1 := hid h1
  have X2 := hid h2
  have X3 := hid h3
  have X4 := hid h4
  clear h b0 q0 hlen h1 hl1 h2 hl2 h3 hl3 h4 hl4
  go_enter Tryz.func86, Tryz.ntmps86
  go_wp2_with fail
  try rw [hg0]
  try rw [hW0]
  go_at_call 88
  refine (HT.out _ _ K0.out.1).mono ?_
  rw [X1.out]
  rintro e W1 ⟨rfl, hS, hK⟩
  have K1 : Hid (RdS gr bw r1 W1 ∧ Kr gr w W1 ∧ W1.heap[g0]? = some (.cells #[.string ⟨#[]⟩, .string ⟨#[]⟩, .int .i64 0, .string ⟨#[]⟩, .slice none 0 0] 34 (0, 0))) := hid ⟨hS, Kr.tr K0.out.2.1 hK, (hK.block g0 (heap_lt K0.out.2.2) (fun e => hne e.symm)).trans K0.out.2.2⟩
  clear hS hK K0
  go_wp2_with fail
  go_at_call 88
  refine (HT.out _ _ K1.out.1).mono ?_
  rw [X2.out]
  rintro e W2 ⟨rfl, hS, hK⟩
  have K2 : Hid (RdS gr bw r2 W2 ∧ Kr gr w W2 ∧ W2.heap[g0]? = some (.cells #[.string ⟨#[]⟩, .string ⟨#[]⟩, .int .i64 0, .string ⟨#[]⟩, .slice none 0 0] 34 (0, 0))) := hid ⟨hS, Kr.tr K1.out.2.1 hK, (hK.block g0 (heap_lt K1.out.2.2) (fun e => hne e.symm)).trans K1.out.2.2⟩
  clear hS hK K1
  go_wp2_with fail
  go_at_call 62
  refine (HN.out _ _ K2.out.1).mono ?_
  rw [X3.out]
  rintro e W3 ⟨rfl, hS, hK⟩
  have K3 : Hid (RdS gr bw r3 W3 ∧ Kr gr w W3 ∧ W3.heap[g0]? = some (.cells #[.string ⟨#[]⟩, .string ⟨#[]⟩, .int .i64 0, .string ⟨#[]⟩, .slice none 0 0] 34 (0, 0))) := hid ⟨hS, Kr.tr K2.out.2.1 hK, (hK.block g0 (heap_lt K2.out.2.2) (fun e => hne e.symm)).trans K2.out.2.2⟩
  clear hS hK K2
  go_wp2_with fail
  go_at_call 88
  refine (HT.out _ _ K3.out.1).mono ?_
  rw [X4.out]
  rintro e W4 ⟨rfl, hS, hK⟩
  have K4 : Hid (RdS gr bw r4 W4 ∧ Kr gr w W4 ∧ W4.heap[g0]? = some (.cells #[.string ⟨#[]⟩, .string ⟨#[]⟩, .int .i64 0, .string ⟨#[]⟩, .slice none 0 0] 34 (0, 0))) := hid ⟨hS, Kr.tr K3.out.2.1 hK, (hK.block g0 (heap_lt K3.out.2.2) (fun e => hne e.symm)).trans K3.out.2.2⟩
  clear hS hK K3
  obtain ⟨g1, hg1⟩ : ∃ g1, W4.heap.size = g1 := ⟨_, rfl⟩
  obtain ⟨V0, hV0⟩ : ∃ V0, W4.alloc (.cells #[.string pa, .string pp, .int .i64 ps, .string pv, .slice none 0 0] 34) = V0 := ⟨_, rfl⟩
  have hB : Below W4.heap.size W4 V0 := by rw [← hV0]; exact bel1 _ _
  have hB1 : V0.heap[g1]? = some (.cells #[.string pa, .string pp, .int .i64 ps, .string pv, .slice none 0 0] 34 (0, 0)) := by rw [← hV0, heap_al, if_pos hg1.symm]
  have hg01 : g0 < g1 := by have := heap_lt K4.out.2.2; omega
  have hg1r : gr < g1 := by have := K4.out.1.lt; omega
  have HJ0 : Hid (LJg ECh chR gr bw g0 g1 1073741824 34 #[.string ⟨#[]⟩, .string ⟨#[]⟩, .int .i64 0, .string ⟨#[]⟩, .slice none 0 0] (fun v => #[.string pa, .string pp, .int .i64 ps, .string pv, v]) w r4 V0 r4 (.slice none 0 0) []) := hid ⟨rfl, K4.out.1.below hB, Kr.tr K4.out.2.1 (Ks.of_below hB), R.nil _ _, fun k hk => absurd hk (by simp [Value.ownBlock]), hB1, (hB.block _ (heap_lt K4.out.2.2)).trans K4.out.2.2, by simpa using HL1.out⟩
  have hA1 : (W4.alloc (.cells #[.string ⟨#[]⟩, .string ⟨#[]⟩, .int .i64 0, .string ⟨#[]⟩, .slice none 0 0] 34)).heap[g1]? = some (.cells #[.string ⟨#[]⟩, .string ⟨#[]⟩, .int .i64 0, .string ⟨#[]⟩, .slice none 0 0] 34 (0, 0)) := by rw [heap_al, if_pos hg1.symm]
  have f1 := frozen_blk hA1
  have hl2 := heap_lt hA1
  have HV0 := hid hV0
  clear hB hB1 hA1 hV0 K4
  go_wp2_with fail
  try rw [hg1]
  rw [HV0.out]
  go_loopw [13] (fun cv wr => ∃ (rr : Rd) (v : Value) (acc : List Ch), Hid (LJg ECh chR gr bw g0 g1 1073741824 34 #[.string ⟨#[]⟩, .string ⟨#[]⟩, .int .i64 0, .string ⟨#[]⟩, .slice none 0 0] (fun v => #[.string pa, .string pp, .int .i64 ps, .string pv, v]) w r4 wr rr v acc)) (fun _ wr => rdLen gr wr)
  case atStart => exact ⟨r4, _, _, HJ0⟩
  case round =>
    obtain ⟨rr, v, acc, HJ⟩ := hrel
    clear HJ0
    have HM := hid (HJ.out.rd.len)
    go_wp2_with fail
    go_at_call 107
    refine (HO.out _ _ HJ.out.rd).mono ?_
    rintro e U ⟨rfl, e2⟩
    subst e2
    obtain ⟨vb, vc, e, _⟩ := HJ.out.row.slice
    obtain ⟨vn, hvn⟩ : ∃ vn, acc.length = vn := ⟨_, rfl⟩
    rw [hvn] at e
    clear hvn
    subst e
    have hb := HJ.out.blk
    (try simp only at hb)
    have f1 := frozen_blk hb
    have hz := HJ.out.zb
    have f0 := frozen_blk hz
    have l0 := heap_lt hz
    have l1 := heap_lt hb
    have c0 := cell_blk hb 0
    have d0 := cell_blk hz 0
    have c1 := cell_blk hb 1
    have d1 := cell_blk hz 1
    have c2 := cell_blk hb 2
    have d2 := cell_blk hz 2
    have c3 := cell_blk hb 3
    have d3 := cell_blk hz 3
    have c4 := cell_blk hb 4
    have d4 := cell_blk hz 4
    simp only [List.getElem?_toArray, List.getElem?_cons_zero, List.getElem?_cons_succ] at c0 d0 c1 d1 c2 d2 c3 d3 c4 d4
    cases hov : rr.ov with
    | true =>
      have HE : Hid (lpS chR r4 = (acc, rr)) := hid (lp_end HJ.out.eq (by unfold chR; rw [hov]; rfl))
      clear hb hz
      go_wp2_with fail
      (try simp only [Exit.inBlock, Exit.then])
      refine bodyPost_ret (results_cell_row (p := 2) (ty := 34) rfl _ _ g0 34 _ (0, 0) _ rfl (setCell_block _ _ _ _ _ _ _ (setCell_block _ _ _ _ _ _ _ (setCell_block _ _ _ _ _ _ _ (setCell_block _ _ _ _ _ _ _ (setCell_block _ _ _ _ _ _ _ (HJ.out.zb)))))) Tryz.underlying34 rfl (by kernel_rfl)) rfl ?_
      have hk : Ks (fun k => k = g0) U (((((U.setCell ⟨g0, 0, none⟩ (.string pa)).setCell ⟨g0, 1, none⟩ (.string pp)).setCell ⟨g0, 2, none⟩ (.int .i64 ps)).setCell ⟨g0, 3, none⟩ (.string pv)).setCell ⟨g0, 4, none⟩ (.slice vb vn vc)) := by repeat (first | exact Ks.refl _ _ | refine Ks.then_set ?_)
      have hrd := rd_end HJ.out.rd HJ.out.kr hne hnb h8 (by omega) hk
      have hru := HRU.out
      rw [HE.out] at hru
      rw [hru]
      exact ⟨.slice vb vn vc, rfl, HJ.out.row.stays (fun k e hl => hk.block k hl (by have := HJ.out.own k e; omega)), fun k e => by have := HJ.out.own k e; omega, hrd.1, hrd.2⟩
    | false =>
      obtain ⟨⟨s1, s2r⟩, y1⟩ : ∃ q, rr.nx 1 = q := ⟨_, rfl⟩
      obtain ⟨⟨s2, s3r⟩, y2⟩ : ∃ q, s2r.nx 1 = q := ⟨_, rfl⟩
      have HE : Hid (chR rr = some ((⟨s1, s2⟩ : Ch), s3r)) := hid (by unfold chR; rw [hov]; simp only [y1, y2]; rfl)
      have HLEN : Hid (acc.length ≤ 1073741824) := hid (by have := HJ.out.len; omega)
      have HSH : Hid (s3r.l.length < rr.l.length) := hid (ch_shr rr _ _ HE.out)
      go_wp2_with fail
      refine z86_region _ w gr bw g0 g1 pa pp ps pv _ (.slice vb vn vc) acc s1 s2 rr s2r s3r _ _ _ _ _ _ _ _ _ _ _ _ _ _ _ hg01 hg1r hne (by omega) (by omega) h8 y1 y2 HLEN.out _ _ _ _ _ _ _ _ _ _ _ HJ.out.row HJ.out.own HJ.out.rd HJ.out.kr HJ.out.zb hb (fun q0 q1 q2 q3 q4 q5 q6 q7 q8 q9 v' V k1 k2 k3 k4 k5 k6 => ?_)
      have HJ2 : Hid (LJg ECh chR gr bw g0 g1 1073741824 34 #[.string ⟨#[]⟩, .string ⟨#[]⟩, .int .i64 0, .string ⟨#[]⟩, .slice none 0 0] (fun v => #[.string pa, .string pp, .int .i64 ps, .string pv, v]) w r4 V s3r v' (acc ++ [(⟨s1, s2⟩ : Ch)])) := hid ⟨lp_go ch_shr HJ.out.eq HE.out, k3, k4, k1, k2, k6, k5, by have := HJ.out.len; have := HSH.out; simp; omega⟩
      go_wp2_with fail
      go_roundw
      case rel => exact ⟨s3r, v', _, HJ2⟩
      case measure => rw [HM.out, k3.len]; exact HSH.out
end Go.Proofs.YtghppkfopglgaaaGreatDoor
