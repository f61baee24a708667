import Derived.Test.YtfponcdhaefkdaaDoorB6
import Derived.Test.YtfponcdhaefkdaaDoorA3
import Derived.Lib.SliceRun
import Derived.Laws.IdiomCopy
/- Size; New. -/
namespace Go.Proofs.YtfponcdhaefkdaaDoor
open Go.RowKit
set_option linter.unusedVariables false
set_option linter.unusedSimpArgs false
def EI : El Int := ⟨38, 2, 1, 8, fun n => [.int .i64 n]⟩
theorem okI : EI.Ok := ⟨Tryd.underlying38, by kernel_rfl, by decide, by decide, fun _ => rfl, fun a u hu => by
  simp only [EI, List.mem_cons, List.not_mem_nil, or_false] at hu
  rcases hu with rfl; rfl⟩
/-- is it no bound? -/
def nbB (n : Int) : Bool := decide (n < 0) || decide (1152921504606846976 < n)
theorem isNoBound_any (n : Int) (w : World) : Calls Tryd.prog 33 #[.int .i64 n] w fun e w' => e = .returned (.bool (nbB n)) ∧ w' = w := by
  by_cases h1 : n < 0
  · have e : nbB n = true := by simp [nbB, h1]
    rw [e]
    go_enter Tryd.func33, Tryd.ntmps33
    go_wp2_with fail
    go_ret
    exact ⟨rfl, rfl⟩
  · by_cases h2 : 1152921504606846976 < n
    · have e : nbB n = true := by simp [nbB, h2]
      rw [e]
      go_enter Tryd.func33, Tryd.ntmps33
      go_wp2_with fail
      go_ret
      exact ⟨rfl, rfl⟩
    · have e : nbB n = false := by simp [nbB, h1, h2]
      rw [e]
      go_enter Tryd.func33, Tryd.ntmps33
      go_wp2_with fail
      go_ret
      exact ⟨rfl, rfl⟩
theorem en33 : ∀ args W, (callFunc 33 args).run Tryd.prog W = .ok (.enter 33 args) W := enters_of Tryd.func33 (by kernel_rfl) rfl
theorem In.int {w : World} {v : Value} {l : List Int} (h : In EI w v l) (k : Nat) (hk : k < l.length) : ∃ B off cap, v = .slice (some ⟨B, off, none⟩) l.length cap ∧ ∀ W, Below w.heap.size w W → W.cell? ⟨B, off + k, none⟩ = some (.int .i64 l[k]) := by
  obtain ⟨B, off, cap, e, hB, d⟩ := h.get okI k hk
  refine ⟨B, off, cap, e, fun W hb => ?_⟩
  have := d 0 _ rfl
  simp only [EI, Nat.mul_one, Nat.add_zero] at this
  exact (hb.cell hB).trans this
set_option maxHeartbeats 4000000 in
set_option maxRecDepth 100000 in
theorem index64_any (x : SV) (l : List Int) (w : World) (hI : In EI w (sv x) l) :
    Calls Tryd.prog 64 #[sv x, .func (.func 33) #[] #[]] w fun e w' => ∃ n : Int, e = .returned (.int .i64 n) ∧ decide (0 ≤ n) = l.any nbB ∧ w' = w := by
  have HI : Hid (In EI w (sv x) l) := hI
  have hen := en33
  obtain ⟨b, c, e, m1, m2⟩ := hI.slice
  obtain ⟨sb, sl, sc⟩ := x
  simp only [sv] at e HI ⊢
  injection e with e1 e2 e3
  subst e1 e2 e3
  clear hI
  go_enter Tryd.func64, Tryd.ntmps64
  go_wp2_with fail
  go_loopw [5, 8] (fun _ kv wr => ∃ k : Nat, kv = .int .i64 (k : Int) ∧ k ≤ l.length ∧ Hid (∀ j (h : j < l.length), j < k → nbB l[j] = false) ∧ wr = w) (fun _ kv _ => l.length - (intOf kv).toNat)
  case atStart => exact ⟨0, rfl, by omega, fun j _ h => absurd h (by omega), rfl⟩
  case round =>
    obtain ⟨k, rfl, hk, hno, hw⟩ := hrel
    subst hw
    by_cases hlt : k < l.length
    · obtain ⟨Bk, off, cap, e, hc⟩ := HI.out.int k hlt
      injection e with e1 e2 e3
      clear e2 e3
      subst e1
      have c0 := hc wr (Below.refl _ _)
      obtain ⟨y, hy⟩ : ∃ y, l[k] = y := ⟨_, rfl⟩
      rw [hy] at c0
      have Hy : Hid (l[k]'hlt = y) := hy
      have hCl : Hid (Calls Tryd.prog 33 #[.int .i64 y] wr fun e w' => e = .returned (.bool (nbB y)) ∧ w' = wr) := isNoBound_any y wr
      clear hc hy
      cases hB : nbB y
      · rw [hB] at hCl
        have HB : Hid (nbB y = false) := hB
        clear hB
        go_wp2_with fail
        refine hCl.out.mono ?_
        rintro e w1 ⟨rfl, hw⟩
        rw [hw]
        clear hw w1
        go_wp2_with fail
        go_roundw
        case rel =>
          refine ⟨k + 1, by simp, by omega, fun j hj h => ?_, by trivial⟩
          by_cases hjk : j = k
          · subst hjk
            rw [Hy.out]
            exact HB.out
          · exact hno.out j hj (by omega)
        case measure => simp [intOf]; omega
      · rw [hB] at hCl
        have HB : Hid (nbB y = true) := hB
        clear hB
        go_wp2_with fail
        refine hCl.out.mono ?_
        rintro e w1 ⟨rfl, hw⟩
        rw [hw]
        clear hw w1
        go_wp2_with fail
        go_ret
        refine ⟨(k : Int), rfl, ?_, rfl⟩
        have : l.any nbB = true := List.any_eq_true.2 ⟨_, by rw [← Hy.out]; exact List.getElem_mem hlt, HB.out⟩
        rw [this]
        simp
    · have hlt' : ¬ (k : Int) < (l.length : Int) := by omega
      go_wp2_with fail
      go_ret
      refine ⟨-1, rfl, ?_, rfl⟩
      have : l.any nbB = false := List.any_eq_false.2 fun x hx => by
        obtain ⟨j, hj, e⟩ := List.getElem_of_mem hx
        rw [← e, hno.out j hj (by omega)]
        simp
      rw [this]
      rfl
set_option maxHeartbeats 1000000 in
theorem contains32_any (x : SV) (l : List Int) (w : World) (hI : In EI w (sv x) l) :
    Calls Tryd.prog 32 #[sv x, .func (.func 33) #[] #[]] w fun e w' => e = .returned (.bool (l.any nbB)) ∧ w' = w := by
  have hX : Hid (Calls Tryd.prog 64 #[sv x, .func (.func 33) #[] #[]] w fun e w' => ∃ n : Int, e = .returned (.int .i64 n) ∧ decide (0 ≤ n) = l.any nbB ∧ w' = w) := index64_any x l w hI
  obtain ⟨sb, sl, sc⟩ := x
  simp only [sv] at hX ⊢
  clear hI
  go_enter Tryd.func32, Tryd.ntmps32
  go_wp2_with fail
  go_at_call 64
  refine hX.out.mono ?_
  rintro e w1 ⟨n, rfl, hn, rfl⟩
  have HN : Hid (decide (0 ≤ n) = l.any nbB) := hn
  clear hn hX
  go_wp2_with fail
  go_ret
  exact ⟨by rw [← HN.out]; rfl, rfl⟩
/-- bounds that may be -/
def cfB (a b c d : Int) : Bool := !(decide (64 < a) || [a, b, c, d].any nbB)
set_option maxHeartbeats 4000000 in
set_option maxRecDepth 100000 in
theorem new_any (a b c d : Int) (w : World) : Calls Tryd.prog 8 #[.agg #[.int .i64 a, .int .i64 b, .int .i64 c, .int .i64 d]] w fun e w' => Below w.heap.size w w' ∧ ((cfB a b c d = false ∧ e = .returned (.tuple #[.pointer none, .int .i64 1])) ∨ (cfB a b c d = true ∧ ∃ g, w.heap.size ≤ g ∧ e = .returned (.tuple #[.pointer (some ⟨g, 0, none⟩), .int .i64 0]) ∧ w'.heap[g]? = some (.cells #[.int .i64 a, .int .i64 b, .int .i64 c, .int .i64 0, .slice none 0 0] 83 (0, 0)))) := by
  by_cases h1 : 64 < a
  · have e : cfB a b c d = false := by simp [cfB, h1]
    go_enter Tryd.func8, Tryd.ntmps8
    go_wp2_with fail
    go_ret2
    exact ⟨bel1 _ _, .inl ⟨e, rfl⟩⟩
  · have hI : R EI ((w.alloc (.cells #[.int .i64 a, .int .i64 b, .int .i64 c, .int .i64 d] 36)).alloc (.cells #[.int .i64 a, .int .i64 b, .int .i64 c, .int .i64 d] 2)) (.slice (some ⟨w.heap.size + 1, 0, none⟩) 4 4) [a, b, c, d] := R.whole okI [a, b, c, d] (by simp) (fresh2 _ _ _) rfl
    have hC : Hid (Calls Tryd.prog 32 #[.slice (some ⟨w.heap.size + 1, 0, none⟩) 4 4, .func (.func 33) #[] #[]] ((w.alloc (.cells #[.int .i64 a, .int .i64 b, .int .i64 c, .int .i64 d] 36)).alloc (.cells #[.int .i64 a, .int .i64 b, .int .i64 c, .int .i64 d] 2)) fun e w' => e = .returned (.bool ([a, b, c, d].any nbB)) ∧ w' = (w.alloc (.cells #[.int .i64 a, .int .i64 b, .int .i64 c, .int .i64 d] 36)).alloc (.cells #[.int .i64 a, .int .i64 b, .int .i64 c, .int .i64 d] 2)) := contains32_any (some ⟨w.heap.size + 1, 0, none⟩, 4, 4) [a, b, c, d] _ hI.isIn
    obtain ⟨B, hB⟩ : ∃ B, [a, b, c, d].any nbB = B := ⟨_, rfl⟩
    have HE : Hid (cfB a b c d = !B) := by show _ = _; unfold cfB; rw [hB]; simp [h1]
    rw [hB] at hC
    clear hI hB
    cases B
    · go_enter Tryd.func8, Tryd.ntmps8
      go_wp2_with fail
      go_at_call 32
      refine hC.out.mono ?_
      rintro e w1 ⟨rfl, hw⟩
      rw [hw]
      clear hw w1 hC
      go_wp2_with fail
      go_ret2
      refine ⟨bel3 _ _ _ _, .inr ⟨HE.out, w.heap.size + 2, by omega, rfl, fresh3 _ _ _ _⟩⟩
    · go_enter Tryd.func8, Tryd.ntmps8
      go_wp2_with fail
      go_at_call 32
      refine hC.out.mono ?_
      rintro e w1 ⟨rfl, hw⟩
      rw [hw]
      clear hw w1 hC
      go_wp2_with fail
      go_ret2
      exact ⟨bel2 _ _ _, .inl ⟨HE.out, rfl⟩⟩
/-- a response's size -/
def szL (l : List Fd) : Nat := (l.map fun f => f.n.size + f.v.size + 32).sum
theorem szL_take {l : List Fd} {k : Nat} (h : k < l.length) : szL (l.take (k + 1)) = szL (l.take k) + (l[k].n.size + l[k].v.size + 32) := by
  unfold szL
  rw [List.take_succ_eq_append_getElem h, List.map_append, List.sum_append]
  simp
theorem szL_le (l : List Fd) (k : Nat) : szL (l.take k) ≤ szL l := by
  unfold szL
  conv => rhs; rw [← List.take_append_drop k l, List.map_append, List.sum_append]
  omega
set_option maxHeartbeats 4000000 in
set_option maxRecDepth 100000 in
theorem size_any (n : Int) (y : SV) (b : ByteArray) (l : List Fd) (w : World) (hI : In EFd w (sv y) l) (hz : b.size + szL l ≤ 4611686018427387904) :
    Calls Tryd.prog 25 #[.agg (rsv n (sv y) b)] w fun e w' => e = .returned (.int .i64 ((b.size + szL l : Nat) : Int)) ∧ Below w.heap.size w w' := by
  have HI : Hid (In EFd w (sv y) l) := hI
  have HZ : Hid (b.size + szL l ≤ 4611686018427387904) := hz
  obtain ⟨bb, c, e, m1, m2⟩ := hI.slice
  obtain ⟨sb, sl, sc⟩ := y
  unfold rsv
  simp only [sv] at e HI ⊢
  injection e with e1 e2 e3
  subst e1 e2 e3
  obtain ⟨N, hN⟩ : ∃ N, l.length = N := ⟨_, rfl⟩
  rw [hN] at HI m1 ⊢
  have HN : Hid (l.length = N) := hN
  have hbz : b.size ≤ 4611686018427387904 := by omega
  clear hI hz hN
  go_enter Tryd.func25, Tryd.ntmps25
  go_wp2_with fail
  go_loopw [3, 5, 12] (fun tv _ kv wr => ∃ k t : Nat, kv = .int .i64 (k : Int) ∧ k ≤ N ∧ tv = .int .i64 (t : Int) ∧ Hid (t = b.size + szL (l.take k)) ∧ Hid (Below w.heap.size w wr)) (fun _ _ kv _ => N - (intOf kv).toNat)
  case atStart => exact ⟨0, b.size, rfl, by omega, rfl, by show _ = _; simp [szL], bel1 _ _⟩
  case round =>
    obtain ⟨k, t, rfl, hk, rfl, ht, hb⟩ := hrel
    by_cases hlt : k < N
    · obtain ⟨Bk, off, cap, e, hc⟩ := HI.out.fd k (by rw [HN.out]; exact hlt)
      injection e with e1 e2 e3
      clear e2 e3
      subst e1
      obtain ⟨c0, c1, c2⟩ := hc wr hb.out
      obtain ⟨y, hy⟩ : ∃ y, l[k]'(by rw [HN.out]; exact hlt) = y := ⟨_, rfl⟩
      rw [hy] at c0 c1 c2
      have l1 : (k : Int) < (N : Int) := by omega
      have HT : Hid (t + (y.n.size + y.v.size + 32) = b.size + szL (l.take (k + 1)) ∧ t + (y.n.size + y.v.size + 32) ≤ 4611686018427387904) := by
        have h1 := szL_take (l := l) (k := k) (by rw [HN.out]; exact hlt)
        rw [hy] at h1
        have h2 := ht.out
        have h3 := szL_le l (k + 1)
        have h4 := HZ.out
        exact ⟨by omega, by omega⟩
      obtain ⟨yn, yv, ynv⟩ := y
      simp only at c0 c1 c2 HT
      obtain ⟨z1, hz1⟩ : ∃ z : Nat, yn.size + yv.size = z := ⟨_, rfl⟩
      have q0 : (yn.size : Int) + (yv.size : Int) = (z1 : Int) := by omega
      have q1 : z1 ≤ 4611686018427387904 := by have := HT.out.2; omega
      obtain ⟨z2, hz2⟩ : ∃ z : Nat, z1 + 32 = z := ⟨_, rfl⟩
      have q2 : (z1 : Int) + 32 = (z2 : Int) := by omega
      have q3 : z2 ≤ 4611686018427387904 := by have := HT.out.2; omega
      obtain ⟨z3, hz3⟩ : ∃ z : Nat, t + z2 = z := ⟨_, rfl⟩
      have q4 : (t : Int) + (z2 : Int) = (z3 : Int) := by omega
      have q5 : z3 ≤ 4611686018427387904 := by have := HT.out.2; omega
      have HZ3 : Hid (z3 = b.size + szL (l.take (k + 1))) := by show _ = _; rw [← HT.out.1]; omega
      clear hc hy HT hz1 hz2 hz3
      have HB2 : Hid (Below w.heap.size w (wr.alloc (.cells #[.string yn, .string yv, .bool ynv] 51))) := hb.out.trans ((bel1 _ _).mono hb.out.size)
      go_wp2_with fail
      go_roundw
      case rel => exact ⟨k + 1, z3, by simp, by omega, by first | rfl | simp, HZ3.out, HB2.out⟩
      case measure => simp [intOf]; omega
    · obtain rfl : k = N := by omega
      have l1 : ¬ (k : Int) < (k : Int) := by omega
      have HE : Hid (t = b.size + szL l ∧ Below w.heap.size w wr) := ⟨by rw [ht.out, List.take_of_length_le (by rw [HN.out]; omega)], hb.out⟩
      clear ht hb
      go_wp2_with fail
      go_ret
      refine ⟨?_, HE.out.2⟩
      rw [HE.out.1]
      rfl
end Go.Proofs.YtfponcdhaefkdaaDoor
/- Entries in rows; slices.Delete of one. -/
namespace Go.Proofs.YtfponcdhaefkdaaDoor
open Go.RowKit
set_option linter.unusedVariables false
set_option linter.unusedSimpArgs false
/-- an entry: its values, and what its three lists hold -/
structure En where
  q : Rq
  ns : SV
  rn : Int
  ry : SV
  rb : ByteArray
  sz : Nat
  st : Int
  ar : Int
  fq : List Fd
  nm : List ByteArray
  fr : List Fd
def env (e : En) : Array Value := #[.string e.q.m, .string e.q.s, .string e.q.a, .string e.q.p, sv e.q.y, .string e.q.b, sv e.ns, .int .i64 e.rn, sv e.ry, .string e.rb, .int .i64 (e.sz : Int), .int .i64 e.st, .int .i64 e.ar]
def EE : El En := ⟨81, 87, 13, 200, fun e => (env e).toList⟩
theorem okE : EE.Ok := ⟨Tryd.underlying81, by kernel_rfl, by decide, by decide, fun _ => rfl, fun a u hu => by
  simp only [EE, env, List.mem_cons, List.not_mem_nil, or_false] at hu
  rcases hu with rfl | rfl | rfl | rfl | rfl | rfl | rfl | rfl | rfl | rfl | rfl | rfl | rfl <;> rfl⟩
def zero13 : List Value := [.string ⟨#[]⟩, .string ⟨#[]⟩, .string ⟨#[]⟩, .string ⟨#[]⟩, .slice none 0 0, .string ⟨#[]⟩, .slice none 0 0, .int .i64 0, .slice none 0 0, .string ⟨#[]⟩, .int .i64 0, .int .i64 0, .int .i64 0]
theorem zero13_eq : (Builtin.zeroCells #[.string ⟨#[]⟩, .string ⟨#[]⟩, .string ⟨#[]⟩, .string ⟨#[]⟩, .slice none 0 0, .string ⟨#[]⟩, .slice none 0 0, .int .i64 0, .slice none 0 0, .string ⟨#[]⟩, .int .i64 0, .int .i64 0, .int .i64 0] 1).toList = zero13 := by kernel_rfl
/-- clear of one entry of a row -/
theorem run_clear_one (w : World) (g k c ty : Nat) (cur : Array Value) (hg : w.heap[g]? = some (.cells cur 87 (0, 0))) (hfit : k * 13 + 13 ≤ cur.size) :
    (Builtin.clear_ #[81] ty #[.slice (some ⟨g, k * 13, none⟩) 1 c]).run Tryd.prog w =
      .ok (.tuple #[]) (w.setRow g (cur.toList.take (k * 13) ++ zero13 ++ cur.toList.drop (k * 13 + 13)).toArray) := by
  have hst := run_storeCells_at Tryd.prog g (k * 13) 87 zero13 0 cur w hg (by simp [zero13]; omega) (by
    intro u hu
    simp only [zero13, List.mem_cons, List.not_mem_nil, or_false] at hu
    rcases hu with rfl | rfl | rfl | rfl | rfl | rfl | rfl | rfl | rfl | rfl | rfl | rfl | rfl <;> rfl)
  simp only [Nat.add_zero, show zero13.length = 13 from rfl] at hst
  simp [Builtin.clear_, run_underlying Tryd.underlying81, Tryd.zeroValue87, Value.cells, zero13_eq, hst]
theorem run_shift (w : World) (g cap i : Nat) (L : List En) (A : Addr) (c : Nat) (cur : Array Value) (hg : w.heap[g]? = some (.cells cur 87 (0, 0))) (hi : i < L.length) (hc : L.length ≤ cap) (hcs : cur.size = cap * 13) (ht : cur.toList.take (L.length * 13) = EE.cs L) (hA : L.length - (i + 1) = 0 ∨ A = ⟨g, (i + 1) * 13, none⟩) :
    (Builtin.append_ #[81, 81] 81 #[.slice (some ⟨g, 0, none⟩) i cap, .slice (some A) (L.length - (i + 1)) c]).run Tryd.prog w = .ok (.slice (some ⟨g, 0, none⟩) (L.length - 1) cap) (w.setRow g (EE.cs (L.eraseIdx i) ++ cur.toList.drop ((L.length - 1) * 13)).toArray) := by
  obtain ⟨i0, z, hi0, hz0, hz1, hz2, hz3⟩ := info_z okE
  obtain ⟨T, hT⟩ : ∃ T, L.drop (i + 1) = T := ⟨_, rfl⟩
  have hTl : L.length - (i + 1) = T.length := by rw [← hT, List.length_drop]
  have hsplit : EE.cs L = EE.cs (L.take (i + 1)) ++ EE.cs T := by rw [← El.cs_append, ← hT, List.take_append_drop]
  have hl1 : (EE.cs (L.take (i + 1))).length = (i + 1) * 13 := by rw [okE.length, List.length_take, Nat.min_eq_left (by omega)]; rfl
  rw [hTl] at hA ⊢
  have hcells : ∀ j u, (EE.cs T)[j]? = some u → w.cell? (A.add j) = some u := by
    intro j u hu
    rcases hA with h0 | rfl
    · rw [List.eq_nil_of_length_eq_zero h0] at hu; simp [El.cs] at hu
    · rw [Addr.add_lit, cell_blk hg]
      have hj : j < T.length * 13 := by
        have := (List.getElem?_eq_some_iff.1 hu).1
        rw [okE.length] at this
        exact this
      have e : (EE.cs L)[(i + 1) * 13 + j]? = (EE.cs T)[j]? := by
        rw [hsplit, List.getElem?_append_right (by rw [hl1]; exact Nat.le_add_right _ _), hl1, Nat.add_sub_cancel_left]
      rw [← Array.getElem?_toList, ← hu, ← e, ← ht, List.getElem?_take, if_pos (by omega)]
  have hr := run_append_room (P := Tryd.prog) w 81 81 87 i0 Tryd.underlying81 hi0 g i cap cur hg A T.length c (EE.cs T) (by rw [hz1]; exact okE.length T) hcells (okE.ones T) (by omega) (by
    rw [hcs, okE.length, hz1]
    show i * 13 + T.length * 13 ≤ _
    omega)
  rw [hr]
  have e1 : i + T.length = L.length - 1 := by omega
  have e2 : cur.toList.take (i * 13) = EE.cs (L.take i) := by
    have : cur.toList.take (i * 13) = (cur.toList.take (L.length * 13)).take (i * 13) := by rw [List.take_take, Nat.min_eq_left (by omega)]
    rw [this, ht]
    have h2 : EE.cs L = EE.cs (L.take i) ++ EE.cs (L.drop i) := by rw [← El.cs_append, List.take_append_drop]
    have h3 : (EE.cs (L.take i)).length = i * 13 := by rw [okE.length, List.length_take, Nat.min_eq_left (by omega)]; rfl
    rw [h2, ← h3, List.take_left']
    rfl
  have e3 : EE.cs (L.eraseIdx i) = EE.cs (L.take i) ++ EE.cs T := by rw [List.eraseIdx_eq_take_drop_succ, El.cs_append, hT]
  have e4 : i * i0.size + (EE.cs T).length = (L.length - 1) * 13 := by
    rw [hz1, okE.length]
    show i * 13 + T.length * 13 = _
    rw [← e1]
    omega
  rw [e1, e4, e3]
  have e5 : cur.toList.take (i * i0.size) = EE.cs (L.take i) := by rw [hz1]; exact e2
  rw [e5]
set_option maxRecDepth 100000 in
set_option maxHeartbeats 4000000 in
theorem delete_walk (w : World) (g n i cap : Nat) (D : Array Value) (hi : i < n) (hk : n ≤ cap) (hc : cap ≤ 9223372036854775807)
    (hap : ∀ A : Addr, (n - (i + 1) = 0 ∨ A = ⟨g, (i + 1) * 13, none⟩) → Hid ((Builtin.append_ #[81, 81] 81 #[.slice (some ⟨g, 0, none⟩) i cap, .slice (some A) (n - (i + 1)) (cap - (i + 1))]).run Tryd.prog w.drew = .ok (.slice (some ⟨g, 0, none⟩) (n - 1) cap) (w.drew.setRow g D)))
    (W2 : World) (hcl : ∀ ty, (Builtin.clear_ #[81] ty #[.slice (some ⟨g, (n - 1) * 13, none⟩) 1 (cap - (n - 1))]).run Tryd.prog (w.drew.setRow g D) = .ok (.tuple #[]) W2) :
    Calls Tryd.prog 71 #[.slice (some ⟨g, 0, none⟩) n cap, .int .i64 (i : Int), .int .i64 ((i : Int) + 1)] w fun e w' => e = .returned (.slice (some ⟨g, 0, none⟩) (n - 1) cap) ∧ w' = W2 := by
  obtain ⟨j, hj⟩ : ∃ j : Nat, i + 1 = j := ⟨_, rfl⟩
  have hj' : (i : Int) + 1 = (j : Int) := by omega
  obtain ⟨m, hm⟩ : ∃ m : Nat, n - 1 = m := ⟨_, rfl⟩
  obtain ⟨k, hkk⟩ : ∃ k : Nat, n - j = k := ⟨_, rfl⟩
  obtain ⟨cj, hcj⟩ : ∃ k : Nat, cap - j = k := ⟨_, rfl⟩
  obtain ⟨cm, hcm⟩ : ∃ k : Nat, cap - m = k := ⟨_, rfl⟩
  rw [hm, hcm] at hcl
  rw [hj, hkk, hcj, hm] at hap
  rw [hj', hm]
  have a0 : (0 : Int) ≤ (i : Int) := by omega
  have a1 : (i : Int) ≤ (j : Int) := by omega
  have a2 : (j : Int) ≤ (n : Int) := by omega
  have a3 : (n : Int) ≤ (cap : Int) := by omega
  have a4 : ((i : Int) == (j : Int)) = false := beq_eq_false_iff_ne.2 (by omega)
  have a5 : (i : Int) ≤ (cap : Int) := by omega
  have a6 : (j : Int) ≤ (cap : Int) := by omega
  have a7 : (m : Int) ≤ (n : Int) := by omega
  have a8 : (n : Int) - (m : Int) = 1 := by omega
  have a9 : n - m = 1 := by omega
  have b1 : ¬ (n = i) := by omega
  have b2 : ¬ (cap = m) := by omega
  have b3 : ¬ (n - i = 0) := by omega
  have b4 : ¬ (cap - m = 0) := by omega
  have b5 : ¬ (i = j) := by omega
  by_cases h1 : cap = j
  · have hrun := hap ⟨g, 0, none⟩ (.inl (by omega))
    obtain ⟨e1, e2, e3, e4, e5⟩ : n = cap ∧ m = i ∧ k = 0 ∧ cj = 0 ∧ cm = 1 := ⟨by omega, by omega, by omega, by omega, by omega⟩
    subst e1 e2 e3 e4 e5 h1
    clear a7 a8 a9 b1 b2 b3 b4 a5 a6 a2 a3
    have a7 : (m : Int) ≤ (n : Int) := by omega
    have a8 : (n : Int) - (m : Int) = 1 := by omega
    have a9 : n - m = 1 := by omega
    have b1 : ¬ (n = m) := by omega
    clear hap hj hj' hm hi hk hkk hcj hcm
    go_enter Tryd.func71, Tryd.ntmps71
    go_wp2_with fail
    go_region_law (refine step_append_run rfl (.tmp 22) (.tmp 25) 81 81 rfl hrun.out (by simp [Act.eval, Act.put]) (by simp [Act.eval, Act.put]) ?_)
    all_goals
      go_wp2
      go_ret
      exact ⟨rfl, rfl⟩
  · have hrun := hap ⟨g, j * 13, none⟩ (.inr rfl)
    have b6 : ¬ (cap - j = 0) := by omega
    clear hap hj hj' hm hi hk
    go_enter Tryd.func71, Tryd.ntmps71
    go_wp2_with fail
    go_region_law (refine step_append_run rfl (.tmp 22) (.tmp 25) 81 81 rfl hrun.out (by simp [Act.eval, Act.put]) (by simp [Act.eval, Act.put]) ?_)
    all_goals
      go_wp2
      go_ret
      exact ⟨rfl, rfl⟩
theorem take_shift (cur : Array Value) (cap m : Nat) (X : List Value) (hX : X.length = m * 13) (hk : m + 1 ≤ cap) (hcs : cur.size = cap * 13) :
    let D := (X ++ cur.toList.drop (m * 13)).toArray
    let F := (D.toList.take (m * 13) ++ zero13 ++ D.toList.drop (m * 13 + 13)).toArray
    D.size = cap * 13 ∧ F.size = cap * 13 ∧ F.toList.take (m * 13) = X := by
  intro D F
  have hD : D.size = cap * 13 := by
    show (X ++ cur.toList.drop (m * 13)).toArray.size = _
    simp [hX, hcs]
    omega
  have hDt : D.toList.take (m * 13) = X := by
    show (X ++ cur.toList.drop (m * 13)).take (m * 13) = X
    rw [← hX, List.take_left']
    rfl
  refine ⟨hD, ?_, ?_⟩
  · show (D.toList.take (m * 13) ++ zero13 ++ D.toList.drop (m * 13 + 13)).toArray.size = _
    rw [hDt]
    simp only [List.size_toArray, List.length_append, List.length_drop, Array.length_toList, hD, hX]
    simp only [zero13, List.length_cons, List.length_nil]
    omega
  · show (D.toList.take (m * 13) ++ zero13 ++ D.toList.drop (m * 13 + 13)).take (m * 13) = X
    rw [hDt, List.append_assoc, ← hX, List.take_left']
    rfl
theorem delete_any (w : World) (y : SV) (L : List En) (i : Nat) (hi : i < L.length) (h : R EE w (sv y) L) :
    Calls Tryd.prog 71 #[sv y, .int .i64 (i : Int), .int .i64 ((i : Int) + 1)] w fun e w' => ∃ z : SV, e = .returned (sv z) ∧ R EE w' (sv z) (L.eraseIdx i) ∧ (sv z).ownBlock = (sv y).ownBlock ∧ Ks (fun k => (sv y).ownBlock = some k) w w' := by
  rcases h.2 with ⟨_, h0⟩ | ⟨g, cap, cur, hv, hb, hg, hn, hm, hs, ht⟩
  · omega
  · have hle : (L.eraseIdx i).length = L.length - 1 := by rw [List.length_eraseIdx, if_pos hi]
    have hXl : (EE.cs (L.eraseIdx i)).length = (L.length - 1) * 13 := by rw [okE.length, hle]; rfl
    obtain ⟨hD, hF, hFt⟩ := take_shift cur cap (L.length - 1) (EE.cs (L.eraseIdx i)) hXl (by omega) hs
    have hg2 : (w.drew.setRow g (EE.cs (L.eraseIdx i) ++ cur.toList.drop ((L.length - 1) * 13)).toArray).heap[g]? = some (.cells (EE.cs (L.eraseIdx i) ++ cur.toList.drop ((L.length - 1) * 13)).toArray 87 (0, 0)) := setRow_heap _ _ cur _ 87 (0, 0) hg
    rw [hv]
    refine (delete_walk w g L.length i cap _ hi hn (by unfold maxLen at hm; omega) (fun A hA => run_shift w.drew g cap i L A (cap - (i + 1)) cur hg hi hn hs ht hA) _ (fun ty => run_clear_one _ g (L.length - 1) (cap - (L.length - 1)) ty _ hg2 (by rw [hD]; omega))).mono ?_
    rintro e w' ⟨rfl, rfl⟩
    refine ⟨(some ⟨g, 0, none⟩, L.length - 1, cap), rfl, ⟨by rw [hXl, hle]; rfl, .inr ⟨g, cap, _, by rw [hle]; rfl, hb, setRow_heap _ _ _ _ 87 (0, 0) hg2, by rw [hle]; omega, hm, hF, by rw [hle]; exact hFt⟩⟩, rfl, ⟨rfl, rfl, rfl, by simp, fun k _ hk => ?_⟩⟩
    rw [setRow_other _ _ _ _ (fun e => hk (by rw [e]; rfl)), setRow_other _ _ _ _ (fun e => hk (by rw [e]; rfl))]
    rfl
end Go.Proofs.YtfponcdhaefkdaaDoor
/- A cache in memory; hear, isExpired, Len, drop, dropOldest. -/
namespace Go.Proofs.YtfponcdhaefkdaaDoor
open Go.RowKit
set_option linter.unusedVariables false
set_option linter.unusedSimpArgs false
/-- the bounds and the clock -/
structure Ca where
  me : Int
  mb : Int
  lf : Int
  ck : Int
def cav (c : Ca) (y : SV) : Array Value := #[.int .i64 c.me, .int .i64 c.mb, .int .i64 c.lf, .int .i64 c.ck, sv y]
/-- the blocks of an entry's lists -/
def eblk (e : En) (k : Nat) : Prop := (sv e.q.y).ownBlock = some k ∨ (sv e.ns).ownBlock = some k ∨ (sv e.ry).ownBlock = some k
structure Er (w : World) (e : En) : Prop where
  q : R EFd w (sv e.q.y) e.fq
  n : R ES w (sv e.ns) e.nm
  r : R EFd w (sv e.ry) e.fr
theorem Er.keep {w w' : World} {e : En} (h : Er w e) (hk : ∀ k, eblk e k → k < w.heap.size → w'.heap[k]? = w.heap[k]?) : Er w' e :=
  ⟨h.q.stays fun k hk' hl => hk k (.inl hk') hl, h.n.stays fun k hk' hl => hk k (.inr (.inl hk')) hl, h.r.stays fun k hk' hl => hk k (.inr (.inr hk')) hl⟩
theorem Er.lt {w : World} {e : En} (h : Er w e) {k : Nat} (hk : eblk e k) : k < w.heap.size := by
  rcases hk with hk | hk | hk
  · exact h.q.lt k hk
  · exact h.n.lt k hk
  · exact h.r.lt k hk
theorem Er.ty {w : World} {e : En} (h : Er w e) {k : Nat} (hk : eblk e k) : ∃ c, w.heap[k]? = some (.cells c 51 (0, 0)) ∨ w.heap[k]? = some (.cells c 9 (0, 0)) := by
  rcases hk with hk | hk | hk
  · obtain ⟨c, hc⟩ := h.q.ty k hk; exact ⟨c, .inl hc⟩
  · obtain ⟨c, hc⟩ := h.n.ty k hk; exact ⟨c, .inr hc⟩
  · obtain ⟨c, hc⟩ := h.r.ty k hk; exact ⟨c, .inl hc⟩
def totL (L : List En) : Nat := (L.map fun e => e.sz).sum
theorem totL_take {L : List En} {k : Nat} (h : k < L.length) : totL (L.take (k + 1)) = totL (L.take k) + L[k].sz := by
  unfold totL
  rw [List.take_succ_eq_append_getElem h, List.map_append, List.sum_append]
  simp
theorem totL_le (L : List En) (k : Nat) : totL (L.take k) ≤ totL L := by
  unfold totL
  conv => rhs; rw [← List.take_append_drop k L, List.map_append, List.sum_append]
  omega
theorem totL_erase {L : List En} {i : Nat} (h : i < L.length) : totL (L.eraseIdx i) + L[i].sz = totL L := by
  unfold totL
  rw [List.eraseIdx_eq_take_drop_succ]
  conv => rhs; rw [← List.take_append_drop i L, List.drop_eq_getElem_cons h]
  simp only [List.map_append, List.map_cons, List.sum_append, List.sum_cons]
  omega
/-- numbers that fit -/
structure Cok (c : Ca) (L : List En) : Prop where
  me : 0 ≤ c.me ∧ c.me ≤ 64
  mb : 0 ≤ c.mb ∧ c.mb ≤ 1152921504606846976
  lf : 0 ≤ c.lf ∧ c.lf ≤ 1152921504606846976
  ck : 0 ≤ c.ck ∧ c.ck ≤ 9223372036854775807
  len : (L.length : Int) ≤ c.me
  tot : (totL L : Int) ≤ c.mb
  ar : ∀ e ∈ L, 0 ≤ e.ar ∧ e.ar ≤ c.ck
  fq : ∀ e ∈ L, e.fq.length ≤ 1099511627776
  up : L.Pairwise fun a b => a.ar ≤ b.ar
def Ow (g : Nat) (y : SV) (k : Nat) : Prop := k = g ∨ (sv y).ownBlock = some k
/-- a cache at g -/
structure Cx (w : World) (g : Nat) (c : Ca) (y : SV) (L : List En) : Prop where
  blk : w.heap[g]? = some (.cells (cav c y) 83 (0, 0))
  row : R EE w (sv y) L
  er : ∀ e ∈ L, Er w e
  ap : L.Pairwise fun a b => ∀ k, eblk a k → ¬ eblk b k
  ok : Cok c L
/-- all its blocks -/
def Cb (g : Nat) (y : SV) (L : List En) (k : Nat) : Prop := Ow g y k ∨ ∃ e ∈ L, eblk e k
theorem Cx.keep {w w' : World} {g : Nat} {c : Ca} {y : SV} {L : List En} (h : Cx w g c y L) (hk : ∀ k, Cb g y L k → k < w.heap.size → w'.heap[k]? = w.heap[k]?) : Cx w' g c y L :=
  ⟨(hk g (.inl (.inl rfl)) (heap_lt h.blk)).trans h.blk, h.row.stays fun k hk' hl => hk k (.inl (.inr hk')) hl, fun e he => (h.er e he).keep fun k hk' hl => hk k (.inr ⟨e, he, hk'⟩) hl, h.ap, h.ok⟩
theorem Cx.below {w w' : World} {g : Nat} {c : Ca} {y : SV} {L : List En} (h : Cx w g c y L) (hb : Below w.heap.size w w') : Cx w' g c y L := h.keep fun k _ hl => hb.block k hl
theorem Cx.lt {w : World} {g : Nat} {c : Ca} {y : SV} {L : List En} (h : Cx w g c y L) {k : Nat} (hk : Cb g y L k) : k < w.heap.size := by
  rcases hk with (rfl | hk) | ⟨e, he, hk⟩
  · exact heap_lt h.blk
  · exact h.row.lt k hk
  · exact (h.er e he).lt hk
/-- an entry's lists are none of the cache's own blocks -/
theorem Cx.off {w : World} {g : Nat} {c : Ca} {y : SV} {L : List En} (h : Cx w g c y L) {e : En} (hE : Er w e) {k : Nat} (hk : eblk e k) : ¬ Ow g y k := by
  obtain ⟨cc, hc⟩ := hE.ty hk
  rintro (rfl | ho)
  · rw [h.blk] at hc
    rcases hc with hc | hc
    · injection hc with hc; injection hc with _ hc; cases hc
    · injection hc with hc; injection hc with _ hc; cases hc
  · obtain ⟨cr, hr⟩ := h.row.ty k ho
    rw [hr] at hc
    rcases hc with hc | hc
    · injection hc with hc; injection hc with _ hc; cases hc
    · injection hc with hc; injection hc with _ hc; cases hc
theorem Cx.gy {w : World} {g : Nat} {c : Ca} {y : SV} {L : List En} (h : Cx w g c y L) : (sv y).ownBlock ≠ some g := fun e => by
  obtain ⟨cr, hr⟩ := h.row.ty g e
  rw [h.blk] at hr
  injection hr with hr; injection hr with _ hr; cases hr
theorem Cx.cells {w : World} {g : Nat} {c : Ca} {y : SV} {L : List En} (h : Cx w g c y L) : w.cell? ⟨g, 0, none⟩ = some (.int .i64 c.me) ∧ w.cell? ⟨g, 1, none⟩ = some (.int .i64 c.mb) ∧ w.cell? ⟨g, 2, none⟩ = some (.int .i64 c.lf) ∧ w.cell? ⟨g, 3, none⟩ = some (.int .i64 c.ck) ∧ w.cell? ⟨g, 4, none⟩ = some (sv y) ∧ (∀ i, w.frozen? ⟨g, i, none⟩ = false) :=
  ⟨cell_blk h.blk 0, cell_blk h.blk 1, cell_blk h.blk 2, cell_blk h.blk 3, cell_blk h.blk 4, fun i => frozen_blk h.blk i⟩
/-- the clock, behind a tick -/
def hr (c : Ca) (t : Int) : Ca := { c with ck := max c.ck t }
theorem Cx.hear {w : World} {g : Nat} {c : Ca} {y : SV} {L : List En} (h : Cx w g c y L) (t : Int) (ht : t ≤ 9223372036854775807) : Cx (w.setCell ⟨g, 3, none⟩ (.int .i64 (max c.ck t))) g (hr c t) y L := by
  refine ⟨?_, h.row.stays fun k hk _ => setCell_other _ _ _ _ _ (fun e => h.gy (by rw [← e]; exact hk)), fun e he => (h.er e he).keep fun k hk _ => setCell_other _ _ _ _ _ (fun e2 => h.off (h.er e he) hk (.inl e2)), h.ap, ⟨h.ok.me, h.ok.mb, h.ok.lf, ?_, h.ok.len, h.ok.tot, fun e he => ?_, h.ok.fq, h.ok.up⟩⟩
  · have := setCell_block w g 3 (.int .i64 (max c.ck t)) _ 83 (0, 0) h.blk
    rw [this]
    rfl
  · have := h.ok.ck
    show 0 ≤ max c.ck t ∧ max c.ck t ≤ _
    omega
  · have := h.ok.ar e he
    show 0 ≤ e.ar ∧ e.ar ≤ max c.ck t
    omega
set_option maxHeartbeats 1000000 in
theorem hear_any (w : World) (g : Nat) (c : Ca) (y : SV) (L : List En) (h : Cx w g c y L) (t : Int) (ht : t ≤ 9223372036854775807) :
    Calls Tryd.prog 34 #[.pointer (some ⟨g, 0, none⟩), .int .i64 t] w fun e w' => e = .returned (.tuple #[]) ∧ Cx w' g (hr c t) y L ∧ Ks (fun k => k = g) w w' := by
  obtain ⟨c0, c1, c2, c3, c4, cf⟩ := h.cells
  have f3 := cf 3
  have hl := heap_lt h.blk
  have HX := h.hear t ht
  have HK : Ks (fun k => k = g) w (w.setCell ⟨g, 3, none⟩ (.int .i64 (max c.ck t))) := Ks.setCell _ _ _ _ _ rfl
  replace HX : Hid _ := HX
  replace HK : Hid _ := HK
  clear h
  go_enter Tryd.func34, Tryd.ntmps34
  go_wp2_with fail
  go_end0
  exact ⟨rfl, HX.out, HK.out⟩
/-- is it expired? -/
def exB (c : Ca) (e : En) : Bool := decide (c.lf < c.ck - e.ar)
set_option maxHeartbeats 4000000 in
set_option maxRecDepth 100000 in
theorem isExpired_any (w : World) (g : Nat) (c : Ca) (y : SV) (e : En) (hb : w.heap[g]? = some (.cells (cav c y) 83 (0, 0))) (hc : 0 ≤ c.ck ∧ c.ck ≤ 9223372036854775807) (ha : 0 ≤ e.ar ∧ e.ar ≤ c.ck) :
    Calls Tryd.prog 35 #[.pointer (some ⟨g, 0, none⟩), .agg (env e)] w fun r w' => r = .returned (.bool (exB c e)) ∧ Below w.heap.size w w' := by
  have hlt := heap_lt hb
  have hb1 : (w.alloc (.cells (env e) 87)).heap[g]? = some (.cells (cav c y) 83 (0, 0)) := by rw [heap_al, if_neg (by omega)]; exact hb
  have hbe : (w.alloc (.cells (env e) 87)).heap[w.heap.size]? = some (.cells (env e) 87 (0, 0)) := by rw [heap_al, if_pos rfl]
  obtain ⟨d, hd⟩ : ∃ d : Int, c.ck - e.ar = d := ⟨_, rfl⟩
  have hd1 : -9223372036854775808 ≤ d := by omega
  have hd2 : d ≤ 9223372036854775807 := by omega
  have HE : Hid (exB c e = decide (c.lf < d)) := by show _ = _; unfold exB; rw [hd]
  have HQ : Hid (Below w.heap.size w ((w.alloc (.cells (env e) 87)).drew)) := (bel1 w _).drew
  have c2 := cell_blk hb1 2
  have c3 := cell_blk hb1 3
  have c12 := cell_blk hbe 12
  obtain ⟨me, mb, lf, ck⟩ := c
  obtain ⟨⟨qm, qs, qa, qp, ⟨qb1, qb2, qb3⟩, qb⟩, ⟨n1, n2, n3⟩, rn, ⟨r1, r2, r3⟩, rb, sz, st, ar, fq, nm, fr⟩ := e
  simp only [cav, env, sv, List.getElem?_toArray, List.getElem?_cons_succ, List.getElem?_cons_zero] at c2 c3 c12 HE HQ hd hlt ⊢
  clear hb hb1 hbe hc ha
  go_enter Tryd.func35, Tryd.ntmps35
  go_wp2_with fail
  go_region
  all_goals
    go_wp2_with fail
    go_ret
    refine ⟨?_, HQ.out⟩
    rw [HE.out]
    rfl
set_option maxHeartbeats 1000000 in
theorem len_any (w : World) (g : Nat) (c : Ca) (y : SV) (L : List En) (h : Cx w g c y L) : Calls Tryd.prog 12 #[.pointer (some ⟨g, 0, none⟩)] w fun e w' => e = .returned (.int .i64 (L.length : Int)) ∧ w' = w := by
  obtain ⟨c0, c1, c2, c3, c4, cf⟩ := h.cells
  have hl := heap_lt h.blk
  obtain ⟨b, cc, e, _, _⟩ := h.row.slice
  rw [e] at c4
  clear h e
  go_enter Tryd.func12, Tryd.ntmps12
  go_wp2_with fail
  go_ret
  exact ⟨rfl, rfl⟩
end Go.Proofs.YtfponcdhaefkdaaDoor
/- Bytes, drop, dropOldest. -/
namespace Go.Proofs.YtfponcdhaefkdaaDoor
open Go.RowKit
set_option linter.unusedVariables false
set_option linter.unusedSimpArgs false
/-- the thirteen cells of an entry -/
def Cells13 (W : World) (B o : Nat) (e : En) : Prop := W.cell? ⟨B, o, none⟩ = some (.string e.q.m) ∧ W.cell? ⟨B, o + 1, none⟩ = some (.string e.q.s) ∧ W.cell? ⟨B, o + 2, none⟩ = some (.string e.q.a) ∧ W.cell? ⟨B, o + 3, none⟩ = some (.string e.q.p) ∧ W.cell? ⟨B, o + 4, none⟩ = some (sv e.q.y) ∧ W.cell? ⟨B, o + 5, none⟩ = some (.string e.q.b) ∧ W.cell? ⟨B, o + 6, none⟩ = some (sv e.ns) ∧ W.cell? ⟨B, o + 7, none⟩ = some (.int .i64 e.rn) ∧ W.cell? ⟨B, o + 8, none⟩ = some (sv e.ry) ∧ W.cell? ⟨B, o + 9, none⟩ = some (.string e.rb) ∧ W.cell? ⟨B, o + 10, none⟩ = some (.int .i64 (e.sz : Int)) ∧ W.cell? ⟨B, o + 11, none⟩ = some (.int .i64 e.st) ∧ W.cell? ⟨B, o + 12, none⟩ = some (.int .i64 e.ar)
theorem In.en {w : World} {v : Value} {l : List En} (h : In EE w v l) (k : Nat) (hk : k < l.length) : ∃ B off cap, v = .slice (some ⟨B, off, none⟩) l.length cap ∧ ∀ W, Below w.heap.size w W → Cells13 W B (off + k * 13) l[k] := by
  obtain ⟨B, off, cap, e, hB, d⟩ := h.get okE k hk
  exact ⟨B, off, cap, e, fun W hb => ⟨(hb.cell hB).trans (d 0 _ rfl), (hb.cell hB).trans (d 1 _ rfl), (hb.cell hB).trans (d 2 _ rfl), (hb.cell hB).trans (d 3 _ rfl), (hb.cell hB).trans (d 4 _ rfl), (hb.cell hB).trans (d 5 _ rfl), (hb.cell hB).trans (d 6 _ rfl), (hb.cell hB).trans (d 7 _ rfl), (hb.cell hB).trans (d 8 _ rfl), (hb.cell hB).trans (d 9 _ rfl), (hb.cell hB).trans (d 10 _ rfl), (hb.cell hB).trans (d 11 _ rfl), (hb.cell hB).trans (d 12 _ rfl)⟩⟩
set_option maxHeartbeats 4000000 in
set_option maxRecDepth 100000 in
theorem bytes_any (w : World) (g : Nat) (c : Ca) (y : SV) (L : List En) (h : Cx w g c y L) : Calls Tryd.prog 22 #[.pointer (some ⟨g, 0, none⟩)] w fun e w' => e = .returned (.int .i64 (totL L : Int)) ∧ Below w.heap.size w w' := by
  have HI : Hid (In EE w (sv y) L) := h.row.isIn
  have HZ : Hid (totL L ≤ 4611686018427387904) := by have := h.ok.tot; have := h.ok.mb; show _ ≤ _; omega
  obtain ⟨c0, c1, c2, c3, c4, cf⟩ := h.cells
  have hl := heap_lt h.blk
  obtain ⟨b, cc, e, m1, m2⟩ := h.row.slice
  rw [e] at c4
  obtain ⟨sb, sl, sc⟩ := y
  simp only [sv] at e HI
  injection e with e1 e2 e3
  subst e1 e2 e3
  obtain ⟨N, hN⟩ : ∃ N, L.length = N := ⟨_, rfl⟩
  rw [hN] at HI m1 c4
  have HN : Hid (L.length = N) := hN
  clear h hN c0 c1 c2 c3 cf
  go_enter Tryd.func22, Tryd.ntmps22
  go_wp2_with fail
  clear c4
  go_loopw [3, 5, 11] (fun tv _ kv wr => ∃ k t : Nat, kv = .int .i64 (k : Int) ∧ k ≤ N ∧ tv = .int .i64 (t : Int) ∧ Hid (t = totL (L.take k)) ∧ Hid (Below w.heap.size w wr)) (fun _ _ kv _ => N - (intOf kv).toNat)
  case atStart => exact ⟨0, 0, rfl, by omega, rfl, by show _ = _; simp [totL], Below.refl _ _⟩
  case round =>
    obtain ⟨k, t, rfl, hk, rfl, ht, hb⟩ := hrel
    by_cases hlt : k < N
    · obtain ⟨Bk, off, cap, e, hc⟩ := HI.out.en k (by rw [HN.out]; exact hlt)
      injection e with e1 e2 e3
      clear e2 e3
      subst e1
      obtain ⟨d0, d1, d2, d3, d4, d5, d6, d7, d8, d9, d10, d11, d12⟩ := hc wr hb.out
      obtain ⟨x, hx⟩ : ∃ x, L[k]'(by rw [HN.out]; exact hlt) = x := ⟨_, rfl⟩
      rw [hx] at d0 d1 d2 d3 d4 d5 d6 d7 d8 d9 d10 d11 d12
      have l1 : (k : Int) < (N : Int) := by omega
      obtain ⟨z, hz⟩ : ∃ z : Nat, t + x.sz = z := ⟨_, rfl⟩
      have HT : Hid (z = totL (L.take (k + 1)) ∧ z ≤ 4611686018427387904) := by
        have h1 := totL_take (L := L) (k := k) (by rw [HN.out]; exact hlt)
        rw [hx] at h1
        have h2 := ht.out
        have h3 := totL_le L (k + 1)
        have h4 := HZ.out
        exact ⟨by omega, by omega⟩
      have q1 : (t : Int) + (x.sz : Int) = (z : Int) := by omega
      have q2 : z ≤ 4611686018427387904 := HT.out.2
      have HB2 : Hid (Below w.heap.size w (wr.alloc (.cells (env x) 87))) := hb.out.trans ((bel1 _ _).mono hb.out.size)
      clear hc hx hz
      obtain ⟨⟨qm, qs, qa, qp, ⟨qb1, qb2, qb3⟩, qb⟩, ⟨n1, n2, n3⟩, rn, ⟨r1, r2, r3⟩, rb, sz, st, ar, fq, nm, fr⟩ := x
      simp only [sv, env] at d0 d1 d2 d3 d4 d5 d6 d7 d8 d9 d10 d11 d12 HB2 q1
      go_wp2_with fail
      go_roundw
      case rel => exact ⟨k + 1, z, by simp, by omega, by first | rfl | simp, HT.out.1, HB2.out⟩
      case measure => simp [intOf]; omega
    · have l1 : ¬ (k : Int) < (N : Int) := by omega
      have HE : Hid (t = totL L ∧ Below w.heap.size w wr) := ⟨by rw [ht.out, List.take_of_length_le (by rw [HN.out]; omega)], hb.out⟩
      clear ht hb
      go_wp2_with fail
      go_ret
      refine ⟨?_, HE.out.2⟩
      rw [← HE.out.1]
      rfl
/-- what is left when one goes -/
theorem Cok.erase {c : Ca} {L : List En} (h : Cok c L) (i : Nat) (hi : i < L.length) : Cok c (L.eraseIdx i) := by
  have hs := List.eraseIdx_sublist L i
  refine ⟨h.me, h.mb, h.lf, h.ck, ?_, ?_, fun e he => h.ar e (hs.subset he), fun e he => h.fq e (hs.subset he), h.up.sublist hs⟩
  · have := h.len; have := hs.length_le; omega
  · have := h.tot; have := totL_erase hi; omega
theorem Cx.erase {w w2 : World} {g : Nat} {c : Ca} {y z : SV} {L : List En} (h : Cx w g c y L) (i : Nat) (hi : i < L.length) (hR : R EE w2 (sv z) (L.eraseIdx i)) (ho : (sv z).ownBlock = (sv y).ownBlock) (hk : Ks (fun k => (sv y).ownBlock = some k) w w2) : Cx (w2.setCell ⟨g, 4, none⟩ (sv z)) g c z (L.eraseIdx i) ∧ Ks (Ow g y) w (w2.setCell ⟨g, 4, none⟩ (sv z)) := by
  have hs := List.eraseIdx_sublist L i
  have hg2 : w2.heap[g]? = some (.cells (cav c y) 83 (0, 0)) := (hk.block g (heap_lt h.blk) h.gy).trans h.blk
  have hK : Ks (Ow g y) w (w2.setCell ⟨g, 4, none⟩ (sv z)) := hk.trans (Ks.setCell (fun k => k = g) w2 g 4 (sv z) rfl) (fun i _ hi => .inr hi) (fun i _ hi => .inl hi)
  refine ⟨⟨?_, hR.stays fun k hk' _ => setCell_other _ _ _ _ _ (fun e => h.gy (by rw [← ho, ← e]; exact hk')), fun e he => (h.er e (hs.subset he)).keep fun k hk' hl => hK.block k hl (h.off (h.er e (hs.subset he)) hk'), h.ap.sublist hs, h.ok.erase i hi⟩, hK⟩
  rw [setCell_block _ _ _ _ _ _ _ hg2]
  rfl
set_option maxHeartbeats 4000000 in
set_option maxRecDepth 100000 in
theorem drop_any (w : World) (g : Nat) (c : Ca) (y : SV) (L : List En) (h : Cx w g c y L) (i : Nat) (hi : i < L.length) :
    Calls Tryd.prog 41 #[.pointer (some ⟨g, 0, none⟩), .int .i64 (i : Int)] w fun e w' => e = .returned (.tuple #[]) ∧ ∃ z : SV, Cx w' g c z (L.eraseIdx i) ∧ (sv z).ownBlock = (sv y).ownBlock ∧ Ks (Ow g y) w w' := by
  have HX : Hid (Cx w g c y L) := h
  have hD : Hid (Calls Tryd.prog 71 #[sv y, .int .i64 (i : Int), .int .i64 ((i : Int) + 1)] w fun e w' => ∃ z : SV, e = .returned (sv z) ∧ R EE w' (sv z) (L.eraseIdx i) ∧ (sv z).ownBlock = (sv y).ownBlock ∧ Ks (fun k => (sv y).ownBlock = some k) w w') := delete_any w y L i hi h.row
  have hi64 : i ≤ 64 := by have := h.ok.len; have := h.ok.me; omega
  obtain ⟨c0, c1, c2, c3, c4, cf⟩ := h.cells
  have hl := heap_lt h.blk
  obtain ⟨yb, yl, yc⟩ := y
  simp only [sv] at c4 hD
  clear h c0 c1 c2 c3 cf
  go_enter Tryd.func41, Tryd.ntmps41
  go_wp2_with fail
  go_at_call 71
  refine hD.out.mono ?_
  rintro e w2 ⟨⟨zb, zl, zc⟩, rfl, hR, ho, hk⟩
  have HE := HX.out.erase i hi (z := (zb, zl, zc)) hR ho hk
  have hg2 : w2.heap[g]? = some (.cells (cav c (yb, yl, yc)) 83 (0, 0)) := (hk.block g (heap_lt HX.out.blk) HX.out.gy).trans HX.out.blk
  have c4' := cell_blk hg2 4
  have f4 := frozen_blk hg2 4
  have hl2 := heap_lt hg2
  simp only [cav, List.getElem?_toArray, List.getElem?_cons_succ, List.getElem?_cons_zero, sv] at c4'
  have HO : Hid ((sv (zb, zl, zc)).ownBlock = (sv (yb, yl, yc)).ownBlock) := ho
  replace HE : Hid _ := HE
  simp only [sv] at HE ⊢
  clear hR ho hk hg2 hD HX c4 hl
  go_wp2_with fail
  go_end0
  exact ⟨rfl, (zb, zl, zc), HE.out.1, HO.out, HE.out.2⟩
set_option maxHeartbeats 4000000 in
set_option maxRecDepth 100000 in
theorem dropOldest_any (w : World) (g : Nat) (c : Ca) (y : SV) (x : En) (L : List En) (h : Cx w g c y (x :: L)) :
    Calls Tryd.prog 36 #[.pointer (some ⟨g, 0, none⟩)] w fun e w' => e = .returned (.int .i64 x.st) ∧ ∃ z : SV, Cx w' g c z L ∧ (sv z).ownBlock = (sv y).ownBlock ∧ Ks (Ow g y) w w' := by
  have hD : Hid (Calls Tryd.prog 41 #[.pointer (some ⟨g, 0, none⟩), .int .i64 0] w fun e w' => e = .returned (.tuple #[]) ∧ ∃ z : SV, Cx w' g c z L ∧ (sv z).ownBlock = (sv y).ownBlock ∧ Ks (Ow g y) w w') := drop_any w g c y (x :: L) h 0 (by simp)
  obtain ⟨c0, c1, c2, c3, c4, cf⟩ := h.cells
  have hl := heap_lt h.blk
  obtain ⟨Bk, off, cap, e, hc⟩ := h.row.isIn.en 0 (by simp)
  obtain ⟨d0, d1, d2, d3, d4, d5, d6, d7, d8, d9, d10, d11, d12⟩ := hc w (Below.refl _ _)
  rw [e] at c4
  simp only [List.getElem_cons_zero, Nat.zero_mul, Nat.add_zero] at d11
  obtain ⟨n, hn⟩ : ∃ n, (x :: L).length = n := ⟨_, rfl⟩
  have hn1 : 0 < n := by rw [← hn]; simp
  have hn2 : (0 : Int) < (n : Int) := by omega
  rw [hn] at c4
  clear h hc e d0 d1 d2 d3 d4 d5 d6 d7 d8 d9 d10 d12 c0 c1 c2 c3 cf hn
  go_enter Tryd.func36, Tryd.ntmps36
  go_wp2_with fail
  go_at_call 41
  refine hD.out.mono ?_
  rintro e w2 ⟨rfl, z, h1, h2, h3⟩
  have HE : Hid (Cx w2 g c z L ∧ (sv z).ownBlock = (sv y).ownBlock ∧ Ks (Ow g y) w w2) := ⟨h1, h2, h3⟩
  clear h1 h2 h3 hD
  go_wp2_with fail
  go_ret
  exact ⟨rfl, z, HE.out⟩
end Go.Proofs.YtfponcdhaefkdaaDoor
/- Tick. -/
namespace Go.Proofs.YtfponcdhaefkdaaDoor
open Go.RowKit
set_option linter.unusedVariables false
set_option linter.unusedSimpArgs false
def lenAt (g : Nat) (w : World) : Nat := match w.cell? ⟨g, 4, none⟩ with | some (.slice _ n _) => n | _ => 0
theorem Cx.lenAt {w : World} {g : Nat} {c : Ca} {y : SV} {L : List En} (h : Cx w g c y L) : lenAt g w = L.length := by
  obtain ⟨_, _, e, _, _⟩ := h.row.slice
  have := h.cells.2.2.2.2.1
  rw [e] at this
  unfold YtfponcdhaefkdaaDoor.lenAt
  rw [this]
/-- entries go out at the front: D went, M stays -/
structure Tk (w wr : World) (g : Nat) (y : SV) (c : Ca) (M : List En) (gs : SV) (D : List Int) : Prop where
  cx : ∃ z, Cx wr g c z M ∧ (sv z).ownBlock = (sv y).ownBlock
  ks : Ks (Ow g y) w wr
  gone : R EI wr (sv gs) D
  new : ∀ k, (sv gs).ownBlock = some k → w.heap.size ≤ k
  lt : ∀ k, (Ow g y k ∨ ∃ e ∈ M, eblk e k) → k < w.heap.size
theorem ow_eq {g : Nat} {y z : SV} (h : (sv z).ownBlock = (sv y).ownBlock) : Ow g z = Ow g y := by unfold Ow; rw [h]
theorem Tk.below {w wr w' : World} {g : Nat} {y : SV} {c : Ca} {M : List En} {gs : SV} {D : List Int} (h : Tk w wr g y c M gs D) (hb : Below wr.heap.size wr w') : Tk w w' g y c M gs D := by
  obtain ⟨z, h1, h2⟩ := h.cx
  exact ⟨⟨z, h1.below hb, h2⟩, h.ks.trans (Ks.of_below hb (A := fun _ => False)) (fun i _ hi => hi) (fun i _ hi => hi.elim), h.gone.below hb, h.new, h.lt⟩
/-- one goes -/
theorem Tk.oldest {w wr : World} {g : Nat} {y : SV} {c : Ca} {x : En} {M : List En} {gs : SV} {D : List Int} (h : Tk w wr g y c (x :: M) gs D) :
    Calls Tryd.prog 36 #[.pointer (some ⟨g, 0, none⟩)] wr fun e w' => e = .returned (.int .i64 x.st) ∧ Tk w w' g y c M gs D := by
  obtain ⟨z, h1, h2⟩ := h.cx
  refine (dropOldest_any wr g c z x M h1).mono ?_
  rintro e w' ⟨rfl, z', q1, q2, q3⟩
  rw [ow_eq h2] at q3
  refine ⟨rfl, ⟨z', q1, q2.trans h2⟩, h.ks.trans q3 (fun i _ hi => hi) (fun i _ hi => hi), h.gone.stays fun k hk hl => q3.block k hl fun ho => ?_, h.new, fun k hk => h.lt k (hk.imp id fun ⟨e, he, hb⟩ => ⟨e, List.mem_cons_of_mem _ he, hb⟩)⟩
  have := h.new k hk
  have := h.lt k (.inl ho)
  omega
/-- and is told -/
theorem Tk.app {w W : World} {g : Nat} {y : SV} {c : Ca} {M : List En} {gb : Option Addr} {gl gc : Nat} {D : List Int} (h : Tk w W g y c M (gb, gl, gc) D) (n : Int) (hl : D.length ≤ 1000) :
    ∃ b2 c2 w2, (Builtin.append_ #[38, 38] 38 #[.slice gb gl gc, .slice (some ⟨W.heap.size, 0, none⟩) 1 1]).run Tryd.prog (W.alloc (.cells #[.int .i64 n] 2)) = .ok (.slice b2 (gl + 1) c2) w2 ∧ Tk w w2 g y c M (b2, gl + 1, c2) (D ++ [n]) := by
  have ba := bel1 W (.cells #[.int .i64 n] 2)
  have h2 := h.below ba
  obtain ⟨b2, c2, w2, e1, e2, e3⟩ := Go.Proofs.YtfponcdhaefkdaaDoor.app okI (W.alloc (.cells #[.int .i64 n] 2)) (.slice gb gl gc) D h2.gone (.slice (some ⟨W.heap.size, 0, none⟩) 1 1) [n] (in_one (E := EI) _ _ n #[.int .i64 n] 2 (0, 0) (by rw [heap_al, if_pos rfl]) rfl) (by simp only [EI, List.length_singleton]; omega)
  have hg : gl = D.length := by
    obtain ⟨_, _, e, _, _⟩ := h.gone.slice
    simp only [sv] at e
    injection e
  have el : D.length + [n].length = gl + 1 := by rw [hg]; rfl
  rw [el] at e1 e2 e3
  obtain ⟨z, z1, z2⟩ := h2.cx
  refine ⟨b2, c2, w2, e1, ⟨z, z1.keep fun k hk hl => e3.block k hl fun e => ?_, z2⟩, h2.ks.trans (Ks.of_gr e3) (fun i _ hi => hi) (fun i hi he => ?_), e2, fun k hk => ?_, h2.lt⟩
  · have := h2.new k e
    have := h2.lt k (hk.imp (fun ho => by rw [← ow_eq z2]; exact ho) id)
    omega
  · have := h2.new i he
    omega
  · rcases e3.own k hk with e | e
    · exact h2.new k e
    · exact Nat.le_trans h2.ks.size e
/-- what Tick tells, and what it leaves -/
def tkP (w : World) (g : Nat) (c : Ca) (y : SV) (L : List En) (r : Ending) (w' : World) : Prop :=
  ∃ gs : SV, r = .returned (sv gs) ∧ Tk w w' g y c (L.dropWhile (exB c)) gs ((L.takeWhile (exB c)).map (·.st))
set_option maxHeartbeats 8000000 in
set_option maxRecDepth 100000 in
theorem tick_any (w : World) (g : Nat) (c : Ca) (y : SV) (L : List En) (h : Cx w g c y L) (t : Int) (ht : t ≤ 9223372036854775807) :
    Calls Tryd.prog 10 #[.pointer (some ⟨g, 0, none⟩), .int .i64 t] w fun r w' => tkP w g (hr c t) y L r w' := by
  have HH : Hid (Calls Tryd.prog 34 #[.pointer (some ⟨g, 0, none⟩), .int .i64 t] w fun e w' => e = .returned (.tuple #[]) ∧ Cx w' g (hr c t) y L ∧ Ks (fun k => k = g) w w') := hear_any w g c y L h t ht
  have HLt : Hid (∀ k, Cb g y L k → k < w.heap.size) := fun k hk => h.lt hk
  have HLn : Hid (L.length ≤ 64) := by have := h.ok.len; have := h.ok.me; show _ ≤ _; omega
  obtain ⟨c', hc'⟩ : ∃ c', hr c t = c' := ⟨_, rfl⟩
  rw [hc'] at HH ⊢
  clear h hc' ht
  go_enter Tryd.func10, Tryd.ntmps10
  go_wp2_with fail
  go_at_call 34
  refine HH.out.mono ?_
  rintro e w1 ⟨rfl, h1, h2⟩
  have HT0 : Hid (Tk w w1 g y c' L (none, 0, 0) []) := ⟨⟨y, h1, rfl⟩, h2.mono (fun i _ hi => .inl hi), R.nil _ _, fun k hk => by simp [sv, Value.ownBlock] at hk, fun k hk => HLt.out k hk⟩
  clear h1 h2 HH
  go_wp2_with fail
  go_loopw [5] (fun gv wr => ∃ (gb : Option Addr) (gl gc : Nat) (D M : List En), gv = .slice gb gl gc ∧ Hid (D ++ M = L ∧ (∀ e ∈ D, exB c' e = true) ∧ Tk w wr g y c' M (gb, gl, gc) (D.map (·.st)))) (fun _ wr => lenAt g wr)
  case atStart => exact ⟨none, 0, 0, [], L, rfl, rfl, fun e he => by simp at he, HT0.out⟩
  case round =>
    obtain ⟨gb, gl, gc, D, M, rfl, hJ⟩ := hrel
    obtain ⟨z, z1, z2⟩ := hJ.out.2.2.cx
    obtain ⟨c0, c1, c2, c3, c4, cf⟩ := z1.cells
    have hl := heap_lt z1.blk
    rcases M with _ | ⟨x, M⟩
    · obtain ⟨_, _, e, _, _⟩ := z1.row.slice
      rw [e] at c4
      simp only [List.length_nil] at c4
      have HE : Hid (tkP w g c' y L (.returned (.slice gb gl gc)) wr) := by
        refine ⟨(gb, gl, gc), rfl, ?_⟩
        have e2 : L.takeWhile (exB c') = D := by rw [← hJ.out.1, List.takeWhile_append_of_pos hJ.out.2.1]; simp
        have e3 : L.dropWhile (exB c') = [] := by rw [← hJ.out.1, List.dropWhile_append_of_pos hJ.out.2.1]; rfl
        rw [e2, e3]
        exact hJ.out.2.2
      clear z1 z2 e hJ c0 c1 c2 c3 cf HT0
      go_wp2_with fail
      go_ret
      exact HE.out
    · obtain ⟨Bk, off, cap, e, hc⟩ := z1.row.isIn.en 0 (by simp)
      obtain ⟨d0, d1, d2, d3, d4, d5, d6, d7, d8, d9, d10, d11, d12⟩ := hc wr (Below.refl _ _)
      rw [e] at c4
      simp only [List.getElem_cons_zero, Nat.zero_mul, Nat.add_zero] at d0 d1 d2 d3 d4 d5 d6 d7 d8 d9 d10 d11 d12
      obtain ⟨n, hn⟩ : ∃ n, (x :: M).length = n := ⟨_, rfl⟩
      have hn2 : (0 : Int) < (n : Int) := by rw [← hn]; simp
      rw [hn] at c4
      have HX : Hid (Calls Tryd.prog 35 #[.pointer (some ⟨g, 0, none⟩), .agg (env x)] wr fun r w' => r = .returned (.bool (exB c' x)) ∧ Below wr.heap.size wr w') := isExpired_any wr g c' z x z1.blk z1.ok.ck (z1.ok.ar x (by simp))
      have HM : Hid (lenAt g wr = M.length + 1) := by show _ = _; rw [z1.lenAt]; rfl
      have HD : Hid (D.length ≤ 1000) := by have h1 := congrArg List.length hJ.out.1; rw [List.length_append] at h1; have := HLn.out; show _ ≤ _; omega
      have HJ : Hid (D ++ x :: M = L ∧ (∀ e ∈ D, exB c' e = true) ∧ Tk w wr g y c' (x :: M) (gb, gl, gc) (D.map (·.st))) := hJ.out
      cases hB : exB c' x
      · have HE : Hid (∀ w', Below wr.heap.size wr w' → tkP w g c' y L (.returned (.slice gb gl gc)) w') := fun w' hb => by
          refine ⟨(gb, gl, gc), rfl, ?_⟩
          have e1 : L.takeWhile (exB c') = D ∧ L.dropWhile (exB c') = x :: M := by
            rw [← hJ.out.1]
            refine ⟨?_, ?_⟩
            · rw [List.takeWhile_append_of_pos hJ.out.2.1, List.takeWhile_cons_of_neg (by rw [hB]; simp), List.append_nil]
            · rw [List.dropWhile_append_of_pos hJ.out.2.1, List.dropWhile_cons_of_neg (by rw [hB]; simp)]
          rw [e1.1, e1.2]
          exact hJ.out.2.2.below hb
        rw [hB] at HX
        clear z1 z2 e hJ HJ c0 c1 c2 c3 cf hc HT0 HD HM hB hn
        obtain ⟨⟨qm, qs, qa, qp, ⟨qb1, qb2, qb3⟩, qb⟩, ⟨n1, n2, n3⟩, rn, ⟨r1, r2, r3⟩, rb, sz, st, ar, fq, nm, fr⟩ := x
        simp only [sv, env] at d0 d1 d2 d3 d4 d5 d6 d7 d8 d9 d10 d11 d12 HX
        go_wp2_with fail
        go_at_call 35
        refine HX.out.mono ?_
        rintro e w2 ⟨rfl, hb2⟩
        have HE2 := HE.out w2 hb2
        replace HE2 : Hid _ := HE2
        clear hb2 HE HX
        go_wp2_with fail
        go_ret
        exact HE2.out
      · have HA : Hid (∀ e ∈ D ++ [x], exB c' e = true) := fun e he => by
          rcases List.mem_append.1 he with he | he
          · exact hJ.out.2.1 e he
          · rw [List.mem_singleton.1 he]; exact hB
        rw [hB] at HX
        clear z1 z2 e hJ c0 c1 c2 c3 cf hc HT0 hB hn
        have HXst : Hid (x.st = x.st) := rfl
        obtain ⟨st, hst⟩ : ∃ st, x.st = st := ⟨_, rfl⟩
        have HST : Hid (x.st = st) := hst
        have HXv : Hid (Calls Tryd.prog 35 #[.pointer (some ⟨g, 0, none⟩), .agg #[.string x.q.m, .string x.q.s, .string x.q.a, .string x.q.p, sv x.q.y, .string x.q.b, sv x.ns, .int .i64 x.rn, sv x.ry, .string x.rb, .int .i64 (x.sz : Int), .int .i64 x.st, .int .i64 x.ar]] wr fun r w' => r = .returned (.bool true) ∧ Below wr.heap.size wr w') := HX.out
        clear hst HX HXst
        go_wp2_with fail
        go_at_call 35
        refine HXv.out.mono ?_
        rintro e w2 ⟨rfl, hb2⟩
        have HT2 : Hid (Tk w w2 g y c' (x :: M) (gb, gl, gc) (D.map (·.st))) := HJ.out.2.2.below hb2
        have HO : Hid (Calls Tryd.prog 36 #[.pointer (some ⟨g, 0, none⟩)] w2 fun e w' => e = .returned (.int .i64 st) ∧ Tk w w' g y c' M (gb, gl, gc) (D.map (·.st))) := by
          have := HT2.out.oldest
          rw [HST.out] at this
          exact this
        clear hb2 HXv d0 d1 d2 d3 d4 d5 d6 d7 d8 d9 d10 d11 d12 c4
        go_wp2_with fail
        go_at_call 36
        refine HO.out.mono ?_
        rintro e w3 ⟨rfl, hT3⟩
        obtain ⟨b2, c2, w4, hrun, hT4⟩ := hT3.app st (by rw [List.length_map]; exact HD.out)
        have HT4 : Hid (Tk w w4 g y c' M (b2, gl + 1, c2) ((D ++ [x]).map (·.st)) ∧ (D ++ [x]) ++ M = L ∧ lenAt g w4 = M.length) := by
          refine ⟨?_, by rw [← HJ.out.1]; simp, ?_⟩
          · rw [List.map_append, List.map_cons, List.map_nil, HST.out]; exact hT4
          · obtain ⟨_, q, _⟩ := hT4.cx; exact q.lenAt
        replace hrun : Hid _ := hrun
        clear hT3 hT4 HO HT2 HJ
        go_wp2_with (at_builtin; refine Lib.wpList_append_run _ rfl _ _ _ _ rfl _ _ rfl rfl _ _ hrun.out ?_)
        go_roundw
        case rel => exact ⟨b2, gl + 1, c2, D ++ [x], M, by first | rfl | simp, HT4.out.2.1, HA.out, HT4.out.1⟩
        case measure => rw [HT4.out.2.2, HM.out]; omega
end Go.Proofs.YtfponcdhaefkdaaDoor
