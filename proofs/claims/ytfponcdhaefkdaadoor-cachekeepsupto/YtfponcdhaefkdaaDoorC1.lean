/- Size; New. -/
import Derived.Test.YtfponcdhaefkdaaDoorB6
import Derived.Test.YtfponcdhaefkdaaDoorA3
namespace Go.Proofs.YtfponcdhaefkdaaDoor
open Go.RowKit
set_option linter.unusedVariables false
set_option linter.unusedSimpArgs false
def EI : El Int := ⟨38, 2, 1, 8, fun n => [.int .i64 n]⟩
theorem okI : EI.Ok := ⟨Tryd.underlying38, by kernel_rfl, by decide, by decide, fun _ => rfl, fun a u hu => by
  simp only [EI, List.mem_cons, List.not_mem_nil, or_false] at hu
  rcases hu with rfl; rfl⟩
/-- is it no bound? -/
def nbB (n : Int) : Bool := decide (n < 0) || decide (1152921504606846976 < n)
theorem isNoBound_any (n : Int) (w : World) : Calls Tryd.prog 33 #[.int .i64 n] w fun e w' => e = .returned (.bool (nbB n)) ∧ w' = w := by
  by_cases h1 : n < 0
  · have e : nbB n = true := by simp [nbB, h1]
    rw [e]
    go_enter Tryd.func33, Tryd.ntmps33
    go_wp2_with fail
    go_ret
    exact ⟨rfl, rfl⟩
  · by_cases h2 : 1152921504606846976 < n
    · have e : nbB n = true := by simp [nbB, h2]
      rw [e]
      go_enter Tryd.func33, Tryd.ntmps33
      go_wp2_with fail
      go_ret
      exact ⟨rfl, rfl⟩
    · have e : nbB n = false := by simp [nbB, h1, h2]
      rw [e]
      go_enter Tryd.func33, Tryd.ntmps33
      go_wp2_with fail
      go_ret
      exact ⟨rfl, rfl⟩
theorem en33 : ∀ args W, (callFunc 33 args).run Tryd.prog W = .ok (.enter 33 args) W := enters_of Tryd.func33 (by kernel_rfl) rfl
theorem In.int {w : World} {v : Value} {l : List Int} (h : In EI w v l) (k : Nat) (hk : k < l.length) : ∃ B off cap, v = .slice (some ⟨B, off, none⟩) l.length cap ∧ ∀ W, Below w.heap.size w W → W.cell? ⟨B, off + k, none⟩ = some (.int .i64 l[k]) := by
  obtain ⟨B, off, cap, e, hB, d⟩ := h.get okI k hk
  refine ⟨B, off, cap, e, fun W hb => ?_⟩
  have := d 0 _ rfl
  simp only [EI, Nat.mul_one, Nat.add_zero] at this
  exact (hb.cell hB).trans this
set_option maxHeartbeats 4000000 in
set_option maxRecDepth 100000 in
theorem index64_any (x : SV) (l : List Int) (w : World) (hI : In EI w (sv x) l) :
    Calls Tryd.prog 64 #[sv x, .func (.func 33) #[] #[]] w fun e w' => ∃ n : Int, e = .returned (.int .i64 n) ∧ decide (0 ≤ n) = l.any nbB ∧ w' = w := by
  have HI : Hid (In EI w (sv x) l) := hI
  have hen := en33
  obtain ⟨b, c, e, m1, m2⟩ := hI.slice
  obtain ⟨sb, sl, sc⟩ := x
  simp only [sv] at e HI ⊢
  injection e with e1 e2 e3
  subst e1 e2 e3
  clear hI
  go_enter Tryd.func64, Tryd.ntmps64
  go_wp2_with fail
  go_loopw [5, 8] (fun _ kv wr => ∃ k : Nat, kv = .int .i64 (k : Int) ∧ k ≤ l.length ∧ Hid (∀ j (h : j < l.length), j < k → nbB l[j] = false) ∧ wr = w) (fun _ kv _ => l.length - (intOf kv).toNat)
  case atStart => exact ⟨0, rfl, by omega, fun j _ h => absurd h (by omega), rfl⟩
  case round =>
    obtain ⟨k, rfl, hk, hno, hw⟩ := hrel
    subst hw
    by_cases hlt : k < l.length
    · obtain ⟨Bk, off, cap, e, hc⟩ := HI.out.int k hlt
      injection e with e1 e2 e3
      clear e2 e3
      subst e1
      have c0 := hc wr (Below.refl _ _)
      obtain ⟨y, hy⟩ : ∃ y, l[k] = y := ⟨_, rfl⟩
      rw [hy] at c0
      have Hy : Hid (l[k]'hlt = y) := hy
      have hCl : Hid (Calls Tryd.prog 33 #[.int .i64 y] wr fun e w' => e = .returned (.bool (nbB y)) ∧ w' = wr) := isNoBound_any y wr
      clear hc hy
      cases hB : nbB y
      · rw [hB] at hCl
        have HB : Hid (nbB y = false) := hB
        clear hB
        go_wp2_with fail
        refine hCl.out.mono ?_
        rintro e w1 ⟨rfl, hw⟩
        rw [hw]
        clear hw w1
        go_wp2_with fail
        go_roundw
        case rel =>
          refine ⟨k + 1, by simp, by omega, fun j hj h => ?_, by trivial⟩
          by_cases hjk : j = k
          · subst hjk
            rw [Hy.out]
            exact HB.out
          · exact hno.out j hj (by omega)
        case measure => simp [intOf]; omega
      · rw [hB] at hCl
        have HB : Hid (nbB y = true) := hB
        clear hB
        go_wp2_with fail
        refine hCl.out.mono ?_
        rintro e w1 ⟨rfl, hw⟩
        rw [hw]
        clear hw w1
        go_wp2_with fail
        go_ret
        refine ⟨(k : Int), rfl, ?_, rfl⟩
        have : l.any nbB = true := List.any_eq_true.2 ⟨_, by rw [← Hy.out]; exact List.getElem_mem hlt, HB.out⟩
        rw [this]
        simp
    · have hlt' : ¬ (k : Int) < (l.length : Int) := by omega
      go_wp2_with fail
      go_ret
      refine ⟨-1, rfl, ?_, rfl⟩
      have : l.any nbB = false := List.any_eq_false.2 fun x hx => by
        obtain ⟨j, hj, e⟩ := List.getElem_of_mem hx
        rw [← e, hno.out j hj (by omega)]
        simp
      rw [this]
      rfl
set_option maxHeartbeats 1000000 in
theorem contains32_any (x : SV) (l : List Int) (w : World) (hI : In EI w (sv x) l) :
    Calls Tryd.prog 32 #[sv x, .func (.func 33) #[] #[]] w fun e w' => e = .returned (.bool (l.any nbB)) ∧ w' = w := by
  have hX : Hid (Calls Tryd.prog 64 #[sv x, .func (.func 33) #[] #[]] w fun e w' => ∃ n : Int, e = .returned (.int .i64 n) ∧ decide (0 ≤ n) = l.any nbB ∧ w' = w) := index64_any x l w hI
  obtain ⟨sb, sl, sc⟩ := x
  simp only [sv] at hX ⊢
  clear hI
  go_enter Tryd.func32, Tryd.ntmps32
  go_wp2_with fail
  go_at_call 64
  refine hX.out.mono ?_
  rintro e w1 ⟨n, rfl, hn, rfl⟩
  have HN : Hid (decide (0 ≤ n) = l.any nbB) := hn
  clear hn hX
  go_wp2_with fail
  go_ret
  exact ⟨by rw [← HN.out]; rfl, rfl⟩
/-- bounds that may be -/
def cfB (a b c d : Int) : Bool := !(decide (64 < a) || [a, b, c, d].any nbB)
set_option maxHeartbeats 4000000 in
set_option maxRecDepth 100000 in
theorem new_any (a b c d : Int) (w : World) : Calls Tryd.prog 8 #[.agg #[.int .i64 a, .int .i64 b, .int .i64 c, .int .i64 d]] w fun e w' => Below w.heap.size w w' ∧ ((cfB a b c d = false ∧ e = .returned (.tuple #[.pointer none, .int .i64 1])) ∨ (cfB a b c d = true ∧ ∃ g, w.heap.size ≤ g ∧ e = .returned (.tuple #[.pointer (some ⟨g, 0, none⟩), .int .i64 0]) ∧ w'.heap[g]? = some (.cells #[.int .i64 a, .int .i64 b, .int .i64 c, .int .i64 0, .slice none 0 0] 83 (0, 0)))) := by
  by_cases h1 : 64 < a
  · have e : cfB a b c d = false := by simp [cfB, h1]
    go_enter Tryd.func8, Tryd.ntmps8
    go_wp2_with fail
    go_ret2
    exact ⟨bel1 _ _, .inl ⟨e, rfl⟩⟩
  · have hI : R EI ((w.alloc (.cells #[.int .i64 a, .int .i64 b, .int .i64 c, .int .i64 d] 36)).alloc (.cells #[.int .i64 a, .int .i64 b, .int .i64 c, .int .i64 d] 2)) (.slice (some ⟨w.heap.size + 1, 0, none⟩) 4 4) [a, b, c, d] := R.whole okI [a, b, c, d] (by simp) (fresh2 _ _ _) rfl
    have hC : Hid (Calls Tryd.prog 32 #[.slice (some ⟨w.heap.size + 1, 0, none⟩) 4 4, .func (.func 33) #[] #[]] ((w.alloc (.cells #[.int .i64 a, .int .i64 b, .int .i64 c, .int .i64 d] 36)).alloc (.cells #[.int .i64 a, .int .i64 b, .int .i64 c, .int .i64 d] 2)) fun e w' => e = .returned (.bool ([a, b, c, d].any nbB)) ∧ w' = (w.alloc (.cells #[.int .i64 a, .int .i64 b, .int .i64 c, .int .i64 d] 36)).alloc (.cells #[.int .i64 a, .int .i64 b, .int .i64 c, .int .i64 d] 2)) := contains32_any (some ⟨w.heap.size + 1, 0, none⟩, 4, 4) [a, b, c, d] _ hI.isIn
    obtain ⟨B, hB⟩ : ∃ B, [a, b, c, d].any nbB = B := ⟨_, rfl⟩
    have HE : Hid (cfB a b c d = !B) := by show _ = _; unfold cfB; rw [hB]; simp [h1]
    rw [hB] at hC
    clear hI hB
    cases B
    · go_enter Tryd.func8, Tryd.ntmps8
      go_wp2_with fail
      go_at_call 32
      refine hC.out.mono ?_
      rintro e w1 ⟨rfl, hw⟩
      rw [hw]
      clear hw w1 hC
      go_wp2_with fail
      go_ret2
      refine ⟨bel3 _ _ _ _, .inr ⟨HE.out, w.heap.size + 2, by omega, rfl, fresh3 _ _ _ _⟩⟩
    · go_enter Tryd.func8, Tryd.ntmps8
      go_wp2_with fail
      go_at_call 32
      refine hC.out.mono ?_
      rintro e w1 ⟨rfl, hw⟩
      rw [hw]
      clear hw w1 hC
      go_wp2_with fail
      go_ret2
      exact ⟨bel2 _ _ _, .inl ⟨HE.out, rfl⟩⟩
/-- a response's size -/
def szL (l : List Fd) : Nat := (l.map fun f => f.n.size + f.v.size + 32).sum
theorem szL_take {l : List Fd} {k : Nat} (h : k < l.length) : szL (l.take (k + 1)) = szL (l.take k) + (l[k].n.size + l[k].v.size + 32) := by
  unfold szL
  rw [List.take_succ_eq_append_getElem h, List.map_append, List.sum_append]
  simp
theorem szL_le (l : List Fd) (k : Nat) : szL (l.take k) ≤ szL l := by
  unfold szL
  conv => rhs; rw [← List.take_append_drop k l, List.map_append, List.sum_append]
  omega
set_option maxHeartbeats 4000000 in
set_option maxRecDepth 100000 in
theorem size_any (n : Int) (y : SV) (b : ByteArray) (l : List Fd) (w : World) (hI : In EFd w (sv y) l) (hz : b.size + szL l ≤ 4611686018427387904) :
    Calls Tryd.prog 25 #[.agg (rsv n (sv y) b)] w fun e w' => e = .returned (.int .i64 ((b.size + szL l : Nat) : Int)) ∧ Below w.heap.size w w' := by
  have HI : Hid (In EFd w (sv y) l) := hI
  have HZ : Hid (b.size + szL l ≤ 4611686018427387904) := hz
  obtain ⟨bb, c, e, m1, m2⟩ := hI.slice
  obtain ⟨sb, sl, sc⟩ := y
  unfold rsv
  simp only [sv] at e HI ⊢
  injection e with e1 e2 e3
  subst e1 e2 e3
  obtain ⟨N, hN⟩ : ∃ N, l.length = N := ⟨_, rfl⟩
  rw [hN] at HI m1 ⊢
  have HN : Hid (l.length = N) := hN
  have hbz : b.size ≤ 4611686018427387904 := by omega
  clear hI hz hN
  go_enter Tryd.func25, Tryd.ntmps25
  go_wp2_with fail
  go_loopw [3, 5, 12] (fun tv _ kv wr => ∃ k t : Nat, kv = .int .i64 (k : Int) ∧ k ≤ N ∧ tv = .int .i64 (t : Int) ∧ Hid (t = b.size + szL (l.take k)) ∧ Hid (Below w.heap.size w wr)) (fun _ _ kv _ => N - (intOf kv).toNat)
  case atStart => exact ⟨0, b.size, rfl, by omega, rfl, by show _ = _; simp [szL], bel1 _ _⟩
  case round =>
    obtain ⟨k, t, rfl, hk, rfl, ht, hb⟩ := hrel
    by_cases hlt : k < N
    · obtain ⟨Bk, off, cap, e, hc⟩ := HI.out.fd k (by rw [HN.out]; exact hlt)
      injection e with e1 e2 e3
      clear e2 e3
      subst e1
      obtain ⟨c0, c1, c2⟩ := hc wr hb.out
      obtain ⟨y, hy⟩ : ∃ y, l[k]'(by rw [HN.out]; exact hlt) = y := ⟨_, rfl⟩
      rw [hy] at c0 c1 c2
      have l1 : (k : Int) < (N : Int) := by omega
      have HT : Hid (t + (y.n.size + y.v.size + 32) = b.size + szL (l.take (k + 1)) ∧ t + (y.n.size + y.v.size + 32) ≤ 4611686018427387904) := by
        have h1 := szL_take (l := l) (k := k) (by rw [HN.out]; exact hlt)
        rw [hy] at h1
        have h2 := ht.out
        have h3 := szL_le l (k + 1)
        have h4 := HZ.out
        exact ⟨by omega, by omega⟩
      obtain ⟨yn, yv, ynv⟩ := y
      simp only at c0 c1 c2 HT
      obtain ⟨z1, hz1⟩ : ∃ z : Nat, yn.size + yv.size = z := ⟨_, rfl⟩
      have q0 : (yn.size : Int) + (yv.size : Int) = (z1 : Int) := by omega
      have q1 : z1 ≤ 4611686018427387904 := by have := HT.out.2; omega
      obtain ⟨z2, hz2⟩ : ∃ z : Nat, z1 + 32 = z := ⟨_, rfl⟩
      have q2 : (z1 : Int) + 32 = (z2 : Int) := by omega
      have q3 : z2 ≤ 4611686018427387904 := by have := HT.out.2; omega
      obtain ⟨z3, hz3⟩ : ∃ z : Nat, t + z2 = z := ⟨_, rfl⟩
      have q4 : (t : Int) + (z2 : Int) = (z3 : Int) := by omega
      have q5 : z3 ≤ 4611686018427387904 := by have := HT.out.2; omega
      have HZ3 : Hid (z3 = b.size + szL (l.take (k + 1))) := by show _ = _; rw [← HT.out.1]; omega
      clear hc hy HT hz1 hz2 hz3
      have HB2 : Hid (Below w.heap.size w (wr.alloc (.cells #[.string yn, .string yv, .bool ynv] 51))) := hb.out.trans ((bel1 _ _).mono hb.out.size)
      go_wp2_with fail
      go_roundw
      case rel => exact ⟨k + 1, z3, by simp, by omega, by first | rfl | simp, HZ3.out, HB2.out⟩
      case measure => simp [intOf]; omega
    · obtain rfl : k = N := by omega
      have l1 : ¬ (k : Int) < (k : Int) := by omega
      have HE : Hid (t = b.size + szL l ∧ Below w.heap.size w wr) := ⟨by rw [ht.out, List.take_of_length_le (by rw [HN.out]; omega)], hb.out⟩
      clear ht hb
      go_wp2_with fail
      go_ret
      refine ⟨?_, HE.out.2⟩
      rw [HE.out.1]
      rfl
end Go.Proofs.YtfponcdhaefkdaaDoor
