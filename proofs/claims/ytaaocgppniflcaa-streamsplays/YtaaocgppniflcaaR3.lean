/- StreamsPlays, walked. -/
import Derived.Test.YtaaocgppniflcaaR2
namespace Go.Proofs.Ytaaocgppniflcaa
open Go.RowKit Go.Maps
set_option linter.unusedVariables false
set_option linter.unusedSimpArgs false

/-- a row that was built can be read -/
theorem in_row {α : Type} {E : El α} (w : World) (B : Nat) (l : List α) (c : Array Value) (t : TypeId) (fz : Nat × Nat) (h : w.heap[B]? = some (.cells c t fz)) (hc : c.toList = E.cs l) (hl : l.length ≤ 9223372036854775807) : In E w (.slice (some ⟨B, 0, none⟩) l.length l.length) l := by
  refine .inr ⟨_, l.length, rfl, Nat.le_refl _, hl, fun j u hu => ?_⟩
  rw [Addr.add_lit, cell_blk h, Nat.zero_add, ← Array.getElem?_toList, hc]
  exact hu
theorem join_of {T C : World → Prop} {G : Prop} (h1 : (∀ W, C W → T W) → G) (h2 : ∀ W, C W → T W) : G := h1 h2

/-- what holds at a round's head -/
def Iv (w W : World) (p0 b0 q0 p1 b1 q1 : Nat) (vi : Value) (I : List Int) (i : Nat) : Prop :=
  ∃ v0 A l0 v1 B l1, Pw w W p0 b0 q0 v0 A true l0 p1 b1 q1 v1 B false l1 vi I ∧ Rl A l0 ∧ Rl B l1 ∧ A.cl = true ∧ B.cl = false ∧ l0.length ≤ i ∧ l1.length ≤ i
/-- which table is meant, and the way back -/
def Mt (w W : World) (p0 b0 q0 p1 b1 q1 : Nat) (vi : Value) (I : List Int) (i p q : Nat) : Prop :=
  ∃ b v T l p' b' q' v' T' c' l', Pw w W p b q v T T.cl l p' b' q' v' T' c' l' vi I ∧ Rl T l ∧ l.length ≤ i ∧
    ∀ W2 v2 T2 l2, Pw w W2 p b q v2 T2 T.cl l2 p' b' q' v' T' c' l' vi I → Rl T2 l2 → T2.cl = T.cl → l2.length ≤ i + 1 → Iv w W2 p0 b0 q0 p1 b1 q1 vi I (i + 1)
theorem Iv.one {w W : World} {p0 b0 q0 p1 b1 q1 : Nat} {vi : Value} {I : List Int} {i : Nat} (h : Iv w W p0 b0 q0 p1 b1 q1 vi I i) : Mt w W p0 b0 q0 p1 b1 q1 vi I i p0 q0 := by
  obtain ⟨v0, A, l0, v1, B, l1, hP, r0, r1, c0, c1, h0, h1⟩ := h
  refine ⟨b0, v0, A, l0, p1, b1, q1, v1, B, false, l1, by rw [c0]; exact hP, r0, h0, fun W2 v2 T2 l2 hP2 hr hc hl => ⟨v2, T2, l2, v1, B, l1, by rw [c0] at hP2; exact hP2, hr, r1, hc.trans c0, c1, hl, by omega⟩⟩
theorem Iv.two {w W : World} {p0 b0 q0 p1 b1 q1 : Nat} {vi : Value} {I : List Int} {i : Nat} (h : Iv w W p0 b0 q0 p1 b1 q1 vi I i) : Mt w W p0 b0 q0 p1 b1 q1 vi I i p1 q1 := by
  obtain ⟨v0, A, l0, v1, B, l1, hP, r0, r1, c0, c1, h0, h1⟩ := h
  refine ⟨b1, v1, B, l1, p0, b0, q0, v0, A, true, l0, by rw [c1]; exact hP.swap, r1, h1, fun W2 v2 T2 l2 hP2 hr hc hl => ⟨v0, A, l0, v2, T2, l2, by rw [c1] at hP2; exact hP2.swap, r0, hr, c0, hc.trans c1, by omega, hl⟩⟩
theorem Iv.below {w W W' : World} {p0 b0 q0 p1 b1 q1 : Nat} {vi : Value} {I : List Int} {i : Nat} (h : Iv w W p0 b0 q0 p1 b1 q1 vi I i) (hB : Below W.heap.size W W') : Iv w W' p0 b0 q0 p1 b1 q1 vi I i := by
  obtain ⟨v0, A, l0, v1, B, l1, hP, r⟩ := h
  exact ⟨v0, A, l0, v1, B, l1, hP.below hB, r⟩
theorem Iv.bel {w W : World} {p0 b0 q0 p1 b1 q1 : Nat} {vi : Value} {I : List Int} {i : Nat} (h : Iv w W p0 b0 q0 p1 b1 q1 vi I i) : Below w.heap.size w W := by
  obtain ⟨v0, A, l0, v1, B, l1, hP, r⟩ := h
  exact hP.tw.bel
theorem Iv.ri {w W : World} {p0 b0 q0 p1 b1 q1 : Nat} {vi : Value} {I : List Int} {i : Nat} (h : Iv w W p0 b0 q0 p1 b1 q1 vi I i) : R EI W vi I := by
  obtain ⟨v0, A, l0, v1, B, l1, hP, r⟩ := h
  exact hP.ri
theorem Iv.grow {w W W' : World} {p0 b0 q0 p1 b1 q1 : Nat} {vi vi' : Value} {I I' : List Int} {i : Nat} (h : Iv w W p0 b0 q0 p1 b1 q1 vi I i) (hG : Gr W W' vi vi') (hR : R EI W' vi' I') : Iv w W' p0 b0 q0 p1 b1 q1 vi' I' i ∧ ∀ (k : Nat) (c : Array Value) (t : TypeId), W.heap[k]? = some (.cells c t (0, 0)) → t ≠ 2 → W'.heap[k]? = some (.cells c t (0, 0)) := by
  obtain ⟨v0, A, l0, v1, B, l1, hP, r⟩ := h
  obtain ⟨h1, h2⟩ := hP.grow hG hR
  exact ⟨⟨v0, A, l0, v1, B, l1, h1, r⟩, h2⟩

set_option maxRecDepth 100000 in
set_option maxHeartbeats 80000000 in
theorem streamsPlays_any (vo : Value) (os : List OP) (w : World) (hI : In EO w vo os) (hn : os.length * 32 ≤ 140737488351232) (h64 : ∀ o ∈ os, I64 o.2.1) :
    Calls Try.prog 7 #[vo] w fun e w' => e = .returned (.bool true) ∧ Below w.heap.size w w' := by
  obtain ⟨ob, oc, rfl, ho1, ho2⟩ := hI.slice
  have HI : Hid (In EO w (.slice ob os.length oc) os) := hI
  have HN : Hid (os.length * 32 ≤ 140737488351232) := hn
  have H64 : Hid (∀ o ∈ os, I64 o.2.1) := h64
  clear hI hn h64
  go_enter Try.func7, Try.ntmps7
  go_wp2_with fail
  go_at_call 8
  refine (new_at true w).mono ?_
  rintro e w1 ⟨p0, b0, rfl, t0, hb1, n0, m0⟩
  go_wp2_with fail
  go_at_call 8
  refine (new_at false w1).mono ?_
  rintro e w2 ⟨p1, b1, rfl, t1, hb2, n1, m1⟩
  have T2 : Hid _ := Tw.start hb1 t0 n0 m0 t1 hb2 n1 m1
  clear t0 t1 hb1 hb2 n0 m0 n1 m1
  go_wp2_with fail
  go_at_call 9
  refine (first_any w2).mono ?_
  rintro e w3 ⟨rfl, hb⟩
  have T3 : Hid _ := T2.out.below hb
  clear hb T2
  go_wp2_with fail
  go_at_call 22
  refine (rnew_any true w3).mono ?_
  rintro e w4 ⟨rfl, r4, hb4⟩
  go_wp2_with fail
  go_at_call 22
  refine (rnew_any false w4).mono ?_
  rintro e w5 ⟨rfl, r5, hb5⟩
  obtain ⟨q0, hq0⟩ : ∃ q0, w3.heap.size = q0 := ⟨_, rfl⟩
  obtain ⟨q1, hq1⟩ : ∃ q1, w4.heap.size = q1 := ⟨_, rfl⟩
  have lq := r4.lt
  have P5 : Hid (Iv w w5 p0 b0 q0 p1 b1 q1 (.slice none 0 0) [] 0) := by
    have hs := T3.out.bel.size
    have hs4 := hb4.size
    refine ⟨_, _, _, _, _, _, ⟨(T3.out.below hb4).below hb5, by rw [← hq0]; exact r4.below hb5, by rw [← hq1]; exact r5, by omega, by omega, by omega, fun k hk => by simp [Value.ownBlock] at hk, fun k hk => by simp [Value.ownBlock] at hk, fun k hk => by simp [Value.ownBlock] at hk, R.nil _ _, fun k hk => by simp [Value.ownBlock] at hk⟩, Rl.new true, Rl.new false, rfl, rfl, Nat.le_refl _, Nat.le_refl _⟩
  rw [hq0, hq1]
  clear hq0 hq1 lq r4 r5 hb4 hb5 T3
  obtain ⟨c6, hc6⟩ : ∃ c6, c6 = (#[.int .i64 0, .int .i64 (-1), .int .i64 1, .int .i64 2, .int .i64 2147483647, .int .i64 2147483648] : Array Value) := ⟨_, rfl⟩
  obtain ⟨ib, ic, w6, hrun, hR, hG⟩ := app okI (w5.alloc (.cells c6 2)) (.slice none 0 0) [] (R.nil _ _) (.slice (some ⟨w5.heap.size, 0, none⟩) 6 6) [0, -1, 1, 2, 2147483647, 2147483648] (in_row (E := EI) _ _ [0, -1, 1, 2, 2147483647, 2147483648] c6 2 (0, 0) (heap_alloc_new _ _) (by rw [hc6]; rfl) (by decide)) (by decide)
  have P6 : Hid _ := ((P5.out.below (bel1 w5 (.cells c6 2))).grow hG hR).1
  rw [hc6] at hrun
  simp only [List.length_nil, List.length_cons, Nat.zero_add, Nat.reduceAdd, List.nil_append] at hrun P6
  replace hrun : Hid _ := hrun
  clear hR hG P5 hc6
  go_wp2_with (at_builtin; refine Lib.wpList_append_run _ rfl _ _ _ _ rfl _ _ rfl rfl _ _ hrun.out ?_)
  clear hrun
  go_loopw [7, 8] (fun idv iv wr => ∃ (i : Nat) (ib : Option Addr) (I : List Int) (ic : Nat), iv = .int .i64 (i : Int) ∧ idv = .slice ib I.length ic ∧ i ≤ os.length ∧ Hid (Iv w wr p0 b0 q0 p1 b1 q1 (.slice ib I.length ic) I i ∧ I.length ≤ 41 ∧ ∀ z ∈ I, I64 z)) (fun _ iv _ => os.length - (intOf iv).toNat)
  case atStart =>
    refine ⟨0, ib, [0, -1, 1, 2, 2147483647, 2147483648], ic, rfl, rfl, Nat.zero_le _, P6.out, by decide, fun z hz => ?_⟩
    simp only [List.mem_cons, List.not_mem_nil, or_false] at hz
    unfold I64
    omega
  case round =>
    obtain ⟨i, ib, I, ic, rfl, rfl, hio, hinv⟩ := hrel
    clear P6
    by_cases hlt : i < os.length
    · have hlt' : (i : Int) < (os.length : Int) := by omega
      obtain ⟨B, off, cap, e1, lB, d0, d1, d2, d3⟩ := In.op (HI.out.below hinv.out.1.bel) i hlt
      injection e1 with e1 e2 e3
      subst e1
      subst e3
      try clear e2
      have hid := H64.out _ (List.getElem_mem hlt)
      generalize os[i].1 = two at d0
      generalize os[i].2.1 = id at d1 hid
      generalize os[i].2.2.1 = g at d2
      generalize os[i].2.2.2 = k at d3
      have HID : Hid (I64 id) := hid
      obtain ⟨hid1, hid2⟩ := hid
      obtain ⟨h41, hcap1, hcap2⟩ : I.length ≤ 41 ∧ I.length ≤ ic ∧ ic ≤ 9223372036854775807 := by
        obtain ⟨_, c', e, q1, q2⟩ := hinv.out.1.ri.slice
        injection e with _ _ e
        subst e
        exact ⟨hinv.out.2.1, q1, q2⟩
      have hal : Hid (Iv w (wr.alloc (.cells #[.bool two, .int .i64 id, .bool g, .int .i64 k] 29)) p0 b0 q0 p1 b1 q1 (.slice ib I.length ic) I i ∧ (wr.alloc (.cells #[.bool two, .int .i64 id, .bool g, .int .i64 k] 29)).heap[wr.heap.size]? = some (.cells #[.bool two, .int .i64 id, .bool g, .int .i64 k] 29 (0, 0))) := ⟨hinv.out.1.below (bel1 wr _), heap_alloc_new _ _⟩
      have HZ : Hid (∀ z ∈ I, I64 z) := hinv.out.2.2
      go_upto_if 44 with fail
      clear d0 d1 d2 d3 lB hinv
      obtain ⟨Wa, hWa⟩ : ∃ Wa, wr.alloc (.cells #[.bool two, .int .i64 id, .bool g, .int .i64 k] 29) = Wa := ⟨_, rfl⟩
      obtain ⟨O, hO⟩ : ∃ O, wr.heap.size = O := ⟨_, rfl⟩
      rw [hWa, hO] at hal
      rw [hWa, hO]
      clear hWa hO
      go_cut [7] from 32 to 127 (fun idv wx => ∃ (ib : Option Addr) (I : List Int) (ic : Nat), idv = .slice ib I.length ic ∧ Hid (Iv w wx p0 b0 q0 p1 b1 q1 (.slice ib I.length ic) I i ∧ wx.heap[O]? = some (.cells #[.bool two, .int .i64 id, .bool g, .int .i64 k] 29 (0, 0)) ∧ I.length ≤ 41 ∧ ∀ z ∈ I, I64 z))
      case first =>
        by_cases h40 : I.length < 40
        · have h40' : (I.length : Int) < 40 := by omega
          have e1 : Wa.cell? ⟨O, 1, none⟩ = some (.int .i64 id) := cell_blk hal.out.2 1
          have lO : O < Wa.heap.size := heap_lt hal.out.2
          obtain ⟨z, hz⟩ : ∃ z, wrap64 (id - 1) = z := ⟨_, rfl⟩
          have hz64 : I64 z := by
            rw [← hz]
            unfold I64 wrap64
            omega
          obtain ⟨jb, jc, w7, hrun, hR, hG⟩ := app okI (Wa.alloc (.cells #[.int .i64 id, .int .i64 z] 2)) (.slice ib I.length ic) I (hal.out.1.ri.below (bel1 Wa _)) (.slice (some ⟨Wa.heap.size, 0, none⟩) 2 2) [id, z] (in_row (E := EI) _ _ [id, z] _ 2 (0, 0) (heap_alloc_new _ _) rfl (by simp)) (by simp only [EI, List.length_cons, List.length_nil]; omega)
          have P7 := (hal.out.1.below (bel1 Wa (.cells #[.int .i64 id, .int .i64 z] 2))).grow hG hR
          have HF : Hid (Iv w w7 p0 b0 q0 p1 b1 q1 (.slice jb (I.length + 2) jc) (I ++ [id, z]) i ∧ w7.heap[O]? = some (.cells #[.bool two, .int .i64 id, .bool g, .int .i64 k] 29 (0, 0))) := ⟨P7.1, P7.2 _ _ _ ((heap_al _ _ _).trans ((if_neg (by omega)).trans hal.out.2)) (by decide)⟩
          have HLL : Hid (I.length < 40) := h40
          have HZZ : Hid (I64 z) := hz64
          simp only [List.length_cons, List.length_nil, Nat.zero_add, Nat.reduceAdd] at hrun
          replace hrun : Hid _ := hrun
          clear hR hG P7 hz64 h40
          go_wp2_with (at_builtin; refine Lib.wpList_append_run _ rfl _ _ _ _ rfl _ _ rfl rfl _ _ hrun.out ?_)
          go_meet
          case rel =>
            refine ⟨jb, I ++ [id, z], jc, by simp, ⟨by simpa using HF.out.1, HF.out.2, ?_, fun y hy => ?_⟩⟩
            · have := HLL.out
              simp only [List.length_append, List.length_cons, List.length_nil]
              omega
            · rcases List.mem_append.1 hy with e | e
              · exact HZ.out y e
              · simp only [List.mem_cons, List.not_mem_nil, or_false] at e
                rcases e with rfl | rfl
                · exact HID.out
                · exact HZZ.out
        · have h40' : ¬ ((I.length : Int) < 40) := by omega
          have HLL : Hid (I.length ≤ 41) := h41
          go_wp2_with fail
          go_meet
          case rel => exact ⟨ib, I, ic, rfl, hal.out.1, hal.out.2, HLL.out, HZ.out⟩
      case rest =>
        obtain ⟨ib2, I2, ic2, rfl, hV⟩ := hcut
        clear hal HZ hcap1 hcap2 h41
        obtain ⟨Wb, hWb⟩ : ∃ Wb, wc = Wb := ⟨_, rfl⟩
        rw [hWb] at hV ⊢
        clear hWb
        have e0 : Wb.cell? ⟨O, 0, none⟩ = some (.bool two) := cell_blk hV.out.2.1 0
        have lO : O < Wb.heap.size := heap_lt hV.out.2.1
        go_upto_if 56 with fail
        go_cut [10, 11] from 32 to 127 (fun x y wx => ∃ p q, x = .pointer (some ⟨p, 0, none⟩) ∧ y = .pointer (some ⟨q, 0, none⟩) ∧ wx = Wb ∧ Hid (Mt w Wb p0 b0 q0 p1 b1 q1 (.slice ib2 I2.length ic2) I2 i p q))
        case first =>
          cases two
          · go_wp2_with fail
            go_meet
            case rel => exact ⟨p0, q0, rfl, rfl, rfl, hV.out.1.one⟩
          · go_wp2_with fail
            go_meet
            case rel => exact ⟨p1, q1, rfl, rfl, rfl, hV.out.1.two⟩
        case rest =>
          obtain ⟨p, q, rfl, rfl, hwx, hM⟩ := hcut
          rw [hwx]
          clear hwx e0
          obtain ⟨b, v, T, l, p', b', q', v', T', c', l', hP, hRl, hll, hback⟩ := hM.out
          have hok := hP.tw.t0.ok
          have hst := hRl.step hok id g k
          have hcl := Tb.doo_cl hok id g k
          have hdn : Hid (Calls Try.prog 10 #[.pointer (some ⟨p, 0, none⟩), .agg #[.bool two, .int .i64 id, .bool g, .int .i64 k]] Wb fun e W' => e = .returned (.tuple #[.int .i64 (T.doo id g k).2.1, .int .i64 (T.doo id g k).2.2]) ∧ Hid (Pw w W' p b q v (T.doo id g k).1 T.cl l p' b' q' v' T' c' l' (.slice ib2 I2.length ic2) I2 ∧ W'.heap[O]? = some (.cells #[.bool two, .int .i64 id, .bool g, .int .i64 k] 29 (0, 0)))) := by
            refine (done_any Wb p b T two id g k hP.tw.t0 HID.out).mono ?_
            rintro e W' ⟨rfl, ht, hk⟩
            obtain ⟨h1, h2⟩ := hP.do0 ht hk
            exact ⟨rfl, h1, h2 _ _ _ hV.out.2.1 (by decide) (by decide) (by decide)⟩
          have hrd : Hid (∀ W, Pw w W p b q v (T.doo id g k).1 T.cl l p' b' q' v' T' c' l' (.slice ib2 I2.length ic2) I2 → W.heap[O]? = some (.cells #[.bool two, .int .i64 id, .bool g, .int .i64 k] 29 (0, 0)) → Calls Try.prog 23 #[.pointer (some ⟨q, 0, none⟩), .int .i64 id, .agg #[.bool g, .int .i64 k]] W fun e W' => e = .returned (.agg #[.int .i64 (T.doo id g k).2.1, .int .i64 (T.doo id g k).2.2]) ∧ Hid (∃ v2, Pw w W' p b q v2 (T.doo id g k).1 T.cl (rdo T.cl l id g k).1 p' b' q' v' T' c' l' (.slice ib2 I2.length ic2) I2 ∧ W'.heap[O]? = some (.cells #[.bool two, .int .i64 id, .bool g, .int .i64 k] 29 (0, 0)))) := fun W hPW hOW => by
            refine (rdo_any W q T.cl v l id g k hPW.r0 (by have := HN.out; omega) (by rw [hRl.st hok]; exact hok.st_range id)).mono ?_
            rintro e W' ⟨rfl, v2, h1, h2, h3⟩
            obtain ⟨h4, h5⟩ := hPW.rdo0 h1 h2 h3
            rw [hst.1]
            exact ⟨rfl, v2, h4, h5 _ _ _ hOW (by decide) (by decide) (by decide)⟩
          have hlen2 := rdo_len T.cl l id g k
          have HB : Hid (∀ W2 v2, Pw w W2 p b q v2 (T.doo id g k).1 T.cl (rdo T.cl l id g k).1 p' b' q' v' T' c' l' (.slice ib2 I2.length ic2) I2 → Iv w W2 p0 b0 q0 p1 b1 q1 (.slice ib2 I2.length ic2) I2 (i + 1)) := fun W2 v2 h => hback W2 v2 _ _ h hst.2 hcl (by omega)
          have HR2 : Hid (Rl (T.doo id g k).1 (rdo T.cl l id g k).1 ∧ (T.doo id g k).1.cl = T.cl ∧ (rdo T.cl l id g k).1.length * 24 ≤ 140737488355328) := ⟨hst.2, hcl, by have := HN.out; omega⟩
          have HI2 : Hid (I2.length ≤ 41 ∧ ∀ z ∈ I2, I64 z) := ⟨hV.out.2.2.1, hV.out.2.2.2⟩
          have f0 : Wb.cell? ⟨O, 0, none⟩ = some (.bool two) := cell_blk hV.out.2.1 0
          have f1 : Wb.cell? ⟨O, 1, none⟩ = some (.int .i64 id) := cell_blk hV.out.2.1 1
          have f2 : Wb.cell? ⟨O, 2, none⟩ = some (.bool g) := cell_blk hV.out.2.1 2
          have f3 : Wb.cell? ⟨O, 3, none⟩ = some (.int .i64 k) := cell_blk hV.out.2.1 3
          generalize (T.doo id g k).2.1 = kv at hdn hrd
          generalize (T.doo id g k).2.2 = cv at hdn hrd
          generalize (T.doo id g k).1 = T2 at hdn hrd HB HR2
          generalize (rdo T.cl l id g k).1 = l2 at hdn hrd HB HR2
          clear hlen2 hst hcl hok hback hll hRl hP hM hV
          go_wp2_with fail
          go_at_call 10
          refine hdn.out.mono ?_
          rintro e W1 ⟨rfl, h1⟩
          clear f0 f1 f2 f3 lO hdn
          have f1 : W1.cell? ⟨O, 1, none⟩ = some (.int .i64 id) := cell_blk h1.out.2 1
          have f2 : W1.cell? ⟨O, 2, none⟩ = some (.bool g) := cell_blk h1.out.2 2
          have f3 : W1.cell? ⟨O, 3, none⟩ = some (.int .i64 k) := cell_blk h1.out.2 3
          have lO : O < W1.heap.size := heap_lt h1.out.2
          go_wp2_with fail
          go_at_call 23
          refine (hrd.out W1 h1.out.1 h1.out.2).mono ?_
          rintro e W2 ⟨rfl, h2⟩
          clear f1 f2 f3 lO hrd h1
          obtain ⟨v2, hP2, hO2⟩ := h2.out
          clear h2
          have hP3 : Hid (Pw w (W2.alloc (.cells #[.int .i64 kv, .int .i64 cv] 55)) p b q v2 T2 T.cl l2 p' b' q' v' T' c' l' (.slice ib2 I2.length ic2) I2 ∧ (W2.alloc (.cells #[.int .i64 kv, .int .i64 cv] 55)).heap[O]? = some (.cells #[.bool two, .int .i64 id, .bool g, .int .i64 k] 29 (0, 0)) ∧ (W2.alloc (.cells #[.int .i64 kv, .int .i64 cv] 55)).heap[W2.heap.size]? = some (.cells #[.int .i64 kv, .int .i64 cv] 55 (0, 0))) := ⟨hP2.below (bel1 _ _), ((bel1 W2 _).block _ (heap_lt hO2)).trans hO2, heap_alloc_new _ _⟩
          clear hP2 hO2
          go_upto_region 20 with fail
          obtain ⟨V, hVV⟩ : ∃ V, W2.heap.size = V := ⟨_, rfl⟩
          obtain ⟨W3, hW3⟩ : ∃ W3, W2.alloc (.cells #[.int .i64 kv, .int .i64 cv] 55) = W3 := ⟨_, rfl⟩
          rw [hW3, hVV] at hP3
          rw [hW3, hVV]
          clear hW3 hVV
          have hbel : Hid (∀ W W', (Pw w W p b q v2 T2 T.cl l2 p' b' q' v' T' c' l' (.slice ib2 I2.length ic2) I2 ∧ W.heap[O]? = some (.cells #[.bool two, .int .i64 id, .bool g, .int .i64 k] 29 (0, 0)) ∧ W.heap[V]? = some (.cells #[.int .i64 kv, .int .i64 cv] 55 (0, 0))) → Below W.heap.size W W' → (Pw w W' p b q v2 T2 T.cl l2 p' b' q' v' T' c' l' (.slice ib2 I2.length ic2) I2 ∧ W'.heap[O]? = some (.cells #[.bool two, .int .i64 id, .bool g, .int .i64 k] 29 (0, 0)) ∧ W'.heap[V]? = some (.cells #[.int .i64 kv, .int .i64 cv] 55 (0, 0)))) := fun W W' h hb => ⟨h.1.below hb, (hb.block _ (heap_lt h.2.1)).trans h.2.1, (hb.block _ (heap_lt h.2.2)).trans h.2.2⟩
          have hfull : Hid (∀ W, (Pw w W p b q v2 T2 T.cl l2 p' b' q' v' T' c' l' (.slice ib2 I2.length ic2) I2 ∧ W.heap[O]? = some (.cells #[.bool two, .int .i64 id, .bool g, .int .i64 k] 29 (0, 0)) ∧ W.heap[V]? = some (.cells #[.int .i64 kv, .int .i64 cv] 55 (0, 0))) → (fun W : World => W.cell? ⟨O, 1, none⟩ = some (.int .i64 id) ∧ W.cell? ⟨V, 0, none⟩ = some (.int .i64 kv) ∧ W.cell? ⟨V, 1, none⟩ = some (.int .i64 cv)) W) := fun W h => ⟨cell_blk h.2.1 1, cell_blk h.2.2 0, cell_blk h.2.2 1⟩
          have hS1 : Hid (∀ W, Pw w W p b q v2 T2 T.cl l2 p' b' q' v' T' c' l' (.slice ib2 I2.length ic2) I2 → Calls Try.prog 14 #[.pointer (some ⟨p, 0, none⟩), .int .i64 id] W fun e w' => e = .returned (.int .i64 (T2.st id)) ∧ Below W.heap.size W w') := fun W h => state_any W p b T2 id h.tw.t0 HID.out
          have hS2 : Hid (∀ W, Pw w W p b q v2 T2 T.cl l2 p' b' q' v' T' c' l' (.slice ib2 I2.length ic2) I2 → Calls Try.prog 24 #[.pointer (some ⟨q, 0, none⟩), .int .i64 id] W fun e w' => e = .returned (.int .i64 (T2.st id)) ∧ Below W.heap.size W w') := fun W h => by
            refine (rstate_any W q T.cl v2 l2 id h.r0).mono ?_
            rintro e w' ⟨rfl, rfl⟩
            rw [HR2.out.1.st h.tw.t0.ok]
            exact ⟨rfl, Below.refl _ _⟩
          have hC1 : Hid (∀ W, Pw w W p b q v2 T2 T.cl l2 p' b' q' v' T' c' l' (.slice ib2 I2.length ic2) I2 → Calls Try.prog 21 #[.pointer (some ⟨p, 0, none⟩), .int .i64 id] W fun e w' => e = .returned (.bool (T2.cut id)) ∧ Below W.heap.size W w') := fun W h => by
            refine (cut_any W p b T2 id h.tw.t0 HID.out).mono ?_
            rintro e w' ⟨rfl, rfl⟩
            exact ⟨rfl, Below.refl _ _⟩
          have hC2 : Hid (∀ W, Pw w W p b q v2 T2 T.cl l2 p' b' q' v' T' c' l' (.slice ib2 I2.length ic2) I2 → Calls Try.prog 26 #[.pointer (some ⟨q, 0, none⟩), .int .i64 id] W fun e w' => e = .returned (.bool (T2.cut id)) ∧ Below W.heap.size W w') := fun W h => by
            refine (rcut_any W q T.cl v2 l2 id h.r0).mono ?_
            rintro e w' ⟨rfl, rfl⟩
            rw [HR2.out.1.cut]
            exact ⟨rfl, Below.refl _ _⟩
          have hK1 : ∀ x, Hid (∀ W, Pw w W p b q v2 T2 T.cl l2 p' b' q' v' T' c' l' (.slice ib2 I2.length ic2) I2 → Calls Try.prog 18 #[.pointer (some ⟨p, 0, none⟩), .bool x] W fun e w' => e = .returned (.int .i64 (T2.count x)) ∧ Below W.heap.size W w') := fun x W h => count_any W p b T2 x h.tw.t0
          have hK2 : ∀ x, Hid (∀ W, Pw w W p b q v2 T2 T.cl l2 p' b' q' v' T' c' l' (.slice ib2 I2.length ic2) I2 → Calls Try.prog 25 #[.pointer (some ⟨q, 0, none⟩), .bool x] W fun e w' => e = .returned (.int .i64 (T2.count x)) ∧ Below W.heap.size W w') := fun x W h => by
            refine (rcount_any W q T.cl v2 l2 x h.r0).mono ?_
            rintro e w' ⟨rfl, rfl⟩
            rw [← HR2.out.2.1, HR2.out.1.count h.tw.t0.ok]
            exact ⟨rfl, Below.refl _ _⟩
          have hL1 : Hid (∀ W, Pw w W p b q v2 T2 T.cl l2 p' b' q' v' T' c' l' (.slice ib2 I2.length ic2) I2 → Calls Try.prog 11 #[.pointer (some ⟨p, 0, none⟩)] W fun e w' => ∃ ob on oc, e = .returned (.slice ob on oc) ∧ Hid (R EI w' (.slice ob on oc) T2.live ∧ Below W.heap.size W w')) := fun W h => by
            refine (live_any W p b T2 h.tw.t0).mono ?_
            rintro e w' ⟨o, rfl, hR, _, hB⟩
            obtain ⟨ob, oc, rfl, _⟩ := hR.slice
            exact ⟨ob, _, oc, rfl, hR, hB⟩
          have hL2 : Hid (∀ W, Pw w W p b q v2 T2 T.cl l2 p' b' q' v' T' c' l' (.slice ib2 I2.length ic2) I2 → Calls Try.prog 27 #[.pointer (some ⟨q, 0, none⟩)] W fun e w' => ∃ ob on oc, e = .returned (.slice ob on oc) ∧ Hid (R EI w' (.slice ob on oc) T2.live ∧ Below W.heap.size W w')) := fun W h => by
            refine (rlive_any W q T.cl v2 l2 h.r0 HR2.out.2.2).mono ?_
            rintro e w' ⟨o, rfl, hR, hB⟩
            rw [HR2.out.1.live h.tw.t0.ok] at hR
            obtain ⟨ob, oc, rfl, _⟩ := hR.slice
            exact ⟨ob, _, oc, rfl, hR, hB⟩
          have hK1t := hK1 true
          have hK1f := hK1 false
          have hK2t := hK2 true
          have hK2f := hK2 false
          clear hK1 hK2
          generalize T2.st id = s at hS1 hS2
          generalize T2.cut id = u at hC1 hC2
          generalize T2.count true = kt at hK1t hK2t
          generalize T2.count false = kf at hK1f hK2f
          generalize T2.live = lv at hL1 hL2
          go_cut [127] from 32 to 127 (fun x wx => x = .bool false ∧ Hid (Pw w wx p b q v2 T2 T.cl l2 p' b' q' v' T' c' l' (.slice ib2 I2.length ic2) I2))
          case first =>
            have hIW : Hid (Pw w W3.drew p b q v2 T2 T.cl l2 p' b' q' v' T' c' l' (.slice ib2 I2.length ic2) I2 ∧ W3.drew.heap[O]? = some (.cells #[.bool two, .int .i64 id, .bool g, .int .i64 k] 29 (0, 0)) ∧ W3.drew.heap[V]? = some (.cells #[.int .i64 kv, .int .i64 cv] 55 (0, 0))) := hbel.out _ _ hP3.out (Below.refl _ _).drew
            refine wp_region_held_drew (S := (fun W : World => W.cell? ⟨O, 1, none⟩ = some (.int .i64 id) ∧ W.cell? ⟨V, 0, none⟩ = some (.int .i64 kv) ∧ W.cell? ⟨V, 1, none⟩ = some (.int .i64 cv))) (by kernel_rfl) (hfull.out _ hIW.out) (fun hHeld => ?_)
            generalize hWg : World.drew _ = W at hIW hHeld ⊢
            clear hWg hP3
            refine wpAnyH_take (i := 0) (oi := { dst := some 74, op := Op.move (Operand.tmp 12), type := 3, pos := "law.go:89", after := #[], guard := none }) (v := ?vv1) rfl (by kernel_rfl) (by kernel_rfl) (by kernel_rfl) (fun _ _ _ h => h) (Or.inl ⟨by rfl, ?hy1⟩) (by assumption) ?_
            case hy1 => (intro w hSw; (try dsimp only at hSw); go_simp; all_goals with_reducible rfl)
            try simp only [Act.put, List.setIfInBounds_toArray, List.set_cons_zero, List.set_cons_succ]
            refine wpAnyH_take (i := 1) (oi := { dst := some 75, op := Op.fieldAddr 55 (Operand.tmp 14) 0, type := 0, pos := "law.go:89", after := #[], guard := none }) (v := ?vv2) rfl (by kernel_rfl) (by kernel_rfl) (by kernel_rfl) (fun _ _ _ h => h) (Or.inl ⟨by rfl, ?hy2⟩) (by assumption) ?_
            case hy2 => (intro w hSw; (try dsimp only at hSw); go_simp; all_goals with_reducible rfl)
            try simp only [Act.put, List.setIfInBounds_toArray, List.set_cons_zero, List.set_cons_succ]
            refine wpAnyH_take (i := 2) (oi := { dst := some 76, op := Op.load 3 (Operand.tmp 75), type := 3, pos := "law.go:89", after := #[{ on := 1, ground := Ground.data }], guard := none }) (v := ?vv3) rfl (by kernel_rfl) (by kernel_rfl) (by kernel_rfl) (fun _ _ _ h => h) (Or.inl ⟨by rfl, ?hy3⟩) (by assumption) ?_
            case hy3 => (intro w hSw; (try dsimp only at hSw); go_simp; all_goals with_reducible rfl)
            try simp only [Act.put, List.setIfInBounds_toArray, List.set_cons_zero, List.set_cons_succ]
            refine wpAnyH_take (i := 3) (oi := { dst := some 77, op := Op.binOp BinOp.neq 3 (Operand.tmp 74) (Operand.tmp 76) 3, type := 4, pos := "law.go:89", after := #[{ on := 0, ground := Ground.data }, { on := 2, ground := Ground.data }], guard := none }) (v := ?vv4) rfl (by kernel_rfl) (by kernel_rfl) (by kernel_rfl) (fun _ _ _ h => h) (Or.inl ⟨by rfl, ?hy4⟩) (by assumption) ?_
            case hy4 => (intro w hSw; (try dsimp only at hSw); go_simp; all_goals with_reducible rfl)
            try simp only [Act.put, List.setIfInBounds_toArray, List.set_cons_zero, List.set_cons_succ]
            refine wpAnyH_take (i := 4) (oi := { dst := some 78, op := Op.move (Operand.tmp 77), type := 4, pos := "law.go:89", after := #[{ on := 3, ground := Ground.data }], guard := none }) (v := ?vv5) rfl (by kernel_rfl) (by kernel_rfl) (by kernel_rfl) (fun _ _ _ h => h) (Or.inl ⟨by rfl, ?hy5⟩) (by assumption) ?_
            case hy5 => (intro w hSw; (try dsimp only at hSw); go_simp; all_goals with_reducible rfl)
            try simp only [Act.put, List.setIfInBounds_toArray, List.set_cons_zero, List.set_cons_succ]
            refine wpAnyH_take (i := 5) (oi := { dst := some 79, op := Op.move (Operand.tmp 13), type := 2, pos := "law.go:89", after := #[{ on := 4, ground := Ground.guard }], guard := some (4, false) }) (v := ?vv6) rfl (by kernel_rfl) (by kernel_rfl) (by kernel_rfl) (fun _ _ _ h => h) (Or.inl ⟨by rfl, ?hy6⟩) (by assumption) ?_
            case hy6 => (intro w hSw; (try dsimp only at hSw); go_simp; all_goals with_reducible rfl)
            try simp only [Act.put, List.setIfInBounds_toArray, List.set_cons_zero, List.set_cons_succ]
            refine wpAnyH_take (i := 6) (oi := { dst := some 80, op := Op.fieldAddr 55 (Operand.tmp 14) 1, type := 0, pos := "law.go:89", after := #[{ on := 4, ground := Ground.guard }], guard := some (4, false) }) (v := ?vv7) rfl (by kernel_rfl) (by kernel_rfl) (by kernel_rfl) (fun _ _ _ h => h) (Or.inl ⟨by rfl, ?hy7⟩) (by assumption) ?_
            case hy7 => (intro w hSw; (try dsimp only at hSw); go_simp; all_goals with_reducible rfl)
            try simp only [Act.put, List.setIfInBounds_toArray, List.set_cons_zero, List.set_cons_succ]
            refine wpAnyH_take (i := 7) (oi := { dst := some 81, op := Op.load 2 (Operand.tmp 80), type := 2, pos := "law.go:89", after := #[{ on := 6, ground := Ground.data }, { on := 4, ground := Ground.guard }], guard := some (4, false) }) (v := ?vv8) rfl (by kernel_rfl) (by kernel_rfl) (by kernel_rfl) (fun _ _ _ h => h) (Or.inl ⟨by rfl, ?hy8⟩) (by assumption) ?_
            case hy8 => (intro w hSw; (try dsimp only at hSw); go_simp; all_goals with_reducible rfl)
            try simp only [Act.put, List.setIfInBounds_toArray, List.set_cons_zero, List.set_cons_succ]
            refine wpAnyH_take (i := 8) (oi := { dst := some 82, op := Op.binOp BinOp.neq 2 (Operand.tmp 79) (Operand.tmp 81) 2, type := 4, pos := "law.go:89", after := #[{ on := 5, ground := Ground.data }, { on := 7, ground := Ground.data }, { on := 4, ground := Ground.guard }], guard := some (4, false) }) (v := ?vv9) rfl (by kernel_rfl) (by kernel_rfl) (by kernel_rfl) (fun _ _ _ h => h) (Or.inl ⟨by rfl, ?hy9⟩) (by assumption) ?_
            case hy9 => (intro w hSw; (try dsimp only at hSw); go_simp; all_goals with_reducible rfl)
            try simp only [Act.put, List.setIfInBounds_toArray, List.set_cons_zero, List.set_cons_succ]
            refine wpAnyH_take (i := 9) (oi := { dst := some 83, op := Op.pick (Operand.tmp 78) (Operand.const (Value.bool true)) (Operand.tmp 82), type := 4, pos := "law.go:89", after := #[{ on := 4, ground := Ground.data }, { on := 8, ground := Ground.data }], guard := none }) (v := ?vv10) rfl (by kernel_rfl) (by kernel_rfl) (by kernel_rfl) (fun _ _ _ h => h) (Or.inl ⟨by rfl, ?hy10⟩) (by assumption) ?_
            case hy10 => (intro w hSw; (try dsimp only at hSw); go_simp; all_goals with_reducible rfl)
            try simp only [Act.put, List.setIfInBounds_toArray, List.set_cons_zero, List.set_cons_succ]
            refine wpAnyH_take (i := 10) (oi := { dst := some 84, op := Op.move (Operand.tmp 83), type := 4, pos := "law.go:89", after := #[{ on := 9, ground := Ground.data }, { on := 4, ground := Ground.chain }], guard := none }) (v := ?vv11) rfl (by kernel_rfl) (by kernel_rfl) (by kernel_rfl) (fun _ _ _ h => h) (Or.inl ⟨by rfl, ?hy11⟩) (by assumption) ?_
            case hy11 => (intro w hSw; (try dsimp only at hSw); go_simp; all_goals with_reducible rfl)
            try simp only [Act.put, List.setIfInBounds_toArray, List.set_cons_zero, List.set_cons_succ]
            refine wpAnyH_take (i := 11) (oi := { dst := some 85, op := Op.move (Operand.tmp 10), type := 23, pos := "law.go:89", after := #[{ on := 10, ground := Ground.guard }], guard := some (10, false) }) (v := ?vv12) rfl (by kernel_rfl) (by kernel_rfl) (by kernel_rfl) (fun _ _ _ h => h) (Or.inl ⟨by rfl, ?hy12⟩) (by assumption) ?_
            case hy12 => (intro w hSw; (try dsimp only at hSw); go_simp; all_goals with_reducible rfl)
            try simp only [Act.put, List.setIfInBounds_toArray, List.set_cons_zero, List.set_cons_succ]
            refine wpAnyH_take (i := 12) (oi := { dst := some 86, op := Op.fieldAddr 29 (Operand.tmp 9) 1, type := 0, pos := "law.go:89", after := #[{ on := 10, ground := Ground.guard }], guard := some (10, false) }) (v := ?vv13) rfl (by kernel_rfl) (by kernel_rfl) (by kernel_rfl) (fun _ _ _ h => h) (Or.inl ⟨by rfl, ?hy13⟩) (by assumption) ?_
            case hy13 => (intro w hSw; (try dsimp only at hSw); go_simp; all_goals with_reducible rfl)
            try simp only [Act.put, List.setIfInBounds_toArray, List.set_cons_zero, List.set_cons_succ]
            refine wpAnyH_take (i := 13) (oi := { dst := some 87, op := Op.load 2 (Operand.tmp 86), type := 2, pos := "law.go:89", after := #[{ on := 12, ground := Ground.data }, { on := 10, ground := Ground.guard }], guard := some (10, false) }) (v := ?vv14) rfl (by kernel_rfl) (by kernel_rfl) (by kernel_rfl) (fun _ _ _ h => h) (Or.inl ⟨by rfl, ?hy14⟩) (by assumption) ?_
            case hy14 => (intro w hSw; (try dsimp only at hSw); go_simp; all_goals with_reducible rfl)
            try simp only [Act.put, List.setIfInBounds_toArray, List.set_cons_zero, List.set_cons_succ]
            refine wpAnyH_take (i := 15) (oi := { dst := some 89, op := Op.move (Operand.tmp 11), type := 53, pos := "law.go:89", after := #[{ on := 10, ground := Ground.guard }], guard := some (10, false) }) (v := ?vv15) rfl (by kernel_rfl) (by kernel_rfl) (by kernel_rfl) (fun _ _ _ h => h) (Or.inl ⟨by rfl, ?hy15⟩) (by assumption) ?_
            case hy15 => (intro w hSw; (try dsimp only at hSw); go_simp; all_goals with_reducible rfl)
            try simp only [Act.put, List.setIfInBounds_toArray, List.set_cons_zero, List.set_cons_succ]
            refine wpAnyH_take (i := 16) (oi := { dst := some 90, op := Op.fieldAddr 29 (Operand.tmp 9) 1, type := 0, pos := "law.go:89", after := #[{ on := 10, ground := Ground.guard }], guard := some (10, false) }) (v := ?vv16) rfl (by kernel_rfl) (by kernel_rfl) (by kernel_rfl) (fun _ _ _ h => h) (Or.inl ⟨by rfl, ?hy16⟩) (by assumption) ?_
            case hy16 => (intro w hSw; (try dsimp only at hSw); go_simp; all_goals with_reducible rfl)
            try simp only [Act.put, List.setIfInBounds_toArray, List.set_cons_zero, List.set_cons_succ]
            refine wpAnyH_take (i := 17) (oi := { dst := some 91, op := Op.load 2 (Operand.tmp 90), type := 2, pos := "law.go:89", after := #[{ on := 16, ground := Ground.data }, { on := 10, ground := Ground.guard }], guard := some (10, false) }) (v := ?vv17) rfl (by kernel_rfl) (by kernel_rfl) (by kernel_rfl) (fun _ _ _ h => h) (Or.inl ⟨by rfl, ?hy17⟩) (by assumption) ?_
            case hy17 => (intro w hSw; (try dsimp only at hSw); go_simp; all_goals with_reducible rfl)
            try simp only [Act.put, List.setIfInBounds_toArray, List.set_cons_zero, List.set_cons_succ]
            refine wpAnyH_ready (rs := [14]) (by kernel_rfl) (by simp) ?_
            refine AllReadyH.cons (o := { dst := some 88, op := Op.call { callee := Callee.value (Operand.func 14), args := #[Operand.tmp 85, Operand.tmp 87], argTypes := #[23, 2] }, type := 3, pos := "law.go:89", after := #[{ on := 11, ground := Ground.data }, { on := 13, ground := Ground.data }, { on := 10, ground := Ground.chain }, { on := 10, ground := Ground.guard }], guard := some (10, false) }) rfl (fun K hK => ?_) AllReadyH.nil
            go_simp
            refine (hS1.out W hIW.out.1).mono ?_
            rintro e' Wx ⟨rfl, hB⟩
            have hIWx : Hid (Pw w Wx p b q v2 T2 T.cl l2 p' b' q' v' T' c' l' (.slice ib2 I2.length ic2) I2 ∧ Wx.heap[O]? = some (.cells #[.bool two, .int .i64 id, .bool g, .int .i64 k] 29 (0, 0)) ∧ Wx.heap[V]? = some (.cells #[.int .i64 kv, .int .i64 cv] 55 (0, 0))) := hbel.out _ _ hIW.out hB
            clear hB
            go_wp2_with fail
            refine hK.out _ _ (hfull.out Wx hIWx.out) (fun hHeld => ?_)
            clear hK K
            try simp only [Act.put, List.setIfInBounds_toArray, List.set_cons_zero, List.set_cons_succ]
            refine wpAnyH_ready (rs := [18]) (by kernel_rfl) (by simp) ?_
            refine AllReadyH.cons (o := { dst := some 92, op := Op.call { callee := Callee.value (Operand.func 24), args := #[Operand.tmp 89, Operand.tmp 91], argTypes := #[53, 2] }, type := 3, pos := "law.go:89", after := #[{ on := 15, ground := Ground.data }, { on := 17, ground := Ground.data }, { on := 14, ground := Ground.chain }, { on := 10, ground := Ground.guard }], guard := some (10, false) }) rfl (fun K hK => ?_) AllReadyH.nil
            go_simp
            refine (hS2.out Wx hIWx.out.1).mono ?_
            rintro e' Wxx ⟨rfl, hB⟩
            have hIWxx : Hid (Pw w Wxx p b q v2 T2 T.cl l2 p' b' q' v' T' c' l' (.slice ib2 I2.length ic2) I2 ∧ Wxx.heap[O]? = some (.cells #[.bool two, .int .i64 id, .bool g, .int .i64 k] 29 (0, 0)) ∧ Wxx.heap[V]? = some (.cells #[.int .i64 kv, .int .i64 cv] 55 (0, 0))) := hbel.out _ _ hIWx.out hB
            clear hB
            go_wp2_with fail
            refine hK.out _ _ (hfull.out Wxx hIWxx.out) (fun hHeld => ?_)
            clear hK K
            try simp only [Act.put, List.setIfInBounds_toArray, List.set_cons_zero, List.set_cons_succ]
            refine wpAnyH_take (i := 19) (oi := { dst := some 93, op := Op.binOp BinOp.neq 3 (Operand.tmp 88) (Operand.tmp 92) 3, type := 4, pos := "law.go:89", after := #[{ on := 14, ground := Ground.data }, { on := 18, ground := Ground.data }, { on := 10, ground := Ground.guard }], guard := some (10, false) }) (v := ?vv18) rfl (by kernel_rfl) (by kernel_rfl) (by kernel_rfl) (fun _ _ _ h => h) (Or.inl ⟨by rfl, ?hy18⟩) (by assumption) ?_
            case hy18 => (intro w hSw; (try dsimp only at hSw); go_simp; all_goals with_reducible rfl)
            try simp only [Act.put, List.setIfInBounds_toArray, List.set_cons_zero, List.set_cons_succ]
            refine wpAnyH_take (i := 20) (oi := { dst := some 94, op := Op.pick (Operand.tmp 84) (Operand.const (Value.bool true)) (Operand.tmp 93), type := 4, pos := "law.go:89", after := #[{ on := 10, ground := Ground.data }, { on := 19, ground := Ground.data }], guard := none }) (v := ?vv19) rfl (by kernel_rfl) (by kernel_rfl) (by kernel_rfl) (fun _ _ _ h => h) (Or.inl ⟨by rfl, ?hy19⟩) (by assumption) ?_
            case hy19 => (intro w hSw; (try dsimp only at hSw); go_simp; all_goals with_reducible rfl)
            try simp only [Act.put, List.setIfInBounds_toArray, List.set_cons_zero, List.set_cons_succ]
            refine wpAnyH_take (i := 21) (oi := { dst := some 95, op := Op.move (Operand.tmp 94), type := 4, pos := "law.go:89", after := #[{ on := 20, ground := Ground.data }, { on := 18, ground := Ground.chain }], guard := none }) (v := ?vv20) rfl (by kernel_rfl) (by kernel_rfl) (by kernel_rfl) (fun _ _ _ h => h) (Or.inl ⟨by rfl, ?hy20⟩) (by assumption) ?_
            case hy20 => (intro w hSw; (try dsimp only at hSw); go_simp; all_goals with_reducible rfl)
            try simp only [Act.put, List.setIfInBounds_toArray, List.set_cons_zero, List.set_cons_succ]
            refine wpAnyH_take (i := 22) (oi := { dst := some 96, op := Op.move (Operand.tmp 10), type := 23, pos := "law.go:89", after := #[{ on := 21, ground := Ground.guard }], guard := some (21, false) }) (v := ?vv21) rfl (by kernel_rfl) (by kernel_rfl) (by kernel_rfl) (fun _ _ _ h => h) (Or.inl ⟨by rfl, ?hy21⟩) (by assumption) ?_
            case hy21 => (intro w hSw; (try dsimp only at hSw); go_simp; all_goals with_reducible rfl)
            try simp only [Act.put, List.setIfInBounds_toArray, List.set_cons_zero, List.set_cons_succ]
            refine wpAnyH_take (i := 24) (oi := { dst := some 98, op := Op.move (Operand.tmp 11), type := 53, pos := "law.go:89", after := #[{ on := 21, ground := Ground.guard }], guard := some (21, false) }) (v := ?vv22) rfl (by kernel_rfl) (by kernel_rfl) (by kernel_rfl) (fun _ _ _ h => h) (Or.inl ⟨by rfl, ?hy22⟩) (by assumption) ?_
            case hy22 => (intro w hSw; (try dsimp only at hSw); go_simp; all_goals with_reducible rfl)
            try simp only [Act.put, List.setIfInBounds_toArray, List.set_cons_zero, List.set_cons_succ]
            refine wpAnyH_ready (rs := [23]) (by kernel_rfl) (by simp) ?_
            refine AllReadyH.cons (o := { dst := some 97, op := Op.call { callee := Callee.value (Operand.func 18), args := #[Operand.tmp 96, Operand.const (Value.bool true)], argTypes := #[23, 4] }, type := 3, pos := "law.go:89", after := #[{ on := 22, ground := Ground.data }, { on := 21, ground := Ground.chain }, { on := 21, ground := Ground.guard }], guard := some (21, false) }) rfl (fun K hK => ?_) AllReadyH.nil
            go_simp
            refine (hK1t.out Wxx hIWxx.out.1).mono ?_
            rintro e' Wxxx ⟨rfl, hB⟩
            have hIWxxx : Hid (Pw w Wxxx p b q v2 T2 T.cl l2 p' b' q' v' T' c' l' (.slice ib2 I2.length ic2) I2 ∧ Wxxx.heap[O]? = some (.cells #[.bool two, .int .i64 id, .bool g, .int .i64 k] 29 (0, 0)) ∧ Wxxx.heap[V]? = some (.cells #[.int .i64 kv, .int .i64 cv] 55 (0, 0))) := hbel.out _ _ hIWxx.out hB
            clear hB
            go_wp2_with fail
            refine hK.out _ _ (hfull.out Wxxx hIWxxx.out) (fun hHeld => ?_)
            clear hK K
            try simp only [Act.put, List.setIfInBounds_toArray, List.set_cons_zero, List.set_cons_succ]
            refine wpAnyH_ready (rs := [25]) (by kernel_rfl) (by simp) ?_
            refine AllReadyH.cons (o := { dst := some 99, op := Op.call { callee := Callee.value (Operand.func 25), args := #[Operand.tmp 98, Operand.const (Value.bool true)], argTypes := #[53, 4] }, type := 3, pos := "law.go:89", after := #[{ on := 24, ground := Ground.data }, { on := 23, ground := Ground.chain }, { on := 21, ground := Ground.guard }], guard := some (21, false) }) rfl (fun K hK => ?_) AllReadyH.nil
            go_simp
            refine (hK2t.out Wxxx hIWxxx.out.1).mono ?_
            rintro e' Wxxxx ⟨rfl, hB⟩
            have hIWxxxx : Hid (Pw w Wxxxx p b q v2 T2 T.cl l2 p' b' q' v' T' c' l' (.slice ib2 I2.length ic2) I2 ∧ Wxxxx.heap[O]? = some (.cells #[.bool two, .int .i64 id, .bool g, .int .i64 k] 29 (0, 0)) ∧ Wxxxx.heap[V]? = some (.cells #[.int .i64 kv, .int .i64 cv] 55 (0, 0))) := hbel.out _ _ hIWxxx.out hB
            clear hB
            go_wp2_with fail
            refine hK.out _ _ (hfull.out Wxxxx hIWxxxx.out) (fun hHeld => ?_)
            clear hK K
            try simp only [Act.put, List.setIfInBounds_toArray, List.set_cons_zero, List.set_cons_succ]
            refine wpAnyH_take (i := 26) (oi := { dst := some 100, op := Op.binOp BinOp.neq 3 (Operand.tmp 97) (Operand.tmp 99) 3, type := 4, pos := "law.go:89", after := #[{ on := 23, ground := Ground.data }, { on := 25, ground := Ground.data }, { on := 21, ground := Ground.guard }], guard := some (21, false) }) (v := ?vv23) rfl (by kernel_rfl) (by kernel_rfl) (by kernel_rfl) (fun _ _ _ h => h) (Or.inl ⟨by rfl, ?hy23⟩) (by assumption) ?_
            case hy23 => (intro w hSw; (try dsimp only at hSw); go_simp; all_goals with_reducible rfl)
            try simp only [Act.put, List.setIfInBounds_toArray, List.set_cons_zero, List.set_cons_succ]
            refine wpAnyH_take (i := 27) (oi := { dst := some 101, op := Op.pick (Operand.tmp 95) (Operand.const (Value.bool true)) (Operand.tmp 100), type := 4, pos := "law.go:89", after := #[{ on := 21, ground := Ground.data }, { on := 26, ground := Ground.data }], guard := none }) (v := ?vv24) rfl (by kernel_rfl) (by kernel_rfl) (by kernel_rfl) (fun _ _ _ h => h) (Or.inl ⟨by rfl, ?hy24⟩) (by assumption) ?_
            case hy24 => (intro w hSw; (try dsimp only at hSw); go_simp; all_goals with_reducible rfl)
            try simp only [Act.put, List.setIfInBounds_toArray, List.set_cons_zero, List.set_cons_succ]
            refine wpAnyH_take (i := 28) (oi := { dst := some 102, op := Op.move (Operand.tmp 101), type := 4, pos := "law.go:89", after := #[{ on := 27, ground := Ground.data }, { on := 25, ground := Ground.chain }], guard := none }) (v := ?vv25) rfl (by kernel_rfl) (by kernel_rfl) (by kernel_rfl) (fun _ _ _ h => h) (Or.inl ⟨by rfl, ?hy25⟩) (by assumption) ?_
            case hy25 => (intro w hSw; (try dsimp only at hSw); go_simp; all_goals with_reducible rfl)
            try simp only [Act.put, List.setIfInBounds_toArray, List.set_cons_zero, List.set_cons_succ]
            refine wpAnyH_take (i := 29) (oi := { dst := some 103, op := Op.move (Operand.tmp 10), type := 23, pos := "law.go:89", after := #[{ on := 28, ground := Ground.guard }], guard := some (28, false) }) (v := ?vv26) rfl (by kernel_rfl) (by kernel_rfl) (by kernel_rfl) (fun _ _ _ h => h) (Or.inl ⟨by rfl, ?hy26⟩) (by assumption) ?_
            case hy26 => (intro w hSw; (try dsimp only at hSw); go_simp; all_goals with_reducible rfl)
            try simp only [Act.put, List.setIfInBounds_toArray, List.set_cons_zero, List.set_cons_succ]
            refine wpAnyH_take (i := 31) (oi := { dst := some 105, op := Op.move (Operand.tmp 11), type := 53, pos := "law.go:89", after := #[{ on := 28, ground := Ground.guard }], guard := some (28, false) }) (v := ?vv27) rfl (by kernel_rfl) (by kernel_rfl) (by kernel_rfl) (fun _ _ _ h => h) (Or.inl ⟨by rfl, ?hy27⟩) (by assumption) ?_
            case hy27 => (intro w hSw; (try dsimp only at hSw); go_simp; all_goals with_reducible rfl)
            try simp only [Act.put, List.setIfInBounds_toArray, List.set_cons_zero, List.set_cons_succ]
            refine wpAnyH_ready (rs := [30]) (by kernel_rfl) (by simp) ?_
            refine AllReadyH.cons (o := { dst := some 104, op := Op.call { callee := Callee.value (Operand.func 18), args := #[Operand.tmp 103, Operand.const (Value.bool false)], argTypes := #[23, 4] }, type := 3, pos := "law.go:89", after := #[{ on := 29, ground := Ground.data }, { on := 28, ground := Ground.chain }, { on := 28, ground := Ground.guard }], guard := some (28, false) }) rfl (fun K hK => ?_) AllReadyH.nil
            go_simp
            refine (hK1f.out Wxxxx hIWxxxx.out.1).mono ?_
            rintro e' Wxxxxx ⟨rfl, hB⟩
            have hIWxxxxx : Hid (Pw w Wxxxxx p b q v2 T2 T.cl l2 p' b' q' v' T' c' l' (.slice ib2 I2.length ic2) I2 ∧ Wxxxxx.heap[O]? = some (.cells #[.bool two, .int .i64 id, .bool g, .int .i64 k] 29 (0, 0)) ∧ Wxxxxx.heap[V]? = some (.cells #[.int .i64 kv, .int .i64 cv] 55 (0, 0))) := hbel.out _ _ hIWxxxx.out hB
            clear hB
            go_wp2_with fail
            refine hK.out _ _ (hfull.out Wxxxxx hIWxxxxx.out) (fun hHeld => ?_)
            clear hK K
            try simp only [Act.put, List.setIfInBounds_toArray, List.set_cons_zero, List.set_cons_succ]
            refine wpAnyH_ready (rs := [32]) (by kernel_rfl) (by simp) ?_
            refine AllReadyH.cons (o := { dst := some 106, op := Op.call { callee := Callee.value (Operand.func 25), args := #[Operand.tmp 105, Operand.const (Value.bool false)], argTypes := #[53, 4] }, type := 3, pos := "law.go:89", after := #[{ on := 31, ground := Ground.data }, { on := 30, ground := Ground.chain }, { on := 28, ground := Ground.guard }], guard := some (28, false) }) rfl (fun K hK => ?_) AllReadyH.nil
            go_simp
            refine (hK2f.out Wxxxxx hIWxxxxx.out.1).mono ?_
            rintro e' Wxxxxxx ⟨rfl, hB⟩
            have hIWxxxxxx : Hid (Pw w Wxxxxxx p b q v2 T2 T.cl l2 p' b' q' v' T' c' l' (.slice ib2 I2.length ic2) I2 ∧ Wxxxxxx.heap[O]? = some (.cells #[.bool two, .int .i64 id, .bool g, .int .i64 k] 29 (0, 0)) ∧ Wxxxxxx.heap[V]? = some (.cells #[.int .i64 kv, .int .i64 cv] 55 (0, 0))) := hbel.out _ _ hIWxxxxx.out hB
            clear hB
            go_wp2_with fail
            refine hK.out _ _ (hfull.out Wxxxxxx hIWxxxxxx.out) (fun hHeld => ?_)
            clear hK K
            try simp only [Act.put, List.setIfInBounds_toArray, List.set_cons_zero, List.set_cons_succ]
            refine wpAnyH_take (i := 33) (oi := { dst := some 107, op := Op.binOp BinOp.neq 3 (Operand.tmp 104) (Operand.tmp 106) 3, type := 4, pos := "law.go:89", after := #[{ on := 30, ground := Ground.data }, { on := 32, ground := Ground.data }, { on := 28, ground := Ground.guard }], guard := some (28, false) }) (v := ?vv28) rfl (by kernel_rfl) (by kernel_rfl) (by kernel_rfl) (fun _ _ _ h => h) (Or.inl ⟨by rfl, ?hy28⟩) (by assumption) ?_
            case hy28 => (intro w hSw; (try dsimp only at hSw); go_simp; all_goals with_reducible rfl)
            try simp only [Act.put, List.setIfInBounds_toArray, List.set_cons_zero, List.set_cons_succ]
            refine wpAnyH_take (i := 34) (oi := { dst := some 108, op := Op.pick (Operand.tmp 102) (Operand.const (Value.bool true)) (Operand.tmp 107), type := 4, pos := "law.go:89", after := #[{ on := 28, ground := Ground.data }, { on := 33, ground := Ground.data }], guard := none }) (v := ?vv29) rfl (by kernel_rfl) (by kernel_rfl) (by kernel_rfl) (fun _ _ _ h => h) (Or.inl ⟨by rfl, ?hy29⟩) (by assumption) ?_
            case hy29 => (intro w hSw; (try dsimp only at hSw); go_simp; all_goals with_reducible rfl)
            try simp only [Act.put, List.setIfInBounds_toArray, List.set_cons_zero, List.set_cons_succ]
            refine wpAnyH_take (i := 35) (oi := { dst := some 109, op := Op.move (Operand.tmp 108), type := 4, pos := "law.go:89", after := #[{ on := 34, ground := Ground.data }, { on := 32, ground := Ground.chain }], guard := none }) (v := ?vv30) rfl (by kernel_rfl) (by kernel_rfl) (by kernel_rfl) (fun _ _ _ h => h) (Or.inl ⟨by rfl, ?hy30⟩) (by assumption) ?_
            case hy30 => (intro w hSw; (try dsimp only at hSw); go_simp; all_goals with_reducible rfl)
            try simp only [Act.put, List.setIfInBounds_toArray, List.set_cons_zero, List.set_cons_succ]
            refine wpAnyH_take (i := 36) (oi := { dst := some 110, op := Op.move (Operand.tmp 10), type := 23, pos := "law.go:89", after := #[{ on := 35, ground := Ground.guard }], guard := some (35, false) }) (v := ?vv31) rfl (by kernel_rfl) (by kernel_rfl) (by kernel_rfl) (fun _ _ _ h => h) (Or.inl ⟨by rfl, ?hy31⟩) (by assumption) ?_
            case hy31 => (intro w hSw; (try dsimp only at hSw); go_simp; all_goals with_reducible rfl)
            try simp only [Act.put, List.setIfInBounds_toArray, List.set_cons_zero, List.set_cons_succ]
            refine wpAnyH_take (i := 37) (oi := { dst := some 111, op := Op.fieldAddr 29 (Operand.tmp 9) 1, type := 0, pos := "law.go:89", after := #[{ on := 35, ground := Ground.guard }], guard := some (35, false) }) (v := ?vv32) rfl (by kernel_rfl) (by kernel_rfl) (by kernel_rfl) (fun _ _ _ h => h) (Or.inl ⟨by rfl, ?hy32⟩) (by assumption) ?_
            case hy32 => (intro w hSw; (try dsimp only at hSw); go_simp; all_goals with_reducible rfl)
            try simp only [Act.put, List.setIfInBounds_toArray, List.set_cons_zero, List.set_cons_succ]
            refine wpAnyH_take (i := 38) (oi := { dst := some 112, op := Op.load 2 (Operand.tmp 111), type := 2, pos := "law.go:89", after := #[{ on := 37, ground := Ground.data }, { on := 35, ground := Ground.guard }], guard := some (35, false) }) (v := ?vv33) rfl (by kernel_rfl) (by kernel_rfl) (by kernel_rfl) (fun _ _ _ h => h) (Or.inl ⟨by rfl, ?hy33⟩) (by assumption) ?_
            case hy33 => (intro w hSw; (try dsimp only at hSw); go_simp; all_goals with_reducible rfl)
            try simp only [Act.put, List.setIfInBounds_toArray, List.set_cons_zero, List.set_cons_succ]
            refine wpAnyH_take (i := 40) (oi := { dst := some 114, op := Op.move (Operand.tmp 11), type := 53, pos := "law.go:89", after := #[{ on := 35, ground := Ground.guard }], guard := some (35, false) }) (v := ?vv34) rfl (by kernel_rfl) (by kernel_rfl) (by kernel_rfl) (fun _ _ _ h => h) (Or.inl ⟨by rfl, ?hy34⟩) (by assumption) ?_
            case hy34 => (intro w hSw; (try dsimp only at hSw); go_simp; all_goals with_reducible rfl)
            try simp only [Act.put, List.setIfInBounds_toArray, List.set_cons_zero, List.set_cons_succ]
            refine wpAnyH_take (i := 41) (oi := { dst := some 115, op := Op.fieldAddr 29 (Operand.tmp 9) 1, type := 0, pos := "law.go:89", after := #[{ on := 35, ground := Ground.guard }], guard := some (35, false) }) (v := ?vv35) rfl (by kernel_rfl) (by kernel_rfl) (by kernel_rfl) (fun _ _ _ h => h) (Or.inl ⟨by rfl, ?hy35⟩) (by assumption) ?_
            case hy35 => (intro w hSw; (try dsimp only at hSw); go_simp; all_goals with_reducible rfl)
            try simp only [Act.put, List.setIfInBounds_toArray, List.set_cons_zero, List.set_cons_succ]
            refine wpAnyH_take (i := 42) (oi := { dst := some 116, op := Op.load 2 (Operand.tmp 115), type := 2, pos := "law.go:89", after := #[{ on := 41, ground := Ground.data }, { on := 35, ground := Ground.guard }], guard := some (35, false) }) (v := ?vv36) rfl (by kernel_rfl) (by kernel_rfl) (by kernel_rfl) (fun _ _ _ h => h) (Or.inl ⟨by rfl, ?hy36⟩) (by assumption) ?_
            case hy36 => (intro w hSw; (try dsimp only at hSw); go_simp; all_goals with_reducible rfl)
            try simp only [Act.put, List.setIfInBounds_toArray, List.set_cons_zero, List.set_cons_succ]
            refine wpAnyH_ready (rs := [39]) (by kernel_rfl) (by simp) ?_
            refine AllReadyH.cons (o := { dst := some 113, op := Op.call { callee := Callee.value (Operand.func 21), args := #[Operand.tmp 110, Operand.tmp 112], argTypes := #[23, 2] }, type := 4, pos := "law.go:89", after := #[{ on := 36, ground := Ground.data }, { on := 38, ground := Ground.data }, { on := 35, ground := Ground.chain }, { on := 35, ground := Ground.guard }], guard := some (35, false) }) rfl (fun K hK => ?_) AllReadyH.nil
            go_simp
            refine (hC1.out Wxxxxxx hIWxxxxxx.out.1).mono ?_
            rintro e' Wxxxxxxx ⟨rfl, hB⟩
            have hIWxxxxxxx : Hid (Pw w Wxxxxxxx p b q v2 T2 T.cl l2 p' b' q' v' T' c' l' (.slice ib2 I2.length ic2) I2 ∧ Wxxxxxxx.heap[O]? = some (.cells #[.bool two, .int .i64 id, .bool g, .int .i64 k] 29 (0, 0)) ∧ Wxxxxxxx.heap[V]? = some (.cells #[.int .i64 kv, .int .i64 cv] 55 (0, 0))) := hbel.out _ _ hIWxxxxxx.out hB
            clear hB
            go_wp2_with fail
            refine hK.out _ _ (hfull.out Wxxxxxxx hIWxxxxxxx.out) (fun hHeld => ?_)
            clear hK K
            try simp only [Act.put, List.setIfInBounds_toArray, List.set_cons_zero, List.set_cons_succ]
            refine wpAnyH_ready (rs := [43]) (by kernel_rfl) (by simp) ?_
            refine AllReadyH.cons (o := { dst := some 117, op := Op.call { callee := Callee.value (Operand.func 26), args := #[Operand.tmp 114, Operand.tmp 116], argTypes := #[53, 2] }, type := 4, pos := "law.go:89", after := #[{ on := 40, ground := Ground.data }, { on := 42, ground := Ground.data }, { on := 39, ground := Ground.chain }, { on := 35, ground := Ground.guard }], guard := some (35, false) }) rfl (fun K hK => ?_) AllReadyH.nil
            go_simp
            refine (hC2.out Wxxxxxxx hIWxxxxxxx.out.1).mono ?_
            rintro e' Wxxxxxxxx ⟨rfl, hB⟩
            have hIWxxxxxxxx : Hid (Pw w Wxxxxxxxx p b q v2 T2 T.cl l2 p' b' q' v' T' c' l' (.slice ib2 I2.length ic2) I2 ∧ Wxxxxxxxx.heap[O]? = some (.cells #[.bool two, .int .i64 id, .bool g, .int .i64 k] 29 (0, 0)) ∧ Wxxxxxxxx.heap[V]? = some (.cells #[.int .i64 kv, .int .i64 cv] 55 (0, 0))) := hbel.out _ _ hIWxxxxxxx.out hB
            clear hB
            go_wp2_with fail
            refine hK.out _ _ (hfull.out Wxxxxxxxx hIWxxxxxxxx.out) (fun hHeld => ?_)
            clear hK K
            try simp only [Act.put, List.setIfInBounds_toArray, List.set_cons_zero, List.set_cons_succ]
            refine wpAnyH_take (i := 44) (oi := { dst := some 118, op := Op.binOp BinOp.neq 4 (Operand.tmp 113) (Operand.tmp 117) 4, type := 4, pos := "law.go:89", after := #[{ on := 39, ground := Ground.data }, { on := 43, ground := Ground.data }, { on := 35, ground := Ground.guard }], guard := some (35, false) }) (v := ?vv37) rfl (by kernel_rfl) (by kernel_rfl) (by kernel_rfl) (fun _ _ _ h => h) (Or.inl ⟨by rfl, ?hy37⟩) (by assumption) ?_
            case hy37 => (intro w hSw; (try dsimp only at hSw); go_simp; all_goals with_reducible rfl)
            try simp only [Act.put, List.setIfInBounds_toArray, List.set_cons_zero, List.set_cons_succ]
            refine wpAnyH_take (i := 45) (oi := { dst := some 119, op := Op.pick (Operand.tmp 109) (Operand.const (Value.bool true)) (Operand.tmp 118), type := 4, pos := "law.go:89", after := #[{ on := 35, ground := Ground.data }, { on := 44, ground := Ground.data }], guard := none }) (v := ?vv38) rfl (by kernel_rfl) (by kernel_rfl) (by kernel_rfl) (fun _ _ _ h => h) (Or.inl ⟨by rfl, ?hy38⟩) (by assumption) ?_
            case hy38 => (intro w hSw; (try dsimp only at hSw); go_simp; all_goals with_reducible rfl)
            try simp only [Act.put, List.setIfInBounds_toArray, List.set_cons_zero, List.set_cons_succ]
            refine wpAnyH_take (i := 46) (oi := { dst := some 120, op := Op.move (Operand.tmp 119), type := 4, pos := "law.go:89", after := #[{ on := 45, ground := Ground.data }, { on := 43, ground := Ground.chain }], guard := none }) (v := ?vv39) rfl (by kernel_rfl) (by kernel_rfl) (by kernel_rfl) (fun _ _ _ h => h) (Or.inl ⟨by rfl, ?hy39⟩) (by assumption) ?_
            case hy39 => (intro w hSw; (try dsimp only at hSw); go_simp; all_goals with_reducible rfl)
            try simp only [Act.put, List.setIfInBounds_toArray, List.set_cons_zero, List.set_cons_succ]
            refine wpAnyH_take (i := 47) (oi := { dst := some 121, op := Op.move (Operand.tmp 10), type := 23, pos := "law.go:89", after := #[{ on := 46, ground := Ground.guard }], guard := some (46, false) }) (v := ?vv40) rfl (by kernel_rfl) (by kernel_rfl) (by kernel_rfl) (fun _ _ _ h => h) (Or.inl ⟨by rfl, ?hy40⟩) (by assumption) ?_
            case hy40 => (intro w hSw; (try dsimp only at hSw); go_simp; all_goals with_reducible rfl)
            try simp only [Act.put, List.setIfInBounds_toArray, List.set_cons_zero, List.set_cons_succ]
            refine wpAnyH_take (i := 49) (oi := { dst := some 123, op := Op.move (Operand.tmp 11), type := 53, pos := "law.go:89", after := #[{ on := 46, ground := Ground.guard }], guard := some (46, false) }) (v := ?vv41) rfl (by kernel_rfl) (by kernel_rfl) (by kernel_rfl) (fun _ _ _ h => h) (Or.inl ⟨by rfl, ?hy41⟩) (by assumption) ?_
            case hy41 => (intro w hSw; (try dsimp only at hSw); go_simp; all_goals with_reducible rfl)
            try simp only [Act.put, List.setIfInBounds_toArray, List.set_cons_zero, List.set_cons_succ]
            refine wpAnyH_ready (rs := [48]) (by kernel_rfl) (by simp) ?_
            refine AllReadyH.cons (o := { dst := some 122, op := Op.call { callee := Callee.value (Operand.func 11), args := #[Operand.tmp 121], argTypes := #[23] }, type := 30, pos := "law.go:89", after := #[{ on := 47, ground := Ground.data }, { on := 46, ground := Ground.chain }, { on := 46, ground := Ground.guard }], guard := some (46, false) }) rfl (fun K hK => ?_) AllReadyH.nil
            go_simp
            refine (hL1.out Wxxxxxxxx hIWxxxxxxxx.out.1).mono ?_
            rintro e' Wxxxxxxxxx ⟨xb1, xl1, xc1, rfl, hx⟩
            have hIWxxxxxxxxx : Hid (Pw w Wxxxxxxxxx p b q v2 T2 T.cl l2 p' b' q' v' T' c' l' (.slice ib2 I2.length ic2) I2 ∧ Wxxxxxxxxx.heap[O]? = some (.cells #[.bool two, .int .i64 id, .bool g, .int .i64 k] 29 (0, 0)) ∧ Wxxxxxxxxx.heap[V]? = some (.cells #[.int .i64 kv, .int .i64 cv] 55 (0, 0))) := hbel.out _ _ hIWxxxxxxxx.out hx.out.2
            have RL1 : Hid (R EI Wxxxxxxxxx (.slice xb1 xl1 xc1) lv) := hx.out.1
            clear hx
            go_wp2_with fail
            refine hK.out _ _ (hfull.out Wxxxxxxxxx hIWxxxxxxxxx.out) (fun hHeld => ?_)
            clear hK K
            try simp only [Act.put, List.setIfInBounds_toArray, List.set_cons_zero, List.set_cons_succ]
            refine wpAnyH_ready (rs := [50]) (by kernel_rfl) (by simp) ?_
            refine AllReadyH.cons (o := { dst := some 124, op := Op.call { callee := Callee.value (Operand.func 27), args := #[Operand.tmp 123], argTypes := #[53] }, type := 30, pos := "law.go:89", after := #[{ on := 49, ground := Ground.data }, { on := 48, ground := Ground.chain }, { on := 46, ground := Ground.guard }], guard := some (46, false) }) rfl (fun K hK => ?_) AllReadyH.nil
            go_simp
            refine (hL2.out Wxxxxxxxxx hIWxxxxxxxxx.out.1).mono ?_
            rintro e' Wxxxxxxxxxx ⟨xb2, xl2, xc2, rfl, hx⟩
            have hIWxxxxxxxxxx : Hid (Pw w Wxxxxxxxxxx p b q v2 T2 T.cl l2 p' b' q' v' T' c' l' (.slice ib2 I2.length ic2) I2 ∧ Wxxxxxxxxxx.heap[O]? = some (.cells #[.bool two, .int .i64 id, .bool g, .int .i64 k] 29 (0, 0)) ∧ Wxxxxxxxxxx.heap[V]? = some (.cells #[.int .i64 kv, .int .i64 cv] 55 (0, 0))) := hbel.out _ _ hIWxxxxxxxxx.out hx.out.2
            have RL2 : Hid (R EI Wxxxxxxxxxx (.slice xb2 xl2 xc2) lv) := hx.out.1
            replace RL1 : Hid (R EI Wxxxxxxxxxx (.slice xb1 xl1 xc1) lv) := R.below RL1.out hx.out.2
            clear hx
            go_wp2_with fail
            refine hK.out _ _ (hfull.out Wxxxxxxxxxx hIWxxxxxxxxxx.out) (fun hHeld => ?_)
            clear hK K
            try simp only [Act.put, List.setIfInBounds_toArray, List.set_cons_zero, List.set_cons_succ]
            refine wpAnyH_ready (rs := [51]) (by kernel_rfl) (by simp) ?_
            refine AllReadyH.cons (o := { dst := some 125, op := Op.call { callee := Callee.value (Operand.func 12), args := #[Operand.tmp 122, Operand.tmp 124], argTypes := #[30, 30] }, type := 4, pos := "law.go:89", after := #[{ on := 48, ground := Ground.data }, { on := 50, ground := Ground.data }, { on := 50, ground := Ground.chain }, { on := 46, ground := Ground.guard }], guard := some (46, false) }) rfl (fun K hK => ?_) AllReadyH.nil
            go_simp
            refine (sameInts_eq Wxxxxxxxxxx _ _ lv RL1.out.isIn RL2.out.isIn).mono ?_
            rintro e' Wxxxxxxxxxxx ⟨rfl, hB⟩
            have hIWxxxxxxxxxxx : Hid (Pw w Wxxxxxxxxxxx p b q v2 T2 T.cl l2 p' b' q' v' T' c' l' (.slice ib2 I2.length ic2) I2 ∧ Wxxxxxxxxxxx.heap[O]? = some (.cells #[.bool two, .int .i64 id, .bool g, .int .i64 k] 29 (0, 0)) ∧ Wxxxxxxxxxxx.heap[V]? = some (.cells #[.int .i64 kv, .int .i64 cv] 55 (0, 0))) := hbel.out _ _ hIWxxxxxxxxxx.out hB
            clear hB
            go_wp2_with fail
            refine hK.out _ _ (hfull.out Wxxxxxxxxxxx hIWxxxxxxxxxxx.out) (fun hHeld => ?_)
            clear hK K
            try simp only [Act.put, List.setIfInBounds_toArray, List.set_cons_zero, List.set_cons_succ]
            refine wpAnyH_take (i := 52) (oi := { dst := some 126, op := Op.unOp UnOp.not 4 (Operand.tmp 125), type := 4, pos := "law.go:89", after := #[{ on := 51, ground := Ground.data }, { on := 46, ground := Ground.guard }], guard := some (46, false) }) (v := ?vv42) rfl (by kernel_rfl) (by kernel_rfl) (by kernel_rfl) (fun _ _ _ h => h) (Or.inl ⟨by rfl, ?hy42⟩) (by assumption) ?_
            case hy42 => (intro w hSw; (try dsimp only at hSw); go_simp; all_goals with_reducible rfl)
            try simp only [Act.put, List.setIfInBounds_toArray, List.set_cons_zero, List.set_cons_succ]
            refine wpAnyH_take (i := 53) (oi := { dst := some 127, op := Op.pick (Operand.tmp 120) (Operand.const (Value.bool true)) (Operand.tmp 126), type := 4, pos := "law.go:89", after := #[{ on := 46, ground := Ground.data }, { on := 52, ground := Ground.data }], guard := none }) (v := ?vv43) rfl (by kernel_rfl) (by kernel_rfl) (by kernel_rfl) (fun _ _ _ h => h) (Or.inl ⟨by rfl, ?hy43⟩) (by assumption) ?_
            case hy43 => (intro w hSw; (try dsimp only at hSw); go_simp; all_goals with_reducible rfl)
            try simp only [Act.put, List.setIfInBounds_toArray, List.set_cons_zero, List.set_cons_succ]
            refine wpAnyH_done (by kernel_rfl) ?_ _
            clear hHeld
            go_wp2_with fail
            go_meet
            exact ⟨rfl, hIWxxxxxxxxxxx.out.1⟩

          case rest =>
            obtain ⟨rfl, hPc⟩ := hcut
            have HIV : Hid (Iv w wc p0 b0 q0 p1 b1 q1 (.slice ib2 I2.length ic2) I2 (i + 1)) := HB.out _ _ hPc.out
            clear hPc hP3
            go_wp2_with fail
            go_roundw
            case rel => exact ⟨i + 1, ib2, I2, ic2, by simp, rfl, by omega, HIV.out, HI2.out.1, HI2.out.2⟩
            case measure => simp [intOf]; omega
    · obtain rfl : i = os.length := by omega
      have hge : ¬ ((os.length : Int) < (os.length : Int)) := by omega
      obtain ⟨v0, A, l0, v1, B, l1, hP, r0, r1, c0, c1, h0, h1⟩ := hinv.out.1
      have HZ := hinv.out.2.2
      have hT0 : Hid (∀ W, Below wr.heap.size wr W → Calls Try.prog 28 #[.pointer (some ⟨p0, 0, none⟩), .pointer (some ⟨q0, 0, none⟩), .slice ib I.length ic] W fun e w' => e = .returned (.bool true) ∧ Below W.heap.size W w') := fun W hb => told_any W p0 b0 A q0 v0 l0 _ I (hP.tw.t0.below hb) (by rw [c0]; exact hP.r0.below hb) r0 (hP.ri.below hb) HZ (by have := HN.out; omega)
      have hT1 : Hid (∀ W, Below wr.heap.size wr W → Calls Try.prog 28 #[.pointer (some ⟨p1, 0, none⟩), .pointer (some ⟨q1, 0, none⟩), .slice ib I.length ic] W fun e w' => e = .returned (.bool true) ∧ Below W.heap.size W w') := fun W hb => told_any W p1 b1 B q1 v1 l1 _ I (hP.tw.t1.below hb) (by rw [c1]; exact hP.r1.below hb) r1 (hP.ri.below hb) HZ (by have := HN.out; omega)
      have HBE : Hid (Below w.heap.size w wr) := hP.tw.bel
      clear hP r0 r1 c0 c1 h0 h1 HZ hinv
      go_wp2_with fail
      go_at_call 28
      refine (hT0.out _ (Below.refl _ _)).mono ?_
      rintro e w8 ⟨rfl, hb8⟩
      have H8 : Hid (Below wr.heap.size wr w8) := hb8
      clear hb8
      go_wp2_with fail
      go_at_call 28
      refine (hT1.out _ H8.out).mono ?_
      rintro e w9 ⟨rfl, hb9⟩
      have H9 : Hid (Below w.heap.size w w9) := HBE.out.trans ((H8.out.trans (hb9.mono H8.out.size)).mono HBE.out.size)
      clear hb9
      go_wp2_with fail
      go_ret
      exact ⟨rfl, H9.out⟩
end Go.Proofs.Ytaaocgppniflcaa
