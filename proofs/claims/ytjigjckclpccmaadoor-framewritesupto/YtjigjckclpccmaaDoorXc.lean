/- FrameWrites. -/
import Derived.Test.YtjigjckclpccmaaDoorXb
import Derived.Test.YtjigjckclpccmaaDoorD2
namespace Go.Proofs.YtjigjckclpccmaaDoor
open Go.RowKit
set_option linter.unusedVariables false
set_option linter.unusedSimpArgs false

theorem PRow.pin {w : World} {v : Value} {l : List (Int × Int)} (h : PRow w v l) : PIn w v l := by
  obtain ⟨b, c, rfl⟩ := h.slice
  by_cases h0 : l.length = 0
  · obtain rfl := List.eq_nil_of_length_eq_zero h0
    exact .inl ⟨b, c, rfl, rfl⟩
  · obtain ⟨g, cap, e, h1, h2, d1, d2⟩ := h.at 0 (by omega)
    injection e with e1 e2 e3
    subst e1 e3
    refine .inr ⟨g, 0, c, rfl, h1, h2, World.block_lt_of_cell? _ _ d1, fun k hk => ?_⟩
    obtain ⟨g', cap', e', _, _, d1', d2'⟩ := h.at k hk
    injection e' with e1' _ _
    injection e1' with e1'
    injection e1' with e1' _ _
    subst e1'
    rw [Nat.zero_add]
    exact ⟨d1', d2'⟩
/-- the second number of a place set anew -/
theorem prow_set1 {w : World} {v : Value} {l : List (Int × Int)} (h : PRow w v l) (j : Nat) (hj : j < l.length) (y : Int) : ∃ g cap, v = .slice (some ⟨g, 0, none⟩) l.length cap ∧ l.length ≤ cap ∧ cap ≤ 9223372036854775807 ∧ g < w.heap.size ∧
    w.cell? ⟨g, j * 2 + 1, none⟩ = some (.int .i64 l[j].2) ∧ w.frozen? ⟨g, j * 2 + 1, none⟩ = false ∧
    PRow (w.setCell ⟨g, j * 2 + 1, none⟩ (.int .i64 y)) v (l.set j (l[j].1, y)) ∧ (∀ k, k ≠ g → (w.setCell ⟨g, j * 2 + 1, none⟩ (.int .i64 y)).heap[k]? = w.heap[k]?) := by
  obtain ⟨g, cap, e, h1, h2, d1, d2⟩ := h.at j hj
  have hget := (pcells_get l j hj).1
  obtain ⟨h3, h4⟩ := h
  rcases h4 with ⟨hv, h0⟩ | ⟨g', cap', cur, hv, hb, hg, hn, hm, hs, ht⟩
  · omega
  · rw [hv] at e
    injection e with e1 e2 e3
    injection e1 with e1
    injection e1 with e1
    subst e1
    subst e3
    subst hv
    refine ⟨g', cap', rfl, hn, by unfold maxLen at hm; omega, (Array.getElem?_eq_some_iff.1 hg).1, d2, by simp [World.frozen?, hg], ⟨by rw [pcells_length], .inr ⟨g', cap', cur.setIfInBounds (j * 2 + 1) (.int .i64 y), by rw [List.length_set], hb, ?_, by rw [List.length_set]; exact hn, hm, by simpa using hs, ?_⟩⟩, fun k hk => setCell_other _ _ _ _ _ hk⟩
    · exact setCell_block _ _ _ _ _ _ _ hg
    · rw [List.length_set, pcells_set l j _ y hj, ← ht]
      simp only [Array.toList_setIfInBounds, List.take_set]
      congr 1
      rw [ht]
      obtain ⟨hlt, he⟩ := List.getElem?_eq_some_iff.1 hget
      rw [← he, List.set_getElem_self]

theorem whole_len (f : Fr) (ps : List (Int × Int)) : (wholeB f ps).length ≤ 6 * ps.length + f.data.size + 300 := by
  have hd : f.data.data.toList.length = f.data.size := by simp
  have hp : ∀ k, (payB k f ps).length ≤ 6 * ps.length + f.data.size + 20 := fun k => by
    unfold payB prioB
    repeat' split
    all_goals simp only [List.length_append, be_length, parB_length, List.length_cons, List.length_nil, hd]
    all_goals omega
  unfold wholeB
  have := hp (kd f.ty f.fl).2.2.1
  split
  · simp only [List.length_append, List.length_cons, List.length_nil, List.length_replicate]
    omega
  · omega
/-- what Write answers is one value -/
theorem writeV_one (f : Fr) (ps : List (Int × Int)) : ∃ (s : ByteArray) (e : Int), ∀ v, writeV f ps v → v = .tuple #[.string s, .int .i64 e] := by
  by_cases h : Right f ps
  · by_cases hs : (asmB f ps).size ≤ 65545
    · exact ⟨_, _, fun v hv => hv.1 h hs⟩
    · exact ⟨_, _, fun v hv => hv.2.1 h (by omega)⟩
  · exact ⟨_, _, fun v hv => hv.2.2 h⟩

/-- where the law stands: the frame in box A, the lent one in box B, its params in a row of their own -/
structure Fw (w : World) (A B : Nat) (f : Fr) (p own : Value) (long : Value) (P : List (Int × Int)) (W : World) : Prop where
  a : FB W A f p
  b : FB W B f own
  row : PRow W long (P ++ [(-7, -7)])
  bel : Below w.heap.size w W
  new : ∀ k, long.ownBlock = some k → w.heap.size ≤ k
theorem Fw.below {w : World} {A B : Nat} {f : Fr} {p own long : Value} {P : List (Int × Int)} {W W' : World} (h : Fw w A B f p own long P W) (hb : Below W.heap.size W W') : Fw w A B f p own long P W' :=
  ⟨h.a.below hb, h.b.below hb, h.row.below fun k _ hk => hb.block k hk, h.bel.trans (hb.mono h.bel.size), h.new⟩

def turn (P : List (Int × Int)) (k : Nat) : List (Int × Int) := (P.take k).map (fun q => (q.1, bits .xor .i64 q.2 5)) ++ P.drop k
theorem turn_length (P : List (Int × Int)) (k : Nat) (h : k ≤ P.length) : (turn P k).length = P.length := by simp [turn]; omega
theorem turn_zero (P : List (Int × Int)) : turn P 0 = P := by simp [turn]
theorem turn_get (P : List (Int × Int)) (k : Nat) (h : k < P.length) : (turn P k)[k]'(by rw [turn_length P k (by omega)]; exact h) = P[k] := by
  unfold turn
  rw [List.getElem_append_right (by simp; omega)]
  simp only [List.getElem_drop]
  congr 1
  simp
  omega
theorem turn_step (P : List (Int × Int)) (k : Nat) (h : k < P.length) : (turn P k).set k (P[k].1, bits .xor .i64 P[k].2 5) = turn P (k + 1) := by
  unfold turn
  rw [List.set_append_right _ _ (by simp; omega)]
  have e : ((P.take k).map (fun q => (q.1, bits .xor .i64 q.2 5))).length = k := by simp; omega
  rw [e, Nat.sub_self, List.drop_eq_getElem_cons h, List.set_cons_zero, List.take_succ_eq_append_getElem h, List.map_append]
  simp

set_option maxRecDepth 100000 in
set_option maxHeartbeats 8000000 in
theorem frameWrites_any (f : Fr) (p : Value) (l : List (Int × Int)) (w : World) (hw : 1 ≤ w.heap.size) (hK : Kinds w) (hp : PIn w p l) (hz : PZ p) (hl : 6 * l.length + f.data.size ≤ 30000000) :
    Calls Tryd.prog 8 #[.agg (fv f p)] w fun e w' => e = .returned (.bool true) ∧ Below w.heap.size w w' := by
  obtain ⟨s, er, hv1⟩ := writeV_one f l
  obtain ⟨s2, er2, hv2⟩ := writeV_one f (turn l l.length)
  have hsz : ∀ P : List (Int × Int), P.length = l.length → (asmB f P).size * 3 + 2000 ≤ 140737488355328 := fun P hP => by
    rw [asmB_size]
    have := whole_len f P
    rw [hP] at this
    omega
  have hKW : ∀ W : World, Below w.heap.size w W → 1 ≤ W.heap.size ∧ Kinds W := fun W hb => ⟨Nat.le_trans hw hb.size, hK.of_eq (hb.block 0 (by omega))⟩
  obtain ⟨pb, pc, rfl⟩ := hp.sl
  obtain ⟨n, hn⟩ : ∃ n, l.length = n := ⟨_, rfl⟩
  have hP0 := hp
  rw [hn] at hp hz hl hsz hv2 ⊢
  have hfr : ∀ (ob : Option Addr) (oc : Nat) (P : List (Int × Int)) (W : World), P.length = n → PRow W (.slice ob (n + 1) oc) (P ++ [(-7, -7)]) → PRow W (.slice ob n oc) P := fun ob oc P W hP h => by
    have h' : PRow W (.slice ob (P.length + 1) oc) (P ++ [(-7, -7)]) := by rw [hP]; exact h
    have := prow_prefix (n := 0) h'
    rw [hP] at this
    exact this
  have c9 : ∀ (A B : Nat) (ob : Option Addr) (oc : Nat) (P : List (Int × Int)) (S : ByteArray) (E : Int), P.length = n → (∀ v, writeV f P v → v = .tuple #[.string S, .int .i64 E]) → ∀ W, Fw w A B f (.slice pb n pc) (.slice ob n oc) (.slice ob (n + 1) oc) P W → Calls Tryd.prog 9 #[.agg (fv f (.slice ob n oc))] W fun e w' => e = .returned (.tuple #[.string S, .int .i64 E]) ∧ Below W.heap.size W w' := fun A B ob oc P S E hP hone W h => by
    refine (write_any f P _ W (hKW W h.bel).1 (hKW W h.bel).2 (hfr ob oc P W hP h.row) (hsz P hP)).mono ?_
    rintro e w' ⟨v, rfl, hv, hb⟩
    exact ⟨by rw [hone v hv], hb⟩
  have c21 : ∀ W, Below w.heap.size w W → Calls Tryd.prog 21 #[.agg (fv f (.slice pb n pc))] W fun e w' => e = .returned (.tuple #[.string s, .int .i64 er]) ∧ Below W.heap.size W w' := fun W hb => by
    refine (rwrite_any f _ l W (hp.below hb) (by omega)).mono ?_
    rintro e w' ⟨v, rfl, hv, hb⟩
    exact ⟨by rw [hv1 v hv], hb⟩
  have c21b : ∀ (ob : Option Addr) (oc : Nat) (P : List (Int × Int)) (S : ByteArray) (E : Int), P.length = n → (∀ v, writeV f P v → v = .tuple #[.string S, .int .i64 E]) → ∀ W, PRow W (.slice ob (n + 1) oc) (P ++ [(-7, -7)]) → Calls Tryd.prog 21 #[.agg (fv f (.slice ob n oc))] W fun e w' => e = .returned (.tuple #[.string S, .int .i64 E]) ∧ Below W.heap.size W w' := fun ob oc P S E hP hone W h => by
    refine (rwrite_any f _ P W (hfr ob oc P W hP h).pin (by omega)).mono ?_
    rintro e w' ⟨v, rfl, hv, hb⟩
    exact ⟨by rw [hone v hv], hb⟩
  have c22 : ∀ (ob : Option Addr) (oc : Nat) (W : World), Below w.heap.size w W → PRow W (.slice ob (n + 1) oc) (l ++ [(-7, -7)]) → Calls Tryd.prog 22 #[.slice ob n oc, .slice pb n pc] W fun e w' => e = .returned (.bool true) ∧ Below W.heap.size W w' := fun ob oc W hb h => by
    have := keptm_any W ob oc (.slice pb n pc) l (by rw [hn]; exact h) (hp.below hb)
    rw [hn] at this
    exact this
  have c12 : ∀ W, Below w.heap.size w W → Calls Tryd.prog 12 #[] W fun e w' => e = .returned (.bool true) ∧ Below W.heap.size W w' := fun W hb => first_any W (hKW W hb).1 (hKW W hb).2
  have c10 : ∀ W, Below w.heap.size w W → Calls Tryd.prog 10 #[.slice pb n pc] W fun e w' => ∃ b c, e = .returned (.slice b n c) ∧ PRow w' (.slice b (n + 1) c) (l ++ [(-7, -7)]) ∧ (∀ k, (Value.slice b n c).ownBlock = some k → W.heap.size ≤ k) ∧ Below W.heap.size W w' := fun W hb => by
    have := lendm_any W (.slice pb n pc) l (hp.below hb) hz (by omega)
    rw [hn] at this
    exact this
  replace c9 : Hid _ := c9
  replace c21 : Hid _ := c21
  replace c21b : Hid _ := c21b
  replace c22 : Hid _ := c22
  replace c12 : Hid _ := c12
  replace c10 : Hid _ := c10
  have HN : Hid (l.length = n) := hn
  have HV1 : Hid _ := hv1
  have HV2 : Hid _ := hv2
  clear hv1 hv2 hsz hKW hfr hp hP0 hz hn hK
  obtain ⟨ty, fl, st, data, pad, dep, excl, wt, code, last⟩ := f
  unfold fv at *
  simp only at *
  have hB0 : Below w.heap.size w ((w.alloc (.cells #[.int .i64 ty, .int .i64 fl, .int .i64 st, .string data, .int .i64 pad, .int .i64 dep, .bool excl, .int .i64 wt, .int .i64 code, .int .i64 last, .slice pb n pc] 28)).alloc (.cells #[.int .i64 ty, .int .i64 fl, .int .i64 st, .string data, .int .i64 pad, .int .i64 dep, .bool excl, .int .i64 wt, .int .i64 code, .int .i64 last, .slice pb n pc] 28)) := ((Below.refl _ w).alloc (Nat.le_refl _) _).alloc (by simp) _
  have hA0 : ((w.alloc (.cells #[.int .i64 ty, .int .i64 fl, .int .i64 st, .string data, .int .i64 pad, .int .i64 dep, .bool excl, .int .i64 wt, .int .i64 code, .int .i64 last, .slice pb n pc] 28)).alloc (.cells #[.int .i64 ty, .int .i64 fl, .int .i64 st, .string data, .int .i64 pad, .int .i64 dep, .bool excl, .int .i64 wt, .int .i64 code, .int .i64 last, .slice pb n pc] 28)).heap[w.heap.size]? = some (.cells #[.int .i64 ty, .int .i64 fl, .int .i64 st, .string data, .int .i64 pad, .int .i64 dep, .bool excl, .int .i64 wt, .int .i64 code, .int .i64 last, .slice pb n pc] 28 (0, 0)) := by
    rw [heap_al, if_neg (by simp)]
    exact heap_alloc_new _ _
  have hC0 : ((w.alloc (.cells #[.int .i64 ty, .int .i64 fl, .int .i64 st, .string data, .int .i64 pad, .int .i64 dep, .bool excl, .int .i64 wt, .int .i64 code, .int .i64 last, .slice pb n pc] 28)).alloc (.cells #[.int .i64 ty, .int .i64 fl, .int .i64 st, .string data, .int .i64 pad, .int .i64 dep, .bool excl, .int .i64 wt, .int .i64 code, .int .i64 last, .slice pb n pc] 28)).heap[w.heap.size + 1]? = some (.cells #[.int .i64 ty, .int .i64 fl, .int .i64 st, .string data, .int .i64 pad, .int .i64 dep, .bool excl, .int .i64 wt, .int .i64 code, .int .i64 last, .slice pb n pc] 28 (0, 0)) := by
    rw [heap_al, if_pos (by simp)]
  go_enter Tryd.func8, Tryd.ntmps8
  go_wp2_with fail
  refine (c10.out _ hB0).mono ?_
  rintro e W1 ⟨ob, oc, rfl, hP1, hnew, hb1⟩
  obtain ⟨B, hBe⟩ : ∃ B, w.heap.size + 1 = B := ⟨_, rfl⟩
  obtain ⟨A, hAe⟩ : ∃ A, w.heap.size = A := ⟨_, rfl⟩
  have hAB : A ≠ B := by omega
  have hABl : A < B := by omega
  have hs0 : ((w.alloc (.cells #[.int .i64 ty, .int .i64 fl, .int .i64 st, .string data, .int .i64 pad, .int .i64 dep, .bool excl, .int .i64 wt, .int .i64 code, .int .i64 last, .slice pb n pc] 28)).alloc (.cells #[.int .i64 ty, .int .i64 fl, .int .i64 st, .string data, .int .i64 pad, .int .i64 dep, .bool excl, .int .i64 wt, .int .i64 code, .int .i64 last, .slice pb n pc] 28)).heap.size = B + 1 := by simp; omega
  rw [hs0] at hnew
  have hA1 : W1.heap[A]? = some (.cells #[.int .i64 ty, .int .i64 fl, .int .i64 st, .string data, .int .i64 pad, .int .i64 dep, .bool excl, .int .i64 wt, .int .i64 code, .int .i64 last, .slice pb n pc] 28 (0, 0)) := by rw [← hAe]; exact (hb1.block _ (by rw [hs0]; omega)).trans hA0
  have hC1 : W1.heap[B]? = some (.cells #[.int .i64 ty, .int .i64 fl, .int .i64 st, .string data, .int .i64 pad, .int .i64 dep, .bool excl, .int .i64 wt, .int .i64 code, .int .i64 last, .slice pb n pc] 28 (0, 0)) := by rw [← hBe]; exact (hb1.block _ (by rw [hs0]; omega)).trans hC0
  have hbl1 := hB0.trans (hb1.mono hB0.size)
  have hown : ∀ k, (Value.slice ob (n + 1) oc).ownBlock = some k → B < k := fun k hk => by
    have e : (Value.slice ob n oc).ownBlock = some k := by
      cases ob with
      | none => simp [Value.ownBlock] at hk
      | some a => simpa [Value.ownBlock] using hk
    have := hnew k e
    omega
  have S2 : Hid (Fw w A B ⟨ty, fl, st, data, pad, dep, excl, wt, code, last⟩ (.slice pb n pc) (.slice ob n oc) (.slice ob (n + 1) oc) l (W1.setCell ⟨B, 10, none⟩ (.slice ob n oc))) := by
    refine ⟨(setCell_other _ _ _ _ _ hAB).trans hA1, setCell_block _ _ _ _ _ _ _ hC1, hP1.below fun k hk _ => setCell_other _ _ _ _ _ (fun e => by have := hown k hk; omega), ?_, fun k hk => by have := hown k hk; omega⟩
    exact hbl1.trans ⟨rfl, rfl, rfl, by simp [World.setCell], fun k hk => setCell_other _ _ _ _ _ (by omega)⟩
  have hcl : Hid (∀ P W, Fw w A B ⟨ty, fl, st, data, pad, dep, excl, wt, code, last⟩ (.slice pb n pc) (.slice ob n oc) (.slice ob (n + 1) oc) P W → (W.cell? ⟨A, 0, none⟩ = some (.int .i64 ty) ∧ W.cell? ⟨A, 1, none⟩ = some (.int .i64 fl) ∧ W.cell? ⟨A, 2, none⟩ = some (.int .i64 st) ∧ W.cell? ⟨A, 3, none⟩ = some (.string data) ∧ W.cell? ⟨A, 4, none⟩ = some (.int .i64 pad) ∧ W.cell? ⟨A, 5, none⟩ = some (.int .i64 dep) ∧ W.cell? ⟨A, 6, none⟩ = some (.bool excl) ∧ W.cell? ⟨A, 7, none⟩ = some (.int .i64 wt) ∧ W.cell? ⟨A, 8, none⟩ = some (.int .i64 code) ∧ W.cell? ⟨A, 9, none⟩ = some (.int .i64 last) ∧ W.cell? ⟨A, 10, none⟩ = some (.slice pb n pc)) ∧ W.cell? ⟨B, 0, none⟩ = some (.int .i64 ty) ∧ W.cell? ⟨B, 1, none⟩ = some (.int .i64 fl) ∧ W.cell? ⟨B, 2, none⟩ = some (.int .i64 st) ∧ W.cell? ⟨B, 3, none⟩ = some (.string data) ∧ W.cell? ⟨B, 4, none⟩ = some (.int .i64 pad) ∧ W.cell? ⟨B, 5, none⟩ = some (.int .i64 dep) ∧ W.cell? ⟨B, 6, none⟩ = some (.bool excl) ∧ W.cell? ⟨B, 7, none⟩ = some (.int .i64 wt) ∧ W.cell? ⟨B, 8, none⟩ = some (.int .i64 code) ∧ W.cell? ⟨B, 9, none⟩ = some (.int .i64 last) ∧ W.cell? ⟨B, 10, none⟩ = some (.slice ob n oc)) := fun P W h => ⟨⟨h.a.cell 0, h.a.cell 1, h.a.cell 2, h.a.cell 3, h.a.cell 4, h.a.cell 5, h.a.cell 6, h.a.cell 7, h.a.cell 8, h.a.cell 9, h.a.cell 10⟩, h.b.cell 0, h.b.cell 1, h.b.cell 2, h.b.cell 3, h.b.cell 4, h.b.cell 5, h.b.cell 6, h.b.cell 7, h.b.cell 8, h.b.cell 9, h.b.cell 10⟩
  have x1 : W1.cell? ⟨B, 10, none⟩ = some (.slice pb n pc) := cell_of_row _ _ _ _ _ _ hC1
  have x2 : W1.frozen? ⟨B, 10, none⟩ = false := by simp [World.frozen?, hC1]
  have x3 : B < W1.heap.size := (Array.getElem?_eq_some_iff.1 hC1).1
  rw [hBe, hAe]
  have HA : Hid _ := hAe
  clear hBe hAe hs0 hA1 hC1 hbl1 hB0 hA0 hC0 hP1 hnew hb1 c10
  obtain ⟨⟨a0, a1, a2, a3, a4, a5, a6, a7, a8, a9, a10⟩, b0, b1, b2, b3, b4, b5, b6, b7, b8, b9, b10⟩ := hcl.out _ _ S2.out
  generalize hW2 : W1.setCell ⟨B, 10, none⟩ (.slice ob n oc) = W2 at S2 a0 a1 a2 a3 a4 a5 a6 a7 a8 a9 a10 b0 b1 b2 b3 b4 b5 b6 b7 b8 b9 b10
  go_wp2_with fail
  refine (c9.out A B ob oc l s er HN.out HV1.out _ S2.out).mono ?_
  rintro e W3 ⟨rfl, hb3⟩
  have S3 : Hid _ := S2.out.below hb3
  clear hW2 x1 x2 x3 S2 hb3 a0 a1 a2 a3 a4 a5 a6 a7 a8 a9 a10 b0 b1 b2 b3 b4 b5 b6 b7 b8 b9 b10
  obtain ⟨⟨a0, a1, a2, a3, a4, a5, a6, a7, a8, a9, a10⟩, b0, b1, b2, b3, b4, b5, b6, b7, b8, b9, b10⟩ := hcl.out _ _ S3.out
  go_wp2_with fail
  refine (c9.out A B ob oc l s er HN.out HV1.out _ S3.out).mono ?_
  rintro e W4 ⟨rfl, hb4⟩
  have S4 : Hid _ := S3.out.below hb4
  clear S3 hb4 a0 a1 a2 a3 a4 a5 a6 a7 a8 a9 a10 b0 b1 b2 b3 b4 b5 b6 b7 b8 b9 b10
  obtain ⟨⟨a0, a1, a2, a3, a4, a5, a6, a7, a8, a9, a10⟩, b0, b1, b2, b3, b4, b5, b6, b7, b8, b9, b10⟩ := hcl.out _ _ S4.out
  go_wp2_with fail
  refine (c21.out _ S4.out.bel).mono ?_
  rintro e W5 ⟨rfl, hb5⟩
  have S5 : Hid _ := S4.out.below hb5
  clear S4 hb5 a0 a1 a2 a3 a4 a5 a6 a7 a8 a9 a10 b0 b1 b2 b3 b4 b5 b6 b7 b8 b9 b10
  obtain ⟨⟨a0, a1, a2, a3, a4, a5, a6, a7, a8, a9, a10⟩, b0, b1, b2, b3, b4, b5, b6, b7, b8, b9, b10⟩ := hcl.out _ _ S5.out
  have e0 : (er != er) = false := by simp
  have e1 : (s.toList == s.toList) = true := by simp
  go_wp2_with fail
  refine (c22.out ob oc _ S5.out.bel S5.out.row).mono ?_
  rintro e W6 ⟨rfl, hb6⟩
  have S6 : Hid _ := S5.out.below hb6
  clear S5 hb6 a0 a1 a2 a3 a4 a5 a6 a7 a8 a9 a10 b0 b1 b2 b3 b4 b5 b6 b7 b8 b9 b10
  obtain ⟨⟨a0, a1, a2, a3, a4, a5, a6, a7, a8, a9, a10⟩, b0, b1, b2, b3, b4, b5, b6, b7, b8, b9, b10⟩ := hcl.out _ _ S6.out
  go_wp2_with fail
  refine (c12.out _ S6.out.bel).mono ?_
  rintro e W7 ⟨rfl, hb7⟩
  have S7 : Hid (Fw w A B ⟨ty, fl, st, data, pad, dep, excl, wt, code, last⟩ (.slice pb n pc) (.slice ob n oc) (.slice ob (n + 1) oc) (turn l 0) W7) := by
    rw [turn_zero]
    exact S6.out.below hb7
  clear S6 hb7 a0 a1 a2 a3 a4 a5 a6 a7 a8 a9 a10 b0 b1 b2 b3 b4 b5 b6 b7 b8 b9 b10
  go_wp2_with fail
  go_loopw [10] (fun i wr => ∃ k : Nat, k ≤ n ∧ i = .int .i64 (k : Int) ∧ Hid (Fw w A B ⟨ty, fl, st, data, pad, dep, excl, wt, code, last⟩ (.slice pb n pc) (.slice ob n oc) (.slice ob (n + 1) oc) (turn l k) wr)) (fun i _ => n - (intOf i).toNat)
  case atStart => exact ⟨0, Nat.zero_le _, rfl, S7⟩
  case round =>
    obtain ⟨k, hk, rfl, HK⟩ := hrel
    clear S7
    obtain ⟨⟨a0, a1, a2, a3, a4, a5, a6, a7, a8, a9, a10⟩, b0, b1, b2, b3, b4, b5, b6, b7, b8, b9, b10⟩ := hcl.out _ _ HK.out
    by_cases hlt : k < n
    · have hln := HN.out
      have hlen : (turn l k).length = n := by rw [turn_length l k (by omega)]; exact hln
      have HD := HK.out.below (Below.refl _ wr).drew
      obtain ⟨x, y, hxy⟩ : ∃ x y, l[k]'(by omega) = (x, y) := ⟨_, _, rfl⟩
      have hget : (turn l k ++ [((-7 : Int), (-7 : Int))])[k]'(by rw [List.length_append]; omega) = (x, y) := by
        rw [List.getElem_append_left (by omega), turn_get l k (by omega), hxy]
      obtain ⟨q, cap, e, h1, h2, h3, d1, d2, hR, ho⟩ := prow_set1 HD.row k (by rw [List.length_append]; omega) (bits .xor .i64 y 5)
      rw [hget] at d1 hR
      rw [List.length_append, hlen] at e h1
      injection e with ee1 ee2 ee3
      subst ee1 ee3
      simp only at d1 hR
      have hset : (turn l k ++ [((-7 : Int), (-7 : Int))]).set k (x, bits .xor .i64 y 5) = turn l (k + 1) ++ [(-7, -7)] := by
        rw [List.set_append_left _ _ (by omega), ← turn_step l k (by omega), hxy]
      rw [hset] at hR
      have hqo : (Value.slice (some ⟨q, 0, none⟩) (n + 1) oc).ownBlock = some q := rfl
      have hqn := HD.new q hqo
      have hqB := hown q hqo
      have HF : Hid (Fw w A B ⟨ty, fl, st, data, pad, dep, excl, wt, code, last⟩ (.slice pb n pc) (.slice (some ⟨q, 0, none⟩) n oc) (.slice (some ⟨q, 0, none⟩) (n + 1) oc) (turn l (k + 1)) (wr.drew.setCell ⟨q, k * 2 + 1, none⟩ (.int .i64 (bits .xor .i64 y 5)))) :=
        ⟨(ho A (by have := HA.out; omega)).trans HD.a, (ho B (by omega)).trans HD.b, hR, HD.bel.trans ⟨rfl, rfl, rfl, by simp [World.setCell], fun i hi => ho i (by omega)⟩, HD.new⟩
      have hlti : (k : Int) < (n : Int) := by omega
      have hno : n ≤ oc := by simp at h1; omega
      clear HD hR ho hset hget hxy hlen hln HK hqo hqn hqB ee2 hown h1
      go_wp2_with fail
      go_region
      all_goals
        go_wp2_with fail
        go_roundw
        case rel => exact ⟨k + 1, by omega, by simp, HF⟩
        case measure => simp [intOf]; omega
    · obtain rfl : k = n := by omega
      have hlti : ¬ (k : Int) < (k : Int) := by omega
      have hlt2 : (turn l k).length = k := by rw [turn_length l k (by have := HN.out; omega)]; exact HN.out
      go_wp2_with fail
      refine (c9.out A B ob oc (turn l k) s2 er2 hlt2 HV2.out _ HK.out).mono ?_
      rintro e W8 ⟨rfl, hb8⟩
      have S8 : Hid _ := HK.out.below hb8
      clear HK hb8 a0 a1 a2 a3 a4 a5 a6 a7 a8 a9 a10 b0 b1 b2 b3 b4 b5 b6 b7 b8 b9 b10
      obtain ⟨⟨a0, a1, a2, a3, a4, a5, a6, a7, a8, a9, a10⟩, b0, b1, b2, b3, b4, b5, b6, b7, b8, b9, b10⟩ := hcl.out _ _ S8.out
      go_wp2_with fail
      refine (c21b.out ob oc (turn l k) s2 er2 hlt2 HV2.out _ S8.out.row).mono ?_
      rintro e W9 ⟨rfl, hb9⟩
      have S9 : Hid _ := S8.out.below hb9
      have e2 : (er2 == er2) = true := by simp
      have e3 : (s2.toList == s2.toList) = true := by simp
      go_wp2
      go_ret
      exact ⟨rfl, HA.out ▸ S9.out.bel⟩
end Go.Proofs.YtjigjckclpccmaaDoor
