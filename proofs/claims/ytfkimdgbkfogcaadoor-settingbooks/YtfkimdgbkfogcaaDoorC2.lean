/- SettingHolds. -/
import Derived.Test.YtfkimdgbkfogcaaDoorC1
namespace Go.Proofs.YtfkimdgbkfogcaaDoor
open Go.RowKit
set_option linter.unusedVariables false
set_option linter.unusedSimpArgs false

/-- The book b, what is acknowledged (s), the set of the law's own (t), the lists that wait. -/
structure Hd (w : World) (b g6 : Nat) (c : Bool) (s t : St) (v : Value) (L : List St) (wv : Value) (xs : List SV) (W : World) : Prop where
  bel : Below w.heap.size w W
  bk : Bk W b c s v L
  now : W.heap[g6]? = some (.cells t.a 27 (0, 0))
  wr : WRow W wv xs
  b0 : w.heap.size ≤ b
  g0 : w.heap.size ≤ g6
  v0 : ∀ k, v.ownBlock = some k → w.heap.size ≤ k ∧ k ≠ g6
  w0 : ∀ k, wv.ownBlock = some k → w.heap.size ≤ k

section
variable {w : World} {b g6 : Nat} {c : Bool} {s t : St} {v : Value} {L : List St} {wv : Value} {xs : List SV} {W W' : World}
theorem Hd.below (h : Hd w b g6 c s t v L wv xs W) (hb : Below W.heap.size W W') : Hd w b g6 c s t v L wv xs W' :=
  ⟨h.bel.trans (hb.mono h.bel.size), h.bk.below hb, (hb.block _ (heap_lt h.now)).trans h.now, h.wr.below hb, h.b0, h.g0, h.v0, h.w0⟩
theorem Hd.gb (h : Hd w b g6 c s t v L wv xs W) : g6 ≠ b := fun e => by
  have := h.now
  rw [e, h.bk.blk] at this
  simp at this
theorem Hd.wb (h : Hd w b g6 c s t v L wv xs W) (k : Nat) (hk : wv.ownBlock = some k) : k ≠ b ∧ k ≠ g6 ∧ v.ownBlock ≠ some k := by
  obtain ⟨_, cs, hc⟩ := h.wr.lt k hk
  refine ⟨fun e => ?_, fun e => ?_, fun e => ?_⟩
  · rw [e, h.bk.blk] at hc; simp at hc
  · rw [e, h.now] at hc; simp at hc
  · obtain ⟨c2, hc2⟩ := h.bk.row.ty k e
    rw [hc] at hc2; simp [ES] at hc2
theorem Hd.book (h : Hd w b g6 c s t v L wv xs W) {s' : St} {v' : Value} {L' : List St} (hB : Bk W' b c s' v' L') (hK : Ks (Own b v) W W') (hown : ∀ k, v'.ownBlock = some k → v.ownBlock = some k ∨ W.heap.size ≤ k) : Hd w b g6 c s' t v' L' wv xs W' := by
  have hg := heap_lt h.now
  refine ⟨h.bel.trans (hK.below h.bel.size fun i hi e => ?_), hB, (hK.block _ hg fun e => ?_).trans h.now, h.wr.same fun k hk => hK.block k (h.wr.lt k hk).1 fun e => ?_, h.b0, h.g0, fun k hk => ?_, h.w0⟩
  · rcases e with e | e
    · have := h.b0; omega
    · have := (h.v0 i e).1; omega
  · rcases e with e | e
    · exact h.gb e
    · exact (h.v0 _ e).2 rfl
  · rcases e with e | e
    · exact (h.wb k hk).1 e
    · exact (h.wb k hk).2.2 e
  · rcases hown k hk with e | e
    · exact h.v0 k e
    · have := h.bel.size
      exact ⟨by omega, by omega⟩
theorem Hd.wait (h : Hd w b g6 c s t v L wv xs W) {wv' : Value} {xs' : List SV} (hR : WRow W' wv' xs') (hG : Gr W W' wv wv') : Hd w b g6 c s t v L wv' xs' W' := by
  refine ⟨h.bel.trans (hG.belowB h.bel.size h.w0), h.bk.keep (Ks.of_gr hG) fun k hk e => ?_, (hG.block _ (heap_lt h.now) fun e => (h.wb _ e).2.1 rfl).trans h.now, hR, h.b0, h.g0, h.v0, fun k hk => ?_⟩
  · rcases hk with hk | hk
    · exact (h.wb k e).1 hk
    · exact (h.wb k e).2.2 hk
  · rcases hG.own k hk with e | e
    · exact h.w0 k e
    · have := h.bel.size; omega
theorem Hd.set (h : Hd w b g6 c s t v L wv xs W) (t' : St) : Hd w b g6 c s t' v L wv xs (set6 W g6 t') := by
  have hK := set6_ks W g6 t'
  refine ⟨h.bel.trans (hK.below h.bel.size fun i hi e => by have := h.g0; omega), h.bk.keep hK fun k hk e => ?_, set6_blk _ h.now, h.wr.same fun k hk => hK.block k (h.wr.lt k hk).1 fun e => (h.wb k hk).2.1 e, h.b0, h.g0, h.v0, h.w0⟩
  rcases hk with hk | hk
  · exact h.gb (by omega)
  · exact (h.v0 k hk).2 e
theorem Hd.cut (h : Hd w b g6 c s t v L wv xs W) {wv' : Value} {xs' : List SV} (hR : WRow W wv' xs') (ho : ∀ k, wv'.ownBlock = some k → wv.ownBlock = some k) : Hd w b g6 c s t v L wv' xs' W :=
  ⟨h.bel, h.bk, h.now, hR, h.b0, h.g0, h.v0, fun k hk => h.w0 k (ho k hk)⟩
end

/-- And the step that is played lies in block g9. -/
def Hk (w : World) (b g6 : Nat) (c : Bool) (s t : St) (v : Value) (L : List St) (wv : Value) (xs : List SV) (g9 : Nat) (o9 : Array Value) (W : World) : Prop := Hd w b g6 c s t v L wv xs W ∧ W.heap[g9]? = some (.cells o9 32 (0, 0))
section
variable {w : World} {b g6 : Nat} {c : Bool} {s t : St} {v : Value} {L : List St} {wv : Value} {xs : List SV} {g9 : Nat} {o9 : Array Value} {W W' : World}
theorem Hk.below (h : Hk w b g6 c s t v L wv xs g9 o9 W) (hb : Below W.heap.size W W') : Hk w b g6 c s t v L wv xs g9 o9 W' :=
  ⟨h.1.below hb, (hb.block _ (heap_lt h.2)).trans h.2⟩
theorem Hk.book (h : Hk w b g6 c s t v L wv xs g9 o9 W) {s' : St} {v' : Value} {L' : List St} (hB : Bk W' b c s' v' L') (hK : Ks (Own b v) W W') (hown : ∀ k, v'.ownBlock = some k → v.ownBlock = some k ∨ W.heap.size ≤ k) : Hk w b g6 c s' t v' L' wv xs g9 o9 W' := by
  refine ⟨h.1.book hB hK hown, (hK.block _ (heap_lt h.2) fun e => ?_).trans h.2⟩
  rcases e with e | e
  · have := h.2
    rw [e, h.1.bk.blk] at this
    simp at this
  · obtain ⟨c2, hc2⟩ := h.1.bk.row.ty g9 e
    rw [h.2] at hc2
    simp [ES] at hc2
theorem Hk.wait (h : Hk w b g6 c s t v L wv xs g9 o9 W) {wv' : Value} {xs' : List SV} (hR : WRow W' wv' xs') (hG : Gr W W' wv wv') : Hk w b g6 c s t v L wv' xs' g9 o9 W' := by
  refine ⟨h.1.wait hR hG, (hG.block _ (heap_lt h.2) fun e => ?_).trans h.2⟩
  obtain ⟨_, c2, hc2⟩ := h.1.wr.lt g9 e
  rw [h.2] at hc2
  simp at hc2
end

/-- What the loop keeps. -/
def Hl (w : World) (b g6 : Nat) (c : Bool) (wv : Value) (W : World) : Prop := ∃ (s : St) (v : Value) (ls : List (SV × List (Int × Int))), Hd w b g6 c s s v (chain c s (ls.map (·.2))) wv (ls.map (·.1)) W ∧ (∀ x ∈ ls, In EP w (sv x.1) x.2) ∧ ls.length ≤ 64

/-- Behind an Ack: the book has p, the law's own set is still q, and p lies in block g13 too. -/
def I2 (w : World) (b g6 : Nat) (c : Bool) (q p : St) (wv : Value) (xs : List SV) (ls : List (List (Int × Int))) (v : Value) (g13 : Nat) (W : World) : Prop :=
  Hd w b g6 c p q v (chain c p ls) wv xs W ∧ W.heap[g13]? = some (.cells p.a 27 (0, 0)) ∧ g13 ≠ g6
theorem I2.below {w : World} {b g6 : Nat} {c : Bool} {q p : St} {wv : Value} {xs : List SV} {ls : List (List (Int × Int))} {v : Value} {g13 : Nat} {W W' : World} (h : I2 w b g6 c q p wv xs ls v g13 W) (hb : Below W.heap.size W W') : I2 w b g6 c q p wv xs ls v g13 W' :=
  ⟨h.1.below hb, (hb.block _ (heap_lt h.2.1)).trans h.2.1, h.2.2⟩
theorem WRow.head {w : World} {g o n cap : Nat} {x : SV} {l : List SV} (h : WRow w (.slice (some ⟨g, o, none⟩) n cap) (x :: l)) : w.cell? ⟨g, o, none⟩ = some (sv x) := by
  obtain ⟨g', o', c', e, _, _, hc, _⟩ := h.first
  injection e with e1 _ _
  injection e1 with e1
  injection e1 with e1 e2 _
  subst e1
  subst e2
  exact hc
/-- what is left when the first is cut off -/
theorem WRow.tail {w : World} {g o n cap : Nat} {x : SV} {l : List SV} (h : WRow w (.slice (some ⟨g, o, none⟩) n cap) (x :: l)) : (cap = 1 → WRow w (.slice (some ⟨g, o, none⟩) l.length (cap - 1)) l) ∧ (cap ≠ 1 → WRow w (.slice (some ⟨g, o + 1, none⟩) l.length (cap - 1)) l) := by
  obtain ⟨g', o', c', e, _, _, _, _, h1, h2⟩ := h.first
  injection e with e1 _ e3
  injection e1 with e1
  injection e1 with e1 e2 _
  subst e1
  subst e2
  subst e3
  exact ⟨h1, h2⟩

/-- The same, where m lists wait. -/
def Hm (w : World) (b g6 : Nat) (c : Bool) (s : St) (z1 : Option Addr) (m z3 : Nat) (W : World) : Prop := ∃ (v' : Value) (ls' : List (SV × List (Int × Int))), Hd w b g6 c s s v' (chain c s (ls'.map (·.2))) (.slice z1 m z3) (ls'.map (·.1)) W ∧ (∀ x ∈ ls', In EP w (sv x.1) x.2) ∧ ls'.length ≤ 64 ∧ ls'.length = m

set_option maxRecDepth 100000 in
set_option maxHeartbeats 16000000 in
theorem settingHolds_any (c : Bool) (pv : Value) (os : List OP) (w : World) (hS : Std w) (hv : In EO w pv os) (hin : ∀ o ∈ os, ∃ l, In EP w (sv o.2.2) l ∧ l.length * 16 ≤ 140737488351232) :
    Calls Tryd.prog 3 #[.bool c, pv] w fun e w' => e = .returned (.bool true) ∧ Below w.heap.size w w' := by
  have HV : Hid (In EO w pv os) := hv
  have HI : Hid (∀ o ∈ os, ∃ l, In EP w (sv o.2.2) l ∧ l.length * 16 ≤ 140737488351232) := hin
  obtain ⟨vb, vc, rfl, hc1, hc2⟩ := hv.slice
  obtain ⟨n, hn⟩ : ∃ n, os.length = n := ⟨_, rfl⟩
  rw [hn] at hc1 HV ⊢
  have HN : Hid (os.length = n) := hn
  clear hn hv hin
  have hNw : Calls Tryd.prog 8 #[.bool c] w fun e w1 => ∃ b, e = .returned (.pointer (some ⟨b, 0, none⟩)) ∧ Hid (Bk w1 b c St.dfl (.slice none 0 0) [] ∧ w.heap.size ≤ b ∧ Std w1 ∧ Below w.heap.size w w1) := by
    refine (new_any c w hS).mono ?_
    rintro e w1 ⟨b, rfl, h1, h2, h3⟩
    exact ⟨b, rfl, h1, h2, hS.below h3, h3⟩
  have hFi : ∀ (W : World) (b : Nat), Hid (Bk W b c St.dfl (.slice none 0 0) [] ∧ w.heap.size ≤ b ∧ Std W ∧ Below w.heap.size w W) → Calls Tryd.prog 9 #[] W fun e w1 => e = .returned (.bool true) ∧ Hid (Bk w1 b c St.dfl (.slice none 0 0) [] ∧ w.heap.size ≤ b ∧ Std w1 ∧ Below w.heap.size w w1) := by
    intro W b h
    obtain ⟨h1, h2, h3, h4⟩ := h.out
    refine (first_any W h3).mono ?_
    rintro e w1 ⟨rfl, hb⟩
    exact ⟨rfl, h1.below hb, h2, h3.below hb, h4.trans (hb.mono h4.size)⟩
  have hDf : ∀ (W : World) (b : Nat), Hid (Bk W b c St.dfl (.slice none 0 0) [] ∧ w.heap.size ≤ b ∧ Std W ∧ Below w.heap.size w W) → Calls Tryd.prog 10 #[] W fun e w1 => e = .returned (.agg St.dfl.a) ∧ Hid (Hl w b w1.heap.size c (.slice none 0 0) (w1.alloc (.cells St.dfl.a 27))) := by
    intro W b h
    obtain ⟨h1, h2, h3, h4⟩ := h.out
    refine (dflt h3).mono ?_
    rintro e w1 ⟨rfl, rfl⟩
    have hb := bel2 W (.cells St.dfl.a 27) (.cells St.dfl.a 27)
    refine ⟨rfl, St.dfl, .slice none 0 0, [], ⟨h4.trans (hb.mono h4.size), h1.below hb, by rw [size_al]; exact fresh2 _ _ _, .inl ⟨rfl, rfl⟩, h2, by rw [size_al]; have := h4.size; omega, fun k hk => by simp [Value.ownBlock] at hk, fun k hk => by simp [Value.ownBlock] at hk⟩, fun x hx => by simp at hx, by simp⟩
  simp only [St.a, St.dfl] at hDf
  go_enter Tryd.func3, Tryd.ntmps3
  go_wp2_with (first | (go_at_call 8; refine hNw.mono ?_; clear hNw; rintro e w1 ⟨b, rfl, H1⟩) | (go_at_call 9; refine (hFi _ _ H1).mono ?_; clear H1 hFi; rintro e w2 ⟨rfl, H2⟩) | (go_at_call 10; refine (hDf _ _ H2).mono ?_; clear H2 hDf; rintro e w3 ⟨rfl, H3⟩))
  obtain ⟨g6, hg6⟩ : ∃ g, w3.heap.size = g := ⟨_, rfl⟩
  rw [hg6] at H3 ⊢
  generalize w3.alloc _ = w4 at H3 ⊢
  clear hg6
  go_loopw [7, 8] (fun wv i wr => ∃ k : Nat, k ≤ n ∧ i = .int .i64 (k : Int) ∧ ∃ x : SV, wv = sv x ∧ Hid (Hl w b g6 c (sv x) wr)) (fun _ i _ => n - (intOf i).toNat)
  case atStart => exact ⟨0, Nat.zero_le _, rfl, (none, 0, 0), rfl, H3⟩
  case round =>
    obtain ⟨k, hk, rfl, x, rfl, HP⟩ := hrel
    clear H3
    by_cases hlt : k < n
    · obtain ⟨s, v, ls, hH, hins, h64⟩ := HP.out
      have hlen := HN.out
      obtain ⟨B, off, cap, hvb, hBl, d0, d1, d2⟩ := HV.out.op k (by omega)
      injection hvb with e1 e2 e3
      subst e1
      clear e2 e3
      replace d0 := (hH.bel.cell hBl).trans d0
      replace d1 := (hH.bel.cell hBl).trans d1
      replace d2 := (hH.bel.cell hBl).trans d2
      have hBw : B < wr.heap.size := Nat.lt_of_lt_of_le hBl hH.bel.size
      obtain ⟨l, hl, hll⟩ := HI.out (os[k]'(by omega)) (List.getElem_mem _)
      obtain ⟨kd, two, x1, x2, x3, hq⟩ : ∃ kd two x1 x2 x3, os[k]'(by omega) = (kd, two, x1, x2, x3) := ⟨_, _, _, _, _, rfl⟩
      rw [hq] at d0 d1 d2 hl
      simp only [sv] at d0 d1 d2 hl
      have hlti : (k : Int) < (n : Int) := by omega
      obtain ⟨z1, m, z3⟩ := x
      have hm : ls.length = m := by
        obtain ⟨_, _, e, _, _⟩ := hH.wr.slice
        simp only [sv] at e
        injection e with _ e2 _
        rw [List.length_map] at e2
        exact e2.symm
      have hH1 := hH.below (bel1 wr (.cells #[.int .i64 kd, .bool two, .slice x1 x2 x3] 32))
      have hk9 : (wr.alloc (.cells #[.int .i64 kd, .bool two, .slice x1 x2 x3] 32)).heap[wr.heap.size]? = some (.cells #[.int .i64 kd, .bool two, .slice x1 x2 x3] 32 (0, 0)) := heap_alloc_new _ _
      have hnow := hH.now
      have hg6w : g6 < wr.heap.size := heap_lt hnow
      clear hlen hq HP hH
      simp only [sv] at hH1 ⊢
      by_cases hk1 : kd = 1
      · by_cases hc0 : (applyS s l c).2 = 0
        · by_cases hm64 : m = 64
          · skip
            subst hk1
            obtain ⟨q1, q2, q3, q4, q5, q6⟩ := s
            obtain ⟨g9, hg9⟩ : ∃ g9, wr.heap.size = g9 := ⟨_, rfl⟩
            have hK1 : Hk w b g6 c (St.mk q1 q2 q3 q4 q5 q6) (St.mk q1 q2 q3 q4 q5 q6) v (chain c (St.mk q1 q2 q3 q4 q5 q6) (ls.map (·.2))) (.slice z1 m z3) (ls.map (·.1)) g9 #[.int .i64 1, .bool two, .slice x1 x2 x3] (wr.alloc (.cells #[.int .i64 1, .bool two, .slice x1 x2 x3] 32)) := ⟨hH1, by rw [← hg9]; exact hk9⟩
            obtain ⟨_, _, hx, _, _⟩ := hl.slice
            injection hx with hx1 hx2 hx3
            clear hx1 hx3
            obtain ⟨n0, n1, n2, n3, n4, n5⟩ := c6 hnow
            simp only at n0 n1 n2 n3 n4 n5
            obtain ⟨⟨⟨p1, p2, p3, p4, p5, p6⟩, code⟩, hA⟩ : ∃ A, applyS (St.mk q1 q2 q3 q4 q5 q6) l c = A := ⟨_, rfl⟩
            rw [hA] at hc0
            simp only at hc0
            have hcode : ∀ s', (applyS s' l c).2 = code := fun s' => by rw [code_indep s' (St.mk q1 q2 q3 q4 q5 q6), hA]
            have hbw := hH1.bel
            have hA1 : Calls Tryd.prog 11 #[.agg (St.mk q1 q2 q3 q4 q5 q6).a, .slice x1 x2 x3, .bool c] (wr.alloc (.cells #[.int .i64 1, .bool two, .slice x1 x2 x3] 32)) fun e w5 => e = .returned (.tuple #[.agg (St.mk p1 p2 p3 p4 p5 p6).a, .int .i64 code]) ∧ (w5.alloc (.cells (St.mk p1 p2 p3 p4 p5 p6).a 27)).cell? ⟨g9, 2, none⟩ = some (.slice x1 x2 x3) ∧ Hid (Hk w b g6 c (St.mk q1 q2 q3 q4 q5 q6) (St.mk q1 q2 q3 q4 q5 q6) v (chain c (St.mk q1 q2 q3 q4 q5 q6) (ls.map (·.2))) (.slice z1 m z3) (ls.map (·.1)) g9 #[.int .i64 1, .bool two, .slice x1 x2 x3] (w5.alloc (.cells (St.mk p1 p2 p3 p4 p5 p6).a 27))) := by
              refine (apply_any (St.mk q1 q2 q3 q4 q5 q6) _ l c _ (hl.below hbw)).mono ?_
              rintro e w5 ⟨rfl, hb⟩
              have hK2 := (hK1.below hb).below (bel1 w5 (.cells (St.mk p1 p2 p3 p4 p5 p6).a 27))
              exact ⟨by rw [hA], cell_blk hK2.2 2, hK2⟩
            have hCp : ∀ W6 : World, Hid (Hk w b g6 c (St.mk q1 q2 q3 q4 q5 q6) (St.mk q1 q2 q3 q4 q5 q6) v (chain c (St.mk q1 q2 q3 q4 q5 q6) (ls.map (·.2))) (.slice z1 m z3) (ls.map (·.1)) g9 #[.int .i64 1, .bool two, .slice x1 x2 x3] W6) → ∃ base cap w7, Hid ((Builtin.append_ #[30, 30] 30 #[.slice none 0 0, .slice x1 x2 x3]).run Tryd.prog W6 = .ok (.slice base x2 cap) w7) ∧ Hid (Hk w b g6 c (St.mk q1 q2 q3 q4 q5 q6) (St.mk q1 q2 q3 q4 q5 q6) v (chain c (St.mk q1 q2 q3 q4 q5 q6) (ls.map (·.2))) (.slice z1 m z3) (ls.map (·.1)) g9 #[.int .i64 1, .bool two, .slice x1 x2 x3] w7 ∧ In EP w7 (.slice base x2 cap) l) := by
              intro W6 h
              obtain ⟨base, cap, w7, hrun, hR, hG⟩ := app okP W6 (.slice none 0 0) [] (R.nil _ _) _ l (hl.below h.out.1.bel) (by simp only [EP, List.length_nil]; omega)
              simp only [List.length_nil, Nat.zero_add, List.nil_append, ← hx2] at hrun hR
              exact ⟨base, cap, w7, hrun, h.out.below hG.fresh, hR.isIn⟩
            have hSe : ∀ (W : World) (base : Option Addr) (cap : Nat), Hid (Hk w b g6 c (St.mk q1 q2 q3 q4 q5 q6) (St.mk q1 q2 q3 q4 q5 q6) v (chain c (St.mk q1 q2 q3 q4 q5 q6) (ls.map (·.2))) (.slice z1 m z3) (ls.map (·.1)) g9 #[.int .i64 1, .bool two, .slice x1 x2 x3] W ∧ In EP W (.slice base x2 cap) l) → Calls Tryd.prog 12 #[.pointer (some ⟨b, 0, none⟩), .slice base x2 cap] W fun e w8 => e = .returned (.int .i64 6) ∧ w8.cell? ⟨g9, 0, none⟩ = some (.int .i64 1) ∧ w8.cell? ⟨g9, 2, none⟩ = some (.slice x1 x2 x3) ∧ g9 < w8.heap.size ∧ Hid (Hm w b g6 c (St.mk q1 q2 q3 q4 q5 q6) z1 m z3 w8) := by
              intro W base cap h
              refine (send_any W b c (St.mk q1 q2 q3 q4 q5 q6) v _ h.out.1.1.bk _ l h.out.2).mono ?_
              rintro e w8 ⟨rfl, v', hB, hKs, hown⟩
              have hK8 := h.out.1.book hB hKs hown
              have hcd : (applyS (lastS (St.mk q1 q2 q3 q4 q5 q6) (chain c (St.mk q1 q2 q3 q4 q5 q6) (ls.map (·.2)))) l c).2 = 0 := by rw [hcode]; exact hc0
              have hL64 : (chain c (St.mk q1 q2 q3 q4 q5 q6) (ls.map (·.2))).length = 64 := by rw [chain_length, List.length_map, hm, hm64]
              refine ⟨by unfold sendC; rw [if_pos hcd, if_pos hL64], cell_blk hK8.2 0, cell_blk hK8.2 2, heap_lt hK8.2, v', ls, ?_, hins, h64, hm⟩
              have := hK8.1
              unfold sendL at this
              rw [if_pos hcd, if_pos hL64] at this
              exact this
            clear hH1 hK1 hins h64 hl hll hk9 hcode hA hx2 hbw hnow
            subst hg9
            simp only [St.a] at hA1
            subst hc0
            subst hm64
            clear hm
            go_wp2_with (first | (go_at_call 11; refine hA1.mono ?_; clear hA1; rintro e w5 ⟨rfl, e9, H5⟩) | (go_at_call 12; refine (hSe _ _ _ H7).mono ?_; clear hSe H7; rintro e w8 ⟨rfl, e0, e2, hl8, hT⟩) | (at_builtin; obtain ⟨base, cp, w7, hrunC, H7⟩ := hCp _ H5; clear hCp H5; refine Lib.wpList_append_run _ rfl (.const (.slice none 0 0)) (.tmp 47) 30 30 rfl _ _ rfl rfl _ _ hrunC.out ?_; clear hrunC))
            obtain ⟨v', ls', hH', hins', h64', hm'⟩ := hT.out
            have hfull : Hid (∀ W, Hd w b g6 c (St.mk q1 q2 q3 q4 q5 q6) (St.mk q1 q2 q3 q4 q5 q6) v' (chain c (St.mk q1 q2 q3 q4 q5 q6) (ls'.map (·.2))) (.slice z1 64 z3) (ls'.map (·.1)) W → (fun W => W.cell? ⟨g6, 0, none⟩ = some (.int .i64 q1) ∧ W.cell? ⟨g6, 1, none⟩ = some (.int .i64 q2) ∧ W.cell? ⟨g6, 2, none⟩ = some (.int .i64 q3) ∧ W.cell? ⟨g6, 3, none⟩ = some (.int .i64 q4) ∧ W.cell? ⟨g6, 4, none⟩ = some (.int .i64 q5) ∧ W.cell? ⟨g6, 5, none⟩ = some (.int .i64 q6) ∧ Hd w b g6 c (St.mk q1 q2 q3 q4 q5 q6) (St.mk q1 q2 q3 q4 q5 q6) v' (chain c (St.mk q1 q2 q3 q4 q5 q6) (ls'.map (·.2))) (.slice z1 64 z3) (ls'.map (·.1)) W) W) := fun W hW =>
              ⟨cell_blk hW.now 0, cell_blk hW.now 1, cell_blk hW.now 2, cell_blk hW.now 3, cell_blk hW.now 4, cell_blk hW.now 5, hW⟩
            have hak : Hid (∀ W, Hd w b g6 c (St.mk q1 q2 q3 q4 q5 q6) (St.mk q1 q2 q3 q4 q5 q6) v' (chain c (St.mk q1 q2 q3 q4 q5 q6) (ls'.map (·.2))) (.slice z1 64 z3) (ls'.map (·.1)) W → Calls Tryd.prog 14 #[.pointer (some ⟨b, 0, none⟩)] W fun e w' => e = .returned (.agg #[.int .i64 q1, .int .i64 q2, .int .i64 q3, .int .i64 q4, .int .i64 q5, .int .i64 q6]) ∧ Below W.heap.size W w') := fun W hW => acked_any W b c (St.mk q1 q2 q3 q4 q5 q6) v' _ hW.bk
            have hwt : Hid (∀ W, Hd w b g6 c (St.mk q1 q2 q3 q4 q5 q6) (St.mk q1 q2 q3 q4 q5 q6) v' (chain c (St.mk q1 q2 q3 q4 q5 q6) (ls'.map (·.2))) (.slice z1 64 z3) (ls'.map (·.1)) W → Calls Tryd.prog 15 #[.pointer (some ⟨b, 0, none⟩)] W fun e w' => e = .returned (.int .i64 64) ∧ Below W.heap.size W w') := fun W hW => (waiting_any W b c (St.mk q1 q2 q3 q4 q5 q6) v' _ hW.bk).mono (by
              rintro e w' ⟨rfl, rfl⟩
              rw [chain_length, List.length_map, hm']
              exact ⟨rfl, Below.refl _ _⟩)
            have hIW := hH'.below (Below.refl _ _).drew
            clear hm' hH' hT
            refine wp_region_held_drew (S := (fun W => W.cell? ⟨g6, 0, none⟩ = some (.int .i64 q1) ∧ W.cell? ⟨g6, 1, none⟩ = some (.int .i64 q2) ∧ W.cell? ⟨g6, 2, none⟩ = some (.int .i64 q3) ∧ W.cell? ⟨g6, 3, none⟩ = some (.int .i64 q4) ∧ W.cell? ⟨g6, 4, none⟩ = some (.int .i64 q5) ∧ W.cell? ⟨g6, 5, none⟩ = some (.int .i64 q6) ∧ Hd w b g6 c (St.mk q1 q2 q3 q4 q5 q6) (St.mk q1 q2 q3 q4 q5 q6) v' (chain c (St.mk q1 q2 q3 q4 q5 q6) (ls'.map (·.2))) (.slice z1 64 z3) (ls'.map (·.1)) W)) (by kernel_rfl) (hfull.out _ hIW) (fun hHeld => ?_)
            generalize hWg : World.drew _ = W at hIW hHeld ⊢
            clear hWg
            refine wpAnyH_take (i := 0) (oi := { dst := some 107, op := Op.move (Operand.tmp 5), type := 23, pos := "outright.go:114", after := #[], guard := none }) (v := ?vv1) rfl (by kernel_rfl) (by kernel_rfl) (by kernel_rfl) (fun _ _ _ h => h) (Or.inl ⟨by rfl, ?hy1⟩) (by assumption) ?_
            case hy1 => (intro w hSw; (try dsimp only at hSw); go_simp; all_goals with_reducible rfl)
            try simp only [Act.put, List.setIfInBounds_toArray, List.set_cons_zero, List.set_cons_succ]
            refine wpAnyH_take (i := 2) (oi := { dst := some 109, op := Op.load 27 (Operand.tmp 6), type := 27, pos := "outright.go:114", after := #[], guard := none }) (v := ?vv2) rfl (by kernel_rfl) (by kernel_rfl) (by kernel_rfl) (fun _ _ _ h => h) (Or.inl ⟨by rfl, ?hy2⟩) (by assumption) ?_
            case hy2 => (intro w hSw; (try dsimp only at hSw); go_simp; all_goals with_reducible rfl)
            try simp only [Act.put, List.setIfInBounds_toArray, List.set_cons_zero, List.set_cons_succ]
            refine wpAnyH_ready (rs := [1]) (by kernel_rfl) (by simp) ?_
            refine AllReadyH.cons (o := { dst := some 108, op := Op.call { callee := Callee.value (Operand.func 14), args := #[Operand.tmp 107], argTypes := #[23] }, type := 27, pos := "outright.go:114", after := #[{ on := 0, ground := Ground.data }], guard := none }) rfl (fun K hK => ?_) AllReadyH.nil
            go_simp
            refine (hak.out W hIW).mono ?_
            rintro e' Wx ⟨rfl, hb⟩
            have hIWx := hIW.below hb
            go_wp2_with fail
            refine hK.out _ _ (hfull.out _ hIWx) (fun hHeld => ?_)
            clear hK K hb hIW
            try simp only [Act.put, List.setIfInBounds_toArray, List.set_cons_zero, List.set_cons_succ]
            refine wpAnyH_take (i := 3) (oi := { dst := some 110, op := Op.binOp BinOp.neq 27 (Operand.tmp 108) (Operand.tmp 109) 27, type := 4, pos := "outright.go:114", after := #[{ on := 1, ground := Ground.data }, { on := 2, ground := Ground.data }], guard := none }) (v := ?vv3) rfl (by kernel_rfl) (by kernel_rfl) (by kernel_rfl) (fun _ _ _ h => h) (Or.inl ⟨by rfl, ?hy3⟩) (by assumption) ?_
            case hy3 => (intro w hSw; (try dsimp only at hSw); go_simp; all_goals with_reducible rfl)
            try simp only [Act.put, List.setIfInBounds_toArray, List.set_cons_zero, List.set_cons_succ]
            refine wpAnyH_take (i := 4) (oi := { dst := some 111, op := Op.move (Operand.tmp 110), type := 4, pos := "outright.go:114", after := #[{ on := 3, ground := Ground.data }, { on := 1, ground := Ground.chain }], guard := none }) (v := ?vv4) rfl (by kernel_rfl) (by kernel_rfl) (by kernel_rfl) (fun _ _ _ h => h) (Or.inl ⟨by rfl, ?hy4⟩) (by assumption) ?_
            case hy4 => (intro w hSw; (try dsimp only at hSw); go_simp; all_goals with_reducible rfl)
            try simp only [Act.put, List.setIfInBounds_toArray, List.set_cons_zero, List.set_cons_succ]
            refine wpAnyH_take (i := 5) (oi := { dst := some 112, op := Op.move (Operand.tmp 5), type := 23, pos := "outright.go:114", after := #[{ on := 4, ground := Ground.guard }], guard := some (4, false) }) (v := ?vv5) rfl (by kernel_rfl) (by kernel_rfl) (by kernel_rfl) (fun _ _ _ h => h) (Or.inl ⟨by rfl, ?hy5⟩) (by assumption) ?_
            case hy5 => (intro w hSw; (try dsimp only at hSw); go_simp; all_goals with_reducible rfl)
            try simp only [Act.put, List.setIfInBounds_toArray, List.set_cons_zero, List.set_cons_succ]
            refine wpAnyH_take (i := 7) (oi := { dst := some 114, op := Op.move (Operand.tmp 7), type := 29, pos := "outright.go:114", after := #[{ on := 4, ground := Ground.guard }], guard := some (4, false) }) (v := ?vv6) rfl (by kernel_rfl) (by kernel_rfl) (by kernel_rfl) (fun _ _ _ h => h) (Or.inl ⟨by rfl, ?hy6⟩) (by assumption) ?_
            case hy6 => (intro w hSw; (try dsimp only at hSw); go_simp; all_goals with_reducible rfl)
            try simp only [Act.put, List.setIfInBounds_toArray, List.set_cons_zero, List.set_cons_succ]
            refine wpAnyH_take (i := 8) (oi := { dst := some 115, op := Op.call { callee := Callee.builtin Builtin.len, args := #[Operand.tmp 114], argTypes := #[29] }, type := 3, pos := "outright.go:114", after := #[{ on := 7, ground := Ground.data }, { on := 4, ground := Ground.guard }], guard := some (4, false) }) (v := ?vv7) rfl (by kernel_rfl) (by kernel_rfl) (by kernel_rfl) (fun _ _ _ h => h) (Or.inl ⟨by rfl, ?hy7⟩) (by assumption) ?_
            case hy7 => (intro w hSw; (try dsimp only at hSw); go_simp; all_goals with_reducible rfl)
            try simp only [Act.put, List.setIfInBounds_toArray, List.set_cons_zero, List.set_cons_succ]
            refine wpAnyH_ready (rs := [6]) (by kernel_rfl) (by simp) ?_
            refine AllReadyH.cons (o := { dst := some 113, op := Op.call { callee := Callee.value (Operand.func 15), args := #[Operand.tmp 112], argTypes := #[23] }, type := 3, pos := "outright.go:114", after := #[{ on := 5, ground := Ground.data }, { on := 4, ground := Ground.chain }, { on := 4, ground := Ground.guard }], guard := some (4, false) }) rfl (fun K hK => ?_) AllReadyH.nil
            go_simp
            refine (hwt.out Wx hIWx).mono ?_
            rintro e' Wxx ⟨rfl, hb⟩
            have hIWxx := hIWx.below hb
            go_wp2_with fail
            refine hK.out _ _ (hfull.out _ hIWxx) (fun hHeld => ?_)
            clear hK K hb hIWx
            try simp only [Act.put, List.setIfInBounds_toArray, List.set_cons_zero, List.set_cons_succ]
            refine wpAnyH_take (i := 9) (oi := { dst := some 116, op := Op.binOp BinOp.neq 3 (Operand.tmp 113) (Operand.tmp 115) 3, type := 4, pos := "outright.go:114", after := #[{ on := 6, ground := Ground.data }, { on := 8, ground := Ground.data }, { on := 4, ground := Ground.guard }], guard := some (4, false) }) (v := ?vv8) rfl (by kernel_rfl) (by kernel_rfl) (by kernel_rfl) (fun _ _ _ h => h) (Or.inl ⟨by rfl, ?hy8⟩) (by assumption) ?_
            case hy8 => (intro w hSw; (try dsimp only at hSw); go_simp; all_goals with_reducible rfl)
            try simp only [Act.put, List.setIfInBounds_toArray, List.set_cons_zero, List.set_cons_succ]
            refine wpAnyH_take (i := 10) (oi := { dst := some 117, op := Op.pick (Operand.tmp 111) (Operand.const (Value.bool true)) (Operand.tmp 116), type := 4, pos := "outright.go:114", after := #[{ on := 4, ground := Ground.data }, { on := 9, ground := Ground.data }], guard := none }) (v := ?vv9) rfl (by kernel_rfl) (by kernel_rfl) (by kernel_rfl) (fun _ _ _ h => h) (Or.inl ⟨by rfl, ?hy9⟩) (by assumption) ?_
            case hy9 => (intro w hSw; (try dsimp only at hSw); go_simp; all_goals with_reducible rfl)
            try simp only [Act.put, List.setIfInBounds_toArray, List.set_cons_zero, List.set_cons_succ]
            refine wpAnyH_done (by kernel_rfl) ?_ _
            go_wp2_with fail
            go_roundw
            case rel => exact ⟨k + 1, by omega, by simp, (z1, 64, z3), rfl, (St.mk q1 q2 q3 q4 q5 q6), v', ls', hIWxx, hins', h64'⟩
            case measure => simp [intOf]; omega
          · have hmlt : m < 64 := by omega
            subst hk1
            obtain ⟨q1, q2, q3, q4, q5, q6⟩ := s
            obtain ⟨g9, hg9⟩ : ∃ g9, wr.heap.size = g9 := ⟨_, rfl⟩
            have hK1 : Hk w b g6 c (St.mk q1 q2 q3 q4 q5 q6) (St.mk q1 q2 q3 q4 q5 q6) v (chain c (St.mk q1 q2 q3 q4 q5 q6) (ls.map (·.2))) (.slice z1 m z3) (ls.map (·.1)) g9 #[.int .i64 1, .bool two, .slice x1 x2 x3] (wr.alloc (.cells #[.int .i64 1, .bool two, .slice x1 x2 x3] 32)) := ⟨hH1, by rw [← hg9]; exact hk9⟩
            obtain ⟨_, _, hx, _, _⟩ := hl.slice
            injection hx with hx1 hx2 hx3
            clear hx1 hx3
            obtain ⟨n0, n1, n2, n3, n4, n5⟩ := c6 hnow
            simp only at n0 n1 n2 n3 n4 n5
            obtain ⟨⟨⟨p1, p2, p3, p4, p5, p6⟩, code⟩, hA⟩ : ∃ A, applyS (St.mk q1 q2 q3 q4 q5 q6) l c = A := ⟨_, rfl⟩
            rw [hA] at hc0
            simp only at hc0
            have hcode : ∀ s', (applyS s' l c).2 = code := fun s' => by rw [code_indep s' (St.mk q1 q2 q3 q4 q5 q6), hA]
            have hbw := hH1.bel
            have hA1 : Calls Tryd.prog 11 #[.agg (St.mk q1 q2 q3 q4 q5 q6).a, .slice x1 x2 x3, .bool c] (wr.alloc (.cells #[.int .i64 1, .bool two, .slice x1 x2 x3] 32)) fun e w5 => e = .returned (.tuple #[.agg (St.mk p1 p2 p3 p4 p5 p6).a, .int .i64 code]) ∧ (w5.alloc (.cells (St.mk p1 p2 p3 p4 p5 p6).a 27)).cell? ⟨g9, 2, none⟩ = some (.slice x1 x2 x3) ∧ Hid (Hk w b g6 c (St.mk q1 q2 q3 q4 q5 q6) (St.mk q1 q2 q3 q4 q5 q6) v (chain c (St.mk q1 q2 q3 q4 q5 q6) (ls.map (·.2))) (.slice z1 m z3) (ls.map (·.1)) g9 #[.int .i64 1, .bool two, .slice x1 x2 x3] (w5.alloc (.cells (St.mk p1 p2 p3 p4 p5 p6).a 27))) := by
              refine (apply_any (St.mk q1 q2 q3 q4 q5 q6) _ l c _ (hl.below hbw)).mono ?_
              rintro e w5 ⟨rfl, hb⟩
              have hK2 := (hK1.below hb).below (bel1 w5 (.cells (St.mk p1 p2 p3 p4 p5 p6).a 27))
              exact ⟨by rw [hA], cell_blk hK2.2 2, hK2⟩
            have hCp : ∀ W6 : World, Hid (Hk w b g6 c (St.mk q1 q2 q3 q4 q5 q6) (St.mk q1 q2 q3 q4 q5 q6) v (chain c (St.mk q1 q2 q3 q4 q5 q6) (ls.map (·.2))) (.slice z1 m z3) (ls.map (·.1)) g9 #[.int .i64 1, .bool two, .slice x1 x2 x3] W6) → ∃ base cap w7, Hid ((Builtin.append_ #[30, 30] 30 #[.slice none 0 0, .slice x1 x2 x3]).run Tryd.prog W6 = .ok (.slice base x2 cap) w7) ∧ Hid (Hk w b g6 c (St.mk q1 q2 q3 q4 q5 q6) (St.mk q1 q2 q3 q4 q5 q6) v (chain c (St.mk q1 q2 q3 q4 q5 q6) (ls.map (·.2))) (.slice z1 m z3) (ls.map (·.1)) g9 #[.int .i64 1, .bool two, .slice x1 x2 x3] w7 ∧ In EP w7 (.slice base x2 cap) l) := by
              intro W6 h
              obtain ⟨base, cap, w7, hrun, hR, hG⟩ := app okP W6 (.slice none 0 0) [] (R.nil _ _) _ l (hl.below h.out.1.bel) (by simp only [EP, List.length_nil]; omega)
              simp only [List.length_nil, Nat.zero_add, List.nil_append, ← hx2] at hrun hR
              exact ⟨base, cap, w7, hrun, h.out.below hG.fresh, hR.isIn⟩
            have hSe : ∀ (W : World) (base : Option Addr) (cap : Nat), Hid (Hk w b g6 c (St.mk q1 q2 q3 q4 q5 q6) (St.mk q1 q2 q3 q4 q5 q6) v (chain c (St.mk q1 q2 q3 q4 q5 q6) (ls.map (·.2))) (.slice z1 m z3) (ls.map (·.1)) g9 #[.int .i64 1, .bool two, .slice x1 x2 x3] W ∧ In EP W (.slice base x2 cap) l) → Calls Tryd.prog 12 #[.pointer (some ⟨b, 0, none⟩), .slice base x2 cap] W fun e w8 => e = .returned (.int .i64 0) ∧ w8.cell? ⟨g9, 0, none⟩ = some (.int .i64 1) ∧ w8.cell? ⟨g9, 2, none⟩ = some (.slice x1 x2 x3) ∧ g9 < w8.heap.size ∧ Hid (∃ v', Hk w b g6 c (St.mk q1 q2 q3 q4 q5 q6) (St.mk q1 q2 q3 q4 q5 q6) v' (chain c (St.mk q1 q2 q3 q4 q5 q6) ((ls ++ [((x1, x2, x3), l)]).map (·.2))) (.slice z1 m z3) (ls.map (·.1)) g9 #[.int .i64 1, .bool two, .slice x1 x2 x3] w8) := by
              intro W base cap h
              refine (send_any W b c (St.mk q1 q2 q3 q4 q5 q6) v _ h.out.1.1.bk _ l h.out.2).mono ?_
              rintro e w8 ⟨rfl, v', hB, hKs, hown⟩
              have hK8 := h.out.1.book hB hKs hown
              have hcd : (applyS (lastS (St.mk q1 q2 q3 q4 q5 q6) (chain c (St.mk q1 q2 q3 q4 q5 q6) (ls.map (·.2)))) l c).2 = 0 := by rw [hcode]; exact hc0
              have hL64 : ¬ (chain c (St.mk q1 q2 q3 q4 q5 q6) (ls.map (·.2))).length = 64 := by rw [chain_length, List.length_map, hm]; exact hm64
              refine ⟨by unfold sendC; rw [if_pos hcd, if_neg hL64], cell_blk hK8.2 0, cell_blk hK8.2 2, heap_lt hK8.2, v', ?_⟩
              unfold sendL at hK8
              rw [if_pos hcd, if_neg hL64] at hK8
              rw [List.map_append, List.map_cons, List.map_nil, chain_append]
              exact hK8
            have hPu : ∀ W8 : World, Hid (∃ v', Hk w b g6 c (St.mk q1 q2 q3 q4 q5 q6) (St.mk q1 q2 q3 q4 q5 q6) v' (chain c (St.mk q1 q2 q3 q4 q5 q6) ((ls ++ [((x1, x2, x3), l)]).map (·.2))) (.slice z1 m z3) (ls.map (·.1)) g9 #[.int .i64 1, .bool two, .slice x1 x2 x3] W8) → ∃ nb nc w9, Hid ((Builtin.append_ #[29, 29] 29 #[.slice z1 m z3, .slice (some ⟨W8.heap.size, 0, none⟩) 1 1]).run Tryd.prog (W8.alloc (.cells #[.slice x1 x2 x3] 30)) = .ok (.slice nb (m + 1) nc) w9) ∧ w9.cell? ⟨g9, 0, none⟩ = some (.int .i64 1) ∧ Hid (Hm w b g6 c (St.mk q1 q2 q3 q4 q5 q6) nb (m + 1) nc w9) := by
              intro W8 h
              obtain ⟨v', hK8⟩ := h.out
              have hK9 := hK8.below (bel1 W8 (.cells #[.slice x1 x2 x3] 30))
              obtain ⟨nb, nc, w9, hrun, hR, hG⟩ := wrow_push _ _ _ hK9.1.wr (x1, x2, x3) W8.heap.size (heap_alloc_new _ _) (by rw [List.length_map]; omega)
              rw [List.length_map, hm] at hrun hR hG
              have hK10 := hK9.wait hR hG
              refine ⟨nb, nc, w9, hrun, cell_blk hK10.2 0, v', ls ++ [((x1, x2, x3), l)], ?_, fun x hx => ?_, by simp; omega, by simp [hm]⟩
              · have e1 : (ls ++ [((x1, x2, x3), l)]).map (·.1) = ls.map (·.1) ++ [(x1, x2, x3)] := by simp
                rw [e1]
                exact hK10.1
              · rcases List.mem_append.1 hx with hx | hx
                · exact hins x hx
                · rw [List.mem_singleton.1 hx]
                  exact hl
            clear hH1 hK1 hins h64 hl hll hk9 hcode hA hx2 hbw hnow
            subst hg9
            simp only [St.a] at hA1
            subst hc0
            have hm64i : (m : Int) < 64 := by omega
            obtain ⟨m1, hm1⟩ : ∃ m1, m + 1 = m1 := ⟨_, rfl⟩
            rw [hm1] at hPu
            clear hm hm1 hm64
            go_wp2_with (first | (go_at_call 11; refine hA1.mono ?_; clear hA1; rintro e w5 ⟨rfl, e9, H5⟩) | (go_at_call 12; refine (hSe _ _ _ H7).mono ?_; clear hSe H7; rintro e w8 ⟨rfl, e0, e2, hl8, hT⟩) | (at_builtin; obtain ⟨base, cp, w7, hrunC, H7⟩ := hCp _ H5; clear hCp H5; refine Lib.wpList_append_run _ rfl (.const (.slice none 0 0)) (.tmp 47) 30 30 rfl _ _ rfl rfl _ _ hrunC.out ?_; clear hrunC) | (at_builtin; obtain ⟨nb, nc, w9, hrunP, e90, hT9⟩ := hPu _ hT; clear hPu hT; refine Lib.wpList_append_run _ rfl (.tmp 62) (.tmp 65) 29 29 rfl _ _ rfl rfl _ _ hrunP.out ?_; clear hrunP))
            have hT := hT9
            clear hT9
            obtain ⟨v', ls', hH', hins', h64', hm'⟩ := hT.out
            have hfull : Hid (∀ W, Hd w b g6 c (St.mk q1 q2 q3 q4 q5 q6) (St.mk q1 q2 q3 q4 q5 q6) v' (chain c (St.mk q1 q2 q3 q4 q5 q6) (ls'.map (·.2))) (.slice nb m1 nc) (ls'.map (·.1)) W → (fun W => W.cell? ⟨g6, 0, none⟩ = some (.int .i64 q1) ∧ W.cell? ⟨g6, 1, none⟩ = some (.int .i64 q2) ∧ W.cell? ⟨g6, 2, none⟩ = some (.int .i64 q3) ∧ W.cell? ⟨g6, 3, none⟩ = some (.int .i64 q4) ∧ W.cell? ⟨g6, 4, none⟩ = some (.int .i64 q5) ∧ W.cell? ⟨g6, 5, none⟩ = some (.int .i64 q6) ∧ Hd w b g6 c (St.mk q1 q2 q3 q4 q5 q6) (St.mk q1 q2 q3 q4 q5 q6) v' (chain c (St.mk q1 q2 q3 q4 q5 q6) (ls'.map (·.2))) (.slice nb m1 nc) (ls'.map (·.1)) W) W) := fun W hW =>
              ⟨cell_blk hW.now 0, cell_blk hW.now 1, cell_blk hW.now 2, cell_blk hW.now 3, cell_blk hW.now 4, cell_blk hW.now 5, hW⟩
            have hak : Hid (∀ W, Hd w b g6 c (St.mk q1 q2 q3 q4 q5 q6) (St.mk q1 q2 q3 q4 q5 q6) v' (chain c (St.mk q1 q2 q3 q4 q5 q6) (ls'.map (·.2))) (.slice nb m1 nc) (ls'.map (·.1)) W → Calls Tryd.prog 14 #[.pointer (some ⟨b, 0, none⟩)] W fun e w' => e = .returned (.agg #[.int .i64 q1, .int .i64 q2, .int .i64 q3, .int .i64 q4, .int .i64 q5, .int .i64 q6]) ∧ Below W.heap.size W w') := fun W hW => acked_any W b c (St.mk q1 q2 q3 q4 q5 q6) v' _ hW.bk
            have hwt : Hid (∀ W, Hd w b g6 c (St.mk q1 q2 q3 q4 q5 q6) (St.mk q1 q2 q3 q4 q5 q6) v' (chain c (St.mk q1 q2 q3 q4 q5 q6) (ls'.map (·.2))) (.slice nb m1 nc) (ls'.map (·.1)) W → Calls Tryd.prog 15 #[.pointer (some ⟨b, 0, none⟩)] W fun e w' => e = .returned (.int .i64 (m1 : Int)) ∧ Below W.heap.size W w') := fun W hW => (waiting_any W b c (St.mk q1 q2 q3 q4 q5 q6) v' _ hW.bk).mono (by
              rintro e w' ⟨rfl, rfl⟩
              rw [chain_length, List.length_map, hm']
              exact ⟨rfl, Below.refl _ _⟩)
            have hIW := hH'.below (Below.refl _ _).drew
            clear hm' hH' hT
            refine wp_region_held_drew (S := (fun W => W.cell? ⟨g6, 0, none⟩ = some (.int .i64 q1) ∧ W.cell? ⟨g6, 1, none⟩ = some (.int .i64 q2) ∧ W.cell? ⟨g6, 2, none⟩ = some (.int .i64 q3) ∧ W.cell? ⟨g6, 3, none⟩ = some (.int .i64 q4) ∧ W.cell? ⟨g6, 4, none⟩ = some (.int .i64 q5) ∧ W.cell? ⟨g6, 5, none⟩ = some (.int .i64 q6) ∧ Hd w b g6 c (St.mk q1 q2 q3 q4 q5 q6) (St.mk q1 q2 q3 q4 q5 q6) v' (chain c (St.mk q1 q2 q3 q4 q5 q6) (ls'.map (·.2))) (.slice nb m1 nc) (ls'.map (·.1)) W)) (by kernel_rfl) (hfull.out _ hIW) (fun hHeld => ?_)
            generalize hWg : World.drew _ = W at hIW hHeld ⊢
            clear hWg
            refine wpAnyH_take (i := 0) (oi := { dst := some 107, op := Op.move (Operand.tmp 5), type := 23, pos := "outright.go:114", after := #[], guard := none }) (v := ?vv10) rfl (by kernel_rfl) (by kernel_rfl) (by kernel_rfl) (fun _ _ _ h => h) (Or.inl ⟨by rfl, ?hy10⟩) (by assumption) ?_
            case hy10 => (intro w hSw; (try dsimp only at hSw); go_simp; all_goals with_reducible rfl)
            try simp only [Act.put, List.setIfInBounds_toArray, List.set_cons_zero, List.set_cons_succ]
            refine wpAnyH_take (i := 2) (oi := { dst := some 109, op := Op.load 27 (Operand.tmp 6), type := 27, pos := "outright.go:114", after := #[], guard := none }) (v := ?vv11) rfl (by kernel_rfl) (by kernel_rfl) (by kernel_rfl) (fun _ _ _ h => h) (Or.inl ⟨by rfl, ?hy11⟩) (by assumption) ?_
            case hy11 => (intro w hSw; (try dsimp only at hSw); go_simp; all_goals with_reducible rfl)
            try simp only [Act.put, List.setIfInBounds_toArray, List.set_cons_zero, List.set_cons_succ]
            refine wpAnyH_ready (rs := [1]) (by kernel_rfl) (by simp) ?_
            refine AllReadyH.cons (o := { dst := some 108, op := Op.call { callee := Callee.value (Operand.func 14), args := #[Operand.tmp 107], argTypes := #[23] }, type := 27, pos := "outright.go:114", after := #[{ on := 0, ground := Ground.data }], guard := none }) rfl (fun K hK => ?_) AllReadyH.nil
            go_simp
            refine (hak.out W hIW).mono ?_
            rintro e' Wx ⟨rfl, hb⟩
            have hIWx := hIW.below hb
            go_wp2_with fail
            refine hK.out _ _ (hfull.out _ hIWx) (fun hHeld => ?_)
            clear hK K hb hIW
            try simp only [Act.put, List.setIfInBounds_toArray, List.set_cons_zero, List.set_cons_succ]
            refine wpAnyH_take (i := 3) (oi := { dst := some 110, op := Op.binOp BinOp.neq 27 (Operand.tmp 108) (Operand.tmp 109) 27, type := 4, pos := "outright.go:114", after := #[{ on := 1, ground := Ground.data }, { on := 2, ground := Ground.data }], guard := none }) (v := ?vv12) rfl (by kernel_rfl) (by kernel_rfl) (by kernel_rfl) (fun _ _ _ h => h) (Or.inl ⟨by rfl, ?hy12⟩) (by assumption) ?_
            case hy12 => (intro w hSw; (try dsimp only at hSw); go_simp; all_goals with_reducible rfl)
            try simp only [Act.put, List.setIfInBounds_toArray, List.set_cons_zero, List.set_cons_succ]
            refine wpAnyH_take (i := 4) (oi := { dst := some 111, op := Op.move (Operand.tmp 110), type := 4, pos := "outright.go:114", after := #[{ on := 3, ground := Ground.data }, { on := 1, ground := Ground.chain }], guard := none }) (v := ?vv13) rfl (by kernel_rfl) (by kernel_rfl) (by kernel_rfl) (fun _ _ _ h => h) (Or.inl ⟨by rfl, ?hy13⟩) (by assumption) ?_
            case hy13 => (intro w hSw; (try dsimp only at hSw); go_simp; all_goals with_reducible rfl)
            try simp only [Act.put, List.setIfInBounds_toArray, List.set_cons_zero, List.set_cons_succ]
            refine wpAnyH_take (i := 5) (oi := { dst := some 112, op := Op.move (Operand.tmp 5), type := 23, pos := "outright.go:114", after := #[{ on := 4, ground := Ground.guard }], guard := some (4, false) }) (v := ?vv14) rfl (by kernel_rfl) (by kernel_rfl) (by kernel_rfl) (fun _ _ _ h => h) (Or.inl ⟨by rfl, ?hy14⟩) (by assumption) ?_
            case hy14 => (intro w hSw; (try dsimp only at hSw); go_simp; all_goals with_reducible rfl)
            try simp only [Act.put, List.setIfInBounds_toArray, List.set_cons_zero, List.set_cons_succ]
            refine wpAnyH_take (i := 7) (oi := { dst := some 114, op := Op.move (Operand.tmp 7), type := 29, pos := "outright.go:114", after := #[{ on := 4, ground := Ground.guard }], guard := some (4, false) }) (v := ?vv15) rfl (by kernel_rfl) (by kernel_rfl) (by kernel_rfl) (fun _ _ _ h => h) (Or.inl ⟨by rfl, ?hy15⟩) (by assumption) ?_
            case hy15 => (intro w hSw; (try dsimp only at hSw); go_simp; all_goals with_reducible rfl)
            try simp only [Act.put, List.setIfInBounds_toArray, List.set_cons_zero, List.set_cons_succ]
            refine wpAnyH_take (i := 8) (oi := { dst := some 115, op := Op.call { callee := Callee.builtin Builtin.len, args := #[Operand.tmp 114], argTypes := #[29] }, type := 3, pos := "outright.go:114", after := #[{ on := 7, ground := Ground.data }, { on := 4, ground := Ground.guard }], guard := some (4, false) }) (v := ?vv16) rfl (by kernel_rfl) (by kernel_rfl) (by kernel_rfl) (fun _ _ _ h => h) (Or.inl ⟨by rfl, ?hy16⟩) (by assumption) ?_
            case hy16 => (intro w hSw; (try dsimp only at hSw); go_simp; all_goals with_reducible rfl)
            try simp only [Act.put, List.setIfInBounds_toArray, List.set_cons_zero, List.set_cons_succ]
            refine wpAnyH_ready (rs := [6]) (by kernel_rfl) (by simp) ?_
            refine AllReadyH.cons (o := { dst := some 113, op := Op.call { callee := Callee.value (Operand.func 15), args := #[Operand.tmp 112], argTypes := #[23] }, type := 3, pos := "outright.go:114", after := #[{ on := 5, ground := Ground.data }, { on := 4, ground := Ground.chain }, { on := 4, ground := Ground.guard }], guard := some (4, false) }) rfl (fun K hK => ?_) AllReadyH.nil
            go_simp
            refine (hwt.out Wx hIWx).mono ?_
            rintro e' Wxx ⟨rfl, hb⟩
            have hIWxx := hIWx.below hb
            go_wp2_with fail
            refine hK.out _ _ (hfull.out _ hIWxx) (fun hHeld => ?_)
            clear hK K hb hIWx
            try simp only [Act.put, List.setIfInBounds_toArray, List.set_cons_zero, List.set_cons_succ]
            refine wpAnyH_take (i := 9) (oi := { dst := some 116, op := Op.binOp BinOp.neq 3 (Operand.tmp 113) (Operand.tmp 115) 3, type := 4, pos := "outright.go:114", after := #[{ on := 6, ground := Ground.data }, { on := 8, ground := Ground.data }, { on := 4, ground := Ground.guard }], guard := some (4, false) }) (v := ?vv17) rfl (by kernel_rfl) (by kernel_rfl) (by kernel_rfl) (fun _ _ _ h => h) (Or.inl ⟨by rfl, ?hy17⟩) (by assumption) ?_
            case hy17 => (intro w hSw; (try dsimp only at hSw); go_simp; all_goals with_reducible rfl)
            try simp only [Act.put, List.setIfInBounds_toArray, List.set_cons_zero, List.set_cons_succ]
            refine wpAnyH_take (i := 10) (oi := { dst := some 117, op := Op.pick (Operand.tmp 111) (Operand.const (Value.bool true)) (Operand.tmp 116), type := 4, pos := "outright.go:114", after := #[{ on := 4, ground := Ground.data }, { on := 9, ground := Ground.data }], guard := none }) (v := ?vv18) rfl (by kernel_rfl) (by kernel_rfl) (by kernel_rfl) (fun _ _ _ h => h) (Or.inl ⟨by rfl, ?hy18⟩) (by assumption) ?_
            case hy18 => (intro w hSw; (try dsimp only at hSw); go_simp; all_goals with_reducible rfl)
            try simp only [Act.put, List.setIfInBounds_toArray, List.set_cons_zero, List.set_cons_succ]
            refine wpAnyH_done (by kernel_rfl) ?_ _
            go_wp2_with fail
            go_roundw
            case rel => exact ⟨k + 1, by omega, by simp, (nb, m1, nc), rfl, (St.mk q1 q2 q3 q4 q5 q6), v', ls', hIWxx, hins', h64'⟩
            case measure => simp [intOf]; omega
        · skip
          subst hk1
          obtain ⟨q1, q2, q3, q4, q5, q6⟩ := s
          obtain ⟨g9, hg9⟩ : ∃ g9, wr.heap.size = g9 := ⟨_, rfl⟩
          have hK1 : Hk w b g6 c (St.mk q1 q2 q3 q4 q5 q6) (St.mk q1 q2 q3 q4 q5 q6) v (chain c (St.mk q1 q2 q3 q4 q5 q6) (ls.map (·.2))) (.slice z1 m z3) (ls.map (·.1)) g9 #[.int .i64 1, .bool two, .slice x1 x2 x3] (wr.alloc (.cells #[.int .i64 1, .bool two, .slice x1 x2 x3] 32)) := ⟨hH1, by rw [← hg9]; exact hk9⟩
          obtain ⟨_, _, hx, _, _⟩ := hl.slice
          injection hx with hx1 hx2 hx3
          clear hx1 hx3
          obtain ⟨n0, n1, n2, n3, n4, n5⟩ := c6 hnow
          simp only at n0 n1 n2 n3 n4 n5
          obtain ⟨⟨⟨p1, p2, p3, p4, p5, p6⟩, code⟩, hA⟩ : ∃ A, applyS (St.mk q1 q2 q3 q4 q5 q6) l c = A := ⟨_, rfl⟩
          rw [hA] at hc0
          simp only at hc0
          have hcode : ∀ s', (applyS s' l c).2 = code := fun s' => by rw [code_indep s' (St.mk q1 q2 q3 q4 q5 q6), hA]
          have hbw := hH1.bel
          have hA1 : Calls Tryd.prog 11 #[.agg (St.mk q1 q2 q3 q4 q5 q6).a, .slice x1 x2 x3, .bool c] (wr.alloc (.cells #[.int .i64 1, .bool two, .slice x1 x2 x3] 32)) fun e w5 => e = .returned (.tuple #[.agg (St.mk p1 p2 p3 p4 p5 p6).a, .int .i64 code]) ∧ (w5.alloc (.cells (St.mk p1 p2 p3 p4 p5 p6).a 27)).cell? ⟨g9, 2, none⟩ = some (.slice x1 x2 x3) ∧ Hid (Hk w b g6 c (St.mk q1 q2 q3 q4 q5 q6) (St.mk q1 q2 q3 q4 q5 q6) v (chain c (St.mk q1 q2 q3 q4 q5 q6) (ls.map (·.2))) (.slice z1 m z3) (ls.map (·.1)) g9 #[.int .i64 1, .bool two, .slice x1 x2 x3] (w5.alloc (.cells (St.mk p1 p2 p3 p4 p5 p6).a 27))) := by
            refine (apply_any (St.mk q1 q2 q3 q4 q5 q6) _ l c _ (hl.below hbw)).mono ?_
            rintro e w5 ⟨rfl, hb⟩
            have hK2 := (hK1.below hb).below (bel1 w5 (.cells (St.mk p1 p2 p3 p4 p5 p6).a 27))
            exact ⟨by rw [hA], cell_blk hK2.2 2, hK2⟩
          have hCp : ∀ W6 : World, Hid (Hk w b g6 c (St.mk q1 q2 q3 q4 q5 q6) (St.mk q1 q2 q3 q4 q5 q6) v (chain c (St.mk q1 q2 q3 q4 q5 q6) (ls.map (·.2))) (.slice z1 m z3) (ls.map (·.1)) g9 #[.int .i64 1, .bool two, .slice x1 x2 x3] W6) → ∃ base cap w7, Hid ((Builtin.append_ #[30, 30] 30 #[.slice none 0 0, .slice x1 x2 x3]).run Tryd.prog W6 = .ok (.slice base x2 cap) w7) ∧ Hid (Hk w b g6 c (St.mk q1 q2 q3 q4 q5 q6) (St.mk q1 q2 q3 q4 q5 q6) v (chain c (St.mk q1 q2 q3 q4 q5 q6) (ls.map (·.2))) (.slice z1 m z3) (ls.map (·.1)) g9 #[.int .i64 1, .bool two, .slice x1 x2 x3] w7 ∧ In EP w7 (.slice base x2 cap) l) := by
            intro W6 h
            obtain ⟨base, cap, w7, hrun, hR, hG⟩ := app okP W6 (.slice none 0 0) [] (R.nil _ _) _ l (hl.below h.out.1.bel) (by simp only [EP, List.length_nil]; omega)
            simp only [List.length_nil, Nat.zero_add, List.nil_append, ← hx2] at hrun hR
            exact ⟨base, cap, w7, hrun, h.out.below hG.fresh, hR.isIn⟩
          have hSe : ∀ (W : World) (base : Option Addr) (cap : Nat), Hid (Hk w b g6 c (St.mk q1 q2 q3 q4 q5 q6) (St.mk q1 q2 q3 q4 q5 q6) v (chain c (St.mk q1 q2 q3 q4 q5 q6) (ls.map (·.2))) (.slice z1 m z3) (ls.map (·.1)) g9 #[.int .i64 1, .bool two, .slice x1 x2 x3] W ∧ In EP W (.slice base x2 cap) l) → Calls Tryd.prog 12 #[.pointer (some ⟨b, 0, none⟩), .slice base x2 cap] W fun e w8 => e = .returned (.int .i64 1) ∧ w8.cell? ⟨g9, 0, none⟩ = some (.int .i64 1) ∧ w8.cell? ⟨g9, 2, none⟩ = some (.slice x1 x2 x3) ∧ g9 < w8.heap.size ∧ Hid (Hm w b g6 c (St.mk q1 q2 q3 q4 q5 q6) z1 m z3 w8) := by
            intro W base cap h
            refine (send_any W b c (St.mk q1 q2 q3 q4 q5 q6) v _ h.out.1.1.bk _ l h.out.2).mono ?_
            rintro e w8 ⟨rfl, v', hB, hKs, hown⟩
            have hK8 := h.out.1.book hB hKs hown
            have hcd : ¬ (applyS (lastS (St.mk q1 q2 q3 q4 q5 q6) (chain c (St.mk q1 q2 q3 q4 q5 q6) (ls.map (·.2)))) l c).2 = 0 := by rw [hcode]; exact hc0
            refine ⟨by unfold sendC; rw [if_neg hcd], cell_blk hK8.2 0, cell_blk hK8.2 2, heap_lt hK8.2, v', ls, ?_, hins, h64, hm⟩
            have := hK8.1
            unfold sendL at this
            rw [if_neg hcd] at this
            exact this
          clear hH1 hK1 hins h64 hl hll hk9 hcode hA hx2 hbw hnow
          subst hg9
          simp only [St.a] at hA1
          have hcb : (code == 0) = false := by simpa using hc0
          clear hm hc0
          go_wp2_with (first | (go_at_call 11; refine hA1.mono ?_; clear hA1; rintro e w5 ⟨rfl, e9, H5⟩) | (go_at_call 12; refine (hSe _ _ _ H7).mono ?_; clear hSe H7; rintro e w8 ⟨rfl, e0, e2, hl8, hT⟩) | (at_builtin; obtain ⟨base, cp, w7, hrunC, H7⟩ := hCp _ H5; clear hCp H5; refine Lib.wpList_append_run _ rfl (.const (.slice none 0 0)) (.tmp 47) 30 30 rfl _ _ rfl rfl _ _ hrunC.out ?_; clear hrunC))
          obtain ⟨v', ls', hH', hins', h64', hm'⟩ := hT.out
          have hfull : Hid (∀ W, Hd w b g6 c (St.mk q1 q2 q3 q4 q5 q6) (St.mk q1 q2 q3 q4 q5 q6) v' (chain c (St.mk q1 q2 q3 q4 q5 q6) (ls'.map (·.2))) (.slice z1 m z3) (ls'.map (·.1)) W → (fun W => W.cell? ⟨g6, 0, none⟩ = some (.int .i64 q1) ∧ W.cell? ⟨g6, 1, none⟩ = some (.int .i64 q2) ∧ W.cell? ⟨g6, 2, none⟩ = some (.int .i64 q3) ∧ W.cell? ⟨g6, 3, none⟩ = some (.int .i64 q4) ∧ W.cell? ⟨g6, 4, none⟩ = some (.int .i64 q5) ∧ W.cell? ⟨g6, 5, none⟩ = some (.int .i64 q6) ∧ Hd w b g6 c (St.mk q1 q2 q3 q4 q5 q6) (St.mk q1 q2 q3 q4 q5 q6) v' (chain c (St.mk q1 q2 q3 q4 q5 q6) (ls'.map (·.2))) (.slice z1 m z3) (ls'.map (·.1)) W) W) := fun W hW =>
            ⟨cell_blk hW.now 0, cell_blk hW.now 1, cell_blk hW.now 2, cell_blk hW.now 3, cell_blk hW.now 4, cell_blk hW.now 5, hW⟩
          have hak : Hid (∀ W, Hd w b g6 c (St.mk q1 q2 q3 q4 q5 q6) (St.mk q1 q2 q3 q4 q5 q6) v' (chain c (St.mk q1 q2 q3 q4 q5 q6) (ls'.map (·.2))) (.slice z1 m z3) (ls'.map (·.1)) W → Calls Tryd.prog 14 #[.pointer (some ⟨b, 0, none⟩)] W fun e w' => e = .returned (.agg #[.int .i64 q1, .int .i64 q2, .int .i64 q3, .int .i64 q4, .int .i64 q5, .int .i64 q6]) ∧ Below W.heap.size W w') := fun W hW => acked_any W b c (St.mk q1 q2 q3 q4 q5 q6) v' _ hW.bk
          have hwt : Hid (∀ W, Hd w b g6 c (St.mk q1 q2 q3 q4 q5 q6) (St.mk q1 q2 q3 q4 q5 q6) v' (chain c (St.mk q1 q2 q3 q4 q5 q6) (ls'.map (·.2))) (.slice z1 m z3) (ls'.map (·.1)) W → Calls Tryd.prog 15 #[.pointer (some ⟨b, 0, none⟩)] W fun e w' => e = .returned (.int .i64 (m : Int)) ∧ Below W.heap.size W w') := fun W hW => (waiting_any W b c (St.mk q1 q2 q3 q4 q5 q6) v' _ hW.bk).mono (by
            rintro e w' ⟨rfl, rfl⟩
            rw [chain_length, List.length_map, hm']
            exact ⟨rfl, Below.refl _ _⟩)
          have hIW := hH'.below (Below.refl _ _).drew
          clear hm' hH' hT
          refine wp_region_held_drew (S := (fun W => W.cell? ⟨g6, 0, none⟩ = some (.int .i64 q1) ∧ W.cell? ⟨g6, 1, none⟩ = some (.int .i64 q2) ∧ W.cell? ⟨g6, 2, none⟩ = some (.int .i64 q3) ∧ W.cell? ⟨g6, 3, none⟩ = some (.int .i64 q4) ∧ W.cell? ⟨g6, 4, none⟩ = some (.int .i64 q5) ∧ W.cell? ⟨g6, 5, none⟩ = some (.int .i64 q6) ∧ Hd w b g6 c (St.mk q1 q2 q3 q4 q5 q6) (St.mk q1 q2 q3 q4 q5 q6) v' (chain c (St.mk q1 q2 q3 q4 q5 q6) (ls'.map (·.2))) (.slice z1 m z3) (ls'.map (·.1)) W)) (by kernel_rfl) (hfull.out _ hIW) (fun hHeld => ?_)
          generalize hWg : World.drew _ = W at hIW hHeld ⊢
          clear hWg
          refine wpAnyH_take (i := 0) (oi := { dst := some 107, op := Op.move (Operand.tmp 5), type := 23, pos := "outright.go:114", after := #[], guard := none }) (v := ?vv19) rfl (by kernel_rfl) (by kernel_rfl) (by kernel_rfl) (fun _ _ _ h => h) (Or.inl ⟨by rfl, ?hy19⟩) (by assumption) ?_
          case hy19 => (intro w hSw; (try dsimp only at hSw); go_simp; all_goals with_reducible rfl)
          try simp only [Act.put, List.setIfInBounds_toArray, List.set_cons_zero, List.set_cons_succ]
          refine wpAnyH_take (i := 2) (oi := { dst := some 109, op := Op.load 27 (Operand.tmp 6), type := 27, pos := "outright.go:114", after := #[], guard := none }) (v := ?vv20) rfl (by kernel_rfl) (by kernel_rfl) (by kernel_rfl) (fun _ _ _ h => h) (Or.inl ⟨by rfl, ?hy20⟩) (by assumption) ?_
          case hy20 => (intro w hSw; (try dsimp only at hSw); go_simp; all_goals with_reducible rfl)
          try simp only [Act.put, List.setIfInBounds_toArray, List.set_cons_zero, List.set_cons_succ]
          refine wpAnyH_ready (rs := [1]) (by kernel_rfl) (by simp) ?_
          refine AllReadyH.cons (o := { dst := some 108, op := Op.call { callee := Callee.value (Operand.func 14), args := #[Operand.tmp 107], argTypes := #[23] }, type := 27, pos := "outright.go:114", after := #[{ on := 0, ground := Ground.data }], guard := none }) rfl (fun K hK => ?_) AllReadyH.nil
          go_simp
          refine (hak.out W hIW).mono ?_
          rintro e' Wx ⟨rfl, hb⟩
          have hIWx := hIW.below hb
          go_wp2_with fail
          refine hK.out _ _ (hfull.out _ hIWx) (fun hHeld => ?_)
          clear hK K hb hIW
          try simp only [Act.put, List.setIfInBounds_toArray, List.set_cons_zero, List.set_cons_succ]
          refine wpAnyH_take (i := 3) (oi := { dst := some 110, op := Op.binOp BinOp.neq 27 (Operand.tmp 108) (Operand.tmp 109) 27, type := 4, pos := "outright.go:114", after := #[{ on := 1, ground := Ground.data }, { on := 2, ground := Ground.data }], guard := none }) (v := ?vv21) rfl (by kernel_rfl) (by kernel_rfl) (by kernel_rfl) (fun _ _ _ h => h) (Or.inl ⟨by rfl, ?hy21⟩) (by assumption) ?_
          case hy21 => (intro w hSw; (try dsimp only at hSw); go_simp; all_goals with_reducible rfl)
          try simp only [Act.put, List.setIfInBounds_toArray, List.set_cons_zero, List.set_cons_succ]
          refine wpAnyH_take (i := 4) (oi := { dst := some 111, op := Op.move (Operand.tmp 110), type := 4, pos := "outright.go:114", after := #[{ on := 3, ground := Ground.data }, { on := 1, ground := Ground.chain }], guard := none }) (v := ?vv22) rfl (by kernel_rfl) (by kernel_rfl) (by kernel_rfl) (fun _ _ _ h => h) (Or.inl ⟨by rfl, ?hy22⟩) (by assumption) ?_
          case hy22 => (intro w hSw; (try dsimp only at hSw); go_simp; all_goals with_reducible rfl)
          try simp only [Act.put, List.setIfInBounds_toArray, List.set_cons_zero, List.set_cons_succ]
          refine wpAnyH_take (i := 5) (oi := { dst := some 112, op := Op.move (Operand.tmp 5), type := 23, pos := "outright.go:114", after := #[{ on := 4, ground := Ground.guard }], guard := some (4, false) }) (v := ?vv23) rfl (by kernel_rfl) (by kernel_rfl) (by kernel_rfl) (fun _ _ _ h => h) (Or.inl ⟨by rfl, ?hy23⟩) (by assumption) ?_
          case hy23 => (intro w hSw; (try dsimp only at hSw); go_simp; all_goals with_reducible rfl)
          try simp only [Act.put, List.setIfInBounds_toArray, List.set_cons_zero, List.set_cons_succ]
          refine wpAnyH_take (i := 7) (oi := { dst := some 114, op := Op.move (Operand.tmp 7), type := 29, pos := "outright.go:114", after := #[{ on := 4, ground := Ground.guard }], guard := some (4, false) }) (v := ?vv24) rfl (by kernel_rfl) (by kernel_rfl) (by kernel_rfl) (fun _ _ _ h => h) (Or.inl ⟨by rfl, ?hy24⟩) (by assumption) ?_
          case hy24 => (intro w hSw; (try dsimp only at hSw); go_simp; all_goals with_reducible rfl)
          try simp only [Act.put, List.setIfInBounds_toArray, List.set_cons_zero, List.set_cons_succ]
          refine wpAnyH_take (i := 8) (oi := { dst := some 115, op := Op.call { callee := Callee.builtin Builtin.len, args := #[Operand.tmp 114], argTypes := #[29] }, type := 3, pos := "outright.go:114", after := #[{ on := 7, ground := Ground.data }, { on := 4, ground := Ground.guard }], guard := some (4, false) }) (v := ?vv25) rfl (by kernel_rfl) (by kernel_rfl) (by kernel_rfl) (fun _ _ _ h => h) (Or.inl ⟨by rfl, ?hy25⟩) (by assumption) ?_
          case hy25 => (intro w hSw; (try dsimp only at hSw); go_simp; all_goals with_reducible rfl)
          try simp only [Act.put, List.setIfInBounds_toArray, List.set_cons_zero, List.set_cons_succ]
          refine wpAnyH_ready (rs := [6]) (by kernel_rfl) (by simp) ?_
          refine AllReadyH.cons (o := { dst := some 113, op := Op.call { callee := Callee.value (Operand.func 15), args := #[Operand.tmp 112], argTypes := #[23] }, type := 3, pos := "outright.go:114", after := #[{ on := 5, ground := Ground.data }, { on := 4, ground := Ground.chain }, { on := 4, ground := Ground.guard }], guard := some (4, false) }) rfl (fun K hK => ?_) AllReadyH.nil
          go_simp
          refine (hwt.out Wx hIWx).mono ?_
          rintro e' Wxx ⟨rfl, hb⟩
          have hIWxx := hIWx.below hb
          go_wp2_with fail
          refine hK.out _ _ (hfull.out _ hIWxx) (fun hHeld => ?_)
          clear hK K hb hIWx
          try simp only [Act.put, List.setIfInBounds_toArray, List.set_cons_zero, List.set_cons_succ]
          refine wpAnyH_take (i := 9) (oi := { dst := some 116, op := Op.binOp BinOp.neq 3 (Operand.tmp 113) (Operand.tmp 115) 3, type := 4, pos := "outright.go:114", after := #[{ on := 6, ground := Ground.data }, { on := 8, ground := Ground.data }, { on := 4, ground := Ground.guard }], guard := some (4, false) }) (v := ?vv26) rfl (by kernel_rfl) (by kernel_rfl) (by kernel_rfl) (fun _ _ _ h => h) (Or.inl ⟨by rfl, ?hy26⟩) (by assumption) ?_
          case hy26 => (intro w hSw; (try dsimp only at hSw); go_simp; all_goals with_reducible rfl)
          try simp only [Act.put, List.setIfInBounds_toArray, List.set_cons_zero, List.set_cons_succ]
          refine wpAnyH_take (i := 10) (oi := { dst := some 117, op := Op.pick (Operand.tmp 111) (Operand.const (Value.bool true)) (Operand.tmp 116), type := 4, pos := "outright.go:114", after := #[{ on := 4, ground := Ground.data }, { on := 9, ground := Ground.data }], guard := none }) (v := ?vv27) rfl (by kernel_rfl) (by kernel_rfl) (by kernel_rfl) (fun _ _ _ h => h) (Or.inl ⟨by rfl, ?hy27⟩) (by assumption) ?_
          case hy27 => (intro w hSw; (try dsimp only at hSw); go_simp; all_goals with_reducible rfl)
          try simp only [Act.put, List.setIfInBounds_toArray, List.set_cons_zero, List.set_cons_succ]
          refine wpAnyH_done (by kernel_rfl) ?_ _
          go_wp2_with fail
          go_roundw
          case rel => exact ⟨k + 1, by omega, by simp, (z1, m, z3), rfl, (St.mk q1 q2 q3 q4 q5 q6), v', ls', hIWxx, hins', h64'⟩
          case measure => simp [intOf]; omega
      · by_cases hk2 : kd = 2
        · by_cases hls0 : ls = []
          · skip
            subst hk2
            obtain ⟨q1, q2, q3, q4, q5, q6⟩ := s
            subst hls0
            obtain rfl : m = 0 := by simpa using hm.symm
            have hAk : Calls Tryd.prog 13 #[.pointer (some ⟨b, 0, none⟩)] (wr.alloc (.cells #[.int .i64 2, .bool two, .slice x1 x2 x3] 32)) fun e w5 => e = .returned (.tuple #[.agg St.zero.a, .bool false]) ∧ Hid (Hm w b g6 c (St.mk q1 q2 q3 q4 q5 q6) z1 0 z3 (w5.alloc (.cells St.zero.a 27))) := by
              refine (ack_none _ b c (St.mk q1 q2 q3 q4 q5 q6) v hH1.bk).mono ?_
              rintro e w5 ⟨rfl, hb⟩
              exact ⟨rfl, v, [], (hH1.below hb).below (bel1 w5 _), hins, h64, hm⟩
            simp only [St.a, St.zero] at hAk
            clear hH1 hins h64 hm hl hll hk9 hnow hk1
            go_wp2_with (go_at_call 13; refine hAk.mono ?_; clear hAk; rintro e w5 ⟨rfl, hT⟩)
            obtain ⟨v', ls', hH', hins', h64', hm'⟩ := hT.out
            have hfull : Hid (∀ W, Hd w b g6 c (St.mk q1 q2 q3 q4 q5 q6) (St.mk q1 q2 q3 q4 q5 q6) v' (chain c (St.mk q1 q2 q3 q4 q5 q6) (ls'.map (·.2))) (.slice z1 0 z3) (ls'.map (·.1)) W → (fun W => W.cell? ⟨g6, 0, none⟩ = some (.int .i64 q1) ∧ W.cell? ⟨g6, 1, none⟩ = some (.int .i64 q2) ∧ W.cell? ⟨g6, 2, none⟩ = some (.int .i64 q3) ∧ W.cell? ⟨g6, 3, none⟩ = some (.int .i64 q4) ∧ W.cell? ⟨g6, 4, none⟩ = some (.int .i64 q5) ∧ W.cell? ⟨g6, 5, none⟩ = some (.int .i64 q6) ∧ Hd w b g6 c (St.mk q1 q2 q3 q4 q5 q6) (St.mk q1 q2 q3 q4 q5 q6) v' (chain c (St.mk q1 q2 q3 q4 q5 q6) (ls'.map (·.2))) (.slice z1 0 z3) (ls'.map (·.1)) W) W) := fun W hW =>
              ⟨cell_blk hW.now 0, cell_blk hW.now 1, cell_blk hW.now 2, cell_blk hW.now 3, cell_blk hW.now 4, cell_blk hW.now 5, hW⟩
            have hak : Hid (∀ W, Hd w b g6 c (St.mk q1 q2 q3 q4 q5 q6) (St.mk q1 q2 q3 q4 q5 q6) v' (chain c (St.mk q1 q2 q3 q4 q5 q6) (ls'.map (·.2))) (.slice z1 0 z3) (ls'.map (·.1)) W → Calls Tryd.prog 14 #[.pointer (some ⟨b, 0, none⟩)] W fun e w' => e = .returned (.agg #[.int .i64 q1, .int .i64 q2, .int .i64 q3, .int .i64 q4, .int .i64 q5, .int .i64 q6]) ∧ Below W.heap.size W w') := fun W hW => acked_any W b c (St.mk q1 q2 q3 q4 q5 q6) v' _ hW.bk
            have hwt : Hid (∀ W, Hd w b g6 c (St.mk q1 q2 q3 q4 q5 q6) (St.mk q1 q2 q3 q4 q5 q6) v' (chain c (St.mk q1 q2 q3 q4 q5 q6) (ls'.map (·.2))) (.slice z1 0 z3) (ls'.map (·.1)) W → Calls Tryd.prog 15 #[.pointer (some ⟨b, 0, none⟩)] W fun e w' => e = .returned (.int .i64 0) ∧ Below W.heap.size W w') := fun W hW => (waiting_any W b c (St.mk q1 q2 q3 q4 q5 q6) v' _ hW.bk).mono (by
              rintro e w' ⟨rfl, rfl⟩
              rw [chain_length, List.length_map, hm']
              exact ⟨rfl, Below.refl _ _⟩)
            have hIW := hH'.below (Below.refl _ _).drew
            clear hm' hH' hT
            refine wp_region_held_drew (S := (fun W => W.cell? ⟨g6, 0, none⟩ = some (.int .i64 q1) ∧ W.cell? ⟨g6, 1, none⟩ = some (.int .i64 q2) ∧ W.cell? ⟨g6, 2, none⟩ = some (.int .i64 q3) ∧ W.cell? ⟨g6, 3, none⟩ = some (.int .i64 q4) ∧ W.cell? ⟨g6, 4, none⟩ = some (.int .i64 q5) ∧ W.cell? ⟨g6, 5, none⟩ = some (.int .i64 q6) ∧ Hd w b g6 c (St.mk q1 q2 q3 q4 q5 q6) (St.mk q1 q2 q3 q4 q5 q6) v' (chain c (St.mk q1 q2 q3 q4 q5 q6) (ls'.map (·.2))) (.slice z1 0 z3) (ls'.map (·.1)) W)) (by kernel_rfl) (hfull.out _ hIW) (fun hHeld => ?_)
            generalize hWg : World.drew _ = W at hIW hHeld ⊢
            clear hWg
            refine wpAnyH_take (i := 0) (oi := { dst := some 107, op := Op.move (Operand.tmp 5), type := 23, pos := "outright.go:114", after := #[], guard := none }) (v := ?vv28) rfl (by kernel_rfl) (by kernel_rfl) (by kernel_rfl) (fun _ _ _ h => h) (Or.inl ⟨by rfl, ?hy28⟩) (by assumption) ?_
            case hy28 => (intro w hSw; (try dsimp only at hSw); go_simp; all_goals with_reducible rfl)
            try simp only [Act.put, List.setIfInBounds_toArray, List.set_cons_zero, List.set_cons_succ]
            refine wpAnyH_take (i := 2) (oi := { dst := some 109, op := Op.load 27 (Operand.tmp 6), type := 27, pos := "outright.go:114", after := #[], guard := none }) (v := ?vv29) rfl (by kernel_rfl) (by kernel_rfl) (by kernel_rfl) (fun _ _ _ h => h) (Or.inl ⟨by rfl, ?hy29⟩) (by assumption) ?_
            case hy29 => (intro w hSw; (try dsimp only at hSw); go_simp; all_goals with_reducible rfl)
            try simp only [Act.put, List.setIfInBounds_toArray, List.set_cons_zero, List.set_cons_succ]
            refine wpAnyH_ready (rs := [1]) (by kernel_rfl) (by simp) ?_
            refine AllReadyH.cons (o := { dst := some 108, op := Op.call { callee := Callee.value (Operand.func 14), args := #[Operand.tmp 107], argTypes := #[23] }, type := 27, pos := "outright.go:114", after := #[{ on := 0, ground := Ground.data }], guard := none }) rfl (fun K hK => ?_) AllReadyH.nil
            go_simp
            refine (hak.out W hIW).mono ?_
            rintro e' Wx ⟨rfl, hb⟩
            have hIWx := hIW.below hb
            go_wp2_with fail
            refine hK.out _ _ (hfull.out _ hIWx) (fun hHeld => ?_)
            clear hK K hb hIW
            try simp only [Act.put, List.setIfInBounds_toArray, List.set_cons_zero, List.set_cons_succ]
            refine wpAnyH_take (i := 3) (oi := { dst := some 110, op := Op.binOp BinOp.neq 27 (Operand.tmp 108) (Operand.tmp 109) 27, type := 4, pos := "outright.go:114", after := #[{ on := 1, ground := Ground.data }, { on := 2, ground := Ground.data }], guard := none }) (v := ?vv30) rfl (by kernel_rfl) (by kernel_rfl) (by kernel_rfl) (fun _ _ _ h => h) (Or.inl ⟨by rfl, ?hy30⟩) (by assumption) ?_
            case hy30 => (intro w hSw; (try dsimp only at hSw); go_simp; all_goals with_reducible rfl)
            try simp only [Act.put, List.setIfInBounds_toArray, List.set_cons_zero, List.set_cons_succ]
            refine wpAnyH_take (i := 4) (oi := { dst := some 111, op := Op.move (Operand.tmp 110), type := 4, pos := "outright.go:114", after := #[{ on := 3, ground := Ground.data }, { on := 1, ground := Ground.chain }], guard := none }) (v := ?vv31) rfl (by kernel_rfl) (by kernel_rfl) (by kernel_rfl) (fun _ _ _ h => h) (Or.inl ⟨by rfl, ?hy31⟩) (by assumption) ?_
            case hy31 => (intro w hSw; (try dsimp only at hSw); go_simp; all_goals with_reducible rfl)
            try simp only [Act.put, List.setIfInBounds_toArray, List.set_cons_zero, List.set_cons_succ]
            refine wpAnyH_take (i := 5) (oi := { dst := some 112, op := Op.move (Operand.tmp 5), type := 23, pos := "outright.go:114", after := #[{ on := 4, ground := Ground.guard }], guard := some (4, false) }) (v := ?vv32) rfl (by kernel_rfl) (by kernel_rfl) (by kernel_rfl) (fun _ _ _ h => h) (Or.inl ⟨by rfl, ?hy32⟩) (by assumption) ?_
            case hy32 => (intro w hSw; (try dsimp only at hSw); go_simp; all_goals with_reducible rfl)
            try simp only [Act.put, List.setIfInBounds_toArray, List.set_cons_zero, List.set_cons_succ]
            refine wpAnyH_take (i := 7) (oi := { dst := some 114, op := Op.move (Operand.tmp 7), type := 29, pos := "outright.go:114", after := #[{ on := 4, ground := Ground.guard }], guard := some (4, false) }) (v := ?vv33) rfl (by kernel_rfl) (by kernel_rfl) (by kernel_rfl) (fun _ _ _ h => h) (Or.inl ⟨by rfl, ?hy33⟩) (by assumption) ?_
            case hy33 => (intro w hSw; (try dsimp only at hSw); go_simp; all_goals with_reducible rfl)
            try simp only [Act.put, List.setIfInBounds_toArray, List.set_cons_zero, List.set_cons_succ]
            refine wpAnyH_take (i := 8) (oi := { dst := some 115, op := Op.call { callee := Callee.builtin Builtin.len, args := #[Operand.tmp 114], argTypes := #[29] }, type := 3, pos := "outright.go:114", after := #[{ on := 7, ground := Ground.data }, { on := 4, ground := Ground.guard }], guard := some (4, false) }) (v := ?vv34) rfl (by kernel_rfl) (by kernel_rfl) (by kernel_rfl) (fun _ _ _ h => h) (Or.inl ⟨by rfl, ?hy34⟩) (by assumption) ?_
            case hy34 => (intro w hSw; (try dsimp only at hSw); go_simp; all_goals with_reducible rfl)
            try simp only [Act.put, List.setIfInBounds_toArray, List.set_cons_zero, List.set_cons_succ]
            refine wpAnyH_ready (rs := [6]) (by kernel_rfl) (by simp) ?_
            refine AllReadyH.cons (o := { dst := some 113, op := Op.call { callee := Callee.value (Operand.func 15), args := #[Operand.tmp 112], argTypes := #[23] }, type := 3, pos := "outright.go:114", after := #[{ on := 5, ground := Ground.data }, { on := 4, ground := Ground.chain }, { on := 4, ground := Ground.guard }], guard := some (4, false) }) rfl (fun K hK => ?_) AllReadyH.nil
            go_simp
            refine (hwt.out Wx hIWx).mono ?_
            rintro e' Wxx ⟨rfl, hb⟩
            have hIWxx := hIWx.below hb
            go_wp2_with fail
            refine hK.out _ _ (hfull.out _ hIWxx) (fun hHeld => ?_)
            clear hK K hb hIWx
            try simp only [Act.put, List.setIfInBounds_toArray, List.set_cons_zero, List.set_cons_succ]
            refine wpAnyH_take (i := 9) (oi := { dst := some 116, op := Op.binOp BinOp.neq 3 (Operand.tmp 113) (Operand.tmp 115) 3, type := 4, pos := "outright.go:114", after := #[{ on := 6, ground := Ground.data }, { on := 8, ground := Ground.data }, { on := 4, ground := Ground.guard }], guard := some (4, false) }) (v := ?vv35) rfl (by kernel_rfl) (by kernel_rfl) (by kernel_rfl) (fun _ _ _ h => h) (Or.inl ⟨by rfl, ?hy35⟩) (by assumption) ?_
            case hy35 => (intro w hSw; (try dsimp only at hSw); go_simp; all_goals with_reducible rfl)
            try simp only [Act.put, List.setIfInBounds_toArray, List.set_cons_zero, List.set_cons_succ]
            refine wpAnyH_take (i := 10) (oi := { dst := some 117, op := Op.pick (Operand.tmp 111) (Operand.const (Value.bool true)) (Operand.tmp 116), type := 4, pos := "outright.go:114", after := #[{ on := 4, ground := Ground.data }, { on := 9, ground := Ground.data }], guard := none }) (v := ?vv36) rfl (by kernel_rfl) (by kernel_rfl) (by kernel_rfl) (fun _ _ _ h => h) (Or.inl ⟨by rfl, ?hy36⟩) (by assumption) ?_
            case hy36 => (intro w hSw; (try dsimp only at hSw); go_simp; all_goals with_reducible rfl)
            try simp only [Act.put, List.setIfInBounds_toArray, List.set_cons_zero, List.set_cons_succ]
            refine wpAnyH_done (by kernel_rfl) ?_ _
            go_wp2_with fail
            go_roundw
            case rel => exact ⟨k + 1, by omega, by simp, (z1, 0, z3), rfl, (St.mk q1 q2 q3 q4 q5 q6), v', ls', hIWxx, hins', h64'⟩
            case measure => simp [intOf]; omega
          · by_cases hz1 : z3 = 1
            · skip
              subst hk2
              obtain ⟨q1, q2, q3, q4, q5, q6⟩ := s
              obtain ⟨⟨⟨y1, y2, y3⟩, l0⟩, ls', rfl⟩ : ∃ a r, ls = a :: r := by
                cases ls with
                | nil => exact absurd rfl hls0
                | cons a r => exact ⟨a, r, rfl⟩
              obtain ⟨m', hm'⟩ : ∃ m', ls'.length = m' := ⟨_, rfl⟩
              have hm1 : m = m' + 1 := by rw [← hm, ← hm']; simp
              obtain ⟨⟨⟨p1, p2, p3, p4, p5, p6⟩, code⟩, hA⟩ : ∃ A, applyS (St.mk q1 q2 q3 q4 q5 q6) l0 c = A := ⟨_, rfl⟩
              have hl0 : In EP w (.slice y1 y2 y3) l0 := hins ((y1, y2, y3), l0) (List.mem_cons_self ..)
              simp only [List.map_cons] at hH1
              have hch : chain c (St.mk q1 q2 q3 q4 q5 q6) (l0 :: ls'.map (·.2)) = (St.mk p1 p2 p3 p4 p5 p6) :: chain c (St.mk p1 p2 p3 p4 p5 p6) (ls'.map (·.2)) := by simp only [chain, hA]
              rw [hch] at hH1
              obtain ⟨gw, ow, cw, hwv, hw1, hw2, hwc, hwl, _, _⟩ := hH1.wr.first
              injection hwv with e1 e2 e3
              subst e1
              subst e3
              clear e2
              rw [List.length_map, hm'] at hw1
              have hAk : Calls Tryd.prog 13 #[.pointer (some ⟨b, 0, none⟩)] (wr.alloc (.cells #[.int .i64 2, .bool two, .slice x1 x2 x3] 32)) fun e w5 => e = .returned (.tuple #[.agg (St.mk p1 p2 p3 p4 p5 p6).a, .bool true]) ∧ Hid (∃ v', I2 w b g6 c (St.mk q1 q2 q3 q4 q5 q6) (St.mk p1 p2 p3 p4 p5 p6) (.slice (some ⟨gw, ow, none⟩) m z3) ((y1, y2, y3) :: ls'.map (·.1)) (ls'.map (·.2)) v' w5.heap.size (w5.alloc (.cells (St.mk p1 p2 p3 p4 p5 p6).a 27))) := by
                refine (ack_some _ b c (St.mk q1 q2 q3 q4 q5 q6) v (St.mk p1 p2 p3 p4 p5 p6) _ hH1.bk).mono ?_
                rintro e w5 ⟨rfl, v', hB, hK, hown⟩
                have hH5 := hH1.book hB hK (fun k hk => .inl (by rw [← hown]; exact hk))
                exact ⟨rfl, v', hH5.below (bel1 w5 _), heap_alloc_new _ _, by have := heap_lt hH5.now; omega⟩
              have hap : Hid (∀ (W : World) (v' : Value) (g13 : Nat), I2 w b g6 c (St.mk q1 q2 q3 q4 q5 q6) (St.mk p1 p2 p3 p4 p5 p6) (.slice (some ⟨gw, ow, none⟩) m z3) ((y1, y2, y3) :: ls'.map (·.1)) (ls'.map (·.2)) v' g13 W → Calls Tryd.prog 11 #[.agg (St.mk q1 q2 q3 q4 q5 q6).a, .slice y1 y2 y3, .bool c] W fun e w' => e = .returned (.tuple #[.agg (St.mk p1 p2 p3 p4 p5 p6).a, .int .i64 code]) ∧ Below W.heap.size W w') := fun W v' g13 hW => by
                refine (apply_any (St.mk q1 q2 q3 q4 q5 q6) _ l0 c W (hl0.below hW.1.bel)).mono ?_
                rintro e w' ⟨rfl, hb⟩
                exact ⟨by rw [hA], hb⟩
              have hst : Hid (∀ (W : World) (v' : Value) (g13 : Nat), I2 w b g6 c (St.mk q1 q2 q3 q4 q5 q6) (St.mk p1 p2 p3 p4 p5 p6) (.slice (some ⟨gw, ow, none⟩) m z3) ((y1, y2, y3) :: ls'.map (·.1)) (ls'.map (·.2)) v' g13 W → C6 (set6 W g6 (St.mk p1 p2 p3 p4 p5 p6)) g6 (St.mk p1 p2 p3 p4 p5 p6) ∧ C6 (set6 W g6 (St.mk p1 p2 p3 p4 p5 p6)) g13 (St.mk p1 p2 p3 p4 p5 p6) ∧ (set6 W g6 (St.mk p1 p2 p3 p4 p5 p6)).cell? ⟨gw, ow, none⟩ = some (.slice y1 y2 y3) ∧ Hid (Hm w b g6 c (St.mk p1 p2 p3 p4 p5 p6) (some ⟨gw, ow, none⟩) 0 0 (set6 W g6 (St.mk p1 p2 p3 p4 p5 p6)))) := by
                rintro W v' g13 ⟨hW, h13, hne⟩
                have hW2 := hW.set (St.mk p1 p2 p3 p4 p5 p6)
                have h13' : (set6 W g6 (St.mk p1 p2 p3 p4 p5 p6)).heap[g13]? = some (.cells (St.mk p1 p2 p3 p4 p5 p6).a 27 (0, 0)) := (set6_other _ _ _ _ hne).trans h13
                have ht := hW2.wr.tail.1 hz1
                rw [List.length_map, hm'] at ht
                have hm0 : m' = 0 := by omega
                rw [hm0, hz1] at ht
                refine ⟨c6 hW2.now, c6 h13', hW2.wr.head, v', ls', hW2.cut ht (fun k hk => hk), fun x hx => hins x (List.mem_cons_of_mem _ hx), by simp at h64; omega, by omega⟩
              have hmi : (0 : Int) < (m : Int) := by omega
              have hmi1 : (1 : Int) ≤ (m : Int) := by omega
              have hmz : (m : Int) ≤ (z3 : Int) := by omega
              have hmz0 : m ≤ z3 := by omega
              have hmn : 0 < m := by omega
              have hmd : decide (0 < m) = true := by simpa using hmn
              subst hz1
              obtain rfl : m = 1 := by omega
              simp only [St.a] at hAk hap
              clear hH1 hins h64 hm hl hll hk9 hnow hk1 hch hA hl0 hm' hm1 hwc hwl hls0 hw1
              go_wp2_with (go_at_call 13; refine hAk.mono ?_; clear hAk; rintro e w5 ⟨rfl, H5⟩)
              obtain ⟨v', hI5⟩ := H5.out
              have hfull : Hid (∀ W : World, I2 w b g6 c (St.mk q1 q2 q3 q4 q5 q6) (St.mk p1 p2 p3 p4 p5 p6) (.slice (some ⟨gw, ow, none⟩) 1 1) ((y1, y2, y3) :: ls'.map (·.1)) (ls'.map (·.2)) v' w5.heap.size W → (fun W => W.cell? ⟨gw, ow, none⟩ = some (.slice y1 y2 y3)) W) := fun W hW => hW.1.wr.head
              have hIW := hI5.below (Below.refl _ _).drew
              refine wp_region_held_drew (S := (fun W => W.cell? ⟨gw, ow, none⟩ = some (.slice y1 y2 y3))) (by kernel_rfl) (hfull.out _ hIW) (fun hHeld => ?_)
              generalize hWg : World.drew _ = W at hIW hHeld ⊢
              clear hWg hI5 H5
              refine wpAnyH_take (i := 1) (oi := { dst := some 83, op := Op.move (Operand.tmp 7), type := 29, pos := "outright.go:107", after := #[], guard := none }) (v := ?vv37) rfl (by kernel_rfl) (by kernel_rfl) (by kernel_rfl) (fun _ _ _ h => h) (Or.inl ⟨by rfl, ?hy37⟩) (by assumption) ?_
              case hy37 => (intro w hSw; (try dsimp only at hSw); go_simp; all_goals with_reducible rfl)
              try simp only [Act.put, List.setIfInBounds_toArray, List.set_cons_zero, List.set_cons_succ]
              refine wpAnyH_take (i := 2) (oi := { dst := some 84, op := Op.indexAddr 29 (Operand.tmp 83) (Operand.const (Value.int IntKind.i64 0)), type := 0, pos := "outright.go:107", after := #[{ on := 1, ground := Ground.data }], guard := none }) (v := ?vv38) rfl (by kernel_rfl) (by kernel_rfl) (by kernel_rfl) (fun _ _ _ h => h) (Or.inl ⟨by rfl, ?hy38⟩) (by assumption) ?_
              case hy38 => (intro w hSw; (try dsimp only at hSw); go_simp; all_goals with_reducible rfl)
              try simp only [Act.put, List.setIfInBounds_toArray, List.set_cons_zero, List.set_cons_succ]
              refine wpAnyH_take (i := 3) (oi := { dst := some 85, op := Op.load 30 (Operand.tmp 84), type := 30, pos := "outright.go:107", after := #[{ on := 2, ground := Ground.data }], guard := none }) (v := ?vv39) rfl (by kernel_rfl) (by kernel_rfl) (by kernel_rfl) (fun _ _ _ h => h) (Or.inl ⟨by rfl, ?hy39⟩) (by assumption) ?_
              case hy39 => (intro w hSw; (try dsimp only at hSw); go_simp; all_goals with_reducible rfl)
              try simp only [Act.put, List.setIfInBounds_toArray, List.set_cons_zero, List.set_cons_succ]
              refine wpAnyH_take (i := 4) (oi := { dst := some 86, op := Op.move (Operand.tmp 0), type := 4, pos := "outright.go:107", after := #[], guard := none }) (v := ?vv40) rfl (by kernel_rfl) (by kernel_rfl) (by kernel_rfl) (fun _ _ _ h => h) (Or.inl ⟨by rfl, ?hy40⟩) (by assumption) ?_
              case hy40 => (intro w hSw; (try dsimp only at hSw); go_simp; all_goals with_reducible rfl)
              try simp only [Act.put, List.setIfInBounds_toArray, List.set_cons_zero, List.set_cons_succ]
              refine wpAnyH_ready (rs := [0]) (by kernel_rfl) (by simp) ?_
              refine AllReadyH.cons (o := { dst := some 82, op := Op.load 27 (Operand.tmp 6), type := 27, pos := "outright.go:107", after := #[], guard := none }) rfl (fun K hK => ?_) AllReadyH.nil
              obtain ⟨z0', z1', z2', z3', z4', z5'⟩ := c6 hIW.1.now
              simp only at z0' z1' z2' z3' z4' z5'
              go_simp
              refine hK.out _ _ (hfull.out _ hIW) (fun hHeld => ?_)
              clear hK K z0' z1' z2' z3' z4' z5'
              have hIWx := hIW
              clear hIW
              generalize W = Wx at hIWx hHeld ⊢
              try simp only [Act.put, List.setIfInBounds_toArray, List.set_cons_zero, List.set_cons_succ]
              refine wpAnyH_ready (rs := [5]) (by kernel_rfl) (by simp) ?_
              refine AllReadyH.cons (o := { dst := some 87, op := Op.call { callee := Callee.value (Operand.func 11), args := #[Operand.tmp 82, Operand.tmp 85, Operand.tmp 86], argTypes := #[27, 30, 4] }, type := 33, pos := "outright.go:107", after := #[{ on := 0, ground := Ground.data }, { on := 3, ground := Ground.data }, { on := 4, ground := Ground.data }], guard := none }) rfl (fun K hK => ?_) AllReadyH.nil
              go_simp
              refine (hap.out Wx v' _ hIWx).mono ?_
              rintro e' Wxx ⟨rfl, hb⟩
              have hIWxx := hIWx.below hb
              go_wp2_with fail
              refine hK.out _ _ (hfull.out _ hIWxx) (fun hHeld => ?_)
              clear hK K hb hIWx
              try simp only [Act.put, List.setIfInBounds_toArray, List.set_cons_zero, List.set_cons_succ]
              refine wpAnyH_take (i := 6) (oi := { dst := some 81, op := Op.move (Operand.tmp 87), type := 33, pos := "outright.go:107", after := #[{ on := 5, ground := Ground.data }], guard := none }) (v := ?vv41) rfl (by kernel_rfl) (by kernel_rfl) (by kernel_rfl) (fun _ _ _ h => h) (Or.inl ⟨by rfl, ?hy41⟩) (by assumption) ?_
              case hy41 => (intro w hSw; (try dsimp only at hSw); go_simp; all_goals with_reducible rfl)
              try simp only [Act.put, List.setIfInBounds_toArray, List.set_cons_zero, List.set_cons_succ]
              refine wpAnyH_take (i := 7) (oi := { dst := some 88, op := Op.extract (Operand.tmp 81) 0, type := 27, pos := "outright.go:107", after := #[{ on := 6, ground := Ground.data }], guard := none }) (v := ?vv42) rfl (by kernel_rfl) (by kernel_rfl) (by kernel_rfl) (fun _ _ _ h => h) (Or.inl ⟨by rfl, ?hy42⟩) (by assumption) ?_
              case hy42 => (intro w hSw; (try dsimp only at hSw); go_simp; all_goals with_reducible rfl)
              try simp only [Act.put, List.setIfInBounds_toArray, List.set_cons_zero, List.set_cons_succ]
              refine wpAnyH_take (i := 8) (oi := { dst := some 89, op := Op.extract (Operand.tmp 81) 1, type := 2, pos := "outright.go:107", after := #[{ on := 6, ground := Ground.data }, { on := 9, ground := Ground.gcOnly Departure.lateStores }], guard := none }) (v := ?vv43) rfl (by kernel_rfl) (by kernel_rfl) (by kernel_rfl) (fun _ _ _ h => h) (Or.inl ⟨by rfl, ?hy43⟩) (by assumption) ?_
              case hy43 => (intro w hSw; (try dsimp only at hSw); go_simp; all_goals with_reducible rfl)
              try simp only [Act.put, List.setIfInBounds_toArray, List.set_cons_zero, List.set_cons_succ]
              refine wpAnyH_ready (rs := [9]) (by kernel_rfl) (by simp) ?_
              refine AllReadyH.cons (o := { dst := none, op := Op.store 27 (Operand.tmp 6) (Operand.tmp 88), type := 0, pos := "outright.go:107", after := #[{ on := 7, ground := Ground.data }, { on := 5, ground := Ground.chain }, { on := 0, ground := Ground.phase }, { on := 1, ground := Ground.phase }, { on := 2, ground := Ground.phase }, { on := 3, ground := Ground.phase }, { on := 4, ground := Ground.phase }, { on := 5, ground := Ground.phase }, { on := 6, ground := Ground.phase }, { on := 7, ground := Ground.phase }, { on := 8, ground := Ground.textOnly Departure.lateStores }], guard := none }) rfl (fun K hK => ?_) AllReadyH.nil
              obtain ⟨z0', z1', z2', z3', z4', z5'⟩ := c6 hIWxx.1.now
              obtain ⟨y0', y1', y2', y3', y4', y5'⟩ := f6 hIWxx.1.now
              simp only at z0' z1' z2' z3' z4' z5'
              go_simp
              change K _ (set6 Wxx g6 (St.mk p1 p2 p3 p4 p5 p6))
              obtain ⟨⟨k0, k1, k2, k3, k4, k5⟩, ⟨j0, j1, j2, j3, j4, j5⟩, hcw, hT⟩ := hst.out Wxx v' _ hIWxx
              simp only at k0 k1 k2 k3 k4 k5 j0 j1 j2 j3 j4 j5
              refine hK.out _ _ hcw (fun hHeld => ?_)
              generalize hWn : set6 Wxx g6 (St.mk p1 p2 p3 p4 p5 p6) = Wxxx at hT hHeld hcw k0 k1 k2 k3 k4 k5 j0 j1 j2 j3 j4 j5 ⊢
              clear hWn z0' z1' z2' z3' z4' z5' y0' y1' y2' y3' y4' y5' hK K hIWxx
              try simp only [Act.put, List.setIfInBounds_toArray, List.set_cons_zero, List.set_cons_succ]
              refine wpAnyH_done (by kernel_rfl) ?_ _
              clear hfull hst hap hHeld hcw
              go_wp2_with fail
              obtain ⟨v2, ls2, hH', hins', h64', hm2'⟩ := hT.out
              have hfull2 : Hid (∀ W, Hd w b g6 c (St.mk p1 p2 p3 p4 p5 p6) (St.mk p1 p2 p3 p4 p5 p6) v2 (chain c (St.mk p1 p2 p3 p4 p5 p6) (ls2.map (·.2))) (.slice (some ⟨gw, ow, none⟩) 0 0) (ls2.map (·.1)) W → (fun W => W.cell? ⟨g6, 0, none⟩ = some (.int .i64 p1) ∧ W.cell? ⟨g6, 1, none⟩ = some (.int .i64 p2) ∧ W.cell? ⟨g6, 2, none⟩ = some (.int .i64 p3) ∧ W.cell? ⟨g6, 3, none⟩ = some (.int .i64 p4) ∧ W.cell? ⟨g6, 4, none⟩ = some (.int .i64 p5) ∧ W.cell? ⟨g6, 5, none⟩ = some (.int .i64 p6) ∧ Hd w b g6 c (St.mk p1 p2 p3 p4 p5 p6) (St.mk p1 p2 p3 p4 p5 p6) v2 (chain c (St.mk p1 p2 p3 p4 p5 p6) (ls2.map (·.2))) (.slice (some ⟨gw, ow, none⟩) 0 0) (ls2.map (·.1)) W) W) := fun W hW =>
                ⟨cell_blk hW.now 0, cell_blk hW.now 1, cell_blk hW.now 2, cell_blk hW.now 3, cell_blk hW.now 4, cell_blk hW.now 5, hW⟩
              have hak : Hid (∀ W, Hd w b g6 c (St.mk p1 p2 p3 p4 p5 p6) (St.mk p1 p2 p3 p4 p5 p6) v2 (chain c (St.mk p1 p2 p3 p4 p5 p6) (ls2.map (·.2))) (.slice (some ⟨gw, ow, none⟩) 0 0) (ls2.map (·.1)) W → Calls Tryd.prog 14 #[.pointer (some ⟨b, 0, none⟩)] W fun e w' => e = .returned (.agg #[.int .i64 p1, .int .i64 p2, .int .i64 p3, .int .i64 p4, .int .i64 p5, .int .i64 p6]) ∧ Below W.heap.size W w') := fun W hW => acked_any W b c (St.mk p1 p2 p3 p4 p5 p6) v2 _ hW.bk
              have hwt : Hid (∀ W, Hd w b g6 c (St.mk p1 p2 p3 p4 p5 p6) (St.mk p1 p2 p3 p4 p5 p6) v2 (chain c (St.mk p1 p2 p3 p4 p5 p6) (ls2.map (·.2))) (.slice (some ⟨gw, ow, none⟩) 0 0) (ls2.map (·.1)) W → Calls Tryd.prog 15 #[.pointer (some ⟨b, 0, none⟩)] W fun e w' => e = .returned (.int .i64 (0 : Int)) ∧ Below W.heap.size W w') := fun W hW => (waiting_any W b c (St.mk p1 p2 p3 p4 p5 p6) v2 _ hW.bk).mono (by
                rintro e w' ⟨rfl, rfl⟩
                rw [chain_length, List.length_map, hm2']
                exact ⟨rfl, Below.refl _ _⟩)
              have hIW := hH'.below (Below.refl _ _).drew
              clear hm2' hH' hT
              refine wp_region_held_drew (S := (fun W => W.cell? ⟨g6, 0, none⟩ = some (.int .i64 p1) ∧ W.cell? ⟨g6, 1, none⟩ = some (.int .i64 p2) ∧ W.cell? ⟨g6, 2, none⟩ = some (.int .i64 p3) ∧ W.cell? ⟨g6, 3, none⟩ = some (.int .i64 p4) ∧ W.cell? ⟨g6, 4, none⟩ = some (.int .i64 p5) ∧ W.cell? ⟨g6, 5, none⟩ = some (.int .i64 p6) ∧ Hd w b g6 c (St.mk p1 p2 p3 p4 p5 p6) (St.mk p1 p2 p3 p4 p5 p6) v2 (chain c (St.mk p1 p2 p3 p4 p5 p6) (ls2.map (·.2))) (.slice (some ⟨gw, ow, none⟩) 0 0) (ls2.map (·.1)) W)) (by kernel_rfl) (hfull2.out _ hIW) (fun hHeld => ?_)
              generalize hWg : World.drew _ = W at hIW hHeld ⊢
              clear hWg
              refine wpAnyH_take (i := 0) (oi := { dst := some 107, op := Op.move (Operand.tmp 5), type := 23, pos := "outright.go:114", after := #[], guard := none }) (v := ?vv44) rfl (by kernel_rfl) (by kernel_rfl) (by kernel_rfl) (fun _ _ _ h => h) (Or.inl ⟨by rfl, ?hy44⟩) (by assumption) ?_
              case hy44 => (intro w hSw; (try dsimp only at hSw); go_simp; all_goals with_reducible rfl)
              try simp only [Act.put, List.setIfInBounds_toArray, List.set_cons_zero, List.set_cons_succ]
              refine wpAnyH_take (i := 2) (oi := { dst := some 109, op := Op.load 27 (Operand.tmp 6), type := 27, pos := "outright.go:114", after := #[], guard := none }) (v := ?vv45) rfl (by kernel_rfl) (by kernel_rfl) (by kernel_rfl) (fun _ _ _ h => h) (Or.inl ⟨by rfl, ?hy45⟩) (by assumption) ?_
              case hy45 => (intro w hSw; (try dsimp only at hSw); go_simp; all_goals with_reducible rfl)
              try simp only [Act.put, List.setIfInBounds_toArray, List.set_cons_zero, List.set_cons_succ]
              refine wpAnyH_ready (rs := [1]) (by kernel_rfl) (by simp) ?_
              refine AllReadyH.cons (o := { dst := some 108, op := Op.call { callee := Callee.value (Operand.func 14), args := #[Operand.tmp 107], argTypes := #[23] }, type := 27, pos := "outright.go:114", after := #[{ on := 0, ground := Ground.data }], guard := none }) rfl (fun K hK => ?_) AllReadyH.nil
              go_simp
              refine (hak.out W hIW).mono ?_
              rintro e' Wx ⟨rfl, hb⟩
              have hIWx := hIW.below hb
              go_wp2_with fail
              refine hK.out _ _ (hfull2.out _ hIWx) (fun hHeld => ?_)
              clear hK K hb hIW
              try simp only [Act.put, List.setIfInBounds_toArray, List.set_cons_zero, List.set_cons_succ]
              refine wpAnyH_take (i := 3) (oi := { dst := some 110, op := Op.binOp BinOp.neq 27 (Operand.tmp 108) (Operand.tmp 109) 27, type := 4, pos := "outright.go:114", after := #[{ on := 1, ground := Ground.data }, { on := 2, ground := Ground.data }], guard := none }) (v := ?vv46) rfl (by kernel_rfl) (by kernel_rfl) (by kernel_rfl) (fun _ _ _ h => h) (Or.inl ⟨by rfl, ?hy46⟩) (by assumption) ?_
              case hy46 => (intro w hSw; (try dsimp only at hSw); go_simp; all_goals with_reducible rfl)
              try simp only [Act.put, List.setIfInBounds_toArray, List.set_cons_zero, List.set_cons_succ]
              refine wpAnyH_take (i := 4) (oi := { dst := some 111, op := Op.move (Operand.tmp 110), type := 4, pos := "outright.go:114", after := #[{ on := 3, ground := Ground.data }, { on := 1, ground := Ground.chain }], guard := none }) (v := ?vv47) rfl (by kernel_rfl) (by kernel_rfl) (by kernel_rfl) (fun _ _ _ h => h) (Or.inl ⟨by rfl, ?hy47⟩) (by assumption) ?_
              case hy47 => (intro w hSw; (try dsimp only at hSw); go_simp; all_goals with_reducible rfl)
              try simp only [Act.put, List.setIfInBounds_toArray, List.set_cons_zero, List.set_cons_succ]
              refine wpAnyH_take (i := 5) (oi := { dst := some 112, op := Op.move (Operand.tmp 5), type := 23, pos := "outright.go:114", after := #[{ on := 4, ground := Ground.guard }], guard := some (4, false) }) (v := ?vv48) rfl (by kernel_rfl) (by kernel_rfl) (by kernel_rfl) (fun _ _ _ h => h) (Or.inl ⟨by rfl, ?hy48⟩) (by assumption) ?_
              case hy48 => (intro w hSw; (try dsimp only at hSw); go_simp; all_goals with_reducible rfl)
              try simp only [Act.put, List.setIfInBounds_toArray, List.set_cons_zero, List.set_cons_succ]
              refine wpAnyH_take (i := 7) (oi := { dst := some 114, op := Op.move (Operand.tmp 7), type := 29, pos := "outright.go:114", after := #[{ on := 4, ground := Ground.guard }], guard := some (4, false) }) (v := ?vv49) rfl (by kernel_rfl) (by kernel_rfl) (by kernel_rfl) (fun _ _ _ h => h) (Or.inl ⟨by rfl, ?hy49⟩) (by assumption) ?_
              case hy49 => (intro w hSw; (try dsimp only at hSw); go_simp; all_goals with_reducible rfl)
              try simp only [Act.put, List.setIfInBounds_toArray, List.set_cons_zero, List.set_cons_succ]
              refine wpAnyH_take (i := 8) (oi := { dst := some 115, op := Op.call { callee := Callee.builtin Builtin.len, args := #[Operand.tmp 114], argTypes := #[29] }, type := 3, pos := "outright.go:114", after := #[{ on := 7, ground := Ground.data }, { on := 4, ground := Ground.guard }], guard := some (4, false) }) (v := ?vv50) rfl (by kernel_rfl) (by kernel_rfl) (by kernel_rfl) (fun _ _ _ h => h) (Or.inl ⟨by rfl, ?hy50⟩) (by assumption) ?_
              case hy50 => (intro w hSw; (try dsimp only at hSw); go_simp; all_goals with_reducible rfl)
              try simp only [Act.put, List.setIfInBounds_toArray, List.set_cons_zero, List.set_cons_succ]
              refine wpAnyH_ready (rs := [6]) (by kernel_rfl) (by simp) ?_
              refine AllReadyH.cons (o := { dst := some 113, op := Op.call { callee := Callee.value (Operand.func 15), args := #[Operand.tmp 112], argTypes := #[23] }, type := 3, pos := "outright.go:114", after := #[{ on := 5, ground := Ground.data }, { on := 4, ground := Ground.chain }, { on := 4, ground := Ground.guard }], guard := some (4, false) }) rfl (fun K hK => ?_) AllReadyH.nil
              go_simp
              refine (hwt.out Wx hIWx).mono ?_
              rintro e' Wxx ⟨rfl, hb⟩
              have hIWxx := hIWx.below hb
              go_wp2_with fail
              refine hK.out _ _ (hfull2.out _ hIWxx) (fun hHeld => ?_)
              clear hK K hb hIWx
              try simp only [Act.put, List.setIfInBounds_toArray, List.set_cons_zero, List.set_cons_succ]
              refine wpAnyH_take (i := 9) (oi := { dst := some 116, op := Op.binOp BinOp.neq 3 (Operand.tmp 113) (Operand.tmp 115) 3, type := 4, pos := "outright.go:114", after := #[{ on := 6, ground := Ground.data }, { on := 8, ground := Ground.data }, { on := 4, ground := Ground.guard }], guard := some (4, false) }) (v := ?vv51) rfl (by kernel_rfl) (by kernel_rfl) (by kernel_rfl) (fun _ _ _ h => h) (Or.inl ⟨by rfl, ?hy51⟩) (by assumption) ?_
              case hy51 => (intro w hSw; (try dsimp only at hSw); go_simp; all_goals with_reducible rfl)
              try simp only [Act.put, List.setIfInBounds_toArray, List.set_cons_zero, List.set_cons_succ]
              refine wpAnyH_take (i := 10) (oi := { dst := some 117, op := Op.pick (Operand.tmp 111) (Operand.const (Value.bool true)) (Operand.tmp 116), type := 4, pos := "outright.go:114", after := #[{ on := 4, ground := Ground.data }, { on := 9, ground := Ground.data }], guard := none }) (v := ?vv52) rfl (by kernel_rfl) (by kernel_rfl) (by kernel_rfl) (fun _ _ _ h => h) (Or.inl ⟨by rfl, ?hy52⟩) (by assumption) ?_
              case hy52 => (intro w hSw; (try dsimp only at hSw); go_simp; all_goals with_reducible rfl)
              try simp only [Act.put, List.setIfInBounds_toArray, List.set_cons_zero, List.set_cons_succ]
              refine wpAnyH_done (by kernel_rfl) ?_ _
              go_wp2_with fail
              go_roundw
              case rel => exact ⟨k + 1, by omega, by simp, ((some ⟨gw, ow, none⟩), 0, 0), rfl, (St.mk p1 p2 p3 p4 p5 p6), v2, ls2, hIWxx, hins', h64'⟩
              case measure => simp [intOf]; omega
            · skip
              subst hk2
              obtain ⟨q1, q2, q3, q4, q5, q6⟩ := s
              obtain ⟨⟨⟨y1, y2, y3⟩, l0⟩, ls', rfl⟩ : ∃ a r, ls = a :: r := by
                cases ls with
                | nil => exact absurd rfl hls0
                | cons a r => exact ⟨a, r, rfl⟩
              obtain ⟨m', hm'⟩ : ∃ m', ls'.length = m' := ⟨_, rfl⟩
              have hm1 : m = m' + 1 := by rw [← hm, ← hm']; simp
              obtain ⟨⟨⟨p1, p2, p3, p4, p5, p6⟩, code⟩, hA⟩ : ∃ A, applyS (St.mk q1 q2 q3 q4 q5 q6) l0 c = A := ⟨_, rfl⟩
              have hl0 : In EP w (.slice y1 y2 y3) l0 := hins ((y1, y2, y3), l0) (List.mem_cons_self ..)
              simp only [List.map_cons] at hH1
              have hch : chain c (St.mk q1 q2 q3 q4 q5 q6) (l0 :: ls'.map (·.2)) = (St.mk p1 p2 p3 p4 p5 p6) :: chain c (St.mk p1 p2 p3 p4 p5 p6) (ls'.map (·.2)) := by simp only [chain, hA]
              rw [hch] at hH1
              obtain ⟨gw, ow, cw, hwv, hw1, hw2, hwc, hwl, _, _⟩ := hH1.wr.first
              injection hwv with e1 e2 e3
              subst e1
              subst e3
              clear e2
              rw [List.length_map, hm'] at hw1
              have hAk : Calls Tryd.prog 13 #[.pointer (some ⟨b, 0, none⟩)] (wr.alloc (.cells #[.int .i64 2, .bool two, .slice x1 x2 x3] 32)) fun e w5 => e = .returned (.tuple #[.agg (St.mk p1 p2 p3 p4 p5 p6).a, .bool true]) ∧ Hid (∃ v', I2 w b g6 c (St.mk q1 q2 q3 q4 q5 q6) (St.mk p1 p2 p3 p4 p5 p6) (.slice (some ⟨gw, ow, none⟩) m z3) ((y1, y2, y3) :: ls'.map (·.1)) (ls'.map (·.2)) v' w5.heap.size (w5.alloc (.cells (St.mk p1 p2 p3 p4 p5 p6).a 27))) := by
                refine (ack_some _ b c (St.mk q1 q2 q3 q4 q5 q6) v (St.mk p1 p2 p3 p4 p5 p6) _ hH1.bk).mono ?_
                rintro e w5 ⟨rfl, v', hB, hK, hown⟩
                have hH5 := hH1.book hB hK (fun k hk => .inl (by rw [← hown]; exact hk))
                exact ⟨rfl, v', hH5.below (bel1 w5 _), heap_alloc_new _ _, by have := heap_lt hH5.now; omega⟩
              have hap : Hid (∀ (W : World) (v' : Value) (g13 : Nat), I2 w b g6 c (St.mk q1 q2 q3 q4 q5 q6) (St.mk p1 p2 p3 p4 p5 p6) (.slice (some ⟨gw, ow, none⟩) m z3) ((y1, y2, y3) :: ls'.map (·.1)) (ls'.map (·.2)) v' g13 W → Calls Tryd.prog 11 #[.agg (St.mk q1 q2 q3 q4 q5 q6).a, .slice y1 y2 y3, .bool c] W fun e w' => e = .returned (.tuple #[.agg (St.mk p1 p2 p3 p4 p5 p6).a, .int .i64 code]) ∧ Below W.heap.size W w') := fun W v' g13 hW => by
                refine (apply_any (St.mk q1 q2 q3 q4 q5 q6) _ l0 c W (hl0.below hW.1.bel)).mono ?_
                rintro e w' ⟨rfl, hb⟩
                exact ⟨by rw [hA], hb⟩
              have hst : Hid (∀ (W : World) (v' : Value) (g13 : Nat), I2 w b g6 c (St.mk q1 q2 q3 q4 q5 q6) (St.mk p1 p2 p3 p4 p5 p6) (.slice (some ⟨gw, ow, none⟩) m z3) ((y1, y2, y3) :: ls'.map (·.1)) (ls'.map (·.2)) v' g13 W → C6 (set6 W g6 (St.mk p1 p2 p3 p4 p5 p6)) g6 (St.mk p1 p2 p3 p4 p5 p6) ∧ C6 (set6 W g6 (St.mk p1 p2 p3 p4 p5 p6)) g13 (St.mk p1 p2 p3 p4 p5 p6) ∧ (set6 W g6 (St.mk p1 p2 p3 p4 p5 p6)).cell? ⟨gw, ow, none⟩ = some (.slice y1 y2 y3) ∧ Hid (Hm w b g6 c (St.mk p1 p2 p3 p4 p5 p6) (some ⟨gw, ow + 1, none⟩) m' (z3 - 1) (set6 W g6 (St.mk p1 p2 p3 p4 p5 p6)))) := by
                rintro W v' g13 ⟨hW, h13, hne⟩
                have hW2 := hW.set (St.mk p1 p2 p3 p4 p5 p6)
                have h13' : (set6 W g6 (St.mk p1 p2 p3 p4 p5 p6)).heap[g13]? = some (.cells (St.mk p1 p2 p3 p4 p5 p6).a 27 (0, 0)) := (set6_other _ _ _ _ hne).trans h13
                have ht := hW2.wr.tail.2 hz1
                rw [List.length_map, hm'] at ht
                refine ⟨c6 hW2.now, c6 h13', hW2.wr.head, v', ls', hW2.cut ht (fun k hk => hk), fun x hx => hins x (List.mem_cons_of_mem _ hx), by simp at h64; omega, hm'⟩
              have hmi : (0 : Int) < (m : Int) := by omega
              have hmi1 : (1 : Int) ≤ (m : Int) := by omega
              have hmz : (m : Int) ≤ (z3 : Int) := by omega
              have hmz0 : m ≤ z3 := by omega
              have hmn : 0 < m := by omega
              have hmd : decide (0 < m) = true := by simpa using hmn
              have hmm : m - 1 = m' := by omega
              have hmm2 : (m : Int) - 1 = (m' : Int) := by omega
              simp only [St.a] at hAk hap
              clear hH1 hins h64 hm hl hll hk9 hnow hk1 hch hA hl0 hm' hm1 hwc hwl hls0 hw1
              go_wp2_with (go_at_call 13; refine hAk.mono ?_; clear hAk; rintro e w5 ⟨rfl, H5⟩)
              obtain ⟨v', hI5⟩ := H5.out
              have hfull : Hid (∀ W : World, I2 w b g6 c (St.mk q1 q2 q3 q4 q5 q6) (St.mk p1 p2 p3 p4 p5 p6) (.slice (some ⟨gw, ow, none⟩) m z3) ((y1, y2, y3) :: ls'.map (·.1)) (ls'.map (·.2)) v' w5.heap.size W → (fun W => W.cell? ⟨gw, ow, none⟩ = some (.slice y1 y2 y3)) W) := fun W hW => hW.1.wr.head
              have hIW := hI5.below (Below.refl _ _).drew
              refine wp_region_held_drew (S := (fun W => W.cell? ⟨gw, ow, none⟩ = some (.slice y1 y2 y3))) (by kernel_rfl) (hfull.out _ hIW) (fun hHeld => ?_)
              generalize hWg : World.drew _ = W at hIW hHeld ⊢
              clear hWg hI5 H5
              refine wpAnyH_take (i := 1) (oi := { dst := some 83, op := Op.move (Operand.tmp 7), type := 29, pos := "outright.go:107", after := #[], guard := none }) (v := ?vv53) rfl (by kernel_rfl) (by kernel_rfl) (by kernel_rfl) (fun _ _ _ h => h) (Or.inl ⟨by rfl, ?hy53⟩) (by assumption) ?_
              case hy53 => (intro w hSw; (try dsimp only at hSw); go_simp; all_goals with_reducible rfl)
              try simp only [Act.put, List.setIfInBounds_toArray, List.set_cons_zero, List.set_cons_succ]
              refine wpAnyH_take (i := 2) (oi := { dst := some 84, op := Op.indexAddr 29 (Operand.tmp 83) (Operand.const (Value.int IntKind.i64 0)), type := 0, pos := "outright.go:107", after := #[{ on := 1, ground := Ground.data }], guard := none }) (v := ?vv54) rfl (by kernel_rfl) (by kernel_rfl) (by kernel_rfl) (fun _ _ _ h => h) (Or.inl ⟨by rfl, ?hy54⟩) (by assumption) ?_
              case hy54 => (intro w hSw; (try dsimp only at hSw); go_simp; all_goals with_reducible rfl)
              try simp only [Act.put, List.setIfInBounds_toArray, List.set_cons_zero, List.set_cons_succ]
              refine wpAnyH_take (i := 3) (oi := { dst := some 85, op := Op.load 30 (Operand.tmp 84), type := 30, pos := "outright.go:107", after := #[{ on := 2, ground := Ground.data }], guard := none }) (v := ?vv55) rfl (by kernel_rfl) (by kernel_rfl) (by kernel_rfl) (fun _ _ _ h => h) (Or.inl ⟨by rfl, ?hy55⟩) (by assumption) ?_
              case hy55 => (intro w hSw; (try dsimp only at hSw); go_simp; all_goals with_reducible rfl)
              try simp only [Act.put, List.setIfInBounds_toArray, List.set_cons_zero, List.set_cons_succ]
              refine wpAnyH_take (i := 4) (oi := { dst := some 86, op := Op.move (Operand.tmp 0), type := 4, pos := "outright.go:107", after := #[], guard := none }) (v := ?vv56) rfl (by kernel_rfl) (by kernel_rfl) (by kernel_rfl) (fun _ _ _ h => h) (Or.inl ⟨by rfl, ?hy56⟩) (by assumption) ?_
              case hy56 => (intro w hSw; (try dsimp only at hSw); go_simp; all_goals with_reducible rfl)
              try simp only [Act.put, List.setIfInBounds_toArray, List.set_cons_zero, List.set_cons_succ]
              refine wpAnyH_ready (rs := [0]) (by kernel_rfl) (by simp) ?_
              refine AllReadyH.cons (o := { dst := some 82, op := Op.load 27 (Operand.tmp 6), type := 27, pos := "outright.go:107", after := #[], guard := none }) rfl (fun K hK => ?_) AllReadyH.nil
              obtain ⟨z0', z1', z2', z3', z4', z5'⟩ := c6 hIW.1.now
              simp only at z0' z1' z2' z3' z4' z5'
              go_simp
              refine hK.out _ _ (hfull.out _ hIW) (fun hHeld => ?_)
              clear hK K z0' z1' z2' z3' z4' z5'
              have hIWx := hIW
              clear hIW
              generalize W = Wx at hIWx hHeld ⊢
              try simp only [Act.put, List.setIfInBounds_toArray, List.set_cons_zero, List.set_cons_succ]
              refine wpAnyH_ready (rs := [5]) (by kernel_rfl) (by simp) ?_
              refine AllReadyH.cons (o := { dst := some 87, op := Op.call { callee := Callee.value (Operand.func 11), args := #[Operand.tmp 82, Operand.tmp 85, Operand.tmp 86], argTypes := #[27, 30, 4] }, type := 33, pos := "outright.go:107", after := #[{ on := 0, ground := Ground.data }, { on := 3, ground := Ground.data }, { on := 4, ground := Ground.data }], guard := none }) rfl (fun K hK => ?_) AllReadyH.nil
              go_simp
              refine (hap.out Wx v' _ hIWx).mono ?_
              rintro e' Wxx ⟨rfl, hb⟩
              have hIWxx := hIWx.below hb
              go_wp2_with fail
              refine hK.out _ _ (hfull.out _ hIWxx) (fun hHeld => ?_)
              clear hK K hb hIWx
              try simp only [Act.put, List.setIfInBounds_toArray, List.set_cons_zero, List.set_cons_succ]
              refine wpAnyH_take (i := 6) (oi := { dst := some 81, op := Op.move (Operand.tmp 87), type := 33, pos := "outright.go:107", after := #[{ on := 5, ground := Ground.data }], guard := none }) (v := ?vv57) rfl (by kernel_rfl) (by kernel_rfl) (by kernel_rfl) (fun _ _ _ h => h) (Or.inl ⟨by rfl, ?hy57⟩) (by assumption) ?_
              case hy57 => (intro w hSw; (try dsimp only at hSw); go_simp; all_goals with_reducible rfl)
              try simp only [Act.put, List.setIfInBounds_toArray, List.set_cons_zero, List.set_cons_succ]
              refine wpAnyH_take (i := 7) (oi := { dst := some 88, op := Op.extract (Operand.tmp 81) 0, type := 27, pos := "outright.go:107", after := #[{ on := 6, ground := Ground.data }], guard := none }) (v := ?vv58) rfl (by kernel_rfl) (by kernel_rfl) (by kernel_rfl) (fun _ _ _ h => h) (Or.inl ⟨by rfl, ?hy58⟩) (by assumption) ?_
              case hy58 => (intro w hSw; (try dsimp only at hSw); go_simp; all_goals with_reducible rfl)
              try simp only [Act.put, List.setIfInBounds_toArray, List.set_cons_zero, List.set_cons_succ]
              refine wpAnyH_take (i := 8) (oi := { dst := some 89, op := Op.extract (Operand.tmp 81) 1, type := 2, pos := "outright.go:107", after := #[{ on := 6, ground := Ground.data }, { on := 9, ground := Ground.gcOnly Departure.lateStores }], guard := none }) (v := ?vv59) rfl (by kernel_rfl) (by kernel_rfl) (by kernel_rfl) (fun _ _ _ h => h) (Or.inl ⟨by rfl, ?hy59⟩) (by assumption) ?_
              case hy59 => (intro w hSw; (try dsimp only at hSw); go_simp; all_goals with_reducible rfl)
              try simp only [Act.put, List.setIfInBounds_toArray, List.set_cons_zero, List.set_cons_succ]
              refine wpAnyH_ready (rs := [9]) (by kernel_rfl) (by simp) ?_
              refine AllReadyH.cons (o := { dst := none, op := Op.store 27 (Operand.tmp 6) (Operand.tmp 88), type := 0, pos := "outright.go:107", after := #[{ on := 7, ground := Ground.data }, { on := 5, ground := Ground.chain }, { on := 0, ground := Ground.phase }, { on := 1, ground := Ground.phase }, { on := 2, ground := Ground.phase }, { on := 3, ground := Ground.phase }, { on := 4, ground := Ground.phase }, { on := 5, ground := Ground.phase }, { on := 6, ground := Ground.phase }, { on := 7, ground := Ground.phase }, { on := 8, ground := Ground.textOnly Departure.lateStores }], guard := none }) rfl (fun K hK => ?_) AllReadyH.nil
              obtain ⟨z0', z1', z2', z3', z4', z5'⟩ := c6 hIWxx.1.now
              obtain ⟨y0', y1', y2', y3', y4', y5'⟩ := f6 hIWxx.1.now
              simp only at z0' z1' z2' z3' z4' z5'
              go_simp
              change K _ (set6 Wxx g6 (St.mk p1 p2 p3 p4 p5 p6))
              obtain ⟨⟨k0, k1, k2, k3, k4, k5⟩, ⟨j0, j1, j2, j3, j4, j5⟩, hcw, hT⟩ := hst.out Wxx v' _ hIWxx
              simp only at k0 k1 k2 k3 k4 k5 j0 j1 j2 j3 j4 j5
              refine hK.out _ _ hcw (fun hHeld => ?_)
              generalize hWn : set6 Wxx g6 (St.mk p1 p2 p3 p4 p5 p6) = Wxxx at hT hHeld hcw k0 k1 k2 k3 k4 k5 j0 j1 j2 j3 j4 j5 ⊢
              clear hWn z0' z1' z2' z3' z4' z5' y0' y1' y2' y3' y4' y5' hK K hIWxx
              try simp only [Act.put, List.setIfInBounds_toArray, List.set_cons_zero, List.set_cons_succ]
              refine wpAnyH_done (by kernel_rfl) ?_ _
              clear hfull hst hap hHeld hcw
              go_wp2_with fail
              obtain ⟨v2, ls2, hH', hins', h64', hm2'⟩ := hT.out
              have hfull2 : Hid (∀ W, Hd w b g6 c (St.mk p1 p2 p3 p4 p5 p6) (St.mk p1 p2 p3 p4 p5 p6) v2 (chain c (St.mk p1 p2 p3 p4 p5 p6) (ls2.map (·.2))) (.slice (some ⟨gw, ow + 1, none⟩) m' (z3 - 1)) (ls2.map (·.1)) W → (fun W => W.cell? ⟨g6, 0, none⟩ = some (.int .i64 p1) ∧ W.cell? ⟨g6, 1, none⟩ = some (.int .i64 p2) ∧ W.cell? ⟨g6, 2, none⟩ = some (.int .i64 p3) ∧ W.cell? ⟨g6, 3, none⟩ = some (.int .i64 p4) ∧ W.cell? ⟨g6, 4, none⟩ = some (.int .i64 p5) ∧ W.cell? ⟨g6, 5, none⟩ = some (.int .i64 p6) ∧ Hd w b g6 c (St.mk p1 p2 p3 p4 p5 p6) (St.mk p1 p2 p3 p4 p5 p6) v2 (chain c (St.mk p1 p2 p3 p4 p5 p6) (ls2.map (·.2))) (.slice (some ⟨gw, ow + 1, none⟩) m' (z3 - 1)) (ls2.map (·.1)) W) W) := fun W hW =>
                ⟨cell_blk hW.now 0, cell_blk hW.now 1, cell_blk hW.now 2, cell_blk hW.now 3, cell_blk hW.now 4, cell_blk hW.now 5, hW⟩
              have hak : Hid (∀ W, Hd w b g6 c (St.mk p1 p2 p3 p4 p5 p6) (St.mk p1 p2 p3 p4 p5 p6) v2 (chain c (St.mk p1 p2 p3 p4 p5 p6) (ls2.map (·.2))) (.slice (some ⟨gw, ow + 1, none⟩) m' (z3 - 1)) (ls2.map (·.1)) W → Calls Tryd.prog 14 #[.pointer (some ⟨b, 0, none⟩)] W fun e w' => e = .returned (.agg #[.int .i64 p1, .int .i64 p2, .int .i64 p3, .int .i64 p4, .int .i64 p5, .int .i64 p6]) ∧ Below W.heap.size W w') := fun W hW => acked_any W b c (St.mk p1 p2 p3 p4 p5 p6) v2 _ hW.bk
              have hwt : Hid (∀ W, Hd w b g6 c (St.mk p1 p2 p3 p4 p5 p6) (St.mk p1 p2 p3 p4 p5 p6) v2 (chain c (St.mk p1 p2 p3 p4 p5 p6) (ls2.map (·.2))) (.slice (some ⟨gw, ow + 1, none⟩) m' (z3 - 1)) (ls2.map (·.1)) W → Calls Tryd.prog 15 #[.pointer (some ⟨b, 0, none⟩)] W fun e w' => e = .returned (.int .i64 (m' : Int)) ∧ Below W.heap.size W w') := fun W hW => (waiting_any W b c (St.mk p1 p2 p3 p4 p5 p6) v2 _ hW.bk).mono (by
                rintro e w' ⟨rfl, rfl⟩
                rw [chain_length, List.length_map, hm2']
                exact ⟨rfl, Below.refl _ _⟩)
              have hIW := hH'.below (Below.refl _ _).drew
              clear hm2' hH' hT
              refine wp_region_held_drew (S := (fun W => W.cell? ⟨g6, 0, none⟩ = some (.int .i64 p1) ∧ W.cell? ⟨g6, 1, none⟩ = some (.int .i64 p2) ∧ W.cell? ⟨g6, 2, none⟩ = some (.int .i64 p3) ∧ W.cell? ⟨g6, 3, none⟩ = some (.int .i64 p4) ∧ W.cell? ⟨g6, 4, none⟩ = some (.int .i64 p5) ∧ W.cell? ⟨g6, 5, none⟩ = some (.int .i64 p6) ∧ Hd w b g6 c (St.mk p1 p2 p3 p4 p5 p6) (St.mk p1 p2 p3 p4 p5 p6) v2 (chain c (St.mk p1 p2 p3 p4 p5 p6) (ls2.map (·.2))) (.slice (some ⟨gw, ow + 1, none⟩) m' (z3 - 1)) (ls2.map (·.1)) W)) (by kernel_rfl) (hfull2.out _ hIW) (fun hHeld => ?_)
              generalize hWg : World.drew _ = W at hIW hHeld ⊢
              clear hWg
              refine wpAnyH_take (i := 0) (oi := { dst := some 107, op := Op.move (Operand.tmp 5), type := 23, pos := "outright.go:114", after := #[], guard := none }) (v := ?vv60) rfl (by kernel_rfl) (by kernel_rfl) (by kernel_rfl) (fun _ _ _ h => h) (Or.inl ⟨by rfl, ?hy60⟩) (by assumption) ?_
              case hy60 => (intro w hSw; (try dsimp only at hSw); go_simp; all_goals with_reducible rfl)
              try simp only [Act.put, List.setIfInBounds_toArray, List.set_cons_zero, List.set_cons_succ]
              refine wpAnyH_take (i := 2) (oi := { dst := some 109, op := Op.load 27 (Operand.tmp 6), type := 27, pos := "outright.go:114", after := #[], guard := none }) (v := ?vv61) rfl (by kernel_rfl) (by kernel_rfl) (by kernel_rfl) (fun _ _ _ h => h) (Or.inl ⟨by rfl, ?hy61⟩) (by assumption) ?_
              case hy61 => (intro w hSw; (try dsimp only at hSw); go_simp; all_goals with_reducible rfl)
              try simp only [Act.put, List.setIfInBounds_toArray, List.set_cons_zero, List.set_cons_succ]
              refine wpAnyH_ready (rs := [1]) (by kernel_rfl) (by simp) ?_
              refine AllReadyH.cons (o := { dst := some 108, op := Op.call { callee := Callee.value (Operand.func 14), args := #[Operand.tmp 107], argTypes := #[23] }, type := 27, pos := "outright.go:114", after := #[{ on := 0, ground := Ground.data }], guard := none }) rfl (fun K hK => ?_) AllReadyH.nil
              go_simp
              refine (hak.out W hIW).mono ?_
              rintro e' Wx ⟨rfl, hb⟩
              have hIWx := hIW.below hb
              go_wp2_with fail
              refine hK.out _ _ (hfull2.out _ hIWx) (fun hHeld => ?_)
              clear hK K hb hIW
              try simp only [Act.put, List.setIfInBounds_toArray, List.set_cons_zero, List.set_cons_succ]
              refine wpAnyH_take (i := 3) (oi := { dst := some 110, op := Op.binOp BinOp.neq 27 (Operand.tmp 108) (Operand.tmp 109) 27, type := 4, pos := "outright.go:114", after := #[{ on := 1, ground := Ground.data }, { on := 2, ground := Ground.data }], guard := none }) (v := ?vv62) rfl (by kernel_rfl) (by kernel_rfl) (by kernel_rfl) (fun _ _ _ h => h) (Or.inl ⟨by rfl, ?hy62⟩) (by assumption) ?_
              case hy62 => (intro w hSw; (try dsimp only at hSw); go_simp; all_goals with_reducible rfl)
              try simp only [Act.put, List.setIfInBounds_toArray, List.set_cons_zero, List.set_cons_succ]
              refine wpAnyH_take (i := 4) (oi := { dst := some 111, op := Op.move (Operand.tmp 110), type := 4, pos := "outright.go:114", after := #[{ on := 3, ground := Ground.data }, { on := 1, ground := Ground.chain }], guard := none }) (v := ?vv63) rfl (by kernel_rfl) (by kernel_rfl) (by kernel_rfl) (fun _ _ _ h => h) (Or.inl ⟨by rfl, ?hy63⟩) (by assumption) ?_
              case hy63 => (intro w hSw; (try dsimp only at hSw); go_simp; all_goals with_reducible rfl)
              try simp only [Act.put, List.setIfInBounds_toArray, List.set_cons_zero, List.set_cons_succ]
              refine wpAnyH_take (i := 5) (oi := { dst := some 112, op := Op.move (Operand.tmp 5), type := 23, pos := "outright.go:114", after := #[{ on := 4, ground := Ground.guard }], guard := some (4, false) }) (v := ?vv64) rfl (by kernel_rfl) (by kernel_rfl) (by kernel_rfl) (fun _ _ _ h => h) (Or.inl ⟨by rfl, ?hy64⟩) (by assumption) ?_
              case hy64 => (intro w hSw; (try dsimp only at hSw); go_simp; all_goals with_reducible rfl)
              try simp only [Act.put, List.setIfInBounds_toArray, List.set_cons_zero, List.set_cons_succ]
              refine wpAnyH_take (i := 7) (oi := { dst := some 114, op := Op.move (Operand.tmp 7), type := 29, pos := "outright.go:114", after := #[{ on := 4, ground := Ground.guard }], guard := some (4, false) }) (v := ?vv65) rfl (by kernel_rfl) (by kernel_rfl) (by kernel_rfl) (fun _ _ _ h => h) (Or.inl ⟨by rfl, ?hy65⟩) (by assumption) ?_
              case hy65 => (intro w hSw; (try dsimp only at hSw); go_simp; all_goals with_reducible rfl)
              try simp only [Act.put, List.setIfInBounds_toArray, List.set_cons_zero, List.set_cons_succ]
              refine wpAnyH_take (i := 8) (oi := { dst := some 115, op := Op.call { callee := Callee.builtin Builtin.len, args := #[Operand.tmp 114], argTypes := #[29] }, type := 3, pos := "outright.go:114", after := #[{ on := 7, ground := Ground.data }, { on := 4, ground := Ground.guard }], guard := some (4, false) }) (v := ?vv66) rfl (by kernel_rfl) (by kernel_rfl) (by kernel_rfl) (fun _ _ _ h => h) (Or.inl ⟨by rfl, ?hy66⟩) (by assumption) ?_
              case hy66 => (intro w hSw; (try dsimp only at hSw); go_simp; all_goals with_reducible rfl)
              try simp only [Act.put, List.setIfInBounds_toArray, List.set_cons_zero, List.set_cons_succ]
              refine wpAnyH_ready (rs := [6]) (by kernel_rfl) (by simp) ?_
              refine AllReadyH.cons (o := { dst := some 113, op := Op.call { callee := Callee.value (Operand.func 15), args := #[Operand.tmp 112], argTypes := #[23] }, type := 3, pos := "outright.go:114", after := #[{ on := 5, ground := Ground.data }, { on := 4, ground := Ground.chain }, { on := 4, ground := Ground.guard }], guard := some (4, false) }) rfl (fun K hK => ?_) AllReadyH.nil
              go_simp
              refine (hwt.out Wx hIWx).mono ?_
              rintro e' Wxx ⟨rfl, hb⟩
              have hIWxx := hIWx.below hb
              go_wp2_with fail
              refine hK.out _ _ (hfull2.out _ hIWxx) (fun hHeld => ?_)
              clear hK K hb hIWx
              try simp only [Act.put, List.setIfInBounds_toArray, List.set_cons_zero, List.set_cons_succ]
              refine wpAnyH_take (i := 9) (oi := { dst := some 116, op := Op.binOp BinOp.neq 3 (Operand.tmp 113) (Operand.tmp 115) 3, type := 4, pos := "outright.go:114", after := #[{ on := 6, ground := Ground.data }, { on := 8, ground := Ground.data }, { on := 4, ground := Ground.guard }], guard := some (4, false) }) (v := ?vv67) rfl (by kernel_rfl) (by kernel_rfl) (by kernel_rfl) (fun _ _ _ h => h) (Or.inl ⟨by rfl, ?hy67⟩) (by assumption) ?_
              case hy67 => (intro w hSw; (try dsimp only at hSw); go_simp; all_goals with_reducible rfl)
              try simp only [Act.put, List.setIfInBounds_toArray, List.set_cons_zero, List.set_cons_succ]
              refine wpAnyH_take (i := 10) (oi := { dst := some 117, op := Op.pick (Operand.tmp 111) (Operand.const (Value.bool true)) (Operand.tmp 116), type := 4, pos := "outright.go:114", after := #[{ on := 4, ground := Ground.data }, { on := 9, ground := Ground.data }], guard := none }) (v := ?vv68) rfl (by kernel_rfl) (by kernel_rfl) (by kernel_rfl) (fun _ _ _ h => h) (Or.inl ⟨by rfl, ?hy68⟩) (by assumption) ?_
              case hy68 => (intro w hSw; (try dsimp only at hSw); go_simp; all_goals with_reducible rfl)
              try simp only [Act.put, List.setIfInBounds_toArray, List.set_cons_zero, List.set_cons_succ]
              refine wpAnyH_done (by kernel_rfl) ?_ _
              go_wp2_with fail
              go_roundw
              case rel => exact ⟨k + 1, by omega, by simp, ((some ⟨gw, ow + 1, none⟩), m', (z3 - 1)), rfl, (St.mk p1 p2 p3 p4 p5 p6), v2, ls2, hIWxx, hins', h64'⟩
              case measure => simp [intOf]; omega
        · skip
          have hb1 : (kd == 1) = false := by simpa using hk1
          have hb2 : (kd == 2) = false := by simpa using hk2
          obtain ⟨q1, q2, q3, q4, q5, q6⟩ := s
          have hT : Hid (Hm w b g6 c (St.mk q1 q2 q3 q4 q5 q6) z1 m z3 (wr.alloc (.cells #[.int .i64 kd, .bool two, .slice x1 x2 x3] 32))) := ⟨v, ls, hH1, hins, h64, hm⟩
          clear hk1 hk2 hH1 hins h64 hm hl hll hk9 hnow
          go_wp2_with fail
          obtain ⟨v', ls', hH', hins', h64', hm'⟩ := hT.out
          have hfull : Hid (∀ W, Hd w b g6 c (St.mk q1 q2 q3 q4 q5 q6) (St.mk q1 q2 q3 q4 q5 q6) v' (chain c (St.mk q1 q2 q3 q4 q5 q6) (ls'.map (·.2))) (.slice z1 m z3) (ls'.map (·.1)) W → (fun W => W.cell? ⟨g6, 0, none⟩ = some (.int .i64 q1) ∧ W.cell? ⟨g6, 1, none⟩ = some (.int .i64 q2) ∧ W.cell? ⟨g6, 2, none⟩ = some (.int .i64 q3) ∧ W.cell? ⟨g6, 3, none⟩ = some (.int .i64 q4) ∧ W.cell? ⟨g6, 4, none⟩ = some (.int .i64 q5) ∧ W.cell? ⟨g6, 5, none⟩ = some (.int .i64 q6) ∧ Hd w b g6 c (St.mk q1 q2 q3 q4 q5 q6) (St.mk q1 q2 q3 q4 q5 q6) v' (chain c (St.mk q1 q2 q3 q4 q5 q6) (ls'.map (·.2))) (.slice z1 m z3) (ls'.map (·.1)) W) W) := fun W hW =>
            ⟨cell_blk hW.now 0, cell_blk hW.now 1, cell_blk hW.now 2, cell_blk hW.now 3, cell_blk hW.now 4, cell_blk hW.now 5, hW⟩
          have hak : Hid (∀ W, Hd w b g6 c (St.mk q1 q2 q3 q4 q5 q6) (St.mk q1 q2 q3 q4 q5 q6) v' (chain c (St.mk q1 q2 q3 q4 q5 q6) (ls'.map (·.2))) (.slice z1 m z3) (ls'.map (·.1)) W → Calls Tryd.prog 14 #[.pointer (some ⟨b, 0, none⟩)] W fun e w' => e = .returned (.agg #[.int .i64 q1, .int .i64 q2, .int .i64 q3, .int .i64 q4, .int .i64 q5, .int .i64 q6]) ∧ Below W.heap.size W w') := fun W hW => acked_any W b c (St.mk q1 q2 q3 q4 q5 q6) v' _ hW.bk
          have hwt : Hid (∀ W, Hd w b g6 c (St.mk q1 q2 q3 q4 q5 q6) (St.mk q1 q2 q3 q4 q5 q6) v' (chain c (St.mk q1 q2 q3 q4 q5 q6) (ls'.map (·.2))) (.slice z1 m z3) (ls'.map (·.1)) W → Calls Tryd.prog 15 #[.pointer (some ⟨b, 0, none⟩)] W fun e w' => e = .returned (.int .i64 (m : Int)) ∧ Below W.heap.size W w') := fun W hW => (waiting_any W b c (St.mk q1 q2 q3 q4 q5 q6) v' _ hW.bk).mono (by
            rintro e w' ⟨rfl, rfl⟩
            rw [chain_length, List.length_map, hm']
            exact ⟨rfl, Below.refl _ _⟩)
          have hIW := hH'.below (Below.refl _ _).drew
          clear hm' hH' hT
          refine wp_region_held_drew (S := (fun W => W.cell? ⟨g6, 0, none⟩ = some (.int .i64 q1) ∧ W.cell? ⟨g6, 1, none⟩ = some (.int .i64 q2) ∧ W.cell? ⟨g6, 2, none⟩ = some (.int .i64 q3) ∧ W.cell? ⟨g6, 3, none⟩ = some (.int .i64 q4) ∧ W.cell? ⟨g6, 4, none⟩ = some (.int .i64 q5) ∧ W.cell? ⟨g6, 5, none⟩ = some (.int .i64 q6) ∧ Hd w b g6 c (St.mk q1 q2 q3 q4 q5 q6) (St.mk q1 q2 q3 q4 q5 q6) v' (chain c (St.mk q1 q2 q3 q4 q5 q6) (ls'.map (·.2))) (.slice z1 m z3) (ls'.map (·.1)) W)) (by kernel_rfl) (hfull.out _ hIW) (fun hHeld => ?_)
          generalize hWg : World.drew _ = W at hIW hHeld ⊢
          clear hWg
          refine wpAnyH_take (i := 0) (oi := { dst := some 107, op := Op.move (Operand.tmp 5), type := 23, pos := "outright.go:114", after := #[], guard := none }) (v := ?vv69) rfl (by kernel_rfl) (by kernel_rfl) (by kernel_rfl) (fun _ _ _ h => h) (Or.inl ⟨by rfl, ?hy69⟩) (by assumption) ?_
          case hy69 => (intro w hSw; (try dsimp only at hSw); go_simp; all_goals with_reducible rfl)
          try simp only [Act.put, List.setIfInBounds_toArray, List.set_cons_zero, List.set_cons_succ]
          refine wpAnyH_take (i := 2) (oi := { dst := some 109, op := Op.load 27 (Operand.tmp 6), type := 27, pos := "outright.go:114", after := #[], guard := none }) (v := ?vv70) rfl (by kernel_rfl) (by kernel_rfl) (by kernel_rfl) (fun _ _ _ h => h) (Or.inl ⟨by rfl, ?hy70⟩) (by assumption) ?_
          case hy70 => (intro w hSw; (try dsimp only at hSw); go_simp; all_goals with_reducible rfl)
          try simp only [Act.put, List.setIfInBounds_toArray, List.set_cons_zero, List.set_cons_succ]
          refine wpAnyH_ready (rs := [1]) (by kernel_rfl) (by simp) ?_
          refine AllReadyH.cons (o := { dst := some 108, op := Op.call { callee := Callee.value (Operand.func 14), args := #[Operand.tmp 107], argTypes := #[23] }, type := 27, pos := "outright.go:114", after := #[{ on := 0, ground := Ground.data }], guard := none }) rfl (fun K hK => ?_) AllReadyH.nil
          go_simp
          refine (hak.out W hIW).mono ?_
          rintro e' Wx ⟨rfl, hb⟩
          have hIWx := hIW.below hb
          go_wp2_with fail
          refine hK.out _ _ (hfull.out _ hIWx) (fun hHeld => ?_)
          clear hK K hb hIW
          try simp only [Act.put, List.setIfInBounds_toArray, List.set_cons_zero, List.set_cons_succ]
          refine wpAnyH_take (i := 3) (oi := { dst := some 110, op := Op.binOp BinOp.neq 27 (Operand.tmp 108) (Operand.tmp 109) 27, type := 4, pos := "outright.go:114", after := #[{ on := 1, ground := Ground.data }, { on := 2, ground := Ground.data }], guard := none }) (v := ?vv71) rfl (by kernel_rfl) (by kernel_rfl) (by kernel_rfl) (fun _ _ _ h => h) (Or.inl ⟨by rfl, ?hy71⟩) (by assumption) ?_
          case hy71 => (intro w hSw; (try dsimp only at hSw); go_simp; all_goals with_reducible rfl)
          try simp only [Act.put, List.setIfInBounds_toArray, List.set_cons_zero, List.set_cons_succ]
          refine wpAnyH_take (i := 4) (oi := { dst := some 111, op := Op.move (Operand.tmp 110), type := 4, pos := "outright.go:114", after := #[{ on := 3, ground := Ground.data }, { on := 1, ground := Ground.chain }], guard := none }) (v := ?vv72) rfl (by kernel_rfl) (by kernel_rfl) (by kernel_rfl) (fun _ _ _ h => h) (Or.inl ⟨by rfl, ?hy72⟩) (by assumption) ?_
          case hy72 => (intro w hSw; (try dsimp only at hSw); go_simp; all_goals with_reducible rfl)
          try simp only [Act.put, List.setIfInBounds_toArray, List.set_cons_zero, List.set_cons_succ]
          refine wpAnyH_take (i := 5) (oi := { dst := some 112, op := Op.move (Operand.tmp 5), type := 23, pos := "outright.go:114", after := #[{ on := 4, ground := Ground.guard }], guard := some (4, false) }) (v := ?vv73) rfl (by kernel_rfl) (by kernel_rfl) (by kernel_rfl) (fun _ _ _ h => h) (Or.inl ⟨by rfl, ?hy73⟩) (by assumption) ?_
          case hy73 => (intro w hSw; (try dsimp only at hSw); go_simp; all_goals with_reducible rfl)
          try simp only [Act.put, List.setIfInBounds_toArray, List.set_cons_zero, List.set_cons_succ]
          refine wpAnyH_take (i := 7) (oi := { dst := some 114, op := Op.move (Operand.tmp 7), type := 29, pos := "outright.go:114", after := #[{ on := 4, ground := Ground.guard }], guard := some (4, false) }) (v := ?vv74) rfl (by kernel_rfl) (by kernel_rfl) (by kernel_rfl) (fun _ _ _ h => h) (Or.inl ⟨by rfl, ?hy74⟩) (by assumption) ?_
          case hy74 => (intro w hSw; (try dsimp only at hSw); go_simp; all_goals with_reducible rfl)
          try simp only [Act.put, List.setIfInBounds_toArray, List.set_cons_zero, List.set_cons_succ]
          refine wpAnyH_take (i := 8) (oi := { dst := some 115, op := Op.call { callee := Callee.builtin Builtin.len, args := #[Operand.tmp 114], argTypes := #[29] }, type := 3, pos := "outright.go:114", after := #[{ on := 7, ground := Ground.data }, { on := 4, ground := Ground.guard }], guard := some (4, false) }) (v := ?vv75) rfl (by kernel_rfl) (by kernel_rfl) (by kernel_rfl) (fun _ _ _ h => h) (Or.inl ⟨by rfl, ?hy75⟩) (by assumption) ?_
          case hy75 => (intro w hSw; (try dsimp only at hSw); go_simp; all_goals with_reducible rfl)
          try simp only [Act.put, List.setIfInBounds_toArray, List.set_cons_zero, List.set_cons_succ]
          refine wpAnyH_ready (rs := [6]) (by kernel_rfl) (by simp) ?_
          refine AllReadyH.cons (o := { dst := some 113, op := Op.call { callee := Callee.value (Operand.func 15), args := #[Operand.tmp 112], argTypes := #[23] }, type := 3, pos := "outright.go:114", after := #[{ on := 5, ground := Ground.data }, { on := 4, ground := Ground.chain }, { on := 4, ground := Ground.guard }], guard := some (4, false) }) rfl (fun K hK => ?_) AllReadyH.nil
          go_simp
          refine (hwt.out Wx hIWx).mono ?_
          rintro e' Wxx ⟨rfl, hb⟩
          have hIWxx := hIWx.below hb
          go_wp2_with fail
          refine hK.out _ _ (hfull.out _ hIWxx) (fun hHeld => ?_)
          clear hK K hb hIWx
          try simp only [Act.put, List.setIfInBounds_toArray, List.set_cons_zero, List.set_cons_succ]
          refine wpAnyH_take (i := 9) (oi := { dst := some 116, op := Op.binOp BinOp.neq 3 (Operand.tmp 113) (Operand.tmp 115) 3, type := 4, pos := "outright.go:114", after := #[{ on := 6, ground := Ground.data }, { on := 8, ground := Ground.data }, { on := 4, ground := Ground.guard }], guard := some (4, false) }) (v := ?vv76) rfl (by kernel_rfl) (by kernel_rfl) (by kernel_rfl) (fun _ _ _ h => h) (Or.inl ⟨by rfl, ?hy76⟩) (by assumption) ?_
          case hy76 => (intro w hSw; (try dsimp only at hSw); go_simp; all_goals with_reducible rfl)
          try simp only [Act.put, List.setIfInBounds_toArray, List.set_cons_zero, List.set_cons_succ]
          refine wpAnyH_take (i := 10) (oi := { dst := some 117, op := Op.pick (Operand.tmp 111) (Operand.const (Value.bool true)) (Operand.tmp 116), type := 4, pos := "outright.go:114", after := #[{ on := 4, ground := Ground.data }, { on := 9, ground := Ground.data }], guard := none }) (v := ?vv77) rfl (by kernel_rfl) (by kernel_rfl) (by kernel_rfl) (fun _ _ _ h => h) (Or.inl ⟨by rfl, ?hy77⟩) (by assumption) ?_
          case hy77 => (intro w hSw; (try dsimp only at hSw); go_simp; all_goals with_reducible rfl)
          try simp only [Act.put, List.setIfInBounds_toArray, List.set_cons_zero, List.set_cons_succ]
          refine wpAnyH_done (by kernel_rfl) ?_ _
          go_wp2_with fail
          go_roundw
          case rel => exact ⟨k + 1, by omega, by simp, (z1, m, z3), rfl, (St.mk q1 q2 q3 q4 q5 q6), v', ls', hIWxx, hins', h64'⟩
          case measure => simp [intOf]; omega
    · obtain rfl : k = n := by omega
      obtain ⟨s, v, ls, hH, hins, h64⟩ := HP.out
      obtain ⟨y1, y2, y3⟩ := x
      have hB := hH.bel
      clear hH HP hins h64
      simp only [sv]
      go_wp2_with fail
      go_ret
      exact ⟨rfl, hB⟩
end Go.Proofs.YtfkimdgbkfogcaaDoor
