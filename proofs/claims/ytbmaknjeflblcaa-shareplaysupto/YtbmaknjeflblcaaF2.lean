/- The document's share: Put. -/
import Derived.Test.YtbmaknjeflblcaaF1
namespace Go.Proofs.Ytbmaknjeflblcaa
open Go.RowKit Go.Maps
set_option linter.unusedVariables false
set_option linter.unusedSimpArgs false

theorem Rs.st {w : World} {p : Nat} {v : SV} {L : List Stm} (h : Rs w p v L) (k : Nat) (hk : k < L.length) (i1 i2 : Nat) (h1 : i1 < 4) (h2 : i2 < 4) (hne : i1 ≠ i2) :
    ∃ g cap, v = (some ⟨g, 0, none⟩, L.length, cap) ∧ L.length ≤ cap ∧ cap ≤ 9223372036854775807 ∧ g < w.heap.size ∧ g ≠ p ∧ (sv v).ownBlock = some g ∧ (∀ o, w.frozen? ⟨g, o, none⟩ = false) ∧
      (w.cell? ⟨g, k * 4, none⟩ = some (.int .i64 L[k].id) ∧ w.cell? ⟨g, k * 4 + 1, none⟩ = some (.string L[k].t) ∧ w.cell? ⟨g, k * 4 + 2, none⟩ = some (.bool L[k].o) ∧ w.cell? ⟨g, k * 4 + 3, none⟩ = some (.bool L[k].g)) ∧
      ∀ (u1 u2 : Value) (x y : Stm) (w2 : World), stv y = (stv L[k]).set i1 u1 → stv x = (stv y).set i2 u2 → w2.heap = ((w.setCell ⟨g, k * 4 + i1, none⟩ u1).setCell ⟨g, k * 4 + i2, none⟩ u2).heap → w2.os = w.os → w2.tape = w.tape → w2.output = w.output → Rs w2 p v (L.set k x) ∧ Ks (fun i => i = g) w w2 := by
  obtain ⟨g, cap, e, q1, q2, q3, q4, q5, q6, q7⟩ := h.r.setc okSt k i1 hk h1
  have hv : v = (some ⟨g, 0, none⟩, L.length, cap) := by
    obtain ⟨a, b, c⟩ := v
    unfold sv at e
    injection e with e1 e2 e3
    simp only at e1 e2 e3
    rw [e1, e2, e3]
  have hgp : g ≠ p := fun e' => h.ne (by rw [q4, e'])
  refine ⟨g, cap, hv, q1, q2, q3, hgp, q4, q6, ⟨by have := q5 0 _ rfl; exact this, q5 1 _ rfl, q5 2 _ rfl, q5 3 _ rfl⟩, fun u1 u2 x y w2 hy hx e1 e2 e3 e4 => ?_⟩
  have hR1 := q7 u1 y hy
  obtain ⟨g', cap', e', r1, r2, r3, r4, r5, r6, r7⟩ := hR1.setc okSt k i2 (by simpa using hk) h2
  have hgg : g' = g := by rw [q4] at r4; exact (Option.some.inj r4).symm
  subst hgg
  have hR2 := r7 u2 x (by rw [List.getElem_set_self]; exact hx)
  rw [List.set_set] at hR2
  refine ⟨⟨?_, hR2.stays fun j hj _ => by rw [e1]; rfl⟩, ⟨e2, e3, e4, by rw [e1]; simp [World.setCell], fun j _ hj => ?_⟩⟩
  · rw [e1, setCell_other _ _ _ _ _ (Ne.symm hgp), setCell_other _ _ _ _ _ (Ne.symm hgp)]
    exact h.blk
  · rw [e1, setCell_other _ _ _ _ _ hj, setCell_other _ _ _ _ _ hj]
def rputE (L : List Stm) (id : Int) : Int := if isId id = false then 1 else match ix L id with | none => 0 | some k => if ((L[k]?.map fun s => s.o).getD false) = true then 8 else 0
def mo (L : List Stm) (k : Nat) (f : Stm → Stm) : List Stm := match L[k]? with | some s => L.set k (f s) | none => L
def rput (L : List Stm) (id : Int) (t : ByteArray) (en : Bool) : List Stm := if rputE L id = 0 then match ix L id with | none => L ++ [⟨id, t, en, false⟩] | some k => mo L k (fun s => ⟨s.id, s.t ++ t, en, s.g⟩) else L
/-- a call of the document's -/
def RP (w : World) (N : Nat → Prop) (p : Nat) (L : List Stm) (v : Value) (e : Ending) (w' : World) : Prop := e = .returned v ∧ Rn w' N p L ∧ Kn N w w'
theorem mod_set {L : List Stm} {k : Nat} (hk : k < L.length) (f : Stm → Stm) : mo L k f = L.set k (f L[k]) := by
  unfold mo
  rw [List.getElem?_eq_getElem hk]
set_option maxRecDepth 100000 in
set_option maxHeartbeats 4000000 in
theorem rput_any (w : World) (N : Nat → Prop) (p : Nat) (L : List Stm) (id : Int) (t : ByteArray) (en : Bool) (h : Rn w N p L) (hz : ∀ s ∈ L, s.t.size + t.size ≤ 1048576) (hts : t.size ≤ 1048576) (hl : L.length ≤ 1048576) :
    Calls Try.prog 27 #[.pointer (some ⟨p, 0, none⟩), .int .i64 id, .string t, .bool en] w (RP w N p (rput L id t en) (.int .i64 (rputE L id))) := by
  cases hid : isId id
  · have h1 : rputE L id = 1 := by unfold rputE; rw [if_pos hid]
    have hfin : Hid (RP w N p (rput L id t en) (.int .i64 (rputE L id)) (.returned (.int .i64 1)) w) := ⟨by rw [h1], by rw [rput, if_neg (by rw [h1]; decide)]; exact h, ⟨rfl, rfl, rfl, Nat.le_refl _, fun _ _ => rfl⟩⟩
    generalize RP w N p (rput L id t en) (.int .i64 (rputE L id)) = Q at hfin ⊢
    clear h h1 hz
    by_cases ha : id < 1
    · go_enter Try.func27, Try.ntmps27
      go_wp2
      exact hfin.out
    · have hb : 2147483647 < id := by
        have : ¬ (1 ≤ id ∧ id ≤ 2147483647) := fun hh => by rw [isId_iff.2 hh] at hid; cases hid
        omega
      clear hid
      go_enter Try.func27, Try.ntmps27
      go_wp2
      exact hfin.out
  · have hidr := isId_iff.1 hid
    have ha : ¬ id < 1 := by omega
    have hb : ¬ 2147483647 < id := by omega
    obtain ⟨v, hs, hNp, hNv⟩ := h.s
    have hlt := h.lt
    have hat := at_any w p v L id hs
    unfold ixI at hat
    cases hix : ix L id with
    | none =>
      rw [hix] at hat
      simp only at hat
      have hE : rputE L id = 0 := by unfold rputE; rw [if_neg (by rw [hid]; simp), hix]
      have c0 := cell_blk hs.blk 0
      have hp := heap_lt hs.blk
      have fp := frozen_blk hs.blk 0
      obtain ⟨vb, vn, vc⟩ := v
      have hI := hs.r
      unfold sv at c0
      simp only at c0
      obtain ⟨bb, cc, e, hc1, hc2⟩ := hI.slice
      unfold sv at e
      injection e with e1 e2 e3
      simp only at e1 e2 e3
      subst e1 e2 e3
      have b1 := bel1 w (Obj.cells #[.int .i64 id, .string ⟨#[]⟩, .bool false, .bool false] 82)
      obtain ⟨ab, ac, w2, hrun, hR2, hG2⟩ := app okSt (w.alloc (Obj.cells #[.int .i64 id, .string ⟨#[]⟩, .bool false, .bool false] 82)) (.slice vb L.length vc) L (hI.below b1) (.slice (some ⟨w.heap.size, 0, none⟩) 1 1) [⟨id, ⟨#[]⟩, false, false⟩] (R.one okSt _ (heap_alloc_new _ _) rfl).isIn (by simp [ESt]; omega)
      simp only [List.length_singleton] at hrun hR2 hG2
      have hb2 : w2.heap[p]? = some (.cells #[.slice vb L.length vc] 76 (0, 0)) := (hG2.block p (by simp; omega) (fun e => hs.ne e)).trans ((b1.block p hp).trans hs.blk)
      -- behind the store
      have hs3 : Rs (w2.setCell ⟨p, 0, none⟩ (.slice ab (L.length + 1) ac)) p (ab, L.length + 1, ac) (L ++ [⟨id, ⟨#[]⟩, false, false⟩]) := by
        have hne : (Value.slice ab (L.length + 1) ac).ownBlock ≠ some p := fun e => by
          rcases hG2.own p e with e | e
          · exact hs.ne e
          · simp at e; omega
        refine ⟨by rw [setCell_block _ _ _ _ _ _ _ hb2]; rfl, hR2.stays fun j hj _ => setCell_other _ _ _ _ _ fun e => hne (e ▸ hj)⟩
      obtain ⟨g, cap, hv, q1, q2, q3, q4, q5, q6, ⟨d0, d1, d2, d3⟩, q7⟩ := hs3.st L.length (by simp) 1 2 (by decide) (by decide) (by decide)
      injection hv with hv1 hv2
      injection hv2 with hv2 hv3
      subst hv1 hv3
      have hlast : (L ++ [(⟨id, ⟨#[]⟩, false, false⟩ : Stm)])[L.length]'(by simp) = ⟨id, ⟨#[]⟩, false, false⟩ := by simp
      rw [hlast] at d0 d1 d2 d3
      simp only at d0 d1 d2 d3
      have c3 := cell_blk hs3.blk 0
      have hp3 := heap_lt hs3.blk
      unfold sv at c3
      simp only at c3
      have hp2 := heap_lt hb2
      have fp2 := frozen_blk hb2 0
      have cp2 := cell_blk hb2 0
      have hkn : Kn N w (w2.setCell ⟨p, 0, none⟩ (.slice (some ⟨g, 0, none⟩) (L.length + 1) ac)) := by
        refine ⟨hG2.os.trans b1.os, hG2.tape.trans b1.tape, hG2.output.trans b1.output, by simp [World.setCell]; exact Nat.le_trans b1.size hG2.size, fun j hj => ?_⟩
        have hjp : j ≠ p := fun e => hNp (by rw [← e]; exact hj)
        rw [setCell_other _ _ _ _ _ hjp, hG2.block j (by simp; have := hlt j hj; omega) (fun e => hNv j e hj)]
        exact b1.block j (hlt j hj)
      have hfin : Hid (∀ w3 : World, w3.heap = (((w2.setCell ⟨p, 0, none⟩ (.slice (some ⟨g, 0, none⟩) (L.length + 1) ac)).setCell ⟨g, L.length * 4 + 1, none⟩ (.string t)).setCell ⟨g, L.length * 4 + 2, none⟩ (.bool en)).heap → w3.os = w2.os → w3.tape = w2.tape → w3.output = w2.output → RP w N p (rput L id t en) (.int .i64 (rputE L id)) (.returned (.int .i64 0)) w3) := fun w3 e1 e2 e3 e4 => by
        obtain ⟨a1, a2⟩ := q7 (.string t) (.bool en) ⟨id, t, en, false⟩ ⟨id, t, false, false⟩ w3 (by rw [hlast]; rfl) rfl e1 e2 e3 e4
        have hng : ¬ N g := fun e => by
          rcases hG2.own g rfl with e' | e'
          · exact hNv g e' e
          · have := hlt g e; simp at e'; omega
        refine ⟨by rw [hE], ⟨⟨(some ⟨g, 0, none⟩, L.length + 1, ac), ?_, hNp, fun j hj => ?_⟩, fun j hj => Nat.lt_of_lt_of_le (hlt j hj) (Nat.le_trans hkn.size a2.size)⟩, hkn.trans ⟨a2.os, a2.tape, a2.output, a2.size, fun j hj => a2.block j (by simp [World.setCell]; have := hlt j hj; have := hG2.size; simp at this; omega) fun e => hng (by rw [← e]; exact hj)⟩⟩
        · rw [rput, if_pos hE, hix]
          simp only
          have : (L ++ [(⟨id, ⟨#[]⟩, false, false⟩ : Stm)]).set L.length ⟨id, t, en, false⟩ = L ++ [⟨id, t, en, false⟩] := by rw [List.set_append_right _ _ (Nat.le_refl _)]; simp
          rw [this] at a1
          exact a1
        · simp [sv, Value.ownBlock] at hj
          subst hj
          exact hng
      generalize RP w N p (rput L id t en) (.int .i64 (rputE L id)) = Q at hfin ⊢
      have f1 := q6 (L.length * 4 + 1)
      have f2 := q6 (L.length * 4 + 2)
      have HAT : Hid (Calls Try.prog 34 #[.pointer (some ⟨p, 0, none⟩), .int .i64 id] w fun e w' => e = .returned (.int .i64 (-1)) ∧ w' = w) := hat
      have HRUN : Hid ((Builtin.append_ #[74, 74] 74 #[.slice vb L.length vc, .slice (some ⟨w.heap.size, 0, none⟩) 1 1]).run Try.prog (w.alloc (Obj.cells #[.int .i64 id, .string ⟨#[]⟩, .bool false, .bool false] 82)) = .ok (.slice (some ⟨g, 0, none⟩) (L.length + 1) ac) w2) := hrun
      obtain ⟨n, hn⟩ : ∃ n, L.length = n := ⟨_, rfl⟩
      rw [hn] at HRUN c3 d0 d1 d2 d3 f1 f2 hfin c0 hl hc1
      have nn : ((n : Int) + 1) - 1 = (n : Int) := by omega
      have nl : (n : Int) < (n : Int) + 1 := by omega
      have nz : ¬ (n : Int) < 0 := by omega
      have he0 : (⟨#[]⟩ : ByteArray) ++ t = t := by
        cases t with
        | mk d => simp [ByteArray.ext_iff]
      clear hat hs hs3 hrun hR2 hG2 hb2 q7 q6 hlast hkn hn hE hz h hix hNv hlt hI b1 q1 q2 q5
      go_enter Try.func27, Try.ntmps27
      go_wp2_with fail
      refine Calls.mono HAT.out ?_
      rintro e w1 ⟨rfl, rfl⟩
      go_wp2_with (at_builtin; refine Lib.wpList_append_run _ rfl (.tmp 25) (.tmp 28) 74 74 rfl _ _ rfl rfl _ _ HRUN.out ?_)
      go_region
      all_goals
        go_wp2_with fail
        refine hfin.out _ ?_ ?_ ?_ ?_ <;> rfl
    | some k =>
      rw [hix] at hat
      simp only at hat
      have hk := (ix_some hix).1
      obtain ⟨g, cap, rfl, q1, q2, q3, q4, q5, q6, ⟨d0, d1, d2, d3⟩, q7⟩ := hs.st k hk 1 2 (by decide) (by decide) (by decide)
      have hso : ((L[k]?.map fun s => s.o).getD false) = L[k].o := by rw [List.getElem?_eq_getElem hk]; rfl
      have c0 := cell_blk hs.blk 0
      have hp := heap_lt hs.blk
      unfold sv at c0
      simp only at c0
      have HZ : Hid (L[k].t.size + t.size ≤ 1048576) := hz _ (List.getElem_mem hk)
      obtain ⟨n, hn⟩ : ∃ n, L.length = n := ⟨_, rfl⟩
      rw [hn] at c0 q1 hl hk
      have kl : (k : Int) < (n : Int) := by omega
      have kn : ¬ (k : Int) < 0 := by omega
      have hE : rputE L id = if L[k].o = true then 8 else 0 := by unfold rputE; rw [if_neg (by rw [hid]; simp), hix]; simp only; rw [hso]
      cases ho : L[k].o
      · rw [ho] at hE d2
        simp only [Bool.false_eq_true, if_false] at hE
        have hfin : Hid (∀ w2 : World, w2.heap = ((w.setCell ⟨g, k * 4 + 1, none⟩ (.string (L[k].t ++ t))).setCell ⟨g, k * 4 + 2, none⟩ (.bool en)).heap → w2.os = w.os → w2.tape = w.tape → w2.output = w.output → RP w N p (rput L id t en) (.int .i64 (rputE L id)) (.returned (.int .i64 0)) w2) := fun w2 e1 e2 e3 e4 => by
          obtain ⟨a1, a2⟩ := q7 (.string (L[k].t ++ t)) (.bool en) ⟨L[k].id, L[k].t ++ t, en, L[k].g⟩ ⟨L[k].id, L[k].t ++ t, L[k].o, L[k].g⟩ w2 rfl rfl e1 e2 e3 e4
          refine ⟨by rw [hE], ⟨⟨_, ?_, hNp, hNv⟩, fun j hj => Nat.lt_of_lt_of_le (hlt j hj) a2.size⟩, ⟨a2.os, a2.tape, a2.output, a2.size, fun j hj => a2.block j (hlt j hj) fun e => hNv j (by rw [q5, e]) hj⟩⟩
          rw [rput, if_pos hE, hix]
          simp only
          rw [mod_set (by omega)]
          exact a1
        generalize RP w N p (rput L id t en) (.int .i64 (rputE L id)) = Q at hfin ⊢
        obtain ⟨s, hsk⟩ : ∃ s, L[k] = s := ⟨_, rfl⟩
        rw [hsk] at d0 d1 d3 hfin HZ
        obtain ⟨si, st, so, sg⟩ := s
        simp only at d0 d1 d3 hfin HZ
        have hz1 : st.size ≤ 1048576 := by have := HZ.out; omega
        have f1 := q6 (k * 4 + 1)
        have f2 := q6 (k * 4 + 2)
        have HAT : Hid (Calls Try.prog 34 #[.pointer (some ⟨p, 0, none⟩), .int .i64 id] w fun e w' => e = .returned (.int .i64 (k : Int)) ∧ w' = w) := hat
        clear hat hs hsk ho hE hso hz h q7 q6 hix hNv hlt
        go_enter Try.func27, Try.ntmps27
        go_wp2_with fail
        refine Calls.mono HAT.out ?_
        rintro e w1 ⟨rfl, rfl⟩
        go_wp2_with fail
        go_region
        all_goals
          go_wp2_with fail
          refine hfin.out _ ?_ ?_ ?_ ?_ <;> rfl
      · rw [ho] at hE d2
        simp only [if_true] at hE
        have hfin : Hid (RP w N p (rput L id t en) (.int .i64 (rputE L id)) (.returned (.int .i64 8)) w) := ⟨by rw [hE], by rw [rput, if_neg (by rw [hE]; decide)]; exact h, ⟨rfl, rfl, rfl, Nat.le_refl _, fun _ _ => rfl⟩⟩
        generalize RP w N p (rput L id t en) (.int .i64 (rputE L id)) = Q at hfin ⊢
        have HAT : Hid (Calls Try.prog 34 #[.pointer (some ⟨p, 0, none⟩), .int .i64 id] w fun e w' => e = .returned (.int .i64 (k : Int)) ∧ w' = w) := hat
        clear hat hs ho hE hso hz h q7 q6 hix hNv hlt d0 d1 d3
        go_enter Try.func27, Try.ntmps27
        go_wp2_with fail
        refine Calls.mono HAT.out ?_
        rintro e w1 ⟨rfl, rfl⟩
        go_wp2_with fail
        exact hfin.out
end Go.Proofs.Ytbmaknjeflblcaa
