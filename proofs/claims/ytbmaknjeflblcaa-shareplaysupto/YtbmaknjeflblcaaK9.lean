/- share: Ready. -/
import Derived.Test.YtbmaknjeflblcaaK8
namespace Go.Proofs.Ytbmaknjeflblcaa
open Go.RowKit Go.Maps Go.Sort
set_option linter.unusedVariables false
set_option linter.unusedSimpArgs false

theorem grow_of {w w' : World} (h : Below w.heap.size w w') : w.grownBy w' none := ⟨h.os, h.tape, h.output, h.size, fun i hi _ => h.block i hi⟩
theorem below_of {w w0 w' : World} {r : Nat} (h : Below w.heap.size w w0) (hg : w0.grownBy w' (some r)) (hr : w.heap.size ≤ r) : Below w.heap.size w w' :=
  ⟨hg.os.trans h.os, hg.tape.trans h.tape, hg.output.trans h.output, Nat.le_trans h.size hg.size, fun i hi => (hg.block i (Nat.lt_of_lt_of_le hi h.size) (fun e => by have := Option.some.inj e; omega)).trans (h.block i hi)⟩
theorem below_none {w w' : World} (hg : w.grownBy w' none) : Below w.heap.size w w' := ⟨hg.os, hg.tape, hg.output, hg.size, fun i hi => hg.block i hi (by simp)⟩
theorem ranges_stays {w w' : World} {b r n cnt : Nat} {D : DataW Value} {left : Lit → Bool} (h : w.ranges Try.prog 2 qR b r n D left cnt) (hb : w'.heap[b]? = w.heap[b]?) (hr : w'.heap[r]? = w.heap[r]?) : w'.ranges Try.prog 2 qR b r n D left cnt := by
  obtain ⟨es, clock, since, seen, c0, h1, h2, h3, h4, h5, rest⟩ := h
  exact ⟨es, clock, since, seen, c0, hb.trans h1, h2, h3, h4, hr.trans h5, rest⟩
theorem in_int (w : World) (x : Int) (g : Nat) (c : Array Value) (h : w.heap[g]? = some (.cells c 2 (0, 0))) (hc : c = #[.int .i64 x]) : In EI w (.slice (some ⟨g, 0, none⟩) 1 1) [x] := by
  subst hc
  refine .inr ⟨_, 1, rfl, Nat.le_refl _, by decide, fun j u hu => ?_⟩
  have hj : j = 0 := by
    have := (List.getElem?_eq_some_iff.1 hu).1
    simp [El.cs, EI] at this
    omega
  subst hj
  rw [Addr.add_lit, Nat.zero_add, cell_blk h]
  exact hu
theorem mem_of_atq {L : Mp Qe} {x : Int} {c : SV × Bool} (h : ∀ zd, (mD qg L).atKey (.int .i64 x) zd = .held (qw c.1 c.2)) : ∃ l, (x, (⟨c.1, l, c.2⟩ : Qe)) ∈ L := by
  have h1 := h (.lit (.bool true))
  rw [at_mD] at h1
  cases hl : look L x with
  | none => rw [hl] at h1; cases h1
  | some v =>
    rw [hl] at h1
    simp only [qg, DataW.held.injEq, qv, qw, Value.agg.injEq] at h1
    have h2 : v.y = c.1 ∧ v.e = c.2 := by
      simp [sv] at h1
      obtain ⟨⟨a1, a2, a3⟩, a4⟩ := h1
      exact ⟨Prod.ext a1 (Prod.ext a2 a3), a4⟩
    have := look_mem hl
    obtain ⟨y, l, e⟩ := v
    obtain ⟨rfl, rfl⟩ := h2
    exact ⟨l, this⟩
theorem sort_rise {zs lv : List Int} (hr : lv.Pairwise (· < ·)) (hp : zs.Perm lv) : zs.mergeSort (fun x y => decide (x ≤ y)) = lv := by
  refine List.Perm.eq_of_pairwise (le := fun a b : Int => decide (a ≤ b) = true) (fun a b _ _ h1 h2 => by simp at h1 h2; omega) (List.pairwise_mergeSort (fun a b c h1 h2 => by simp at *; omega) (fun a b => by simp; omega) zs) (hr.imp fun h => by simp; omega) ((List.mergeSort_perm _ _).trans hp)
theorem invK2 (key : Value) (kl : Lit) (h : keyOf Try.prog 2 key = some kl) : ∃ x : Int, key = .int .i64 x := by
  obtain ⟨x, rfl, _⟩ := Maps.keyOf_int_inv Try.underlying2 h
  exact ⟨x, rfl⟩
theorem invVq (v : Value) (y : DataW Value × List MemPlace) (h : qR v = some y) : ∃ c : SV × Bool, v = qw c.1 c.2 := by
  obtain ⟨c, h1, _⟩ := qR_inv h
  exact ⟨c, h1⟩
theorem wf_of {x : Int} (h : (Lit.int .i64 x).wf = true) : wf64 x := by
  simp [Lit.wf] at h
  exact h
theorem wpList_next_q {ops : Array Oper} {rest : List Oper} {o : Oper} {a : Act} {Q : Exit → Act → World → Prop} (w : World) (hg : o.guard = none) (it : Operand) (hop : o.op = Op.next it false) (b r n : Nat) (L : Mp Qe) (left : Lit → Bool) (cnt : Nat)
    (hit : a.eval it = .pointer (some ⟨r, 0, none⟩)) (h : w.ranges Try.prog 2 qR b r n (mD qg L) left cnt)
    (hDone : cnt = 0 → (∀ kl, left kl = false) → wpList Try.prog ops Q rest (a.put o.dst (.tuple #[.bool false])) w)
    (hMore : ∀ (x : Int) (q : Qe) (w' : World) (cnt' : Nat), wf64 x → left (ky x) = true → (x, q) ∈ L → w'.ranges Try.prog 2 qR b r n (mD qg L) (fun z => left z && !z.sameKey (ky x)) cnt' → cnt' < cnt →
      w.grownBy w' (some r) → w'.heap.size = w.heap.size → (Instr.entry (.pointer (some ⟨r, 0, none⟩))).run Try.prog w' = .ok (.tuple #[.int .i64 x, .agg #[.slice q.y.1 q.y.2.1 q.y.2.2, .bool q.e]]) w' → wpList Try.prog ops Q rest (a.put o.dst (.tuple #[.bool true, .int .i64 x, .agg #[.slice q.y.1 q.y.2.1 q.y.2.2, .bool q.e]])) w') :
    wpList Try.prog ops Q (o :: rest) a w :=
  wpList_next_ranges w hg it hop 2 law2 qR (Value.int .i64) (fun c : SV × Bool => qw c.1 c.2) invK2 invVq b r n (mD qg L) left cnt hit h hDone (fun x c kl y w' cnt' hkey hlk hv hat hrg hlt hgr hsz hen => by
    obtain ⟨x', ex, rfl, hwx⟩ := Maps.keyOf_int_inv Try.underlying2 hkey
    injection ex with _ ex
    subst ex
    rw [qR_mk] at hv
    injection hv with hv
    subst hv
    obtain ⟨l, hl⟩ := mem_of_atq hat
    exact hMore x ⟨c.1, l, c.2⟩ w' cnt' (wf_of hwx) hlk hl hrg hlt hgr hsz hen)
def ReadyP (w : World) (T : St) (c : Int) (f : Int → Int) (e : Ending) (w' : World) : Prop := ∃ v, e = .returned v ∧ R EI w' v (T.ready c f) ∧ (∀ k, v.ownBlock = some k → w.heap.size ≤ k) ∧ Below w.heap.size w w'
set_option maxRecDepth 100000 in
set_option maxHeartbeats 2000000 in
theorem ready_any (w : World) (S : Nat → Prop) (p : Nat) (T : St) (c : Int) (v : SV) (l : List (Int × Int)) (h : Sh w S p T) (hI : In EL w (sv v) l) (hw : Wf2 l) (hn : l.length < 4611686018427387904) :
    Calls Try.prog 17 #[.pointer (some ⟨p, 0, none⟩), .int .i64 c, sv v] w (ReadyP w T c (lf l)) := by
  have hcall := fo_any w v l hI hw hn
  obtain ⟨bq, bo, L, h⟩ := h
  have hlen := h.sm.len
  have hsrt := h.sm.srt
  have hrise := St.ready_rise h.sm.ok c (lf l)
  have HSL : Hid (∀ zs : List Int, zs.Perm (T.ready c (lf l)) → zs.mergeSort (fun x y => decide (x ≤ y)) = T.ready c (lf l)) := fun zs hz => sort_rise hrise hz
  let cc : Int × Qe → Bool := fun q => mg q.2.l c (lf l q.1)
  have hle : ∀ left, (met L cc left).length ≤ 2147483647 := fun left => Nat.le_trans (met_le _ _ _) hlen
  have hfin : ∀ left, (∀ k, left k = false) → (met L cc left).map (·.1) = T.ready c (lf l) := fun left hl => by
    rw [met_end _ _ hl, St.ready, h.sm.tq, abs, List.filter_map, List.map_map]
    rfl
  have hstep : ∀ (left : Lit → Bool) (x : Int) (v : Qe), left (ky x) = true → (x, v) ∈ L → (met L cc (fun z => left z && !z.sameKey (ky x))).Perm (met L cc left ++ if cc (x, v) = true then [(x, v)] else []) := fun left x c h1 h2 => met_step cc h1 hsrt h2
  have hcc : ∀ x v, cc (x, v) = mg v.l c (lf l x) := fun _ _ => rfl
  have h0 : met L cc (Maps.has (mD qg L)) = [] := met_start qg _ _
  have HLF : Hid (∀ x, (look (fo l) x).getD 0 = lf l x) := fo_lf l
  have hrows : Hid (∀ q ∈ L, ∀ W, Below w.heap.size w W → q.2.y.2.1 = q.2.l.length) := fun q hq W _ => by
    obtain ⟨_, _, e⟩ := (h.rw.rows q hq).slice
    unfold sv at e
    injection e
  generalize cc = cc at hle hfin hstep hcc h0
  unfold ReadyP
  generalize T.ready c (lf l) = lv at hfin HSL ⊢
  have HLE : Hid (∀ left, (met L cc left).length ≤ 2147483647) := hle
  have HFN : Hid (∀ left, (∀ k, left k = false) → (met L cc left).map (·.1) = lv) := hfin
  have HST : Hid (∀ (left : Lit → Bool) (x : Int) (v : Qe), left (ky x) = true → (x, v) ∈ L → (met L cc (fun z => left z && !z.sameKey (ky x))).Perm (met L cc left ++ if cc (x, v) = true then [(x, v)] else [])) := hstep
  have HCC : Hid (∀ x v, cc (x, v) = mg v.l c (lf l x)) := hcc
  have H0 : Hid (met L cc (Maps.has (mD qg L)) = []) := h0
  have HV : Hid (Sv w S p bq bo L T) := h
  have HCALL : Hid (Calls Try.prog 25 #[sv v] w fun e w' => e = .returned (.map (some w.heap.size)) ∧ (∃ n, w'.ownsMap Try.prog 2 (plainElem (H := Value) Try.prog 2) w.heap.size n (mD lg (fo l))) ∧ Below w.heap.size w w' ∧ w.heap.size < w'.heap.size) := hcall
  clear hle hfin hstep hcc h0 hlen hsrt h hcall hrise hI hw hn
  obtain ⟨b, m, k⟩ := v
  unfold sv at HCALL ⊢
  simp only at HCALL ⊢
  go_enter Try.func17, Try.ntmps17
  go_wp2_with fail
  refine Calls.mono HCALL.out ?_
  rintro e w1 ⟨rfl, ⟨nf, hfo⟩, hB1, hsz1⟩
  have HV1 : Hid (Sv w1 S p bq bo L T) := HV.out.stays fun k hk _ => hB1.block k hk
  have HFO : Hid (w1.ownsMap Try.prog 2 (plainElem (H := Value) Try.prog 2) w.heap.size nf (mD lg (fo l))) := hfo
  have c0 := cell_blk HV1.out.sm.blk 0
  have hp := heap_lt HV1.out.sm.blk
  have hown := HV1.out.sm.mq
  have hbq := HV1.out.sm.lts.2.1
  clear hfo
  go_wp2_with (first
    | (at_range; refine wpList_range_own _ rfl _ 58 rfl 2 67 law2 Try.underlying58 _ bq _ _ rfl hown ?_; intro w0 hrg0 hg0 hs0)
    | go_in)
  go_frame
  go_loopw [8, 9, 10] (fun x _ _ wr => ∃ (left : Lit → Bool) (cnt : Nat) (zs : List Int), Hid (zs.Perm ((met L cc left).map (·.1))) ∧ R EI wr x zs ∧ (∀ k, x.ownBlock = some k → w1.heap.size + 1 ≤ k) ∧ wr.ranges Try.prog 2 qR bq w1.heap.size L.length (mD qg L) left cnt ∧ Below w1.heap.size w1 wr ∧ w1.heap.size + 1 ≤ wr.heap.size)
    (fun _ _ _ wr => wr.rangeLeft bq w1.heap.size)
  case atStart =>
    exact ⟨_, _, [], by rw [H0.out]; exact List.Perm.nil, R.nil EI _, fun k hk => by simp [Value.ownBlock] at hk, hrg0, below_none hg0, by omega⟩
  case round =>
    obtain ⟨left, cnt, zs, hzs, hR, hnew, hrg, hB, hsz⟩ := hrel
    obtain ⟨ba, ca, hx, _, _⟩ := hR.slice
    subst hx
    go_wp2_with (first
      | (at_next; refine wpList_next_q _ rfl _ rfl bq w1.heap.size _ _ _ _ rfl hrg ?_ ?_)
      | go_in)
    · intro hc0 hl0
      have e := HFN.out left hl0
      have hzs' := hzs.out
      rw [e] at hzs'
      have hms := HSL.out zs hzs'
      have hll : zs.length ≤ 2147483647 := by
        have := HLE.out left
        rw [hzs.out.length_eq]
        simpa using this
      clear hzs hrg hc0 hl0 e
      rcases hR.2 with ⟨hv, hz0⟩ | ⟨gg, cap, cur, hv, h1, h2, h3, h4, h5, h6⟩
      · injection hv with hv1 hv2 hv3
        obtain rfl : zs = [] := List.eq_nil_of_length_eq_zero hz0
        have hlv : lv = [] := by rw [← hms]; simp
        clear hms HSL
        subst hv1 hv3
        subst hlv
        go_wp2_with fail
        refine (sort_none none 0 _).mono ?_
        rintro e w2 ⟨rfl, rfl⟩
        go_wp2
        go_ret
        exact ⟨_, rfl, hR, fun k hk => by simp [Value.ownBlock] at hk, hB1.trans (hB.mono hB1.size)⟩
      · injection hv with hv1 hv2 hv3
        subst hv1 hv3
        have hcur : cur.toList.take zs.length = zs.map (Value.int .i64) := by
          rw [cs_I] at h6
          have : zs.length * EI.sz = zs.length := Nat.mul_one _
          rw [this] at h6
          exact h6
        have hg1 := hnew gg rfl
        have hsa := sort_any gg 0 ca zs _ (holds_of_blockI h2 hcur) (heap_lt h2) (by omega)
        rw [hms] at hsa
        go_wp2_with fail
        refine hsa.mono ?_
        rintro e w2 ⟨rfl, n2, os2, rfl⟩
        have hll2 : lv.length = zs.length := hzs'.length_eq.symm
        have how := ownsRow_sortedI (n := n2) (os := os2) (base := 0) hll2 (Nat.zero_le _) h2 h3 h4 h5
        have hgr := grownBy_sortedI (w := ‹World›) (g := gg) (n := n2) (os := os2) lv.toArray
        go_wp2
        go_ret
        refine ⟨_, rfl, ?_, ?_, ?_⟩
        · unfold R
          rw [cs_I, hll2]
          exact how
        · intro k hk
          simp [Value.ownBlock] at hk
          omega
        · exact hB1.trans ((below_of hB hgr (by omega)).mono hB1.size)
    · intro x q w2 cnt2 hwx hlk hmem hrg2 hlt hg2 hs2 hen
      have hB2 := below_of hB hg2 (Nat.le_refl _)
      have HS : Hid _ := HST.out left x q hlk hmem
      have hR2 : R EI w2 (.slice ba zs.length ca) zs := hR.stays fun k hk hkl => hg2.block k hkl (fun e => by have := hnew k hk; have := Option.some.inj e; omega)
      have hsz2 : w1.heap.size + 1 ≤ w2.heap.size := by have := hg2.size; omega
      have hll : zs.length ≤ 2147483647 := by
        have := HLE.out left
        rw [hzs.out.length_eq]
        simpa using this
      have hql := hrows.out (x, q) hmem w (Below.refl _ w)
      simp only at hql
      have HC : Hid (cc (x, q) = mg q.l c (lf l x)) := HCC.out x q
      clear hs2 hlk hg2 hmem
      obtain ⟨⟨q1, q2, q3⟩, ql, qe⟩ := q
      simp only at hql hen
      subst hql
      have hfo2 : (w2.alloc (Obj.cells #[.slice q1 ql.length q3, .bool qe] 67)).ownsMap Try.prog 2 (plainElem (H := Value) Try.prog 2) w.heap.size nf (mD lg (fo l)) := (HFO.out.kept (grow_of hB2) (by simp)).alloc _
      obtain ⟨cl, hrun2, hat2, _⟩ := hfo2.lookup_int law2 Try.underlying71 Try.underlying2 (zero2 _) (key_int hwx)
      have hcl : cl = lf l x := by
        rw [at_mD] at hat2
        rw [← HLF.out x]
        cases hl : look (fo l) x with
        | none => rw [hl] at hat2; simp at hat2; rw [hat2]; rfl
        | some z => rw [hl] at hat2; simp [lg] at hat2; rw [hat2]; rfl
      subst hcl
      clear hat2 hfo2
      have HG : Hid (Calls Try.prog 23 #[.agg #[.slice q1 ql.length q3, .bool qe], .int .i64 c, .int .i64 (lf l x)] (w2.alloc (Obj.cells #[.slice q1 ql.length q3, .bool qe] 67)) fun r w' => r = .returned (.bool (mg ql c (lf l x))) ∧ Below (w2.alloc (Obj.cells #[.slice q1 ql.length q3, .bool qe] 67)).heap.size (w2.alloc (Obj.cells #[.slice q1 ql.length q3, .bool qe] 67)) w') := mayGo_any _ (q1, ql.length, q3) ql qe c (lf l x) rfl
      generalize lf l x = lfx at HC HG hrun2
      go_wp2_with fail
      refine Calls.mono HG.out ?_
      rintro e w3 ⟨rfl, hB3⟩
      have hB3' : Below w2.heap.size w2 w3 := (bel1 w2 _).trans (hB3.mono (bel1 w2 _).size)
      have hrg3 := hrg2.kept (grow_of hB3') (by simp) (by simp)
      have hR3 := hR2.below hB3'
      have hB3w : Below w1.heap.size w1 w3 := hB2.trans (hB3'.mono hB2.size)
      have hsz3 : w1.heap.size + 1 ≤ w3.heap.size := Nat.le_trans hsz2 hB3'.size
      cases e1 : mg ql c lfx
      · go_wp2_with fail
        go_roundw
        case rel =>
          refine ⟨_, cnt2, zs, ?_, hR3, hnew, hrg3, hB3w, hsz3⟩
          have h2 := HS.out
          rw [HC.out, e1] at h2
          simp only [Bool.false_eq_true, if_false, List.append_nil] at h2
          exact hzs.out.trans (h2.symm.map _)
        case measure => rw [hrg3.left_eq, hrg.left_eq]; exact hlt
      · obtain ⟨base, cap, w4, hrun, hR4, hG4⟩ := app okI (w3.alloc (.cells #[.int .i64 x] 2)) (.slice ba zs.length ca) zs (hR3.below (bel1 _ _)) (.slice (some ⟨w3.heap.size, 0, none⟩) 1 1) [x] (in_int _ x _ _ (heap_alloc_new _ _) rfl) (by
          simp [EI]; omega)
        have hRR : Hid (R EI w4 (.slice base (zs.length + [x].length) cap) (zs ++ [x])) := hR4
        have hGG : Hid (Gr (w3.alloc (.cells #[.int .i64 x] 2)) w4 (.slice ba zs.length ca) (.slice base (zs.length + [x].length) cap)) := hG4
        clear hR4 hG4
        have hrun : Hid ((Builtin.append_ #[22, 22] 22 #[.slice ba zs.length ca, .slice (some ⟨w3.heap.size, 0, none⟩) 1 1]).run Try.prog (w3.alloc (.cells #[.int .i64 x] 2)) = .ok (.slice base (zs.length + 1) cap) w4) := hrun
        go_wp2_with (at_builtin; refine Lib.wpList_append_run _ rfl (.tmp 29) (.tmp 31) 22 22 rfl _ _ rfl rfl _ _ hrun.out ?_)
        have hG := hGG.out
        have hrg4 : w4.ranges Try.prog 2 qR bq w1.heap.size L.length (mD qg L) (fun z => left z && !z.sameKey (ky x)) cnt2 :=
          ranges_stays (hrg3.alloc _) (hG.block _ (by simp; have := hrg3.owns.lt; omega) (fun e => by have := hnew _ e; omega)) (hG.block _ (by simp; omega) (fun e => by have := hnew _ e; omega))
        go_roundw
        case rel =>
          refine ⟨_, cnt2, zs ++ [x], ?_, hRR.out, ?_, hrg4, ?_, ?_⟩
          · have h2 := HS.out
            rw [HC.out, e1] at h2
            simp only [if_true] at h2
            have h3 := h2.map (·.1)
            rw [List.map_append] at h3
            exact (hzs.out.append_right [x]).trans h3.symm
          · intro k hk
            rcases hG.own k hk with e | e
            · exact hnew k e
            · simp at e; omega
          · exact hB3w.trans ((((bel1 w3 _).mono hB3w.size)).trans (hG.belowB (by simp; omega) fun k hk => by have := hnew k hk; omega))
          · have := hG.size; simp at this; omega
        case measure => rw [hrg4.left_eq, hrg.left_eq]; exact hlt
end Go.Proofs.Ytbmaknjeflblcaa
