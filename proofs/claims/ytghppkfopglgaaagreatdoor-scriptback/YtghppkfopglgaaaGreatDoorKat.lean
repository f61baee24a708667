/- commandsOf. Parse. The printer's builder, in a block of its own type: copyCheck, WriteString, Len, String. The printer: isFull, lay, line, word. The printer: numbers. -/
import Derived.Test.YtghppkfopglgaaaGreatDoorKas
import Derived.Great.BuildSlice
import Derived.Test.YtghppkfopglgaaaGreatDoorKap
namespace Go.Proofs.YtghppkfopglgaaaGreatDoor
open Go.RowKit
set_option linter.unusedVariables false
set_option linter.unusedSimpArgs false
/-- a slice literal of one struct -/
theorem wpList_build_one {P : Program} {ops : Array Oper} {rest : List Oper} {o : Oper} {a : Act} {w : World} {Q : Exit → Act → World → Prop} (hg : o.guard = none) (t e : TypeId) (x : Operand) (ho : o.op = .buildSlice t 1 #[(0, x)])
    (cs : Array Value) (hx : a.eval x = .agg cs) (hu : P.underlying t = some (.slice e)) (hi : (P.info? e).map (fun i => (i.size, i.zero.isSome)) = some (cs.size, true)) (hpos : 0 < cs.size) (hle : cs.size ≤ 2 ^ 24)
    (h : wpList P ops Q rest (a.put o.dst (.slice (some ⟨w.heap.size, 0, none⟩) 1 1)) (w.alloc (.cells cs e))) : wpList P ops Q (o :: rest) a w := by
  cases hie : P.info? e with
  | none => simp [hie] at hi
  | some ie =>
    simp only [hie, Option.map_some, Option.some.injEq, Prod.mk.injEq] at hi
    obtain ⟨hsz, hz⟩ := hi
    obtain ⟨z, hzz⟩ := Option.isSome_iff_exists.1 hz
    refine wpList_buildSlice hg t e 1 _ ho cs ie z hu hie hzz (by rw [hsz]; omega) (by rw [hsz]; omega) ?_ h
    have := Great.fill_whole (s := cs.size) hpos [.agg cs] ((Array.range (1 * ie.size)).map (z.cells[· % z.cells.size]!)) (fun v hv => by rw [List.mem_singleton] at hv; subst hv; rfl) (by simp [hsz])
    simp only [hx, List.map_toArray, List.map_cons, List.map_nil] at this ⊢
    rw [hsz] at this ⊢
    simpa [Value.cells] using this
theorem Stay.of_below {B t : Nat} {W W' : World} (h : Below W.heap.size W W') : Stay B t W W' := fun k c t' _ hc _ => h.block k (heap_lt hc)
/-- behind some commands -/
structure CJ (gr bw : Nat) (w : World) (r0 : Rd) (W : World) (rr : Rd) (v : Value) (cs : List (Cm × CmS)) : Prop where
  eq : lpS cmR r0 = (cs.map (·.1) ++ (lpS cmR rr).1, (lpS cmR rr).2)
  rd : RdS gr bw rr W
  bel : Below gr w W
  row : R ECm W v cs
  own : ∀ k, v.ownBlock = some k → gr < k
  nest : ∀ x ∈ cs, CmN W (gr + 1) x
  len : cs.length + rr.l.length ≤ 1073741824
theorem CJ.put {gr bw : Nat} {w : World} {r0 : Rd} {W : World} {rr : Rd} {v : Value} {cs : List (Cm × CmS)} (h : CJ gr bw w r0 W rr v cs) (hw : gr = w.heap.size) (hbg : bw < gr) (hne : rr.l ≠ []) {V : World} {s : CmS} (hN : CmN V W.heap.size (rr.cm.1, s)) (hS : RdS gr bw rr.cm.2 V) (hK : Kr gr W V) :
    ∃ base cap V', (Builtin.append_ #[25, 25] 25 #[v, .slice (some ⟨V.heap.size, 0, none⟩) 1 1]).run Tryz.prog (V.alloc (.cells (cmA rr.cm.1 s) 47)) = .ok (.slice base (cs.length + 1) cap) V' ∧ CJ gr bw w r0 V' rr.cm.2 (.slice base (cs.length + 1) cap) (cs ++ [(rr.cm.1, s)]) := by
  obtain ⟨V2, hV2⟩ : ∃ V2, V.alloc (.cells (cmA rr.cm.1 s) 47) = V2 := ⟨_, rfl⟩
  have b2 : Below V.heap.size V V2 := by rw [← hV2]; exact bel1 _ _
  have g2 : V2.heap[V.heap.size]? = some (.cells (cmA rr.cm.1 s) 47 (0, 0)) := by rw [← hV2, heap_al, if_pos rfl]
  have hgW : gr < W.heap.size := h.rd.lt
  have r1 : R ECm V v cs := h.row.stays fun k e hl => hK.block k hl (by have := h.own k e; omega)
  have hsh : rr.cm.2.l.length < rr.l.length := cm_shr rr rr.cm.1 rr.cm.2 (by
    unfold cmR
    cases e : rr.l with
    | nil => exact absurd e hne
    | cons a b => rfl)
  obtain ⟨base, cap, V', hrun, hR, hG⟩ := app okCm V2 v cs (r1.below b2) (.slice (some ⟨V.heap.size, 0, none⟩) 1 1) [(rr.cm.1, s)] (in_one (E := ECm) V2 _ (rr.cm.1, s) _ 47 (0, 0) g2 rfl) (by
    have := h.len
    rw [show ECm.by' = 488 from rfl]
    simp only [List.length_cons, List.length_nil]
    omega)
  have hk := Ks.of_gr hG
  have kk : ∀ k, v.ownBlock = some k → k ≠ gr ∧ k ≠ bw ∧ 8 ≤ k := fun k e => by
    have h1 := h.own k e
    have h2 := h.rd.g8
    exact ⟨by omega, by omega, by omega⟩
  have st1 : Stay (gr + 1) 111 W V := fun k c t' hB hc ht => hK.block k (heap_lt hc) (by omega)
  have st3 : Stay (gr + 1) 47 V2 V' := fun k c t' hB hc ht => hk.block k (heap_lt hc) (fun e => by
    obtain ⟨c', hc'⟩ := (r1.below b2).ty k e
    rw [hc] at hc'
    injection hc' with q
    injection q with q1 q2
    exact ht q2)
  have hbel : Below gr w V' := ((h.bel.trans (hK.below (Nat.le_of_lt hgW) (fun i hi => by omega))).trans (b2.mono (by have := hK.size; omega))).trans (hk.below (by have := hK.size; have := b2.size; omega) (fun i hi e => by have := h.own i e; omega))
  rw [hV2]
  refine ⟨base, cap, V', hrun, ⟨?_, (hS.below b2).offs kk hk, hbel, hR, fun k e => (hG.own k e).elim (h.own k) fun q => by have := hK.size; have := b2.size; omega, fun x hx => ?_, ?_⟩⟩
  · rw [List.map_append]
    exact lp_go cm_shr h.eq (by
      unfold cmR
      cases e : rr.l with
      | nil => exact absurd e hne
      | cons a b => rfl)
  · rcases List.mem_append.1 hx with hx | hx
    · exact (((h.nest x hx).stay st1 (by decide) (by decide) (by decide) (by decide) (by decide) (by decide)).stay (t := 47) (Stay.of_below b2) (by decide) (by decide) (by decide) (by decide) (by decide) (by decide)).stay st3 (by decide) (by decide) (by decide) (by decide) (by decide) (by decide)
    · rw [List.mem_singleton] at hx
      subst hx
      exact ((hN.mono (by omega)).stay (t := 47) (Stay.of_below b2) (by decide) (by decide) (by decide) (by decide) (by decide) (by decide)).stay st3 (by decide) (by decide) (by decide) (by decide) (by decide) (by decide)
  · have := h.len
    simp
    omega
theorem cms_eq (l : List Wd) : cmsL l = ((lpS cmR ⟨l, false⟩).1, !(lpS cmR ⟨l, false⟩).2.bad) := rfl
set_option maxRecDepth 100000 in
set_option maxHeartbeats 8000000 in
theorem commandsOf_any (bw : Nat) (sl : Value) (l : List Wd) (w : World) (hE : Env w) (hI : InB bw w sl l) (hsm : ∀ x ∈ l, x.t.size ≤ 1048576) (hlb : bw < w.heap.size) (hlen : l.length ≤ 1073741824) (hwo : (∀ gr, WorldOk gr bw) ∨ NoW l) :
    Calls Tryz.prog 25 #[sl] w fun e w' => ∃ v, e = .returned (.tuple #[v, .bool (cmsL l).2]) ∧ ∃ cs : List (Cm × CmS), cs.map (·.1) = (cmsL l).1 ∧ R ECm w' v cs ∧ Own w.heap.size v ∧ (∀ x ∈ cs, CmN w' w.heap.size x) ∧ Below w.heap.size w w' := by
  obtain ⟨sb, sn, sc, rfl⟩ : ∃ b n c, sl = .slice b n c := by
    rcases hI with ⟨b, c, e, _⟩ | ⟨o, c, e, _⟩ <;> exact ⟨_, _, _, e⟩
  obtain ⟨gr, hgr⟩ : ∃ gr, w.heap.size = gr := ⟨_, rfl⟩
  obtain ⟨W0, hW0⟩ : ∃ W0, w.alloc (.cells #[.slice sb sn sc, .bool false] 111) = W0 := ⟨_, rfl⟩
  have b0 : Below w.heap.size w W0 := by rw [← hW0]; exact bel1 _ _
  have q0 : W0.heap[gr]? = some (.cells #[.slice sb sn sc, .bool false] 111 (0, 0)) := by rw [← hW0, heap_al, if_pos hgr.symm]
  have hg8 : 8 ≤ gr := by have := hE.sz; omega
  have hS0 : RdS gr bw ⟨l, false⟩ W0 := ⟨by omega, hg8, hE.of b0.size fun k hk => b0.block k (by omega), hsm, by have := b0.size; omega, .slice sb sn sc, q0, by
    rcases hI with h | ⟨off, cap, h1, h2, h3, h4, h5⟩
    · exact .inl h
    · refine .inr ⟨off, cap, h1, h2, h3, h4, fun j u hu => ?_⟩
      rw [← h5 j u hu]
      unfold World.cell?
      simp only
      rw [b0.block bw hlb]⟩
  have HJ0 : Hid (CJ gr bw w ⟨l, false⟩ W0 ⟨l, false⟩ (.slice none 0 0) []) := hid ⟨rfl, hS0, hgr ▸ b0, R.nil _ _, fun k hk => absurd hk (by simp [Value.ownBlock]), fun x hx => absurd hx (by simp), by simpa using hlen⟩
  have HNW0 : Hid ((∀ gr, WorldOk gr bw) ∨ NoW l) := hid hwo
  have hbg : bw < gr := by omega
  have HC := hid (command_any gr bw)
  have HG := hid hgr
  have HW0 := hid hW0
  clear hE hI hsm hlen b0 q0 hS0 hgr hW0 hwo hlb
  go_enter Tryz.func25, Tryz.ntmps25
  go_wp2_with fail
  try rw [HG.out]
  try rw [HW0.out]
  go_loopw [5] (fun v wr => ∃ (rr : Rd) (cs : List (Cm × CmS)), Hid (CJ gr bw w ⟨l, false⟩ wr rr v cs ∧ ((∀ gr, WorldOk gr bw) ∨ NoW rr.l))) (fun _ wr => rdLen gr wr)
  case atStart => exact ⟨⟨l, false⟩, [], hid ⟨HJ0.out, HNW0.out⟩⟩
  case round =>
    obtain ⟨rr, cs, HJ⟩ := hrel
    clear HJ0 HNW0
    have HM := hid (HJ.out.1.rd.len)
    obtain ⟨sl', hs1, hs2⟩ := HJ.out.1.rd.st
    have c0 := cell_blk hs1 0
    have c1 := cell_blk hs1 1
    have f0 := frozen_blk hs1
    have l0 := heap_lt hs1
    simp only [List.getElem?_toArray, List.getElem?_cons_zero, List.getElem?_cons_succ] at c0 c1
    cases hrl : rr.l with
    | nil =>
      have hsl : ∃ b c, sl' = .slice b 0 c := by
        rcases hs2 with ⟨b, c, e, _⟩ | ⟨o, c, e, e2, _⟩
        · exact ⟨b, c, e⟩
        · exact absurd hrl e2
      obtain ⟨b, c, rfl⟩ := hsl
      have HE : Hid (lpS cmR ⟨l, false⟩ = (cs.map (·.1), rr)) := hid (lp_end HJ.out.1.eq (by unfold cmR; rw [hrl]))
      clear hs1 hs2 hrl
      go_wp2_with fail
      (try simp only [Exit.inBlock, Exit.then])
      go_region
      go_wp2_with fail
      go_ret2
      have hd : Below wr.heap.size wr wr.drew := (Below.refl _ wr).drew
      rw [cms_eq, HE.out]
      refine ⟨_, rfl, cs, rfl, HJ.out.1.row.below hd, fun k e => by have := HJ.out.1.own k e; have := HG.out; omega, fun x hx => ?_, ?_⟩
      · exact ((HJ.out.1.nest x hx).mono (by have := HG.out; omega)).stay (t := 111) (Stay.of_below hd) (by decide) (by decide) (by decide) (by decide) (by decide) (by decide)
      · rw [HG.out]
        exact HJ.out.1.bel.trans (hd.mono (by have := HJ.out.1.rd.lt; omega))
    | cons x xs =>
      have hsl : ∃ b n c, sl' = .slice b n c ∧ (0 : Int) < (n : Int) := by
        rcases hs2 with ⟨b, c, e, e2, _⟩ | ⟨o, c, e, e2, _⟩
        · rw [hrl] at e2; cases e2
        · exact ⟨_, _, _, e, by rw [hrl]; simp⟩
      obtain ⟨b, sn', c, rfl, hn0⟩ := hsl
      have HNE : Hid (rr.l ≠ []) := hid (by rw [hrl]; simp)
      have HLN : Hid (rr.l.length ≤ 1073741824) := hid (by have := HJ.out.1.len; omega)
      clear hs1 hs2 hrl
      go_wp2_with fail
      go_at_call 42
      refine (HC.out rr _ HJ.out.1.rd HLN.out (fun e => HJ.out.2.elim (fun h => h gr) (fun h => absurd e (noW_nx h)))).mono ?_
      rintro e V ⟨s, rfl, hN, hS, hK⟩
      obtain ⟨base, cap, V', hrun, hJ'⟩ := HJ.out.1.put HG.out.symm hbg HNE.out hN hS hK
      have HRUN := hid hrun
      have HJN := hid hJ'
      have HSH : Hid (rr.cm.2.l.length < rr.l.length) := hid (cm_shr rr rr.cm.1 rr.cm.2 (by
        unfold cmR
        cases e : rr.l with
        | nil => exact absurd e HNE.out
        | cons a b => rfl))
      have HNW : Hid ((∀ gr, WorldOk gr bw) ∨ NoW rr.cm.2.l) := hid (HJ.out.2.elim .inl fun h => .inr (noW_cm h))
      clear hrun hJ' hN hS hK
      go_wp2_with (first | (refine wpList_build_one rfl 25 47 (.tmp 17) rfl (cmA rr.cm.1 s) rfl Tryz.underlying25 (by kernel_rfl) (Nat.lt_of_lt_of_le (by decide) (Nat.le_refl 42)) (Nat.le_of_ble_eq_true rfl) ?_) | (at_builtin; refine Lib.wpList_append_run _ rfl (.tmp 15) (.tmp 18) 25 25 rfl _ _ rfl rfl _ _ HRUN.out ?_))
      go_roundw
      case rel => exact ⟨rr.cm.2, cs ++ [(rr.cm.1, s)], hid ⟨HJN.out, HNW.out⟩⟩
      case measure => rw [HM.out, HJN.out.rd.len]; exact HSH.out
end Go.Proofs.YtghppkfopglgaaaGreatDoor
namespace Go.Proofs.YtghppkfopglgaaaGreatDoor
open Go.RowKit
set_option linter.unusedVariables false
set_option linter.unusedSimpArgs false
theorem unq_txt : ∀ (n : Nat) (l : List UInt8) p, l.length ≤ n → unq l = some p → p.1.length ≤ l.length
  | n, [], p, _, h => by simp [unq] at h
  | 0, c :: r, p, hl, h => absurd hl (by simp)
  | n + 1, c :: r, p, hl, h => by
    unfold unq at h
    split at h
    · cases h; simp
    · split at h
      · cases h
      · split at h
        · split at h
          · cases h
          · rename_i x r1
            split at h
            · obtain ⟨q, hq, rfl⟩ := Option.map_eq_some_iff.1 h
              have := unq_txt n r1 q (by simp at hl; omega) hq
              simp; omega
            · split at h
              · split at h
                · rename_i h' l' r2
                  split at h
                  · obtain ⟨q, hq, rfl⟩ := Option.map_eq_some_iff.1 h
                    have := unq_txt n r2 q (by simp at hl; omega) hq
                    simp; omega
                  · cases h
                · cases h
              · cases h
        · obtain ⟨q, hq, rfl⟩ := Option.map_eq_some_iff.1 h
          have := unq_txt n r q (by simp at hl; omega) hq
          simp; omega
theorem takew_len (p : UInt8 → Bool) : ∀ l : List UInt8, (l.takeWhile p).length ≤ l.length
  | [] => Nat.le_refl _
  | c :: r => by
    rw [List.takeWhile_cons]
    split
    · have := takew_len p r
      simp; omega
    · simp
theorem fw_txt (l : List UInt8) (w : Wd) (r : List UInt8) (h : fw l = some (w, r)) : w.t.size ≤ l.length := by
  unfold fw at h
  split at h
  · rename_i c x
    split at h
    · obtain ⟨q, hq, e⟩ := Option.map_eq_some_iff.1 h
      have := unq_txt _ x q (Nat.le_refl _) hq
      rw [← (Prod.mk.inj e).1]
      show (bt q.1).size ≤ _
      rw [sz_eq, bt_toList]
      simp; omega
    · rw [← (Prod.mk.inj (Option.some.inj h)).1]
      show (bt _).size ≤ _
      rw [sz_eq, bt_toList]
      exact takew_len _ _
  · rw [← (Prod.mk.inj (Option.some.inj h)).1]
    exact Nat.zero_le _
theorem wol_txt : ∀ (n : Nat) (l : List UInt8) (ws : List Wd), l.length ≤ n → wol l = some ws → ∀ x ∈ ws, x.t.size ≤ n := by
  intro n
  induction n with
  | zero =>
    intro l ws hl h
    have : l = [] := List.eq_nil_of_length_eq_zero (by omega)
    subst this
    have e : fw [] = some (⟨0, noS⟩, []) := rfl
    rw [wol_of e] at h
    cases h
    intro x hx
    rw [List.mem_singleton] at hx
    subst hx
    exact Nat.le_refl _
  | succ n ih =>
    intro l ws hl h
    cases hf : fw l with
    | none => rw [wol_no hf] at h; cases h
    | some p =>
      obtain ⟨w, r⟩ := p
      have hw := fw_txt l w r hf
      cases r with
      | nil =>
        rw [wol_of hf] at h
        cases h
        intro x hx
        rw [List.mem_singleton] at hx
        subst hx
        omega
      | cons c r =>
        have hlt := fw_len l w c r hf
        by_cases hc : c = 32
        · subst hc
          rw [wol_more hf] at h
          obtain ⟨ws', h1, rfl⟩ := Option.map_eq_some_iff.1 h
          intro x hx
          rcases List.mem_cons.1 hx with rfl | hx
          · omega
          · have := ih r ws' (by omega) h1 x hx; omega
        · rw [wol_bad hf hc] at h; cases h
theorem wds_txt_le (s : ByteArray) : ∀ x ∈ wds s.data.toList, x.t.size ≤ s.size := by
  rw [wds_B]
  intro x hx
  obtain ⟨y, hy, hx⟩ := List.mem_flatMap.1 hx
  have h1 := (lnB_len s).2 y hy
  have h2 := trimB_size y
  unfold wd1 at hx
  split at hx
  · cases hx
  · rcases List.mem_append.1 hx with hx | hx
    · cases e : wol (trimB y).data.toList with
      | none => rw [e] at hx; simp at hx
      | some ws =>
        rw [e] at hx
        have := wol_txt s.size _ ws (by rw [← sz_eq]; omega) e x hx
        exact this
    · rw [List.mem_singleton] at hx
      subst hx
      exact Nat.zero_le _
theorem wds_len (s : ByteArray) (h : longB s.data.toList = false) : (wds s.data.toList).length ≤ 1073741824 ∧ s.size ≤ 65536 := by
  rw [longB_eq] at h
  simp only [Bool.or_eq_false_iff, decide_eq_false_iff_not] at h
  obtain ⟨⟨h1, _⟩, h3⟩ := h
  have h4 := wdsB_len 65536 (lnB s) (fun x hx => by have := (lnB_len s).2 x hx; omega)
  have h5 : (lnB s).length * (65536 + 2) ≤ 1024 * (65536 + 2) := Nat.mul_le_mul_right _ (by omega)
  rw [wds_B]
  omega
/-- a row of words can be read -/
theorem R.inB {W : World} {z : Value} {l : List Wd} {B : Nat} (h : R EW W z l) (hB : B < W.heap.size) : ∃ bw, bw < W.heap.size ∧ InB bw W z l := by
  rcases h.2 with ⟨rfl, hn⟩ | ⟨g, cap, cur, rfl, hbs, hgg, hn, hm, hc, hz⟩
  · have hl : l = [] := List.eq_nil_of_length_eq_zero hn
    exact ⟨B, hB, .inl ⟨none, 0, rfl, hl, by omega⟩⟩
  · refine ⟨g, heap_lt hgg, ?_⟩
    have hc9 : cap ≤ 9223372036854775807 := by unfold maxLen at hm; omega
    by_cases hl : l = []
    · subst hl
      exact .inl ⟨some ⟨g, 0, none⟩, cap, rfl, rfl, hc9⟩
    · refine .inr ⟨0, cap, rfl, hl, hn, hc9, fun j u hu => ?_⟩
      have := World.ownsRow.cells h (g := g) rfl j u hu
      rw [Addr.add_lit] at this
      exact this
set_option maxRecDepth 100000 in
set_option maxHeartbeats 8000000 in
theorem Parse_any (s : ByteArray) (hs : s.size ≤ 140737488355328) (w : World) (hE : Env w) (hwo : (∀ gr bw, WorldOk gr bw) ∨ NoW (wds s.data.toList)) :
    Calls Tryz.prog 11 #[.string s] w fun e w' => ∃ v, e = .returned (.tuple #[v, .int .i64 (parseL s.data.toList).2]) ∧ ∃ cs : List (Cm × CmS), cs.map (·.1) = (parseL s.data.toList).1 ∧ R ECm w' v cs ∧ Own w.heap.size v ∧ (∀ x ∈ cs, CmN w' w.heap.size x) ∧ Below w.heap.size w w' := by
  have HL := hid (isLong_any s hs w)
  cases hlg : longB s.data.toList with
  | true =>
    have HP : Hid (parseL s.data.toList = ([], 3)) := hid (by unfold parseL; rw [hlg, if_pos rfl])
    rw [hlg] at HL
    clear hlg hwo hE
    go_enter Tryz.func11, Tryz.ntmps11
    go_wp2_with fail
    go_at_call 24
    refine HL.out.mono ?_
    rintro e V ⟨rfl, hb⟩
    go_wp2_with fail
    go_ret2
    rw [HP.out]
    exact ⟨_, rfl, [], rfl, R.nil _ _, Own.z _, fun x hx => absurd hx (by simp), hb⟩
  | false =>
    obtain ⟨hwl, hsz⟩ := wds_len s hlg
    have HWD := hid (wordsOf_any s (by omega))
    have HT := hid (fun x hx => Nat.le_trans (wds_txt_le s x hx) (by omega : s.size ≤ 1048576))
    have HC := hid commandsOf_any
    have HP : Hid (parseL s.data.toList = if (cmsL (wds s.data.toList)).2 then ((cmsL (wds s.data.toList)).1, 0) else ([], 260)) := hid (by unfold parseL; rw [hlg, if_neg (by simp)])
    have HWL := hid hwl
    have HWO := hid hwo
    have HE := hid hE
    rw [hlg] at HL
    clear hlg hwo hE hwl hsz
    go_enter Tryz.func11, Tryz.ntmps11
    go_wp2_with fail
    go_at_call 24
    refine HL.out.mono ?_
    rintro e V ⟨rfl, hb⟩
    go_wp2_with fail
    go_at_call 26
    refine (HWD.out V).mono ?_
    rintro e V2 ⟨z, rfl, hR, hO, hb2⟩
    have b2 : Below w.heap.size w V2 := hb.trans (hb2.mono hb.size)
    have hE2 : Env V2 := HE.out.of b2.size fun k hk => b2.block k (by have := HE.out.sz; omega)
    obtain ⟨bw, hbw, hI⟩ := R.inB (B := 0) hR (by have := hE2.sz; omega)
    have HC2 := hid (HC.out bw z _ V2 hE2 hI HT.out hbw HWL.out (HWO.out.elim (fun h => .inl fun gr => h gr bw) .inr))
    have HB2 := hid b2
    obtain ⟨zb, zc, hz, _⟩ := hR.slice
    clear hb hb2 b2 hE2 hI hbw hR hO HWD HC HWO HT
    cases hcm : (cmsL (wds s.data.toList)).2 with
    | true =>
      have hp := HP.out
      rw [hcm, if_pos rfl] at hp
      have HP2 := hid hp
      rw [hcm] at HC2
      clear hp HP hcm
      subst hz
      go_wp2_with fail
      go_at_call 25
      refine HC2.out.mono ?_
      rintro e V3 ⟨v, rfl, cs, k1, k2, k3, k4, k5⟩
      go_wp2_with fail
      go_ret2
      rw [HP2.out]
      exact ⟨v, rfl, cs, k1, k2, k3.mono HB2.out.size, fun x hx => (k4 x hx).mono HB2.out.size, HB2.out.trans (k5.mono HB2.out.size)⟩
    | false =>
      have hp := HP.out
      rw [hcm, if_neg (by simp)] at hp
      have HP2 := hid hp
      rw [hcm] at HC2
      clear hp HP hcm
      subst hz
      go_wp2_with fail
      go_at_call 25
      refine HC2.out.mono ?_
      rintro e V3 ⟨v, rfl, cs, k1, k2, k3, k4, k5⟩
      go_wp2_with fail
      go_ret2
      rw [HP2.out]
      exact ⟨_, rfl, [], rfl, R.nil _ _, Own.z _, fun x hx => absurd hx (by simp), HB2.out.trans (k5.mono HB2.out.size)⟩
end Go.Proofs.YtghppkfopglgaaaGreatDoor
namespace Go.Proofs.YtghppkfopglgaaaGreatDoor
open Go.RowKit
set_option linter.unusedVariables false
set_option linter.unusedSimpArgs false
/-- the printer at g holds these bytes -/
def Pb (g : Nat) (l : List UInt8) (w : World) : Prop :=
  (l = [] ∧ w.heap[g]? = some (.cells #[.pointer none, .slice none 0 0] 119 (0, 0))) ∨ (l ≠ [] ∧ Lib.BuilderAtF 119 5 g g (.pointer (some ⟨g, 0, none⟩)) (Lib.byteCells l) w)
theorem Pb.is {g : Nat} {l : List UInt8} {w : World} (h : Pb g l w) : Lib.IsBuilderF 119 5 g g (Lib.byteCells l) w := by
  rcases h with ⟨rfl, h⟩ | ⟨_, h⟩
  · exact .inl ⟨Nat.le_refl _, .slice none 0 0, h, World.ownsRowF_nil _ _ _ _, by simp [Value.ownBlock]⟩
  · exact .inr h
theorem Pb.lt {g : Nat} {l : List UInt8} {w : World} (h : Pb g l w) : g < w.heap.size := by
  rcases h with ⟨_, h⟩ | ⟨_, h⟩
  · exact heap_lt h
  · exact h.lt
theorem Pb.below {g : Nat} {l : List UInt8} {w w' : World} (h : Pb g l w) (hb : Below w.heap.size w w') : Pb g l w' := by
  rcases h with ⟨e, h⟩ | ⟨e, h⟩
  · exact .inl ⟨e, (hb.block _ (heap_lt h)).trans h⟩
  · exact .inr ⟨e, bat_below h hb⟩
/-- what the printer's work keeps: all below it, and all that is no row of bytes -/
structure Fr (g : Nat) (w w' : World) : Prop where
  bel : Below g w w'
  kb : ∀ k c t, k ≠ g → w.heap[k]? = some (.cells c t (0, 0)) → t ≠ 5 → w'.heap[k]? = some (.cells c t (0, 0))
theorem Fr.refl (g : Nat) (w : World) : Fr g w w := ⟨Below.refl _ _, fun _ _ _ _ h _ => h⟩
theorem Fr.trans {g : Nat} {a b c : World} (h : Fr g a b) (k : Fr g b c) : Fr g a c := ⟨h.bel.trans k.bel, fun i cs t hi hc ht => k.kb i cs t hi (h.kb i cs t hi hc ht) ht⟩
theorem Fr.set {g : Nat} (w : World) (i : Nat) (v : Value) (hg : g < w.heap.size) : Fr g w (w.setCell ⟨g, i, none⟩ v) :=
  ⟨(Ks.setCell (fun k => k = g) w g i v rfl).below (Nat.le_of_lt hg) (fun i hi => by omega), fun k c t hk hc _ => (setCell_other w g k i v hk).trans hc⟩
theorem Fr.below {g : Nat} {w w' : World} (h : Below w.heap.size w w') (hg : g ≤ w.heap.size) : Fr g w w' := ⟨h.mono hg, fun k c t _ hc _ => (h.block k (heap_lt hc)).trans hc⟩
set_option maxRecDepth 100000 in
set_option maxHeartbeats 4000000 in
theorem pb_used (b : Nat) (w : World) (h0 : w.cell? ⟨b, 0, none⟩ = some (.pointer (some ⟨b, 0, none⟩))) :
    Calls Tryz.prog 39 #[.pointer (some ⟨b, 0, none⟩)] w fun e w' => e = .returned (.tuple #[]) ∧ w' = w := by
  obtain ⟨j, hj⟩ : ∃ j, Tryz.prog.info? 78 = some j := ⟨_, rfl⟩
  go_enter Tryz.func39, Tryz.ntmps39
  go_wp2
  rw [Lib.run_neq_ptr_same (tp := 76) (te := 78) w _ Tryz.underlying76 hj]
  go_wp2
  go_end0
  exact ⟨rfl, rfl⟩
set_option maxRecDepth 100000 in
set_option maxHeartbeats 4000000 in
theorem pb_fresh (b : Nat) (w : World) (h : w.heap[b]? = some (.cells #[.pointer none, .slice none 0 0] 119 (0, 0))) :
    Calls Tryz.prog 39 #[.pointer (some ⟨b, 0, none⟩)] w fun e w' => e = .returned (.tuple #[]) ∧ w' = w.setCell ⟨b, 0, none⟩ (.pointer (some ⟨b, 0, none⟩)) := by
  obtain ⟨j, hj⟩ : ∃ j, Tryz.prog.info? 78 = some j := ⟨_, rfl⟩
  have hjs : j.size ≠ 0 := by
    have : (Tryz.prog.info? 78).map (·.size) = some 2 := by kernel_rfl
    rw [hj] at this
    simp at this
    omega
  have h0 := cell_blk h 0
  have hfz := frozen_blk h 0
  have hlt := heap_lt h
  have hsh : w.shape? b = some (119, 2) := by simp [World.shape?, h]
  simp only [List.getElem?_toArray, List.getElem?_cons_zero] at h0
  clear h
  go_enter Tryz.func39, Tryz.ntmps39
  go_wp2
  rw [Lib.run_to_unsafe w ⟨b, 0, none⟩ (src := 76) (dst := 127) Tryz.underlying76 Tryz.underlying127 hj hjs hsh (Nat.zero_lt_succ 1)]
  simp only [Result.andThen]
  rw [Oper.upon_value]
  go_wp2
  rw [run_callFunc_extern Tryz.func54 (by kernel_rfl) (by kernel_rfl) (by kernel_rfl) (e := Extern.AbiNoEscape.same) (by kernel_rfl)]
  rw [Lib.run_noEscape]
  simp only [Result.andThen]
  rw [Oper.upon_value]
  go_wp2
  rw [Lib.run_from_unsafe w ⟨b, 0, none⟩ (src := 127) (dst := 76) (u := 78) Tryz.underlying127 Tryz.underlying76 hj hsh (by kernel_rfl)]
  simp only [Result.andThen]
  rw [Oper.upon_value]
  go_wp2
  go_end0
  exact ⟨rfl, rfl⟩
theorem pb_check (g : Nat) (l : List UInt8) (w : World) (h : Pb g l w) : Calls Tryz.prog 39 #[.pointer (some ⟨g, 0, none⟩)] w fun e w' => e = .returned (.tuple #[]) ∧ Lib.BuilderAtF 119 5 g g (.pointer (some ⟨g, 0, none⟩)) (Lib.byteCells l) w' ∧ Fr g w w' := by
  rcases h with ⟨rfl, h⟩ | ⟨_, h⟩
  · refine (pb_fresh g w h).mono ?_
    rintro e w' ⟨rfl, rfl⟩
    have hb := setCell_block w g 0 (.pointer (some ⟨g, 0, none⟩)) _ _ _ h
    exact ⟨rfl, ⟨Nat.le_refl _, .slice none 0 0, hb, World.ownsRowF_nil _ _ _ _, by simp [Value.ownBlock]⟩, Fr.set w 0 _ (heap_lt h)⟩
  · refine (pb_used g w h.cell0).mono ?_
    rintro e w' ⟨rfl, rfl⟩
    exact ⟨rfl, h, Fr.refl _ _⟩
set_option maxRecDepth 100000 in
set_option maxHeartbeats 4000000 in
theorem pb_len (g : Nat) (l : List UInt8) (w : World) (h : Pb g l w) : Calls Tryz.prog 47 #[.pointer (some ⟨g, 0, none⟩)] w fun e w' => e = .returned (.int .i64 l.length) ∧ w' = w := by
  obtain ⟨p, ao, cap, hb⟩ : ∃ p ao cap, w.heap[g]? = some (.cells #[p, .slice ao l.length cap] 119 (0, 0)) := by
    rcases h with ⟨rfl, h⟩ | ⟨_, _, v, h, hown, _⟩
    · exact ⟨_, _, _, h⟩
    · rw [Lib.byteCells_length] at hown
      rcases hown.2 with ⟨rfl, h0⟩ | ⟨g', cap, cur, fz, rfl, _⟩
      · exact ⟨_, none, 0, by rw [h0]; exact h⟩
      · exact ⟨_, _, _, h⟩
  have c1 := cell_blk hb 1
  have hl := heap_lt hb
  simp only [List.getElem?_toArray, List.getElem?_cons_zero, List.getElem?_cons_succ] at c1
  clear h hb
  generalize l.length = n at c1 ⊢
  go_enter Tryz.func47, Tryz.ntmps47
  go_wp2
  go_ret
  exact ⟨rfl, rfl⟩
set_option maxRecDepth 100000 in
set_option maxHeartbeats 4000000 in
theorem pb_str (g : Nat) (l : List UInt8) (s : ByteArray) (w : World) (h : Pb g l w) (hs : s.size ≠ 0) (hl : l.length + s.size ≤ 140737488355328) :
    Calls Tryz.prog 22 #[.pointer (some ⟨g, 0, none⟩), .string s] w fun e w' => e = .returned (.tuple #[.int .i64 s.size, .nilIface]) ∧ Pb g (l ++ s.data.toList) w' ∧ Fr g w w' := by
  obtain ⟨i0, hi, hz0, hz1, hz2⟩ := info_parts (P := Tryz.prog) (e := 5) (z := .int .u8 0) (size := 1) (bytes := 1) (by kernel_rfl)
  have hlt := h.lt
  have HC := hid (pb_check g l w h)
  clear h
  go_enter Tryz.func22, Tryz.ntmps22
  go_wp2_with fail
  go_at_call 39
  refine HC.out.mono ?_
  rintro e w1 ⟨rfl, ⟨_, v, hbk, hown, hne⟩, hb1⟩
  have c0 := cell_blk hbk 0
  have c1 := cell_blk hbk 1
  simp only [List.getElem?_toArray, List.getElem?_cons_zero, List.getElem?_cons_succ] at c0 c1
  have hlt1 := heap_lt hbk
  rw [Lib.byteCells_length] at hown
  obtain ⟨va, vn, vc, rfl⟩ : ∃ a n c, v = .slice a n c := by
    rcases hown.2 with ⟨rfl, h0⟩ | ⟨g', cap, cur, fz, rfl, _⟩
    · exact ⟨_, _, _, rfl⟩
    · exact ⟨_, _, _, rfl⟩
  go_wp2_with (at_builtin; refine Lib.wpList_append_own_stringF _ rfl _ _ 24 9 rfl g 5 i0 Tryz.underlying24 Tryz.underlying9 hi hz0 hz1 hz2 _ _ _ rfl hown s rfl ?c3 ?c4 ?c5 ?_)
  case c3 => unfold maxLen; omega
  case c4 => omega
  case c5 => omega
  intro v' w2 hown' hgrow _
  have hb2 : w2.heap[g]? = some (.cells #[.pointer (some ⟨g, 0, none⟩), .slice va vn vc] 119 (0, 0)) := by
    rw [hgrow.block g hlt1 (fun e => hne e.symm)]
    exact hbk
  have hfr : Fr g w1 w2 := ⟨(Below.refl g w1).grown hgrow (Nat.le_of_lt hlt1) (fun k hk => (hown.lt k hk).1), fun k c t hk hc ht => by
    rw [hgrow.block k (heap_lt hc) (fun e => ?_)]
    · exact hc
    · rcases hown.2 with ⟨e0, _⟩ | ⟨g', cap, cur, fz, e0, _, hg', _⟩
      · rw [e0] at e; simp [Value.ownBlock] at e
      · rw [e0] at e
        have e2 : k = g' := by simpa [Value.ownBlock] using e
        subst e2
        rw [hg'] at hc
        injection hc with hc
        injection hc with _ q2
        exact ht q2.symm⟩
  have d0 := cell_blk hb2 0
  have d1 := cell_blk hb2 1
  have f1 := frozen_blk hb2 1
  have l2 := heap_lt hb2
  simp only [List.getElem?_toArray, List.getElem?_cons_zero, List.getElem?_cons_succ] at d0 d1
  obtain ⟨ao, n', cap, rfl⟩ : ∃ ao n' cap, v' = .slice ao n' cap := by
    rcases hown'.2 with ⟨hv, _⟩ | ⟨g, cap, cur, fz, hv, _⟩
    · exact ⟨_, _, _, hv⟩
    · exact ⟨_, _, _, hv⟩
  go_wp2_with fail
  go_ret2
  refine ⟨rfl, .inr ⟨fun e => hs ?_, ?_⟩, (hb1.trans hfr).trans (Fr.set w2 1 _ l2)⟩
  · rw [sz_eq, (List.append_eq_nil_iff.1 e).2]
    rfl
  · refine Lib.BuilderAtF.put (T := 119) (e := 5) (Nat.le_refl _) hb2 (bs' := Lib.byteCells (l ++ s.data.toList)) ?_ (by decide)
    rw [bc_app, ← strCells_eq]
    simpa [Lib.strCells_length, Lib.byteCells_length] using hown'
set_option maxRecDepth 100000 in
set_option maxHeartbeats 4000000 in
theorem pb_string (g : Nat) (l : List UInt8) (w : World) (h : Pb g l w) : Calls Tryz.prog 23 #[.pointer (some ⟨g, 0, none⟩)] w fun e w' => e = .returned (.string (bt l)) ∧ Below g w w' := by
  rcases h with ⟨rfl, h⟩ | ⟨hne, _, v, h, hown, hv⟩
  · have c1 : w.drew.cell? ⟨g, 1, none⟩ = some (.slice none 0 0) := cell_blk (w := w.drew) h 1
    have hl := heap_lt h
    have hSD : (Builtin.unsafeSliceData_ #[24] 104 #[.slice none 0 0]).run Tryz.prog w.drew = .ok (.pointer none) w.drew := rfl
    have hUS : (Builtin.unsafeString_ #[104, 3] 9 #[.pointer none, .int .i64 0]).run Tryz.prog w.drew = .ok (.string .empty) w.drew := Lib.run_unsafeString_none w.drew _ _ _ none
    clear h
    go_enter Tryz.func23, Tryz.ntmps23
    go_wp2
    go_region
    all_goals (go_wp2; go_ret; exact ⟨rfl, (Below.refl _ w).drew⟩)
  · rw [Lib.byteCells_length] at hown
    have hl0 : l.length ≠ 0 := by simpa using hne
    rcases hown.2 with ⟨_, h0⟩ | ⟨g', cap, cur, fz, rfl, hgg, hg, hfz, hnc, hcm, hcs, htake⟩
    · exact absurd h0 hl0
    · have c1 : w.drew.cell? ⟨g, 1, none⟩ = some (.slice (some ⟨g', 0, none⟩) l.length cap) := cell_blk (w := w.drew) h 1
      have hl := heap_lt h
      have hSD : (Builtin.unsafeSliceData_ #[24] 104 #[.slice (some ⟨g', 0, none⟩) l.length cap]).run Tryz.prog w.drew = .ok (.pointer (some ⟨g', 0, none⟩)) w.drew := Lib.run_unsafeSliceData_row _ _ _ _ _ _ (by omega)
      have hUS : (Builtin.unsafeString_ #[104, 3] 9 #[.pointer (some ⟨g', 0, none⟩), .int .i64 l.length]).run Tryz.prog w.drew = .ok (.string ⟨l.toArray⟩) (w.drew.freeze ⟨g', 0, none⟩ l.length) := by
        refine Lib.run_unsafeString_row w.drew 104 3 9 5 Tryz.underlying104 (by kernel_rfl) g' cur.size (by have hg' : w.drew.heap[g']? = some (.cells cur 5 fz) := hg; simp [World.shape?, hg']) l hne (by omega) (by unfold maxLen at hcm; omega) ?_
        intro j x hx
        exact hown.cells (g := g') rfl j (.int .u8 x.toNat) (by simp [Lib.byteCells, hx])
      have HF : Hid (Below g w (w.drew.freeze ⟨g', 0, none⟩ l.length)) := hid (Lib.below_freeze (Below.drew (Below.refl g w)) (p := ⟨g', 0, none⟩) hgg _)
      clear h hown hv htake hcs hcm hnc hfz hg
      generalize l.length = n at *
      go_enter Tryz.func23, Tryz.ntmps23
      go_wp2
      go_region
      all_goals (go_wp2; go_ret; exact ⟨rfl, HF.out⟩)
end Go.Proofs.YtghppkfopglgaaaGreatDoor
namespace Go.Proofs.YtghppkfopglgaaaGreatDoor
open Go.RowKit
set_option linter.unusedVariables false
set_option linter.unusedSimpArgs false
def fullB (l : List UInt8) : Bool := decide (65536 < l.length)
def layL (l : List UInt8) (s : ByteArray) : List UInt8 := if fullB l then l else l ++ s.data.toList
def layA (l : List UInt8) (ps : List ByteArray) : List UInt8 := ps.foldl layL l
def lineL (l : List UInt8) (s : ByteArray) : List UInt8 := layL (if l = [] then l else layL l ⟨#[10]⟩) s
def wordL (l : List UInt8) (s : ByteArray) : List UInt8 := layL (layL l ⟨#[32]⟩) s
/-- how long it may get -/
def Okl (l : List UInt8) : Prop := l.length ≤ 1114113
theorem okl_lay {l : List UInt8} (h : Okl l) (s : ByteArray) (hs : s.size ≤ 1048576) : Okl (layL l s) := by
  unfold Okl layL fullB at *
  split
  · exact h
  · rename_i hf
    simp only [decide_eq_true_eq] at hf
    rw [List.length_append, ← sz_eq]
    omega
set_option maxRecDepth 100000 in
set_option maxHeartbeats 4000000 in
theorem full_any (g : Nat) (l : List UInt8) (w : World) (h : Pb g l w) : Calls Tryz.prog 75 #[.pointer (some ⟨g, 0, none⟩)] w fun e w' => e = .returned (.bool (fullB l)) ∧ w' = w := by
  have HL := hid (pb_len g l w h)
  have hlt := h.lt
  obtain ⟨n, hn⟩ : ∃ n, l.length = n := ⟨_, rfl⟩
  rw [hn] at HL
  unfold fullB
  rw [hn]
  clear h hn
  by_cases hf : 65536 < n
  · have e1 : decide ((65536 : Int) < (n : Int)) = true := by simpa using (by omega : (65536 : Int) < n)
    rw [decide_eq_true hf]
    clear hf
    go_enter Tryz.func75, Tryz.ntmps75
    go_wp2_with fail
    go_at_call 47
    refine HL.out.mono ?_
    rintro e V ⟨rfl, e2⟩
    subst e2
    go_wp2_with fail
    go_ret
    exact ⟨rfl, rfl⟩
  · have e1 : decide ((65536 : Int) < (n : Int)) = false := by simpa using (by omega : ¬ (65536 : Int) < n)
    rw [decide_eq_false hf]
    clear hf
    go_enter Tryz.func75, Tryz.ntmps75
    go_wp2_with fail
    go_at_call 47
    refine HL.out.mono ?_
    rintro e V ⟨rfl, e2⟩
    subst e2
    go_wp2_with fail
    go_ret
    exact ⟨rfl, rfl⟩
set_option maxRecDepth 100000 in
set_option maxHeartbeats 4000000 in
theorem lay_any (g : Nat) (l : List UInt8) (s : ByteArray) (w : World) (h : Pb g l w) (hs : s.size ≠ 0) (hs2 : s.size ≤ 1048576) : Calls Tryz.prog 48 #[.pointer (some ⟨g, 0, none⟩), .string s] w fun e w' => e = .returned (.tuple #[]) ∧ Pb g (layL l s) w' ∧ Fr g w w' := by
  have HF := hid (full_any g l w h)
  have HP := hid h
  have hlt := h.lt
  unfold layL
  cases hf : fullB l with
  | true =>
    rw [hf] at HF
    clear h hf
    go_enter Tryz.func48, Tryz.ntmps48
    go_wp2_with fail
    go_at_call 75
    refine HF.out.mono ?_
    rintro e V ⟨rfl, e2⟩
    subst e2
    go_wp2_with fail
    go_end0
    exact ⟨rfl, HP.out, Fr.refl _ _⟩
  | false =>
    have HW := hid (pb_str g l s w h hs (by
      have : l.length ≤ 65536 := by simpa [fullB] using hf
      omega))
    rw [hf] at HF
    clear h hf
    go_enter Tryz.func48, Tryz.ntmps48
    go_wp2_with fail
    go_at_call 75
    refine HF.out.mono ?_
    rintro e V ⟨rfl, e2⟩
    subst e2
    go_wp2_with fail
    go_at_call 22
    refine HW.out.mono ?_
    rintro e V ⟨rfl, h1, h2⟩
    go_wp2_with fail
    go_end0
    exact ⟨rfl, h1, h2⟩
set_option maxRecDepth 100000 in
set_option maxHeartbeats 4000000 in
theorem word_any (g : Nat) (l : List UInt8) (s : ByteArray) (w : World) (h : Pb g l w) (hs : s.size ≠ 0) (hs2 : s.size ≤ 1048576) : Calls Tryz.prog 73 #[.pointer (some ⟨g, 0, none⟩), .string s] w fun e w' => e = .returned (.tuple #[]) ∧ Pb g (wordL l s) w' ∧ Fr g w w' := by
  have H1 := hid (lay_any g l ⟨#[32]⟩ w h (by decide) (by decide))
  have H2 := hid (fun V (hV : Pb g (layL l ⟨#[32]⟩) V) => lay_any g _ s V hV hs hs2)
  have hlt := h.lt
  clear h
  go_enter Tryz.func73, Tryz.ntmps73
  go_wp2_with fail
  go_at_call 48
  refine H1.out.mono ?_
  rintro e V ⟨rfl, h1, h2⟩
  go_wp2_with fail
  go_at_call 48
  refine (H2.out V h1).mono ?_
  rintro e V2 ⟨rfl, h3, h4⟩
  go_wp2_with fail
  go_end0
  exact ⟨rfl, h3, h2.trans h4⟩
set_option maxRecDepth 100000 in
set_option maxHeartbeats 4000000 in
theorem line_any (g : Nat) (l : List UInt8) (s : ByteArray) (w : World) (h : Pb g l w) (hs : s.size ≠ 0) (hs2 : s.size ≤ 1048576) : Calls Tryz.prog 70 #[.pointer (some ⟨g, 0, none⟩), .string s] w fun e w' => e = .returned (.tuple #[]) ∧ Pb g (lineL l s) w' ∧ Fr g w w' := by
  have HL := hid (pb_len g l w h)
  have H1 := hid (lay_any g l ⟨#[10]⟩ w h (by decide) (by decide))
  have H2 := hid (fun l V (hV : Pb g l V) => lay_any g l s V hV hs hs2)
  have HP := hid h
  have hlt := h.lt
  obtain ⟨n, hn⟩ : ∃ n, l.length = n := ⟨_, rfl⟩
  rw [hn] at HL
  unfold lineL
  clear h
  by_cases hl : l = []
  · rw [if_pos hl]
    have e1 : ¬ 0 < n := by rw [← hn, hl]; simp
    clear hn
    go_enter Tryz.func70, Tryz.ntmps70
    go_wp2_with fail
    go_at_call 47
    refine HL.out.mono ?_
    rintro e V ⟨rfl, e2⟩
    subst e2
    go_wp2_with fail
    go_at_call 48
    refine (H2.out _ _ HP.out).mono ?_
    rintro e V2 ⟨rfl, h3, h4⟩
    go_wp2_with fail
    go_end0
    exact ⟨rfl, h3, h4⟩
  · rw [if_neg hl]
    have e1 : 0 < n := by have := List.length_pos_iff.2 hl; omega
    clear hn
    go_enter Tryz.func70, Tryz.ntmps70
    go_wp2_with fail
    go_at_call 47
    refine HL.out.mono ?_
    rintro e V ⟨rfl, e2⟩
    subst e2
    go_wp2_with fail
    go_at_call 48
    refine H1.out.mono ?_
    rintro e V1 ⟨rfl, h1, h2⟩
    go_wp2_with fail
    go_at_call 48
    refine (H2.out _ _ h1).mono ?_
    rintro e V2 ⟨rfl, h3, h4⟩
    go_wp2_with fail
    go_end0
    exact ⟨rfl, h3, h2.trans h4⟩
end Go.Proofs.YtghppkfopglgaaaGreatDoor
namespace Go.Proofs.YtghppkfopglgaaaGreatDoor
open Go.RowKit
set_option linter.unusedVariables false
set_option linter.unusedSimpArgs false
theorem Fr.env {g : Nat} {w w' : World} (h : Fr g w w') (hE : Env w) (g8 : 8 ≤ g) : Env w' := hE.of h.bel.size fun k hk => h.bel.block k (by omega)
def numsL (l : List UInt8) (ns : List Int) : List UInt8 := ns.foldl (fun l n => wordL l (bt (Lib.itoa n))) l
theorem numsL_snoc (l : List UInt8) (ns : List Int) (n : Int) : numsL l (ns ++ [n]) = wordL (numsL l ns) (bt (Lib.itoa n)) := by unfold numsL; rw [List.foldl_append]; rfl
theorem itoa_sz (n : Int) (h : I64 n) : (bt (Lib.itoa n)).size ≠ 0 ∧ (bt (Lib.itoa n)).size ≤ 1048576 := by
  have h1 := itoa_len n h.1 h.2
  have h2 := (itoa_br n).2
  have e : (bt (Lib.itoa n)).size = (Lib.itoa n).length := by rw [sz_eq]; rfl
  rw [e]
  refine ⟨fun e => h2 (List.eq_nil_of_length_eq_zero e), by omega⟩
set_option maxRecDepth 100000 in
set_option maxHeartbeats 4000000 in
theorem numbers_any (g bk cap : Nat) (l : List UInt8) (ns : List Int) (cs : Array Value) (w : World) (hE : Env w) (g8 : 8 ≤ g) (h : Pb g l w) (hb : w.heap[bk]? = some (.cells cs 2 (0, 0))) (hne : bk ≠ g)
    (hc : ∀ (j : Nat) (n : Int), ns[j]? = some n → cs[j]? = some (Value.int .i64 n)) (hI : ∀ n ∈ ns, I64 n) (hlen : ns.length ≤ 1000) :
    Calls Tryz.prog 72 #[.pointer (some ⟨g, 0, none⟩), .slice (some ⟨bk, 0, none⟩) ns.length cap] w fun e w' => e = .returned (.tuple #[]) ∧ Pb g (numsL l ns) w' ∧ Fr g w w' := by
  have HJ0 : Hid (Pb g (numsL l (ns.take 0)) w ∧ Fr g w w) := hid ⟨h, Fr.refl _ _⟩
  have HE := hid hE
  have HB := hid hb
  have HCC := hid hc
  have HII := hid hI
  have HW := hid (word_any g)
  have HLL := hid hlen
  obtain ⟨N, hN⟩ : ∃ N, ns.length = N := ⟨_, rfl⟩
  have HN := hid hN
  rw [hN]
  clear h hE hc hb hI hlen hN
  go_enter Tryz.func72, Tryz.ntmps72
  go_wp2_with fail
  go_loopw [8] (fun iv wr => ∃ i : Nat, iv = .int .i64 (i : Int) ∧ i ≤ N ∧ Hid (Pb g (numsL l (ns.take i)) wr ∧ Fr g w wr)) (fun iv _ => N - (intOf iv).toNat)
  case atStart => exact ⟨0, rfl, Nat.zero_le _, HJ0⟩
  case round =>
    obtain ⟨i, rfl, hle, HJ⟩ := hrel
    clear HJ0
    by_cases hlt : i < N
    · have hltI : (i : Int) < (N : Int) := by omega
      obtain ⟨n, hn⟩ : ∃ n, ns[i]? = some n := ⟨_, List.getElem?_eq_getElem (by have := HN.out; omega)⟩
      have hbr := HJ.out.2.kb bk cs 2 hne HB.out (by decide)
      have c0 : wr.cell? ⟨bk, i, none⟩ = some (.int .i64 n) := (cell_blk hbr i).trans (HCC.out i n hn)
      have l0 := heap_lt hbr
      have hi : I64 n := HII.out n (List.mem_of_getElem? hn)
      have HF := hid (format_any n hi wr (HJ.out.2.env HE.out g8))
      have hsz := itoa_sz n hi
      have HW2 := hid (fun V (hV : Pb g (numsL l (ns.take i)) V) => HW.out _ (bt (Lib.itoa n)) V hV hsz.1 hsz.2)
      have HP := hid HJ.out.1
      have HFR := hid HJ.out.2
      have HT : Hid (ns.take (i + 1) = ns.take i ++ [n]) := hid (by rw [List.take_add_one, hn]; rfl)
      have HG : Hid (g ≤ wr.heap.size) := hid (Nat.le_of_lt HJ.out.1.lt)
      have HNL := HLL.out
      have HNN := HN.out
      clear hbr hn hi hsz HJ
      go_wp2_with fail
      go_at_call 31
      refine HF.out.mono ?_
      rintro e V ⟨rfl, hb1⟩
      go_wp2_with fail
      go_at_call 73
      refine (HW2.out V (HP.out.below hb1)).mono ?_
      rintro e V2 ⟨rfl, h1, h2⟩
      have HJ2 : Hid (Pb g (numsL l (ns.take (i + 1))) V2 ∧ Fr g w V2) := hid ⟨by rw [HT.out, numsL_snoc]; exact h1, (HFR.out.trans (Fr.below hb1 HG.out)).trans h2⟩
      clear h1 h2 hb1 HF HW2
      go_wp2_with fail
      go_roundw
      case rel => exact ⟨i + 1, rfl, by omega, HJ2⟩
      case measure => show N - ((i : Int) + 1).toNat < N - ((i : Nat) : Int).toNat; omega
    · have hnlt : ¬ (i : Int) < (N : Int) := by omega
      have hi : i = N := by omega
      subst hi
      go_wp2_with fail
      (try simp only [Exit.inBlock, Exit.then])
      go_end0
      have := HJ.out
      rw [List.take_of_length_le (by have := HN.out; omega)] at this
      exact ⟨rfl, this⟩
end Go.Proofs.YtghppkfopglgaaaGreatDoor
