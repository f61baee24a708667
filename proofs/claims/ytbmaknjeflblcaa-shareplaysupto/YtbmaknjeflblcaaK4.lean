/- share: keep, Drop. -/
import Derived.Test.YtbmaknjeflblcaaK3
namespace Go.Proofs.Ytbmaknjeflblcaa
open Go.RowKit Go.Maps
set_option linter.unusedVariables false
set_option linter.unusedSimpArgs false

section
variable {w w' : World} {S S' : Nat → Prop} {p bq bo n : Nat} {L L' : Mp Qe} {T : St}
theorem Sm.setq (h : Sm w S p bq bo L T) {q' : Mp (List UInt8 × Bool)} (hm : w'.ownsMap Try.prog 2 qR bq n (mD qg L')) (hg : Ks (fun k => k = bq) w w') (hL : q' = abs L') (ok : St.Ok ⟨q', T.o⟩) : Sm w' S p bq bo L' ⟨q', T.o⟩ := by
  obtain ⟨l1, l2, l3, l4, l5⟩ := h.lts
  obtain ⟨es, clock, h1, h2⟩ := h.mo
  exact ⟨(hg.block p l1 l4).trans h.blk, own_len hm, ⟨es, clock, (hg.block bo l3 (Ne.symm h.ne)).trans h1, h2⟩, h.ne, hL, h.ins, ok⟩
theorem Sm.seto (h : Sm w S p bq bo L T) {o' : Mp Unit} (hm : w'.ownsMap Try.prog 2 unitElem bo n (mD ug o')) (hg : Ks (fun k => k = bo) w w') (ok : St.Ok ⟨T.q, o'⟩) : Sm w' S p bq bo L ⟨T.q, o'⟩ := by
  obtain ⟨l1, l2, l3, l4, l5⟩ := h.lts
  obtain ⟨es, clock, h1, h2⟩ := h.mq
  exact ⟨(hg.block p l1 l5).trans h.blk, ⟨es, clock, (hg.block bq l2 h.ne).trans h1, h2⟩, own_len hm, h.ne, h.tq, h.ins, ok⟩
theorem Rw.turned (h : Rw w S L) {b : Nat} {es : Array MapEntry} {c : Nat} (hb : w.heap[b]? = some (.map es c)) (hg : Ks (fun k => k = b) w w') : Rw w' S L :=
  h.stays fun k hk _ q hq e => hg.block k hk fun e' => by subst e'; exact (h.rows q hq).not_map hb e
theorem Rw.al (h : Rw w S L) (o : Obj) : Rw (w.alloc o) S L := h.stays fun k hk _ q hq e => (bel1 w o).block k hk
theorem Sm.al (h : Sm w S p bq bo L T) (o : Obj) : Sm (w.alloc o) S p bq bo L T := h.stays fun k hk _ => (bel1 w o).block k hk
theorem ks_grown {b : Nat} (hg : w.grownBy w' (some b)) : Ks (fun k => k = b) w w' := ⟨hg.os, hg.tape, hg.output, hg.size, fun k hk hn => hg.block k hk (fun e => hn (Option.some.inj e))⟩
theorem grown_drew {r : Option Nat} (h : w.drew.grownBy w' r) : w.grownBy w' r := ⟨h.os, h.tape, h.output, h.size, h.block⟩
theorem Rw.put {id0 : Int} (h : Rw w S (dele L id0)) {y : SV} {l : List UInt8} {e : Bool} (hr : WRow w (sv y) l) (hS : ∀ k, (sv y).ownBlock = some k → S k) (ha : ∀ q ∈ L, q.1 ≠ id0 → ∀ k, (sv y).ownBlock = some k → (sv q.2.y).ownBlock ≠ some k) : Rw w S (putm L id0 ⟨y, l, e⟩) := by
  have hmem : ∀ q, q ∈ putm L id0 ⟨y, l, e⟩ → q = (id0, ⟨y, l, e⟩) ∨ q ∈ dele L id0 := fun q hq => by
    rcases (mem_putm _ _ _ _).1 hq with e | e
    · exact .inl e
    · exact .inr ((mem_dele _ _ _).2 e)
  refine ⟨fun q hq => ?_, fun q hq k hk => ?_, fun q hq r hr' hne k hk => ?_⟩
  · rcases hmem q hq with rfl | hq
    · exact hr
    · exact h.rows q hq
  · rcases hmem q hq with rfl | hq
    · exact hS k hk
    · exact h.ins q hq k hk
  · rcases hmem q hq with rfl | hq <;> rcases hmem r hr' with rfl | hr'
    · exact absurd rfl hne
    · have := (mem_dele _ _ _).1 hr'
      exact ha r this.1 this.2 k hk
    · have := (mem_dele _ _ _).1 hq
      exact fun e' => ha q this.1 this.2 k e' hk
    · exact h.apart q hq r hr' hne k hk
end
set_option maxRecDepth 100000 in
set_option maxHeartbeats 1000000 in
theorem keep_any (w : World) (S : Nat → Prop) (p bq bo : Nat) (L : Mp Qe) (T : St) (id : Int) (y : SV) (l : List UInt8) (e : Bool) (hid : 1 ≤ id ∧ id ≤ 2147483647) (h : Sm w S p bq bo L T) (hR : Rw w S (dele L id)) (hr : WRow w (sv y) l) (hS : ∀ k, (sv y).ownBlock = some k → S k) (ha : ∀ q ∈ L, q.1 ≠ id → ∀ k, (sv y).ownBlock = some k → (sv q.2.y).ownBlock ≠ some k) :
    Calls Try.prog 22 #[.pointer (some ⟨p, 0, none⟩), .int .i64 id, qw y e] w fun r w' => r = .returned (.tuple #[]) ∧ (∃ L', Sv w' S p bq bo L' ⟨kp T.q id l e, T.o⟩) ∧ Ks (fun k => k = bq) w w' := by
  have hi : wf64 id := by unfold wf64; omega
  obtain ⟨bs', cs', hy⟩ := hr.slice
  obtain ⟨b, n, k⟩ := y
  have hy0 := hy
  unfold sv at hy
  simp only at hy
  injection hy with hy1 hy2 hy3
  subst hy2
  obtain ⟨o, ho⟩ : ∃ o, o = Obj.cells #[.slice b l.length k, .bool e] 67 := ⟨_, rfl⟩
  have hsm := h.al o
  have hRa := hR.al o
  have hra : WRow (w.alloc o) (sv (b, l.length, k)) l := hr.same fun k hk => (bel1 w o).block k (hr.lt k hk)
  have hK : ∀ {w1 : World} {b : Nat}, (w.alloc o).grownBy w1 (some b) → Ks (fun k => k = b) w w1 := fun {w1 b} hg => (Ks.of_below (bel1 w o)).trans (ks_grown hg) (fun _ _ h => h) (fun _ _ h => h)
  have hlen := h.len
  have c0 := cell_blk h.blk 0
  have hp := heap_lt h.blk
  obtain ⟨es0, cl0, hbq, hbq2⟩ := hsm.mq
  clear hbq2
  have okk := h.ok.kp hid l e T.o h.ok.so h.ok.ko
  cases hn : no l e
  · have hfin : ∀ {w3 : World} {m : Nat}, w3.ownsMap Try.prog 2 qR bq m ((mD qg L).put (.int .i64 id) (.held (qw (b, l.length, k) e))) → (w.alloc o).grownBy w3 (some bq) → Sv w3 S p bq bo (putm L id ⟨(b, l.length, k), l, e⟩) ⟨kp T.q id l e, T.o⟩ := fun {w3 m} hown hg => by
      refine ⟨hsm.setq (n := m) (by rw [← put_mD]; exact hown) (ks_grown hg) ?_ okk, ?_⟩
      · unfold kp abs
        rw [hn, putm_map (fun x : Qe => (x.l, x.e)), h.tq]
        rfl
      · refine Rw.put ?_ ?_ hS ha
        · exact hRa.turned hbq (ks_grown hg)
        · exact hra.same fun k hk => (ks_grown hg).block k (hra.lt k hk) fun e' => by subst e'; exact hra.not_map hbq hk
    have hst := hsm.mq.drew.update law2 Try.underlying58 (by unfold maxLen; omega) (key_int hi) (qR_mk (b, l.length, k) e)
    obtain ⟨w3, hrun3, hown3, hg3⟩ := hst
    have HF : Hid (Sv w3 S p bq bo (putm L id ⟨(b, l.length, k), l, e⟩) ⟨kp T.q id l e, T.o⟩ ∧ Ks (fun k => k = bq) w w3) := ⟨hfin hown3 (grown_drew hg3), hK (grown_drew hg3)⟩
    replace hrun3 : (Instr.mapUpdate 58 (.map (some bq)) (.int .i64 id) (.agg #[.slice b l.length k, .bool e])).run Try.prog ((w.alloc (Obj.cells #[.slice b l.length k, .bool e] 67)).drew) = .ok () w3 := by rw [← ho]; exact hrun3
    have hno : l.length = 0 → e = true := fun h0 => by
      have := List.eq_nil_of_length_eq_zero h0
      subst this
      cases e
      · simp [no] at hn
      · rfl
    generalize hm : l.length = m at hno hrun3 HF
    clear hfin hK hsm hRa hra hown3 hg3 hbq okk hy0 hr ha hS hR h hy1 hy3
    clear ho
    clear o
    unfold qw sv
    simp only
    by_cases hm0 : m = 0
    · have he := hno hm0
      subst he hm0
      go_enter Try.func22, Try.ntmps22
      go_wp2
      go_region
      go_wp2
      go_end0
      exact ⟨rfl, ⟨_, HF.out.1⟩, HF.out.2⟩
    · have e0 : ((m : Int) == 0) = false := beq_eq_false_iff_ne.2 (by omega)
      go_enter Try.func22, Try.ntmps22
      go_wp2
      go_region
      go_wp2
      go_end0
      exact ⟨rfl, ⟨_, HF.out.1⟩, HF.out.2⟩
  · have hfin : ∀ {w3 : World} {m : Nat}, w3.ownsMap Try.prog 2 qR bq m ((mD qg L).del (.int .i64 id)) → (w.alloc o).grownBy w3 (some bq) → Sv w3 S p bq bo (dele L id) ⟨kp T.q id l e, T.o⟩ := fun {w3 m} hown hg => by
      refine ⟨hsm.setq (n := m) (by rw [← del_mD]; exact hown) (ks_grown hg) ?_ okk, hRa.turned hbq (ks_grown hg)⟩
      unfold kp abs
      rw [hn, dele_map (fun x : Qe => (x.l, x.e)), h.tq]
      rfl
    have hown := hsm.mq
    have hkey := key_int hi
    have HF : Hid (∀ (w3 : World) (m : Nat), w3.ownsMap Try.prog 2 qR bq m ((mD qg L).del (.int .i64 id)) → (w.alloc o).grownBy w3 (some bq) → Sv w3 S p bq bo (dele L id) ⟨kp T.q id l e, T.o⟩ ∧ Ks (fun k => k = bq) w w3) := fun w3 m h1 h2 => ⟨hfin h1 h2, hK h2⟩
    obtain ⟨hl0, he0⟩ : l = [] ∧ e = false := by
      unfold no at hn
      simp at hn
      exact hn
    subst hl0 he0
    clear hfin hK hsm hRa hra hbq okk hy0 hr ha hS hR h hy1 hy3
    unfold qw sv
    simp only
    subst ho
    go_enter Try.func22, Try.ntmps22
    go_wp2_with (first
      | (at_delete; refine wpList_delete_own _ rfl _ _ 58 2 rfl 67 law2 Try.underlying58 _ bq _ _ rfl hown _ _ rfl hkey ?_; intro w3 hown3 ht3)
      | go_in)
    refine bodyPost_ret (results_none rfl _ _ _) rfl ?_
    exact ⟨rfl, ⟨_, (HF.out w3 _ hown3 ht3.grown).1⟩, (HF.out w3 _ hown3 ht3.grown).2⟩
end Go.Proofs.Ytbmaknjeflblcaa
