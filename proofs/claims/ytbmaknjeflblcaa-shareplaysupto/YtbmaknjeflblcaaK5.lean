/- share: Drop, Put. -/
import Derived.Test.YtbmaknjeflblcaaK4
namespace Go.Proofs.Ytbmaknjeflblcaa
open Go.RowKit Go.Maps
set_option linter.unusedVariables false
set_option linter.unusedSimpArgs false

set_option maxRecDepth 100000 in
set_option maxHeartbeats 1000000 in
theorem drop_any (w : World) (S : Nat → Prop) (p : Nat) (T : St) (id : Int) (hi : wf64 id) (h : Sh w S p T) : Calls Try.prog 16 #[.pointer (some ⟨p, 0, none⟩), .int .i64 id] w fun e w' => e = .returned (.bool (T.is id)) ∧ Sh w' S p (T.drop id) ∧ Ks S w w' := by
  obtain ⟨bq, bo, L, h⟩ := h
  have c0 := cell_blk h.sm.blk 0
  have c1 := cell_blk h.sm.blk 1
  have hf := h.sm.find2 hi
  obtain ⟨l1, l2, l3, l4, l5⟩ := h.sm.lts
  have hkey := key_int hi
  have HH : Hid (Sv w S p bq bo L T) := h
  clear h
  generalize T.is id = isb at hf ⊢
  generalize lkY L id = y at hf
  generalize T.e id = e at hf
  obtain ⟨b, n, k⟩ := y
  unfold qw sv at hf
  simp only at hf
  have hown := HH.out.sm.mq.alloc (Obj.cells #[.slice b n k, .bool e] 67)
  have hsm := HH.out.sm.al (Obj.cells #[.slice b n k, .bool e] 67)
  have hrw := HH.out.rw.al (Obj.cells #[.slice b n k, .bool e] 67)
  have HS : Hid _ := hsm
  have HR : Hid _ := hrw
  have HC : Hid (∀ w2, (w.alloc (Obj.cells #[.slice b n k, .bool e] 67)).mapTurned w2 bq → w2.cell? ⟨p, 1, none⟩ = some (.map (some bo)) ∧ p < w2.heap.size ∧ w2.ownsMap Try.prog 2 unitElem bo T.o.length (mD ug T.o)) := fun w2 ht => by
    have h1 := (ks_grown ht.grown).block p (by simp; omega) l4
    have h2 := h1.trans hsm.blk
    obtain ⟨es, clock, h3, h4⟩ := hsm.mo
    exact ⟨cell_blk h2 1, heap_lt h2, ⟨es, clock, ((ks_grown ht.grown).block bo (by simp; omega) (Ne.symm hsm.ne)).trans h3, h4⟩⟩
  clear hsm hrw
  go_enter Try.func16, Try.ntmps16
  go_wp2_with (first
    | (at_delete; refine wpList_delete_own _ rfl _ _ 58 2 rfl 67 law2 Try.underlying58 _ bq _ _ rfl hown _ _ rfl hkey ?_; intro w2 hown2 ht2; have c1' := (HC.out w2 ht2).1; have l1' := (HC.out w2 ht2).2.1; have hown' := (HC.out w2 ht2).2.2)
    | (at_delete; refine wpList_delete_own _ rfl _ _ 59 2 rfl 62 law2 Try.underlying59 _ bo _ _ rfl hown' _ _ rfl hkey ?_; intro w3 hown3 ht3)
    | go_in)
  have hg2 := ks_grown ht2.grown
  obtain ⟨es0, cl0, hbq, hbq2⟩ := hown
  clear hbq2
  rw [del_mD] at hown2
  have hsm2 := HS.out.setq hown2 hg2 (q' := dele T.q id) (by rw [HS.out.tq]; exact (dele_map (fun x : Qe => (x.l, x.e)) id L).symm) ⟨HS.out.ok.sq.dele _, HS.out.ok.so, fun q hq => HS.out.ok.kq q ((mem_dele _ _ _).1 hq).1, HS.out.ok.ko, fun q hq => HS.out.ok.nz q ((mem_dele _ _ _).1 hq).1⟩
  have hrw2 := (HR.out.turned hbq hg2).sub (L' := dele L id) fun q hq => ((mem_dele _ _ _).1 hq).1
  have hk2 : Ks S w w2 := (Ks.of_below (A := S) (bel1 w _)).trans hg2 (fun _ _ h => h) (fun _ _ h => h ▸ HS.out.ins.2.1)
  go_ret
  have hg3 := ks_grown ht3.grown
  obtain ⟨es1, cl1, hbo, hbo2⟩ := hown'
  rw [del_mD] at hown3
  refine ⟨rfl, ⟨bq, bo, dele L id, hsm2.seto hown3 hg3 (HS.out.ok.drop id), hrw2.turned hbo hg3⟩, hk2.trans hg3 (fun _ _ h => h) (fun _ _ h => h ▸ HS.out.ins.2.2)⟩
section
variable {w w' : World} {S S' : Nat → Prop} {p bq bo n : Nat} {L L' : Mp Qe} {T : St}
theorem gr_l (k : Nat) (h : S k) : gr S w w' k := .inl h
theorem Sv.append (h : Sv w S p bq bo L T) (id : Int) (s : ByteArray) (hz : (T.b id).length + s.size ≤ 140737488355328) :
    ∃ b c w3, (Builtin.append_ #[65, 9] 65 #[sv (lkY L id), .string s]).run Try.prog w = .ok (.slice b ((T.b id).length + s.size) c) w3 ∧ Sm w3 (gr S w w3) p bq bo L T ∧ Rw w3 (gr S w w3) (dele L id) ∧ WRow w3 (.slice b ((T.b id).length + s.size) c) (T.b id ++ s.data.toList) ∧ (∀ k, (Value.slice b ((T.b id).length + s.size) c).ownBlock = some k → gr S w w3 k) ∧ (∀ q ∈ L, q.1 ≠ id → ∀ k, (Value.slice b ((T.b id).length + s.size) c).ownBlock = some k → (sv q.2.y).ownBlock ≠ some k) ∧ Ks S w w3 := by
  obtain ⟨hr, hS, ha⟩ := h.row id
  obtain ⟨b, c, w3, hrun, hR3, hG⟩ := wrow_append w (sv (lkY L id)) (T.b id) hr s hz
  refine ⟨b, c, w3, hrun, (h.sm.stays fun k hk e => hG.block k hk fun e' => ?_).mono gr_l, ?_, hR3, fun k hk => ?_, fun q hq hne k hk => ?_, ⟨hG.os, hG.tape, hG.output, hG.size, fun k hk hn => hG.block k hk fun e' => hn (hS k e').1⟩⟩
  · obtain ⟨_, _, n1, n2, n3⟩ := hS k e'
    rcases e with e | e | e
    · exact n1 e
    · exact n2 e
    · exact n3 e
  · refine Rw.mono (S := S) ?_ gr_l
    refine (h.rw.sub (L' := dele L id) fun q hq => ((mem_dele _ _ _).1 hq).1).stays fun k hk _ q hq e => hG.block k hk fun e' => ?_
    have := (mem_dele _ _ _).1 hq
    exact ha q this.1 this.2 k e' e
  · rcases hG.own k hk with e | e
    · exact .inl (hS k e).1
    · exact .inr ⟨e, hR3.lt k hk⟩
  · rcases hG.own k hk with e | e
    · exact ha q hq hne k e
    · exact fun e' => by have := (h.rw.rows q hq).lt k e'; omega
end
end Go.Proofs.Ytbmaknjeflblcaa
