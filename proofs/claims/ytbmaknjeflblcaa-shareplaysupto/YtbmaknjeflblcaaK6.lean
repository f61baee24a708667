/- share: Put. -/
import Derived.Test.YtbmaknjeflblcaaK5
namespace Go.Proofs.Ytbmaknjeflblcaa
open Go.RowKit Go.Maps
set_option linter.unusedVariables false
set_option linter.unusedSimpArgs false

def PutP (w : World) (S : Nat → Prop) (p : Nat) (T : St) (id : Int) (s : ByteArray) (en : Bool) (e : Ending) (w' : World) : Prop :=
  e = .returned (.int .i64 (T.putE id)) ∧ Sh w' (gr S w w') p (T.put id s.data.toList en) ∧ Ks S w w'
theorem field_q (W : World) (b : Option Addr) (n c : Nat) (e : Bool) : (Instr.field 67 (.agg #[.slice b n c, .bool e]) 0).run Try.prog W = .ok (.slice b n c) W := by kernel_rfl
set_option maxRecDepth 100000 in
set_option maxHeartbeats 1000000 in
theorem put_any (w : World) (S : Nat → Prop) (p : Nat) (T : St) (id : Int) (s : ByteArray) (en : Bool) (hi : wf64 id) (hz : (T.b id).length + s.size ≤ 140737488355328) (h : Sh w S p T) :
    Calls Try.prog 13 #[.pointer (some ⟨p, 0, none⟩), .int .i64 id, .string s, .bool en] w (PutP w S p T id s en) := by
  cases hid : isId id
  · have h1 : T.putE id = 1 := by unfold St.putE; rw [if_pos hid]
    have hfin : Hid (PutP w S p T id s en (.returned (.int .i64 1)) w) := ⟨by rw [h1], by rw [St.put, h1]; exact h.mono gr_l, Ks.refl _ _⟩
    generalize PutP w S p T id s en = Q at hfin ⊢
    clear h h1 hz
    by_cases ha : id < 1
    · go_enter Try.func13, Try.ntmps13
      go_wp2
      exact hfin.out
    · have hb : 2147483647 < id := by
        have : ¬ (1 ≤ id ∧ id ≤ 2147483647) := fun hh => by rw [isId_iff.2 hh] at hid; cases hid
        omega
      clear hid
      go_enter Try.func13, Try.ntmps13
      go_wp2
      exact hfin.out
  · have hidr := isId_iff.1 hid
    have ha : ¬ id < 1 := by omega
    have hb : ¬ 2147483647 < id := by omega
    obtain ⟨bq, bo, L, h⟩ := h
    have c0 := cell_blk h.sm.blk 0
    have c1 := cell_blk h.sm.blk 1
    have hp := heap_lt h.sm.blk
    have hov := h.sm.over hi
    cases ho : T.ov id
    · rw [ho] at hov
      have h1 : T.putE id = 0 := by unfold St.putE; rw [if_neg (by rw [hid]; simp), if_neg (by rw [ho]; simp)]
      have hb1 := bel1 w (Obj.cells #[] 62)
      have hv1 : Sv (w.alloc (Obj.cells #[] 62)) S p bq bo L T := h.stays fun k hk _ => hb1.block k hk
      cases en
      · obtain ⟨b, c, w3, hap, a1, a2, a3, a4, a5, a6⟩ := hv1.append id s hz
        have hfd := hv1.sm.find hi
        have HF : Hid (∀ (e : Ending) (w4 : World), (e = .returned (.tuple #[]) ∧ (∃ L', Sv w4 (gr S (w.alloc (Obj.cells #[] 62)) w3) p bq bo L' ⟨kp T.q id (T.b id ++ s.data.toList) false, T.o⟩) ∧ Ks (fun k => k = bq) w3 w4) → PutP w S p T id s false (.returned (.int .i64 0)) w4) := by
          rintro e w4 ⟨_, ⟨L', hs⟩, hk⟩
          have hs1 := hb1.size
          have hs4 := hk.size
          refine ⟨by rw [h1], ⟨bq, bo, L', ?_⟩, ((Ks.of_below (A := S) hb1).trans a6 (fun _ _ h => h) (fun _ _ h => h)).trans hk (fun _ _ h => h) (fun _ _ h => h ▸ hv1.sm.ins.2.1)⟩
          rw [St.put, if_pos h1]
          exact hs.mono fun k hk' => by
            rcases hk' with hk' | hk'
            · exact .inl hk'
            · exact .inr ⟨by omega, by omega⟩
        have HC : Hid _ := keep_any w3 _ p bq bo L T id (b, (T.b id).length + s.size, c) (T.b id ++ s.data.toList) false hidr a1 a2 a3 a4 a5
        have hrun : Hid _ := hap
        generalize PutP w S p T id s false = Q at HF ⊢
        clear a1 a2 a3 a4 a5 a6 hap h h1 hv1 hb1 ho hid hidr
        unfold qw at hfd
        generalize lkY L id = y at hfd hrun
        obtain ⟨y1, y2, y3⟩ := y
        unfold sv at hfd hrun
        simp only at hfd hrun
        generalize T.e id = e0 at hfd
        unfold qw sv at HC
        simp only at HC
        have hfl := fun W => field_q W y1 y2 y3 e0
        go_enter Try.func13, Try.ntmps13
        go_wp2_with (at_builtin; refine Lib.wpList_append_run _ rfl (.tmp 42) (.tmp 43) 65 9 rfl _ _ rfl rfl _ _ hrun.out ?_)
        refine Calls.mono HC.out fun e w4 h4 => ?_
        have h5 := HF.out e w4 h4
        obtain ⟨rfl, _⟩ := h4
        go_wp2
        exact h5
      · obtain ⟨w2, hst, hown2, hg2⟩ := hv1.sm.mo.update law2 Try.underlying59 (by have := h.sm.ok.length.2; unfold maxLen; omega) (key_int hi) (unitElem_mk (H := Value))
        have hk2 := ks_grown hg2
        have hown2' : w2.ownsMap Try.prog 2 unitElem bo (T.o.length + 1) (mD ug (putm T.o id ())) := by rw [← put_mD]; exact hown2
        have okk : St.Ok ⟨T.q, putm T.o id ()⟩ := ⟨h.sm.ok.sq, h.sm.ok.so.putm _ _, h.sm.ok.kq, fun q hq => by
          rcases (mem_putm _ _ _ _).1 hq with rfl | hq
          · exact hidr
          · exact h.sm.ok.ko q hq.1, h.sm.ok.nz⟩
        have hv2 : Sv w2 S p bq bo L ⟨T.q, putm T.o id ()⟩ := ⟨hv1.sm.seto hown2' hk2 okk, by
          obtain ⟨es1, cl1, hbo, _⟩ := hv1.sm.mo
          exact hv1.rw.turned hbo hk2⟩
        have c0' := cell_blk hv2.sm.blk 0
        have hp' := heap_lt hv2.sm.blk
        obtain ⟨b, c, w3, hap, a1, a2, a3, a4, a5, a6⟩ := hv2.append id s hz
        have hfd := hv2.sm.find hi
        have HF : Hid (∀ (e : Ending) (w4 : World), (e = .returned (.tuple #[]) ∧ (∃ L', Sv w4 (gr S w2 w3) p bq bo L' ⟨kp T.q id (T.b id ++ s.data.toList) true, putm T.o id ()⟩) ∧ Ks (fun k => k = bq) w3 w4) → PutP w S p T id s true (.returned (.int .i64 0)) w4) := by
          rintro e w4 ⟨_, ⟨L', hs⟩, hk⟩
          have hs1 := hb1.size
          have hs2 := hk2.size
          have hs4 := hk.size
          refine ⟨by rw [h1], ⟨bq, bo, L', ?_⟩, (((Ks.of_below (A := S) hb1).trans hk2 (fun _ _ h => h) (fun _ _ h => h ▸ hv1.sm.ins.2.2)).trans a6 (fun _ _ h => h) (fun _ _ h => h)).trans hk (fun _ _ h => h) (fun _ _ h => h ▸ hv1.sm.ins.2.1)⟩
          rw [St.put, if_pos h1]
          exact hs.mono fun k hk' => by
            rcases hk' with hk' | hk'
            · exact .inl hk'
            · exact .inr ⟨by omega, by omega⟩
        have HC : Hid _ := keep_any w3 _ p bq bo L ⟨T.q, putm T.o id ()⟩ id (b, (T.b id).length + s.size, c) (T.b id ++ s.data.toList) true hidr a1 a2 a3 a4 a5
        have hrun : Hid _ := hap
        generalize PutP w S p T id s true = Q at HF ⊢
        clear a1 a2 a3 a4 a5 a6 hap h h1 hv1 hv2 hk2 hg2 okk hown2 hown2' hb1 ho hid hidr
        change Hid ((Builtin.append_ #[65, 9] 65 #[sv (lkY L id), .string s]).run Try.prog w2 = .ok (.slice b ((T.b id).length + s.size) c) w3) at hrun
        change (Instr.lookup 58 (.map (some bq)) (.int .i64 id) false).run Try.prog w2 = .ok (qw (lkY L id) (T.e id)) w2 at hfd
        unfold qw at hfd
        generalize lkY L id = y at hfd hrun
        obtain ⟨y1, y2, y3⟩ := y
        unfold sv at hfd hrun
        simp only at hfd hrun
        generalize T.e id = e0 at hfd
        unfold qw sv at HC
        simp only at HC
        have hfl := fun W => field_q W y1 y2 y3 e0
        go_enter Try.func13, Try.ntmps13
        go_wp2_with (at_builtin; refine Lib.wpList_append_run _ rfl (.tmp 42) (.tmp 43) 65 9 rfl _ _ rfl rfl _ _ hrun.out ?_)
        refine Calls.mono HC.out fun e w4 h4 => ?_
        have h5 := HF.out e w4 h4
        obtain ⟨rfl, _⟩ := h4
        go_wp2
        exact h5
    · rw [ho] at hov
      have h1 : T.putE id = 8 := by unfold St.putE; rw [if_neg (by rw [hid]; simp), if_pos ho]
      have hfin : Hid (∀ w', Below w.heap.size w w' → PutP w S p T id s en (.returned (.int .i64 8)) w') := fun w' hB => ⟨by rw [h1], by rw [St.put, h1]; exact (Sh.below ⟨bq, bo, L, h⟩ hB).mono gr_l, Ks.of_below hB⟩
      generalize PutP w S p T id s en = Q at hfin ⊢
      clear h h1 hz hid hidr ho
      go_enter Try.func13, Try.ntmps13
      go_wp2
      exact hfin.out _ (bel1 w _)
end Go.Proofs.Ytbmaknjeflblcaa
