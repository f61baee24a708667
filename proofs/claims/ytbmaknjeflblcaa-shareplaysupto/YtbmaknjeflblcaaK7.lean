/- share: Next. -/
import Derived.Test.YtbmaknjeflblcaaK6
namespace Go.Proofs.Ytbmaknjeflblcaa
open Go.RowKit Go.Maps
set_option linter.unusedVariables false
set_option linter.unusedSimpArgs false

def tx (l : List UInt8) : Value := .string ⟨l.toArray⟩
def NextP (w : World) (S : Nat → Prop) (p : Nat) (T : St) (id c s f : Int) (e : Ending) (w' : World) : Prop :=
  e = .returned (.tuple #[tx (T.nextP id c s f), .bool (T.nextL id c s f), .int .i64 (T.nextE id c s f)]) ∧ Sh w' S p (T.next id c s f) ∧ Ks S w w'
theorem next_no {w w' : World} {S : Nat → Prop} {p : Nat} {T : St} {id c s f : Int} (h : Sh w S p T) (hB : Below w.heap.size w w') {x : Int} (hx : T.nextE id c s f = x) (h0 : x ≠ 0) : NextP w S p T id c s f (.returned (.tuple #[.string ⟨#[]⟩, .bool false, .int .i64 x])) w' := by
  have hn : T.nextE id c s f ≠ 0 := by rw [hx]; exact h0
  refine ⟨?_, ?_, Ks.of_below hB⟩
  · rw [St.nextP, if_neg hn, St.nextL, decide_eq_false hn, hx]
    rfl
  · rw [St.next, if_neg hn]
    exact h.below hB
section
variable {w w' : World} {S S' : Nat → Prop} {p bq bo n : Nat} {L L' : Mp Qe} {T : St}
theorem ks_box {B : Nat} (h : Sv w S p bq bo L T) (hB : B < w.heap.size) (hb : ∃ c, w.heap[B]? = some (.cells c 67 (0, 0))) (hk : Ks (fun k => k = B) w w') : Sv w' S p bq bo L T := by
  obtain ⟨cc, hc⟩ := hb
  have hp : p ≠ B := fun e => by
    have := h.sm.blk
    rw [e, hc] at this
    injection this with this
    injection this with _ this
    cases this
  have hbq : bq ≠ B := fun e => by
    obtain ⟨es, cl, h1, _⟩ := h.sm.mq
    rw [e, hc] at h1
    cases h1
  have hbo : bo ≠ B := fun e => by
    obtain ⟨es, cl, h1, _⟩ := h.sm.mo
    rw [e, hc] at h1
    cases h1
  refine ⟨h.sm.stays fun k hk' e => hk.block k hk' ?_, h.rw.stays fun k hk' _ q hq e => hk.block k hk' fun e' => ?_⟩
  · rcases e with rfl | rfl | rfl
    · exact hp
    · exact hbq
    · exact hbo
  · subst e'
    exact (h.rw.rows q hq).not_cells hc (by decide) e
end
set_option maxRecDepth 100000 in
theorem slice_l {b : Option Addr} {n m c B1 L1 C1 : _} (hm : m ≤ n) (hvv : sliced b m n c 1 = .slice B1 L1 C1) (W : World) : (Instr.slice 65 (.slice b n c) (some (.int .i64 (m : Int))) none none).run Try.prog W = .ok (.slice B1 L1 C1) W := by
  obtain ⟨i0, hi0, hz0, hz1, hz2⟩ := info_parts info5
  rw [run_slice_l (P := Try.prog) W 65 b n c Try.underlying65 .i64 (m : Int) (by omega) (by omega), ← hvv]
  show ((sizeOf 5).run Try.prog W).andThen _ = _
  simp [sizeOf, typeInfo, hi0, hz1]
set_option maxRecDepth 100000 in
theorem slice_h {b : Option Addr} {n m c B1 L1 C1 : _} (hm : m ≤ c) (hvv : sliced b 0 m c 1 = .slice B1 L1 C1) (W : World) : (Instr.slice 65 (.slice b n c) none (some (.int .i64 (m : Int))) none).run Try.prog W = .ok (.slice B1 L1 C1) W := by
  obtain ⟨i0, hi0, hz0, hz1, hz2⟩ := info_parts info5
  rw [run_slice_h (P := Try.prog) W 65 b n c Try.underlying65 .i64 (m : Int) (by omega) (by omega), ← hvv]
  show ((sizeOf 5).run Try.prog W).andThen _ = _
  simp [sizeOf, typeInfo, hi0, hz1]
theorem rm_nat (c s f : Int) (n : Nat) : ∃ k : Nat, rm c s (n : Int) f = (k : Int) ∧ k ≤ n := by
  refine ⟨(rm c s n f).toNat, ?_, ?_⟩
  · unfold rm; omega
  · unfold rm; omega
set_option maxRecDepth 100000 in
set_option maxHeartbeats 1000000 in
theorem next_any (w : World) (S : Nat → Prop) (p : Nat) (T : St) (id c s f : Int) (hi : wf64 id) (h : Sh w S p T) :
    Calls Try.prog 14 #[.pointer (some ⟨p, 0, none⟩), .int .i64 id, .int .i64 c, .int .i64 s, .int .i64 f] w (NextP w S p T id c s f) := by
  by_cases hf : f < 1
  · have hfin : Hid (NextP w S p T id c s f (.returned (.tuple #[.string ⟨#[]⟩, .bool false, .int .i64 1])) w) := next_no h (Below.refl _ w) (by rw [St.nextE, if_pos hf]) (by decide)
    generalize NextP w S p T id c s f = Q at hfin ⊢
    clear h
    go_enter Try.func14, Try.ntmps14
    go_wp2
    go_ret3
    exact hfin.out
  · have hsh := h
    obtain ⟨bq, bo, L, h⟩ := h
    have c0 := cell_blk h.sm.blk 0
    have hp := heap_lt h.sm.blk
    have hfd := h.sm.find2 hi
    obtain ⟨hrow, hrS, hra⟩ := h.row id
    obtain ⟨b', c', hy⟩ := hrow.slice
    generalize hyL : lkY L id = y at hfd hrow hrS hra hy
    obtain ⟨b, n, k⟩ := y
    have hy' := hy
    unfold sv at hy
    simp only at hy
    injection hy with hy1 hy2 hy3
    subst hy2
    clear hyL hy1 hy3 hy'
    cases his : T.is id
    · rw [his] at hfd
      have hfin : Hid (∀ w', Below w.heap.size w w' → NextP w S p T id c s f (.returned (.tuple #[.string ⟨#[]⟩, .bool false, .int .i64 5])) w') := fun w' hB => next_no hsh hB (by rw [St.nextE, if_neg hf, if_pos his]) (by decide)
      generalize NextP w S p T id c s f = Q at hfin ⊢
      clear h hsh hrow hrS hra his
      unfold qw sv at hfd
      simp only at hfd
      generalize T.e id = e at hfd
      generalize (T.b id).length = n at hfd
      go_enter Try.func14, Try.ntmps14
      go_wp2
      go_ret3
      exact hfin.out _ (bel1 w _)
    · rw [his] at hfd
      have hgo := mayGo_any (w.alloc (Obj.cells #[.slice b (T.b id).length k, .bool (T.e id)] 67)) (b, (T.b id).length, k) (T.b id) (T.e id) c s rfl
      cases hmg : mg (T.b id) c s
      · rw [hmg] at hgo
        have hfin : Hid (∀ w', Below w.heap.size w w' → NextP w S p T id c s f (.returned (.tuple #[.string ⟨#[]⟩, .bool false, .int .i64 6])) w') := fun w' hB => next_no hsh hB (by rw [St.nextE, if_neg hf, if_neg (by rw [his]; simp), if_pos hmg]) (by decide)
        generalize NextP w S p T id c s f = Q at hfin ⊢
        clear h hsh hrow hrS hra his hmg
        unfold qw sv at hfd hgo
        simp only at hfd hgo
        generalize T.e id = e at hfd hgo
        generalize (T.b id).length = n at hfd hgo
        have HG : Hid (Calls Try.prog 23 #[.agg #[.slice b n k, .bool e], .int .i64 c, .int .i64 s] (w.alloc (Obj.cells #[.slice b n k, .bool e] 67)) fun r w' => r = .returned (.bool false) ∧ Below (w.alloc (Obj.cells #[.slice b n k, .bool e] 67)).heap.size (w.alloc (Obj.cells #[.slice b n k, .bool e] 67)) w') := hgo
        clear hgo
        go_enter Try.func14, Try.ntmps14
        go_wp2_with fail
        refine Calls.mono HG.out ?_
        rintro r w2 ⟨rfl, hB2⟩
        go_wp2
        go_ret3
        exact hfin.out _ ((bel1 w _).trans (hB2.mono (bel1 w _).size))
      · rw [hmg] at hgo
        have hE : T.nextE id c s f = 0 := by rw [St.nextE, if_neg hf, if_neg (by rw [his]; simp), if_neg (by rw [hmg]; simp)]
        obtain ⟨m, hm1, hm2⟩ := rm_nat c s f (T.b id).length
        have hN : T.nextN id c s f = m := by rw [St.nextN, hm1]; rfl
        have hidr := h.sm.ok.is_id his
        have hlk : (T.b id).length ≤ k := by
          rcases hrow with ⟨e1, e2⟩ | ⟨g, off, cap, cur, e1, _, h2, _⟩
          · rw [e2]; exact Nat.zero_le _
          · unfold sv at e1; injection e1 with _ _ e1; subst e1; exact h2
        -- what is left behind the calls
        have HK : Hid (∀ (W : World) (B : Nat) (le : Bool) (y1 : Option Addr) (y3 : Nat), B = w.heap.size → Ks (fun k => k = B) (w.alloc (Obj.cells #[.slice b (T.b id).length k, .bool (T.e id)] 67)) W → sliced b m (T.b id).length k 1 = .slice y1 ((T.b id).length - m) y3 → le = (T.e id && !T.nextL id c s f) →
            Calls Try.prog 22 #[.pointer (some ⟨p, 0, none⟩), .int .i64 id, .agg #[.slice y1 ((T.b id).length - m) y3, .bool le]] W fun r w' => r = .returned (.tuple #[]) ∧ NextP w S p T id c s f (.returned (.tuple #[tx ((T.b id).take m), .bool (T.nextL id c s f), .int .i64 0])) w') := by
          intro W B le y1 y3 hB hk hsl hle
          subst hB
          have hv1 : Sv (w.alloc (Obj.cells #[.slice b (T.b id).length k, .bool (T.e id)] 67)) S p bq bo L T := h.stays fun k hk _ => (bel1 w _).block k hk
          have hvW := ks_box hv1 (by simp) ⟨_, heap_alloc_new _ _⟩ hk
          have hr1 : WRow (w.alloc (Obj.cells #[.slice b (T.b id).length k, .bool (T.e id)] 67)) (sv (b, (T.b id).length, k)) (T.b id) := hrow.same fun j hj => (bel1 w _).block j (hrow.lt j hj)
          have hrW : WRow W (sv (b, (T.b id).length, k)) (T.b id) := hr1.same fun j hj => hk.block j (hr1.lt j hj) fun e' => by
            have := (hrS j hj).2.1
            omega
          obtain ⟨hd1, hd2⟩ := WRow.drop (n := (T.b id).length) (cap := k) (base := b) hrW m hm2
          rw [hsl] at hd1 hd2
          refine (keep_any W S p bq bo L T id (y1, (T.b id).length - m, y3) ((T.b id).drop m) le hidr hvW.sm (hvW.rw.sub fun q hq => ((mem_dele _ _ _).1 hq).1) hd1 (fun j hj => (hrS j (hd2 j hj)).1) (fun q hq hne j hj => hra q hq hne j (hd2 j hj))).mono ?_
          rintro r w' ⟨rfl, ⟨L', hL'⟩, hk'⟩
          refine ⟨rfl, ?_, ?_, ((Ks.of_below (A := S) (bel1 w _)).trans hk (fun _ _ h => h) (fun i hi e => by omega)).trans hk' (fun _ _ h => h) (fun _ _ h => h ▸ hvW.sm.ins.2.1)⟩
          · rw [St.nextP, if_pos hE, hN, hE]
          · rw [St.next, if_pos hE, hN, ← hle]
            exact ⟨bq, bo, L', hL'⟩
        have hL : T.nextL id c s f = (T.e id && decide ((T.b id).length ≤ m)) := by rw [St.nextL, hE, hN]; simp
        have hroom := fun W => room_any W c s (T.b id).length f
        rw [hm1] at hroom
        have HT : Hid (∀ W, Below w.heap.size w W → ∀ y1 y3, sliced b 0 m k 1 = .slice y1 m y3 → (convert 65 9 (.slice y1 m y3)).run Try.prog W = .ok (tx ((T.b id).take m)) W) := fun W hB y1 y3 hsl => by
          have hrW : WRow W (sv (b, (T.b id).length, k)) (T.b id) := hrow.same fun j hj => hB.block j (hrow.lt j hj)
          rw [← hsl]
          exact WRow.text (n := (T.b id).length) (cap := k) (base := b) hrW m hm2
        obtain ⟨y1, y3, hs1⟩ : ∃ y1 y3, sliced b m (T.b id).length k 1 = .slice y1 ((T.b id).length - m) y3 := ⟨_, _, rfl⟩
        obtain ⟨z1, z3, hs2⟩ : ∃ y1 y3, sliced b 0 m k 1 = .slice y1 m y3 := ⟨_, _, rfl⟩
        have hsl1 := fun W => slice_l hm2 hs1 W
        have hsl2 := fun W => slice_h (n := (T.b id).length) (Nat.le_trans hm2 hlk) hs2 W
        have hd : decide ((T.b id).length ≤ m) = decide ((T.b id).length - m = 0) := by congr 1; exact propext ⟨fun h => by omega, fun h => by omega⟩
        rw [hd] at hL
        clear hd hN hE his hidr h hsh hrow hrS hra hlk hmg
        generalize hQ : NextP w S p T id c s f = Q at HK ⊢
        clear hQ
        generalize T.nextL id c s f = la at hL HK
        generalize T.e id = e at hL HK hgo hfd
        generalize tx ((T.b id).take m) = t at HK HT
        generalize (T.b id).length = n at hL HK hgo hfd hroom hs1 hsl1 hsl2 hm1 hm2
        clear hm1
        have HR : Hid (∀ (W : World), Calls Try.prog 24 #[.int .i64 c, .int .i64 s, .int .i64 (n : Int), .int .i64 f] W fun r w' => r = .returned (.int .i64 (m : Int)) ∧ w' = W) := hroom
        have HS1 : Hid _ := hs1
        have HS2 : Hid _ := hs2
        clear hroom hs1 hs2
        unfold qw sv at hfd hgo
        simp only at hfd hgo
        have HG : Hid (Calls Try.prog 23 #[.agg #[.slice b n k, .bool e], .int .i64 c, .int .i64 s] (w.alloc (Obj.cells #[.slice b n k, .bool e] 67)) fun r w' => r = .returned (.bool true) ∧ Below (w.alloc (Obj.cells #[.slice b n k, .bool e] 67)).heap.size (w.alloc (Obj.cells #[.slice b n k, .bool e] 67)) w') := hgo
        clear hgo
        obtain ⟨j, hj⟩ : ∃ j, n - m = j := ⟨_, rfl⟩
        rw [hj] at hL HK HS1 hsl1
        have HJ : Hid _ := hj
        clear hj
        cases e
        · have hla : la = false := by rw [hL]; rfl
          subst hla
          clear hL
          go_enter Try.func14, Try.ntmps14
          go_wp2_with fail
          refine Calls.mono HG.out ?_
          rintro r w2 ⟨rfl, hB2⟩
          have hb2 : w2.heap[w.heap.size]? = some (.cells #[.slice b n k, .bool false] 67 (0, 0)) := (hB2.block _ (by simp)).trans (heap_alloc_new _ _)
          have d0 := cell_blk hb2 0
          have d1 := cell_blk hb2 1
          have hbl := heap_lt hb2
          have hfz0 := frozen_blk hb2 0
          have hfz1 := frozen_blk hb2 1
          have hcv := HT.out w2 ((bel1 w _).trans (hB2.mono (bel1 w _).size)) _ _ HS2.out
          have HB : Hid _ := hb2
          clear hb2
          go_wp2_with fail
          refine Calls.mono (HR.out _) ?_
          rintro r w2 ⟨rfl, rfl⟩
          go_wp2_with fail
          refine Calls.mono (HK.out _ w.heap.size _ y1 y3 rfl ((Ks.of_below hB2).trans (Ks.setCell (fun k => k = w.heap.size) w2 w.heap.size 0 _ rfl) (fun _ _ h => h) (fun _ _ h => h)) HS1.out rfl) ?_
          rintro r w4 ⟨rfl, h4⟩
          go_wp2
          go_ret3
          exact h4
        · by_cases hj0 : j = 0
          · have hla : la = true := by rw [hL, hj0]; rfl
            subst hla hj0
            clear hL
            go_enter Try.func14, Try.ntmps14
            go_wp2_with fail
            refine Calls.mono HG.out ?_
            rintro r w2 ⟨rfl, hB2⟩
            have hb2 : w2.heap[w.heap.size]? = some (.cells #[.slice b n k, .bool true] 67 (0, 0)) := (hB2.block _ (by simp)).trans (heap_alloc_new _ _)
            have d0 := cell_blk hb2 0
            have d1 := cell_blk hb2 1
            have hbl := heap_lt hb2
            have hfz0 := frozen_blk hb2 0
            have hfz1 := frozen_blk hb2 1
            have hcv := HT.out w2 ((bel1 w _).trans (hB2.mono (bel1 w _).size)) _ _ HS2.out
            have HB : Hid _ := hb2
            clear hb2
            go_wp2_with fail
            refine Calls.mono (HR.out _) ?_
            rintro r w2 ⟨rfl, rfl⟩
            go_wp2_with fail
            refine Calls.mono (HK.out _ w.heap.size _ y1 y3 rfl (((Ks.of_below hB2).trans (Ks.setCell (fun k => k = w.heap.size) w2 w.heap.size 0 _ rfl) (fun _ _ h => h) (fun _ _ h => h)).trans (Ks.setCell (fun k => k = w.heap.size) _ w.heap.size 1 _ rfl) (fun _ _ h => h) (fun _ _ h => h)) HS1.out rfl) ?_
            rintro r w4 ⟨rfl, h4⟩
            go_wp2
            go_ret3
            exact h4
          · have hla : la = false := by rw [hL]; simp [hj0]
            have e0 : ((j : Int) == 0) = false := beq_eq_false_iff_ne.2 (by omega)
            subst hla
            clear hL
            go_enter Try.func14, Try.ntmps14
            go_wp2_with fail
            refine Calls.mono HG.out ?_
            rintro r w2 ⟨rfl, hB2⟩
            have hb2 : w2.heap[w.heap.size]? = some (.cells #[.slice b n k, .bool true] 67 (0, 0)) := (hB2.block _ (by simp)).trans (heap_alloc_new _ _)
            have d0 := cell_blk hb2 0
            have d1 := cell_blk hb2 1
            have hbl := heap_lt hb2
            have hfz0 := frozen_blk hb2 0
            have hfz1 := frozen_blk hb2 1
            have hcv := HT.out w2 ((bel1 w _).trans (hB2.mono (bel1 w _).size)) _ _ HS2.out
            have HB : Hid _ := hb2
            clear hb2
            go_wp2_with fail
            refine Calls.mono (HR.out _) ?_
            rintro r w2 ⟨rfl, rfl⟩
            go_wp2_with fail
            refine Calls.mono (HK.out _ w.heap.size _ y1 y3 rfl ((Ks.of_below hB2).trans (Ks.setCell (fun k => k = w.heap.size) w2 w.heap.size 0 _ rfl) (fun _ _ h => h) (fun _ _ h => h)) HS1.out rfl) ?_
            rintro r w4 ⟨rfl, h4⟩
            go_wp2
            go_ret3
            exact h4
end Go.Proofs.Ytbmaknjeflblcaa
