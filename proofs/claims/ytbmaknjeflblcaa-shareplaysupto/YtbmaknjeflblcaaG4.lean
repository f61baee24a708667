/- The law's ready. -/
import Derived.Test.YtbmaknjeflblcaaG2
import Derived.Test.YtbmaknjeflblcaaD1
import Derived.Deep.Cut
import Derived.Deep.RegionLaw
namespace Go.Proofs.Ytbmaknjeflblcaa
open Go.RowKit Go.Maps
set_option linter.unusedVariables false
set_option linter.unusedSimpArgs false

def mk : Int × Int := (-7, -7)
/-- what the room is, however it is made: a row of these, made since -/
structure Rm (w0 W : World) (b : Option Addr) (n c : Nat) (l : List (Int × Int)) : Prop where
  r : R EL W (.slice b (n + 1) c) (l ++ [mk])
  new : ∀ k, (Value.slice b (n + 1) c).ownBlock = some k → w0.heap.size ≤ k
  bel : Below w0.heap.size w0 W
theorem in_left1 (w : World) (g : Nat) (c : Array Value) (t : TypeId) (fz : Nat × Nat) (x : Int × Int) (h : w.heap[g]? = some (.cells c t fz)) (hc : c = #[.int .i64 x.1, .int .i64 x.2]) : In EL w (.slice (some ⟨g, 0, none⟩) 1 1) [x] := by
  subst hc
  refine .inr ⟨_, 1, rfl, Nat.le_refl _, by decide, fun j u hu => ?_⟩
  rw [Addr.add_lit, Nat.zero_add, cell_blk h]
  rw [← hu, ← Array.getElem?_toList]
  rfl
theorem none_row (w : World) : R EL (w.alloc (Obj.cells #[] 43)) (.slice (some ⟨w.heap.size, 0, none⟩) 0 0) [] := R.none' (E := EL) (heap_alloc_new _ _)
/-- two appends, the mark's row made behind the first -/
theorem room_a (w0 W : World) (hb : Below w0.heap.size w0 W) {y1 : Option Addr} {n y3 : Nat} {l : List (Int × Int)} (hI : In EL W (.slice y1 n y3) l) (hz : n ≤ 1048576) :
    ∃ b1 c1 W1 b2 c2 W2, (Builtin.append_ #[39, 39] 39 #[.slice (some ⟨W.heap.size, 0, none⟩) 0 0, .slice y1 n y3]).run Try.prog (W.alloc (Obj.cells #[] 43)) = .ok (.slice b1 n c1) W1 ∧ (Builtin.append_ #[39, 39] 39 #[.slice b1 n c1, .slice (some ⟨W1.heap.size, 0, none⟩) 1 1]).run Try.prog (W1.alloc (Obj.cells #[.int .i64 (-7), .int .i64 (-7)] 43)) = .ok (.slice b2 (n + 1) c2) W2 ∧ Rm w0 W2 b2 n c2 l ∧ Below w0.heap.size w0 W1 := by
  obtain ⟨hn, _, _⟩ := slice_len hI
  subst hn
  have q1 := bel1 W (Obj.cells #[] 43)
  obtain ⟨b1, c1, W1, r1, R1, G1⟩ := app okL _ _ [] (none_row W) _ l (hI.below q1) (by simp [EL]; omega)
  simp only [List.length_nil, Nat.zero_add, List.nil_append] at r1 R1 G1
  have o1 : ∀ k, (Value.slice b1 l.length c1).ownBlock = some k → w0.heap.size ≤ k := fun k hk => by
    have := hb.size
    rcases G1.own k hk with e | e
    · simp [Value.ownBlock] at e; omega
    · simp at e; omega
  have B1 : Below w0.heap.size w0 W1 := hb.trans ((q1.mono hb.size).trans (G1.belowB (by simp; have := hb.size; omega) fun k hk => by simp [Value.ownBlock] at hk; have := hb.size; omega))
  have q2 := bel1 W1 (Obj.cells #[.int .i64 (-7), .int .i64 (-7)] 43)
  obtain ⟨b2, c2, W2, r2, R2, G2⟩ := app okL _ _ l (R1.below q2) _ [mk] (in_left1 _ _ _ _ _ mk (heap_alloc_new W1 (Obj.cells #[.int .i64 (-7), .int .i64 (-7)] 43)) rfl) (by simp [EL]; omega)
  simp only [List.length_singleton] at r2 R2 G2
  refine ⟨b1, c1, W1, b2, c2, W2, r1, r2, ⟨R2, fun k hk => ?_, B1.trans ((q2.mono B1.size).trans (G2.belowB (by simp; have := B1.size; omega) o1))⟩, B1⟩
  have := B1.size
  rcases G2.own k hk with e | e
  · exact o1 k e
  · simp at e; omega
/-- .. ahead of it: the mark's row lies there already -/
theorem room_b (w0 W : World) (hb : Below w0.heap.size w0 W) {g h : Nat} {y1 : Option Addr} {n y3 : Nat} {l : List (Int × Int)} (hI : In EL W (.slice y1 n y3) l) (hz : n ≤ 1048576) (hg : R EL W (.slice (some ⟨g, 0, none⟩) 0 0) []) (hgl : w0.heap.size ≤ g) (hh : W.heap[h]? = some (.cells #[.int .i64 (-7), .int .i64 (-7)] 43 (0, 0))) (hgh : g ≠ h) :
    ∃ b1 c1 W1 b2 c2 W2, (Builtin.append_ #[39, 39] 39 #[.slice (some ⟨g, 0, none⟩) 0 0, .slice y1 n y3]).run Try.prog W = .ok (.slice b1 n c1) W1 ∧ (Builtin.append_ #[39, 39] 39 #[.slice b1 n c1, .slice (some ⟨h, 0, none⟩) 1 1]).run Try.prog W1 = .ok (.slice b2 (n + 1) c2) W2 ∧ Rm w0 W2 b2 n c2 l ∧ Below w0.heap.size w0 W1 := by
  obtain ⟨hn, _, _⟩ := slice_len hI
  subst hn
  obtain ⟨b1, c1, W1, r1, R1, G1⟩ := app okL _ _ [] hg _ l hI (by simp [EL]; omega)
  simp only [List.length_nil, Nat.zero_add, List.nil_append] at r1 R1 G1
  have o1 : ∀ k, (Value.slice b1 l.length c1).ownBlock = some k → w0.heap.size ≤ k := fun k hk => by
    have := hb.size
    rcases G1.own k hk with e | e
    · simp [Value.ownBlock] at e; omega
    · omega
  have B1 : Below w0.heap.size w0 W1 := hb.trans (G1.belowB hb.size fun k hk => by simp [Value.ownBlock] at hk; omega)
  have hh1 : W1.heap[h]? = some (.cells #[.int .i64 (-7), .int .i64 (-7)] 43 (0, 0)) := (G1.block h (heap_lt hh) (fun e => by simp [Value.ownBlock] at e; exact hgh e)).trans hh
  obtain ⟨b2, c2, W2, r2, R2, G2⟩ := app okL _ _ l R1 _ [mk] (in_left1 _ _ _ _ _ mk hh1 rfl) (by simp [EL]; omega)
  simp only [List.length_singleton] at r2 R2 G2
  refine ⟨b1, c1, W1, b2, c2, W2, r1, r2, ⟨R2, fun k hk => ?_, B1.trans (G2.belowB B1.size o1)⟩, B1⟩
  have := B1.size
  rcases G2.own k hk with e | e
  · exact o1 k e
  · omega
set_option maxRecDepth 100000 in
theorem slice39_h {g n m c : Nat} (hm : m ≤ c) (W : World) : (Instr.slice 39 (.slice (some ⟨g, 0, none⟩) n c) none (some (.int .i64 (m : Int))) none).run Try.prog W = .ok (.slice (some ⟨g, 0, none⟩) m c) W := by
  have hs : (sizeOf 43).run Try.prog W = .ok 2 W := by kernel_rfl
  rw [run_slice_h (P := Try.prog) W 39 (some ⟨g, 0, none⟩) n c Try.underlying39 .i64 (m : Int) (by omega) (by omega)]
  show ((sizeOf 43).run Try.prog W).andThen _ = _
  rw [hs]
  simp [Result.andThen, sliced, Addr.add]
/-- the two rows of numbers that are built side by side -/
structure Il (w0 W : World) (ib fb : Option Addr) (k ic fc : Nat) (a b : List Int) : Prop where
  ra : R EI W (.slice ib k ic) a
  rb : R EI W (.slice fb k fc) b
  la : k = a.length
  lb : k = b.length
  na : ∀ i, (Value.slice ib k ic).ownBlock = some i → w0.heap.size ≤ i
  nb : ∀ i, (Value.slice fb k fc).ownBlock = some i → w0.heap.size ≤ i
  ne : ∀ i, (Value.slice ib k ic).ownBlock = some i → (Value.slice fb k fc).ownBlock ≠ some i
  bel : Below w0.heap.size w0 W
theorem Il.start (w0 : World) : Il w0 w0 none none 0 0 0 [] [] := ⟨R.nil _ _, R.nil _ _, rfl, rfl, fun i hi => by simp [Value.ownBlock] at hi, fun i hi => by simp [Value.ownBlock] at hi, fun i hi => by simp [Value.ownBlock] at hi, Below.refl _ _⟩
/-- between both appends -/
structure Ih (w0 W : World) (ib fb : Option Addr) (k ic fc : Nat) (a b : List Int) : Prop where
  ra : R EI W (.slice ib (k + 1) ic) a
  rb : R EI W (.slice fb k fc) b
  la : k + 1 = a.length
  lb : k = b.length
  na : ∀ i, (Value.slice ib (k + 1) ic).ownBlock = some i → w0.heap.size ≤ i
  nb : ∀ i, (Value.slice fb k fc).ownBlock = some i → w0.heap.size ≤ i
  ne : ∀ i, (Value.slice ib (k + 1) ic).ownBlock = some i → (Value.slice fb k fc).ownBlock ≠ some i
  bel : Below w0.heap.size w0 W
theorem own_len2 {b : Option Addr} {k c k' c' i : Nat} (h : (Value.slice b k c).ownBlock = some i) : (Value.slice b k' c').ownBlock = some i := by
  cases b with
  | none => simp [Value.ownBlock] at h
  | some a => exact h
theorem app_gr {w : World} {b : Option Addr} {n c : Nat} {l : List Int} (h : R EI w (.slice b n c) l) (hn : n = l.length) (x : Int) (hz : n ≤ 4194304) :
    ∃ (b2 : Option Addr) (c2 : Nat) (w2 : World), (Builtin.append_ #[22, 22] 22 #[.slice b n c, .slice (some ⟨w.heap.size, 0, none⟩) 1 1]).run Try.prog (w.alloc (Obj.cells #[.int .i64 x] 2)) = .ok (.slice b2 (n + 1) c2) w2 ∧ R EI w2 (.slice b2 (n + 1) c2) (l ++ [x]) ∧ Gr (w.alloc (Obj.cells #[.int .i64 x] 2)) w2 (.slice b n c) (.slice b2 (n + 1) c2) := by
  subst hn
  have b1 := bel1 w (Obj.cells #[.int .i64 x] 2)
  obtain ⟨b2, c2, w2, hrun, hR, hG⟩ := app okI (w.alloc (Obj.cells #[.int .i64 x] 2)) (.slice b l.length c) l (h.below b1) (.slice (some ⟨w.heap.size, 0, none⟩) 1 1) [x] (in_int _ x _ _ (heap_alloc_new _ _) rfl) (by simp [EI]; omega)
  simp only [List.length_singleton] at hrun hR hG
  exact ⟨b2, c2, w2, hrun, hR, hG⟩
theorem Il.ids {w0 W : World} {ib fb : Option Addr} {k ic fc : Nat} {a b : List Int} (h : Il w0 W ib fb k ic fc a b) (x : Int) (hz : k ≤ 4194304) :
    ∃ (b2 : Option Addr) (c2 : Nat) (w2 : World), (Builtin.append_ #[22, 22] 22 #[.slice ib k ic, .slice (some ⟨W.heap.size, 0, none⟩) 1 1]).run Try.prog (W.alloc (Obj.cells #[.int .i64 x] 2)) = .ok (.slice b2 (k + 1) c2) w2 ∧ Ih w0 w2 b2 fb k c2 fc (a ++ [x]) b := by
  obtain ⟨b2, c2, w2, hr, hR, hG⟩ := app_gr h.ra h.la x hz
  have b1 := bel1 W (Obj.cells #[.int .i64 x] 2)
  have s0 := h.bel.size
  refine ⟨b2, c2, w2, hr, hR, (h.rb.below b1).stays fun i hi hl => hG.block i hl fun e => h.ne i e hi, by simp; exact h.la, h.lb, fun i hi => ?_, h.nb, fun i hi e => ?_, h.bel.trans ((b1.mono s0).trans (hG.belowB (by simp; omega) h.na))⟩
  · rcases hG.own i hi with e | e
    · exact h.na i e
    · simp at e; omega
  · rcases hG.own i hi with e' | e'
    · exact h.ne i e' e
    · have := h.rb.lt i e; simp at e'; omega
theorem Ih.lefts {w0 W : World} {ib fb : Option Addr} {k ic fc : Nat} {a b : List Int} (h : Ih w0 W ib fb k ic fc a b) (x : Int) (hz : k ≤ 4194304) :
    ∃ (b2 : Option Addr) (c2 : Nat) (w2 : World), (Builtin.append_ #[22, 22] 22 #[.slice fb k fc, .slice (some ⟨W.heap.size, 0, none⟩) 1 1]).run Try.prog (W.alloc (Obj.cells #[.int .i64 x] 2)) = .ok (.slice b2 (k + 1) c2) w2 ∧ Il w0 w2 ib b2 (k + 1) ic c2 a (b ++ [x]) := by
  obtain ⟨b2, c2, w2, hr, hR, hG⟩ := app_gr h.rb h.lb x hz
  have b1 := bel1 W (Obj.cells #[.int .i64 x] 2)
  have s0 := h.bel.size
  refine ⟨b2, c2, w2, hr, (h.ra.below b1).stays fun i hi hl => hG.block i hl fun e => h.ne i hi e, hR, h.la, by simp; exact h.lb, h.na, fun i hi => ?_, fun i hi e => ?_, h.bel.trans ((b1.mono s0).trans (hG.belowB (by simp; omega) h.nb))⟩
  · rcases hG.own i hi with e | e
    · exact h.nb i e
    · simp at e; omega
  · rcases hG.own i e with e' | e'
    · exact h.ne i hi e'
    · have := h.ra.lt i hi; simp at e'; omega
def z0 (x : Int × Int) : Int × Int := (x.1, 0)
def zl (l : List (Int × Int)) (i : Nat) : List (Int × Int) := (l.take i).map z0 ++ l.drop i
theorem zl_zero (l : List (Int × Int)) : zl l 0 = l := rfl
theorem zl_all (l : List (Int × Int)) : zl l l.length = l.map z0 := by unfold zl; rw [List.take_length, List.drop_length, List.append_nil]
theorem zl_len (l : List (Int × Int)) (i : Nat) : (zl l i).length = l.length := by unfold zl; rw [List.length_append, List.length_map, ← List.length_append, List.take_append_drop]
theorem zl_get (l : List (Int × Int)) (i : Nat) (hi : i < l.length) : (zl l i)[i]'(by rw [zl_len]; exact hi) = l[i] := by
  unfold zl
  rw [List.getElem_append_right (by simp; omega), List.getElem_drop]
  congr 1
  simp
  omega
theorem zl_set (l : List (Int × Int)) (i : Nat) (hi : i < l.length) : (zl l i).set i (z0 l[i]) = zl l (i + 1) := by
  unfold zl
  have h1 : ((l.take i).map z0).length = i := by simp; omega
  rw [List.drop_eq_getElem_cons hi, List.set_append_right _ _ (by omega), h1, Nat.sub_self, List.set_cons_zero, List.take_succ_eq_append_getElem hi, List.map_append, List.append_assoc]
  rfl
theorem zl_snd (l : List (Int × Int)) (i : Nat) (hi : i < l.length) : ((zl l i).map (·.2)).set i 0 = (zl l (i + 1)).map (·.2) := by
  rw [← zl_set l i hi, List.map_set]
  rfl
set_option maxRecDepth 100000 in
set_option maxHeartbeats 2000000 in
theorem same_q (w : World) (p q : Value) (l : List Int) (hp : In EI w p l) (hq : In EI w q l) :
    Calls Try.prog 11 #[p, q] w fun e w' => e = .returned (.bool true) ∧ ∃ m, w' = w.drewN m := by
  have HP : Hid (In EI w p l) := hp
  have HQ : Hid (In EI w q l) := hq
  obtain ⟨pb, pc, rfl, h1, h2⟩ := hp.slice
  obtain ⟨qb, qc, rfl, h3, h4⟩ := hq.slice
  clear hp hq
  obtain ⟨n, hn⟩ : ∃ n, l.length = n := ⟨_, rfl⟩
  have HN : Hid (l.length = n) := hn
  rw [hn] at HP HQ h1 h3 ⊢
  clear hn
  go_enter Try.func11, Try.ntmps11
  go_wp2
  go_loopw [5] (fun i wr => ∃ k : Nat, k ≤ n ∧ i = .int .i64 (k : Int) ∧ Hid (∃ m, wr = w.drewN m)) (fun i _ => n - (intOf i).toNat)
  case atStart => exact ⟨0, by omega, rfl, 0, rfl⟩
  case round =>
    obtain ⟨k, hk, rfl, hb⟩ := hrel
    by_cases hlt : k < n
    · have hl := HN.out
      have hbel : Below w.heap.size w wr := by obtain ⟨m, hm⟩ := hb.out; rw [hm]; exact ⟨rfl, rfl, rfl, Nat.le_refl _, fun _ _ => rfl⟩
      obtain ⟨B, off, cap, e, hBl, d1⟩ := (HP.out.below hbel).int1 k (by omega)
      obtain ⟨B', off', cap', e', hBl', d1'⟩ := (HQ.out.below hbel).int1 k (by omega)
      injection e with e1 e2 e3
      injection e' with e1' e2' e3'
      subst e1
      subst e1'
      clear e2 e3 e2' e3' hbel
      obtain ⟨x, hxy⟩ : ∃ x, l[k]'(by omega) = x := ⟨_, rfl⟩
      rw [hxy] at d1 d1'
      clear hxy hl
      go_wp2_with fail
      go_quiet (fail)
      go_wp2_with fail
      go_roundw
      case rel =>
        obtain ⟨m, hm⟩ := hb.out
        exact ⟨k + 1, by omega, by simp, _, by rw [hm, World.drewN_drewN]⟩
      case measure => simp [intOf]; omega
    · obtain rfl : k = n := by omega
      go_wp2
      go_ret
      exact ⟨rfl, hb.out⟩
set_option maxRecDepth 100000 in
set_option maxHeartbeats 16000000 in
theorem ready30_any (w : World) (C : Nat → Prop) (p q m nn : Nat) (T : St) (L : List Stm) (o : Op) (h : Pr w C p q T L m nn) (hI : In EL w (sv o.y) o.l) (hwf : Wf2 o.l) (hol : o.l.length ≤ 1048576) (hm : m ≤ 1048576) (hn : nn ≤ 1048576) :
    Calls Try.prog 30 #[.pointer (some ⟨p, 0, none⟩), .pointer (some ⟨q, 0, none⟩), opg o] w (PlP w C p q m nn) := by
  obtain ⟨ok, os, oid, ot, oe, oc, ost, of, ⟨y1, n, y3⟩, l⟩ := o
  simp only at hI hwf hol
  unfold opg sv at *
  simp only at hI ⊢
  have hnl := (slice_len hI).1
  have HNL : Hid (n = l.length) := hnl
  have HI : Hid (In EL w (.slice y1 n y3) l) := hI
  have HW : Hid (Wf2 l) := hwf
  have HP : Hid (Pr w C p q T L m nn) := h
  rw [← hnl] at hol
  clear hI hwf h hnl
  have HB2 : Hid (Below w.heap.size w ((w.alloc (Obj.cells #[.int .i64 ok, .int .i64 os, .int .i64 oid, .string ot, .bool oe, .int .i64 oc, .int .i64 ost, .int .i64 of, .slice y1 n y3] 41)).alloc (Obj.cells #[.int .i64 (-7), .int .i64 (-7)] 43))) := bel2 _ _ _
  obtain ⟨w2, hw2⟩ : ∃ w2, w2 = (w.alloc (Obj.cells #[.int .i64 ok, .int .i64 os, .int .i64 oid, .string ot, .bool oe, .int .i64 oc, .int .i64 ost, .int .i64 of, .slice y1 n y3] 41)).alloc (Obj.cells #[.int .i64 (-7), .int .i64 (-7)] 43) := ⟨_, rfl⟩
  have HBX : Hid (w2.heap[w.heap.size]? = some (Obj.cells #[.int .i64 ok, .int .i64 os, .int .i64 oid, .string ot, .bool oe, .int .i64 oc, .int .i64 ost, .int .i64 of, .slice y1 n y3] 41) ∧ w2.heap[w.heap.size + 1]? = some (Obj.cells #[.int .i64 (-7), .int .i64 (-7)] 43)) := by rw [hw2]; exact ⟨by rw [heap_al, if_neg (by simp), heap_al, if_pos rfl], fresh2 _ _ _⟩
  rw [← hw2] at HB2
  have c8 := cell_blk HBX.out.1 8
  have m0 := cell_blk HBX.out.2 0
  have m1 := cell_blk HBX.out.2 1
  have l8 := heap_lt HBX.out.1
  have l9 := heap_lt HBX.out.2
  go_enter Try.func30, Try.ntmps30
  go_upto_region 2 with fail
  rw [← hw2]
  clear hw2
  go_cut [8] from 20 (fun x wx => ∃ rb rc, x = .slice rb (n + 1) rc ∧ Hid (Rm w2 wx rb n rc l))
  case first =>
    have hId := HI.out.below HB2.out
    have hbd : Below w2.heap.size w2 w2.drew := ⟨rfl, rfl, rfl, Nat.le_refl _, fun _ _ => rfl⟩
    obtain ⟨a1, a2, a3, a4, a5, a6, ra1, ra2, rma, ba3⟩ := room_a w2 w2.drew hbd (hId.below hbd) hol
    have hba := (ba3.block _ l9).trans HBX.out.2
    have ma0 := cell_blk hba 0
    have ma1 := cell_blk hba 1
    have la9 := heap_lt hba
    clear hba ba3
    have q1 := bel2 w2.drew (Obj.cells #[] 43) (Obj.cells #[.int .i64 (-7), .int .i64 (-7)] 43)
    obtain ⟨b1, b2, b3, b4, b5, b6, rb1, rb2, rmb, _⟩ := room_b w2 ((w2.drew.alloc (Obj.cells #[] 43)).alloc (Obj.cells #[.int .i64 (-7), .int .i64 (-7)] 43)) (g := w2.heap.size) (h := w2.heap.size + 1) (hbd.trans q1) ((hId.below hbd).below q1) hol ((none_row w2.drew).below (bel1 _ _)) (Nat.le_refl _) (fresh2 _ _ _) (by omega)
    have q2 := bel2 w2.drew (Obj.cells #[.int .i64 (-7), .int .i64 (-7)] 43) (Obj.cells #[] 43)
    obtain ⟨e1, e2, e3, e4, e5, e6, re1, re2, rme, _⟩ := room_b w2 ((w2.drew.alloc (Obj.cells #[.int .i64 (-7), .int .i64 (-7)] 43)).alloc (Obj.cells #[] 43)) (g := w2.heap.size + 1) (h := w2.heap.size) (hbd.trans q2) ((hId.below hbd).below q2) hol (R.none' (E := EL) (fresh2 _ _ _)) (by omega) (by rw [heap_al, if_neg (by simp), heap_al, if_pos (by simp)]) (by omega)
    have HA : Hid _ := rma
    have HE : Hid _ := rme
    have HBB : Hid _ := rmb
    have HRa1 : Hid ((Builtin.append_ #[39, 39] 39 #[.slice (some ⟨w2.heap.size, 0, none⟩) 0 0, .slice y1 n y3]).run Try.prog (w2.alloc (Obj.cells #[] 43)).drew = .ok (.slice a1 n a2) a3) := ra1
    have HRa2 : Hid _ := ra2
    have HRb1 : Hid ((Builtin.append_ #[39, 39] 39 #[.slice (some ⟨w2.heap.size, 0, none⟩) 0 0, .slice y1 n y3]).run Try.prog ((w2.alloc (Obj.cells #[] 43)).alloc (Obj.cells #[.int .i64 (-7), .int .i64 (-7)] 43)).drew = .ok (.slice b1 n b2) b3) := rb1
    have HRb2 : Hid _ := rb2
    have HRe1 : Hid ((Builtin.append_ #[39, 39] 39 #[.slice (some ⟨w2.heap.size + 1, 0, none⟩) 0 0, .slice y1 n y3]).run Try.prog ((w2.alloc (Obj.cells #[.int .i64 (-7), .int .i64 (-7)] 43)).alloc (Obj.cells #[] 43)).drew = .ok (.slice e1 n e2) e3) := re1
    have HRe2 : Hid _ := re2
    clear rma rmb rme q1 q2 hbd hId ra1 ra2 rb1 rb2 re1 re2
    go_region_law (first
      | (refine step_append_run rfl (.tmp 21) (.tmp 23) 39 39 rfl (by with_reducible exact HRa1.out) (by simp [Act.eval]) (by simp [Act.eval]) ?_)
      | (refine step_append_run rfl (.tmp 24) (.tmp 26) 39 39 rfl (by with_reducible exact HRa2.out) (by simp [Act.eval]) (by simp [Act.eval]) ?_)
      | (refine step_append_run rfl (.tmp 21) (.tmp 23) 39 39 rfl (by with_reducible exact HRb1.out) (by simp [Act.eval]) (by simp [Act.eval]) ?_)
      | (refine step_append_run rfl (.tmp 24) (.tmp 26) 39 39 rfl (by with_reducible exact HRb2.out) (by simp [Act.eval]) (by simp [Act.eval]) ?_)
      | (refine step_append_run rfl (.tmp 21) (.tmp 23) 39 39 rfl (by with_reducible exact HRe1.out) (by simp [Act.eval]) (by simp [Act.eval]) ?_)
      | (refine step_append_run rfl (.tmp 24) (.tmp 26) 39 39 rfl (by with_reducible exact HRe2.out) (by simp [Act.eval]) (by simp [Act.eval]) ?_))
    all_goals
      go_wp2_with fail
      go_meet
      first | exact ⟨_, _, rfl, HA.out⟩ | exact ⟨_, _, rfl, HBB.out⟩ | exact ⟨_, _, rfl, HE.out⟩
  case rest =>
    obtain ⟨rb, rc, hx, hrm⟩ := hcut
    subst hx
    obtain ⟨g, cap, e, hc1, hc2, hg⟩ := hrm.out.r.base (by simp)
    have hln : (l ++ [mk]).length = n + 1 := by rw [List.length_append, ← HNL.out]; rfl
    rw [hln] at e hc1
    injection e with e1 e2 e3
    subst e1 e3
    have HRM : Hid (Rm w2 wc (some ⟨g, 0, none⟩) n rc l) := hrm
    clear hrm e2 hln
    have hs1 := fun W => slice39_h (g := g) (n := n + 1) (m := n) (c := rc) (by omega) W
    have HBC : Hid (∀ W, Below w2.heap.size w2 W → W.heap[w.heap.size]? = some (Obj.cells #[.int .i64 ok, .int .i64 os, .int .i64 oid, .string ot, .bool oe, .int .i64 oc, .int .i64 ost, .int .i64 of, .slice y1 n y3] 41) ∧ W.heap[w.heap.size + 1]? = some (Obj.cells #[.int .i64 (-7), .int .i64 (-7)] 43) ∧ Below w.heap.size w W) := fun W hW => ⟨(hW.block _ l8).trans HBX.out.1, (hW.block _ l9).trans HBX.out.2, HB2.out.trans (hW.mono HB2.out.size)⟩
    have k8 := cell_blk (HBC.out wc HRM.out.bel).1 8
    have k8l := heap_lt (HBC.out wc HRM.out.bel).1
    clear c8 m0 m1
    --R1
    go_wp2_with fail
    go_loopw [10, 11, 12] (fun iv fv kv wr => ∃ (k ic fc : Nat) (ib fb : Option Addr), iv = .slice ib k ic ∧ fv = .slice fb k fc ∧ kv = .int .i64 (k : Int) ∧ k ≤ n ∧ Hid (Il wc wr ib fb k ic fc ((l.take k).map (·.1)) ((l.take k).map (·.2)))) (fun _ _ kv _ => n - (intOf kv).toNat)
    case atStart => exact ⟨0, 0, 0, none, none, rfl, rfl, rfl, by omega, Il.start wc⟩
    case round =>
      obtain ⟨k, ic, fc, ib, fb, hiv, hfv, hkv, hk, hil⟩ := hrel
      subst hiv hfv hkv
      have hBw : Below w2.heap.size w2 wr := HRM.out.bel.trans (hil.out.bel.mono HRM.out.bel.size)
      have j8 := cell_blk (HBC.out wr hBw).1 8
      have j8l := heap_lt (HBC.out wr hBw).1
      by_cases hlt : k < n
      · have l1 : (k : Int) < (n : Int) := by omega
        have hkl : k < l.length := by have := HNL.out; omega
        obtain ⟨Bl, ol, cl, e, hcc⟩ := HI.out.lf k hkl
        injection e with e1 e2 e3
        subst e1
        clear e2 e3
        obtain ⟨g0, g1⟩ := hcc wr (HBC.out wr hBw).2.2
        have ht1 : Hid ((l.take (k + 1)).map (·.1) = (l.take k).map (·.1) ++ [l[k].1] ∧ (l.take (k + 1)).map (·.2) = (l.take k).map (·.2) ++ [l[k].2]) := by rw [List.take_succ_eq_append_getElem hkl]; exact ⟨by rw [List.map_append]; rfl, by rw [List.map_append]; rfl⟩
        obtain ⟨x, hx⟩ : ∃ x, l[k] = x := ⟨_, rfl⟩
        rw [hx] at g0 g1 ht1 hcc
        obtain ⟨x1, x2⟩ := x
        simp only at g0 g1 ht1 hcc
        obtain ⟨b3, c3, w3, r3, i3⟩ := hil.out.ids x1 (by omega)
        obtain ⟨b4, c4, w4, r4, i4⟩ := i3.lefts x2 (by omega)
        have hB3 : Below w2.heap.size w2 w3 := HRM.out.bel.trans (i3.bel.mono HRM.out.bel.size)
        obtain ⟨h0, h1⟩ := hcc w3 (HBC.out w3 hB3).2.2
        have n8 := cell_blk (HBC.out w3 hB3).1 8
        have n8l := heap_lt (HBC.out w3 hB3).1
        have HR3 : Hid _ := r3
        have HR4 : Hid _ := r4
        have HFI : Hid (Il wc w4 b3 b4 (k + 1) c3 c4 ((l.take (k + 1)).map (·.1)) ((l.take (k + 1)).map (·.2))) := by rw [ht1.out.1, ht1.out.2]; exact i4
        clear r3 r4 i3 i4 hx hcc hil
        go_wp2_with (first | (at_builtin; refine Lib.wpList_append_run _ rfl (.tmp 40) (.tmp 47) 22 22 rfl _ _ rfl rfl _ _ HR3.out ?_) | (at_builtin; refine Lib.wpList_append_run _ rfl (.tmp 49) (.tmp 56) 22 22 rfl _ _ rfl rfl _ _ HR4.out ?_))
        go_roundw
        case rel => exact ⟨k + 1, c3, c4, b3, b4, rfl, rfl, by simp, by omega, HFI.out⟩
        case measure => simp [intOf] <;> omega
      · have hkn : k = n := by omega
        subst hkn
        have htk : l.take k = l := by rw [HNL.out]; exact List.take_length
        rw [htk] at hil
        --R2
        have hPr := HP.out.below (HBC.out wr hBw).2.2
        obtain ⟨A, B, hA, hB, hdAB, hAC, hBC⟩ := hPr.ab
        obtain ⟨v, hv1, hv2, hv3⟩ := hB.s
        have hrd := rrdy_any wr q v L oc (ib, k, ic) (fb, k, fc) l hv1 hil.out.ra.isIn hil.out.rb.isIn (by have := HP.out.n; omega) (by have := HNL.out; omega)
        rw [HP.out.rl.ready] at hrd
        obtain ⟨lv, hlv⟩ : ∃ lv, T.ready oc (lf l) = lv := ⟨_, rfl⟩
        rw [hlv] at hrd
        have HLV : Hid (T.ready oc (lf l) = lv) := hlv
        obtain ⟨rn, hrn⟩ : ∃ rn, lv.length = rn := ⟨_, rfl⟩
        rw [hrn] at hrd
        have HRN : Hid (lv.length = rn) := hrn
        have hrnb : rn ≤ 1048576 := by
          have h1 := rrd_len L oc (lf l) L
          rw [HP.out.rl.ready, HLV.out, HRN.out] at h1
          have := HP.out.n
          omega
        have HRD : Hid (Calls Try.prog 35 #[.pointer (some ⟨q, 0, none⟩), .int .i64 oc, .slice ib k ic, .slice fb k fc] wr fun e w' => ∃ b c, e = .returned (.slice b rn c) ∧ Ro wr.heap.size w' b rn c lv ∧ Below wr.heap.size wr w') := hrd
        have j5 := cell_blk (HBC.out wr hBw).1 5
        have HIL : Hid (Il wc wr ib fb k ic fc (l.map (·.1)) (l.map (·.2))) := hil.out
        have HBw : Hid (Below w2.heap.size w2 wr) := hBw
        have HRM1 : Hid (Rm w2 wr (some ⟨g, 0, none⟩) k rc l) := ⟨HRM.out.r.below HIL.out.bel, HRM.out.new, hBw⟩
        clear hrd hlv hrn hv1 hv2 hv3 hA hB hdAB hAC hBC hPr hil htk hlt hk hBw
        go_wp2_with fail
        refine Calls.mono HRD.out ?_
        rintro e wd ⟨vb, vc, rfl, hro, hBd⟩
        have HRo : Hid (Ro wr.heap.size wd vb rn vc lv) := hro
        have HBd : Hid (Below w2.heap.size w2 wd) := HBw.out.trans (hBd.mono HBw.out.size)
        have d5 := cell_blk (HBC.out wd HBd.out).1 5
        have d5l := heap_lt (HBC.out wd HBd.out).1
        have HRDY : Hid (∀ W (l' : List (Int × Int)), Below w.heap.size w W → In EL W (.slice (some ⟨g, 0, none⟩) k rc) l' → Wf2 l' → l'.length ≤ 1048576 → Calls Try.prog 17 #[.pointer (some ⟨p, 0, none⟩), .int .i64 oc, .slice (some ⟨g, 0, none⟩) k rc] W fun e w' => ∃ (yb : Option Addr) (yc : Nat), e = .returned (.slice yb (T.ready oc (lf l')).length yc) ∧ Ro W.heap.size w' yb (T.ready oc (lf l')).length yc (T.ready oc (lf l')) ∧ Below W.heap.size W w') := fun W l' hW hIn hw' hl' => by
          obtain ⟨A, B, hA, _⟩ := (HP.out.below hW).ab
          refine (ready_any W A p T oc (some ⟨g, 0, none⟩, k, rc) l' hA hIn hw' (by omega)).mono ?_
          rintro e w' ⟨v, rfl, r1, r2, r3⟩
          obtain ⟨b, c, rfl, _⟩ := r1.slice
          exact ⟨b, c, rfl, ⟨r1, rfl, r2⟩, r3⟩
        have hown : ∀ W, Below wr.heap.size wr W → In EL W (.slice (some ⟨g, 0, none⟩) k rc) l := fun W hW => by
          have := In.take okL (HRM1.out.r.below hW).isIn k (by rw [List.length_append, ← HNL.out]; omega)
          rw [List.take_left' HNL.out.symm] at this
          exact this
        have hca := HRDY.out wd l (HBC.out wd HBd.out).2.2 (hown wd hBd) HW.out (by have := HNL.out; omega)
        rw [HLV.out, HRN.out] at hca
        have HCA : Hid (Calls Try.prog 17 #[.pointer (some ⟨p, 0, none⟩), .int .i64 oc, .slice (some ⟨g, 0, none⟩) k rc] wd fun e w' => ∃ (yb : Option Addr) (yc : Nat), e = .returned (.slice yb rn yc) ∧ Ro wd.heap.size w' yb rn yc lv ∧ Below wd.heap.size wd w') := hca
        clear hca
        go_wp2_with fail
        refine Calls.mono HCA.out ?_
        rintro e we ⟨ab, ac, rfl, hra, hBe⟩
        have HRa : Hid (Ro wd.heap.size we ab rn ac lv) := hra
        have HBe : Hid (Below w2.heap.size w2 we) := HBd.out.trans (hBe.mono HBd.out.size)
        have hBde := hBd.trans (hBe.mono hBd.size)
        have e5 := cell_blk (HBC.out we HBe.out).1 5
        have e5l := heap_lt (HBC.out we HBe.out).1
        have hcb := HRDY.out we l (HBC.out we HBe.out).2.2 (hown we hBde) HW.out (by have := HNL.out; omega)
        rw [HLV.out, HRN.out] at hcb
        have HCB : Hid (Calls Try.prog 17 #[.pointer (some ⟨p, 0, none⟩), .int .i64 oc, .slice (some ⟨g, 0, none⟩) k rc] we fun e w' => ∃ (yb : Option Addr) (yc : Nat), e = .returned (.slice yb rn yc) ∧ Ro we.heap.size w' yb rn yc lv ∧ Below we.heap.size we w') := hcb
        clear hcb
        go_wp2_with fail
        refine Calls.mono HCB.out ?_
        rintro e wf ⟨bb, bc, rfl, hrb, hBf⟩
        have HBf : Hid (Below w2.heap.size w2 wf) := HBe.out.trans (hBf.mono HBe.out.size)
        have hBdf := hBde.trans (hBf.mono hBde.size)
        have HRb : Hid (Ro we.heap.size wf bb rn bc lv) := hrb
        have HRw : Hid (Ro wr.heap.size wf vb rn vc lv ∧ Ro wd.heap.size wf ab rn ac lv) := ⟨⟨(HRo.out.1.below hBe).below hBf, HRo.out.2⟩, ⟨HRa.out.1.below hBf, HRa.out.2⟩⟩
        have HRM2 : Hid (Rm w2 wf (some ⟨g, 0, none⟩) k rc l) := ⟨HRM1.out.r.below hBdf, HRM1.out.new, HBf.out⟩
        have HILf : Hid (R EI wf (.slice ib k ic) (l.map (·.1)) ∧ R EI wf (.slice fb k fc) (l.map (·.2))) := ⟨HIL.out.ra.below hBdf, HIL.out.rb.below hBdf⟩
        have HAP : Hid ((∀ j, (Value.slice ab rn ac).ownBlock = some j → (Value.slice bb rn bc).ownBlock ≠ some j ∧ (Value.slice vb rn vc).ownBlock ≠ some j ∧ (Value.slice ib k ic).ownBlock ≠ some j ∧ (Value.slice fb k fc).ownBlock ≠ some j) ∧ (∀ j, (Value.slice fb k fc).ownBlock = some j → (Value.slice bb rn bc).ownBlock ≠ some j ∧ (Value.slice vb rn vc).ownBlock ≠ some j ∧ (Value.slice ib k ic).ownBlock ≠ some j)) := by
          have z1 := hBd.size
          have z2 := hBe.size
          refine ⟨fun j hj => ⟨fun e => ?_, fun e => ?_, fun e => ?_, fun e => ?_⟩, fun j hj => ⟨fun e => ?_, fun e => ?_, fun e => HIL.out.ne j e hj⟩⟩
          · have := HRb.out.2.2 j e; have := HRa.out.1.lt j hj; omega
          · have := HRo.out.1.lt j e; have := HRa.out.2.2 j hj; omega
          · have := HIL.out.ra.lt j e; have := HRa.out.2.2 j hj; omega
          · have := HIL.out.rb.lt j e; have := HRa.out.2.2 j hj; omega
          · have := HIL.out.rb.lt j hj; have := HRb.out.2.2 j e; omega
          · have := HIL.out.rb.lt j hj; have := HRo.out.2.2 j e; omega
        have HNW : Hid ((∀ j, (Value.slice ab rn ac).ownBlock = some j → w.heap.size ≤ j) ∧ (∀ j, (Value.slice fb k fc).ownBlock = some j → w.heap.size ≤ j)) := by
          have z0 := HB2.out.size
          have z1 := HBw.out.size
          have z2 := hBd.size
          have z3 := HRM.out.bel.size
          exact ⟨fun j hj => by have := HRa.out.2.2 j hj; omega, fun j hj => by have := HIL.out.nb j hj; omega⟩
        --R3
        obtain ⟨B9, o9, c9, e, hm9⟩ := HRM2.out.r.isIn.lf k (by rw [List.length_append, ← HNL.out]; show k < k + 1; omega)
        injection e with e1 e2 e3
        injection e1 with e1
        injection e1 with e1 e4
        subst e1 e4
        clear e2 e3
        obtain ⟨r0, r1⟩ := hm9 wf (Below.refl _ _)
        have hmk : (l ++ [mk])[k]'(by rw [List.length_append, ← HNL.out]; show k < k + 1; omega) = mk := by
          have := HNL.out
          subst this
          simp
        rw [hmk] at r0 r1
        simp only [mk] at r0 r1
        rw [Nat.zero_add] at r0 r1
        clear hm9 hmk
        have f8 := cell_blk (HBC.out wf HBf.out).1 8
        have f8l := heap_lt (HBC.out wf HBf.out).1
        have f9 := cell_blk (HBC.out wf HBf.out).2.1 0
        have f9' := cell_blk (HBC.out wf HBf.out).2.1 1
        have f9l := heap_lt (HBC.out wf HBf.out).2.1
        have kr : (k : Int) < (k : Int) + 1 := by omega
        have kz : ¬ (k : Int) < 0 := by omega
        go_wp2_with fail
        --R4
        go_quiet (first | (go_at_call 11; refine Calls.quiet_of (same_q _ _ _ lv HRw.out.2.1.isIn HRw.out.1.1.isIn)) | (go_at_call 11; refine Calls.quiet_of (same_q _ _ _ lv HRb.out.1.isIn HRw.out.1.1.isIn)))
        --R5
        have hgl : w2.heap.size ≤ g := HRM2.out.new g rfl
        have hbw : w.heap.size + 2 ≤ w2.heap.size := by omega
        have HKW : Hid (∀ W, Ks (fun j => j = g) wf W → Below w.heap.size w W ∧ W.heap[w.heap.size]? = some (Obj.cells #[.int .i64 ok, .int .i64 os, .int .i64 oid, .string ot, .bool oe, .int .i64 oc, .int .i64 ost, .int .i64 of, .slice y1 k y3] 41) ∧ w.heap.size < W.heap.size) := fun W hW => by
          have h1 := HBC.out wf HBf.out
          have h2 := (hW.block w.heap.size (heap_lt h1.1) (by omega)).trans h1.1
          exact ⟨h1.2.2.trans (hW.below h1.2.2.size (fun i hi e => by omega)), h2, heap_lt h2⟩
        clear r0 r1 f8 f8l f9 f9' f9l d5 d5l e5 e5l j5 j8 j8l k8 k8l
        go_wp2_with fail
        go_loopw [16] (fun kv wx => ∃ i : Nat, kv = .int .i64 (i : Int) ∧ i ≤ k ∧ Hid (R EL wx (.slice (some ⟨g, 0, none⟩) (k + 1) rc) (zl l i ++ [mk]) ∧ Ks (fun j => j = g) wf wx)) (fun kv _ => k - (intOf kv).toNat)
        case atStart => exact ⟨0, rfl, by omega, by rw [zl_zero]; exact HRM2.out.r, ⟨rfl, rfl, rfl, Nat.le_refl _, fun _ _ _ => rfl⟩⟩
        case round =>
          obtain ⟨i, hkv, hi, hq⟩ := hrel
          subst hkv
          obtain ⟨hbw2, hbx, hbxl⟩ := HKW.out _ hq.out.2
          have b8 := cell_blk hbx 8
          by_cases hik : i < k
          · have i1 : (i : Int) < (k : Int) := by omega
            have i2 : (i : Int) < (k : Int) + 1 := by omega
            have iz : ¬ (i : Int) < 0 := by omega
            have hil2 : i < l.length := by have := HNL.out; omega
            obtain ⟨Bl, ol, cl, e, hcc⟩ := HI.out.lf i hil2
            injection e with e1 e2 e3
            subst e1
            clear e2 e3
            obtain ⟨g0, g1⟩ := hcc _ hbw2
            have hzlen : i < (zl l i ++ [mk]).length := by rw [List.length_append, zl_len]; omega
            obtain ⟨gg, cap2, e, s1, s2, s3, s4, s5, s6, s7⟩ := hq.out.1.setc okL i 1 hzlen (by decide)
            injection e with e1 e2 e3
            injection e1 with e1
            injection e1 with e1
            subst e1
            clear e2 e3
            have hgi : (zl l i ++ [mk])[i]'hzlen = l[i] := by rw [List.getElem_append_left (by rw [zl_len]; exact hil2), zl_get l i hil2]
            have o0 := s5 0 _ rfl
            have o1 := s5 1 _ rfl
            rw [hgi] at o0 o1
            have hset := s7 (.int .i64 0) (z0 l[i]) (by rw [hgi]; rfl)
            have hsl : (zl l i ++ [mk]).set i (z0 l[i]) = zl l (i + 1) ++ [mk] := by rw [List.set_append_left _ _ (by rw [zl_len]; exact hil2), zl_set l i hil2]
            rw [hsl] at hset
            have fz := s6 (i * 2 + 1)
            obtain ⟨x, hx⟩ : ∃ x, l[i] = x := ⟨_, rfl⟩
            rw [hx] at g0 g1 o0 o1
            obtain ⟨x1, x2⟩ := x
            simp only [EL, Nat.add_zero] at g0 g1 o0 o1
            have HSET : Hid (R EL (wr.setCell ⟨g, i * 2 + 1, none⟩ (.int .i64 0)) (.slice (some ⟨g, 0, none⟩) (k + 1) rc) (zl l (i + 1) ++ [mk])) := hset
            clear hcc s5 s6 s7 hset hsl hgi hx s4
            go_wp2_with fail
            go_quiet (fail)
            go_wp2_with fail
            go_roundw
            case rel =>
              refine ⟨i + 1, by simp, by omega, HSET.out.stays fun j hj _ => rfl, ?_⟩
              have hk2 := hq.out.2
              exact ⟨hk2.os, hk2.tape, hk2.output, by simp [World.setCell]; exact hk2.size, fun j hj hne => (setCell_other _ _ _ _ _ hne).trans (hk2.block j hj hne)⟩
            case measure => simp [intOf] <;> omega
          · have hik' : i = k := by omega
            subst hik'
            --R6
            obtain ⟨w3, hw3⟩ : ∃ w3, w3 = wr := ⟨_, rfl⟩
            have HK3 : Hid (R EL w3 (.slice (some ⟨g, 0, none⟩) (i + 1) rc) (zl l i ++ [mk]) ∧ Below w.heap.size w w3 ∧ w3.heap[w.heap.size]? = some (Obj.cells #[.int .i64 ok, .int .i64 os, .int .i64 oid, .string ot, .bool oe, .int .i64 oc, .int .i64 ost, .int .i64 of, .slice y1 i y3] 41)) := by rw [hw3]; exact ⟨hq.out.1, hbw2, hbx⟩
            have HR3 : Hid (∀ v x, R EI wf v x → R EI w3 v x) := fun v x hR => by
              rw [hw3]
              refine hR.stays fun j hj hl => hq.out.2.block j hl fun e => ?_
              obtain ⟨c1, hc1'⟩ := hR.ty j hj
              obtain ⟨c2, hc2'⟩ := HRM2.out.r.ty g rfl
              rw [e, hc2'] at hc1'
              injection hc1' with hc1'
              injection hc1' with _ hc1'
              simp [EL, EI] at hc1'
            rw [← hw3]
            clear hw3 hq hbw2 hbx hbxl b8
            have b83 := cell_blk HK3.out.2.2 8
            have b83l := heap_lt HK3.out.2.2
            go_wp2_with fail
            go_loopw [17] (fun kv wx => ∃ j : Nat, kv = .int .i64 (j : Int) ∧ j ≤ rn ∧ Hid (∃ za, R EI wx (.slice ab rn ac) za ∧ za.length = rn ∧ Ks (fun b => (Value.slice ab rn ac).ownBlock = some b) w3 wx)) (fun kv _ => rn - (intOf kv).toNat)
            case atStart => exact ⟨0, rfl, by omega, lv, HR3.out _ _ HRw.out.2.1, HRN.out, Ks.refl _ _⟩
            case round =>
              obtain ⟨j, hkv, hj, hza⟩ := hrel
              subst hkv
              obtain ⟨za, t1, t2, t3⟩ := hza.out
              by_cases hjr : j < rn
              · have j1 : (j : Int) < (rn : Int) := by omega
                have jz : ¬ (j : Int) < 0 := by omega
                obtain ⟨ga, cap2, e, s1, s2, s3, s4, s5, s6, s7⟩ := t1.setc okI j 0 (by omega) (by decide)
                injection e with e1 e2 e3
                subst e1
                clear e2 e3
                have o0 := s5 0 _ rfl
                have hset := s7 (.int .i64 (-1)) (-1) rfl
                simp only [EI, Nat.mul_one, Nat.add_zero] at o0 hset
                have fz := s6 j
                obtain ⟨zz, hzz⟩ : ∃ z, za[j]'(by omega) = z := ⟨_, rfl⟩
                rw [hzz] at o0
                clear hzz
                have HSET : Hid (R EI (wr.setCell ⟨ga, j, none⟩ (.int .i64 (-1))) (.slice (some ⟨ga, 0, none⟩) rn ac) (za.set j (-1))) := hset
                have HT : Hid (za.length = rn ∧ Ks (fun b => (Value.slice (some ⟨ga, 0, none⟩) rn ac).ownBlock = some b) w3 wr) := ⟨t2, t3⟩
                clear s5 s6 s7 hset s4 t1 t2 t3 hza s1
                go_wp2_with fail
                go_roundw
                case rel =>
                  refine ⟨j + 1, by simp, by omega, za.set j (-1), HSET.out, by rw [List.length_set]; exact HT.out.1, ?_⟩
                  exact HT.out.2.trans (Ks.setCell (fun b => (Value.slice (some ⟨ga, 0, none⟩) rn ac).ownBlock = some b) _ ga _ _ rfl) (fun _ _ e => e) (fun _ _ e => e)
                case measure => simp [intOf] <;> omega
              · have hjr' : j = rn := by omega
                subst hjr'
                --R7
                obtain ⟨w4, hw4⟩ : ∃ w4, w4 = wr := ⟨_, rfl⟩
                rw [← hw4] at t1 t3
                obtain ⟨nb2, nc2, w5, r5, R5, G5⟩ := app_gr t1 t2.symm (-2) (by omega)
                have b1 := bel1 w4 (Obj.cells #[.int .i64 (-2)] 2)
                have HK5 : Hid (Ks (fun b => (Value.slice ab j ac).ownBlock = some b) w3 w5) := (t3.trans (Ks.of_below (A := fun b => (Value.slice ab j ac).ownBlock = some b) b1) (fun _ _ e => e) (fun _ _ e => e)).trans ⟨G5.os, G5.tape, G5.output, G5.size, fun q hq hn => G5.block q hq hn⟩ (fun _ _ e => e) (fun _ _ e => e)
                have HR5 : Hid (R EI w5 (.slice bb j bc) lv ∧ R EI w5 (.slice vb j vc) lv ∧ R EI w5 (.slice ib i ic) (l.map (·.1)) ∧ R EI w5 (.slice fb i fc) (l.map (·.2))) := by
                  have mv : ∀ (v : Value) (x : List Int), R EI wf v x → (∀ q, (Value.slice ab j ac).ownBlock = some q → v.ownBlock ≠ some q) → R EI w5 v x := fun v x hR hne => (HR3.out v x hR).stays fun q hq hl => HK5.out.block q hl fun e => hne q e hq
                  exact ⟨mv _ _ HRb.out.1 fun q hq => (HAP.out.1 q hq).1, mv _ _ HRw.out.1.1 fun q hq => (HAP.out.1 q hq).2.1, mv _ _ HILf.out.1 fun q hq => (HAP.out.1 q hq).2.2.1, mv _ _ HILf.out.2 fun q hq => (HAP.out.1 q hq).2.2.2⟩
                have HW5 : Hid (Below w.heap.size w w5 ∧ w5.heap[w.heap.size]? = some (Obj.cells #[.int .i64 ok, .int .i64 os, .int .i64 oid, .string ot, .bool oe, .int .i64 oc, .int .i64 ost, .int .i64 of, .slice y1 i y3] 41) ∧ R EL w5 (.slice (some ⟨g, 0, none⟩) (i + 1) rc) (zl l i ++ [mk])) := by
                  have hb5 : Below w.heap.size w w5 := HK3.out.2.1.trans (HK5.out.below HK3.out.2.1.size fun q hq e => by have := HNW.out.1 q e; omega)
                  refine ⟨hb5, (HK5.out.block _ (heap_lt HK3.out.2.2) fun e => ?_).trans HK3.out.2.2, HK3.out.1.stays fun q hq hl => HK5.out.block q hl fun e => ?_⟩
                  · obtain ⟨c1, hc1'⟩ := (HR3.out _ _ HRw.out.2.1).ty _ e
                    rw [HK3.out.2.2] at hc1'
                    injection hc1' with hc1'
                    injection hc1' with _ hc1'
                    simp [EI] at hc1'
                  · obtain ⟨c1, hc1'⟩ := (HR3.out _ _ HRw.out.2.1).ty _ e
                    obtain ⟨c2, hc2'⟩ := HK3.out.1.ty q hq
                    rw [hc2'] at hc1'
                    injection hc1' with hc1'
                    injection hc1' with _ hc1'
                    simp [EL, EI] at hc1'
                have HR5' : Hid _ := r5
                rw [← hw4]
                clear hw4 t1 t2 t3 hza r5 R5 G5 b1 b83 b83l
                go_wp2_with (at_builtin; refine Lib.wpList_append_run _ rfl (.tmp 124) (.tmp 125) 22 22 rfl _ _ rfl rfl _ _ HR5'.out ?_)
                go_loopw [19] (fun kv wx => ∃ d : Nat, kv = .int .i64 (d : Int) ∧ d ≤ i ∧ Hid (R EI wx (.slice fb i fc) ((zl l d).map (·.2)) ∧ Ks (fun b => (Value.slice fb i fc).ownBlock = some b) w5 wx)) (fun kv _ => i - (intOf kv).toNat)
                case atStart => exact ⟨0, rfl, by omega, HR5.out.2.2.2, Ks.refl _ _⟩
                case round =>
                  obtain ⟨d, hkv, hd, hza⟩ := hrel
                  subst hkv
                  obtain ⟨t1, t3⟩ := hza.out
                  by_cases hdi : d < i
                  · have j1 : (d : Int) < (i : Int) := by omega
                    have jz : ¬ (d : Int) < 0 := by omega
                    have hdl : d < l.length := by have := HNL.out; omega
                    obtain ⟨ga, cap2, e, s1, s2, s3, s4, s5, s6, s7⟩ := t1.setc okI d 0 (by rw [List.length_map, zl_len]; exact hdl) (by decide)
                    injection e with e1 e2 e3
                    subst e1
                    clear e2 e3
                    have o0 := s5 0 _ rfl
                    have hset := s7 (.int .i64 0) 0 rfl
                    rw [zl_snd l d hdl] at hset
                    simp only [EI, Nat.mul_one, Nat.add_zero] at o0 hset
                    have fz := s6 d
                    obtain ⟨zz, hzz⟩ : ∃ z, ((zl l d).map (·.2))[d]'(by rw [List.length_map, zl_len]; exact hdl) = z := ⟨_, rfl⟩
                    rw [hzz] at o0
                    clear hzz
                    have HSET : Hid (R EI (wr.setCell ⟨ga, d, none⟩ (.int .i64 0)) (.slice (some ⟨ga, 0, none⟩) i fc) ((zl l (d + 1)).map (·.2))) := hset
                    have HT : Hid (Ks (fun b => (Value.slice (some ⟨ga, 0, none⟩) i fc).ownBlock = some b) w5 wr) := t3
                    clear s5 s6 s7 hset s4 t1 t3 hza s1
                    go_wp2_with fail
                    go_roundw
                    case rel => exact ⟨d + 1, by simp, by omega, HSET.out, HT.out.trans (Ks.setCell (fun b => (Value.slice (some ⟨ga, 0, none⟩) i fc).ownBlock = some b) _ ga _ _ rfl) (fun _ _ e => e) (fun _ _ e => e)⟩
                    case measure => simp [intOf] <;> omega
                  · have hdi' : d = i := by omega
                    subst hdi'
                    --R8
                    obtain ⟨wz, hwz⟩ : ∃ w3, w3 = wr := ⟨_, rfl⟩
                    rw [← hwz] at t1 t3
                    have hll : d = l.length := HNL.out
                    have hza2 : zl l d = l.map z0 := by rw [hll]; exact zl_all l
                    rw [hza2] at t1
                    have HZ5 := HW5.out
                    rw [hza2] at HZ5
                    have HBz : Hid (Below w.heap.size w wz) := HZ5.1.trans (t3.below HZ5.1.size fun q hq e => by have := HNW.out.2 q e; omega)
                    have hmv : ∀ (v : Value) (x : List Int), R EI w5 v x → (∀ q, (Value.slice fb d fc).ownBlock = some q → v.ownBlock ≠ some q) → R EI wz v x := fun v x hR hne => hR.stays fun q hq hl => t3.block q hl fun e => hne q e hq
                    have HZB : Hid (R EI wz (.slice bb j bc) lv ∧ R EI wz (.slice vb j vc) lv) := ⟨hmv _ _ HR5.out.1 fun q hq => (HAP.out.2 q hq).1, hmv _ _ HR5.out.2.1 fun q hq => (HAP.out.2 q hq).2.1⟩
                    have HZI : Hid (In EI wz (.slice ib d ic) ((l.map z0).map (·.1)) ∧ In EI wz (.slice fb d fc) ((l.map z0).map (·.2))) := by
                      have e1 : (l.map z0).map (·.1) = l.map (·.1) := by rw [List.map_map]; rfl
                      rw [e1]
                      exact ⟨(hmv _ _ HR5.out.2.2.1 fun q hq => (HAP.out.2 q hq).2.2).isIn, t1.isIn⟩
                    have hrow : R EL wz (.slice (some ⟨g, 0, none⟩) (d + 1) rc) (l.map z0 ++ [mk]) := HZ5.2.2.stays fun q hq hl => t3.block q hl fun e => by
                      obtain ⟨c1, hc1'⟩ := HR5.out.2.2.2.ty _ e
                      obtain ⟨c2, hc2'⟩ := HZ5.2.2.ty q hq
                      rw [hc2'] at hc1'
                      injection hc1' with hc1'
                      injection hc1' with _ hc1'
                      simp [EL, EI] at hc1'
                    have HZO : Hid (In EL wz (.slice (some ⟨g, 0, none⟩) d rc) (l.map z0)) := by
                      have := In.take okL hrow.isIn d (by rw [List.length_append, List.length_map, ← hll]; omega)
                      rw [List.take_left' (by rw [List.length_map]; exact hll.symm)] at this
                      exact this
                    have hbz : wz.heap[w.heap.size]? = some (Obj.cells #[.int .i64 ok, .int .i64 os, .int .i64 oid, .string ot, .bool oe, .int .i64 oc, .int .i64 ost, .int .i64 of, .slice y1 d y3] 41) := (t3.block _ (heap_lt HZ5.2.1) fun e => by
                      obtain ⟨c1, hc1'⟩ := HR5.out.2.2.2.ty _ e
                      rw [HZ5.2.1] at hc1'
                      injection hc1' with hc1'
                      injection hc1' with _ hc1'
                      simp [EI] at hc1').trans HZ5.2.1
                    have HWFz : Hid (Wf2 (l.map z0)) := fun x hx => by
                      obtain ⟨u, hu, rfl⟩ := List.mem_map.1 hx
                      exact ⟨(HW.out u hu).1, by unfold wf64 z0; simp⟩
                    obtain ⟨lw, hlw⟩ : ∃ lw, T.ready oc (lf (l.map z0)) = lw := ⟨_, rfl⟩
                    obtain ⟨rm2, hrm2⟩ : ∃ n, lw.length = n := ⟨_, rfl⟩
                    have C11 : Hid (∀ W, Below wz.heap.size wz W → Calls Try.prog 11 #[.slice bb j bc, .slice vb j vc] W fun e w' => e = .returned (.bool true) ∧ Below W.heap.size W w') := fun W hW => same_eq W _ _ lv (HZB.out.1.below hW).isIn (HZB.out.2.below hW).isIn
                    have C17 : Hid (∀ W, Below wz.heap.size wz W → Calls Try.prog 17 #[.pointer (some ⟨p, 0, none⟩), .int .i64 oc, .slice (some ⟨g, 0, none⟩) d rc] W fun e w' => ∃ (yb : Option Addr) (yc : Nat), e = .returned (.slice yb rm2 yc) ∧ R EI w' (.slice yb rm2 yc) lw ∧ Below W.heap.size W w') := fun W hW => by
                      refine (HRDY.out W (l.map z0) (HBz.out.trans (hW.mono HBz.out.size)) (HZO.out.below hW) HWFz.out (by rw [List.length_map, ← hll]; omega)).mono ?_
                      rw [hlw, hrm2]
                      rintro e w' ⟨yb, yc, rfl, r1, r2⟩
                      exact ⟨yb, yc, rfl, r1.1, r2⟩
                    have C35 : Hid (∀ W, Below wz.heap.size wz W → Calls Try.prog 35 #[.pointer (some ⟨q, 0, none⟩), .int .i64 oc, .slice ib d ic, .slice fb d fc] W fun e w' => ∃ (yb : Option Addr) (yc : Nat), e = .returned (.slice yb rm2 yc) ∧ R EI w' (.slice yb rm2 yc) lw ∧ Below W.heap.size W w') := fun W hW => by
                      obtain ⟨A, B, hA, hB, _⟩ := (HP.out.below (HBz.out.trans (hW.mono HBz.out.size))).ab
                      obtain ⟨v, hv1, _⟩ := hB.s
                      have hrd := rrdy_any W q v L oc (ib, d, ic) (fb, d, fc) (l.map z0) hv1 (HZI.out.1.below hW) (HZI.out.2.below hW) (by have := HP.out.n; omega) (by rw [List.length_map, ← hll]; omega)
                      rw [HP.out.rl.ready, hlw, hrm2] at hrd
                      refine hrd.mono ?_
                      rintro e w' ⟨yb, yc, rfl, r1, r2⟩
                      exact ⟨yb, yc, rfl, r1.1, r2⟩
                    have HS : Hid (∀ W, Below wz.heap.size wz W → W.cell? ⟨w.heap.size, 5, none⟩ = some (.int .i64 oc)) := fun W hW => cell_blk ((hW.block _ (heap_lt hbz)).trans hbz) 5
                    have HFIN : Hid (∀ W, Below wz.heap.size wz W → PlP w C p q m nn (.returned (.bool true)) W) := fun W hW => by
                      have hBB := HBz.out.trans (hW.mono HBz.out.size)
                      refine ⟨rfl, ⟨T, L, ?_⟩, Ks.of_below hBB⟩
                      obtain ⟨A, B, s1, s2, s3, s4, s5⟩ := (HP.out.below hBB).ab
                      exact ⟨⟨A, B, s1, s2, s3, fun q hq => .inl (s4 q hq), fun q hq => .inl (s5 q hq)⟩, gr_lt HP.out.lt hBB.size, HP.out.rl, HP.out.b, HP.out.n⟩
                    rw [← hwz]
                    clear hwz t1 t3 hza HZ5 hmv hrow hlw hrm2 hza2 hll
                    go_wp2_with fail
                    have hwr : IntKind.i64.wrap ((j : Int) + 1) = (j : Int) + 1 := by rw [IntKind.wrap_i64]; omega
                    --R9
                    have aW : Hid (Below wz.heap.size wz wz.drew) := ⟨rfl, rfl, rfl, Nat.le_refl _, fun _ _ => rfl⟩
                    refine wp_region_held_drew (S := (fun W => W.cell? ⟨w.heap.size, 5, none⟩ = some (.int .i64 oc))) (by kernel_rfl) (HS.out _ aW.out) (fun hHeld => ?_)
                    generalize hWg : World.drew _ = W at aW hHeld ⊢
                    clear hWg
                    refine wpAnyH_take (i := 0) (oi := { dst := some 136, op := Op.move (Operand.tmp 18), type := 22, pos := "law.go:79", after := #[], guard := none }) (v := ?vv1) rfl (by kernel_rfl) (by kernel_rfl) (by kernel_rfl) (fun _ _ _ h => h) (Or.inl ⟨by rfl, ?hy1⟩) (by assumption) ?_
                    case hy1 => (intro w hSw; (try dsimp only at hSw); go_simp; all_goals with_reducible rfl)
                    try simp only [Act.put, List.setIfInBounds_toArray, List.set_cons_zero, List.set_cons_succ]
                    refine wpAnyH_take (i := 1) (oi := { dst := some 137, op := Op.call { callee := Callee.builtin Builtin.len, args := #[Operand.tmp 136], argTypes := #[22] }, type := 3, pos := "law.go:79", after := #[{ on := 0, ground := Ground.data }], guard := none }) (v := ?vv2) rfl (by kernel_rfl) (by kernel_rfl) (by kernel_rfl) (fun _ _ _ h => h) (Or.inl ⟨by rfl, ?hy2⟩) (by assumption) ?_
                    case hy2 => (intro w hSw; (try dsimp only at hSw); go_simp; all_goals with_reducible rfl)
                    try simp only [Act.put, List.setIfInBounds_toArray, List.set_cons_zero, List.set_cons_succ]
                    refine wpAnyH_take (i := 2) (oi := { dst := some 138, op := Op.move (Operand.tmp 13), type := 22, pos := "law.go:79", after := #[], guard := none }) (v := ?vv3) rfl (by kernel_rfl) (by kernel_rfl) (by kernel_rfl) (fun _ _ _ h => h) (Or.inl ⟨by rfl, ?hy3⟩) (by assumption) ?_
                    case hy3 => (intro w hSw; (try dsimp only at hSw); go_simp; all_goals with_reducible rfl)
                    try simp only [Act.put, List.setIfInBounds_toArray, List.set_cons_zero, List.set_cons_succ]
                    refine wpAnyH_take (i := 3) (oi := { dst := some 139, op := Op.call { callee := Callee.builtin Builtin.len, args := #[Operand.tmp 138], argTypes := #[22] }, type := 3, pos := "law.go:79", after := #[{ on := 2, ground := Ground.data }], guard := none }) (v := ?vv4) rfl (by kernel_rfl) (by kernel_rfl) (by kernel_rfl) (fun _ _ _ h => h) (Or.inl ⟨by rfl, ?hy4⟩) (by assumption) ?_
                    case hy4 => (intro w hSw; (try dsimp only at hSw); go_simp; all_goals with_reducible rfl)
                    try simp only [Act.put, List.setIfInBounds_toArray, List.set_cons_zero, List.set_cons_succ]
                    refine wpAnyH_take (i := 4) (oi := { dst := some 140, op := Op.binOp BinOp.add 3 (Operand.tmp 139) (Operand.const (Value.int IntKind.i64 1)) 3, type := 3, pos := "law.go:79", after := #[{ on := 3, ground := Ground.data }], guard := none }) (v := ?vv5) rfl (by kernel_rfl) (by kernel_rfl) (by kernel_rfl) (fun _ _ _ h => h) (Or.inl ⟨by rfl, ?hy5⟩) (by assumption) ?_
                    case hy5 => (intro w hSw; (try dsimp only at hSw); go_simp; all_goals with_reducible rfl)
                    try simp only [Act.put, List.setIfInBounds_toArray, List.set_cons_zero, List.set_cons_succ]
                    refine wpAnyH_take (i := 5) (oi := { dst := some 141, op := Op.binOp BinOp.eql 3 (Operand.tmp 137) (Operand.tmp 140) 3, type := 4, pos := "law.go:79", after := #[{ on := 1, ground := Ground.data }, { on := 4, ground := Ground.data }], guard := none }) (v := ?vv6) rfl (by kernel_rfl) (by kernel_rfl) (by kernel_rfl) (fun _ _ _ h => h) (Or.inl ⟨by rfl, ?hy6⟩) (by assumption) ?_
                    case hy6 => (intro w hSw; (try dsimp only at hSw); go_simp; all_goals with_reducible rfl)
                    try simp only [Act.put, List.setIfInBounds_toArray, List.set_cons_zero, List.set_cons_succ]
                    refine wpAnyH_take (i := 6) (oi := { dst := some 142, op := Op.move (Operand.tmp 141), type := 4, pos := "law.go:79", after := #[{ on := 5, ground := Ground.data }], guard := none }) (v := ?vv7) rfl (by kernel_rfl) (by kernel_rfl) (by kernel_rfl) (fun _ _ _ h => h) (Or.inl ⟨by rfl, ?hy7⟩) (by assumption) ?_
                    case hy7 => (intro w hSw; (try dsimp only at hSw); go_simp; all_goals with_reducible rfl)
                    try simp only [Act.put, List.setIfInBounds_toArray, List.set_cons_zero, List.set_cons_succ]
                    refine wpAnyH_take (i := 7) (oi := { dst := some 143, op := Op.move (Operand.tmp 15), type := 22, pos := "law.go:79", after := #[{ on := 6, ground := Ground.guard }], guard := some (6, true) }) (v := ?vv8) rfl (by kernel_rfl) (by kernel_rfl) (by kernel_rfl) (fun _ _ _ h => h) (Or.inl ⟨by rfl, ?hy8⟩) (by assumption) ?_
                    case hy8 => (intro w hSw; (try dsimp only at hSw); go_simp; all_goals with_reducible rfl)
                    try simp only [Act.put, List.setIfInBounds_toArray, List.set_cons_zero, List.set_cons_succ]
                    refine wpAnyH_take (i := 8) (oi := { dst := some 144, op := Op.move (Operand.tmp 13), type := 22, pos := "law.go:79", after := #[{ on := 6, ground := Ground.guard }], guard := some (6, true) }) (v := ?vv9) rfl (by kernel_rfl) (by kernel_rfl) (by kernel_rfl) (fun _ _ _ h => h) (Or.inl ⟨by rfl, ?hy9⟩) (by assumption) ?_
                    case hy9 => (intro w hSw; (try dsimp only at hSw); go_simp; all_goals with_reducible rfl)
                    try simp only [Act.put, List.setIfInBounds_toArray, List.set_cons_zero, List.set_cons_succ]
                    refine wpAnyH_ready (rs := [9]) (by kernel_rfl) (by simp) ?_
                    refine AllReadyH.cons (o := { dst := some 145, op := Op.call { callee := Callee.value (Operand.func 11), args := #[Operand.tmp 143, Operand.tmp 144], argTypes := #[22, 22] }, type := 4, pos := "law.go:79", after := #[{ on := 7, ground := Ground.data }, { on := 8, ground := Ground.data }, { on := 6, ground := Ground.chain }, { on := 6, ground := Ground.guard }], guard := some (6, true) }) rfl (fun K hK => ?_) AllReadyH.nil
                    go_simp
                    refine (C11.out _ aW.out).mono ?_
                    rintro e' Wx ⟨rfl, bX⟩
                    have aWx : Hid (Below wz.heap.size wz Wx) := aW.out.trans (bX.mono aW.out.size)
                    clear bX
                    go_wp2_with fail
                    refine hK.out _ _ (HS.out _ aWx.out) (fun hHeld => ?_)
                    clear hK K
                    try simp only [Act.put, List.setIfInBounds_toArray, List.set_cons_zero, List.set_cons_succ]
                    refine wpAnyH_take (i := 10) (oi := { dst := some 146, op := Op.pick (Operand.tmp 142) (Operand.tmp 145) (Operand.const (Value.bool false)), type := 4, pos := "law.go:79", after := #[{ on := 6, ground := Ground.data }, { on := 9, ground := Ground.data }], guard := none }) (v := ?vv10) rfl (by kernel_rfl) (by kernel_rfl) (by kernel_rfl) (fun _ _ _ h => h) (Or.inl ⟨by rfl, ?hy10⟩) (by assumption) ?_
                    case hy10 => (intro w hSw; (try dsimp only at hSw); go_simp; all_goals with_reducible rfl)
                    try simp only [Act.put, List.setIfInBounds_toArray, List.set_cons_zero, List.set_cons_succ]
                    refine wpAnyH_take (i := 11) (oi := { dst := some 147, op := Op.move (Operand.tmp 146), type := 4, pos := "law.go:79", after := #[{ on := 10, ground := Ground.data }, { on := 9, ground := Ground.chain }], guard := none }) (v := ?vv11) rfl (by kernel_rfl) (by kernel_rfl) (by kernel_rfl) (fun _ _ _ h => h) (Or.inl ⟨by rfl, ?hy11⟩) (by assumption) ?_
                    case hy11 => (intro w hSw; (try dsimp only at hSw); go_simp; all_goals with_reducible rfl)
                    try simp only [Act.put, List.setIfInBounds_toArray, List.set_cons_zero, List.set_cons_succ]
                    refine wpAnyH_take (i := 12) (oi := { dst := some 148, op := Op.move (Operand.tmp 0), type := 28, pos := "law.go:79", after := #[{ on := 11, ground := Ground.guard }], guard := some (11, true) }) (v := ?vv12) rfl (by kernel_rfl) (by kernel_rfl) (by kernel_rfl) (fun _ _ _ h => h) (Or.inl ⟨by rfl, ?hy12⟩) (by assumption) ?_
                    case hy12 => (intro w hSw; (try dsimp only at hSw); go_simp; all_goals with_reducible rfl)
                    try simp only [Act.put, List.setIfInBounds_toArray, List.set_cons_zero, List.set_cons_succ]
                    refine wpAnyH_take (i := 13) (oi := { dst := some 149, op := Op.fieldAddr 41 (Operand.tmp 5) 5, type := 0, pos := "law.go:79", after := #[{ on := 11, ground := Ground.guard }], guard := some (11, true) }) (v := ?vv13) rfl (by kernel_rfl) (by kernel_rfl) (by kernel_rfl) (fun _ _ _ h => h) (Or.inl ⟨by rfl, ?hy13⟩) (by assumption) ?_
                    case hy13 => (intro w hSw; (try dsimp only at hSw); go_simp; all_goals with_reducible rfl)
                    try simp only [Act.put, List.setIfInBounds_toArray, List.set_cons_zero, List.set_cons_succ]
                    refine wpAnyH_take (i := 14) (oi := { dst := some 150, op := Op.load 2 (Operand.tmp 149), type := 2, pos := "law.go:79", after := #[{ on := 13, ground := Ground.data }, { on := 11, ground := Ground.guard }], guard := some (11, true) }) (v := ?vv14) rfl (by kernel_rfl) (by kernel_rfl) (by kernel_rfl) (fun _ _ _ h => h) (Or.inl ⟨by rfl, ?hy14⟩) (by assumption) ?_
                    case hy14 => (intro w hSw; (try dsimp only at hSw); go_simp; all_goals with_reducible rfl)
                    try simp only [Act.put, List.setIfInBounds_toArray, List.set_cons_zero, List.set_cons_succ]
                    refine wpAnyH_take (i := 15) (oi := { dst := some 151, op := Op.move (Operand.tmp 9), type := 39, pos := "law.go:79", after := #[{ on := 11, ground := Ground.guard }], guard := some (11, true) }) (v := ?vv15) rfl (by kernel_rfl) (by kernel_rfl) (by kernel_rfl) (fun _ _ _ h => h) (Or.inl ⟨by rfl, ?hy15⟩) (by assumption) ?_
                    case hy15 => (intro w hSw; (try dsimp only at hSw); go_simp; all_goals with_reducible rfl)
                    try simp only [Act.put, List.setIfInBounds_toArray, List.set_cons_zero, List.set_cons_succ]
                    refine wpAnyH_take (i := 17) (oi := { dst := some 153, op := Op.move (Operand.tmp 1), type := 53, pos := "law.go:79", after := #[{ on := 11, ground := Ground.guard }], guard := some (11, true) }) (v := ?vv16) rfl (by kernel_rfl) (by kernel_rfl) (by kernel_rfl) (fun _ _ _ h => h) (Or.inl ⟨by rfl, ?hy16⟩) (by assumption) ?_
                    case hy16 => (intro w hSw; (try dsimp only at hSw); go_simp; all_goals with_reducible rfl)
                    try simp only [Act.put, List.setIfInBounds_toArray, List.set_cons_zero, List.set_cons_succ]
                    refine wpAnyH_take (i := 18) (oi := { dst := some 154, op := Op.fieldAddr 41 (Operand.tmp 5) 5, type := 0, pos := "law.go:79", after := #[{ on := 11, ground := Ground.guard }], guard := some (11, true) }) (v := ?vv17) rfl (by kernel_rfl) (by kernel_rfl) (by kernel_rfl) (fun _ _ _ h => h) (Or.inl ⟨by rfl, ?hy17⟩) (by assumption) ?_
                    case hy17 => (intro w hSw; (try dsimp only at hSw); go_simp; all_goals with_reducible rfl)
                    try simp only [Act.put, List.setIfInBounds_toArray, List.set_cons_zero, List.set_cons_succ]
                    refine wpAnyH_take (i := 19) (oi := { dst := some 155, op := Op.load 2 (Operand.tmp 154), type := 2, pos := "law.go:79", after := #[{ on := 18, ground := Ground.data }, { on := 11, ground := Ground.guard }], guard := some (11, true) }) (v := ?vv18) rfl (by kernel_rfl) (by kernel_rfl) (by kernel_rfl) (fun _ _ _ h => h) (Or.inl ⟨by rfl, ?hy18⟩) (by assumption) ?_
                    case hy18 => (intro w hSw; (try dsimp only at hSw); go_simp; all_goals with_reducible rfl)
                    try simp only [Act.put, List.setIfInBounds_toArray, List.set_cons_zero, List.set_cons_succ]
                    refine wpAnyH_take (i := 20) (oi := { dst := some 156, op := Op.move (Operand.tmp 10), type := 22, pos := "law.go:79", after := #[{ on := 11, ground := Ground.guard }], guard := some (11, true) }) (v := ?vv19) rfl (by kernel_rfl) (by kernel_rfl) (by kernel_rfl) (fun _ _ _ h => h) (Or.inl ⟨by rfl, ?hy19⟩) (by assumption) ?_
                    case hy19 => (intro w hSw; (try dsimp only at hSw); go_simp; all_goals with_reducible rfl)
                    try simp only [Act.put, List.setIfInBounds_toArray, List.set_cons_zero, List.set_cons_succ]
                    refine wpAnyH_take (i := 21) (oi := { dst := some 157, op := Op.move (Operand.tmp 11), type := 22, pos := "law.go:79", after := #[{ on := 11, ground := Ground.guard }], guard := some (11, true) }) (v := ?vv20) rfl (by kernel_rfl) (by kernel_rfl) (by kernel_rfl) (fun _ _ _ h => h) (Or.inl ⟨by rfl, ?hy20⟩) (by assumption) ?_
                    case hy20 => (intro w hSw; (try dsimp only at hSw); go_simp; all_goals with_reducible rfl)
                    try simp only [Act.put, List.setIfInBounds_toArray, List.set_cons_zero, List.set_cons_succ]
                    refine wpAnyH_ready (rs := [16]) (by kernel_rfl) (by simp) ?_
                    refine AllReadyH.cons (o := { dst := some 152, op := Op.call { callee := Callee.value (Operand.func 17), args := #[Operand.tmp 148, Operand.tmp 150, Operand.tmp 151], argTypes := #[28, 2, 39] }, type := 22, pos := "law.go:79", after := #[{ on := 12, ground := Ground.data }, { on := 14, ground := Ground.data }, { on := 15, ground := Ground.data }, { on := 11, ground := Ground.chain }, { on := 11, ground := Ground.guard }], guard := some (11, true) }) rfl (fun K hK => ?_) AllReadyH.nil
                    go_simp
                    refine (C17.out _ aWx.out).mono ?_
                    rintro e' Wxx ⟨yb, yc, rfl, rX, bX⟩
                    have aWxx : Hid (Below wz.heap.size wz Wxx) := aWx.out.trans (bX.mono aWx.out.size)
                    have yWxx : Hid (R EI Wxx (.slice yb rm2 yc) lw) := rX
                    clear rX
                    clear bX
                    go_wp2_with fail
                    refine hK.out _ _ (HS.out _ aWxx.out) (fun hHeld => ?_)
                    clear hK K
                    try simp only [Act.put, List.setIfInBounds_toArray, List.set_cons_zero, List.set_cons_succ]
                    refine wpAnyH_ready (rs := [22]) (by kernel_rfl) (by simp) ?_
                    refine AllReadyH.cons (o := { dst := some 158, op := Op.call { callee := Callee.value (Operand.func 35), args := #[Operand.tmp 153, Operand.tmp 155, Operand.tmp 156, Operand.tmp 157], argTypes := #[53, 2, 22, 22] }, type := 22, pos := "law.go:79", after := #[{ on := 17, ground := Ground.data }, { on := 19, ground := Ground.data }, { on := 20, ground := Ground.data }, { on := 21, ground := Ground.data }, { on := 16, ground := Ground.chain }, { on := 11, ground := Ground.guard }], guard := some (11, true) }) rfl (fun K hK => ?_) AllReadyH.nil
                    go_simp
                    refine (C35.out _ aWxx.out).mono ?_
                    rintro e' Wxxx ⟨zb, zc, rfl, rX, bX⟩
                    have aWxxx : Hid (Below wz.heap.size wz Wxxx) := aWxx.out.trans (bX.mono aWxx.out.size)
                    have zWxxx : Hid (R EI Wxxx (.slice zb rm2 zc) lw) := rX
                    clear rX
                    have yWxxx : Hid (R EI Wxxx (.slice yb rm2 yc) lw) := yWxx.out.below bX
                    clear bX
                    go_wp2_with fail
                    refine hK.out _ _ (HS.out _ aWxxx.out) (fun hHeld => ?_)
                    clear hK K
                    try simp only [Act.put, List.setIfInBounds_toArray, List.set_cons_zero, List.set_cons_succ]
                    refine wpAnyH_ready (rs := [23]) (by kernel_rfl) (by simp) ?_
                    refine AllReadyH.cons (o := { dst := some 159, op := Op.call { callee := Callee.value (Operand.func 11), args := #[Operand.tmp 152, Operand.tmp 158], argTypes := #[22, 22] }, type := 4, pos := "law.go:79", after := #[{ on := 16, ground := Ground.data }, { on := 22, ground := Ground.data }, { on := 22, ground := Ground.chain }, { on := 11, ground := Ground.guard }], guard := some (11, true) }) rfl (fun K hK => ?_) AllReadyH.nil
                    go_simp
                    refine (same_eq _ _ _ lw yWxxx.out.isIn zWxxx.out.isIn).mono ?_
                    rintro e' Wxxxx ⟨rfl, bX⟩
                    have aWxxxx : Hid (Below wz.heap.size wz Wxxxx) := aWxxx.out.trans (bX.mono aWxxx.out.size)
                    clear bX
                    go_wp2_with fail
                    refine hK.out _ _ (HS.out _ aWxxxx.out) (fun hHeld => ?_)
                    clear hK K
                    try simp only [Act.put, List.setIfInBounds_toArray, List.set_cons_zero, List.set_cons_succ]
                    refine wpAnyH_take (i := 24) (oi := { dst := some 160, op := Op.pick (Operand.tmp 147) (Operand.tmp 159) (Operand.const (Value.bool false)), type := 4, pos := "law.go:79", after := #[{ on := 11, ground := Ground.data }, { on := 23, ground := Ground.data }], guard := none }) (v := ?vv21) rfl (by kernel_rfl) (by kernel_rfl) (by kernel_rfl) (fun _ _ _ h => h) (Or.inl ⟨by rfl, ?hy21⟩) (by assumption) ?_
                    case hy21 => (intro w hSw; (try dsimp only at hSw); go_simp; all_goals with_reducible rfl)
                    try simp only [Act.put, List.setIfInBounds_toArray, List.set_cons_zero, List.set_cons_succ]
                    refine wpAnyH_take (i := 25) (oi := { dst := some 6, op := Op.assign (Operand.tmp 160), type := 4, pos := "law.go:79", after := #[{ on := 24, ground := Ground.data }, { on := 23, ground := Ground.chain }, { on := 0, ground := Ground.phase }, { on := 1, ground := Ground.phase }, { on := 2, ground := Ground.phase }, { on := 3, ground := Ground.phase }, { on := 4, ground := Ground.phase }, { on := 5, ground := Ground.phase }, { on := 6, ground := Ground.phase }, { on := 7, ground := Ground.phase }, { on := 8, ground := Ground.phase }, { on := 9, ground := Ground.phase }, { on := 10, ground := Ground.phase }, { on := 11, ground := Ground.phase }, { on := 12, ground := Ground.phase }, { on := 13, ground := Ground.phase }, { on := 14, ground := Ground.phase }, { on := 15, ground := Ground.phase }, { on := 16, ground := Ground.phase }, { on := 17, ground := Ground.phase }, { on := 18, ground := Ground.phase }, { on := 19, ground := Ground.phase }, { on := 20, ground := Ground.phase }, { on := 21, ground := Ground.phase }, { on := 22, ground := Ground.phase }, { on := 23, ground := Ground.phase }, { on := 24, ground := Ground.phase }], guard := none }) (v := ?vv22) rfl (by kernel_rfl) (by kernel_rfl) (by kernel_rfl) (fun _ _ _ h => h) (Or.inl ⟨by rfl, ?hy22⟩) (by assumption) ?_
                    case hy22 => (intro w hSw; (try dsimp only at hSw); go_simp; all_goals with_reducible rfl)
                    try simp only [Act.put, List.setIfInBounds_toArray, List.set_cons_zero, List.set_cons_succ]
                    refine wpAnyH_done (by kernel_rfl) ?_ _
                    go_wp2_with fail
                    go_ret
                    exact HFIN.out _ aWxxxx.out
end Go.Proofs.Ytbmaknjeflblcaa
