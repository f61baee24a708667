/- ShareRising. -/
import Derived.Test.YtbmaknjeflblcaaKc
import Derived.Test.YtbmaknjeflblcaaS2
import Derived.Test.YtbmaknjeflblcaaE1
namespace Go.Proofs.Ytbmaknjeflblcaa
open Go.RowKit Go.Maps
set_option linter.unusedVariables false
set_option linter.unusedSimpArgs false

theorem In.op {w : World} {v : Value} {l : List Op} (h : In EO w v l) (k : Nat) (hk : k < l.length) : ∃ B off cap, v = .slice (some ⟨B, off, none⟩) l.length cap ∧ ∀ W, Below w.heap.size w W → W.cell? ⟨B, off + k * 9, none⟩ = some (.int .i64 l[k].k) ∧ W.cell? ⟨B, off + k * 9 + 1, none⟩ = some (.int .i64 l[k].s) ∧ W.cell? ⟨B, off + k * 9 + 2, none⟩ = some (.int .i64 l[k].id) ∧ W.cell? ⟨B, off + k * 9 + 3, none⟩ = some (.string l[k].t) ∧ W.cell? ⟨B, off + k * 9 + 4, none⟩ = some (.bool l[k].e) ∧ W.cell? ⟨B, off + k * 9 + 5, none⟩ = some (.int .i64 l[k].c) ∧ W.cell? ⟨B, off + k * 9 + 6, none⟩ = some (.int .i64 l[k].st) ∧ W.cell? ⟨B, off + k * 9 + 7, none⟩ = some (.int .i64 l[k].f) ∧ W.cell? ⟨B, off + k * 9 + 8, none⟩ = some (sv l[k].y) := by
  obtain ⟨B, off, cap, e, hB, d⟩ := h.get okO k hk
  exact ⟨B, off, cap, e, fun W hb => ⟨(hb.cell hB).trans (d 0 _ rfl), (hb.cell hB).trans (d 1 _ rfl), (hb.cell hB).trans (d 2 _ rfl), (hb.cell hB).trans (d 3 _ rfl), (hb.cell hB).trans (d 4 _ rfl), (hb.cell hB).trans (d 5 _ rfl), (hb.cell hB).trans (d 6 _ rfl), (hb.cell hB).trans (d 7 _ rfl), (hb.cell hB).trans (d 8 _ rfl)⟩⟩
theorem totO_succ (l : List Op) (k : Nat) (hk : k < l.length) : totO (l.take (k + 1)) = totO (l.take k) + l[k].t.size := by
  rw [List.take_succ_eq_append_getElem hk]
  unfold totO
  rw [List.map_append, List.sum_append]
  simp
theorem totO_le (l : List Op) (k : Nat) : totO (l.take k) ≤ totO l := by
  have : totO l = totO (l.take k) + totO (l.drop k) := by
    unfold totO
    rw [← List.sum_append, ← List.map_append, List.take_append_drop]
  omega
def al (l : List Op) : List (Int × Int) := l.map fun o => (o.id, 1)
theorem al_succ (l : List Op) (k : Nat) (hk : k < l.length) : al (l.take (k + 1)) = al (l.take k) ++ [(l[k].id, 1)] := by
  rw [List.take_succ_eq_append_getElem hk]
  unfold al
  rw [List.map_append]
  rfl
theorem lf_al {l : List Op} {id : Int} (h : ∃ o ∈ l, o.id = id) : lf (al l) id = 1 := by
  unfold lf al
  obtain ⟨o, ho, rfl⟩ := h
  induction l with
  | nil => cases ho
  | cons a r ih =>
    rw [List.map_cons]
    by_cases e : a.id = o.id
    · rw [List.find?_cons_of_pos (by simpa using e)]; rfl
    · rw [List.find?_cons_of_neg (by simpa using e)]
      rcases List.mem_cons.1 ho with rfl | ho
      · exact absurd rfl e
      · exact ih ho
theorem wf_al {l : List Op} {W : World} {B : Nat} (h : ∀ q ∈ l, OpZ W B q) : Wf2 (al l) := fun x hx => by
  obtain ⟨o, ho, rfl⟩ := List.mem_map.1 hx
  exact ⟨(h o ho).id, by unfold wf64; simp⟩
theorem in_left (w : World) (g : Nat) (x : Int × Int) (c : Array Value) (t : TypeId) (fz : Nat × Nat) (h : w.heap[g]? = some (.cells c t fz)) (hc : c = #[.int .i64 x.1, .int .i64 x.2]) : In EL w (.slice (some ⟨g, 0, none⟩) 1 1) [x] := by
  subst hc
  refine .inr ⟨_, 1, rfl, Nat.le_refl _, by decide, fun j u hu => ?_⟩
  rw [Addr.add_lit, Nat.zero_add, cell_blk h]
  rw [← hu, ← Array.getElem?_toList]
  rfl
/-- what lies in memory while the script is gone through -/
structure Ri (w wr : World) (N : Nat → Prop) (p : Nat) (T : St) (yb : Option Addr) (k yc : Nat) (a : List (Int × Int)) (m : Nat) : Prop where
  s : Sn wr N p T
  lo : ∀ i, i < w.heap.size → N i
  r : R EL wr (.slice yb k yc) a
  rn : ∀ i, (Value.slice yb k yc).ownBlock = some i → N i ∧ w.heap.size ≤ i
  b : ∀ j, (T.b j).length ≤ m
  lw : Below w.heap.size w wr
set_option maxHeartbeats 1000000 in
/-- a stream more in the list -/
theorem Ri.app {w wr : World} {N : Nat → Prop} {p k yc m : Nat} {T : St} {yb : Option Addr} {a : List (Int × Int)} (h : Ri w wr N p T yb k yc a m) (hk : a.length = k) (x : Int × Int) (hz : k ≤ 1048576) :
    ∃ (b : Option Addr) (c : Nat) (w2 : World), (Builtin.append_ #[39, 39] 39 #[.slice yb k yc, .slice (some ⟨wr.heap.size, 0, none⟩) 1 1]).run Try.prog (wr.alloc (Obj.cells #[.int .i64 x.1, .int .i64 x.2] 43)) = .ok (.slice b (k + 1) c) w2 ∧ ∃ N2, Ri w w2 N2 p T b (k + 1) c (a ++ [x]) m := by
  subst hk
  have b1 := bel1 wr (Obj.cells #[.int .i64 x.1, .int .i64 x.2] 43)
  obtain ⟨b, c, w2, hrun, hR, hG⟩ := Ytbmaknjeflblcaa.app okL (wr.alloc (Obj.cells #[.int .i64 x.1, .int .i64 x.2] 43)) (.slice yb a.length yc) a (h.r.below b1) (.slice (some ⟨wr.heap.size, 0, none⟩) 1 1) [x] (in_left _ _ x _ _ _ (heap_alloc_new _ _) rfl) (by simp [EL]; omega)
  simp only [List.length_singleton] at hrun hR hG
  have hs1 := h.s.grow b1
  have hs2 := hs1.other_new (Ks.of_gr hG) fun i hi e => .inl (h.rn i e).1
  have hsz := h.lw.size
  refine ⟨b, c, w2, hrun, _, hs2, fun i hi => .inl (.inl (h.lo i hi)), hR, fun i hi => ?_, h.b, h.lw.trans ((b1.mono hsz).trans (hG.belowB (by simp; omega) fun i e => (h.rn i e).2))⟩
  rcases hG.own i hi with e | e
  · exact ⟨.inl (.inl (h.rn i e).1), (h.rn i e).2⟩
  · exact ⟨.inr ⟨e, hR.lt i hi⟩, by simp at e; omega⟩
theorem Ri.below {w wr w2 : World} {N : Nat → Prop} {p k yc m : Nat} {T : St} {yb : Option Addr} {a : List (Int × Int)} (h : Ri w wr N p T yb k yc a m) (hb : Below wr.heap.size wr w2) : Ri w w2 (Nw N wr w2) p T yb k yc a m :=
  ⟨h.s.grow hb, fun i hi => .inl (h.lo i hi), h.r.below hb, fun i hi => ⟨.inl (h.rn i hi).1, (h.rn i hi).2⟩, h.b, h.lw.trans (hb.mono h.lw.size)⟩
theorem Ri.call {w wr w2 : World} {N : Nat → Prop} {p k yc m m2 : Nat} {T T2 : St} {yb : Option Addr} {a : List (Int × Int)} (h : Ri w wr N p T yb k yc a m) (hs : Sn w2 N p T2) (hk : Kn N wr w2) (hb : ∀ j, (T2.b j).length ≤ m2) : Ri w w2 N p T2 yb k yc a m2 :=
  ⟨hs, h.lo, h.r.stays fun i hi _ => hk.block i (h.rn i hi).1, h.rn, hb, h.lw.trans (hk.below h.lo)⟩
theorem Ri.more {w wr : World} {N : Nat → Prop} {p k yc m m2 : Nat} {T : St} {yb : Option Addr} {a : List (Int × Int)} (h : Ri w wr N p T yb k yc a m) (hm : m ≤ m2) : Ri w wr N p T yb k yc a m2 := ⟨h.s, h.lo, h.r, h.rn, fun j => Nat.le_trans (h.b j) hm, h.lw⟩
set_option maxRecDepth 100000 in
set_option maxHeartbeats 16000000 in
theorem shareRising_any (v : SV) (l : List Op) (gone : Int) (w : World) (hI : In EO w (sv v) l) (B : Nat) (hZ : ∀ q ∈ l, OpZ w B q) (ht : totO l ≤ 1048576) (hn : l.length ≤ 1048576) (hgw : wf64 gone) :
    Calls Try.prog 5 #[sv v, .int .i64 gone] w fun e w' => e = .returned (.bool true) ∧ Below w.heap.size w w' := by
  obtain ⟨vb, vn, vc⟩ := v
  unfold sv at hI ⊢
  simp only at hI ⊢
  obtain ⟨rfl, hc1, hc2⟩ := slice_len hI
  have HI : Hid (In EO w (.slice vb l.length vc) l) := hI
  have HZ : Hid (∀ q ∈ l, OpZ w B q) := hZ
  have HT : Hid (∀ k, totO (l.take k) ≤ 1048576) := fun k => Nat.le_trans (totO_le l k) ht
  obtain ⟨n, hnl⟩ : ∃ n, l.length = n := ⟨_, rfl⟩
  have HL : Hid (l.length = n) := hnl
  rw [hnl] at HI hc1 hn ⊢
  clear hI hZ ht hnl
  go_enter Try.func5, Try.ntmps5
  go_wp2_with fail
  refine (first_any w).mono ?_
  rintro e w1 ⟨rfl, hB1⟩
  go_wp2_with fail
  refine (new_n w1 (fun k => k < w.heap.size) (fun k h => Nat.lt_of_lt_of_le h hB1.size)).mono ?_
  rintro e w2 ⟨p, rfl, h2, hB2⟩
  have hst : Hid (∃ N, Ri w w2 N p St.new none 0 0 (al (l.take 0)) (totO (l.take 0))) := ⟨_, h2, fun _ h => h, R.nil EL _, fun i hi => by simp [Value.ownBlock] at hi, fun j => by rw [new_b]; simp, hB1.trans (hB2.mono hB1.size)⟩
  clear h2 hB1 hB2
  go_wp2_with fail
  go_loopw [6, 7, 8] (fun ys kv _ wr => ∃ (k : Nat) (yb : Option Addr) (yc : Nat) (T : St), ys = .slice yb k yc ∧ kv = .int .i64 (k : Int) ∧ k ≤ n ∧ Hid (∃ N, Ri w wr N p T yb k yc (al (l.take k)) (totO (l.take k)))) (fun _ kv _ _ => n - (intOf kv).toNat)
  case atStart => exact ⟨0, none, 0, St.new, rfl, rfl, by omega, hst⟩
  case round =>
    obtain ⟨k, yb, yc, T, rfl, rfl, hk, hh⟩ := hrel
    obtain ⟨NN, hri⟩ := hh.out
    clear hh hst
    by_cases hlt : k < n
    · have hkl : k < l.length := by have := HL.out; omega
      have l1 : (k : Int) < (n : Int) := by omega
      obtain ⟨Bk, off, cap, e, hc⟩ := HI.out.op k hkl
      injection e with e1 e2 e3
      subst e1
      clear e2 e3
      obtain ⟨d0, d1, d2, d3, d4, d5, d6, d7, d8⟩ := hc wr hri.lw
      clear hc
      have htot := totO_succ l k hkl
      have hto := HT.out (k + 1)
      have hal := al_succ l k hkl
      obtain ⟨q, hq⟩ : ∃ q, l[k] = q := ⟨_, rfl⟩
      rw [hq] at d0 d1 d2 d3 d4 d5 d6 d7 d8 htot hal
      have hqz := HZ.out q (by rw [← hq]; exact List.getElem_mem hkl)
      clear hq
      obtain ⟨ok, os, oid, ot, oe, oc, ost, of, ⟨y1, y2, y3⟩, ol⟩ := q
      have hoi : wf64 oid := hqz.id
      simp only at d0 d1 d2 d3 d4 d5 d6 d7 d8 htot hal
      unfold sv at d8
      simp only at d8
      clear hqz
      have halen : (al (l.take k)).length = k := by simp [al]; omega
      have hr1 := hri.below (bel1 wr (Obj.cells #[.int .i64 ok, .int .i64 os, .int .i64 oid, .string ot, .bool oe, .int .i64 oc, .int .i64 ost, .int .i64 of, .slice y1 y2 y3] 41))
      have HNB : Hid (Nw NN wr (wr.alloc (Obj.cells #[.int .i64 ok, .int .i64 os, .int .i64 oid, .string ot, .bool oe, .int .i64 oc, .int .i64 ost, .int .i64 of, .slice y1 y2 y3] 41)) wr.heap.size) := .inr ⟨Nat.le_refl _, by simp⟩
      generalize Nw NN wr (wr.alloc (Obj.cells #[.int .i64 ok, .int .i64 os, .int .i64 oid, .string ot, .bool oe, .int .i64 oc, .int .i64 ost, .int .i64 of, .slice y1 y2 y3] 41)) = N1 at hr1 HNB
      have hbox := heap_alloc_new wr (Obj.cells #[.int .i64 ok, .int .i64 os, .int .i64 oid, .string ot, .bool oe, .int .i64 oc, .int .i64 ost, .int .i64 of, .slice y1 y2 y3] 41)
      have HBX : Hid (∀ W, Kn N1 (wr.alloc (Obj.cells #[.int .i64 ok, .int .i64 os, .int .i64 oid, .string ot, .bool oe, .int .i64 oc, .int .i64 ost, .int .i64 of, .slice y1 y2 y3] 41)) W → W.heap[wr.heap.size]? = some (Obj.cells #[.int .i64 ok, .int .i64 os, .int .i64 oid, .string ot, .bool oe, .int .i64 oc, .int .i64 ost, .int .i64 of, .slice y1 y2 y3] 41)) := fun W hW => (hW.block _ HNB.out).trans hbox
      have HR1 : Hid (Ri w (wr.alloc (Obj.cells #[.int .i64 ok, .int .i64 os, .int .i64 oid, .string ot, .bool oe, .int .i64 oc, .int .i64 ost, .int .i64 of, .slice y1 y2 y3] 41)) N1 p T yb k yc (al (l.take k)) (totO (l.take k))) := hr1
      have HTO : Hid (totO (l.take (k + 1)) = totO (l.take k) + ot.size ∧ totO (l.take (k + 1)) ≤ 1048576) := ⟨htot, hto⟩
      have HAL : Hid (al (l.take (k + 1)) = al (l.take k) ++ [(oid, 1)] ∧ (al (l.take k)).length = k) := ⟨hal, halen⟩
      clear hri hr1 hbox htot hto hal halen
      by_cases hk1 : ok = 1
      · subst hk1
        have hz4 : (T.b oid).length + ot.size ≤ 140737488355328 := by have := HR1.out.b oid; have := HTO.out; omega
        go_wp2_with fail
        refine (put_n HR1.out.s oid ot oe hoi hz4).mono ?_
        rintro e w4 ⟨rfl, h5, hK4⟩
        have hr4 := HR1.out.call h5 hK4 (m2 := totO (l.take (k + 1))) (fun j => by have := put_len HR1.out.s.ok oid ot.data.toList oe j; have := HR1.out.b j; have := HTO.out; have : ot.data.toList.length = ot.size := (by simp); omega)

        have hbx := HBX.out w4 hK4
        have b2 := cell_blk hbx 2
        have hbl := heap_lt hbx
        clear hbx

        obtain ⟨ab, ac, wa, hrun, NA, hra⟩ := hr4.app HAL.out.2 (oid, 1) (by omega)
        have HRUN : Hid ((Builtin.append_ #[39, 39] 39 #[.slice yb k yc, .slice (some ⟨w4.heap.size, 0, none⟩) 1 1]).run Try.prog (w4.alloc (Obj.cells #[.int .i64 oid, .int .i64 1] 43)) = .ok (.slice ab (k + 1) ac) wa) := by
          have e : w4.heap.size = w4.heap.size := by first | rfl | simp
          rw [← e]
          exact hrun
        have HRA : Hid (∃ N, Ri w wa N p (T.put oid ot.data.toList oe) ab (k + 1) ac (al (l.take (k + 1))) (totO (l.take (k + 1)))) := ⟨NA, by rw [HAL.out.1]; exact hra⟩
        clear hrun hra
        clear hr4 h5
        go_wp2_with (at_builtin; refine Lib.wpList_append_run _ rfl (.tmp 56) (.tmp 60) 39 39 rfl _ _ rfl rfl _ _ HRUN.out ?_)

        go_roundw
        case rel => exact ⟨k + 1, ab, ac, _, rfl, by simp, by omega, HRA.out⟩
        case measure => simp [intOf]; omega
      · have e1 : (ok == 1) = false := beq_eq_false_iff_ne.2 hk1
        by_cases hk5 : ok = 5
        · subst hk5
          go_wp2_with fail
          refine (next_n HR1.out.s oid oc ost of hoi).mono ?_
          rintro e w4 ⟨rfl, h5, hK4⟩
          have hr4 := HR1.out.call h5 hK4 (m2 := totO (l.take (k + 1))) (fun j => by have := next_len HR1.out.s.ok oid oc ost of j; have := HR1.out.b j; have := HTO.out; omega)

          have hbx := HBX.out w4 hK4
          have b2 := cell_blk hbx 2
          have hbl := heap_lt hbx
          clear hbx

          obtain ⟨ab, ac, wa, hrun, NA, hra⟩ := hr4.app HAL.out.2 (oid, 1) (by omega)
          have HRUN : Hid ((Builtin.append_ #[39, 39] 39 #[.slice yb k yc, .slice (some ⟨w4.heap.size, 0, none⟩) 1 1]).run Try.prog (w4.alloc (Obj.cells #[.int .i64 oid, .int .i64 1] 43)) = .ok (.slice ab (k + 1) ac) wa) := by
            have e : w4.heap.size = w4.heap.size := by first | rfl | simp
            rw [← e]
            exact hrun
          have HRA : Hid (∃ N, Ri w wa N p (T.next oid oc ost of) ab (k + 1) ac (al (l.take (k + 1))) (totO (l.take (k + 1)))) := ⟨NA, by rw [HAL.out.1]; exact hra⟩
          clear hrun hra
          clear hr4 h5
          go_wp2_with (at_builtin; refine Lib.wpList_append_run _ rfl (.tmp 56) (.tmp 60) 39 39 rfl _ _ rfl rfl _ _ HRUN.out ?_)

          go_roundw
          case rel => exact ⟨k + 1, ab, ac, _, rfl, by simp, by omega, HRA.out⟩
          case measure => simp [intOf]; omega
        · have e5 : (ok == 5) = false := beq_eq_false_iff_ne.2 hk5
          have hr4 := HR1.out.more (m2 := totO (l.take (k + 1))) (by have := HTO.out; omega)
          obtain ⟨ab, ac, wa, hrun, NA, hra⟩ := hr4.app HAL.out.2 (oid, 1) (by omega)
          have HRUN : Hid ((Builtin.append_ #[39, 39] 39 #[.slice yb k yc, .slice (some ⟨(wr.heap.size + 1), 0, none⟩) 1 1]).run Try.prog ((wr.alloc (Obj.cells #[.int .i64 ok, .int .i64 os, .int .i64 oid, .string ot, .bool oe, .int .i64 oc, .int .i64 ost, .int .i64 of, .slice y1 y2 y3] 41)).alloc (Obj.cells #[.int .i64 oid, .int .i64 1] 43)) = .ok (.slice ab (k + 1) ac) wa) := by
            have e : (wr.alloc (Obj.cells #[.int .i64 ok, .int .i64 os, .int .i64 oid, .string ot, .bool oe, .int .i64 oc, .int .i64 ost, .int .i64 of, .slice y1 y2 y3] 41)).heap.size = (wr.heap.size + 1) := by first | rfl | simp
            rw [← e]
            exact hrun
          have HRA : Hid (∃ N, Ri w wa N p T ab (k + 1) ac (al (l.take (k + 1))) (totO (l.take (k + 1)))) := ⟨NA, by rw [HAL.out.1]; exact hra⟩
          clear hrun hra
          clear hr4
          go_wp2_with (at_builtin; refine Lib.wpList_append_run _ rfl (.tmp 56) (.tmp 60) 39 39 rfl _ _ rfl rfl _ _ HRUN.out ?_)

          go_roundw
          case rel => exact ⟨k + 1, ab, ac, _, rfl, by simp, by omega, HRA.out⟩
          case measure => simp [intOf]; omega
    · have hkn : k = n := by omega
      subst hkn
      have htk : l.take k = l := by rw [← HL.out]; exact List.take_length
      rw [htk] at hri
      have halen : Hid ((al l).length = k) := by show _ = _; rw [← HL.out]; simp [al]
      have HRI : Hid (Ri w wr NN p T yb k yc (al l) (totO l)) := hri
      have HWF : Hid (Wf2 (al l)) := wf_al HZ.out
      clear hri htk
      go_wp2_with fail
      refine (drop_n HRI.out.s gone hgw).mono ?_
      rintro e w3 ⟨rfl, h3, hK3⟩
      have hri3 := HRI.out.call h3 hK3 (m2 := totO l) (fun j => by rw [drop_b HRI.out.s.ok]; split; simp; exact HRI.out.b j)
      have HG0 : Hid ((T.drop gone).is gone = false ∧ (T.drop gone).b gone = [] ∧ (T.drop gone).e gone = false) := by
        have a1 : (T.drop gone).b gone = [] := by rw [drop_b HRI.out.s.ok, if_pos rfl]
        have a2 : (T.drop gone).e gone = false := by rw [drop_e HRI.out.s.ok, if_pos rfl]
        exact ⟨by rw [h3.ok.is_eq, a1, a2]; rfl, a1, a2⟩
      generalize T.is gone = tig
      generalize T.drop gone = T2 at h3 hri3 HG0
      have H3 : Hid (Ri w w3 NN p T2 yb k yc (al l) (totO l)) := hri3
      clear hri3 hK3 HRI h3
      have hr1c := ready_n H3.out.s 1 (yb, k, yc) (al l) H3.out.r.isIn HWF.out (by rw [halen.out]; omega)
      obtain ⟨L1, hL1⟩ : ∃ L1, T2.ready 1 (lf (al l)) = L1 := ⟨_, rfl⟩
      obtain ⟨L0, hL0⟩ : ∃ L0, T2.ready 0 (lf (al l)) = L0 := ⟨_, rfl⟩
      have HR1 : Hid (L1.Pairwise (· < ·) ∧ (∀ i ∈ L1, i ≠ gone)) := by
        refine ⟨by rw [← hL1]; exact St.ready_rise H3.out.s.ok _ _, fun i hi e => ?_⟩
        rw [← hL1, St.mem_ready H3.out.s.ok] at hi
        rw [e, HG0.out.1] at hi
        cases hi.1
      have HIN : Hid (∀ id, (∃ o ∈ l, o.id = id) → decide (id ∈ L1) = (decide (0 < (((T2.b id).length : Nat) : Int)) || T2.e id) ∧ decide (id ∈ L0) = ((((T2.b id).length : Nat) : Int) == 0 && T2.e id)) := by
        intro id hid
        have hlf := lf_al hid
        have ok := H3.out.s.ok
        constructor
        · rw [← hL1, Bool.eq_iff_iff, decide_eq_true_iff, St.mem_ready ok, hlf, ok.is_eq]
          cases hb : T2.b id with
          | nil => simp [no, mg]
          | cons a r => simp [no, mg]; try omega
        · rw [← hL0, Bool.eq_iff_iff, decide_eq_true_iff, St.mem_ready ok, hlf, ok.is_eq]
          cases hb : T2.b id with
          | nil => simp [no, mg]
          | cons a r => simp [no, mg]; try omega
      rw [hL1] at hr1c
      generalize hn1 : L1.length = n1 at hr1c
      have HC1 : Hid (Calls Try.prog 17 #[.pointer (some ⟨p, 0, none⟩), .int .i64 1, .slice yb k yc] w3 fun e w' => ∃ (yb : Option Addr) (yc : Nat), e = .returned (.slice yb n1 yc) ∧ R EI w' (.slice yb n1 yc) L1 ∧ (∀ k, (Value.slice yb n1 yc).ownBlock = some k → w3.heap.size ≤ k) ∧ Below w3.heap.size w3 w') := hr1c
      have HN1 : Hid (L1.length = n1) := hn1
      clear hr1c hn1
      go_wp2_with fail
      refine Calls.mono HC1.out ?_
      rintro e w4 ⟨lb, lc, rfl, hRa, hna, hB4⟩
      have H4 := H3.out.below hB4
      generalize Nw NN w3 w4 = N4 at H4
      have HA : Hid (R EI w4 (.slice lb n1 lc) L1) := hRa
      have hr0c := ready_n H4.s 0 (yb, k, yc) (al l) H4.r.isIn HWF.out (by rw [halen.out]; omega)
      rw [hL0] at hr0c
      generalize hn0 : L0.length = n0 at hr0c
      have HC0 : Hid (Calls Try.prog 17 #[.pointer (some ⟨p, 0, none⟩), .int .i64 0, .slice yb k yc] w4 fun e w' => ∃ (yb : Option Addr) (yc : Nat), e = .returned (.slice yb n0 yc) ∧ R EI w' (.slice yb n0 yc) L0 ∧ (∀ k, (Value.slice yb n0 yc).ownBlock = some k → w4.heap.size ≤ k) ∧ Below w4.heap.size w4 w') := hr0c
      have H4h : Hid (Ri w w4 N4 p T2 yb k yc (al l) (totO l)) := H4
      clear hr0c hn0 hRa hna H4 HC1
      go_wp2_with fail
      refine Calls.mono HC0.out ?_
      rintro e w5 ⟨mb, mc, rfl, hRb, hnb, hB5⟩
      have H5 := H4h.out.below hB5
      generalize Nw N4 w4 w5 = N5 at H5
      have H5h : Hid (Ri w w5 N5 p T2 yb k yc (al l) (totO l)) := H5
      have HA5 : Hid (In EI w5 (.slice lb n1 lc) L1 ∧ In EI w5 (.slice mb n0 mc) L0) := ⟨(HA.out.below hB5).isIn, hRb.isIn⟩
      obtain ⟨hcl0, hcl1, hcl2⟩ := slice_len HA5.out.1
      rw [← hcl0] at hcl1
      clear hcl0
      clear hRb hnb H5 HC0 hL1 hL0 HA hB4 hB5 H4h H3

      go_wp2_with fail
      --L2
      go_loopw [11] (fun kv wr => ∃ j : Nat, kv = .int .i64 (j : Int) ∧ j ≤ n1 ∧ Hid (Below w5.heap.size w5 wr)) (fun kv _ => n1 - (intOf kv).toNat)
      case atStart => exact ⟨0, rfl, by omega, Below.refl _ _⟩
      case round =>
        obtain ⟨j, rfl, hj, hb⟩ := hrel
        by_cases hjl : j < n1
        · have j1 : (j : Int) < (n1 : Int) := by omega
          have hjL : j < L1.length := by have := HN1.out; omega
          obtain ⟨Ba, oa, ca, e, hBa, g1⟩ := (HA5.out.1.below hb.out).int1 j hjL
          injection e with e1 e2 e3
          subst e1
          clear e2 e3
          have hgo : Hid (L1[j] ≠ gone) := HR1.out.2 _ (List.getElem_mem hjL)
          by_cases hj0 : j = 0
          · obtain ⟨y, hy⟩ : ∃ y, L1[j] = y := ⟨_, rfl⟩
            rw [hy] at g1 hgo
            have ne1 : (y == gone) = false := beq_eq_false_iff_ne.2 hgo.out
            have jd : decide (0 < (j : Int)) = false := decide_eq_false (by omega)
            have jdN : decide (0 < j) = false := decide_eq_false (by omega)
            clear hy hj0
            --A1
            go_wp2_with fail
            --A2
            go_quiet (fail)
            --A3
            go_wp2_with fail
            go_roundw
            case rel => exact ⟨j + 1, by simp, by omega, ⟨hb.out.os, hb.out.tape, hb.out.output, hb.out.size, hb.out.block⟩⟩
            case measure => simp [intOf]; omega
          · obtain ⟨m, hm⟩ : ∃ m, j = m + 1 := ⟨j - 1, by omega⟩
            have hmL : m < L1.length := by omega
            obtain ⟨Bb, ob, cb, e, hBb, g2⟩ := (HA5.out.1.below hb.out).int1 m hmL
            injection e with e1 e2 e3
            injection e1 with e1
            injection e1 with e1 e4
            subst e1 e4
            clear e2 e3
            have hri := (List.pairwise_iff_getElem.1 HR1.out.1) m j hmL hjL (by omega)
            obtain ⟨y, hy⟩ : ∃ y, L1[j] = y := ⟨_, rfl⟩
            obtain ⟨z, hz⟩ : ∃ y, L1[m] = y := ⟨_, rfl⟩
            rw [hy] at g1 hgo hri
            rw [hz] at g2 hri
            have ne1 : (y == gone) = false := beq_eq_false_iff_ne.2 hgo.out
            have ne2 : decide (y ≤ z) = false := decide_eq_false (by omega)
            have jm : (j : Int) - 1 = (m : Int) := by omega
            have jp : 0 < (j : Int) := by omega
            have jd : decide (0 < (j : Int)) = true := decide_eq_true jp
            have jpN : 0 < j := by omega
            have jdN : decide (0 < j) = true := decide_eq_true jpN
            have ml : (m : Int) < (n1 : Int) := by omega
            have mn : ¬ (m : Int) < 0 := by omega
            clear hy hz hri hm hj0
            --B1
            go_wp2_with fail
            --B2
            go_quiet (fail)
            --B3
            go_wp2_with fail
            go_roundw
            case rel => exact ⟨j + 1, by simp, by omega, ⟨hb.out.os, hb.out.tape, hb.out.output, hb.out.size, hb.out.block⟩⟩
            case measure => simp [intOf]; omega
        · have hjn : j = n1 := by omega
          subst hjn
          --L3
          have HB5 : Hid (Below w5.heap.size w5 wr) := hb
          clear hb hjl hj
          go_wp2_with fail
          go_loopw [12, 13, 14] (fun kv _ _ wr => ∃ i : Nat, kv = .int .i64 (i : Int) ∧ i ≤ k ∧ Hid (Below w5.heap.size w5 wr)) (fun kv _ _ _ => k - (intOf kv).toNat)
          case atStart => exact ⟨0, rfl, by omega, HB5.out⟩
          case round =>
            obtain ⟨i, rfl, hi, hb⟩ := hrel
            by_cases hil : i < k
            · have i1 : (i : Int) < (k : Int) := by omega
              have hiL : i < (al l).length := by rw [halen.out]; exact hil
              have hiO : i < l.length := by rw [HL.out]; exact hil
              obtain ⟨Ba, oa, ca, e, hcc⟩ := H5h.out.r.isIn.lf i hiL
              injection e with e1 e2 e3
              subst e1
              clear e2 e3
              obtain ⟨g1, _⟩ := hcc wr hb.out
              have hwi := (HWF.out _ (List.getElem_mem hiL)).1
              have hin := HIN.out (al l)[i].1 ⟨l[i], List.getElem_mem hiO, by simp [al]⟩
              obtain ⟨z, hz⟩ : ∃ z, (al l)[i].1 = z := ⟨_, rfl⟩
              rw [hz] at g1 hwi hin
              obtain ⟨in1, in0⟩ := hin
              have HX : Hid (∀ W, Below wr.heap.size wr W → W.cell? ⟨Ba, oa + i * 2, none⟩ = some (.int .i64 z)) := fun W hW => by
                have := (hcc W (hb.out.trans (hW.mono hb.out.size))).1
                rw [hz] at this
                exact this
              clear hcc hz
              have hsn := H5h.out.s.below hb.out
              have hwt := waits_n hsn z hwi
              obtain ⟨bl, hbl⟩ : ∃ n, (T2.b z).length = n := ⟨_, rfl⟩
              rw [hbl] at hwt in1 in0
              have HWT : Hid (Calls Try.prog 15 #[.pointer (some ⟨p, 0, none⟩), .int .i64 z] wr fun e w' => e = .returned (.tuple #[.int .i64 (bl : Int), .bool (T2.e z)]) ∧ Below wr.heap.size wr w') := hwt
              generalize T2.e z = en at HWT in1 in0
              have HH1 : Hid (∀ W, Below wr.heap.size wr W → Calls Try.prog 18 #[.slice lb j lc, .int .i64 z] W fun e w' => e = .returned (.bool (decide (z ∈ L1))) ∧ w' = W) := fun W hW => has_any W _ L1 z ((HA5.out.1.below hb.out).below hW)
              have HH0 : Hid (∀ W, Below wr.heap.size wr W → Calls Try.prog 18 #[.slice mb n0 mc, .int .i64 z] W fun e w' => e = .returned (.bool (decide (z ∈ L0))) ∧ w' = W) := fun W hW => has_any W _ L0 z ((HA5.out.2.below hb.out).below hW)
              generalize decide (z ∈ L1) = r1 at in1 HH1
              generalize decide (z ∈ L0) = r0 at in0 HH0
              clear hwt hsn hbl hwi
              by_cases hb0 : bl = 0
              · have p0 : decide (0 < (bl : Int)) = false := decide_eq_false (by omega)
                have p0N : decide (0 < bl) = false := decide_eq_false (by omega)
                have p1 : ((bl : Int) == 0) = true := beq_iff_eq.2 (by omega)
                have p1N : (bl == 0) = true := beq_iff_eq.2 (by omega)
                rw [p0] at in1
                rw [p1] at in0
                have in1' : r1 = en := by rw [in1]; rfl
                have in0' : r0 = en := by rw [in0]; rfl
                clear in1 in0 hb0
                rw [in1'] at HH1
                rw [in0'] at HH0
                clear in1' in0'
                cases en
                · go_wp2_with fail
                  refine Calls.mono HWT.out ?_
                  rintro e w8 ⟨rfl, hB8⟩
                  have g8 := HX.out w8 hB8
                  go_wp2_with fail
                  refine Calls.mono (HH1.out w8 hB8) ?_
                  rintro e w8 ⟨rfl, rfl⟩
                  go_wp2_with fail
                  refine Calls.mono (HH0.out w8 hB8) ?_
                  rintro e w8 ⟨rfl, rfl⟩
                  go_wp2_with fail
                  go_roundw
                  case rel => exact ⟨i + 1, by simp, by omega, hb.out.trans (hB8.mono hb.out.size)⟩
                  case measure => simp [intOf]; omega
                · go_wp2_with fail
                  refine Calls.mono HWT.out ?_
                  rintro e w8 ⟨rfl, hB8⟩
                  have g8 := HX.out w8 hB8
                  go_wp2_with fail
                  refine Calls.mono (HH1.out w8 hB8) ?_
                  rintro e w8 ⟨rfl, rfl⟩
                  go_wp2_with fail
                  refine Calls.mono (HH0.out w8 hB8) ?_
                  rintro e w8 ⟨rfl, rfl⟩
                  go_wp2_with fail
                  go_roundw
                  case rel => exact ⟨i + 1, by simp, by omega, hb.out.trans (hB8.mono hb.out.size)⟩
                  case measure => simp [intOf]; omega
              · have p0 : decide (0 < (bl : Int)) = true := decide_eq_true (by omega)
                have p0N : decide (0 < bl) = true := decide_eq_true (by omega)
                have p1 : ((bl : Int) == 0) = false := beq_eq_false_iff_ne.2 (by omega)
                have p1N : (bl == 0) = false := beq_eq_false_iff_ne.2 (by omega)
                rw [p0] at in1
                rw [p1] at in0
                have in1' : r1 = true := by rw [in1]; rfl
                have in0' : r0 = false := by rw [in0]; rfl
                subst in1'
                subst in0'
                clear in1 in0 hb0
                go_wp2_with fail
                refine Calls.mono HWT.out ?_
                rintro e w8 ⟨rfl, hB8⟩
                have g8 := HX.out w8 hB8
                go_wp2_with fail
                refine Calls.mono (HH1.out w8 hB8) ?_
                rintro e w8 ⟨rfl, rfl⟩
                go_wp2_with fail
                refine Calls.mono (HH0.out w8 hB8) ?_
                rintro e w8 ⟨rfl, rfl⟩
                go_wp2_with fail
                go_roundw
                case rel => exact ⟨i + 1, by simp, by omega, hb.out.trans (hB8.mono hb.out.size)⟩
                case measure => simp [intOf]; omega
            · have hik : i = k := by omega
              subst hik
              have hsn := H5h.out.s.below hb.out
              obtain ⟨z1, z2, z3⟩ := HG0.out
              --F1
              go_wp2_with fail
              refine (waits_n hsn gone hgw).mono ?_
              rintro e w8 ⟨rfl, hB8⟩
              rw [z2, z3]
              go_wp2_with fail
              refine (drop_n (hsn.below hB8) gone hgw).mono ?_
              rintro e w9 ⟨rfl, h9, hK9⟩
              rw [z1]
              go_wp2_with fail
              go_ret
              exact ⟨rfl, (H5h.out.lw.trans ((hb.out.trans (hB8.mono hb.out.size)).mono H5h.out.lw.size)).trans (hK9.below H5h.out.lo)⟩
end Go.Proofs.Ytbmaknjeflblcaa
