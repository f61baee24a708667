/- ShareWhole. -/
import Derived.Test.YtbmaknjeflblcaaD3
import Derived.Test.YtbmaknjeflblcaaE1
namespace Go.Proofs.Ytbmaknjeflblcaa
open Go.RowKit Go.Maps
set_option linter.unusedVariables false
set_option linter.unusedSimpArgs false

theorem In.pc {w : World} {v : Value} {l : List Pc} (h : In EP w v l) (k : Nat) (hk : k < l.length) : ∃ B off cap, v = .slice (some ⟨B, off, none⟩) l.length cap ∧ ∀ W, Below w.heap.size w W → W.cell? ⟨B, off + k * 5, none⟩ = some (.string l[k].t) ∧ W.cell? ⟨B, off + k * 5 + 1, none⟩ = some (.int .i64 l[k].k) ∧ W.cell? ⟨B, off + k * 5 + 2, none⟩ = some (.int .i64 l[k].c) ∧ W.cell? ⟨B, off + k * 5 + 3, none⟩ = some (.int .i64 l[k].s) ∧ W.cell? ⟨B, off + k * 5 + 4, none⟩ = some (.int .i64 l[k].o) := by
  obtain ⟨B, off, cap, e, hB, d⟩ := h.get okP k hk
  exact ⟨B, off, cap, e, fun W hb => ⟨(hb.cell hB).trans (d 0 _ rfl), (hb.cell hB).trans (d 1 _ rfl), (hb.cell hB).trans (d 2 _ rfl), (hb.cell hB).trans (d 3 _ rfl), (hb.cell hB).trans (d 4 _ rfl)⟩⟩
theorem totP_succ (l : List Pc) (k : Nat) (hk : k < l.length) : totP (l.take (k + 1)) = totP (l.take k) + l[k].t.size := by
  rw [List.take_succ_eq_append_getElem hk]
  unfold totP
  rw [List.map_append, List.sum_append]
  simp
theorem totP_le (l : List Pc) (k : Nat) : totP (l.take k) ≤ totP l := by
  have : totP l = totP (l.take k) + totP (l.drop k) := by
    unfold totP
    rw [← List.sum_append, ← List.map_append, List.take_append_drop]
  omega
/-- another stream's text and piece -/
structure Oth (T T' : St) (id : Int) (pt gt : ByteArray) (n : Nat) : Prop where
  w : Wh T' id pt gt false
  b : T'.b id = T.b id
  l : ∀ j, (T'.b j).length ≤ (T.b j).length + n
theorem Oth.refl {T : St} {id : Int} {pt gt : ByteArray} (h : Wh T id pt gt false) (n : Nat) : Oth T T id pt gt n := ⟨h, rfl, fun _ => by omega⟩
theorem put_other {T : St} {id j : Int} (ok : T.Ok) (hne : id ≠ j) (t : List UInt8) (en : Bool) : (T.put j t en).b id = T.b id ∧ (T.put j t en).e id = T.e id ∧ (T.put j t en).ov id = T.ov id := by
  by_cases h0 : T.putE j = 0
  · exact ⟨by rw [put_b ok h0, if_neg hne], by rw [put_e ok h0, if_neg hne], by rw [put_ov ok h0, if_neg hne]⟩
  · rw [put_same h0]; exact ⟨rfl, rfl, rfl⟩
theorem next_other {T : St} {id j : Int} (ok : T.Ok) (hne : id ≠ j) (c s f : Int) : (T.next j c s f).b id = T.b id ∧ (T.next j c s f).e id = T.e id ∧ (T.next j c s f).ov id = T.ov id := by
  refine ⟨?_, ?_, next_ov⟩
  · by_cases h0 : T.nextE j c s f = 0
    · rw [next_b ok h0, if_neg hne]
    · rw [next_same h0]
  · by_cases h0 : T.nextE j c s f = 0
    · rw [next_e ok h0, if_neg hne]
    · rw [next_same h0]
theorem Oth.step {T : St} {id j : Int} {pt gt : ByteArray} (h : Wh T id pt gt false) (ok : T.Ok) (hne : id ≠ j) (t : ByteArray) (en : Bool) (c s f : Int) : Oth T ((T.put j t.data.toList en).next j c s f) id pt gt t.size := by
  obtain ⟨a1, a2, a3⟩ := put_other ok hne t.data.toList en
  obtain ⟨b1, b2, b3⟩ := next_other (ok.put j t.data.toList en) hne c s f
  refine ⟨⟨by rw [b1, a1]; exact h.b, by rw [b2, a2]; exact h.e, by rw [b3, a3]; exact h.o⟩, by rw [b1, a1], fun i => ?_⟩
  have h1 := next_len (ok.put j t.data.toList en) j c s f i
  have h2 := put_len ok j t.data.toList en i
  have : t.data.toList.length = t.size := by simp
  omega
theorem Wh.put {T : St} {id : Int} {pt gt : ByteArray} (h : Wh T id pt gt false) (ok : T.Ok) (hi : isId id = true) (t : ByteArray) : T.putE id = 0 ∧ Wh (T.put id t.data.toList false) id (pt ++ t) gt false ∧ (∀ j, ((T.put id t.data.toList false).b j).length = if j = id then (T.b id).length + t.size else (T.b j).length) := by
  have h0 := putE_ok hi h.o
  refine ⟨h0, ⟨?_, ?_, ?_⟩, fun j => ?_⟩
  · rw [ba_app, put_b ok h0, if_pos rfl, h.b, List.append_assoc]
  · rw [put_e ok h0, if_pos rfl]
  · rw [put_ov ok h0, if_pos rfl]
  · rw [put_b ok h0]
    split
    · rw [List.length_append]; simp
    · rfl
theorem lf_one (id s : Int) : lf [(id, s)] id = s := by simp [lf]
theorem named_eq {T : St} (ok : T.Ok) (id c s : Int) : decide (id ∈ T.ready c (lf [(id, s)])) = (T.is id && mg (T.b id) c s) := by
  rw [Bool.eq_iff_iff, decide_eq_true_iff, St.mem_ready ok, lf_one]
  simp
/-- a piece that is asked for, by its three ways -/
theorem Wh.ask {T : St} {id : Int} {pt gt : ByteArray} (h : Wh T id pt gt false) (ok : T.Ok) (c s f : Int) (hf : 1 ≤ f) :
    T.nextL id c s f = false ∧ ((gt.size = pt.size ∧ (T.b id).length = 0 ∧ T.nextE id c s f = 5 ∧ decide (id ∈ T.ready c (lf [(id, s)])) = false) ∨
      (gt.size < pt.size ∧ T.nextE id c s f = 6 ∧ decide (id ∈ T.ready c (lf [(id, s)])) = false) ∨
      (gt.size < pt.size ∧ T.nextE id c s f = 0 ∧ decide (id ∈ T.ready c (lf [(id, s)])) = true ∧ ∃ q : ByteArray, tx (T.nextP id c s f) = .string q ∧ 1 ≤ q.size ∧ (q.size : Int) ≤ f ∧ (q.size : Int) ≤ c ∧ (q.size : Int) ≤ s ∧ (gt ++ q).size + ((T.next id c s f).b id).length = pt.size ∧ Wh (T.next id c s f) id pt (gt ++ q) false)) := by
  have hL : T.nextL id c s f = false := by unfold St.nextL; rw [h.e]; simp
  have hlen := h.len
  refine ⟨hL, ?_⟩
  rw [named_eq ok]
  cases hb : (T.b id).isEmpty
  · have his : T.is id = true := by rw [ok.is_eq]; unfold no; rw [hb]; rfl
    have hpos : 1 ≤ (T.b id).length := by
      cases e : T.b id with
      | nil => rw [e] at hb; simp at hb
      | cons a r => simp
    cases hm : mg (T.b id) c s
    · refine .inr (.inl ⟨by omega, nextE_full (by omega) his hm, by rw [his]; rfl⟩)
    · have hcs : 0 < c ∧ 0 < s := by
        unfold mg at hm
        rw [hb] at hm
        simpa using hm
      have hE : T.nextE id c s f = 0 := nextE_ok (by omega) his hm
      obtain ⟨n, hN, n1, n2, n3, n4, n5⟩ : ∃ n, T.nextN id c s f = n ∧ 1 ≤ n ∧ (n : Int) ≤ f ∧ (n : Int) ≤ c ∧ (n : Int) ≤ s ∧ n ≤ (T.b id).length := by
        refine ⟨_, rfl, ?_, ?_, ?_, ?_, ?_⟩ <;> (unfold St.nextN rm; omega)
      have hP : T.nextP id c s f = (T.b id).take n := by rw [St.nextP, if_pos hE, hN]
      have hsz : (ba (T.nextP id c s f)).size = n := by rw [ba_size, hP, List.length_take]; omega
      have hbn := next_b (j := id) ok hE
      rw [if_pos rfl, hN] at hbn
      refine .inr (.inr ⟨by omega, hE, by rw [his]; rfl, ba (T.nextP id c s f), tx_ba _, by omega, by omega, by omega, by omega, ?_, ⟨?_, ?_, ?_⟩⟩)
      · rw [ByteArray.size_append, hsz, hbn, List.length_drop]; omega
      · rw [ba_app, ba_list, hP, hbn, List.append_assoc, List.take_append_drop]; exact h.b
      · rw [next_e ok hE, if_pos rfl, h.e]; rfl
      · rw [next_ov]; exact h.o
  · have hb0 : T.b id = [] := List.isEmpty_iff.1 hb
    have his : T.is id = false := by rw [ok.is_eq, h.e]; unfold no; rw [hb]; rfl
    rw [hb0] at hlen
    exact .inl ⟨by simpa using hlen.symm, by rw [hb0]; rfl, nextE_none (by omega) his, by rw [his]; rfl⟩
theorem in_left (w : World) (g : Nat) (x : Int × Int) (c : Array Value) (t : TypeId) (fz : Nat × Nat) (h : w.heap[g]? = some (.cells c t fz)) (hc : c = #[.int .i64 x.1, .int .i64 x.2]) : In EL w (.slice (some ⟨g, 0, none⟩) 1 1) [x] := by
  subst hc
  refine .inr ⟨_, 1, rfl, Nat.le_refl _, by decide, fun j u hu => ?_⟩
  rw [Addr.add_lit, Nat.zero_add, cell_blk h]
  rw [← hu, ← Array.getElem?_toList]
  rfl
theorem str_nil {q : ByteArray} (h : 1 ≤ q.size) : q.toList.isEmpty = false := by
  rw [ByteArray.toList_eq]
  have h1 := Lib.size_eq q
  cases e : q.data.toList with
  | nil => rw [e] at h1; simp only [List.length_nil] at h1; omega
  | cons a r => rfl
theorem ba_nil (g : ByteArray) : g ++ ⟨#[]⟩ = g := by
  apply ba_ext
  rw [ba_app]
  simp
set_option maxRecDepth 100000 in
set_option maxHeartbeats 16000000 in
theorem shareWhole_any (id0 : Int) (v : SV) (l : List Pc) (w : World) (hI : In EP w (sv v) l) (hZ : ∀ q ∈ l, PcZ q) (ht : totP l ≤ 1048576) (hn : l.length ≤ 1048576) :
    Calls Try.prog 6 #[.int .i64 id0, sv v] w fun e w' => e = .returned (.bool true) ∧ Below w.heap.size w w' := by
  obtain ⟨x, hx, hx0, hx1⟩ := id_of id0
  obtain ⟨id, hidx⟩ : ∃ id, 1 + x = id := ⟨_, rfl⟩
  have hid : wf64 id := by unfold wf64; omega
  have hidI : isId id = true := isId_iff.2 ⟨by omega, by omega⟩
  obtain ⟨vb, vn, vc⟩ := v
  unfold sv at hI ⊢
  simp only at hI ⊢
  obtain ⟨rfl, hc1, hc2⟩ := slice_len hI
  have HI : Hid (In EP w (.slice vb l.length vc) l) := hI
  have HZ : Hid (∀ q ∈ l, PcZ q) := hZ
  have HT : Hid (∀ k, totP (l.take k) ≤ 1048576) := fun k => Nat.le_trans (totP_le l k) ht
  clear hI hZ ht
  go_enter Try.func6, Try.ntmps6
  go_wp2_with fail
  refine (first_any w).mono ?_
  rintro e w1 ⟨rfl, hB1⟩
  go_wp2_with fail
  refine (new_n w1 (fun k => k < w.heap.size) (fun k h => Nat.lt_of_lt_of_le h hB1.size)).mono ?_
  rintro e w2 ⟨p, rfl, h2, hB2⟩
  have hK : Kn (fun k => k < w.heap.size) w w2 := (Kn.of_below hB1 fun _ h => h).trans (Kn.of_below hB2 fun k h => Nat.lt_of_lt_of_le h hB1.size)
  have HN : Hid (∀ k, k < w.heap.size → (fun k => k < w.heap.size) k) := fun k h => h
  generalize (fun k => k < w.heap.size) = N at h2 hK HN
  have hst : Hid (Sn w2 N p St.new ∧ Wh St.new id ⟨#[]⟩ ⟨#[]⟩ false ∧ (∀ j, (St.new.b j).length ≤ totP (l.take 0)) ∧ (⟨#[]⟩ : ByteArray).size ≤ totP (l.take 0) ∧ Kn N w w2) := ⟨h2, ⟨rfl, rfl, rfl⟩, fun j => by rw [new_b]; simp, Nat.zero_le _, hK⟩
  clear h2 hK hB1 hB2
  go_wp2_with fail
  go_loopw [6, 7, 8, 9, 10, 11, 12, 13, 14, 15, 16] (fun ps gs kv _ _ _ _ _ _ _ _ wr => ∃ (k : Nat) (pt gt : ByteArray) (T : St), ps = .string pt ∧ gs = .string gt ∧ kv = .int .i64 (k : Int) ∧ k ≤ l.length ∧ Hid (Sn wr N p T ∧ Wh T id pt gt false ∧ (∀ j, (T.b j).length ≤ totP (l.take k)) ∧ pt.size ≤ totP (l.take k) ∧ Kn N w wr)) (fun _ _ kv _ _ _ _ _ _ _ _ _ => l.length - (intOf kv).toNat)
  case atStart => exact ⟨0, ⟨#[]⟩, ⟨#[]⟩, St.new, rfl, rfl, rfl, by omega, hst⟩
  case round =>
    obtain ⟨k, pt, gt, T, rfl, rfl, rfl, hk, hh⟩ := hrel
    obtain ⟨h3, hw3, hl3, hp3, hK3⟩ := hh.out
    clear hh hst
    by_cases hlt : k < l.length
    · have l1 : (k : Int) < (l.length : Int) := by omega
      obtain ⟨Bk, off, cap, e, hc⟩ := HI.out.pc k hlt
      injection e with e1 e2 e3
      subst e1
      clear e2 e3
      obtain ⟨d0, d1, d2, d3, d4⟩ := hc wr (hK3.below HN.out)
      clear hc
      have htot := totP_succ l k hlt
      have hto := HT.out (k + 1)
      obtain ⟨q, hq⟩ : ∃ q, l[k] = q := ⟨_, rfl⟩
      rw [hq] at d0 d1 d2 d3 d4 htot
      have hqz := HZ.out q (by rw [← hq]; exact List.getElem_mem hlt)
      clear hq
      obtain ⟨t, tk, tc, ts, to⟩ := q
      have HTS : Hid (wf64 ts) := hqz.s
      simp only at d0 d1 d2 d3 d4 htot
      clear hqz
      have hts : t.size ≤ 1048576 := by omega
      have hgl := hw3.len
      have hps : pt.size ≤ 1048576 := by omega
      have hgs : gt.size ≤ 1048576 := by omega
      have hpt : pt.size + t.size ≤ 1048576 := by omega
      have hb1 := bel1 wr (Obj.cells #[.string t, .int .i64 tk, .int .i64 tc, .int .i64 ts, .int .i64 to] 49)
      have h4 := h3.grow hb1
      have HNN : Hid ((∀ k, N k → Nw N wr (wr.alloc (Obj.cells #[.string t, .int .i64 tk, .int .i64 tc, .int .i64 ts, .int .i64 to] 49)) k) ∧ Nw N wr (wr.alloc (Obj.cells #[.string t, .int .i64 tk, .int .i64 tc, .int .i64 ts, .int .i64 to] 49)) wr.heap.size) := ⟨fun k h => .inl h, .inr ⟨Nat.le_refl _, by simp⟩⟩
      have HK1 : Hid (Kn N w (wr.alloc (Obj.cells #[.string t, .int .i64 tk, .int .i64 tc, .int .i64 ts, .int .i64 to] 49))) := hK3.trans (Kn.of_below hb1 h3.lt)
      generalize Nw N wr (wr.alloc (Obj.cells #[.string t, .int .i64 tk, .int .i64 tc, .int .i64 ts, .int .i64 to] 49)) = N1 at h4 HNN
      have hbox := heap_alloc_new wr (Obj.cells #[.string t, .int .i64 tk, .int .i64 tc, .int .i64 ts, .int .i64 to] 49)
      have HBX : Hid (∀ W, Kn N1 (wr.alloc (Obj.cells #[.string t, .int .i64 tk, .int .i64 tc, .int .i64 ts, .int .i64 to] 49)) W → W.heap[wr.heap.size]? = some (Obj.cells #[.string t, .int .i64 tk, .int .i64 tc, .int .i64 ts, .int .i64 to] 49)) := fun W hW => (hW.block _ HNN.out.2).trans hbox
      obtain ⟨z, hz, hz0, hz1⟩ := id_of to
      obtain ⟨oid, hoid⟩ : ∃ o, 1 + z = o := ⟨_, rfl⟩
      have hoi : wf64 oid := by unfold wf64; omega
      obtain ⟨r, hr⟩ : ∃ r, bits .and .i64 tk 1 = r := ⟨_, rfl⟩
      have H3 : Hid (Wh T id pt gt false) := hw3
      have HL : Hid (∀ j, (T.b j).length ≤ totP (l.take k)) := hl3
      have HTO : Hid (totP (l.take (k + 1)) = totP (l.take k) + t.size ∧ totP (l.take (k + 1)) ≤ 1048576 ∧ pt.size ≤ totP (l.take k)) := ⟨htot, hto, hp3⟩
      clear hw3 hl3 hbox h3 hK3 hb1 htot hto hp3 hgl
      by_cases hoe : oid = id
      · have he1 : (oid == id) = true := beq_iff_eq.2 hoe
        have HO : Hid (Oth T T id pt gt t.size) := Oth.refl H3.out _
        have HW5 : Hid (Kn N1 (wr.alloc (Obj.cells #[.string t, .int .i64 tk, .int .i64 tc, .int .i64 ts, .int .i64 to] 49)) (wr.alloc (Obj.cells #[.string t, .int .i64 tk, .int .i64 tc, .int .i64 ts, .int .i64 to] 49))) := ⟨rfl, rfl, rfl, Nat.le_refl _, fun _ _ => rfl⟩
        obtain ⟨w5, hw5⟩ : ∃ W, W = wr.alloc (Obj.cells #[.string t, .int .i64 tk, .int .i64 tc, .int .i64 ts, .int .i64 to] 49) := ⟨_, rfl⟩
        have KW5 := HW5.out
        clear HW5 hw5 w5
        have hbx := HBX.out (wr.alloc (Obj.cells #[.string t, .int .i64 tk, .int .i64 tc, .int .i64 ts, .int .i64 to] 49)) KW5
        have b0 := cell_blk hbx 0
        have b1 := cell_blk hbx 1
        have b2 := cell_blk hbx 2
        have b3 := cell_blk hbx 3
        have b4 := cell_blk hbx 4
        have hbl := heap_lt hbx
        clear hbx
        by_cases htk : tk ≤ 0
        · obtain ⟨p0, pw, pl⟩ := HO.out.w.put h4.ok hidI t
          obtain ⟨pt2, hpt2⟩ : ∃ q, pt ++ t = q := ⟨_, rfl⟩
          have hz5 : (T.b id).length + t.size ≤ 140737488355328 := by have := HO.out.l id; have := HL.out id; have := HTO.out; omega
          rw [hpt2] at pw
          have HPS : Hid (pt2.size = pt.size + t.size) := by show _ = _; rw [← hpt2, ByteArray.size_append]
          have HPW : Hid _ := pw
          have HPL : Hid (∀ j, ((T.put id t.data.toList false).b j).length ≤ totP (l.take (k + 1))) := fun j => by
            rw [pl j, HTO.out.1]
            split
            · rw [HO.out.b]; have := HL.out id; omega
            · have := HO.out.l j; have := HL.out j; omega
          clear pw pl
          go_wp2_with fail
          refine (put_n h4 id t false hid hz5).mono ?_
          rintro e w7 ⟨rfl, h7, hK7⟩
          rw [p0]
          have c7 := cell_blk (HBX.out w7 (KW5.trans hK7)) 0
          have c7l := heap_lt (HBX.out w7 (KW5.trans hK7))
          go_wp2_with fail
          go_roundw
          case rel => exact ⟨k + 1, pt2, gt, _, rfl, rfl, by simp, by omega, h7.less HNN.out.1, HPW.out, HPL.out, by have := HPS.out; have := HTO.out; omega, HK1.out.trans ((KW5.trans hK7).mono HNN.out.1)⟩
          case measure => simp [intOf]; omega
        · have hf1 : 1 ≤ tk := by omega
          have hfn : ¬ tk < 1 := by omega
          have hq1 := bel1 (wr.alloc (Obj.cells #[.string t, .int .i64 tk, .int .i64 tc, .int .i64 ts, .int .i64 to] 49)) (Obj.cells #[.int .i64 id, .int .i64 ts] 43)
          have hrd := ready_n (h4.below hq1) tc (some ⟨(wr.alloc (Obj.cells #[.string t, .int .i64 tk, .int .i64 tc, .int .i64 ts, .int .i64 to] 49)).heap.size, 0, none⟩, 1, 1) [(id, ts)] (in_left _ _ (id, ts) _ _ _ (heap_alloc_new _ _) rfl) (by intro y hy; simp at hy; subst hy; exact ⟨hid, HTS.out⟩) (by simp)
          obtain ⟨aL, acase⟩ := HO.out.w.ask h4.ok tc ts tk hf1
          have HRD : Hid (Calls Try.prog 17 #[.pointer (some ⟨p, 0, none⟩), .int .i64 tc, .slice (some ⟨(wr.heap.size + 1), 0, none⟩) 1 1] ((wr.alloc (Obj.cells #[.string t, .int .i64 tk, .int .i64 tc, .int .i64 ts, .int .i64 to] 49)).alloc (Obj.cells #[.int .i64 id, .int .i64 ts] 43)) fun e w' => ∃ (yb : Option Addr) (yc : Nat), e = .returned (.slice yb (T.ready tc (lf [(id, ts)])).length yc) ∧ R EI w' (.slice yb (T.ready tc (lf [(id, ts)])).length yc) (T.ready tc (lf [(id, ts)])) ∧ (∀ k, (Value.slice yb (T.ready tc (lf [(id, ts)])).length yc).ownBlock = some k → ((wr.alloc (Obj.cells #[.string t, .int .i64 tk, .int .i64 tc, .int .i64 ts, .int .i64 to] 49)).alloc (Obj.cells #[.int .i64 id, .int .i64 ts] 43)).heap.size ≤ k) ∧ Below ((wr.alloc (Obj.cells #[.string t, .int .i64 tk, .int .i64 tc, .int .i64 ts, .int .i64 to] 49)).alloc (Obj.cells #[.int .i64 id, .int .i64 ts] 43)).heap.size ((wr.alloc (Obj.cells #[.string t, .int .i64 tk, .int .i64 tc, .int .i64 ts, .int .i64 to] 49)).alloc (Obj.cells #[.int .i64 id, .int .i64 ts] 43)) w') := by
            have e : (wr.alloc (Obj.cells #[.string t, .int .i64 tk, .int .i64 tc, .int .i64 ts, .int .i64 to] 49)).heap.size = (wr.heap.size + 1) := by first | rfl | simp
            rw [← e]
            exact hrd
          clear hrd
          generalize hrl : T.ready tc (lf [(id, ts)]) = rl at acase HRD
          generalize rl.length = rn at HRD
          clear hrl
          --M1
          go_wp2_with fail
          --M2
          refine Calls.mono HRD.out ?_
          rintro e w6 ⟨yb, yc, rfl, hR6, hnew6, hB6⟩
          have hB6' := hq1.trans (hB6.mono hq1.size)
          have h6 := h4.below hB6'
          have KW6 : Kn N1 (wr.alloc (Obj.cells #[.string t, .int .i64 tk, .int .i64 tc, .int .i64 ts, .int .i64 to] 49)) w6 := KW5.trans (Kn.of_below hB6' h4.lt)
          have HHS : Hid (Calls Try.prog 18 #[.slice yb rn yc, .int .i64 id] w6 fun e w' => e = .returned (.bool (decide (id ∈ rl))) ∧ w' = w6) := has_any w6 _ rl id hR6.isIn
          --M25
          clear hR6 hnew6 hB6 hq1 hB6' b0 b1 b2 b3 b4 hbl
          have hbx := HBX.out w6 KW6
          have b0 := cell_blk hbx 0
          have b1 := cell_blk hbx 1
          have b2 := cell_blk hbx 2
          have b3 := cell_blk hbx 3
          have b4 := cell_blk hbx 4
          have hbl := heap_lt hbx
          clear hbx
          generalize decide (id ∈ rl) = nb at acase HHS
          have HAC : Hid _ := acase
          clear acase
          --M3
          go_wp2_with fail
          --M4
          refine Calls.mono HHS.out ?_
          rintro e w6 ⟨rfl, rfl⟩
          have hnx := next_n h6 id tc ts tk hid
          rw [aL] at hnx
          have HNX : Hid (Calls Try.prog 14 #[.pointer (some ⟨p, 0, none⟩), .int .i64 id, .int .i64 tc, .int .i64 ts, .int .i64 tk] w6 fun e w' => e = .returned (.tuple #[tx (T.nextP id tc ts tk), .bool false, .int .i64 (T.nextE id tc ts tk)]) ∧ Sn w' N1 p (T.next id tc ts tk) ∧ Kn N1 w6 w') := hnx
          clear hnx aL
          --M5
          go_wp2_with fail
          --M6
          refine Calls.mono HNX.out ?_
          rintro e w7 ⟨rfl, h7, hK7⟩
          have KW7 := KW6.trans hK7
          have hbx := HBX.out w7 KW7
          have e0 := cell_blk hbx 0
          have e1' := cell_blk hbx 1
          have e2 := cell_blk hbx 2
          have e3 := cell_blk hbx 3
          have e4 := cell_blk hbx 4
          have hbl7 := heap_lt hbx
          clear hbx HNX HHS HRD b0 b1 b2 b3 b4 hbl
          have h0e := ba_nil gt
          --M7
          rcases HAC.out with ⟨a1, a2, a3, rfl⟩ | ⟨a1, a3, rfl⟩ | ⟨a1, a3, rfl, qq, a4, a5, a6, a7, a8, a9, a10⟩
          · have hE0 : T.nextE id tc ts tk ≠ 0 := by rw [a3]; decide
            rw [next_same hE0] at h7
            rw [nextP_no hE0, a3, show tx [] = .string ⟨#[]⟩ from rfl]
            go_wp2_with fail
            refine (waits_n h7 id hid).mono ?_
            rintro e w8 ⟨rfl, hB8⟩
            rw [HO.out.w.e, a2]
            go_wp2_with fail
            go_roundw
            case rel => exact ⟨k + 1, pt, gt, _, rfl, rfl, by simp, by omega, (h7.below hB8).less HNN.out.1, HO.out.w, fun j => by have := HO.out.l j; have := HL.out j; have := HTO.out; omega, by have := HTO.out; omega, HK1.out.trans ((KW7.trans (Kn.of_below hB8 h7.lt)).mono HNN.out.1)⟩
            case measure => simp [intOf]; omega
          · have hE0 : T.nextE id tc ts tk ≠ 0 := by rw [a3]; decide
            rw [next_same hE0] at h7
            rw [nextP_no hE0, a3, show tx [] = .string ⟨#[]⟩ from rfl]
            have hpl := HO.out.w.len
            obtain ⟨bl, hbl8⟩ : ∃ n, (T.b id).length = n := ⟨_, rfl⟩
            rw [hbl8] at hpl
            have ne1 : ((gt.size : Int) == (pt.size : Int)) = false := beq_eq_false_iff_ne.2 (by omega)
            have eq1 : (pt.size : Int) - (gt.size : Int) = (bl : Int) := by omega
            clear hpl
            go_wp2_with fail
            refine (waits_n h7 id hid).mono ?_
            rintro e w8 ⟨rfl, hB8⟩
            rw [HO.out.w.e, hbl8]
            go_wp2_with fail
            go_roundw
            case rel => exact ⟨k + 1, pt, gt, _, rfl, rfl, by simp, by omega, (h7.below hB8).less HNN.out.1, HO.out.w, fun j => by have := HO.out.l j; have := HL.out j; have := HTO.out; omega, by have := HTO.out; omega, HK1.out.trans ((KW7.trans (Kn.of_below hB8 h7.lt)).mono HNN.out.1)⟩
            case measure => simp [intOf]; omega
          · rw [a3, a4]
            have ne1 : ((gt.size : Int) == (pt.size : Int)) = false := beq_eq_false_iff_ne.2 (by omega)
            have q0 : qq.toList.isEmpty = false := str_nil a5
            have q0' : ¬ qq.toList = [] := fun e => by rw [e] at q0; cases q0
            have q1 : decide (tk < (qq.size : Int)) = false := decide_eq_false (by omega)
            have q2 : decide (tc < (qq.size : Int)) = false := decide_eq_false (by omega)
            have q3 : decide (ts < (qq.size : Int)) = false := decide_eq_false (by omega)
            obtain ⟨g2, hg2⟩ : ∃ g, gt ++ qq = g := ⟨_, rfl⟩
            rw [hg2] at a9 a10
            obtain ⟨bl, hbl8⟩ : ∃ n, ((T.next id tc ts tk).b id).length = n := ⟨_, rfl⟩
            rw [hbl8] at a9
            have eq1 : (pt.size : Int) - (g2.size : Int) = (bl : Int) := by omega
            have qs : qq.size ≤ 1048576 := by have : g2.size = gt.size + qq.size := (by rw [← hg2, ByteArray.size_append]); omega
            have hgs2 : g2.size ≤ 1048576 := by omega
            have HLN : Hid (∀ j, ((T.next id tc ts tk).b j).length ≤ (T.b j).length) := fun j => next_len h4.ok id tc ts tk j
            have HE8 := a10.e
            have HW8 : Hid _ := a10
            clear a4 a9 a10
            go_wp2_with fail
            refine (waits_n h7 id hid).mono ?_
            rintro e w8 ⟨rfl, hB8⟩
            rw [HE8, hbl8]
            go_wp2_with fail
            go_roundw
            case rel => exact ⟨k + 1, pt, g2, _, rfl, rfl, by simp, by omega, (h7.below hB8).less HNN.out.1, HW8.out, fun j => by have := HLN.out j; have := HO.out.l j; have := HL.out j; have := HTO.out; omega, by have := HTO.out; omega, HK1.out.trans ((KW7.trans (Kn.of_below hB8 h7.lt)).mono HNN.out.1)⟩
            case measure => simp [intOf]; omega
      · have he1 : (oid == id) = false := beq_eq_false_iff_ne.2 hoe
        have HO : Hid (Oth T ((T.put oid t.data.toList (r == 1)).next oid 9 9 2) id pt gt t.size) := Oth.step H3.out h4.ok (fun e => hoe e.symm) t _ _ _ _
        have hz4 : (T.b oid).length + t.size ≤ 140737488355328 := by have := HL.out oid; have := HTO.out; omega
        go_wp2_with fail
        refine (put_n h4 oid t (r == 1) hoi hz4).mono ?_
        rintro e w4 ⟨rfl, h5, hK4⟩
        go_wp2_with fail
        refine (next_n h5 oid 9 9 2 hoi).mono ?_
        rintro e w5 ⟨rfl, h6o, hK5⟩
        have KW5 : Kn N1 (wr.alloc (Obj.cells #[.string t, .int .i64 tk, .int .i64 tc, .int .i64 ts, .int .i64 to] 49)) w5 := hK4.trans hK5
        clear hK4 hK5 h5 h4
        generalize (T.put oid t.data.toList (r == 1)).next oid 9 9 2 = T5 at h6o HO
        have hbx := HBX.out w5 KW5
        have b0 := cell_blk hbx 0
        have b1 := cell_blk hbx 1
        have b2 := cell_blk hbx 2
        have b3 := cell_blk hbx 3
        have b4 := cell_blk hbx 4
        have hbl := heap_lt hbx
        clear hbx
        by_cases htk : tk ≤ 0
        · obtain ⟨p0, pw, pl⟩ := HO.out.w.put h6o.ok hidI t
          obtain ⟨pt2, hpt2⟩ : ∃ q, pt ++ t = q := ⟨_, rfl⟩
          have hz5 : (T5.b id).length + t.size ≤ 140737488355328 := by have := HO.out.l id; have := HL.out id; have := HTO.out; omega
          rw [hpt2] at pw
          have HPS : Hid (pt2.size = pt.size + t.size) := by show _ = _; rw [← hpt2, ByteArray.size_append]
          have HPW : Hid _ := pw
          have HPL : Hid (∀ j, ((T5.put id t.data.toList false).b j).length ≤ totP (l.take (k + 1))) := fun j => by
            rw [pl j, HTO.out.1]
            split
            · rw [HO.out.b]; have := HL.out id; omega
            · have := HO.out.l j; have := HL.out j; omega
          clear pw pl
          go_wp2_with fail
          refine (put_n h6o id t false hid hz5).mono ?_
          rintro e w7 ⟨rfl, h7, hK7⟩
          rw [p0]
          have c7 := cell_blk (HBX.out w7 (KW5.trans hK7)) 0
          have c7l := heap_lt (HBX.out w7 (KW5.trans hK7))
          go_wp2_with fail
          go_roundw
          case rel => exact ⟨k + 1, pt2, gt, _, rfl, rfl, by simp, by omega, h7.less HNN.out.1, HPW.out, HPL.out, by have := HPS.out; have := HTO.out; omega, HK1.out.trans ((KW5.trans hK7).mono HNN.out.1)⟩
          case measure => simp [intOf]; omega
        · have hf1 : 1 ≤ tk := by omega
          have hfn : ¬ tk < 1 := by omega
          have hq1 := bel1 w5 (Obj.cells #[.int .i64 id, .int .i64 ts] 43)
          have hrd := ready_n (h6o.below hq1) tc (some ⟨w5.heap.size, 0, none⟩, 1, 1) [(id, ts)] (in_left _ _ (id, ts) _ _ _ (heap_alloc_new _ _) rfl) (by intro y hy; simp at hy; subst hy; exact ⟨hid, HTS.out⟩) (by simp)
          obtain ⟨aL, acase⟩ := HO.out.w.ask h6o.ok tc ts tk hf1
          have HRD : Hid (Calls Try.prog 17 #[.pointer (some ⟨p, 0, none⟩), .int .i64 tc, .slice (some ⟨w5.heap.size, 0, none⟩) 1 1] (w5.alloc (Obj.cells #[.int .i64 id, .int .i64 ts] 43)) fun e w' => ∃ (yb : Option Addr) (yc : Nat), e = .returned (.slice yb (T5.ready tc (lf [(id, ts)])).length yc) ∧ R EI w' (.slice yb (T5.ready tc (lf [(id, ts)])).length yc) (T5.ready tc (lf [(id, ts)])) ∧ (∀ k, (Value.slice yb (T5.ready tc (lf [(id, ts)])).length yc).ownBlock = some k → (w5.alloc (Obj.cells #[.int .i64 id, .int .i64 ts] 43)).heap.size ≤ k) ∧ Below (w5.alloc (Obj.cells #[.int .i64 id, .int .i64 ts] 43)).heap.size (w5.alloc (Obj.cells #[.int .i64 id, .int .i64 ts] 43)) w') := by
            have e : w5.heap.size = w5.heap.size := by first | rfl | simp
            rw [← e]
            exact hrd
          clear hrd
          generalize hrl : T5.ready tc (lf [(id, ts)]) = rl at acase HRD
          generalize rl.length = rn at HRD
          clear hrl
          --M1
          go_wp2_with fail
          --M2
          refine Calls.mono HRD.out ?_
          rintro e w6 ⟨yb, yc, rfl, hR6, hnew6, hB6⟩
          have hB6' := hq1.trans (hB6.mono hq1.size)
          have h6 := h6o.below hB6'
          have KW6 : Kn N1 (wr.alloc (Obj.cells #[.string t, .int .i64 tk, .int .i64 tc, .int .i64 ts, .int .i64 to] 49)) w6 := KW5.trans (Kn.of_below hB6' h6o.lt)
          have HHS : Hid (Calls Try.prog 18 #[.slice yb rn yc, .int .i64 id] w6 fun e w' => e = .returned (.bool (decide (id ∈ rl))) ∧ w' = w6) := has_any w6 _ rl id hR6.isIn
          --M25
          clear hR6 hnew6 hB6 hq1 hB6' b0 b1 b2 b3 b4 hbl
          have hbx := HBX.out w6 KW6
          have b0 := cell_blk hbx 0
          have b1 := cell_blk hbx 1
          have b2 := cell_blk hbx 2
          have b3 := cell_blk hbx 3
          have b4 := cell_blk hbx 4
          have hbl := heap_lt hbx
          clear hbx
          generalize decide (id ∈ rl) = nb at acase HHS
          have HAC : Hid _ := acase
          clear acase
          --M3
          go_wp2_with fail
          --M4
          refine Calls.mono HHS.out ?_
          rintro e w6 ⟨rfl, rfl⟩
          have hnx := next_n h6 id tc ts tk hid
          rw [aL] at hnx
          have HNX : Hid (Calls Try.prog 14 #[.pointer (some ⟨p, 0, none⟩), .int .i64 id, .int .i64 tc, .int .i64 ts, .int .i64 tk] w6 fun e w' => e = .returned (.tuple #[tx (T5.nextP id tc ts tk), .bool false, .int .i64 (T5.nextE id tc ts tk)]) ∧ Sn w' N1 p (T5.next id tc ts tk) ∧ Kn N1 w6 w') := hnx
          clear hnx aL
          --M5
          go_wp2_with fail
          --M6
          refine Calls.mono HNX.out ?_
          rintro e w7 ⟨rfl, h7, hK7⟩
          have KW7 := KW6.trans hK7
          have hbx := HBX.out w7 KW7
          have e0 := cell_blk hbx 0
          have e1' := cell_blk hbx 1
          have e2 := cell_blk hbx 2
          have e3 := cell_blk hbx 3
          have e4 := cell_blk hbx 4
          have hbl7 := heap_lt hbx
          clear hbx HNX HHS HRD b0 b1 b2 b3 b4 hbl
          have h0e := ba_nil gt
          --M7
          rcases HAC.out with ⟨a1, a2, a3, rfl⟩ | ⟨a1, a3, rfl⟩ | ⟨a1, a3, rfl, qq, a4, a5, a6, a7, a8, a9, a10⟩
          · have hE0 : T5.nextE id tc ts tk ≠ 0 := by rw [a3]; decide
            rw [next_same hE0] at h7
            rw [nextP_no hE0, a3, show tx [] = .string ⟨#[]⟩ from rfl]
            go_wp2_with fail
            refine (waits_n h7 id hid).mono ?_
            rintro e w8 ⟨rfl, hB8⟩
            rw [HO.out.w.e, a2]
            go_wp2_with fail
            go_roundw
            case rel => exact ⟨k + 1, pt, gt, _, rfl, rfl, by simp, by omega, (h7.below hB8).less HNN.out.1, HO.out.w, fun j => by have := HO.out.l j; have := HL.out j; have := HTO.out; omega, by have := HTO.out; omega, HK1.out.trans ((KW7.trans (Kn.of_below hB8 h7.lt)).mono HNN.out.1)⟩
            case measure => simp [intOf]; omega
          · have hE0 : T5.nextE id tc ts tk ≠ 0 := by rw [a3]; decide
            rw [next_same hE0] at h7
            rw [nextP_no hE0, a3, show tx [] = .string ⟨#[]⟩ from rfl]
            have hpl := HO.out.w.len
            obtain ⟨bl, hbl8⟩ : ∃ n, (T5.b id).length = n := ⟨_, rfl⟩
            rw [hbl8] at hpl
            have ne1 : ((gt.size : Int) == (pt.size : Int)) = false := beq_eq_false_iff_ne.2 (by omega)
            have eq1 : (pt.size : Int) - (gt.size : Int) = (bl : Int) := by omega
            clear hpl
            go_wp2_with fail
            refine (waits_n h7 id hid).mono ?_
            rintro e w8 ⟨rfl, hB8⟩
            rw [HO.out.w.e, hbl8]
            go_wp2_with fail
            go_roundw
            case rel => exact ⟨k + 1, pt, gt, _, rfl, rfl, by simp, by omega, (h7.below hB8).less HNN.out.1, HO.out.w, fun j => by have := HO.out.l j; have := HL.out j; have := HTO.out; omega, by have := HTO.out; omega, HK1.out.trans ((KW7.trans (Kn.of_below hB8 h7.lt)).mono HNN.out.1)⟩
            case measure => simp [intOf]; omega
          · rw [a3, a4]
            have ne1 : ((gt.size : Int) == (pt.size : Int)) = false := beq_eq_false_iff_ne.2 (by omega)
            have q0 : qq.toList.isEmpty = false := str_nil a5
            have q0' : ¬ qq.toList = [] := fun e => by rw [e] at q0; cases q0
            have q1 : decide (tk < (qq.size : Int)) = false := decide_eq_false (by omega)
            have q2 : decide (tc < (qq.size : Int)) = false := decide_eq_false (by omega)
            have q3 : decide (ts < (qq.size : Int)) = false := decide_eq_false (by omega)
            obtain ⟨g2, hg2⟩ : ∃ g, gt ++ qq = g := ⟨_, rfl⟩
            rw [hg2] at a9 a10
            obtain ⟨bl, hbl8⟩ : ∃ n, ((T5.next id tc ts tk).b id).length = n := ⟨_, rfl⟩
            rw [hbl8] at a9
            have eq1 : (pt.size : Int) - (g2.size : Int) = (bl : Int) := by omega
            have qs : qq.size ≤ 1048576 := by have : g2.size = gt.size + qq.size := (by rw [← hg2, ByteArray.size_append]); omega
            have hgs2 : g2.size ≤ 1048576 := by omega
            have HLN : Hid (∀ j, ((T5.next id tc ts tk).b j).length ≤ (T5.b j).length) := fun j => next_len h6o.ok id tc ts tk j
            have HE8 := a10.e
            have HW8 : Hid _ := a10
            clear a4 a9 a10
            go_wp2_with fail
            refine (waits_n h7 id hid).mono ?_
            rintro e w8 ⟨rfl, hB8⟩
            rw [HE8, hbl8]
            go_wp2_with fail
            go_roundw
            case rel => exact ⟨k + 1, pt, g2, _, rfl, rfl, by simp, by omega, (h7.below hB8).less HNN.out.1, HW8.out, fun j => by have := HLN.out j; have := HO.out.l j; have := HL.out j; have := HTO.out; omega, by have := HTO.out; omega, HK1.out.trans ((KW7.trans (Kn.of_below hB8 h7.lt)).mono HNN.out.1)⟩
            case measure => simp [intOf]; omega
    · obtain rfl : k = l.length := by omega
      go_wp2_with fail
      refine (rest_any wr N p T id pt gt hidI h3 hw3 (by have := HT.out l.length; omega)).mono ?_
      rintro e w4 ⟨rfl, hK4⟩
      go_wp2_with fail
      go_ret
      exact ⟨rfl, (hK3.trans hK4).below HN.out⟩
end Go.Proofs.Ytbmaknjeflblcaa
