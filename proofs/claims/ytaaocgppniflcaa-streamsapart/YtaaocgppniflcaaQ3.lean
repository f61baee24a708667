/- StreamsApart. -/
import Derived.Test.YtaaocgppniflcaaQ0
namespace Go.Proofs.Ytaaocgppniflcaa
open Go.RowKit Go.Maps
set_option linter.unusedVariables false
set_option linter.unusedSimpArgs false

theorem ty_neA {W : World} {q p b : Nat} {T : Tb} {c : Array Value} {t : TypeId} {fz : Nat × Nat} (h : W.heap[q]? = some (.cells c t fz)) (ti : TI W p b T) (ht : t ≠ 61) : ¬ (q = p ∨ q = b) := by
  rintro (e | e)
  · rw [e, ti.blk] at h; injection h with h; injection h with _ h; exact ht h.symm
  · obtain ⟨es, clock, hb, _⟩ := ti.mp
    rw [e, hb] at h
    cases h
theorem Tw.kept {w W W' : World} {p0 b0 p1 b1 : Nat} {A B : Tb} {S : Nat → Prop} (h : Tw w W p0 b0 p1 b1 A B) (hk : Ks S W W') (hS : ∀ i, S i → w.heap.size ≤ i ∧ ∃ c t fz, W.heap[i]? = some (.cells c t fz) ∧ t ≠ 61) : Tw w W' p0 b0 p1 b1 A B := by
  have a : ∀ {p b : Nat} {T : Tb}, TI W p b T → TI W' p b T := fun {p b T} ti => by
    have n1 : ∀ i, i = p ∨ i = b → ¬ S i := fun i hi hs => by
      obtain ⟨_, c, t, fz, h1, h2⟩ := hS i hs
      exact ty_neA h1 ti h2 hi
    exact ti.stays (hk.block _ ti.lt (n1 _ (.inl rfl))) (hk.block _ ti.mlt (n1 _ (.inr rfl)))
  exact { h with t0 := a h.t0, t1 := a h.t1, bel := h.bel.trans ⟨hk.os, hk.tape, hk.output, hk.size, fun i hi => hk.block i (Nat.lt_of_lt_of_le hi h.sz) (fun hs => by have := (hS i hs).1; omega)⟩ }
theorem set_I (l : List Int) (j : Nat) (x : Int) : EI.cs (l.set j x) = (EI.cs l).set j (.int .i64 x) := by
  rw [cs_I, cs_I, List.map_set]
theorem R.setAt {w : World} {v : Value} {l : List Int} (h : R EI w v l) (j : Nat) (hj : j < l.length) (x : Int) : ∃ g cap, v = .slice (some ⟨g, 0, none⟩) l.length cap ∧ l.length ≤ cap ∧ cap ≤ 9223372036854775807 ∧ g < w.heap.size ∧
    (∃ u, w.cell? ⟨g, j, none⟩ = some u) ∧ w.frozen? ⟨g, j, none⟩ = false ∧ R EI (w.setCell ⟨g, j, none⟩ (.int .i64 x)) v (l.set j x) := by
  obtain ⟨B, off, cap, e, hB, d⟩ := h.isIn.int j hj
  obtain ⟨h3, h4⟩ := h
  rcases h4 with ⟨hv, h0⟩ | ⟨g', cap', cur, hv, hb, hg, hn, hm, hs, ht⟩
  · omega
  · rw [hv] at e
    injection e with e1 e2 e3
    injection e1 with e1
    injection e1 with e1 e4
    subst e1
    subst e3
    subst e4
    subst hv
    rw [Nat.zero_add] at d
    refine ⟨g', cap', rfl, hn, by unfold maxLen at hm; omega, (Array.getElem?_eq_some_iff.1 hg).1, ⟨_, d⟩, by simp [World.frozen?, hg], by rw [okI.length], .inr ⟨g', cap', cur.setIfInBounds j (.int .i64 x), by rw [List.length_set], hb, ?_, by rw [List.length_set]; exact hn, hm, by simp [hs], ?_⟩⟩
    · exact setCell_block _ _ _ _ _ _ _ hg
    · rw [List.length_set, set_I, ← ht]
      simp only [Array.toList_setIfInBounds, List.take_set]
theorem R.front {w : World} {base : Option Addr} {cap : Nat} {l r : List Int} (h : R EI w (.slice base (l.length + r.length) cap) (l ++ r)) : R EI w (.slice base l.length cap) l := by
  obtain ⟨h1, h2⟩ := h
  refine ⟨okI.length l, ?_⟩
  rcases h2 with ⟨hv, h0⟩ | ⟨g, cap', cur, hv, hb, hg, hn, hm, hs, ht⟩
  · injection hv with e1 e2 e3
    rw [List.length_append] at h0
    have : l.length = 0 := by omega
    exact .inl ⟨by rw [e1, e3, this], this⟩
  · injection hv with e1 e2 e3
    subst e1
    subst e3
    rw [List.length_append] at hn ht
    refine .inr ⟨g, cap, cur, rfl, hb, hg, by omega, hm, hs, ?_⟩
    have e : cur.toList.take (l.length * EI.sz) = (cur.toList.take ((l.length + r.length) * EI.sz)).take (l.length * EI.sz) := by rw [List.take_take, Nat.min_eq_left (Nat.mul_le_mul_right _ (by omega))]
    rw [e, ht, El.cs_append, List.take_append_of_le_length (by rw [okI.length]; exact Nat.le_refl _), List.take_of_length_le (by rw [okI.length]; exact Nat.le_refl _)]
/-- append of one number: what is told, and what it was appended to -/
theorem app_both (w : World) (o : Value) (l : List Int) (hR : R EI w o l) (B : Nat) (x : Int) (hc : w.heap[B]? = some (.cells #[.int .i64 x] 2)) (hlen : (l.length + 1) * 8 ≤ 140737488355328) :
    ∃ base cap w', (Builtin.append_ #[30, 30] 30 #[o, .slice (some ⟨B, 0, none⟩) 1 1]).run Try.prog w = .ok (.slice base (l.length + 1) cap) w' ∧ R EI w' (.slice base (l.length + 1) cap) (l ++ [x]) ∧ R EI w' o l ∧ Gr w w' o (.slice base (l.length + 1) cap) := by
  obtain ⟨base, cap, w', hrun, hP, hG⟩ := app okI w o l hR (.slice (some ⟨B, 0, none⟩) 1 1) [x] (in_one _ _ x _ _ _ hc rfl) (by simpa [EI] using hlen)
  refine ⟨base, cap, w', hrun, hP, ?_, hG⟩
  replace hrun : (Builtin.append_ #[30, 30] 30 #[o, .slice (some ⟨B, 0, none⟩) 1 1]).run Try.prog w = .ok (.slice base (l.length + 1) cap) w' := hrun
  rcases hR.2 with ⟨rfl, h0⟩ | ⟨g, cap0, cur, rfl, _, hgg, hnc, _, hcs, _⟩
  · obtain rfl := List.eq_nil_of_length_eq_zero h0
    exact R.nil EI _
  · obtain ⟨i0, z, hi0, hz0, hz1, hz2, hz3⟩ := info_z okI
    have hcell : ∀ j u, ([.int .i64 x] : List Value)[j]? = some u → w.cell? ((⟨B, 0, none⟩ : Addr).add j) = some u := by
      intro j u hj
      rw [Addr.add_lit, cell_blk hc, Nat.zero_add]
      simpa using hj
    have hone : ∀ u ∈ ([.int .i64 x] : List Value), u.oneCell' = true := by simp [Value.oneCell']
    by_cases hroom : l.length + 1 ≤ cap0
    · have hr := run_append_room (P := Try.prog) w 30 30 2 i0 Try.underlying30 hi0 g l.length cap0 cur hgg ⟨B, 0, none⟩ 1 1 [.int .i64 x] (by rw [hz1]; rfl) hcell hone hroom (by rw [hcs, hz1]; simp [EI]; omega)
      rw [hrun] at hr
      injection hr with hr _
      injection hr with e1 e2 e3
      subst e1
      subst e3
      exact R.front (r := [x]) hP
    · have hr := run_append_grow (P := Try.prog) w 30 30 2 i0 z Try.underlying30 hi0 hz0 ⟨g, 0, none⟩ l.length cap0 (EI.cs l) (by rw [okI.length, hz1]) (World.ownsRow.cells hR (g := g) rfl) ⟨B, 0, none⟩ 1 1 [.int .i64 x] (by rw [hz1]; rfl) hcell (by omega) (by omega) (growslice_fits (by omega) (by rw [hz2]; simp [EI]; omega))
      rw [hrun] at hr
      injection hr with hr hw
      subst hw
      refine hR.stays fun k hk hlt => ?_
      rw [heap_al, if_neg (by rw [size_dr]; omega), heap_dr]

set_option maxRecDepth 100000 in
set_option maxHeartbeats 8000000 in
theorem streamsApart_any (cl : Bool) (v : Value) (os : List OP) (w : World) (ho : In EO w v os) (hi : ∀ o ∈ os, I64 o.2.1) :
    Calls Try.prog 3 #[.bool cl, v] w fun e w' => e = .returned (.bool true) ∧ Below w.heap.size w w' := by
  have HO : Hid (In EO w v os) := ho
  have HI : Hid (∀ o ∈ os, I64 o.2.1) := hi
  obtain ⟨vb, vc, rfl, hv1, hv2⟩ := ho.slice
  clear ho hi
  obtain ⟨n, hn⟩ : ∃ n, os.length = n := ⟨_, rfl⟩
  have HN : Hid (os.length = n) := hn
  rw [hn] at HO hv1 ⊢
  clear hn
  go_enter Try.func3, Try.ntmps3
  go_wp2_with fail
  refine (new_at cl _).mono ?_
  rintro e w1 ⟨p0, b0, rfl, t0, hB0, n0, m0⟩
  go_wp2_with fail
  refine (new_at cl _).mono ?_
  rintro e w2 ⟨p1, b1, rfl, t1, hB1, n1, m1⟩
  have hT := Tw.start hB0 t0 n0 m0 t1 hB1 n1 m1
  clear hB0 t0 n0 m0 t1 hB1 n1 m1
  go_wp2_with fail
  refine (first_any _).mono ?_
  rintro e w3 ⟨rfl, hB3⟩
  have HT : Hid (Tw w w3 p0 b0 p1 b1 (Tb.new cl) (Tb.new cl)) := hT.below hB3
  clear hT hB3
  go_wp2_with fail
  go_loopw [7] (fun x wr => ∃ (k : Nat) (A : Tb), k ≤ n ∧ x = .int .i64 (k : Int) ∧ Hid (Tw w wr p0 b0 p1 b1 A (Tb.new cl))) (fun x _ => n - (intOf x).toNat)
  case atStart => exact ⟨0, _, by omega, rfl, HT⟩
  case round =>
    obtain ⟨k, A, hk, hx, hT⟩ := hrel
    subst hx
    clear HT
    by_cases hlt : k < n
    · have hl := HN.out
      have hin := HO.out.below (hT.out.bel)
      obtain ⟨B', off, cap, e, hBl, d0, d1, d2, d3⟩ := hin.op k (by omega)
      injection e with e1 e2 e3
      subst e1
      clear e2 e3 hin
      have hio := HI.out _ (List.getElem_mem (show k < os.length by omega))
      obtain ⟨o, hoo⟩ : ∃ o, os[k]'(by omega) = o := ⟨_, rfl⟩
      rw [hoo] at d0 d1 d2 d3 hio
      clear hoo hl
      obtain ⟨two, oid, g, kd⟩ := o
      simp only at d0 d1 d2 d3 hio
      have hdn := done_any wr p0 b0 A two oid g kd hT.out.t0 hio
      go_wp2_with fail
      refine hdn.mono ?_
      rintro e w5 ⟨rfl, ht5, hk5⟩
      have hT5 := hT.out.do0 ht5 hk5
      clear hdn ht5 hk5
      go_wp2_with fail
      go_roundw
      case rel => exact ⟨k + 1, _, by omega, by simp, hT5⟩
      case measure => simp [intOf]; omega
    · obtain rfl : k = n := by omega
      have hT1 := hT.out
      have hln : A.live.length ≤ 2147483647 := by
        refine Nat.le_trans ?_ hT1.t0.ok.length
        unfold Tb.live
        rw [List.length_map]
        exact List.length_filter_le _ _
      have hl1 := live_any wr p0 b0 A hT1.t0
      obtain ⟨l, hl⟩ : ∃ l, A.live = l := ⟨_, rfl⟩
      have HL : Hid (A.live = l) := hl
      have HLN : Hid (A.live.length ≤ 2147483647) := hln
      have HT0 : Hid (Tw w wr p0 b0 p1 b1 A (Tb.new cl)) := hT1
      clear hT hT1 hln hl
      go_wp2_with fail
      refine hl1.mono ?_
      rintro e w5 ⟨va, rfl, hRa, hna, hB5⟩
      have HT1 : Hid (Tw w w5 p0 b0 p1 b1 A (Tb.new cl)) := HT0.out.below hB5
      have HNA : Hid (∀ i, va.ownBlock = some i → w.heap.size ≤ i) := fun i hi => Nat.le_trans HT0.out.sz (hna i hi)
      have HRa : Hid (R EI w5 va A.live) := hRa
      have hl2 := live_any w5 p0 b0 A HT1.out.t0
      clear hl1 hB5 HT0 hRa hna
      go_wp2_with fail
      refine hl2.mono ?_
      rintro e w6 ⟨vb2, rfl, hRb, hnb, hB6⟩
      have HAB : Hid (∀ i, va.ownBlock = some i → vb2.ownBlock ≠ some i) := fun i hi e => by
        have h1 := HRa.out.lt i hi
        have h2 := hnb i e
        omega
      have HT2 : Hid (Tw w w6 p0 b0 p1 b1 A (Tb.new cl)) := HT1.out.below hB6
      have HRa2 : Hid (R EI w6 va l) := by rw [← HL.out]; exact HRa.out.below hB6
      have HRb2 : Hid (R EI w6 vb2 l) := by rw [← HL.out]; exact hRb
      have hln : l.length ≤ 2147483647 := by rw [← HL.out]; exact HLN.out
      obtain ⟨kb, kc, w7, hrun, hRk, hG7⟩ := app okI w6 (.slice none 0 0) [] (R.nil EI _) va l HRa2.out.isIn (by simp [EI]; omega)
      have hak : ∀ i, va.ownBlock = some i → (Value.slice kb ([].length + l.length) kc).ownBlock ≠ some i := fun i hi e => by
        have h1 := HRa2.out.lt i hi
        have h2 := hG7.new i e
        omega
      have hB7 := hG7.fresh
      simp only [List.length_nil, Nat.zero_add, List.nil_append] at hrun hRk hak
      have HT7 : Hid (Tw w w7 p0 b0 p1 b1 A (Tb.new cl)) := HT2.out.below hB7
      have hRa7 := HRa2.out.below hB7
      have hRb7 := HRb2.out.below hB7
      obtain ⟨ab, ac, hva, hac1, hac2⟩ := hRa7.slice
      obtain ⟨bb, bc, hvb, hbc1, hbc2⟩ := hRb7.slice
      have hkc := hRk.slice
      obtain ⟨kb', kc', hkk, hkc1, hkc2⟩ := hkc
      injection hkk with hk1 hk2 hk3
      rw [← hk3] at hkc1 hkc2
      clear hk1 hk2 hk3
      have hrun7 : Hid ((Builtin.append_ #[30, 30] 30 #[.slice none 0 0, va]).run Try.prog w6 = .ok (.slice kb l.length kc) w7) := hrun
      have HRa7 : Hid (R EI w7 va l) := hRa7
      have HRb7 : Hid (R EI w7 vb2 l) := hRb7
      have HRk7 : Hid (R EI w7 (.slice kb l.length kc) l) := hRk
      have HAK : Hid (∀ i, va.ownBlock = some i → (Value.slice kb l.length kc).ownBlock ≠ some i) := hak
      clear hl2 hB6 hrun hG7 hB7 hRa7 hRb7 hRb hRk hnb hak HT1 HT2 HRa HRa2 HRb2 HLN
      obtain ⟨m, hm⟩ : ∃ m, l.length = m := ⟨_, rfl⟩
      have HM : Hid (l.length = m) := hm
      rw [hm] at hrun7 HRk7 HAK hln hva hvb hac1 hbc1 hkc1
      clear hm
      subst hva
      subst hvb
      go_wp2_with (at_builtin; refine Lib.wpList_append_run _ rfl (.tmp 44) (.tmp 45) 30 30 rfl _ _ rfl rfl _ _ hrun7.out ?_)
      go_loopw [11] (fun x wr => ∃ (j : Nat), j ≤ m ∧ x = .int .i64 (j : Int) ∧ Hid (Tw w wr p0 b0 p1 b1 A (Tb.new cl)) ∧ Hid (R EI wr (.slice ab m ac) (List.replicate j (-7) ++ l.drop j)) ∧ Hid (R EI wr (.slice bb m bc) l) ∧ Hid (R EI wr (.slice kb m kc) l)) (fun x _ => m - (intOf x).toNat)
      case atStart => exact ⟨0, by omega, rfl, HT7, HRa7, HRb7, HRk7⟩
      case round =>
        obtain ⟨j, hj, hx, hT, hRa, hRb, hRk⟩ := hrel
        subst hx
        clear HT7 HRa7 HRb7 HRk7 hrun7
        by_cases hlt : j < m
        · have hll : (List.replicate j (-7 : Int) ++ l.drop j).length = m := by simp [HM.out]; omega
          obtain ⟨g, cap, e, _, _, hgl, ⟨u, hu⟩, hfz, hR2⟩ := hRa.out.setAt j (by omega) (-7)
          have hset : (List.replicate j (-7 : Int) ++ l.drop j).set j (-7) = List.replicate (j + 1) (-7) ++ l.drop (j + 1) := by
            have hd : l.drop j = l[j]'(by rw [HM.out]; exact hlt) :: l.drop (j + 1) := List.drop_eq_getElem_cons _
            rw [List.set_append_right _ _ (by simp), hd, List.replicate_succ', List.append_assoc]
            simp only [List.length_replicate, Nat.sub_self, List.set_cons_zero]
            rfl
          rw [hset] at hR2
          injection e with e1 e2 e3
          subst e1
          obtain ⟨cc, hcc⟩ := hRa.out.ty g rfl
          have hT2 : Hid (Tw w (wr.setCell ⟨g, j, none⟩ (.int .i64 (-7))) p0 b0 p1 b1 A (Tb.new cl)) := hT.out.kept (Ks.setCell (fun i => i = g) wr g j _ rfl) (fun i hi => by subst hi; exact ⟨HNA.out _ rfl, cc, 2, (0, 0), hcc, by decide⟩)
          have hRb2 : Hid (R EI (wr.setCell ⟨g, j, none⟩ (.int .i64 (-7))) (.slice bb m bc) l) := hRb.out.stays fun i hi _ => setCell_other _ _ _ _ _ (fun e => HAB.out g rfl (e ▸ hi))
          have hRk2 : Hid (R EI (wr.setCell ⟨g, j, none⟩ (.int .i64 (-7))) (.slice kb m kc) l) := hRk.out.stays fun i hi _ => setCell_other _ _ _ _ _ (fun e => HAK.out g rfl (e ▸ hi))
          have hRa2 : Hid _ := hR2
          clear e2 e3 hset hR2 hcc hll
          go_wp2_with fail
          go_roundw
          case rel => exact ⟨j + 1, by omega, by simp, hT2, hRa2, hRb2, hRk2⟩
          case measure => simp [intOf]; omega
        · obtain rfl : j = m := by omega
          have hl7 : List.replicate j (-7 : Int) ++ l.drop j = List.replicate j (-7) := by rw [List.drop_of_length_le (by rw [HM.out]; exact Nat.le_refl _)]; simp
          have hRa7 := hRa.out
          rw [hl7] at hRa7
          obtain ⟨gb, gc, w9, hrun, hRg, hRa9, hG⟩ := app_both (wr.alloc (.cells #[.int .i64 (-8)] 2)) (.slice ab j ac) (List.replicate j (-7)) (hRa7.below (bel1 _ _)) wr.heap.size (-8) (heap_alloc_new _ _) (by simp; omega)
          simp only [List.length_replicate] at hrun hRg hG
          have hrun9 : Hid ((Builtin.append_ #[30, 30] 30 #[.slice ab j ac, .slice (some ⟨wr.heap.size, 0, none⟩) 1 1]).run Try.prog (wr.alloc (.cells #[.int .i64 (-8)] 2)) = .ok (.slice gb (j + 1) gc) w9) := hrun
          have hTa := hT.out.below (bel1 wr (.cells #[.int .i64 (-8)] 2))
          have HT9 : Hid (Tw w w9 p0 b0 p1 b1 A (Tb.new cl)) := hTa.kept (Ks.of_gr hG) (fun i hi => by
            obtain ⟨cc, hcc⟩ := (hRa7.below (bel1 wr (.cells #[.int .i64 (-8)] 2))).ty i hi
            exact ⟨HNA.out _ hi, cc, 2, (0, 0), hcc, by decide⟩)
          have HRb9 : Hid (R EI w9 (.slice bb j bc) l) := (hRb.out.below (bel1 _ _)).stays fun i hi hl => hG.block i hl (fun e => HAB.out i e hi)
          have HRk9 : Hid (R EI w9 (.slice kb j kc) l) := (hRk.out.below (bel1 _ _)).stays fun i hi hl => hG.block i hl (fun e => HAK.out i e hi)
          have HRa9 : Hid (R EI w9 (.slice ab j ac) (List.replicate j (-7))) := hRa9
          have HRg9 : Hid (R EI w9 (.slice gb (j + 1) gc) (List.replicate j (-7) ++ [-8])) := hRg
          obtain ⟨_, gc', hgg, hgc1, hgc2⟩ := hRg.slice
          injection hgg with hg1 hg2 hg3
          rw [← hg3] at hgc1 hgc2
          simp only [List.length_append, List.length_replicate, List.length_singleton] at hgc1
          clear hg1 hg2 hg3 hl7 hRa7 hrun hRg hRa9 hG hTa hT hRa hRb hRk
          go_wp2_with (at_builtin; refine Lib.wpList_append_run _ rfl (.tmp 56) (.tmp 57) 30 30 rfl _ _ rfl rfl _ _ hrun9.out ?_)
          clear hrun9
          go_loopw [13] (fun x wz => ∃ (i : Nat), i ≤ j ∧ x = .int .i64 (i : Int) ∧ Below w9.heap.size w9 wz) (fun x _ => j - (intOf x).toNat)
          case atStart => exact ⟨0, by omega, rfl, Below.refl _ _⟩
          case round =>
            obtain ⟨i, hi, hx, hBz⟩ := hrel
            subst hx
            by_cases hlt2 : i < j
            · have hlm := HM.out
              obtain ⟨B1, o1, c1, e1, hB1, d1⟩ := (HRb9.out.below hBz).isIn.int i (by omega)
              obtain ⟨B2, o2, c2, e2, hB2, d2⟩ := (HRk9.out.below hBz).isIn.int i (by omega)
              obtain ⟨B3, o3, c3, e3, hB3, d3⟩ := (HRa9.out.below hBz).isIn.int i (by simp; omega)
              obtain ⟨B4, o4, c4, e4, hB4, d4⟩ := (HRg9.out.below hBz).isIn.int i (by simp; omega)
              injection e1 with e1 ex ey; clear ex ey
              injection e2 with e2 ex ey; clear ex ey
              injection e3 with e3 ex ey; clear ex ey
              injection e4 with e4 ex ey; clear ex ey
              subst e1
              subst e2
              subst e3
              subst e4
              have g3 : (List.replicate j (-7 : Int))[i]'(by simp; omega) = -7 := by simp
              have g4 : (List.replicate j (-7 : Int) ++ [-8])[i]'(by simp; omega) = -7 := by
                rw [List.getElem_append_left (by simpa using hlt2)]; simp
              rw [g3] at d3
              rw [g4] at d4
              obtain ⟨x, hx⟩ : ∃ x, l[i]'(by omega) = x := ⟨_, rfl⟩
              rw [hx] at d1 d2
              clear g3 g4 hx hlm
              have q0 : (x != x) = false := by simp
              go_wp2_with fail
              go_quiet (fail)
              go_wp2_with fail
              go_roundw
              case rel => exact ⟨i + 1, by omega, by simp, hBz.os, hBz.tape, hBz.output, hBz.size, hBz.block⟩
              case measure => simp [intOf]; omega
            · obtain rfl : i = j := by omega
              have HTz : Hid (Tw w wr p0 b0 p1 b1 A (Tb.new cl)) := HT9.out.below hBz
              have HRkz : Hid (R EI wr (.slice kb i kc) l) := HRk9.out.below hBz
              have HRgz : Hid (R EI wr (.slice gb (i + 1) gc) (List.replicate i (-7) ++ [-8])) := HRg9.out.below hBz
              clear HT9 HRk9 HRg9 HRa9 HRb9 hBz HNA HAB HAK hlt2
              have hl1 := live_any wr p0 b0 A HTz.out.t0
              go_wp2_with fail
              refine hl1.mono ?_
              rintro e wa ⟨v1, rfl, hR1, _, hBa⟩
              rw [HL.out] at hR1
              have HTa : Hid (Tw w wa p0 b0 p1 b1 A (Tb.new cl)) := HTz.out.below hBa
              have HRka : Hid (R EI wa (.slice kb i kc) l) := HRkz.out.below hBa
              have HRga : Hid (R EI wa (.slice gb (i + 1) gc) (List.replicate i (-7) ++ [-8])) := HRgz.out.below hBa
              have hsm := sameInts_eq wa v1 (.slice kb i kc) l hR1.isIn HRka.out.isIn
              clear hl1 hBa hR1 HTz HRkz HRgz
              go_wp2_with fail
              refine hsm.mono ?_
              rintro e wb ⟨rfl, hBb⟩
              have HTb : Hid (Tw w wb p0 b0 p1 b1 A (Tb.new cl)) := HTa.out.below hBb
              have HRgb : Hid (R EI wb (.slice gb (i + 1) gc) (List.replicate i (-7) ++ [-8])) := HRga.out.below hBb
              have hl2 := live_any wb p1 b1 (Tb.new cl) HTb.out.t1
              rw [show (Tb.new cl).live = [] from rfl] at hl2
              clear hsm hBb HTa HRka HRga
              go_wp2_with fail
              refine hl2.mono ?_
              rintro e wd ⟨v2, rfl, hR2, _, hBd⟩
              obtain ⟨v2b, v2c, hv2e, _, _⟩ := hR2.slice
              subst hv2e
              have HTd : Hid (Tw w wd p0 b0 p1 b1 A (Tb.new cl)) := HTb.out.below hBd
              have HRgd : Hid (R EI wd (.slice gb (i + 1) gc) (List.replicate i (-7) ++ [-8])) := HRgb.out.below hBd
              have hla := last_any wd p1 b1 (Tb.new cl) true HTd.out.t1
              rw [show (Tb.new cl).last true = 0 from rfl] at hla
              have hlb := last_any wd p1 b1 (Tb.new cl) false HTd.out.t1
              rw [show (Tb.new cl).last false = 0 from rfl] at hlb
              have hst := state_any wd p1 b1 (Tb.new cl) 1 HTd.out.t1 one_i
              rw [show (Tb.new cl).st 1 = 0 from by cases cl <;> rfl] at hst
              clear hl2 hR2 hBd HTb HRgb
              go_wp2_with fail
              refine hla.mono ?_
              rintro e wd ⟨rfl, rfl⟩
              clear hla
              go_wp2_with fail
              refine hlb.mono ?_
              rintro e wd ⟨rfl, rfl⟩
              clear hlb
              go_wp2_with fail
              refine hst.mono ?_
              rintro e we ⟨rfl, hBe⟩
              have hfin : Hid (Below w.heap.size w we) := HTd.out.bel.trans (hBe.mono HTd.out.sz)
              obtain ⟨B4, o4, c4, e4, hB4, d4⟩ := (HRgd.out.below hBe).isIn.int i (by simp)
              injection e4 with e4 ex ey; clear ex ey
              subst e4
              have g4 : (List.replicate i (-7 : Int) ++ [-8])[i]'(by simp) = -8 := by
                rw [List.getElem_append_right (by simp)]; simp
              rw [g4] at d4
              clear hst HTd HRgd hBe g4
              go_wp2
              go_ret
              exact ⟨rfl, hfin.out⟩
end Go.Proofs.Ytaaocgppniflcaa
