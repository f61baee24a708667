/- The document's share: Ready walked. -/
import Derived.Test.YtbmaknjeflblcaaF5
namespace Go.Proofs.Ytbmaknjeflblcaa
open Go.RowKit Go.Maps
set_option linter.unusedVariables false
set_option linter.unusedSimpArgs false

/-- a row that was made from lo on -/
def Ro (lo : Nat) (w : World) (b : Option Addr) (n c : Nat) (l : List Int) : Prop := R EI w (.slice b n c) l ∧ n = l.length ∧ ∀ k, (Value.slice b n c).ownBlock = some k → lo ≤ k
set_option maxRecDepth 100000 in
set_option maxHeartbeats 16000000 in
theorem rrdy_any (w : World) (p : Nat) (v : SV) (L : List Stm) (c : Int) (i1 i2 : SV) (l : List (Int × Int)) (h : Rs w p v L) (hI1 : In EI w (sv i1) (l.map (·.1))) (hI2 : In EI w (sv i2) (l.map (·.2))) (hL : L.length ≤ 1048576) (hl : l.length ≤ 1048576) :
    Calls Try.prog 35 #[.pointer (some ⟨p, 0, none⟩), .int .i64 c, sv i1, sv i2] w fun e w' => ∃ b k, e = .returned (.slice b (rrd L L c (lf l)).length k) ∧ Ro w.heap.size w' b (rrd L L c (lf l)).length k (rrd L L c (lf l)) ∧ Below w.heap.size w w' := by
  have HS : Hid (Rs w p v L) := h
  have c0 := cell_blk h.blk 0
  have hp := heap_lt h.blk
  have hIL := h.r.isIn
  obtain ⟨vb, vn, vc⟩ := v
  unfold sv at hIL c0
  simp only at hIL c0
  obtain ⟨hvn, hv1, hv2⟩ := slice_len hIL
  rw [← hvn] at hv1 hL
  have HIL : Hid (In ESt w (.slice vb vn vc) L) := hIL
  have HVN : Hid (vn = L.length) := hvn
  obtain ⟨ab, an, ac⟩ := i1
  obtain ⟨bb, bn, bc⟩ := i2
  unfold sv at hI1 hI2 ⊢
  simp only at hI1 hI2 ⊢
  obtain ⟨ha0, ha1, ha2⟩ := slice_len hI1
  obtain ⟨hb0, hb1, hb2⟩ := slice_len hI2
  rw [List.length_map] at ha0 hb0 ha1 hb1
  have hbn : bn = an := by omega
  subst hbn
  rw [← ha0] at ha1 hb1 hl
  have H1 : Hid (In EI w (.slice ab bn ac) (l.map (·.1))) := hI1
  have H2 : Hid (In EI w (.slice bb bn bc) (l.map (·.2))) := hI2
  have HN : Hid (bn = l.length) := ha0
  have HC0 : Hid (∀ W, Below w.heap.size w W → W.cell? ⟨p, 0, none⟩ = some (.slice vb vn vc) ∧ p < W.heap.size) := fun W hW => by
    have := (h.below hW).blk
    exact ⟨cell_blk this 0, heap_lt this⟩
  clear hI1 hI2 ha0 hb0 hIL hvn h
  go_enter Try.func35, Try.ntmps35
  go_wp2_with fail
  go_loopw [9, 10, 11, 12, 13, 14, 15, 16] (fun ov iv _ _ _ _ _ _ wr => ∃ (i m oc : Nat) (ob : Option Addr), iv = .int .i64 (i : Int) ∧ ov = .slice ob m oc ∧ i ≤ vn ∧ Hid (Ro w.heap.size wr ob m oc (rrd L (L.take i) c (lf l)) ∧ Below w.heap.size w wr)) (fun _ iv _ _ _ _ _ _ _ => vn - (intOf iv).toNat)
  case atStart => exact ⟨0, 0, 0, none, rfl, rfl, by omega, ⟨R.nil _ _, rfl, fun k hk => by simp [Value.ownBlock] at hk⟩, Below.refl _ _⟩
  case round =>
    obtain ⟨i, m, oc, ob, rfl, rfl, hi, hh⟩ := hrel
    obtain ⟨cw, lw⟩ := HC0.out wr hh.out.2
    by_cases hlt : i < vn
    · have l1 : (i : Int) < (vn : Int) := by omega
      have hiL : i < L.length := by have := HVN.out; omega
      obtain ⟨B, off, cap, e, hc⟩ := HIL.out.st i hiL
      injection e with e1 e2 e3
      subst e1
      clear e2 e3
      obtain ⟨d0, d1, d2, d3⟩ := hc wr hh.out.2
      clear hc d1 d2 d3
      have hsn : Hid (rrd L (L.take (i + 1)) c (lf l) = if rdB (wN L L[i].id) (wE L L[i].id) c (lf l L[i].id) = true then insL L[i].id (rrd L (L.take i) c (lf l)) else rrd L (L.take i) c (lf l)) := by show _ = _; rw [List.take_succ_eq_append_getElem hiL, rrd_snoc]
      have hln := rrd_len L c (lf l) (L.take i)
      rw [List.length_take] at hln
      obtain ⟨x, hx⟩ : ∃ x, L[i].id = x := ⟨_, rfl⟩
      rw [hx] at d0 hsn
      clear hx
      have hm1 : m ≤ 1048576 := by have := hh.out.1.2.1; omega
      clear hln
      go_wp2_with fail
      go_loopw [12, 13] (fun fv kv wx => ∃ (j : Nat) (z y : Int), fv = .int .i64 y ∧ kv = .int .i64 z ∧ z = (j : Int) - 1 ∧ j ≤ bn ∧ y = lf (l.drop j) x ∧ wx = wr) (fun _ kv _ => (intOf kv + 1).toNat)
      case atStart => exact ⟨bn, _, 0, rfl, rfl, by first | rfl | omega, by omega, by rw [HN.out, List.drop_length]; rfl, rfl⟩
      case round =>
        obtain ⟨j, z, y, hfv, hkv, hz, hj, hy, hwx⟩ := hrel
        subst hfv hkv hwx
        by_cases hj0 : j = 0
        · have hz0 : z = -1 := by omega
          subst hz0
          have hyy : y = lf l x := by rw [hy, hj0]; rfl
          subst hyy
          clear hy hz hj0 hj
          --T1
          have hrd := rready_any wr p (some ⟨B, off, none⟩, vn, vc) L x c (lf l x) (HS.out.below hh.out.2)
          generalize lf l x = lx at hrd hsn
          generalize rdB (wN L x) (wE L x) c lx = rb at hrd hsn
          have HRD : Hid (Calls Try.prog 47 #[.pointer (some ⟨p, 0, none⟩), .int .i64 x, .int .i64 c, .int .i64 lx] wr fun e w' => e = .returned (.bool rb) ∧ Below wr.heap.size wr w') := hrd
          clear hrd
          go_wp2_with fail
          refine Calls.mono HRD.out ?_
          rintro e w2 ⟨rfl, hB2⟩
          have HO2 : Hid (Ro w.heap.size w2 ob m oc (rrd L (L.take i) c (lf l)) ∧ Below w.heap.size w w2) := ⟨⟨hh.out.1.1.below hB2, hh.out.1.2⟩, hh.out.2.trans (hB2.mono hh.out.2.size)⟩
          cases rb
          · simp only [Bool.false_eq_true, if_false] at hsn
            go_wp2_with fail
            go_roundw
            case rel => exact ⟨i + 1, m, oc, ob, by simp, rfl, by omega, by rw [hsn.out]; exact HO2.out⟩
            case measure => simp [intOf]; omega
          · simp only [if_true] at hsn
            clear hh cw lw d0 hB2
            --T2
            obtain ⟨out, hout⟩ : ∃ o, rrd L (L.take i) c (lf l) = o := ⟨_, rfl⟩
            rw [hout] at hsn HO2
            have HM : Hid (m = out.length) := HO2.out.1.2.1
            have HFN : Hid ((if (out.foldl (stp x) (false, [])).1 = true then (out.foldl (stp x) (false, [])).2 else (out.foldl (stp x) (false, [])).2 ++ [x]) = insL x out) := by have := stp_ins x out []; rw [List.nil_append] at this; exact this
            clear hout
            go_wp2_with fail
            go_loopw [14, 15, 16] (fun nv dv kv wx => ∃ (k n2 c2 : Nat) (b2 : Option Addr) (d : Bool), kv = .int .i64 (k : Int) ∧ nv = .slice b2 n2 c2 ∧ dv = .bool d ∧ k ≤ m ∧ n2 ≤ 2 * k ∧ Hid (∃ zs, (out.take k).foldl (stp x) (false, []) = (d, zs) ∧ Ro w2.heap.size wx b2 n2 c2 zs ∧ Below w2.heap.size w2 wx)) (fun _ _ kv _ => m - (intOf kv).toNat)
            case atStart => exact ⟨0, 0, 0, none, false, rfl, rfl, rfl, by omega, by omega, [], rfl, ⟨R.nil _ _, rfl, fun k hk => by simp [Value.ownBlock] at hk⟩, Below.refl _ _⟩
            case round =>
              obtain ⟨k, n2, c2, b2, d, hkv, hnv, hdv, hk, hn2, hq⟩ := hrel
              subst hkv hnv hdv
              obtain ⟨zs, q1, q2, q3⟩ := hq.out
              clear hq
              by_cases hkm : k < m
              · have k1 : (k : Int) < (m : Int) := by omega
                have hkO : k < out.length := by have := HM.out; omega
                obtain ⟨Bo, oo, co, e, hcc⟩ := (HO2.out.1.1.isIn).int k hkO
                injection e with e1 e2 e3
                subst e1
                clear e2 e3
                have hst : (out.take (k + 1)).foldl (stp x) (false, []) = stp x (d, zs) out[k] := by rw [List.take_succ_eq_append_getElem hkO, List.foldl_append, q1]; rfl
                obtain ⟨y, hy⟩ : ∃ y, out[k] = y := ⟨_, rfl⟩
                rw [hy] at hcc hst
                clear hy q1
                have g1 := hcc wr q3
                have hn4 : n2 ≤ 4194302 := by omega
                cases d
                · by_cases hxy : x < y
                  · have x1 : decide (x < y) = true := decide_eq_true hxy
                    rw [show stp x (false, zs) y = (true, zs ++ [x, y]) from by unfold stp; simp [hxy]] at hst
                    obtain ⟨b3, c3, w3, r3, R3, F3, S3⟩ := app_int q2.1 q2.2.1 x (by omega)
                    obtain ⟨F3a, F3b⟩ := F3 w2.heap.size q3.size q2.2.2
                    have hB3 := q3.trans F3a
                    obtain ⟨b4, c4, w4, r4, R4, F4, S4⟩ := app_int R3 (by simp; exact q2.2.1) y (by omega)
                    obtain ⟨F4a, F4b⟩ := F4 w2.heap.size hB3.size F3b
                    have g3 := hcc w3 hB3
                    have HR3 : Hid _ := r3
                    have HR4 : Hid _ := r4
                    have HFI : Hid (∃ zs', (out.take (k + 1)).foldl (stp x) (false, []) = (true, zs') ∧ Ro w2.heap.size w4 b4 (n2 + 1 + 1) c4 zs' ∧ Below w2.heap.size w2 w4) := ⟨_, hst, ⟨by rw [List.append_assoc] at R4; exact R4, by simp; exact q2.2.1, F4b⟩, hB3.trans F4a⟩
                    clear r3 r4 R3 R4 F3 F4 F3a F4a F3b F4b hst q2 hcc hxy
                    go_wp2_with (first | (at_builtin; refine Lib.wpList_append_run _ rfl (.tmp 73) (.tmp 75) 22 22 rfl _ _ rfl rfl _ _ HR3.out ?_) | (at_builtin; refine Lib.wpList_append_run _ rfl (.tmp 77) (.tmp 82) 22 22 rfl _ _ rfl rfl _ _ HR4.out ?_))
                    go_roundw
                    case rel => exact ⟨k + 1, n2 + 1 + 1, c4, b4, true, by simp, rfl, rfl, by omega, by omega, HFI.out⟩
                    case measure => simp [intOf] <;> omega
                  · have x1 : decide (x < y) = false := decide_eq_false hxy
                    rw [show stp x (false, zs) y = (false, zs ++ [y]) from by unfold stp; simp [hxy]] at hst
                    obtain ⟨b4, c4, w4, r4, R4, F4, S4⟩ := app_int q2.1 q2.2.1 y (by omega)
                    obtain ⟨F4a, F4b⟩ := F4 w2.heap.size q3.size q2.2.2
                    have HR4 : Hid _ := r4
                    have HFI : Hid (∃ zs', (out.take (k + 1)).foldl (stp x) (false, []) = (false, zs') ∧ Ro w2.heap.size w4 b4 (n2 + 1) c4 zs' ∧ Below w2.heap.size w2 w4) := ⟨_, hst, ⟨R4, by simp; exact q2.2.1, F4b⟩, q3.trans F4a⟩
                    clear r4 R4 F4 F4a F4b hst q2 hcc
                    go_wp2_with (at_builtin; refine Lib.wpList_append_run _ rfl (.tmp 77) (.tmp 82) 22 22 rfl _ _ rfl rfl _ _ HR4.out ?_)
                    go_roundw
                    case rel => exact ⟨k + 1, n2 + 1, c4, b4, false, by simp, rfl, rfl, by omega, by omega, HFI.out⟩
                    case measure => simp [intOf] <;> omega
                · rw [show stp x (true, zs) y = (true, zs ++ [y]) from rfl] at hst
                  obtain ⟨b4, c4, w4, r4, R4, F4, S4⟩ := app_int q2.1 q2.2.1 y (by omega)
                  obtain ⟨F4a, F4b⟩ := F4 w2.heap.size q3.size q2.2.2
                  have HR4 : Hid _ := r4
                  have HFI : Hid (∃ zs', (out.take (k + 1)).foldl (stp x) (false, []) = (true, zs') ∧ Ro w2.heap.size w4 b4 (n2 + 1) c4 zs' ∧ Below w2.heap.size w2 w4) := ⟨_, hst, ⟨R4, by simp; exact q2.2.1, F4b⟩, q3.trans F4a⟩
                  clear r4 R4 F4 F4a F4b hst q2 hcc
                  go_wp2_with (at_builtin; refine Lib.wpList_append_run _ rfl (.tmp 77) (.tmp 82) 22 22 rfl _ _ rfl rfl _ _ HR4.out ?_)
                  go_roundw
                  case rel => exact ⟨k + 1, n2 + 1, c4, b4, true, by simp, rfl, rfl, by omega, by omega, HFI.out⟩
                  case measure => simp [intOf] <;> omega
              · have hkm' : k = m := by omega
                subst hkm'
                have k1 : ¬ (k : Int) < (k : Int) := by omega
                have htk : out.take k = out := by rw [HM.out]; exact List.take_length
                rw [htk] at q1
                rw [q1] at HFN
                have hlo : w.heap.size ≤ w2.heap.size := HO2.out.2.size
                cases d
                · simp only [Bool.false_eq_true, if_false] at HFN
                  obtain ⟨b3, c3, w3, r3, R3, F3, S3⟩ := app_int q2.1 q2.2.1 x (by omega)
                  obtain ⟨F3a, F3b⟩ := F3 w2.heap.size q3.size q2.2.2
                  have HR3 : Hid _ := r3
                  have HFI : Hid (Ro w.heap.size w3 b3 (n2 + 1) c3 (rrd L (L.take (i + 1)) c (lf l)) ∧ Below w.heap.size w w3) := ⟨⟨by rw [hsn.out, ← HFN.out]; exact R3, by rw [hsn.out, ← HFN.out]; simp; exact q2.2.1, fun j hj => Nat.le_trans hlo (F3b j hj)⟩, HO2.out.2.trans ((q3.trans F3a).mono hlo)⟩
                  clear r3 R3 F3 F3a F3b q2
                  go_wp2_with (at_builtin; refine Lib.wpList_append_run _ rfl (.tmp 86) (.tmp 88) 22 22 rfl _ _ rfl rfl _ _ HR3.out ?_)
                  go_roundw
                  case rel => exact ⟨i + 1, n2 + 1, c3, b3, by simp, rfl, by omega, HFI.out⟩
                  case measure => simp [intOf] <;> omega
                · simp only [if_true] at HFN
                  have HFI : Hid (Ro w.heap.size wr b2 n2 c2 (rrd L (L.take (i + 1)) c (lf l)) ∧ Below w.heap.size w wr) := ⟨⟨by rw [hsn.out, ← HFN.out]; exact q2.1, by rw [hsn.out, ← HFN.out]; exact q2.2.1, fun j hj => Nat.le_trans hlo (q2.2.2 j hj)⟩, HO2.out.2.trans (q3.mono hlo)⟩
                  clear q2
                  go_wp2_with fail
                  go_roundw
                  case rel => exact ⟨i + 1, n2, c2, b2, by simp, rfl, by omega, HFI.out⟩
                  case measure => simp [intOf] <;> omega
        · obtain ⟨q, hq⟩ : ∃ q, j = q + 1 := ⟨j - 1, by omega⟩
          have hzq : z = (q : Int) := by omega
          subst hzq
          have q0 : (0 : Int) ≤ (q : Int) := by omega
          have ql : (q : Int) < (bn : Int) := by omega
          have hqN : q < bn := by omega
          have hql : q < l.length := by have := HN.out; omega
          obtain ⟨Ba, oa, ca, e, hBa, g1⟩ := (H1.out.below hh.out.2).int1 q (by simpa using hql)
          injection e with e1 e2 e3
          subst e1
          clear e2 e3
          obtain ⟨Bb, o2, cb, e, hBb, g2⟩ := (H2.out.below hh.out.2).int1 q (by simpa using hql)
          injection e with e1 e2 e3
          subst e1
          clear e2 e3
          rw [List.getElem_map] at g1 g2
          have hld := lf_drop l x q hql
          rw [← hq] at hld
          obtain ⟨u, hu⟩ : ∃ u, l[q] = u := ⟨_, rfl⟩
          rw [hu] at g1 g2 hld
          obtain ⟨u1, u2⟩ := u
          simp only at g1 g2 hld
          have HLD : Hid (lf (l.drop q) x = if u1 = x then u2 else y) := by show _ = _; rw [hld, ← hy]
          clear hu hld hy hz hj0 hq hj
          by_cases hux : u1 = x
          · subst hux
            go_wp2_with fail
            go_roundw
            case rel => exact ⟨q, _, _, rfl, rfl, rfl, by omega, by rw [HLD.out, if_pos rfl], by first | rfl | trivial⟩
            case measure => simp [intOf] <;> omega
          · have b1 : (u1 == x) = false := beq_eq_false_iff_ne.2 hux
            have HUX : Hid (¬ u1 = x) := hux
            clear hux
            go_wp2_with fail
            go_roundw
            case rel => exact ⟨q, _, _, rfl, rfl, rfl, by omega, by rw [HLD.out, if_neg HUX.out], by first | rfl | trivial⟩
            case measure => simp [intOf] <;> omega
    · have hin : i = vn := by omega
      subst hin
      have ht : L.take i = L := by rw [HVN.out]; exact List.take_length
      rw [ht] at hh
      obtain ⟨r1, r2⟩ := hh.out
      have r3 := r1.2.1
      subst r3
      go_wp2_with fail
      go_ret
      exact ⟨_, _, rfl, r1, r2⟩
end Go.Proofs.Ytbmaknjeflblcaa
