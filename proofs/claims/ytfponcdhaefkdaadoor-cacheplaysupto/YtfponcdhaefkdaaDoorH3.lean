/- The document's Tick. -/
import Derived.Test.YtfponcdhaefkdaaDoorH2
namespace Go.Proofs.YtfponcdhaefkdaaDoor
open Go.RowKit
set_option linter.unusedVariables false
set_option linter.unusedSimpArgs false
theorem filt_take {p : Kn → Bool} {B : List Kn} {i : Nat} (hi : i < B.length) : (B.take (i + 1)).filter p = (B.take i).filter p ++ (if p B[i] = true then [B[i]] else []) := by
  rw [List.take_succ_eq_append_getElem hi, List.filter_append]
  congr 1
  by_cases h : p B[i] = true
  · rw [if_pos h, List.filter_cons_of_pos h]; rfl
  · rw [if_neg h, List.filter_cons_of_neg h]; rfl
set_option maxHeartbeats 16000000 in
set_option maxRecDepth 100000 in
theorem rtick_any (W : World) (b : Nat) (me mb lf pd : Int) (z : SV) (B : List Kn) (now : Int) (h : Rc W b me mb lf pd z B now) (t : Int) (ht : t ≤ 9223372036854775807) (har : ∀ k ∈ B, 0 ≤ k.ar ∧ k.ar ≤ now) (hn : 0 ≤ now ∧ now ≤ 9223372036854775807) (hl : B.length ≤ 64) :
    Calls Tryd.prog 52 #[.pointer (some ⟨b, 0, none⟩), .int .i64 t] W fun r w' => ∃ gs sy : SV, r = .returned (sv gs) ∧ Rc w' b me mb lf pd sy (B.filter fun k => !exK (max now t) lf k) (max now t) ∧ R EI w' (sv gs) ((B.filter (exK (max now t) lf)).map (·.st)) ∧ Ks (fun k => k = b) W w' ∧ (∀ k, (sv gs).ownBlock = some k → W.heap.size ≤ k) ∧ (∀ k, (sv sy).ownBlock = some k → W.heap.size ≤ k) := by
  obtain ⟨n1, hn1⟩ : ∃ n, max now t = n := ⟨_, rfl⟩
  have HN1 : Hid (n1 ≤ 9223372036854775807 ∧ ∀ k ∈ B, 0 ≤ k.ar ∧ k.ar ≤ n1) := ⟨by omega, fun k hk => by have := har k hk; omega⟩
  obtain ⟨W2, hW2⟩ : ∃ V, W.setCell ⟨b, 5, none⟩ (.int .i64 n1) = V := ⟨_, rfl⟩
  have hr2 : Rc W2 b me mb lf pd z B n1 := by rw [← hW2]; exact h.setNow n1
  have HT0 : Hid (Tr W W2 b me mb lf pd z B n1 (none, 0, 0) [] (none, 0, 0) []) := ⟨hr2, R.nil EI _, R.nil EV _, fun k hk => (by simp [sv, Value.ownBlock] at hk), fun k hk => (by simp [sv, Value.ownBlock] at hk), by rw [← hW2]; exact Ks.setCell _ _ _ _ _ rfl, fun k hk => h.lt hk⟩
  obtain ⟨c0, c1, c2, c3, c4, c5, cf⟩ := h.cells
  have f5 := cf 5
  have lb := heap_lt h.blk
  have HL : Hid (B.length ≤ 64) := hl
  obtain ⟨z1, z2, z3⟩ := z
  obtain ⟨m1, m2, m3⟩ := slice_len (show In EV W (.slice z1 z2 z3) B from h.row.isIn)
  have HZ : Hid (B.length = z2) := m1.symm
  rw [← m1] at m2
  rw [hn1]
  clear h hr2 ht har hn hl c0 c1 c2 c3 c4 cf m1
  go_enter Tryd.func52, Tryd.ntmps52
  go_upto_region 2 with fail
  try rw [hW2]
  clear hW2 c5 f5 hn1 lb
  go_upto_region 5 with fail
  go_loopw [5, 6, 7] (fun gv sv' iv wr => ∃ (i : Nat) (g1 : Option Addr) (g2 g3 : Nat) (s1 : Option Addr) (s2 s3 : Nat), gv = .slice g1 g2 g3 ∧ sv' = .slice s1 s2 s3 ∧ iv = .int .i64 (i : Int) ∧ i ≤ z2 ∧ Hid (Tr W wr b me mb lf pd (z1, z2, z3) B n1 (g1, g2, g3) (((B.take i).filter (exK n1 lf)).map (·.st)) (s1, s2, s3) ((B.take i).filter fun k => !exK n1 lf k))) (fun _ _ iv _ => z2 - (intOf iv).toNat)
  case atStart => exact ⟨0, none, 0, 0, none, 0, 0, rfl, rfl, rfl, by omega, HT0.out⟩
  case round =>
    clear HT0
    obtain ⟨i, g1, g2, g3, s1, s2, s3, rfl, rfl, rfl, hi, hT⟩ := hrel
    obtain ⟨c0, c1, c2, c3, c4, c5, cf⟩ := hT.out.rc.cells
    simp only [sv] at c4
    have lb := heap_lt hT.out.rc.blk
    by_cases hlt : i < z2
    · have hiB : i < B.length := by rw [HZ.out]; exact hlt
      have l1 : (i : Int) < (z2 : Int) := by omega
      obtain ⟨Bj, off, cap, e, hc⟩ := hT.out.rc.row.isIn.ke i hiB
      simp only [sv] at e
      rw [HZ.out] at e
      injection e with e1 e2 e3
      clear e2
      subst e1 e3
      obtain ⟨x, hx⟩ : ∃ x, B[i] = x := ⟨_, rfl⟩
      have hxm : x ∈ B := by rw [← hx]; exact List.getElem_mem _
      rw [hx] at hc
      obtain ⟨d0, d1, d2, d3, d4, d5, d6, d7, d8, d9, d10⟩ := hc wr (Below.refl _ _)
      have HXc : Hid (∀ V, Below wr.heap.size wr V → CellsE V Bj (off + i * 11) x) := hc
      have HEx : Hid (Calls Tryd.prog 74 #[.pointer (some ⟨b, 0, none⟩), .agg (kev x)] wr fun r w' => r = .returned (.bool (exK n1 lf x)) ∧ Below wr.heap.size wr w') := rexpired_any wr b me mb lf pd _ n1 x hT.out.rc.blk ⟨(HN1.out.2 x hxm).1, (HN1.out.2 x hxm).2, HN1.out.1⟩
      have F1 := filt_take (p := exK n1 lf) hiB
      have F2 := filt_take (p := fun k => !exK n1 lf k) hiB
      rw [hx] at F1 F2
      have HF1 : Hid ((B.take (i + 1)).filter (exK n1 lf) = (B.take i).filter (exK n1 lf) ++ (if exK n1 lf x = true then [x] else [])) := F1
      have HF2 : Hid (((B.take (i + 1)).filter fun k => !exK n1 lf k) = ((B.take i).filter fun k => !exK n1 lf k) ++ (if (!exK n1 lf x) = true then [x] else [])) := F2
      have HLn : Hid ((((B.take i).filter (exK n1 lf)).map (·.st)).length ≤ 1000 ∧ ((B.take i).filter fun k => !exK n1 lf k).length ≤ 1000) := by
        have h1 := List.length_filter_le (exK n1 lf) (B.take i)
        have h2 := List.length_filter_le (fun k => !exK n1 lf k) (B.take i)
        rw [List.length_take] at h1 h2
        have := HL.out
        exact ⟨by rw [List.length_map]; omega, by omega⟩
      clear hc hx hxm F1 F2 c0 c1 c2 c3 c5 cf
      have hkx : kev x = kev x := rfl
      cases hE : exK n1 lf x
      · rw [hE] at HEx HF1 HF2
        simp only [Bool.false_eq_true, if_false, List.append_nil, Bool.not_false, if_true] at HF1 HF2
        obtain ⟨kst, kar, ⟨km, ks, ka, kp, ⟨ky1, ky2, ky3⟩, kb⟩, krn, ⟨kr1, kr2, kr3⟩, krb, kfq, kfr⟩ := x
        simp only [sv, kev] at d0 d1 d2 d3 d4 d5 d6 d7 d8 d9 d10 HEx
        clear hE hkx
        go_wp2_with fail
        go_at_call 74
        refine HEx.out.mono ?_
        rintro e V ⟨rfl, bV⟩
        have HTV := hT.out.below bV
        obtain ⟨e0, e1, e2, e3, e4, e5, e6, e7, e8, e9, e10⟩ := HXc.out V bV
        have p4 := HTV.rc.cells.2.2.2.2.1
        have lbV := heap_lt HTV.rc.blk
        obtain ⟨b2, c2, w2, hrun, hT2⟩ := HTV.stay ⟨kst, kar, ⟨km, ks, ka, kp, (ky1, ky2, ky3), kb⟩, krn, (kr1, kr2, kr3), krb, kfq, kfr⟩ HLn.out.2
        simp only [sv, kev] at e0 e1 e2 e3 e4 e5 e6 e7 e8 e9 e10 p4 hrun
        have HE2 : Hid (Tr W w2 b me mb lf pd (some ⟨Bj, off, none⟩, z2, z3) B n1 (g1, g2, g3) (((B.take (i + 1)).filter (exK n1 lf)).map (·.st)) (b2, s2 + 1, c2) ((B.take (i + 1)).filter fun k => !exK n1 lf k)) := by rw [HF1.out, HF2.out]; exact hT2
        replace hrun : Hid _ := hrun
        clear d0 d1 d2 d3 d4 d5 d6 d7 d8 d9 d10 bV HTV hT2 HXc HEx hT c4 lb
        go_wp2_with (at_builtin; refine Lib.wpList_append_run _ rfl _ _ _ _ rfl _ _ rfl rfl _ _ hrun.out ?_)
        go_roundw
        case rel => exact ⟨i + 1, g1, g2, g3, b2, s2 + 1, c2, rfl, rfl, by simp, by omega, HE2.out⟩
        case measure => simp [intOf]; omega
      · rw [hE] at HEx HF1 HF2
        simp only [if_true, List.append_nil, Bool.not_true, Bool.false_eq_true, if_false] at HF1 HF2
        obtain ⟨kst, kar, ⟨km, ks, ka, kp, ⟨ky1, ky2, ky3⟩, kb⟩, krn, ⟨kr1, kr2, kr3⟩, krb, kfq, kfr⟩ := x
        simp only [sv, kev] at d0 d1 d2 d3 d4 d5 d6 d7 d8 d9 d10 HEx
        clear hE hkx
        go_wp2_with fail
        go_at_call 74
        refine HEx.out.mono ?_
        rintro e V ⟨rfl, bV⟩
        have HTV := hT.out.below bV
        obtain ⟨e0, e1, e2, e3, e4, e5, e6, e7, e8, e9, e10⟩ := HXc.out V bV
        have p4 := HTV.rc.cells.2.2.2.2.1
        have lbV := heap_lt HTV.rc.blk
        obtain ⟨b2, c2, w2, hrun, hT2⟩ := HTV.gone kst HLn.out.1
        simp only [sv] at e9 p4
        have HE2 : Hid (Tr W w2 b me mb lf pd (some ⟨Bj, off, none⟩, z2, z3) B n1 (b2, g2 + 1, c2) (((B.take (i + 1)).filter (exK n1 lf)).map (·.st)) (s1, s2, s3) ((B.take (i + 1)).filter fun k => !exK n1 lf k)) := by rw [HF1.out, HF2.out, List.map_append]; exact hT2
        replace hrun : Hid _ := hrun
        clear d0 d1 d2 d3 d4 d5 d6 d7 d8 d9 d10 bV HTV hT2 HXc HEx hT c4 lb e0 e1 e2 e3 e4 e5 e6 e7 e8 e10
        go_wp2_with (at_builtin; refine Lib.wpList_append_run _ rfl _ _ _ _ rfl _ _ rfl rfl _ _ hrun.out ?_)
        go_roundw
        case rel => exact ⟨i + 1, b2, g2 + 1, c2, s1, s2, s3, rfl, rfl, by simp, by omega, HE2.out⟩
        case measure => simp [intOf]; omega
    · have l1 : ¬ (i : Int) < (z2 : Int) := by omega
      obtain rfl : i = z2 := by omega
      have hBt : B.take i = B := List.take_of_length_le (by rw [HZ.out]; omega)
      have hTe := hT.out
      rw [hBt] at hTe
      have f4 := cf 4
      have hset := hTe.rc.setL (z' := (s1, s2, s3)) rfl hTe.sr (fun k hk => hTe.rc.fl k (List.mem_filter.1 hk).1)
      simp only [sv] at hset
      have HE : Hid (Rc (wr.setCell ⟨b, 4, none⟩ (.slice s1 s2 s3)) b me mb lf pd (s1, s2, s3) (B.filter fun k => !exK n1 lf k) n1 ∧ R EI (wr.setCell ⟨b, 4, none⟩ (.slice s1 s2 s3)) (.slice g1 g2 g3) ((B.filter (exK n1 lf)).map (·.st)) ∧ Ks (fun k => k = b) W (wr.setCell ⟨b, 4, none⟩ (.slice s1 s2 s3)) ∧ (∀ k, (Value.slice g1 g2 g3).ownBlock = some k → W.heap.size ≤ k) ∧ (∀ k, (Value.slice s1 s2 s3).ownBlock = some k → W.heap.size ≤ k)) := by
        refine ⟨hset, hTe.gn.stays fun k hk _ => ?_, hTe.ks.trans (Ks.setCell (fun k => k = b) wr b 4 _ rfl) (fun i _ hi => hi) (fun i _ hi => hi), hTe.ng, hTe.ns⟩
        obtain ⟨cc, hc⟩ := hTe.gn.ty k hk
        exact setCell_other _ _ _ _ _ (ty_ne hc hTe.rc.blk (show (2 : TypeId) ≠ 100 by decide))
      clear hT hTe hset hBt cf c0 c1 c2 c3 c5 l1
      have l1 : ¬ (i : Int) < (i : Int) := by omega
      go_wp2_with fail
      go_ret
      first | exact ⟨(g1, g2, g3), (s1, s2, s3), rfl, HE.out⟩ | exact ⟨g1, g2, g3, rfl, (s1, s2, s3), HE.out⟩ | exact ⟨g1, g2, g3, rfl, s1, s2, s3, HE.out⟩ | exact ⟨(g1, g2, g3), rfl, (s1, s2, s3), HE.out⟩
end Go.Proofs.YtfponcdhaefkdaaDoor
