/- The document's Do, walked. -/
import Derived.Test.YtaaocgppniflcaaD7
import Derived.Deep.Cut
import Derived.Deep.CutRange
namespace Go.Proofs.Ytaaocgppniflcaa
open Go.RowKit Go.Maps
set_option linter.unusedVariables false
set_option linter.unusedSimpArgs false

def RdPost (w : World) (p : Nat) (v0 : Value) (c : Bool) (r : List O1 × Int × Int) (e : Ending) (w' : World) : Prop :=
  e = .returned (.agg #[.int .i64 r.2.1, .int .i64 r.2.2]) ∧ ∃ v', RT w' p c v' r.1 ∧ Kr p v0 w w' ∧ ∀ i, v'.ownBlock = some i → v0.ownBlock = some i ∨ w.heap.size ≤ i

theorem rput_some {l : List O1} {id : Int} {j : Nat} (h : l.findIdx? (fun x => x.1 == id) = some j) (hj : j < l.length) (n : Int) (cu : Bool) : rput l id n cu = l.set j (l[j].1, n, l[j].2.2 || cu) := by
  unfold rput
  rw [h]
  simp only
  rw [dif_pos hj]
theorem rput_none {l : List O1} {id n : Int} {cu : Bool} (h : l.findIdx? (fun x => x.1 == id) = none) : rput l id n cu = l ++ [(id, n, cu)] := by
  unfold rput
  rw [h]

set_option maxRecDepth 100000 in
set_option maxHeartbeats 8000000 in
theorem rdo_any (w : World) (p : Nat) (c : Bool) (v : Value) (l : List O1) (id : Int) (g : Bool) (k : Int) (h : RT w p c v l) (hlen : (l.length + 1) * 24 ≤ 140737488355328) (hst : 0 ≤ rst l id ∧ rst l id ≤ 6) :
    Calls Try.prog 23 #[.pointer (some ⟨p, 0, none⟩), .int .i64 id, .agg #[.bool g, .int .i64 k]] w (RdPost w p v c (rdo c l id g k)) := by
  have d0 := Dr.start g k h
  have hnx := rx_any (rst l id) g k
  have hdo : rdo c l id g k = rdo c l id g k := rfl
  conv at hdo => rhs; unfold rdo
  have HSA : Hid (∀ w2 v2, RT w2 p c v2 l → Calls Try.prog 24 #[.pointer (some ⟨p, 0, none⟩), .int .i64 id] w2 fun e w' => e = .returned (.int .i64 (rst l id)) ∧ w' = w2) := fun w2 v2 h2 => rstate_any w2 p c v2 l id h2
  have HRT : Hid (RT w p c v l) := h
  clear h
  generalize rst l id = s at hdo hnx HSA hst
  generalize rdo c l id g k = r at hdo ⊢
  have HDO : Hid (r = _) := hdo
  have HNX : Hid _ := hnx
  clear hdo hnx
  obtain ⟨a0, a1, a2⟩ := d0.cells
  go_enter Try.func23, Try.ntmps23
  by_cases hk1 : 1 ≤ k
  · by_cases hk8 : k ≤ 8
    · have g1 : decide (k < 1) = false := decide_eq_false (by omega)
      have g2 : decide (8 < k) = false := decide_eq_false (by omega)
      have hdo := HDO.out
      rw [if_neg (by rw [isK_iff.2 ⟨hk1, hk8⟩]; decide)] at hdo
      by_cases hi1 : 1 ≤ id
      · by_cases hi2 : id ≤ 2147483647
        · have g3 : decide (id < 1) = false := decide_eq_false (by omega)
          have g4 : decide (2147483647 < id) = false := decide_eq_false (by omega)
          rw [if_neg (by rw [isStr_iff.2 ⟨hi1, hi2⟩]; decide)] at hdo
          have HDO2 : Hid _ := hdo
          clear HDO hdo hk1 hk8 hi1 hi2
          go_wp2_with fail
          refine (HSA.out _ _ d0.rt).mono ?_
          rintro e w1 ⟨rfl, hw1⟩
          subst hw1
          clear HSA HRT
          obtain ⟨W1, hW1⟩ : ∃ W1, (w.alloc (.cells #[.bool g, .int .i64 k] 57)).alloc (.cells #[.int .i64 0, .int .i64 0] 55) = W1 := ⟨_, rfl⟩
          rw [hW1] at d0 a0 a1 a2 ⊢
          clear hW1
          go_upto_region 6 with fail
          go_cut [8] from 12 (fun x wx => x = .bool (isB k) ∧ wx = W1)
          case first =>
            cases e1 : (k == 1)
            · cases e2 : (k == 2)
              · go_wp2_with fail
                go_meet
                exact ⟨by unfold isB; rw [e1, e2]; rfl, rfl⟩
              · go_wp2_with fail
                go_meet
                exact ⟨by unfold isB; rw [e1, e2]; rfl, rfl⟩
            · go_wp2_with fail
              go_meet
              exact ⟨by unfold isB; rw [e1]; rfl, rfl⟩
          case rest =>
            obtain ⟨rfl, hwc⟩ := hcut
            subst hwc
            go_upto_region 7 with fail
            go_cut [8, 56] from 12 (fun y x wx => y = .bool (isB k) ∧ x = .bool (s == 0 && isB k && !rmay c id g k) ∧ Below wc.heap.size wc wx)
            case first =>
              cases e0 : (s == 0)
              · go_wp2_with fail
                go_meet
                exact ⟨rfl, by simp only [e0]; rfl, Below.refl _ _⟩
              · cases eb : isB k
                · go_wp2_with fail
                  go_meet
                  exact ⟨by rw [eb], by simp only [e0, eb]; rfl, Below.refl _ _⟩
                · go_wp2_with fail
                  refine (birth_any _ p c v l id g k d0.rt).mono ?_
                  rintro e w3 ⟨rfl, hB⟩
                  go_wp2_with fail
                  go_meet
                  exact ⟨by rw [eb], by simp only [e0, eb]; rfl, hB⟩
            case rest =>
              obtain ⟨rfl, rfl, hB⟩ := hcut
              replace d0 := d0.below hB
              clear hB a0 a1 a2
              obtain ⟨a0, a1, a2⟩ := d0.cells
              cases e1 : (s == 0 && isB k && !rmay c id g k)
              · have hdo := HDO2.out
                rw [e1, if_neg (by decide)] at hdo
                have HDO3 : Hid _ := hdo
                clear hdo HDO2 e1
                go_upto_region 9 with fail
                go_cut [70] from 12 (fun x wx => x = .bool (rcut l id && g && !(k == 5)) ∧ wx = wc)
                case first =>
                  cases ec : rcut l id
                  · go_wp2_with fail
                    refine (rcut_any _ p c v l id d0.rt).mono ?_
                    rintro e wc ⟨rfl, rfl⟩
                    rw [ec]
                    go_wp2_with fail
                    go_meet
                    exact ⟨by simp only [ec]; rfl, rfl⟩
                  · cases g
                    · go_wp2_with fail
                      refine (rcut_any _ p c v l id d0.rt).mono ?_
                      rintro e wc ⟨rfl, rfl⟩
                      rw [ec]
                      go_wp2_with fail
                      go_meet
                      exact ⟨by simp only [ec]; rfl, rfl⟩
                    · go_wp2_with fail
                      refine (rcut_any _ p c v l id d0.rt).mono ?_
                      rintro e wc ⟨rfl, rfl⟩
                      rw [ec]
                      go_wp2_with fail
                      go_meet
                      exact ⟨by simp only [ec]; first | rfl | simp, rfl⟩
                case rest =>
                  obtain ⟨rfl, hwc⟩ := hcut
                  subst hwc
                  cases e2 : (rcut l id && g && !(k == 5))
                  · have hdo := HDO3.out
                    rw [e2, if_neg (by decide)] at hdo
                    clear HDO3 e2
                    have hnx := HNX.out
                    clear HNX
                    generalize (nx s g k).1 = n at hdo hnx
                    generalize (nx s g k).2 = vc at hdo hnx
                    obtain ⟨vv, cc⟩ := vc
                    simp only at hdo hnx
                    have HDOX : Hid _ := hdo
                    clear hdo
                    go_wp2_with fail
                    refine (hnx _).mono ?_
                    rintro e w2 ⟨rfl, hB⟩
                    have hdo := HDOX.out
                    clear HDOX
                    replace d0 := d0.below hB
                    clear hB a0 a1 a2 hnx
                    have hsz : Hid (w.heap.size ≤ w2.heap.size) := d0.ks.size
                    replace d0 := d0.below (bel1 w2 (.cells #[.int .i64 vv, .int .i64 cc] 55))
                    obtain ⟨a0, a1, a2⟩ := d0.cells
                    cases e3 : (vv == 0 && !(n == s))
                    · rw [e3, if_neg (by decide)] at hdo
                      subst hdo
                      obtain ⟨c0, c1, f0, f1, hF⟩ := d0.fin
                      clear d0
                      cases ev : (vv == 0)
                      · have hvn : ¬ vv = 0 := by simpa using ev
                        have hvb : (vv != 0) = true := by simp [hvn]
                        clear e3
                        go_wp2
                        refine bodyPost_ret (results_c (p := 6) (ty := 55) rfl _ _ (w.heap.size + 1) 55 _ (0, 0) _ rfl (hF _ _).1 Try.underlying55 rfl (by kernel_rfl)) rfl ⟨rfl, (hF _ _).2⟩
                      · rw [ev] at e3
                        replace e3 : n = s := by simpa using e3
                        obtain rfl : vv = 0 := by simpa using ev
                        subst e3
                        clear ev
                        go_wp2
                        refine bodyPost_ret (results_c (p := 6) (ty := 55) rfl _ _ (w.heap.size + 1) 55 _ (0, 0) _ rfl (hF _ _).1 Try.underlying55 rfl (by kernel_rfl)) rfl ⟨rfl, (hF _ _).2⟩
                    · rw [e3, if_pos rfl] at hdo
                      simp only [Bool.and_eq_true, Bool.not_eq_true'] at e3
                      obtain ⟨ev, en⟩ := e3
                      have HDO4 : Hid _ := hdo
                      have HLEN : Hid ((l.length + 1) * 24 ≤ 140737488355328) := hlen
                      clear hdo hlen hst
                      obtain rfl : vv = 0 := by simpa using ev
                      clear ev
                      go_upto_region 14 with fail
                      have hv : (w2.alloc (.cells #[.int .i64 0, .int .i64 cc] 55)).heap[w2.heap.size]? = some (.cells #[.int .i64 0, .int .i64 cc] 55 (0, 0)) := heap_alloc_new _ _
                      obtain ⟨q, hq⟩ : ∃ q, w2.heap.size = q := ⟨_, rfl⟩
                      obtain ⟨W, hW⟩ : ∃ W, w2.alloc (.cells #[.int .i64 0, .int .i64 cc] 55) = W := ⟨_, rfl⟩
                      rw [hW] at d0 a0 a1 a2 hv ⊢
                      rw [hq] at hv ⊢
                      replace hv : Hid (W.heap[q]? = some (.cells #[.int .i64 0, .int .i64 cc] 55 (0, 0))) := hv
                      replace d0 : Hid (Dr w W p v v c l g k) := d0
                      clear hW hq hsz en
                      go_wp2_with fail
                      go_at_call 41
                      refine (find_any W p c v l id d0.out.rt).mono ?_
                      rintro e w3 ⟨rfl, rfl⟩
                      obtain ⟨fi, hfi⟩ : ∃ fi, findS l id = fi := ⟨_, rfl⟩
                      rw [hfi]
                      replace hfi : Hid (findS l id = fi) := hfi
                      go_upto_if 91 with fail
                      go_cut [11] from 12 (fun iv wx => ∃ (j : Nat) (l1 : List O1) (v1 : Value), iv = .int .i64 (j : Int) ∧ Hid (∃ hj : j < l1.length, Dr w wx p v v1 c l1 g k ∧ wx.heap[q]? = some (.cells #[.int .i64 0, .int .i64 cc] 55 (0, 0)) ∧ ∀ cu, l1.set j (l1[j].1, n, l1[j].2.2 || cu) = rput l id n cu))
                      case first =>
                        have hfi2 := hfi.out
                        unfold findS at hfi2
                        cases hf : l.findIdx? (fun x => x.1 == id) with
                        | some j =>
                          rw [hf] at hfi2
                          simp only at hfi2
                          have hj : j < l.length := by
                            have := List.findIdx?_eq_some_iff_getElem.1 hf
                            exact this.1
                          subst hfi2
                          have hng : ¬ ((j : Int) < 0) := by omega
                          have HF : Hid (j < l.length ∧ l.findIdx? (fun x => x.1 == id) = some j) := ⟨hj, hf⟩
                          clear hf hj hfi a0 a1 a2
                          go_wp2_with fail
                          go_meet
                          case rel =>
                            refine ⟨j, l, v, rfl, HF.out.1, d0.out, hv.out, fun cu => ?_⟩
                            exact (rput_some HF.out.2 HF.out.1 n cu).symm
                        | none =>
                          rw [hf] at hfi2
                          simp only at hfi2
                          subst hfi2
                          have HF : Hid (l.findIdx? (fun x => x.1 == id) = none) := hf
                          obtain ⟨base, cap, w4, hrun, k1, k2, k3, D1, hk⟩ := d0.out.born (id, 0, false) HLEN.out
                          have c1 : w3.cell? ⟨p, 1, none⟩ = some v := cell_blk d0.out.rt.blk 1
                          have lp : p < w3.heap.size := d0.out.rt.lt
                          obtain ⟨vb, vcap, rfl, hl1, hl2⟩ := d0.out.rt.row.slice
                          have HFin : Hid (Dr w (w4.setCell ⟨p, 1, none⟩ (.slice base (l.length + 1) cap)) p (.slice vb l.length vcap) (.slice base (l.length + 1) cap) c (l ++ [(id, 0, false)]) g k ∧ (w4.setCell ⟨p, 1, none⟩ (.slice base (l.length + 1) cap)).heap[q]? = some (.cells #[.int .i64 0, .int .i64 cc] 55 (0, 0))) := ⟨D1, hk _ _ hv.out⟩
                          replace hrun : Hid _ := hrun
                          have hcp : l.length + 1 ≤ cap ∧ cap ≤ 9223372036854775807 := by
                            obtain ⟨_, c', e1, q1, q2⟩ := D1.rt.row.slice
                            injection e1 with _ _ e1
                            subst e1
                            rw [List.length_append] at q1
                            exact ⟨q1, q2⟩
                          obtain ⟨hcp1, hcp2⟩ := hcp
                          clear D1 hk hf hfi a0 a1 a2
                          simp only at hrun
                          go_wp2_with (at_builtin; refine Lib.wpList_append_run _ rfl _ _ _ _ rfl _ _ rfl rfl _ _ hrun.out ?_)
                          go_meet
                          case rel =>
                            refine ⟨l.length, l ++ [(id, 0, false)], _, by simp, by simp, HFin.out.1, HFin.out.2, fun cu => ?_⟩
                            rw [rput_none HF.out]
                            simp
                      case rest =>
                        obtain ⟨j, l1, v1, rfl, hjj⟩ := hcut
                        obtain ⟨hj, D1, hv1, hput⟩ := hjj.out
                        obtain ⟨gg, cap, e1, h1, h2, h3, h4, h5, h6, h7, h8, h9, ha⟩ := D1.found j hj
                        subst e1
                        have c1 : wc.cell? ⟨p, 1, none⟩ = some (.slice (some ⟨gg, 0, none⟩) l1.length cap) := cell_blk D1.rt.blk 1
                        have lp : p < wc.heap.size := D1.rt.lt
                        have D2 := h8 n
                        have hv2 := ha (j * 3 + 1) (.int .i64 n) q _ hv1
                        have hlt : (j : Int) < (l1.length : Int) := by omega
                        have HP : Hid (∀ cu, l1.set j (l1[j].1, n, l1[j].2.2 || cu) = rput l id n cu) := hput
                        have HJ : Hid (j < l1.length) := hj
                        replace D2 : Hid _ := D2
                        replace hv2 : Hid _ := hv2
                        clear h8 h9 ha hput hjj D1 hv1 hv hfi HLEN d0 a0 a1 a2
                        go_upto_region 19 with fail
                        clear h4 h5 h6 h7 c1 lp h3
                        obtain ⟨W2, hW2⟩ : ∃ W2, wc.setCell ⟨gg, j * 3 + 1, none⟩ (.int .i64 n) = W2 := ⟨_, rfl⟩
                        rw [hW2] at D2 hv2 ⊢
                        clear hW2
                        obtain ⟨a0, a1, a2⟩ := D2.out.cells
                        cases e6 : (k == 6 && !g)
                        · obtain ⟨c0, c1, f0, f1, hF⟩ := D2.out.fin
                          have e0 : W2.cell? ⟨q, 0, none⟩ = some (.int .i64 0) := cell_blk hv2.out 0
                          have e1 : W2.cell? ⟨q, 1, none⟩ = some (.int .i64 cc) := cell_blk hv2.out 1
                          have hdo := HDO4.out
                          rw [e6, ← HP.out false, Bool.or_false] at hdo
                          subst hdo
                          replace hF : Hid _ := hF
                          clear HDO4
                          cases e7 : (k == 6)
                          · go_wp2
                            refine bodyPost_ret (results_c (p := 6) (ty := 55) rfl _ _ (w.heap.size + 1) 55 _ (0, 0) _ rfl (hF.out _ _).1 Try.underlying55 rfl (by kernel_rfl)) rfl ⟨rfl, (hF.out _ _).2⟩
                          · obtain rfl : g = true := by
                              rw [e7] at e6
                              simpa using e6
                            go_wp2
                            refine bodyPost_ret (results_c (p := 6) (ty := 55) rfl _ _ (w.heap.size + 1) 55 _ (0, 0) _ rfl (hF.out _ _).1 Try.underlying55 rfl (by kernel_rfl)) rfl ⟨rfl, (hF.out _ _).2⟩
                        · simp only [Bool.and_eq_true, Bool.not_eq_true'] at e6
                          obtain ⟨e7, rfl⟩ := e6
                          have hj2 : j < (l1.set j (l1[j].1, n, l1[j].2.2)).length := by rw [List.length_set]; exact HJ.out
                          obtain ⟨gg2, cap2, ee, h1', h2', h3, h4, h5, h6, h7, h8, h9, ha⟩ := D2.out.found j hj2
                          injection ee with ee1 ee2 ee3
                          injection ee1 with ee1
                          injection ee1 with ee1
                          subst ee1
                          have D3 := h9 true
                          have hv3 := ha (j * 3 + 2) (.bool true) q _ hv2.out
                          have c1 : W2.cell? ⟨p, 1, none⟩ = some (.slice (some ⟨gg, 0, none⟩) l1.length cap) := cell_blk D2.out.rt.blk 1
                          have lp : p < W2.heap.size := D2.out.rt.lt
                          rw [List.getElem_set_self] at D3 h4 h5
                          rw [List.set_set] at D3
                          have hdo := HDO4.out
                          rw [show (k == 6 && !false) = true by rw [e7]; rfl, ← HP.out true, Bool.or_true] at hdo
                          subst hdo
                          replace D3 : Hid _ := D3
                          replace hv3 : Hid _ := hv3
                          clear ee2 ee3 HDO4 h8 h9 ha h1' h2'
                          go_upto_region 21 with fail
                          clear h4 h5 h6 h7 c1 lp h3 a0 a1 a2
                          obtain ⟨W3, hW3⟩ : ∃ W3, W2.setCell ⟨gg, j * 3 + 2, none⟩ (.bool true) = W3 := ⟨_, rfl⟩
                          rw [hW3] at D3 hv3 ⊢
                          clear hW3
                          obtain ⟨c0, c1, f0, f1, hF⟩ := D3.out.fin
                          have e0 : W3.cell? ⟨q, 0, none⟩ = some (.int .i64 0) := cell_blk hv3.out 0
                          have e1 : W3.cell? ⟨q, 1, none⟩ = some (.int .i64 cc) := cell_blk hv3.out 1
                          replace hF : Hid _ := hF
                          go_wp2
                          refine bodyPost_ret (results_c (p := 6) (ty := 55) rfl _ _ (w.heap.size + 1) 55 _ (0, 0) _ rfl (hF.out _ _).1 Try.underlying55 rfl (by kernel_rfl)) rfl ⟨rfl, (hF.out _ _).2⟩
                  · have hdo := HDO3.out
                    rw [e2, if_pos rfl] at hdo
                    subst hdo
                    clear HDO3 e2 HNX
                    obtain ⟨c0, c1, f0, f1, hF⟩ := d0.fin
                    clear d0
                    go_wp2
                    refine bodyPost_ret (results_c (p := 6) (ty := 55) rfl _ _ (w.heap.size + 1) 55 _ (0, 0) _ rfl (hF _ _).1 Try.underlying55 rfl (by kernel_rfl)) rfl ⟨rfl, (hF _ _).2⟩
              · have hdo := HDO2.out
                rw [e1, if_pos rfl] at hdo
                subst hdo
                clear HDO2 e1 HNX
                go_wp2_with fail
                refine (refused_any g k _).mono ?_
                rintro e w2 ⟨rfl, hB⟩
                obtain ⟨c0, c1, f0, f1, hF⟩ := (d0.below hB).fin
                clear hB d0 a0 a1 a2
                go_wp2
                refine bodyPost_ret (results_c (p := 6) (ty := 55) rfl _ _ (w.heap.size + 1) 55 _ (0, 0) _ rfl (hF _ _).1 Try.underlying55 rfl (by kernel_rfl)) rfl ⟨rfl, (hF _ _).2⟩
        · have g3 : decide (id < 1) = false := decide_eq_false (by omega)
          have g4 : decide (2147483647 < id) = true := decide_eq_true (by omega)
          rw [if_pos (isStr_not.2 (fun e => hi2 e.2))] at hdo
          subst hdo
          clear HDO HNX HSA hk1 hk8 hi1 hi2 hst
          go_wp2_with fail
          refine (refused_any g k _).mono ?_
          rintro e w2 ⟨rfl, hB⟩
          obtain ⟨c0, c1, f0, f1, hF⟩ := (d0.below hB).fin
          clear hB d0 a0 a1 a2
          go_wp2
          refine bodyPost_ret (results_c (p := 6) (ty := 55) rfl _ _ (w.heap.size + 1) 55 _ (0, 0) _ rfl (hF _ _).1 Try.underlying55 rfl (by kernel_rfl)) rfl ⟨rfl, (hF _ _).2⟩
      · have g3 : decide (id < 1) = true := decide_eq_true (by omega)
        rw [if_pos (isStr_not.2 (fun e => hi1 e.1))] at hdo
        subst hdo
        clear HDO HNX HSA hk1 hk8 hi1 hst
        go_wp2_with fail
        refine (refused_any g k _).mono ?_
        rintro e w2 ⟨rfl, hB⟩
        obtain ⟨c0, c1, f0, f1, hF⟩ := (d0.below hB).fin
        clear hB d0 a0 a1 a2
        go_wp2
        refine bodyPost_ret (results_c (p := 6) (ty := 55) rfl _ _ (w.heap.size + 1) 55 _ (0, 0) _ rfl (hF _ _).1 Try.underlying55 rfl (by kernel_rfl)) rfl ⟨rfl, (hF _ _).2⟩
    · have g1 : decide (k < 1) = false := decide_eq_false (by omega)
      have g2 : decide (8 < k) = true := decide_eq_true (by omega)
      have hdo := HDO.out
      rw [if_pos (isK_not.2 (fun e => hk8 e.2))] at hdo
      subst hdo
      clear HDO HNX HSA hk1 hk8 hst d0
      go_wp2
      refine bodyPost_ret (results_c (p := 6) (ty := 55) rfl _ _ (w.heap.size + 1) 55 _ (0, 0) _ rfl (fresh2 _ _ _) Try.underlying55 rfl (by kernel_rfl)) rfl ⟨rfl, v, HRT.out.below (bel2 _ _ _), Ks.of_below (bel2 _ _ _), fun i hi => .inl hi⟩
  · have g1 : decide (k < 1) = true := decide_eq_true (by omega)
    have hdo := HDO.out
    rw [if_pos (isK_not.2 (fun e => hk1 e.1))] at hdo
    subst hdo
    clear HDO HNX HSA hk1 hst d0
    go_wp2
    refine bodyPost_ret (results_c (p := 6) (ty := 55) rfl _ _ (w.heap.size + 1) 55 _ (0, 0) _ rfl (fresh2 _ _ _) Try.underlying55 rfl (by kernel_rfl)) rfl ⟨rfl, v, HRT.out.below (bel2 _ _ _), Ks.of_below (bel2 _ _ _), fun i hi => .inl hi⟩
end Go.Proofs.Ytaaocgppniflcaa
