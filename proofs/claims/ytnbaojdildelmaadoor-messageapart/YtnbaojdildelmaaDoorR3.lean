/- MessageApart, walked. -/
import Derived.Test.YtnbaojdildelmaaDoorR2
import Derived.Deep.QuietTactic
import Derived.BigQuiet
namespace Go.Proofs.YtnbaojdildelmaaDoor
open Go.RowKit
set_option linter.unusedVariables false
set_option linter.unusedSimpArgs false
theorem field34_1 (n : Int) (y : Value) (b : ByteArray) (W : World) : Sem.run Tryd.prog (Instr.field 34 (.agg #[.int .i64 n, y, .string b]) 1) W = .ok y W := by kernel_rfl
theorem field37_0 (m s a p : ByteArray) (y : Value) (b : ByteArray) (W : World) : Sem.run Tryd.prog (Instr.field 37 (.agg #[.string m, .string s, .string a, .string p, y, .string b]) 0) W = .ok (.string m) W := by kernel_rfl
def RzPost (w : World) (e : Ending) (w' : World) : Prop := e = .returned (.agg #[.string ⟨#[]⟩, .string ⟨#[]⟩, .string ⟨#[]⟩, .string ⟨#[]⟩, .slice none 0 0, .string ⟨#[]⟩]) ∧ Below w.heap.size w w'
set_option maxHeartbeats 4000000 in
set_option maxRecDepth 100000 in
theorem request_none (g : Nat) (x : Mg) (w : World) (h : MgB w g x) (hrq : x.rq = false) : Calls Tryd.prog 12 #[.pointer (some ⟨g, 0, none⟩)] w fun e w' => RzPost w e w' := by
  obtain ⟨w1, hw1⟩ : ∃ v, w.alloc (.cells #[.string ⟨#[]⟩, .string ⟨#[]⟩, .string ⟨#[]⟩, .string ⟨#[]⟩, .slice none 0 0, .string ⟨#[]⟩] 37) = v := ⟨_, rfl⟩
  have b1 : Below w.heap.size w w1 := by rw [← hw1]; exact bel1 w _
  have c0 := (h.below b1).cells.c0
  have lg := (h.below b1).cells.lt
  rw [hrq] at c0
  have hob : w1.heap[w.heap.size]? = some (.cells #[.string ⟨#[]⟩, .string ⟨#[]⟩, .string ⟨#[]⟩, .string ⟨#[]⟩, .slice none 0 0, .string ⟨#[]⟩] 37) := by rw [← hw1, heap_al, if_pos rfl]
  have HW1 : Hid (w.alloc (.cells #[.string ⟨#[]⟩, .string ⟨#[]⟩, .string ⟨#[]⟩, .string ⟨#[]⟩, .slice none 0 0, .string ⟨#[]⟩] 37) = w1) := hw1
  have o0 := cell_blk hob 0
  have z0 := frozen_blk hob 0
  have o1 := cell_blk hob 1
  have z1 := frozen_blk hob 1
  have o2 := cell_blk hob 2
  have z2 := frozen_blk hob 2
  have o3 := cell_blk hob 3
  have z3 := frozen_blk hob 3
  have o4 := cell_blk hob 4
  have z4 := frozen_blk hob 4
  have o5 := cell_blk hob 5
  have z5 := frozen_blk hob 5
  have ol := heap_lt hob
  have HR : Hid ((((((((w1).setCell ⟨w.heap.size, 0, none⟩ (.string ⟨#[]⟩)).setCell ⟨w.heap.size, 1, none⟩ (.string ⟨#[]⟩)).setCell ⟨w.heap.size, 2, none⟩ (.string ⟨#[]⟩)).setCell ⟨w.heap.size, 3, none⟩ (.string ⟨#[]⟩)).setCell ⟨w.heap.size, 4, none⟩ (.slice none 0 0)).setCell ⟨w.heap.size, 5, none⟩ (.string ⟨#[]⟩)).heap[w.heap.size]? = some (.cells #[.string ⟨#[]⟩, .string ⟨#[]⟩, .string ⟨#[]⟩, .string ⟨#[]⟩, .slice none 0 0, .string ⟨#[]⟩] 37 (0, 0)) ∧ Below w.heap.size w (((((((w1).setCell ⟨w.heap.size, 0, none⟩ (.string ⟨#[]⟩)).setCell ⟨w.heap.size, 1, none⟩ (.string ⟨#[]⟩)).setCell ⟨w.heap.size, 2, none⟩ (.string ⟨#[]⟩)).setCell ⟨w.heap.size, 3, none⟩ (.string ⟨#[]⟩)).setCell ⟨w.heap.size, 4, none⟩ (.slice none 0 0)).setCell ⟨w.heap.size, 5, none⟩ (.string ⟨#[]⟩))) := by
    refine ⟨by rw [setCell_block _ _ _ _ _ _ _ (setCell_block _ _ _ _ _ _ _ (setCell_block _ _ _ _ _ _ _ (setCell_block _ _ _ _ _ _ _ (setCell_block _ _ _ _ _ _ _ (setCell_block _ _ _ _ _ _ _ hob)))))]; rfl, ((((((b1).setCell (p := ⟨w.heap.size, 0, none⟩) (Nat.le_refl _) _).setCell (p := ⟨w.heap.size, 1, none⟩) (Nat.le_refl _) _).setCell (p := ⟨w.heap.size, 2, none⟩) (Nat.le_refl _) _).setCell (p := ⟨w.heap.size, 3, none⟩) (Nat.le_refl _) _).setCell (p := ⟨w.heap.size, 4, none⟩) (Nat.le_refl _) _).setCell (p := ⟨w.heap.size, 5, none⟩) (Nat.le_refl _) _⟩
  simp only [List.getElem?_toArray, List.getElem?_cons_succ, List.getElem?_cons_zero] at o0 o1 o2 o3 o4 o5
  clear h hrq hw1 b1 hob
  go_enter Tryd.func12, Tryd.ntmps12
  go_upto_region 1 with fail
  rw [HW1.out]
  clear HW1
  go_wp2_with fail
  refine bodyPost_ret (results_c (p := 2) (ty := 37) rfl _ _ w.heap.size 37 #[.string ⟨#[]⟩, .string ⟨#[]⟩, .string ⟨#[]⟩, .string ⟨#[]⟩, .slice none 0 0, .string ⟨#[]⟩] (0, 0) _ rfl HR.out.1 Tryd.underlying37 rfl (by kernel_rfl)) rfl ?_
  exact ⟨by first | rfl | simp, HR.out.2⟩
theorem Ma.keepLo {w W W' : World} {Bd g k Lo : Nat} {x : Mg} {A : Nat → Prop} (h : Ma w W Bd g x k) (hlo : Lo ≤ g ∧ ∀ j, (sv x.ry).ownBlock = some j → Lo ≤ j) (hk : Ks A W W') (hA : ∀ j, A j → j < Lo ∧ w.heap.size ≤ j) : Ma w W' Bd g x k :=
  ⟨h.ms.keepK hk (fun a => by have := hA _ a; have := hlo.1; omega) (fun j hj => by rw [h.nb] at hj; simp [sv, Value.ownBlock] at hj) (fun j hj a => by have := hA _ a; have := hlo.2 j hj; omega) (fun j hj => by rw [h.nq] at hj; simp [sv, Value.ownBlock] at hj), h.og, h.gb, h.nb, h.nq, h.rq, h.ry, h.bel.trans (hk.below h.bel.size fun i hi a => by have := hA i a; omega), Nat.le_trans h.bd hk.size⟩
theorem Ma.raise {w W : World} {Bd Bd' g k : Nat} {x : Mg} (h : Ma w W Bd g x k) (h1 : Bd' ≤ W.heap.size) (h2 : Bd ≤ Bd') : Ma w W Bd' g x k := ⟨h.ms, h.og, Nat.lt_of_lt_of_le h.gb h2, h.nb, h.nq, h.rq, fun j hj => Nat.lt_of_lt_of_le (h.ry j hj) h2, h.bel, h1⟩
set_option maxHeartbeats 40000000 in
set_option maxRecDepth 100000 in
theorem messageApart_any (t : SV) (names : List ByteArray) (w : World) (hI : In ES w (sv t) names) (he : Er w) :
    Calls Tryd.prog 3 #[sv t] w fun e w' => OvPost w e w' := by
  have hh : Hid (Calls Tryd.prog 7 #[] w fun e w' => OvPost w e w') := head_any w he
  have HER : Hid (Er w) := he
  obtain ⟨tb, m, tc⟩ := t
  simp only [sv] at hI ⊢
  have htc : m ≤ tc := by have := slice_len hI; omega
  have htc9 : tc ≤ 9223372036854775807 := (slice_len hI).2.2
  clear he hI
  go_enter Tryd.func3, Tryd.ntmps3
  go_wp2_with fail
  go_at_call 7
  refine Calls.mono hh.out ?_
  rintro e wh ⟨rfl, bh⟩
  have BH : Hid (Below w.heap.size w wh) := bh
  clear bh hh
  go_wp2_with fail
  go_at_call 8
  refine (reply_any ⟨#[50, 48, 48]⟩ ⟨#[]⟩ wh).mono ?_
  rintro e wr0 ⟨⟨rb, rn, rc⟩, rfl, bX, rX, oX⟩
  have e0 : rpL ⟨#[50, 48, 48]⟩ ⟨#[]⟩ = AL 0 := rfl
  rw [e0] at rX
  obtain rfl : 1 = rn := by have := (slice_lenB (show R EFd wr0 (.slice rb rn rc) (AL 0) from rX)).1; rw [AL_len] at this; omega
  have S0 : Hid (Below w.heap.size w wr0 ∧ Rw wr0 w.heap.size rb 1 rc (AL 0)) := ⟨BH.out.trans (bX.mono BH.out.size), rX, fun j hj => Nat.le_trans BH.out.size (oX j hj)⟩
  clear bX rX oX e0 BH
  simp only [sv]
  go_wp2_with fail
  go_loopw [3, 4] (fun lv iv wr => ∃ (i n1 : Nat) (b : Option Addr) (c : Nat), lv = .slice b n1 c ∧ iv = .int .i64 (i : Int) ∧ n1 = i + 1 ∧ i ≤ m ∧ i ≤ 60 ∧ Hid (Below w.heap.size w wr ∧ Rw wr w.heap.size b (i + 1) c (AL i))) (fun _ iv _ => 60 - (intOf iv).toNat)
  case atStart => exact ⟨0, 1, rb, rc, rfl, rfl, rfl, by omega, by omega, S0.out⟩
  case round =>
    obtain ⟨k, n1, b, c, rfl, rfl, hn1, hkm, hk60, hS⟩ := hrel
    clear S0
    obtain ⟨ws, hws⟩ : ∃ v, wr = v := ⟨_, rfl⟩
    rw [hws] at hS ⊢
    clear hws
    by_cases hm : k < m
    · have hm' : (k : Int) < (m : Int) := by omega
      by_cases h60 : k < 60
      · have h60' : (k : Int) < 60 := by omega
        have hit : Hid (Calls Tryd.prog 9 #[.int .i64 (k : Int)] ws fun e w' => e = .returned (.string (decS k)) ∧ w' = ws) := Tryd.strconv_Itoa_small k (by omega) ws
        obtain ⟨V, hV⟩ : ∃ v, (⟨#[118]⟩ : ByteArray) ++ decS k = v := ⟨_, rfl⟩
        have hVx : xF k = ⟨⟨#[120]⟩, V, false⟩ := by unfold xF vS; rw [hV]
        have hds : (decS k).size ≤ 10 := by have := dec_len 9 k (by omega); rw [decS, bt_size]; exact this
        have hvx : ¬ 1 + (decS k).size > 9223372036854775807 := by omega
        obtain ⟨b', c', W', a1, a2, a3, a4⟩ := hS.out.2.more (by rw [AL_len]; omega) hS.out.1.size (xF k)
        rw [AL_len] at a1 a2 a4
        rw [← AL_succ] at a2
        have hnx : Hid (Below w.heap.size w W' ∧ Rw W' w.heap.size b' (k + 1 + 1) c' (AL (k + 1))) := ⟨hS.out.1.trans (a3.below hS.out.1.size fun j hj a => by have := hS.out.2.own j a; omega), a2⟩
        rw [hVx] at a1
        replace a1 : Hid _ := a1
        simp only [fdv] at a1
        subst hn1
        generalize decS k = DK at hit hV hvx hds
        clear hVx hds a2 a3 a4 hS
        go_wp2_with (first | (go_at_call 9; refine Calls.mono hit.out ?_; rintro e w9 ⟨rfl, rfl⟩) | (at_builtin; refine Lib.wpList_append_run _ rfl _ _ _ _ rfl _ _ rfl rfl _ _ a1.out ?_))
        go_roundw
        case rel => exact ⟨k + 1, k + 1 + 1, b', c', by first | rfl | simp, by simp, rfl, by omega, by omega, hnx.out⟩
        case measure => simp [intOf]; omega
      · have h60' : ¬ (k : Int) < 60 := by omega
        subst hn1
        have hn : Hid (Calls Tryd.prog 10 #[.bool false, .string ⟨#[71, 69, 84]⟩, .slice b (k + 1) c] ws fun e w' => NwPost ⟨#[71, 69, 84]⟩ (AL k) ws e w') := new_res ⟨#[71, 69, 84]⟩ (b, k + 1, c) (AL k) ws (R.isIn hS.out.2.row) (by rw [AL_len]; omega) (AL_names k) (by rw [AL_vs]; simp) (HER.out.below hS.out.1)
        go_wp2_with fail
        go_at_call 10
        refine Calls.mono hn.out ?_
        rintro e wn ⟨bX, k2, _⟩
        obtain ⟨g, y, rfl, og, M, oy⟩ := k2 (AL_nw hk60).1
        obtain ⟨q1, q2, q3, q4, q5, q6⟩ := NwX_keeps ⟨#[71, 69, 84]⟩ (AL k) y
        obtain ⟨x, hx⟩ : ∃ x, NwX ⟨#[71, 69, 84]⟩ (AL k) y = x := ⟨_, rfl⟩
        rw [hx] at M q1 q3 q4 q5
        have MA : Hid (Ma w wn wn.heap.size g x k) := ⟨M, Nat.le_trans hS.out.1.size og, heap_lt M.bx, q3, q5, q1, fun j hj => R.lt M.rf j hj, hS.out.1.trans (bX.mono hS.out.1.size), Nat.le_refl _⟩
        have LO : Hid (ws.heap.size ≤ g ∧ ∀ j, (sv x.ry).ownBlock = some j → ws.heap.size ≤ j) := ⟨og, fun j hj => oy j (by rw [q4] at hj; exact hj)⟩
        have RL : Hid (Rw wn w.heap.size b (k + 1) c (AL k)) := hS.out.2.below bX
        have OL : Hid (∀ j, (Value.slice b (k + 1) c).ownBlock = some j → j < ws.heap.size) := fun j hj => R.lt hS.out.2.row j hj
        have hkc : k + 1 ≤ c := by have := (slice_lenB hS.out.2.row).2.1; rw [AL_len] at this; exact this
        clear hS bX k2 hx M og oy q1 q2 q3 q4 q5 q6 hn
        go_wp2_with fail
        go_loopw [8] (fun iv wr => ∃ (i : Nat) (l : List Fd), iv = .int .i64 (i : Int) ∧ i ≤ k + 1 ∧ Hid (l.length = k + 1) ∧ Hid (Ma w wr wn.heap.size g x k ∧ Rw wr w.heap.size b (k + 1) c l)) (fun iv _ => k + 1 - (intOf iv).toNat)
        case atStart => exact ⟨0, AL k, rfl, by omega, AL_len k, MA.out, RL.out⟩
        case round =>
          obtain ⟨i, l, rfl, hi, hll, hs⟩ := hrel
          clear MA RL
          by_cases hlt : i < k + 1
          · have hlt' : (i : Int) < (k : Int) + 1 := by omega
            obtain ⟨gl, e, e2, z1, z2, z3, z4, z5, d0, d1, d2, z6⟩ := hs.out.2.write i (by rw [hll.out]; exact hlt)
            subst e
            obtain ⟨⟨fn, fv, fnv⟩, hf⟩ : ∃ f, l[i]'(by rw [hll.out]; exact hlt) = f := ⟨_, rfl⟩
            rw [hf] at d0 d1 d2
            simp only at d0 d1 d2
            have f0 := z5 (i * 3)
            have f1 := z5 (i * 3 + 1)
            have f2 := z5 (i * 3 + 2)
            obtain ⟨z7, z8⟩ := z6 ⟨⟨#[103, 111, 110, 101]⟩, ⟨#[]⟩, false⟩
            have hnx : Hid (Ma w (setFd wr gl i ⟨⟨#[103, 111, 110, 101]⟩, ⟨#[]⟩, false⟩) wn.heap.size g x k ∧ Rw (setFd wr gl i ⟨⟨#[103, 111, 110, 101]⟩, ⟨#[]⟩, false⟩) w.heap.size (some ⟨gl, 0, none⟩) (k + 1) c (l.set i ⟨⟨#[103, 111, 110, 101]⟩, ⟨#[]⟩, false⟩)) := ⟨hs.out.1.keepLo LO.out z8 (fun j hj => ⟨by rw [hj]; exact OL.out gl rfl, by rw [hj]; exact z3⟩), z7⟩
            simp only [setFd] at hnx
            clear z1 z2 z3 z5 z6 z7 z8 hf hs e2
            go_wp2_with fail
            go_roundw
            case rel => exact ⟨i + 1, _, by simp, by omega, by show _ = _; rw [List.length_set]; exact hll.out, hnx.out⟩
            case measure => simp [intOf]; omega
          · obtain rfl : i = k + 1 := by omega
            have hlt' : ¬ ((k : Int) + 1) < (k : Int) + 1 := by omega
            obtain ⟨wl, hwl⟩ : ∃ v, wr = v := ⟨_, rfl⟩
            rw [hwl] at hs ⊢
            have M0 : Hid (Ma w wl wl.heap.size g x k) := hs.out.1.raise (Nat.le_refl _) hs.out.1.bd
            clear hs hll hwl OL LO
            have hr1 : Hid (∀ W Bd, Ma w W Bd g x k → Calls Tryd.prog 11 #[.pointer (some ⟨g, 0, none⟩)] W fun e w' => SPost x [] (xs k) W e w') := fun W Bd h => response_any g x [] (xs k) [] W h.ms h.rq (by rw [xs_len]; omega)
            have hra : Hid _ := hr1.out wl _ M0.out
            go_wp2_with fail
            go_at_call 11
            refine Calls.mono hra.out ?_
            rintro e wa ⟨⟨ab, an, ac⟩, rfl, bX, rX, oX⟩
            obtain rfl : k = an := by have := (slice_lenB (show R EFd wa (.slice ab an ac) (xs k) from rX)).1; rw [xs_len] at this; exact this.symm
            have hkac : k ≤ ac := by have := (slice_lenB (show R EFd wa (.slice ab k ac) (xs k) from rX)).2.1; rw [xs_len] at this; exact this
            have M1 : Hid (Ma w wa wl.heap.size g x k) := M0.out.below bX
            have RA : Hid (Rw wa wl.heap.size ab k ac (xs k)) := ⟨rX, oX⟩
            have hfl := field34_1 x.n (.slice ab k ac) (bt []) wa
            have hrb : Hid _ := hr1.out wa _ M1.out
            simp only [rsv, sv]
            clear bX rX oX M0 hra
            go_wp2_with fail
            go_at_call 11
            refine Calls.mono hrb.out ?_
            rintro e wb ⟨⟨bb, bn, bc⟩, rfl, bX, rX, oX⟩
            obtain rfl : k = bn := by have := (slice_lenB (show R EFd wb (.slice bb bn bc) (xs k) from rX)).1; rw [xs_len] at this; exact this.symm
            have hkbc : k ≤ bc := by have := (slice_lenB (show R EFd wb (.slice bb k bc) (xs k) from rX)).2.1; rw [xs_len] at this; exact this
            have S1 : Hid (Ma w wb wl.heap.size g x k ∧ Rw wb wl.heap.size ab k ac (xs k) ∧ Rw wb wl.heap.size bb k bc (xs k)) := ⟨M1.out.below bX, RA.out.below bX, rX, fun j hj => Nat.le_trans (Nat.le_trans M1.out.bd (Nat.le_refl _)) (oX j hj)⟩
            have AP : Hid (∀ j, (Value.slice ab k ac).ownBlock = some j → (Value.slice bb k bc).ownBlock ≠ some j) := fun j hj e => by
              have h1 := R.lt RA.out.row j hj
              have h2 := oX j e
              omega
            have hfl2 := field34_1 x.n (.slice bb k bc) (bt []) wb
            simp only [rsv, sv]
            clear bX rX oX M1 RA hrb hfl
            go_wp2_with fail
            clear hfl2
            go_loopw [11] (fun iv W => ∃ i : Nat, iv = .int .i64 (i : Int) ∧ i ≤ k ∧ Hid (Ma w W wl.heap.size g x k ∧ Rw W wl.heap.size ab k ac (xs k) ∧ Rw W wl.heap.size bb k bc (xs k))) (fun iv _ => k - (intOf iv).toNat)
            case atStart => exact ⟨0, rfl, by omega, S1.out⟩
            case round =>
              obtain ⟨i, rfl, hi, hs⟩ := hrel
              clear S1
              obtain ⟨w3, hw3⟩ : ∃ v, wr = v := ⟨_, rfl⟩
              rw [hw3] at hs ⊢
              clear hw3
              by_cases hlt : i < k
              · have hlt' : (i : Int) < (k : Int) := by omega
                obtain ⟨ga, ea, t1, t2, t3, t4, t5, t6, p0, p1, p2, t7⟩ := hs.out.2.1.write i (by rw [xs_len]; exact hlt)
                obtain ⟨gb, eb, s1, s2, s3, s4, s5, s6, q0, q1, q2, s7⟩ := hs.out.2.2.write i (by rw [xs_len]; exact hlt)
                subst ea eb
                clear t1 t2 t3 t4 t6 t7 s1 s2 s3 s4 s6 s7
                rw [xs_get] at p0 p1 p2 q0 q1 q2
                obtain ⟨V, hV⟩ : ∃ v, (⟨#[118]⟩ : ByteArray) ++ decS i = v := ⟨_, rfl⟩
                have hVx : vS i = V := hV
                simp only [xF, hVx] at p0 p1 p2 q0 q1 q2
                have hds : (decS i).size ≤ 10 := by have := dec_len 9 i (by omega); rw [decS, bt_size]; exact this
                have hvx : ¬ 1 + (decS i).size > 9223372036854775807 := by omega
                have hit : Hid (∀ W, Calls Tryd.prog 9 #[.int .i64 (i : Int)] W fun e w' => e = .returned (.string (decS i)) ∧ w' = W) := fun W => Tryd.strconv_Itoa_small i (by omega) W
                generalize decS i = DK at hit hV hvx hds
                have r1 := str_eq (rfl : V = V)
                have r1' : (V.toList != V.toList) = false := by rw [bne, r1]; rfl
                have r2 := str_eq (rfl : (⟨#[120]⟩ : ByteArray) = ⟨#[120]⟩)
                clear hVx hds
                go_wp2_with fail
                go_quiet (first | (go_at_call 9; exact Calls.quiet_of_same (hit.out _)))
                go_wp2_with fail
                go_roundw
                case rel => exact ⟨i + 1, by simp, by omega, hs.out.1.below (below_drewN (Below.refl _ _) _), hs.out.2.1.below (below_drewN (Below.refl _ _) _), hs.out.2.2.below (below_drewN (Below.refl _ _) _)⟩
                case measure => simp [intOf]; omega
              · obtain rfl : i = k := by omega
                have hlt' : ¬ (i : Int) < (i : Int) := by omega
                have S2 : Hid _ := hs
                clear hs
                go_wp2_with fail
                go_loopw [12] (fun iv W => ∃ (j : Nat) (l : List Fd), iv = .int .i64 (j : Int) ∧ j ≤ i ∧ Hid (l.length = i) ∧ Hid (∀ q (h : q < l.length), q < j → l[q].n = ⟨#[111, 110, 101]⟩) ∧ Hid (Ma w W wl.heap.size g x i ∧ Rw W wl.heap.size ab i ac l ∧ Rw W wl.heap.size bb i bc (xs i))) (fun iv _ => i - (intOf iv).toNat)
                case atStart => exact ⟨0, xs i, rfl, by omega, xs_len i, fun q h hq => by omega, S2.out⟩
                case round =>
                  obtain ⟨j, l, rfl, hj, hll, hone, hs⟩ := hrel
                  clear S2
                  obtain ⟨w4, hw4⟩ : ∃ v, wr = v := ⟨_, rfl⟩
                  rw [hw4] at hs ⊢
                  clear hw4
                  by_cases hlt : j < i
                  · have hlt' : (j : Int) < (i : Int) := by omega
                    obtain ⟨ga, ea, t1, t2, t3, t4, t5, t6, d0, d1, d2, t7⟩ := hs.out.2.1.write j (by rw [hll.out]; exact hlt)
                    subst ea
                    obtain ⟨⟨fn, fv, fnv⟩, hf⟩ : ∃ f, l[j]'(by rw [hll.out]; exact hlt) = f := ⟨_, rfl⟩
                    rw [hf] at d0 d1 d2
                    simp only at d0 d1 d2
                    have f0 := t6 (j * 3)
                    have f1 := t6 (j * 3 + 1)
                    have f2 := t6 (j * 3 + 2)
                    obtain ⟨z7, z8⟩ := t7 ⟨⟨#[111, 110, 101]⟩, ⟨#[]⟩, false⟩
                    have hnx : Hid (Ma w (setFd w4 ga j ⟨⟨#[111, 110, 101]⟩, ⟨#[]⟩, false⟩) wl.heap.size g x i ∧ Rw (setFd w4 ga j ⟨⟨#[111, 110, 101]⟩, ⟨#[]⟩, false⟩) wl.heap.size (some ⟨ga, 0, none⟩) i ac (l.set j ⟨⟨#[111, 110, 101]⟩, ⟨#[]⟩, false⟩) ∧ Rw (setFd w4 ga j ⟨⟨#[111, 110, 101]⟩, ⟨#[]⟩, false⟩) wl.heap.size bb i bc (xs i)) := ⟨hs.out.1.keep z8 (fun q hq => by rw [hq]; exact t4), z7, hs.out.2.2.keep z8 (fun q hq e => AP.out ga rfl (by rw [← e]; exact hq))⟩
                    have hon2 : Hid (∀ q (h : q < (l.set j ⟨⟨#[111, 110, 101]⟩, ⟨#[]⟩, false⟩).length), q < j + 1 → (l.set j ⟨⟨#[111, 110, 101]⟩, ⟨#[]⟩, false⟩)[q].n = ⟨#[111, 110, 101]⟩) := fun q h hq => by
                      rw [List.getElem_set]
                      split
                      · rfl
                      · exact hone.out q (by rw [List.length_set] at h; exact h) (by omega)
                    simp only [setFd] at hnx
                    clear t1 t2 t3 t4 t6 t7 z7 z8 hf hs hone
                    go_wp2_with fail
                    go_roundw
                    case rel => exact ⟨j + 1, _, by simp, by omega, by show _ = _; rw [List.length_set]; exact hll.out, hon2.out, hnx.out⟩
                    case measure => simp [intOf]; omega
                  · obtain rfl : j = i := by omega
                    have hlt' : ¬ (j : Int) < (j : Int) := by omega
                    obtain ⟨a2, c2, w5, u1, u2, u3, u4⟩ := hs.out.2.1.more (by rw [hll.out]; omega) hs.out.1.bd ⟨⟨#[116, 119, 111]⟩, ⟨#[]⟩, false⟩
                    rw [hll.out] at u1 u2 u4
                    have M5 : Ma w w5 wl.heap.size g x j := hs.out.1.keep u3 (fun q hq => hs.out.2.1.own q hq)
                    have R5 : Rw w5 wl.heap.size bb j bc (xs j) := hs.out.2.2.keep u3 (fun q hq e => AP.out q e hq)
                    have P5 : ∀ q, (Value.slice a2 (j + 1) c2).ownBlock = some q → (Value.slice bb j bc).ownBlock ≠ some q := fun q hq e => by
                      rcases u4 q hq with h | h
                      · exact AP.out q h e
                      · have := R.lt hs.out.2.2.row q e
                        omega
                    obtain ⟨b2, e2, w6, v1, v2, v3, v4⟩ := R5.more (by rw [xs_len]; omega) M5.bd ⟨⟨#[116, 104, 114, 101, 101]⟩, ⟨#[]⟩, false⟩
                    rw [xs_len] at v1 v2 v4
                    have M6 : Hid (Ma w w6 wl.heap.size g x j ∧ Rw w6 wl.heap.size a2 (j + 1) c2 (l ++ [⟨⟨#[116, 119, 111]⟩, ⟨#[]⟩, false⟩]) ∧ Rw w6 wl.heap.size b2 (j + 1) e2 (xs j ++ [⟨⟨#[116, 104, 114, 101, 101]⟩, ⟨#[]⟩, false⟩])) := ⟨M5.keep v3 (fun q hq => R5.own q hq), u2.keep v3 (fun q hq e => P5 q hq e), v2⟩
                    replace u1 : Hid _ := u1
                    replace v1 : Hid _ := v1
                    simp only [fdv] at u1 v1
                    have hca : j + 1 ≤ c2 := by have := (slice_lenB u2.row).2.1; rw [List.length_append, hll.out] at this; simpa using this
                    have hcb : j + 1 ≤ e2 := by have := (slice_lenB v2.row).2.1; rw [List.length_append, xs_len] at this; simpa using this
                    clear u2 u3 u4 M5 R5 P5 v2 v3 v4 hs AP
                    go_upto_region 30 with (at_builtin; refine Lib.wpList_append_run _ rfl _ _ _ _ rfl _ _ rfl rfl _ _ u1.out ?_)
                    go_upto_region 31 with (at_builtin; refine Lib.wpList_append_run _ rfl _ _ _ _ rfl _ _ rfl rfl _ _ v1.out ?_)
                    clear u1 v1
                    have hrc : Hid _ := hr1.out w6 _ M6.out.1
                    go_wp2_with fail
                    go_at_call 11
                    refine Calls.mono hrc.out ?_
                    rintro e w7 ⟨⟨zb, zn, zc⟩, rfl, bX, rX, oX⟩
                    obtain rfl : j = zn := by have := (slice_lenB (show R EFd w7 (.slice zb zn zc) (xs j) from rX)).1; rw [xs_len] at this; exact this.symm
                    have hkz : j ≤ zc := by have := (slice_lenB (show R EFd w7 (.slice zb j zc) (xs j) from rX)).2.1; rw [xs_len] at this; exact this
                    have S7 : Hid (Ma w w7 wl.heap.size g x j ∧ Rw w7 wl.heap.size a2 (j + 1) c2 (l ++ [⟨⟨#[116, 119, 111]⟩, ⟨#[]⟩, false⟩]) ∧ Rw w7 wl.heap.size b2 (j + 1) e2 (xs j ++ [⟨⟨#[116, 104, 114, 101, 101]⟩, ⟨#[]⟩, false⟩]) ∧ Rw w7 wl.heap.size zb j zc (xs j)) := ⟨M6.out.1.below bX, M6.out.2.1.below bX, M6.out.2.2.below bX, rX, fun q hq => Nat.le_trans M6.out.1.bd (oX q hq)⟩
                    have hfl := field34_1 x.n (.slice zb j zc) (bt []) w7
                    simp only [rsv, sv]
                    clear bX rX oX M6 hrc hr1
                    go_wp2_with fail
                    clear hfl
                    go_loopw [14] (fun iv W => ∃ q : Nat, iv = .int .i64 (q : Int) ∧ q ≤ j ∧ Hid (Ma w W wl.heap.size g x j ∧ Rw W wl.heap.size a2 (j + 1) c2 (l ++ [⟨⟨#[116, 119, 111]⟩, ⟨#[]⟩, false⟩]) ∧ Rw W wl.heap.size b2 (j + 1) e2 (xs j ++ [⟨⟨#[116, 104, 114, 101, 101]⟩, ⟨#[]⟩, false⟩]) ∧ Rw W wl.heap.size zb j zc (xs j))) (fun iv _ => j - (intOf iv).toNat)
                    case atStart => exact ⟨0, rfl, by omega, S7.out⟩
                    case round =>
                      obtain ⟨q, rfl, hq, hs⟩ := hrel
                      clear S7
                      obtain ⟨w8, hw8⟩ : ∃ v, wr = v := ⟨_, rfl⟩
                      rw [hw8] at hs ⊢
                      clear hw8
                      by_cases hlt : q < j
                      · have hlt' : (q : Int) < (j : Int) := by omega
                        have hlt2 : (q : Int) < (j : Int) + 1 := by omega
                        have ql : q < l.length := by rw [hll.out]; exact hlt
                        have qx : q < (xs j).length := by rw [xs_len]; exact hlt
                        obtain ⟨ga, ea, t1, t2, t3, t4, t5, t6, p0, p1, p2, t7⟩ := hs.out.2.1.write q (by rw [List.length_append]; omega)
                        obtain ⟨gb, eb, s1, s2, s3, s4, s5, s6, q0, q1, q2, s7⟩ := hs.out.2.2.1.write q (by rw [List.length_append]; omega)
                        obtain ⟨gc, ec, k1, k2, k3, k4, k5, k6, c0, c1, c3, k7⟩ := hs.out.2.2.2.write q qx
                        subst ea eb ec
                        clear t1 t2 t3 t4 t6 t7 s1 s2 s3 s4 s6 s7 k1 k2 k3 k4 k6 k7 p1 p2
                        rw [List.getElem_append_left ql, hone.out q ql hlt] at p0
                        rw [List.getElem_append_left qx, xs_get] at q0 q1 q2
                        rw [xs_get] at c0 c1 c3
                        obtain ⟨V, hV⟩ : ∃ v, (⟨#[118]⟩ : ByteArray) ++ decS q = v := ⟨_, rfl⟩
                        have hVx : vS q = V := hV
                        simp only [xF, hVx] at q0 q1 q2 c0 c1 c3
                        have hds : (decS q).size ≤ 10 := by have := dec_len 9 q (by omega); rw [decS, bt_size]; exact this
                        have hvx : ¬ 1 + (decS q).size > 9223372036854775807 := by omega
                        have hit : Hid (∀ W, Calls Tryd.prog 9 #[.int .i64 (q : Int)] W fun e w' => e = .returned (.string (decS q)) ∧ w' = W) := fun W => Tryd.strconv_Itoa_small q (by omega) W
                        generalize decS q = DK at hit hV hvx hds
                        have r1 := str_eq (rfl : V = V)
                        have r1' : (V.toList != V.toList) = false := by rw [bne, r1]; rfl
                        have r2 := str_eq (rfl : (⟨#[120]⟩ : ByteArray) = ⟨#[120]⟩)
                        clear hVx hds ql qx
                        go_wp2_with fail
                        go_quiet (first | (go_at_call 9; exact Calls.quiet_of_same (hit.out _)))
                        go_wp2_with fail
                        go_roundw
                        case rel => exact ⟨q + 1, by simp, by omega, hs.out.1.below (below_drewN (Below.refl _ _) _), hs.out.2.1.below (below_drewN (Below.refl _ _) _), hs.out.2.2.1.below (below_drewN (Below.refl _ _) _), hs.out.2.2.2.below (below_drewN (Below.refl _ _) _)⟩
                        case measure => simp [intOf]; omega
                      · obtain rfl : q = j := by omega
                        have hlt' : ¬ (q : Int) < (q : Int) := by omega
                        have hlt2 : (q : Int) < (q : Int) + 1 := by omega
                        obtain ⟨ga, ea, t1, t2, t3, t4, t5, t6, p0, p1, p2, t7⟩ := hs.out.2.1.write q (by rw [List.length_append, hll.out]; simp)
                        obtain ⟨gb, eb, s1, s2, s3, s4, s5, s6, q0, q1, q2, s7⟩ := hs.out.2.2.1.write q (by rw [List.length_append, xs_len]; simp)
                        subst ea eb
                        clear t1 t2 t3 t4 t6 t7 s1 s2 s3 s4 s6 s7 p1 p2 q1 q2
                        have hla : ∀ h, (l ++ [(⟨⟨#[116, 119, 111]⟩, ⟨#[]⟩, false⟩ : Fd)])[q]'h = ⟨⟨#[116, 119, 111]⟩, ⟨#[]⟩, false⟩ := fun h => by
                          have := hll.out
                          rw [List.getElem_append_right (by omega)]
                          simp [this]
                        have hlb : ∀ h, (xs q ++ [(⟨⟨#[116, 104, 114, 101, 101]⟩, ⟨#[]⟩, false⟩ : Fd)])[q]'h = ⟨⟨#[116, 104, 114, 101, 101]⟩, ⟨#[]⟩, false⟩ := fun h => by
                          have := xs_len q
                          rw [List.getElem_append_right (by omega)]
                          simp [this]
                        rw [hla] at p0
                        rw [hlb] at q0
                        simp only at p0 q0
                        have hrq : Hid (Calls Tryd.prog 12 #[.pointer (some ⟨g, 0, none⟩)] w8 fun e w' => RzPost w8 e w') := request_none g x w8 hs.out.1.ms.bx hs.out.1.rq
                        have B8 : Hid (Below w.heap.size w w8) := hs.out.1.bel
                        clear hla hlb hs hone hll
                        go_wp2_with fail
                        go_at_call 12
                        refine Calls.mono hrq.out ?_
                        rintro e w9 ⟨rfl, bX⟩
                        have hf37 := field37_0 ⟨#[]⟩ ⟨#[]⟩ ⟨#[]⟩ ⟨#[]⟩ (.slice none 0 0) ⟨#[]⟩ w9
                        have B9 : Hid (Below w.heap.size w w9) := B8.out.trans (bX.mono B8.out.size)
                        clear bX hrq B8
                        go_wp2_with fail
                        go_ret
                        exact ⟨by first | rfl | simp, B9.out⟩
    · have hm' : ¬ (k : Int) < (m : Int) := by omega
      subst hn1
      have hn : Hid (Calls Tryd.prog 10 #[.bool false, .string ⟨#[71, 69, 84]⟩, .slice b (k + 1) c] ws fun e w' => NwPost ⟨#[71, 69, 84]⟩ (AL k) ws e w') := new_res ⟨#[71, 69, 84]⟩ (b, k + 1, c) (AL k) ws (R.isIn hS.out.2.row) (by rw [AL_len]; omega) (AL_names k) (by rw [AL_vs]; simp) (HER.out.below hS.out.1)
      go_wp2_with fail
      go_at_call 10
      refine Calls.mono hn.out ?_
      rintro e wn ⟨bX, k2, _⟩
      obtain ⟨g, y, rfl, og, M, oy⟩ := k2 (AL_nw hk60).1
      obtain ⟨q1, q2, q3, q4, q5, q6⟩ := NwX_keeps ⟨#[71, 69, 84]⟩ (AL k) y
      obtain ⟨x, hx⟩ : ∃ x, NwX ⟨#[71, 69, 84]⟩ (AL k) y = x := ⟨_, rfl⟩
      rw [hx] at M q1 q3 q4 q5
      have MA : Hid (Ma w wn wn.heap.size g x k) := ⟨M, Nat.le_trans hS.out.1.size og, heap_lt M.bx, q3, q5, q1, fun j hj => R.lt M.rf j hj, hS.out.1.trans (bX.mono hS.out.1.size), Nat.le_refl _⟩
      have LO : Hid (ws.heap.size ≤ g ∧ ∀ j, (sv x.ry).ownBlock = some j → ws.heap.size ≤ j) := ⟨og, fun j hj => oy j (by rw [q4] at hj; exact hj)⟩
      have RL : Hid (Rw wn w.heap.size b (k + 1) c (AL k)) := hS.out.2.below bX
      have OL : Hid (∀ j, (Value.slice b (k + 1) c).ownBlock = some j → j < ws.heap.size) := fun j hj => R.lt hS.out.2.row j hj
      have hkc : k + 1 ≤ c := by have := (slice_lenB hS.out.2.row).2.1; rw [AL_len] at this; exact this
      clear hS bX k2 hx M og oy q1 q2 q3 q4 q5 q6 hn
      go_wp2_with fail
      go_loopw [8] (fun iv wr => ∃ (i : Nat) (l : List Fd), iv = .int .i64 (i : Int) ∧ i ≤ k + 1 ∧ Hid (l.length = k + 1) ∧ Hid (Ma w wr wn.heap.size g x k ∧ Rw wr w.heap.size b (k + 1) c l)) (fun iv _ => k + 1 - (intOf iv).toNat)
      case atStart => exact ⟨0, AL k, rfl, by omega, AL_len k, MA.out, RL.out⟩
      case round =>
        obtain ⟨i, l, rfl, hi, hll, hs⟩ := hrel
        clear MA RL
        by_cases hlt : i < k + 1
        · have hlt' : (i : Int) < (k : Int) + 1 := by omega
          obtain ⟨gl, e, e2, z1, z2, z3, z4, z5, d0, d1, d2, z6⟩ := hs.out.2.write i (by rw [hll.out]; exact hlt)
          subst e
          obtain ⟨⟨fn, fv, fnv⟩, hf⟩ : ∃ f, l[i]'(by rw [hll.out]; exact hlt) = f := ⟨_, rfl⟩
          rw [hf] at d0 d1 d2
          simp only at d0 d1 d2
          have f0 := z5 (i * 3)
          have f1 := z5 (i * 3 + 1)
          have f2 := z5 (i * 3 + 2)
          obtain ⟨z7, z8⟩ := z6 ⟨⟨#[103, 111, 110, 101]⟩, ⟨#[]⟩, false⟩
          have hnx : Hid (Ma w (setFd wr gl i ⟨⟨#[103, 111, 110, 101]⟩, ⟨#[]⟩, false⟩) wn.heap.size g x k ∧ Rw (setFd wr gl i ⟨⟨#[103, 111, 110, 101]⟩, ⟨#[]⟩, false⟩) w.heap.size (some ⟨gl, 0, none⟩) (k + 1) c (l.set i ⟨⟨#[103, 111, 110, 101]⟩, ⟨#[]⟩, false⟩)) := ⟨hs.out.1.keepLo LO.out z8 (fun j hj => ⟨by rw [hj]; exact OL.out gl rfl, by rw [hj]; exact z3⟩), z7⟩
          simp only [setFd] at hnx
          clear z1 z2 z3 z5 z6 z7 z8 hf hs e2
          go_wp2_with fail
          go_roundw
          case rel => exact ⟨i + 1, _, by simp, by omega, by show _ = _; rw [List.length_set]; exact hll.out, hnx.out⟩
          case measure => simp [intOf]; omega
        · obtain rfl : i = k + 1 := by omega
          have hlt' : ¬ ((k : Int) + 1) < (k : Int) + 1 := by omega
          obtain ⟨wl, hwl⟩ : ∃ v, wr = v := ⟨_, rfl⟩
          rw [hwl] at hs ⊢
          have M0 : Hid (Ma w wl wl.heap.size g x k) := hs.out.1.raise (Nat.le_refl _) hs.out.1.bd
          clear hs hll hwl OL LO
          have hr1 : Hid (∀ W Bd, Ma w W Bd g x k → Calls Tryd.prog 11 #[.pointer (some ⟨g, 0, none⟩)] W fun e w' => SPost x [] (xs k) W e w') := fun W Bd h => response_any g x [] (xs k) [] W h.ms h.rq (by rw [xs_len]; omega)
          have hra : Hid _ := hr1.out wl _ M0.out
          go_wp2_with fail
          go_at_call 11
          refine Calls.mono hra.out ?_
          rintro e wa ⟨⟨ab, an, ac⟩, rfl, bX, rX, oX⟩
          obtain rfl : k = an := by have := (slice_lenB (show R EFd wa (.slice ab an ac) (xs k) from rX)).1; rw [xs_len] at this; exact this.symm
          have hkac : k ≤ ac := by have := (slice_lenB (show R EFd wa (.slice ab k ac) (xs k) from rX)).2.1; rw [xs_len] at this; exact this
          have M1 : Hid (Ma w wa wl.heap.size g x k) := M0.out.below bX
          have RA : Hid (Rw wa wl.heap.size ab k ac (xs k)) := ⟨rX, oX⟩
          have hfl := field34_1 x.n (.slice ab k ac) (bt []) wa
          have hrb : Hid _ := hr1.out wa _ M1.out
          simp only [rsv, sv]
          clear bX rX oX M0 hra
          go_wp2_with fail
          go_at_call 11
          refine Calls.mono hrb.out ?_
          rintro e wb ⟨⟨bb, bn, bc⟩, rfl, bX, rX, oX⟩
          obtain rfl : k = bn := by have := (slice_lenB (show R EFd wb (.slice bb bn bc) (xs k) from rX)).1; rw [xs_len] at this; exact this.symm
          have hkbc : k ≤ bc := by have := (slice_lenB (show R EFd wb (.slice bb k bc) (xs k) from rX)).2.1; rw [xs_len] at this; exact this
          have S1 : Hid (Ma w wb wl.heap.size g x k ∧ Rw wb wl.heap.size ab k ac (xs k) ∧ Rw wb wl.heap.size bb k bc (xs k)) := ⟨M1.out.below bX, RA.out.below bX, rX, fun j hj => Nat.le_trans (Nat.le_trans M1.out.bd (Nat.le_refl _)) (oX j hj)⟩
          have AP : Hid (∀ j, (Value.slice ab k ac).ownBlock = some j → (Value.slice bb k bc).ownBlock ≠ some j) := fun j hj e => by
            have h1 := R.lt RA.out.row j hj
            have h2 := oX j e
            omega
          have hfl2 := field34_1 x.n (.slice bb k bc) (bt []) wb
          simp only [rsv, sv]
          clear bX rX oX M1 RA hrb hfl
          go_wp2_with fail
          clear hfl2
          go_loopw [11] (fun iv W => ∃ i : Nat, iv = .int .i64 (i : Int) ∧ i ≤ k ∧ Hid (Ma w W wl.heap.size g x k ∧ Rw W wl.heap.size ab k ac (xs k) ∧ Rw W wl.heap.size bb k bc (xs k))) (fun iv _ => k - (intOf iv).toNat)
          case atStart => exact ⟨0, rfl, by omega, S1.out⟩
          case round =>
            obtain ⟨i, rfl, hi, hs⟩ := hrel
            clear S1
            obtain ⟨w3, hw3⟩ : ∃ v, wr = v := ⟨_, rfl⟩
            rw [hw3] at hs ⊢
            clear hw3
            by_cases hlt : i < k
            · have hlt' : (i : Int) < (k : Int) := by omega
              obtain ⟨ga, ea, t1, t2, t3, t4, t5, t6, p0, p1, p2, t7⟩ := hs.out.2.1.write i (by rw [xs_len]; exact hlt)
              obtain ⟨gb, eb, s1, s2, s3, s4, s5, s6, q0, q1, q2, s7⟩ := hs.out.2.2.write i (by rw [xs_len]; exact hlt)
              subst ea eb
              clear t1 t2 t3 t4 t6 t7 s1 s2 s3 s4 s6 s7
              rw [xs_get] at p0 p1 p2 q0 q1 q2
              obtain ⟨V, hV⟩ : ∃ v, (⟨#[118]⟩ : ByteArray) ++ decS i = v := ⟨_, rfl⟩
              have hVx : vS i = V := hV
              simp only [xF, hVx] at p0 p1 p2 q0 q1 q2
              have hds : (decS i).size ≤ 10 := by have := dec_len 9 i (by omega); rw [decS, bt_size]; exact this
              have hvx : ¬ 1 + (decS i).size > 9223372036854775807 := by omega
              have hit : Hid (∀ W, Calls Tryd.prog 9 #[.int .i64 (i : Int)] W fun e w' => e = .returned (.string (decS i)) ∧ w' = W) := fun W => Tryd.strconv_Itoa_small i (by omega) W
              generalize decS i = DK at hit hV hvx hds
              have r1 := str_eq (rfl : V = V)
              have r1' : (V.toList != V.toList) = false := by rw [bne, r1]; rfl
              have r2 := str_eq (rfl : (⟨#[120]⟩ : ByteArray) = ⟨#[120]⟩)
              clear hVx hds
              go_wp2_with fail
              go_quiet (first | (go_at_call 9; exact Calls.quiet_of_same (hit.out _)))
              go_wp2_with fail
              go_roundw
              case rel => exact ⟨i + 1, by simp, by omega, hs.out.1.below (below_drewN (Below.refl _ _) _), hs.out.2.1.below (below_drewN (Below.refl _ _) _), hs.out.2.2.below (below_drewN (Below.refl _ _) _)⟩
              case measure => simp [intOf]; omega
            · obtain rfl : i = k := by omega
              have hlt' : ¬ (i : Int) < (i : Int) := by omega
              have S2 : Hid _ := hs
              clear hs
              go_wp2_with fail
              go_loopw [12] (fun iv W => ∃ (j : Nat) (l : List Fd), iv = .int .i64 (j : Int) ∧ j ≤ i ∧ Hid (l.length = i) ∧ Hid (∀ q (h : q < l.length), q < j → l[q].n = ⟨#[111, 110, 101]⟩) ∧ Hid (Ma w W wl.heap.size g x i ∧ Rw W wl.heap.size ab i ac l ∧ Rw W wl.heap.size bb i bc (xs i))) (fun iv _ => i - (intOf iv).toNat)
              case atStart => exact ⟨0, xs i, rfl, by omega, xs_len i, fun q h hq => by omega, S2.out⟩
              case round =>
                obtain ⟨j, l, rfl, hj, hll, hone, hs⟩ := hrel
                clear S2
                obtain ⟨w4, hw4⟩ : ∃ v, wr = v := ⟨_, rfl⟩
                rw [hw4] at hs ⊢
                clear hw4
                by_cases hlt : j < i
                · have hlt' : (j : Int) < (i : Int) := by omega
                  obtain ⟨ga, ea, t1, t2, t3, t4, t5, t6, d0, d1, d2, t7⟩ := hs.out.2.1.write j (by rw [hll.out]; exact hlt)
                  subst ea
                  obtain ⟨⟨fn, fv, fnv⟩, hf⟩ : ∃ f, l[j]'(by rw [hll.out]; exact hlt) = f := ⟨_, rfl⟩
                  rw [hf] at d0 d1 d2
                  simp only at d0 d1 d2
                  have f0 := t6 (j * 3)
                  have f1 := t6 (j * 3 + 1)
                  have f2 := t6 (j * 3 + 2)
                  obtain ⟨z7, z8⟩ := t7 ⟨⟨#[111, 110, 101]⟩, ⟨#[]⟩, false⟩
                  have hnx : Hid (Ma w (setFd w4 ga j ⟨⟨#[111, 110, 101]⟩, ⟨#[]⟩, false⟩) wl.heap.size g x i ∧ Rw (setFd w4 ga j ⟨⟨#[111, 110, 101]⟩, ⟨#[]⟩, false⟩) wl.heap.size (some ⟨ga, 0, none⟩) i ac (l.set j ⟨⟨#[111, 110, 101]⟩, ⟨#[]⟩, false⟩) ∧ Rw (setFd w4 ga j ⟨⟨#[111, 110, 101]⟩, ⟨#[]⟩, false⟩) wl.heap.size bb i bc (xs i)) := ⟨hs.out.1.keep z8 (fun q hq => by rw [hq]; exact t4), z7, hs.out.2.2.keep z8 (fun q hq e => AP.out ga rfl (by rw [← e]; exact hq))⟩
                  have hon2 : Hid (∀ q (h : q < (l.set j ⟨⟨#[111, 110, 101]⟩, ⟨#[]⟩, false⟩).length), q < j + 1 → (l.set j ⟨⟨#[111, 110, 101]⟩, ⟨#[]⟩, false⟩)[q].n = ⟨#[111, 110, 101]⟩) := fun q h hq => by
                    rw [List.getElem_set]
                    split
                    · rfl
                    · exact hone.out q (by rw [List.length_set] at h; exact h) (by omega)
                  simp only [setFd] at hnx
                  clear t1 t2 t3 t4 t6 t7 z7 z8 hf hs hone
                  go_wp2_with fail
                  go_roundw
                  case rel => exact ⟨j + 1, _, by simp, by omega, by show _ = _; rw [List.length_set]; exact hll.out, hon2.out, hnx.out⟩
                  case measure => simp [intOf]; omega
                · obtain rfl : j = i := by omega
                  have hlt' : ¬ (j : Int) < (j : Int) := by omega
                  obtain ⟨a2, c2, w5, u1, u2, u3, u4⟩ := hs.out.2.1.more (by rw [hll.out]; omega) hs.out.1.bd ⟨⟨#[116, 119, 111]⟩, ⟨#[]⟩, false⟩
                  rw [hll.out] at u1 u2 u4
                  have M5 : Ma w w5 wl.heap.size g x j := hs.out.1.keep u3 (fun q hq => hs.out.2.1.own q hq)
                  have R5 : Rw w5 wl.heap.size bb j bc (xs j) := hs.out.2.2.keep u3 (fun q hq e => AP.out q e hq)
                  have P5 : ∀ q, (Value.slice a2 (j + 1) c2).ownBlock = some q → (Value.slice bb j bc).ownBlock ≠ some q := fun q hq e => by
                    rcases u4 q hq with h | h
                    · exact AP.out q h e
                    · have := R.lt hs.out.2.2.row q e
                      omega
                  obtain ⟨b2, e2, w6, v1, v2, v3, v4⟩ := R5.more (by rw [xs_len]; omega) M5.bd ⟨⟨#[116, 104, 114, 101, 101]⟩, ⟨#[]⟩, false⟩
                  rw [xs_len] at v1 v2 v4
                  have M6 : Hid (Ma w w6 wl.heap.size g x j ∧ Rw w6 wl.heap.size a2 (j + 1) c2 (l ++ [⟨⟨#[116, 119, 111]⟩, ⟨#[]⟩, false⟩]) ∧ Rw w6 wl.heap.size b2 (j + 1) e2 (xs j ++ [⟨⟨#[116, 104, 114, 101, 101]⟩, ⟨#[]⟩, false⟩])) := ⟨M5.keep v3 (fun q hq => R5.own q hq), u2.keep v3 (fun q hq e => P5 q hq e), v2⟩
                  replace u1 : Hid _ := u1
                  replace v1 : Hid _ := v1
                  simp only [fdv] at u1 v1
                  have hca : j + 1 ≤ c2 := by have := (slice_lenB u2.row).2.1; rw [List.length_append, hll.out] at this; simpa using this
                  have hcb : j + 1 ≤ e2 := by have := (slice_lenB v2.row).2.1; rw [List.length_append, xs_len] at this; simpa using this
                  clear u2 u3 u4 M5 R5 P5 v2 v3 v4 hs AP
                  go_upto_region 30 with (at_builtin; refine Lib.wpList_append_run _ rfl _ _ _ _ rfl _ _ rfl rfl _ _ u1.out ?_)
                  go_upto_region 31 with (at_builtin; refine Lib.wpList_append_run _ rfl _ _ _ _ rfl _ _ rfl rfl _ _ v1.out ?_)
                  clear u1 v1
                  have hrc : Hid _ := hr1.out w6 _ M6.out.1
                  go_wp2_with fail
                  go_at_call 11
                  refine Calls.mono hrc.out ?_
                  rintro e w7 ⟨⟨zb, zn, zc⟩, rfl, bX, rX, oX⟩
                  obtain rfl : j = zn := by have := (slice_lenB (show R EFd w7 (.slice zb zn zc) (xs j) from rX)).1; rw [xs_len] at this; exact this.symm
                  have hkz : j ≤ zc := by have := (slice_lenB (show R EFd w7 (.slice zb j zc) (xs j) from rX)).2.1; rw [xs_len] at this; exact this
                  have S7 : Hid (Ma w w7 wl.heap.size g x j ∧ Rw w7 wl.heap.size a2 (j + 1) c2 (l ++ [⟨⟨#[116, 119, 111]⟩, ⟨#[]⟩, false⟩]) ∧ Rw w7 wl.heap.size b2 (j + 1) e2 (xs j ++ [⟨⟨#[116, 104, 114, 101, 101]⟩, ⟨#[]⟩, false⟩]) ∧ Rw w7 wl.heap.size zb j zc (xs j)) := ⟨M6.out.1.below bX, M6.out.2.1.below bX, M6.out.2.2.below bX, rX, fun q hq => Nat.le_trans M6.out.1.bd (oX q hq)⟩
                  have hfl := field34_1 x.n (.slice zb j zc) (bt []) w7
                  simp only [rsv, sv]
                  clear bX rX oX M6 hrc hr1
                  go_wp2_with fail
                  clear hfl
                  go_loopw [14] (fun iv W => ∃ q : Nat, iv = .int .i64 (q : Int) ∧ q ≤ j ∧ Hid (Ma w W wl.heap.size g x j ∧ Rw W wl.heap.size a2 (j + 1) c2 (l ++ [⟨⟨#[116, 119, 111]⟩, ⟨#[]⟩, false⟩]) ∧ Rw W wl.heap.size b2 (j + 1) e2 (xs j ++ [⟨⟨#[116, 104, 114, 101, 101]⟩, ⟨#[]⟩, false⟩]) ∧ Rw W wl.heap.size zb j zc (xs j))) (fun iv _ => j - (intOf iv).toNat)
                  case atStart => exact ⟨0, rfl, by omega, S7.out⟩
                  case round =>
                    obtain ⟨q, rfl, hq, hs⟩ := hrel
                    clear S7
                    obtain ⟨w8, hw8⟩ : ∃ v, wr = v := ⟨_, rfl⟩
                    rw [hw8] at hs ⊢
                    clear hw8
                    by_cases hlt : q < j
                    · have hlt' : (q : Int) < (j : Int) := by omega
                      have hlt2 : (q : Int) < (j : Int) + 1 := by omega
                      have ql : q < l.length := by rw [hll.out]; exact hlt
                      have qx : q < (xs j).length := by rw [xs_len]; exact hlt
                      obtain ⟨ga, ea, t1, t2, t3, t4, t5, t6, p0, p1, p2, t7⟩ := hs.out.2.1.write q (by rw [List.length_append]; omega)
                      obtain ⟨gb, eb, s1, s2, s3, s4, s5, s6, q0, q1, q2, s7⟩ := hs.out.2.2.1.write q (by rw [List.length_append]; omega)
                      obtain ⟨gc, ec, k1, k2, k3, k4, k5, k6, c0, c1, c3, k7⟩ := hs.out.2.2.2.write q qx
                      subst ea eb ec
                      clear t1 t2 t3 t4 t6 t7 s1 s2 s3 s4 s6 s7 k1 k2 k3 k4 k6 k7 p1 p2
                      rw [List.getElem_append_left ql, hone.out q ql hlt] at p0
                      rw [List.getElem_append_left qx, xs_get] at q0 q1 q2
                      rw [xs_get] at c0 c1 c3
                      obtain ⟨V, hV⟩ : ∃ v, (⟨#[118]⟩ : ByteArray) ++ decS q = v := ⟨_, rfl⟩
                      have hVx : vS q = V := hV
                      simp only [xF, hVx] at q0 q1 q2 c0 c1 c3
                      have hds : (decS q).size ≤ 10 := by have := dec_len 9 q (by omega); rw [decS, bt_size]; exact this
                      have hvx : ¬ 1 + (decS q).size > 9223372036854775807 := by omega
                      have hit : Hid (∀ W, Calls Tryd.prog 9 #[.int .i64 (q : Int)] W fun e w' => e = .returned (.string (decS q)) ∧ w' = W) := fun W => Tryd.strconv_Itoa_small q (by omega) W
                      generalize decS q = DK at hit hV hvx hds
                      have r1 := str_eq (rfl : V = V)
                      have r1' : (V.toList != V.toList) = false := by rw [bne, r1]; rfl
                      have r2 := str_eq (rfl : (⟨#[120]⟩ : ByteArray) = ⟨#[120]⟩)
                      clear hVx hds ql qx
                      go_wp2_with fail
                      go_quiet (first | (go_at_call 9; exact Calls.quiet_of_same (hit.out _)))
                      go_wp2_with fail
                      go_roundw
                      case rel => exact ⟨q + 1, by simp, by omega, hs.out.1.below (below_drewN (Below.refl _ _) _), hs.out.2.1.below (below_drewN (Below.refl _ _) _), hs.out.2.2.1.below (below_drewN (Below.refl _ _) _), hs.out.2.2.2.below (below_drewN (Below.refl _ _) _)⟩
                      case measure => simp [intOf]; omega
                    · obtain rfl : q = j := by omega
                      have hlt' : ¬ (q : Int) < (q : Int) := by omega
                      have hlt2 : (q : Int) < (q : Int) + 1 := by omega
                      obtain ⟨ga, ea, t1, t2, t3, t4, t5, t6, p0, p1, p2, t7⟩ := hs.out.2.1.write q (by rw [List.length_append, hll.out]; simp)
                      obtain ⟨gb, eb, s1, s2, s3, s4, s5, s6, q0, q1, q2, s7⟩ := hs.out.2.2.1.write q (by rw [List.length_append, xs_len]; simp)
                      subst ea eb
                      clear t1 t2 t3 t4 t6 t7 s1 s2 s3 s4 s6 s7 p1 p2 q1 q2
                      have hla : ∀ h, (l ++ [(⟨⟨#[116, 119, 111]⟩, ⟨#[]⟩, false⟩ : Fd)])[q]'h = ⟨⟨#[116, 119, 111]⟩, ⟨#[]⟩, false⟩ := fun h => by
                        have := hll.out
                        rw [List.getElem_append_right (by omega)]
                        simp [this]
                      have hlb : ∀ h, (xs q ++ [(⟨⟨#[116, 104, 114, 101, 101]⟩, ⟨#[]⟩, false⟩ : Fd)])[q]'h = ⟨⟨#[116, 104, 114, 101, 101]⟩, ⟨#[]⟩, false⟩ := fun h => by
                        have := xs_len q
                        rw [List.getElem_append_right (by omega)]
                        simp [this]
                      rw [hla] at p0
                      rw [hlb] at q0
                      simp only at p0 q0
                      have hrq : Hid (Calls Tryd.prog 12 #[.pointer (some ⟨g, 0, none⟩)] w8 fun e w' => RzPost w8 e w') := request_none g x w8 hs.out.1.ms.bx hs.out.1.rq
                      have B8 : Hid (Below w.heap.size w w8) := hs.out.1.bel
                      clear hla hlb hs hone hll
                      go_wp2_with fail
                      go_at_call 12
                      refine Calls.mono hrq.out ?_
                      rintro e w9 ⟨rfl, bX⟩
                      have hf37 := field37_0 ⟨#[]⟩ ⟨#[]⟩ ⟨#[]⟩ ⟨#[]⟩ (.slice none 0 0) ⟨#[]⟩ w9
                      have B9 : Hid (Below w.heap.size w w9) := B8.out.trans (bX.mono B8.out.size)
                      clear bX hrq B8
                      go_wp2_with fail
                      go_ret
                      exact ⟨by first | rfl | simp, B9.out⟩

end Go.Proofs.YtnbaojdildelmaaDoor
