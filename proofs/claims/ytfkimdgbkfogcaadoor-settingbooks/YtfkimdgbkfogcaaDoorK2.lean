/- SettingBooks. -/
import Derived.Test.YtfkimdgbkfogcaaDoorK1
namespace Go.Proofs.YtfkimdgbkfogcaaDoor
open Go.RowKit
set_option linter.unusedVariables false
set_option linter.unusedSimpArgs false

set_option maxRecDepth 100000 in
set_option maxHeartbeats 8000000 in
theorem settingBooks_any (pv : Value) (os : List OP) (w : World) (hS : Std w) (hT : Top w) (hv : In EO w pv os) (hlen : os.length * 40 ≤ 140737488351232) (hin : ∀ o ∈ os, ∃ l, In EP w (sv o.2.2) l ∧ l.length * 16 ≤ 140737488351232) :
    Calls Tryd.prog 7 #[pv] w fun e w' => e = .returned (.bool true) ∧ Below w.heap.size w w' := by
  have HV : Hid (In EO w pv os) := hv
  have HI : Hid (∀ o ∈ os, ∃ l, In EP w (sv o.2.2) l ∧ l.length * 16 ≤ 140737488351232) := hin
  have HT : Hid (∀ W, Below w.heap.size w W → Top W) := fun W hb => hT.below hb
  obtain ⟨vb, vc, rfl, hc1, hc2⟩ := hv.slice
  obtain ⟨n, hn⟩ : ∃ n, os.length = n := ⟨_, rfl⟩
  rw [hn] at hc1 HV hlen ⊢
  have HN : Hid (os.length = n) := hn
  clear hn hv hin hT
  go_enter Tryd.func7, Tryd.ntmps7
  go_wp2_with fail
  refine (new_any true w hS).mono ?_
  rintro e w1 ⟨a, rfl, h1, u1, b1⟩
  go_wp2_with fail
  refine (new_any false w1 (hS.below b1)).mono ?_
  rintro e w2 ⟨b, rfl, h2, u2, b2⟩
  have b12 := b1.trans (b2.mono b1.size)
  go_wp2_with fail
  refine (first_any w2 (hS.below b12)).mono ?_
  rintro e w3 ⟨rfl, b3⟩
  go_wp2_with fail
  refine (rnew_any true w3).mono ?_
  rintro e w4 ⟨rfl, h4, b4⟩
  go_wp2_with fail
  refine (rnew_any false w4).mono ?_
  rintro e w5 ⟨rfl, h5, b5⟩
  obtain ⟨x, hx⟩ : ∃ x, w3.heap.size = x := ⟨_, rfl⟩
  obtain ⟨y, hy⟩ : ∃ y, w4.heap.size = y := ⟨_, rfl⟩
  have H5 : Hid (Be w a x b y 0 w5) := by
    have g1 := b1.size
    have g2 := b2.size
    have g3 := b3.size
    have g4 := b4.size
    have g5 := b5.size
    have l1 := h1.lt
    have l2 := h2.lt
    have l4 := h4.lt
    have t45 : Below w3.heap.size w3 w5 := b4.trans (b5.mono b4.size)
    have t25 : Below w2.heap.size w2 w5 := b3.trans (t45.mono b3.size)
    have t15 : Below w1.heap.size w1 w5 := b2.trans (t25.mono b2.size)
    rw [hx] at h4 l4
    rw [hy] at h5
    refine ⟨St.dfl, .slice none 0 0, (none, 0, 0), [], [], 0, St.dfl, .slice none 0 0, (none, 0, 0), [], [], 0, ⟨h1.below t15, h4.below b5, rfl⟩, ⟨h2.below t25, h5, rfl⟩, ⟨by omega, by omega, fun k e => by simp [Value.ownBlock] at e, fun k e => by simp [sv, Value.ownBlock] at e⟩, b1.trans (t15.mono b1.size), ?_, ?_, by simp, by simp⟩
    · rintro j ((e | e) | (e | e)) <;> first | omega | (simp [sv, Value.ownBlock] at e)
    · rintro j ((e | e) | (e | e)) <;> first | omega | (simp [sv, Value.ownBlock] at e)
  rw [hx, hy]
  clear hx hy h1 h2 h4 h5 b1 b2 b12 b3 b4 b5 u1 u2 hS
  go_wp2_with fail
  go_loopw [7] (fun i wr => ∃ k : Nat, k ≤ n ∧ i = .int .i64 (k : Int) ∧ Hid (Be w a x b y k wr)) (fun i _ => n - (intOf i).toNat)
  case atStart => exact ⟨0, Nat.zero_le _, rfl, H5⟩
  case round =>
    obtain ⟨k, hk, rfl, HP⟩ := hrel
    clear H5
    by_cases hlt : k < n
    · have hlen' := HN.out
      obtain ⟨B, off, cap, hvb, hBl, d0, d1, d2⟩ := HV.out.op k (by omega)
      injection hvb with e1 e2 e3
      subst e1
      clear e2 e3
      have hbel : Below w.heap.size w wr := by
        obtain ⟨_, _, _, _, _, _, _, _, _, _, _, _, h⟩ := HP.out
        exact h.bel
      replace d0 := (hbel.cell hBl).trans d0
      replace d1 := (hbel.cell hBl).trans d1
      replace d2 := (hbel.cell hBl).trans d2
      have hBw : B < wr.heap.size := Nat.lt_of_lt_of_le hBl hbel.size
      obtain ⟨l, hl, hll⟩ := HI.out (os[k]'(by omega)) (List.getElem_mem _)
      obtain ⟨kd, two, x1, x2, x3, hq⟩ : ∃ kd two x1 x2 x3, os[k]'(by omega) = (kd, two, x1, x2, x3) := ⟨_, _, _, _, _, rfl⟩
      rw [hq] at d0 d1 d2 hl
      simp only [sv] at d0 d1 d2 hl
      have hlti : (k : Int) < (n : Int) := by omega
      obtain ⟨g, hg⟩ : ∃ g, wr.heap.size = g := ⟨_, rfl⟩
      have hE := HP.out.below (bel1 wr (.cells #[.int .i64 kd, .bool two, .slice x1 x2 x3] 32))
      have hop : (wr.alloc (.cells #[.int .i64 kd, .bool two, .slice x1 x2 x3] 32)).heap[g]? = some (.cells #[.int .i64 kd, .bool two, .slice x1 x2 x3] 32 (0, 0)) := by rw [← hg]; exact heap_alloc_new _ _
      have hp2 := hE.play2 HT.out kd two x1 x2 x3 l hl (by omega) (by omega) g _ hop
      have hp1 := hE.play1 HT.out kd two x1 x2 x3 l hl (by omega) (by omega) g _ hop
      clear hlen' hq HP hbel hl hll hE hop
      cases two
      · clear hp2
        go_wp2_with fail
        refine hp1.mono ?_
        rintro e w6 ⟨rfl, HE, ho⟩
        have HE' : Hid (Be w a x b y (k + 1) w6) := HE
        have c1 := cell_blk ho 1
        simp only [List.getElem?_toArray, List.getElem?_cons_zero, List.getElem?_cons_succ] at c1
        clear hp1 HE ho
        go_wp2_with fail
        go_roundw
        case rel => exact ⟨k + 1, by omega, by simp, HE'⟩
        case measure => simp [intOf]; omega
      · clear hp1
        go_wp2_with fail
        refine hp2.mono ?_
        rintro e w6 ⟨rfl, HE, ho⟩
        have HE' : Hid (Be w a x b y (k + 1) w6) := HE
        have c1 := cell_blk ho 1
        simp only [List.getElem?_toArray, List.getElem?_cons_zero, List.getElem?_cons_succ] at c1
        clear hp2 HE ho
        go_wp2_with fail
        go_roundw
        case rel => exact ⟨k + 1, by omega, by simp, HE'⟩
        case measure => simp [intOf]; omega
    · have hlti : ¬ (k : Int) < (n : Int) := by omega
      obtain ⟨s, v, sx, xs, ls, d, s', v', sx', xs', ls', d', h⟩ := HP.out
      have hb0 : ∀ {W'}, Below wr.heap.size wr W' → Below w.heap.size w W' := fun hb => h.bel.trans (hb.mono h.bel.size)
      have h14 := acked_any wr a true s v _ h.p.bk
      have h34 : ∀ W', Below wr.heap.size wr W' → Calls Tryd.prog 34 #[.pointer (some ⟨x, 0, none⟩)] W' fun e w' => e = .returned (.agg s.a) ∧ Below W'.heap.size W' w' := fun W' hb => by
        have := racked_any W' x true sx xs ls d (h.p.rb.below hb) (HT.out W' (hb0 hb))
        rw [h.p.eq]
        exact this
      have h14' : ∀ W', Below wr.heap.size wr W' → Calls Tryd.prog 14 #[.pointer (some ⟨b, 0, none⟩)] W' fun e w' => e = .returned (.agg s'.a) ∧ Below W'.heap.size W' w' := fun W' hb => acked_any W' b false s' v' _ (h.q.bk.below hb)
      have h34' : ∀ W', Below wr.heap.size wr W' → Calls Tryd.prog 34 #[.pointer (some ⟨y, 0, none⟩)] W' fun e w' => e = .returned (.agg s'.a) ∧ Below W'.heap.size W' w' := fun W' hb => by
        have := racked_any W' y false sx' xs' ls' d' (h.q.rb.below hb) (HT.out W' (hb0 hb))
        rw [h.q.eq]
        exact this
      have hend : Hid (∀ W', Below wr.heap.size wr W' → Below w.heap.size w W') := fun W' hb => hb0 hb
      obtain ⟨s1, s2, s3, s4, s5, s6⟩ := s
      obtain ⟨t1, t2, t3, t4, t5, t6⟩ := s'
      simp only [St.a] at h14 h34 h14' h34'
      clear h hb0 HP
      go_wp2_with fail
      refine h14.mono ?_
      rintro e w6 ⟨rfl, q1⟩
      go_wp2_with fail
      refine (h34 _ q1).mono ?_
      rintro e w7 ⟨rfl, q2⟩
      replace q2 := q1.trans (q2.mono q1.size)
      go_wp2_with fail
      refine (h14' _ q2).mono ?_
      rintro e w8 ⟨rfl, q3⟩
      replace q3 := q2.trans (q3.mono q2.size)
      go_wp2_with fail
      refine (h34' _ q3).mono ?_
      rintro e w9 ⟨rfl, q4⟩
      replace q4 := q3.trans (q4.mono q3.size)
      go_wp2
      go_ret
      exact ⟨rfl, hend.out _ q4⟩
end Go.Proofs.YtfkimdgbkfogcaaDoor
