/- The laws' own small functions: sameInts, in, mirror, done, first. -/
import Derived.Test.YtaaocgppniflcaaK4
import Derived.Test.YtaaocgppniflcaaK5
namespace Go.Proofs.Ytaaocgppniflcaa
open Go.RowKit Go.Maps
set_option linter.unusedVariables false
set_option linter.unusedSimpArgs false

theorem In.int {w : World} {v : Value} {l : List Int} (h : In EI w v l) (k : Nat) (hk : k < l.length) : ∃ B off cap, v = .slice (some ⟨B, off, none⟩) l.length cap ∧ B < w.heap.size ∧ w.cell? ⟨B, off + k, none⟩ = some (.int .i64 l[k]) := by
  obtain ⟨B, off, cap, h1, h2, h3⟩ := h.get okI k hk
  have := h3 0 _ rfl
  simp only [EI, Nat.mul_one, Nat.add_zero] at this
  exact ⟨B, off, cap, h1, h2, this⟩

set_option maxRecDepth 100000 in
set_option maxHeartbeats 2000000 in
theorem sameInts_eq (w : World) (p q : Value) (l : List Int) (hp : In EI w p l) (hq : In EI w q l) :
    Calls Try.prog 12 #[p, q] w fun e w' => e = .returned (.bool true) ∧ Below w.heap.size w w' := by
  have HP : Hid (In EI w p l) := hp
  have HQ : Hid (In EI w q l) := hq
  obtain ⟨pb, pc, rfl, h1, h2⟩ := hp.slice
  obtain ⟨qb, qc, rfl, h3, h4⟩ := hq.slice
  clear hp hq
  obtain ⟨n, hn⟩ : ∃ n, l.length = n := ⟨_, rfl⟩
  have HN : Hid (l.length = n) := hn
  rw [hn] at HP HQ h1 h3 ⊢
  clear hn
  go_enter Try.func12, Try.ntmps12
  go_wp2
  go_loopw [5] (fun i wr => ∃ k : Nat, k ≤ n ∧ i = .int .i64 (k : Int) ∧ Below w.heap.size w wr) (fun i _ => n - (intOf i).toNat)
  case atStart => exact ⟨0, by omega, rfl, Below.refl _ _⟩
  case round =>
    obtain ⟨k, hk, rfl, hb⟩ := hrel
    by_cases hlt : k < n
    · have hl := HN.out
      obtain ⟨B, off, cap, e, hBl, d1⟩ := (HP.out.below hb).int k (by omega)
      obtain ⟨B', off', cap', e', hBl', d1'⟩ := (HQ.out.below hb).int k (by omega)
      injection e with e1 e2 e3
      injection e' with e1' e2' e3'
      subst e1
      subst e1'
      clear e2 e3 e2' e3'
      obtain ⟨x, hxy⟩ : ∃ x, l[k]'(by omega) = x := ⟨_, rfl⟩
      rw [hxy] at d1 d1'
      clear hxy hl
      go_wp2_with fail
      go_region
      all_goals
        go_wp2_with fail
        go_roundw
        case rel => exact ⟨k + 1, by omega, by simp, hb.drew⟩
        case measure => simp [intOf]; omega
    · obtain rfl : k = n := by omega
      go_wp2
      go_ret
      exact ⟨rfl, hb⟩

set_option maxRecDepth 100000 in
set_option maxHeartbeats 2000000 in
theorem in_any (w : World) (p : Value) (l : List Int) (x : Int) (hp : In EI w p l) :
    Calls Try.prog 15 #[p, .int .i64 x] w fun e w' => e = .returned (.bool (decide (x ∈ l))) ∧ w' = w := by
  have HP : Hid (In EI w p l) := hp
  obtain ⟨pb, pc, rfl, h1, h2⟩ := hp.slice
  clear hp
  obtain ⟨n, hn⟩ : ∃ n, l.length = n := ⟨_, rfl⟩
  have HN : Hid (l.length = n) := hn
  rw [hn] at HP h1 ⊢
  clear hn
  obtain ⟨res, hres⟩ : ∃ res, decide (x ∈ l) = res := ⟨_, rfl⟩
  rw [hres]
  have HR : Hid (decide (x ∈ l) = res) := hres
  clear hres
  go_enter Try.func15, Try.ntmps15
  go_wp2
  go_loopw [5] (fun i wr => ∃ k : Nat, k ≤ n ∧ i = .int .i64 (k : Int) ∧ wr = w ∧ Hid (x ∉ l.take k)) (fun i _ => n - (intOf i).toNat)
  case atStart => exact ⟨0, by omega, rfl, rfl, by show x ∉ l.take 0; simp⟩
  case round =>
    obtain ⟨k, hk, hi, hw, hno⟩ := hrel
    subst hi hw
    by_cases hlt : k < n
    · have hl := HN.out
      obtain ⟨B, off, cap, e, hBl, d1⟩ := HP.out.int k (by omega)
      injection e with e1 e2 e3
      subst e1
      clear e2 e3
      have hget : l.take (k + 1) = l.take k ++ [l[k]'(by omega)] := by rw [List.take_succ_eq_append_getElem (by omega)]
      have hmem : l[k]'(by omega) ∈ l := List.getElem_mem _
      obtain ⟨y, hy⟩ : ∃ y, l[k]'(by omega) = y := ⟨_, rfl⟩
      rw [hy] at d1 hget hmem
      have HG : Hid _ := hget
      clear hy hl hget
      by_cases hxy : y = x
      · subst hxy
        have hr : res = true := by rw [← HR.out]; exact decide_eq_true hmem
        subst hr
        clear HG hmem
        go_wp2
        go_ret
        exact ⟨rfl, rfl⟩
      · have e1 : (y == x) = false := beq_eq_false_iff_ne.2 hxy
        clear hmem
        have HX : Hid (¬ y = x) := hxy
        clear hxy
        go_wp2_with fail
        go_roundw
        case rel =>
          refine ⟨k + 1, by omega, by simp, by first | rfl | trivial, ?_⟩
          show x ∉ l.take (k + 1)
          rw [HG.out, List.mem_append]
          rintro (h | h)
          · exact hno.out h
          · simp at h; exact HX.out h.symm
        case measure => simp [intOf]; omega
    · obtain rfl : k = n := by omega
      have hr : res = false := by
        rw [← HR.out]
        have h1 := hno.out
        rw [List.take_of_length_le (by rw [HN.out]; exact Nat.le_refl _)] at h1
        exact decide_eq_false h1
      subst hr
      go_wp2
      go_ret
      exact ⟨rfl, rfl⟩

set_option maxRecDepth 100000 in
set_option maxHeartbeats 1000000 in
theorem mirror_any (s : Int) (w : World) : Calls Try.prog 20 #[.int .i64 s] w fun e w' => e = .returned (.int .i64 (mi s)) ∧ w' = w := by
  unfold mi
  by_cases h1 : s = 1
  · subst h1
    go_enter Try.func20, Try.ntmps20
    go_wp2
    go_ret
    exact ⟨rfl, rfl⟩
  by_cases h2 : s = 2
  · subst h2
    go_enter Try.func20, Try.ntmps20
    go_wp2
    go_ret
    exact ⟨rfl, rfl⟩
  by_cases h4 : s = 4
  · subst h4
    go_enter Try.func20, Try.ntmps20
    go_wp2
    go_ret
    exact ⟨rfl, rfl⟩
  by_cases h5 : s = 5
  · subst h5
    go_enter Try.func20, Try.ntmps20
    go_wp2
    go_ret
    exact ⟨rfl, rfl⟩
  rw [if_neg h1, if_neg h2, if_neg h4, if_neg h5]
  have e1 : (s == 1) = false := beq_eq_false_iff_ne.2 h1
  have e2 : (s == 2) = false := beq_eq_false_iff_ne.2 h2
  have e4 : (s == 4) = false := beq_eq_false_iff_ne.2 h4
  have e5 : (s == 5) = false := beq_eq_false_iff_ne.2 h5
  go_enter Try.func20, Try.ntmps20
  go_wp2
  go_ret
  exact ⟨rfl, rfl⟩

set_option maxRecDepth 100000 in
set_option maxHeartbeats 1000000 in
theorem done_any (w : World) (p b : Nat) (T : Tb) (two : Bool) (id : Int) (g : Bool) (k : Int) (h : TI w p b T) (hid : I64 id) :
    Calls Try.prog 10 #[.pointer (some ⟨p, 0, none⟩), .agg #[.bool two, .int .i64 id, .bool g, .int .i64 k]] w fun e w' => e = .returned (.tuple #[.int .i64 (T.doo id g k).2.1, .int .i64 (T.doo id g k).2.2]) ∧ TI w' p b (T.doo id g k).1 ∧ K2s p b w w' := by
  have hd := do_any (w.alloc (.cells #[.bool two, .int .i64 id, .bool g, .int .i64 k] 29)) p b T id g k (h.al _) hid
  have hp := h.lt
  have hm := h.mlt
  clear h
  generalize T.doo id g k = r at hd ⊢
  obtain ⟨T', v, c⟩ := r
  simp only at hd ⊢
  go_enter Try.func10, Try.ntmps10
  go_wp2_with fail
  refine hd.mono ?_
  rintro e w1 ⟨rfl, ht, hk⟩
  have hk' : K2s p b w w1 := (K2s.of_below (bel1 w _)).tr hk
  have hs := hk'.size
  have ht2 := ht.al (.cells #[.int .i64 v, .int .i64 c] 44)
  have hk2 := hk'.tr (K2s.of_below (bel1 w1 (.cells #[.int .i64 v, .int .i64 c] 44)))
  clear hd ht hk hk'
  go_wp2
  go_region
  all_goals
    go_wp2
    refine bodyPost_ret (results_tmp2 rfl _ _ _) rfl ⟨rfl, ?_, ?_⟩
    · exact ht2.stays rfl rfl
    · exact ⟨hk2.os, hk2.tape, hk2.output, hk2.size, hk2.block⟩

theorem one_i : I64 1 := by unfold I64; omega
theorem two_i : I64 2 := by unfold I64; omega
theorem three_i : I64 3 := by unfold I64; omega
theorem K2s.fresh {p b : Nat} {w w' : World} (h : K2s p b w w') {n : Nat} (hn : n ≤ w.heap.size) (hp : n ≤ p) (hb : n ≤ b) : Below n w w' :=
  ⟨h.os, h.tape, h.output, h.size, fun k hk => h.block k (by omega) (by omega)⟩
theorem Below.tr' {n : Nat} {w w1 w2 : World} (h : Below n w w1) (k : Below w1.heap.size w1 w2) (hn : n ≤ w1.heap.size) : Below n w w2 := h.trans (k.mono hn)

set_option maxRecDepth 100000 in
set_option maxHeartbeats 4000000 in
theorem first_any (w : World) : Calls Try.prog 9 #[] w fun e w' => e = .returned (.bool true) ∧ Below w.heap.size w w' := by
  go_enter Try.func9, Try.ntmps9
  go_wp2_with fail
  refine (new_any true _).mono ?_
  rintro e w1 ⟨rfl, t1, hB, hs⟩
  have hsz : w.heap.size ≤ w1.heap.size := hB.size
  clear hs
  go_wp2_with fail
  refine (next_any _ _ _ _ t1).mono ?_
  rintro e w1 ⟨rfl, rfl⟩
  rw [show (Tb.new true).next = (1, true) from rfl]
  go_wp2_with fail
  refine (done_any _ _ _ _ false 1 false 2 t1 one_i).mono ?_
  rw [show (Tb.new true).doo 1 false 2 = (⟨true, 1, 0, [(1, 4)]⟩, 0, 0) from rfl]
  rintro e w2 ⟨rfl, t2, k2⟩
  replace hB := Below.trans hB (k2.fresh hsz (by omega) (by omega))
  replace hsz := hB.size
  clear t1 k2
  go_wp2_with fail
  refine (done_any _ _ _ _ false 2 true 5 t2 two_i).mono ?_
  rw [show (Tb.mk true 1 0 [(1, 4)]).doo 2 true 5 = (⟨true, 1, 2, [(1, 4), (2, 2)]⟩, 0, 0) from rfl]
  rintro e w3 ⟨rfl, t3, k3⟩
  replace hB := Below.trans hB (k3.fresh hsz (by omega) (by omega))
  replace hsz := hB.size
  clear t2 k3
  go_wp2_with fail
  refine (state_any _ _ _ _ 1 t3 one_i).mono ?_
  rw [show (Tb.mk true 1 2 [(1, 4), (2, 2)]).st 1 = 4 from rfl]
  rintro e w4 ⟨rfl, k4⟩
  have t4 := t3.below k4
  replace hB := Below.tr' hB k4 hsz
  replace hsz := hB.size
  clear t3 k4
  go_wp2_with fail
  refine (done_any _ _ _ _ false 2 false 6 t4 two_i).mono ?_
  rw [show (Tb.mk true 1 2 [(1, 4), (2, 2)]).doo 2 false 6 = (⟨true, 1, 2, [(1, 4), (2, 6)]⟩, 0, 0) from rfl]
  rintro e w5 ⟨rfl, t5, k5⟩
  replace hB := Below.trans hB (k5.fresh hsz (by omega) (by omega))
  replace hsz := hB.size
  clear t4 k5
  go_wp2_with fail
  refine (done_any _ _ _ _ false 2 true 1 t5 two_i).mono ?_
  rw [show (Tb.mk true 1 2 [(1, 4), (2, 6)]).doo 2 true 1 = (⟨true, 1, 2, [(1, 4), (2, 6)]⟩, 1, 0) from rfl]
  rintro e w6 ⟨rfl, t6, k6⟩
  replace hB := Below.trans hB (k6.fresh hsz (by omega) (by omega))
  replace hsz := hB.size
  clear t5 k6
  go_wp2_with fail
  refine (done_any _ _ _ _ false 3 true 1 t6 three_i).mono ?_
  rw [show (Tb.mk true 1 2 [(1, 4), (2, 6)]).doo 3 true 1 = (⟨true, 1, 2, [(1, 4), (2, 6)]⟩, 3, 1) from rfl]
  rintro e w7 ⟨rfl, t7, k7⟩
  replace hB := Below.trans hB (k7.fresh hsz (by omega) (by omega))
  replace hsz := hB.size
  clear t6 k7
  go_wp2_with fail
  refine (next_any _ _ _ _ t7).mono ?_
  rw [show (Tb.mk true 1 2 [(1, 4), (2, 6)]).next = (3, true) from rfl]
  rintro e w7 ⟨rfl, rfl⟩
  go_wp2_with fail
  refine (cut_any _ _ _ _ 2 t7 two_i).mono ?_
  rw [show (Tb.mk true 1 2 [(1, 4), (2, 6)]).cut 2 = true from rfl]
  rintro e w7 ⟨rfl, rfl⟩
  go_wp2_with fail
  refine (cut_any _ _ _ _ 1 t7 one_i).mono ?_
  rw [show (Tb.mk true 1 2 [(1, 4), (2, 6)]).cut 1 = false from rfl]
  rintro e w7 ⟨rfl, rfl⟩
  go_wp2_with fail
  refine (count_any _ _ _ _ true t7).mono ?_
  rw [show (Tb.mk true 1 2 [(1, 4), (2, 6)]).count true = 1 from rfl]
  rintro e w8 ⟨rfl, k8⟩
  have t8 := t7.below k8
  replace hB := Below.tr' hB k8 hsz
  replace hsz := hB.size
  clear t7 k8
  go_wp2_with fail
  refine (count_any _ _ _ _ false t8).mono ?_
  rw [show (Tb.mk true 1 2 [(1, 4), (2, 6)]).count false = 0 from rfl]
  rintro e w9 ⟨rfl, k9⟩
  have t9 := t8.below k9
  replace hB := Below.tr' hB k9 hsz
  replace hsz := hB.size
  clear t8 k9
  go_wp2_with fail
  refine (last_any _ _ _ _ false t9).mono ?_
  rw [show (Tb.mk true 1 2 [(1, 4), (2, 6)]).last false = 2 from rfl]
  rintro e w9 ⟨rfl, rfl⟩
  go_wp2_with fail
  refine (live_any _ _ _ _ t9).mono ?_
  rw [show (Tb.mk true 1 2 [(1, 4), (2, 6)]).live = [1] from rfl]
  rintro e wa ⟨v, rfl, hR, hv, ka⟩
  replace hB := Below.tr' hB ka hsz
  replace hsz := hB.size
  clear t9 ka hv
  have hsame := sameInts_eq (wa.alloc (.cells #[.int .i64 1] 2)) v (.slice (some ⟨wa.heap.size, 0, none⟩) 1 1) [1] (hR.below (bel1 _ _)).isIn (in_one _ _ 1 _ _ _ (heap_alloc_new _ _) rfl)
  clear hR
  go_wp2_with fail
  refine hsame.mono ?_
  rintro e wb ⟨rfl, kb⟩
  go_wp2
  go_ret
  exact ⟨rfl, Below.tr' (Below.tr' hB (bel1 wa _) hsz) kb (by simp; omega)⟩
end Go.Proofs.Ytaaocgppniflcaa
