/- Tables. -/
import Derived.Test.YtfkimdgbkfogcaaDoorA1
namespace Go.Proofs.YtfkimdgbkfogcaaDoor
open Go.RowKit
set_option linter.unusedVariables false
set_option linter.unusedSimpArgs false

def tabS (l : List (Int × Int)) : List Int := l.flatMap fun q => if q.1 = 1 then [min q.2 2147483647] else []
theorem tabS_take_succ (l : List (Int × Int)) (k : Nat) (hk : k < l.length) : tabS (l.take (k + 1)) = tabS (l.take k) ++ if l[k].1 = 1 then [min l[k].2 2147483647] else [] := by
  unfold tabS
  rw [List.take_succ_eq_append_getElem hk, List.flatMap_append]
  simp
theorem tabS_length (l : List (Int × Int)) : (tabS l).length ≤ l.length := by
  induction l with
  | nil => simp [tabS]
  | cons q r ih =>
    simp only [tabS, List.flatMap_cons, List.length_append, List.length_cons] at ih ⊢
    split
    · simp only [List.length_cons, List.length_nil]; omega
    · simp only [List.length_nil]; omega

set_option maxRecDepth 100000 in
set_option maxHeartbeats 4000000 in
theorem tables_any (v : Value) (l : List (Int × Int)) (w : World) (hv : In EP w v l) (hlim : l.length * 16 ≤ 140737488355328) :
    Calls Tryd.prog 25 #[v] w fun e w' => ∃ o, e = .returned o ∧ R EI w' o (tabS l) ∧ (∀ k, o.ownBlock = some k → w.heap.size ≤ k) ∧ Below w.heap.size w w' := by
  have HV : Hid (In EP w v l) := hv
  obtain ⟨vb, vc, rfl, hc1, hc2⟩ := hv.slice
  obtain ⟨n, hn⟩ : ∃ n, l.length = n := ⟨_, rfl⟩
  rw [hn] at hc1 HV ⊢
  have HN : Hid (l.length = n) := hn
  have HL : Hid (l.length * 16 ≤ 140737488355328) := hlim
  clear hn hv hlim
  go_enter Tryd.func25, Tryd.ntmps25
  go_wp2
  go_loopw [3, 8] (fun o i wr => ∃ k : Nat, k ≤ n ∧ i = .int .i64 (k : Int) ∧ Hid (R EI wr o (tabS (l.take k)) ∧ (∀ j, o.ownBlock = some j → w.heap.size ≤ j) ∧ Below w.heap.size w wr)) (fun _ i _ => n - (intOf i).toNat)
  case atStart => exact ⟨0, Nat.zero_le _, rfl, R.nil _ _, fun j hj => by simp [Value.ownBlock] at hj, Below.refl _ _⟩
  case round =>
    obtain ⟨k, hk, rfl, HP⟩ := hrel
    obtain ⟨hR, hfr, hB⟩ := HP.out
    obtain ⟨ob, oc, ho, _, _⟩ := hR.slice
    subst ho
    have hlen := HN.out
    by_cases hlt : k < n
    · obtain ⟨B, off, cap, hvb, hBl, d1, d2⟩ := (HV.out.below hB).par k (by omega)
      injection hvb with e1 e2 e3
      subst e1
      clear e2 e3
      obtain ⟨x, y, hq⟩ : ∃ x y, l[k]'(by omega) = (x, y) := ⟨_, _, rfl⟩
      rw [hq] at d1 d2
      simp only at d1 d2
      have hstep := tabS_take_succ l k (by omega)
      rw [hq] at hstep
      simp only at hstep
      have hlti : (k : Int) < (n : Int) := by omega
      have hW1 : Below wr.heap.size wr (wr.alloc (.cells #[.int .i64 x, .int .i64 y] 46)) := bel1 _ _
      by_cases hx : x = 1
      · subst hx
        rw [if_pos rfl] at hstep
        have hW2 : Below wr.heap.size wr ((wr.alloc (.cells #[.int .i64 1, .int .i64 y] 46)).alloc (.cells #[.int .i64 (min y 2147483647)] 2)) := bel2 _ _ _
        have hIn := in_one (E := EI) ((wr.alloc (.cells #[.int .i64 1, .int .i64 y] 46)).alloc (.cells #[.int .i64 (min y 2147483647)] 2)) (wr.heap.size + 1) (min y 2147483647) #[.int .i64 (min y 2147483647)] 2 (0, 0) (fresh2 _ _ _) rfl
        have hll := tabS_length (l.take k)
        have hlk : (l.take k).length = k := by rw [List.length_take]; omega
        have hL := HL.out
        obtain ⟨base, cap2, w2, hrun, hR2, hG2⟩ := app okI _ _ _ (hR.below hW2) _ _ hIn (by simp only [EI, List.length_cons, List.length_nil]; omega)
        have hfin : Hid (R EI w2 (.slice base ((tabS (l.take k)).length + 1) cap2) (tabS (l.take (k + 1))) ∧ (∀ j, (Value.slice base ((tabS (l.take k)).length + 1) cap2).ownBlock = some j → w.heap.size ≤ j) ∧ Below w.heap.size w w2) := by
          refine ⟨by rw [hstep]; exact hR2, fun j hj => (hG2.own j hj).elim (hfr j) fun hh => by have := hB.size; have := hW2.size; omega, ?_⟩
          exact hB.trans ((hW2.mono hB.size).trans (hG2.belowB (Nat.le_trans hB.size hW2.size) hfr))
        obtain ⟨L, hL'⟩ : ∃ L, (tabS (l.take k)).length = L := ⟨_, rfl⟩
        simp only [List.length_cons, List.length_nil, Nat.zero_add, EI] at hrun
        rw [hL'] at hrun hfin ⊢
        obtain ⟨L1, hL1⟩ : ∃ L1, L + 1 = L1 := ⟨_, rfl⟩
        rw [hL1] at hrun hfin
        replace hrun : Hid _ := hrun
        clear hR2 hG2 hIn hW2 hW1 hR hfr HP hstep hq hlen hll hlk hL hL' hL1
        go_wp2_with (at_builtin; refine Lib.wpList_append_run _ rfl (.tmp 15) (.tmp 19) 51 51 rfl _ _ rfl rfl _ _ hrun.out ?_)
        go_roundw
        case rel => exact ⟨k + 1, by omega, by simp, hfin.out⟩
        case measure => simp [intOf]; omega
      · rw [if_neg hx, List.append_nil] at hstep
        have hfin : Hid (R EI (wr.alloc (.cells #[.int .i64 x, .int .i64 y] 46)) (.slice ob (tabS (l.take k)).length oc) (tabS (l.take (k + 1))) ∧ (∀ j, (Value.slice ob (tabS (l.take k)).length oc).ownBlock = some j → w.heap.size ≤ j) ∧ Below w.heap.size w (wr.alloc (.cells #[.int .i64 x, .int .i64 y] 46))) :=
          ⟨by rw [hstep]; exact hR.below hW1, hfr, hB.trans (hW1.mono hB.size)⟩
        obtain ⟨L, hL'⟩ : ∃ L, (tabS (l.take k)).length = L := ⟨_, rfl⟩
        rw [hL'] at hfin ⊢
        have hbx : (x == 1) = false := by simpa using hx
        clear hR hfr HP hstep hq hlen hW1 hx hL'
        go_wp2
        go_roundw
        case rel => exact ⟨k + 1, by omega, by simp, hfin.out⟩
        case measure => simp [intOf]; omega
    · have hkn : k = n := by omega
      subst hkn
      rw [List.take_of_length_le (by omega)] at hR hfr ⊢
      have hfin : Hid (R EI wr (.slice ob (tabS l).length oc) (tabS l) ∧ (∀ k, (Value.slice ob (tabS l).length oc).ownBlock = some k → w.heap.size ≤ k) ∧ Below w.heap.size w wr) := ⟨hR, hfr, hB⟩
      obtain ⟨L, hL'⟩ : ∃ L, (tabS l).length = L := ⟨_, rfl⟩
      rw [hL'] at hfin ⊢
      clear hR hfr HP hlen hL'
      go_wp2
      go_ret
      exact ⟨_, rfl, hfin.out⟩
end Go.Proofs.YtfkimdgbkfogcaaDoor
