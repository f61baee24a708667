/- TableFinds, walked. -/
import Derived.Test.YtlfbnhdcgldopaaC4
namespace Go.Proofs.Ytlfbnhdcgldopaa
open Go.RowKit

set_option maxRecDepth 100000 in
set_option maxHeartbeats 1000000 in
theorem tableFinds_any (w : World) (lv : Value) (l : List E) (n x : ByteArray) (hE : Ents w lv l) (hf : Fine l) :
    Calls Try.prog 3 #[lv, .string n, .string x] w fun e w' => e = .returned (.bool true) ∧ Below w.heap.size w w' := by
  obtain ⟨base, cap, rfl, hl63⟩ := hE.slice
  have HE : Hid (Ents w (.slice base l.length cap) l) := hE
  clear hE
  go_enter Try.func3, Try.ntmps3
  go_wp2_with fail
  refine (head_any w).mono ?_
  rintro e w1 ⟨rfl, hb1⟩
  go_wp2_with fail
  refine (new_mine w w1 65536 (by omega) hb1).mono ?_
  rintro e w2 ⟨rfl, h2, _⟩
  generalize w1.heap.size = b at h2
  go_wp2_with fail
  go_loopw [9] (fun i wr => ∃ (k : Nat) (v : Value), k ≤ l.length ∧ i = .int .i64 (k : Int) ∧ Mine w b 65536 (keep 65536 (l.take k).reverse) v wr) (fun i _ => l.length - (intOf i).toNat)
  case atStart => exact ⟨0, _, by omega, rfl, h2⟩
  case round =>
    obtain ⟨k, v, hk, rfl, hM⟩ := hrel
    by_cases hlt : k < l.length
    · obtain ⟨y, z, g, off, hy, hbase, hc1, hc2, HC⟩ := ents_round HE.out k hlt
      subst hbase
      obtain ⟨hd1, hd2⟩ := HC wr hM.2.2
      have hadd : Hid (Calls Try.prog 10 #[.pointer (some ⟨b, 0, none⟩), .string y, .string z] wr.drew fun e W' => e = .returned (.tuple #[]) ∧ Hid (∃ v', Mine w b 65536 (keep 65536 (l.take (k + 1)).reverse) v' W')) := add_round hM.drew hlt hf y z hy
      clear HC hy hM
      go_wp2_with fail
      go_region_with (first | (go_at_call 10; refine hadd.out.mono ?_; rintro e w3 ⟨rfl, hfin⟩))
      all_goals
        go_wp2_with fail
        go_roundw
        case rel => obtain ⟨v', hv'⟩ := hfin.out; exact ⟨k + 1, v', by omega, by simp, hv'⟩
        case measure => simp [intOf]; omega
    · obtain rfl : k = l.length := by omega
      rw [List.take_length] at hM
      generalize keep 65536 l.reverse = es at hM
      go_wp2_with fail
      refine (find_any wr b 65536 es v hM.1 n x).mono ?_
      rintro e w3 ⟨rfl, hb3⟩
      replace hM := hM.below hb3
      clear hb3
      have hlen := hM.1.len
      have hfl : (fixedL ++ es).length = 61 + es.length := by rw [List.length_append]; rfl
      obtain ⟨N, hN⟩ : ∃ N, N = 61 + es.length := ⟨_, rfl⟩
      rw [← hN] at hfl ⊢
      have hNi : (61 : Int) + (es.length : Int) = (N : Int) := by omega
      obtain ⟨A, hA⟩ : ∃ A, findS (fixedL ++ es) N n x = A := ⟨_, rfl⟩
      rw [hA]
      replace hA : Hid (findS (fixedL ++ es) N n x = A) := hA
      have hN1 : N ≤ 3000 := by omega
      replace hN : Hid (N = 61 + es.length) := hN
      replace hfl : Hid ((fixedL ++ es).length = N) := hfl
      go_wp2_with fail
      go_loopw [12, 13, 14] (fun f s i wr => ∃ k : Nat, k ≤ N ∧ f = .int .i64 (named n (upto (fixedL ++ es) k) : Int) ∧ s = .int .i64 (sameOf n x (upto (fixedL ++ es) k) : Int) ∧ i = .int .i64 ((k : Int) + 1) ∧ Mine w b 65536 es v wr) (fun _ _ i _ => N + 1 - (intOf i).toNat)
      case atStart => exact ⟨0, by omega, rfl, rfl, rfl, hM⟩
      case round =>
        obtain ⟨k, hk, rfl, rfl, rfl, hM⟩ := hrel
        have hln : Hid (Calls Try.prog 12 #[.pointer (some ⟨b, 0, none⟩)] wr fun e w' => e = .returned (.int .i64 (es.length : Int)) ∧ w' = wr) := len_any wr b 65536 es v hM.1
        have hF := named_le n (upto (fixedL ++ es) k)
        have hS := sameOf_le n x (upto (fixedL ++ es) k)
        by_cases hlt : k < N
        · obtain ⟨e1, e2, he⟩ : ∃ e1 e2, (fixedL ++ es)[k]? = some (e1, e2) := ⟨_, _, List.getElem?_eq_getElem (by rw [hfl.out]; exact hlt)⟩
          have hsm := hM.1.small k _ he
          have hat : Hid (Calls Try.prog 13 #[.pointer (some ⟨b, 0, none⟩), .int .i64 ((k : Int) + 1)] wr fun r w' => r = .returned (.tuple #[.string e1, .string e2, .int .i64 0]) ∧ Mine w b 65536 es v w') := by
            have h := at_good wr b 65536 es v hM.1 (k + 1) (e1, e2) (by omega) he hsm.1 hsm.2
            rw [show ((k + 1 : Nat) : Int) = (k : Int) + 1 by omega] at h
            refine h.mono ?_
            rintro r w' ⟨rfl, hb⟩
            exact ⟨rfl, hM.below hb⟩
          have hi1 := it_index (fixedL ++ es) k (by omega)
          have hi2 := it_entry (fixedL ++ es) k _ he
          have hup := upto_succ (fixedL ++ es) k
          have hle : (k : Int) + 1 ≤ (N : Int) := by omega
          have hrel : ∀ F S : Int, F = (named n (upto (fixedL ++ es) (k + 1)) : Int) → S = (sameOf n x (upto (fixedL ++ es) (k + 1)) : Int) → Hid (∀ W, Mine w b 65536 es v W → ∃ k' : Nat, k' ≤ N ∧ Value.int .i64 F = .int .i64 (named n (upto (fixedL ++ es) k') : Int) ∧ Value.int .i64 S = .int .i64 (sameOf n x (upto (fixedL ++ es) k') : Int) ∧ Value.int .i64 ((k : Int) + 1 + 1) = .int .i64 ((k' : Int) + 1) ∧ Mine w b 65536 es v W) :=
            fun F S h1 h2 W hW => ⟨k + 1, by omega, by rw [h1], by rw [h2], by simp, hW⟩
          rw [hup] at hrel
          generalize upto (fixedL ++ es) k = P at hF hS hrel ⊢
          generalize it (fixedL ++ es) k = y at hi1 hi2 hrel
          clear hup he hsm hM
          by_cases hn : e1 = n
          · have b1 := toList_eq_true hn
            have hyn : y.1.2.1 = n := by rw [hi2]; exact hn
            by_cases hF0 : named n P = 0
            · have f0 : ((named n P : Int) == 0) = true := by simp [hF0]
              have hF' := named_snoc_first n P y hyn hF0
              by_cases hx : e2 = x
              · have b2 := toList_eq_true hx
                have hyh : hit n x y = true := by simp [hit, hi2, hn, hx]
                by_cases hS0 : sameOf n x P = 0
                · have s0 : ((sameOf n x P : Int) == 0) = true := by simp [hS0]
                  have hfin := hrel ((k : Int) + 1) ((k : Int) + 1) (by rw [hF', hi1]; simp) (by rw [same_snoc_first n x P y hyh hS0, hi1]; simp)
                  clear hrel hyn hi1 hi2
                  try clear hF0
                  try clear hS0
                  try clear hF'
                  try clear hyh
                  try clear hn
                  try clear hx
                  go_wp2_with (first | (go_at_call 12; refine hln.out.mono ?_; rintro e w2 ⟨rfl, rfl⟩) | (go_at_call 13; refine hat.out.mono ?_; rintro e w2 ⟨rfl, hM⟩))
                  exact ⟨hfin.out _ hM, by simp [intOf]; omega⟩
                · have s0 : ((sameOf n x P : Int) == 0) = false := by simp; omega
                  have hfin := hrel ((k : Int) + 1) (sameOf n x P : Int) (by rw [hF', hi1]; simp) (by rw [same_snoc_later n x P y hS0])
                  clear hrel hyn hi1 hi2
                  try clear hF0
                  try clear hS0
                  try clear hF'
                  try clear hyh
                  try clear hn
                  try clear hx
                  go_wp2_with (first | (go_at_call 12; refine hln.out.mono ?_; rintro e w2 ⟨rfl, rfl⟩) | (go_at_call 13; refine hat.out.mono ?_; rintro e w2 ⟨rfl, hM⟩))
                  exact ⟨hfin.out _ hM, by simp [intOf]; omega⟩
              · have b2 := toList_eq_false hx
                have hyh : ¬ hit n x y = true := by simp [hit, hi2, hx]
                have hfin := hrel ((k : Int) + 1) (sameOf n x P : Int) (by rw [hF', hi1]; simp) (by rw [same_snoc_same n x P y hyh])
                clear hrel hyn hi1 hi2
                try clear hF0
                try clear hS0
                try clear hF'
                try clear hyh
                try clear hn
                try clear hx
                go_wp2_with (first | (go_at_call 12; refine hln.out.mono ?_; rintro e w2 ⟨rfl, rfl⟩) | (go_at_call 13; refine hat.out.mono ?_; rintro e w2 ⟨rfl, hM⟩))
                exact ⟨hfin.out _ hM, by simp [intOf]; omega⟩
            · have f0 : ((named n P : Int) == 0) = false := by simp; omega
              have hF' := named_snoc_later n P y hF0
              by_cases hx : e2 = x
              · have b2 := toList_eq_true hx
                have hyh : hit n x y = true := by simp [hit, hi2, hn, hx]
                by_cases hS0 : sameOf n x P = 0
                · have s0 : ((sameOf n x P : Int) == 0) = true := by simp [hS0]
                  have hfin := hrel (named n P : Int) ((k : Int) + 1) (by rw [hF']) (by rw [same_snoc_first n x P y hyh hS0, hi1]; simp)
                  clear hrel hyn hi1 hi2
                  try clear hF0
                  try clear hS0
                  try clear hF'
                  try clear hyh
                  try clear hn
                  try clear hx
                  go_wp2_with (first | (go_at_call 12; refine hln.out.mono ?_; rintro e w2 ⟨rfl, rfl⟩) | (go_at_call 13; refine hat.out.mono ?_; rintro e w2 ⟨rfl, hM⟩))
                  exact ⟨hfin.out _ hM, by simp [intOf]; omega⟩
                · have s0 : ((sameOf n x P : Int) == 0) = false := by simp; omega
                  have hfin := hrel (named n P : Int) (sameOf n x P : Int) (by rw [hF']) (by rw [same_snoc_later n x P y hS0])
                  clear hrel hyn hi1 hi2
                  try clear hF0
                  try clear hS0
                  try clear hF'
                  try clear hyh
                  try clear hn
                  try clear hx
                  go_wp2_with (first | (go_at_call 12; refine hln.out.mono ?_; rintro e w2 ⟨rfl, rfl⟩) | (go_at_call 13; refine hat.out.mono ?_; rintro e w2 ⟨rfl, hM⟩))
                  exact ⟨hfin.out _ hM, by simp [intOf]; omega⟩
              · have b2 := toList_eq_false hx
                have hyh : ¬ hit n x y = true := by simp [hit, hi2, hx]
                have hfin := hrel (named n P : Int) (sameOf n x P : Int) (by rw [hF']) (by rw [same_snoc_same n x P y hyh])
                clear hrel hyn hi1 hi2
                try clear hF0
                try clear hS0
                try clear hF'
                try clear hyh
                try clear hn
                try clear hx
                go_wp2_with (first | (go_at_call 12; refine hln.out.mono ?_; rintro e w2 ⟨rfl, rfl⟩) | (go_at_call 13; refine hat.out.mono ?_; rintro e w2 ⟨rfl, hM⟩))
                exact ⟨hfin.out _ hM, by simp [intOf]; omega⟩
          · have b1 := toList_eq_false hn
            have hyn : ¬ y.1.2.1 = n := by rw [hi2]; exact hn
            have hyh : ¬ hit n x y = true := by simp [hit, hyn]
            have hfin := hrel (named n P : Int) (sameOf n x P : Int) (by rw [named_snoc_same n P y hyn]) (by rw [same_snoc_same n x P y hyh])
            clear hrel hyn hi1 hi2
            try clear hF0
            try clear hS0
            try clear hF'
            try clear hyh
            try clear hn
            try clear hx
            go_wp2_with (first | (go_at_call 12; refine hln.out.mono ?_; rintro e w2 ⟨rfl, rfl⟩) | (go_at_call 13; refine hat.out.mono ?_; rintro e w2 ⟨rfl, hM⟩))
            exact ⟨hfin.out _ hM, by simp [intOf]; omega⟩
        · obtain rfl : k = N := by omega
          have hle : ¬ ((k : Int) + 1 ≤ (k : Int)) := by omega
          have hAe := hA.out
          rw [findS_same] at hAe
          have hB := hM.2.2
          clear hM hA hlt
          by_cases hS0 : sameOf n x (upto (fixedL ++ es) k) = 0
          · rw [if_pos hS0] at hAe
            subst hAe
            have hs1 : ¬ (0 : Int) < (sameOf n x (upto (fixedL ++ es) k) : Int) := by omega
            generalize sameOf n x (upto (fixedL ++ es) k) = S at *
            generalize named n (upto (fixedL ++ es) k) = F at *
            clear hS0
            go_wp2_with (first | (go_at_call 12; refine hln.out.mono ?_; rintro e w2 ⟨rfl, rfl⟩))
            go_ret
            exact ⟨by simp, hB⟩
          · rw [if_neg hS0] at hAe
            subst hAe
            have hs1 : (0 : Int) < (sameOf n x (upto (fixedL ++ es) k) : Int) := by omega
            generalize sameOf n x (upto (fixedL ++ es) k) = S at *
            generalize named n (upto (fixedL ++ es) k) = F at *
            clear hS0
            go_wp2_with (first | (go_at_call 12; refine hln.out.mono ?_; rintro e w2 ⟨rfl, rfl⟩))
            go_ret
            exact ⟨by simp, hB⟩

end Go.Proofs.Ytlfbnhdcgldopaa
