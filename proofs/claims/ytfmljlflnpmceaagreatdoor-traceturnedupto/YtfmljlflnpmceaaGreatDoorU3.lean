/- What a frame that may be written says of its stream; in, late. -/
import Derived.Test.YtfmljlflnpmceaaGreatDoorVzn
import Derived.Test.YtfmljlflnpmceaaGreatDoorU1
namespace Go.Proofs.YtfmljlflnpmceaaGreatDoor
open Go.RowKit
set_option linter.unusedVariables false
set_option linter.unusedSimpArgs false
theorem ew_of {e : Et} (h : Fn e.f e.ps e.n) : Ew e := by
  rcases h with ⟨hR, hn⟩ | ⟨_, hn⟩
  · have h0 := hR.st0
    have h1 := hR.st1
    have ki : ∀ n : Nat, n ≤ 9 → e.f.ty = (n : Int) → Fm.kiF e.f = n := fun n h9 ht => by unfold Fm.kiF; rw [ht]; omega
    refine ⟨fun _ ht => ?_, fun _ ht => ?_, fun _ ht => ?_, fun _ => hR.ty0, fun _ h8 ht => ?_⟩
    · rw [isStr_iff]
      rcases ht with ht | ht | ht | ht | ht | ht
      · have h := ki 0 (by omega) ht; rw [h] at h0 h1; exact ⟨h0, h1⟩
      · have h := ki 1 (by omega) ht; rw [h] at h0 h1; exact ⟨h0, h1⟩
      · have h := ki 2 (by omega) ht; rw [h] at h0 h1; exact ⟨h0, h1⟩
      · have h := ki 3 (by omega) ht; rw [h] at h0 h1; exact ⟨h0, h1⟩
      · have h := ki 5 (by omega) ht; rw [h] at h0 h1; exact ⟨h0, h1⟩
      · have h := ki 9 (by omega) ht; rw [h] at h0 h1; exact ⟨h0, h1⟩
    · rw [isStr_iff]
      have h := ki 8 (by omega) ht
      rw [h] at h0 h1
      have h0' : (0 : Int) ≤ e.f.st := h0
      have h1' : e.f.st ≤ 2147483647 := h1
      omega
    · rcases ht with ht | ht | ht
      · have h := ki 4 (by omega) ht
        rw [h] at h0 h1
        exact Int.le_antisymm h1 h0
      · have h := ki 6 (by omega) ht
        rw [h] at h0 h1
        exact Int.le_antisymm h1 h0
      · have h := ki 7 (by omega) ht
        rw [h] at h0 h1
        exact Int.le_antisymm h1 h0
    · have hp := hR.pad
      have : Fm.padS e.f = true := by
        unfold Fm.padS
        rw [Bool.and_eq_true]
        exact ⟨decide_eq_true (by omega), h8⟩
      rw [if_pos this] at hp
      exact hp
  · exact ⟨fun h => absurd hn h, fun h => absurd hn h, fun h => absurd hn h, fun h => absurd hn h, fun h => absurd hn h⟩
theorem contains_take {l : List Int} {x : Int} {j : Nat} (hj : j < l.length) : (l.take (j + 1)).contains x = ((l.take j).contains x || l[j] == x) := by
  rw [List.take_succ_eq_append_getElem hj, List.contains_append]
  simp only [List.contains_cons, List.contains_nil, Bool.or_false]
  rw [Bool.beq_comm]
set_option maxRecDepth 100000 in
set_option maxHeartbeats 4000000 in
theorem in_any (l : List Int) (v : Value) (n : Int) (w : World) (hv : In EI w v l) (hl : l.length ≤ 1099511627776) :
    Calls Tryz.prog 13 #[v, .int .i64 n] w fun r w' => r = .returned (.bool (l.contains n)) ∧ w' = w := by
  have HV : Hid (In EI w v l) := hv
  obtain ⟨vb, vc, rfl, hc1, hc2⟩ := hv.slice
  obtain ⟨m, hm⟩ : ∃ m, l.length = m := ⟨_, rfl⟩
  have HN : Hid (l.length = m) := hm
  rw [hm] at hc1 hl HV ⊢
  obtain ⟨RR, hRR⟩ : ∃ r, l.contains n = r := ⟨_, rfl⟩
  have HRR : Hid (l.contains n = RR) := hRR
  rw [hRR]
  clear hm hv hRR
  go_enter Tryz.func13, Tryz.ntmps13
  go_wp2_with fail
  go_loopw [5] (fun i wr => ∃ j : Nat, j ≤ m ∧ i = .int .i64 (j : Int) ∧ Hid (wr = w ∧ (l.take j).contains n = false)) (fun i _ => m - (intOf i).toNat)
  case atStart => exact ⟨0, Nat.zero_le _, rfl, rfl, rfl⟩
  case round =>
    obtain ⟨j, hj, rfl, HI⟩ := hrel
    obtain rfl := HI.out.1
    by_cases hlt : j < m
    · have hlen := HN.out
      obtain ⟨B, off, cap, hvb, hBl, hcells⟩ := HV.out.get okI j (by omega)
      injection hvb with e1 e2 e3
      subst e1
      clear e2 e3
      have d0 := hcells 0 _ rfl
      have hct := contains_take (x := n) (j := j) (l := l) (by omega)
      obtain ⟨x, hx⟩ : ∃ x, l[j]'(by omega) = x := ⟨_, rfl⟩
      rw [hx] at d0 hct
      rw [HI.out.2, Bool.false_or] at hct
      simp only [EI, Nat.mul_one, Nat.add_zero] at d0
      have HCT : Hid ((l.take (j + 1)).contains n = (x == n)) := hct
      clear hct hcells hx hlen
      have hlti : (j : Int) < (m : Int) := by omega
      by_cases hxn : x = n
      · have hb : (x == n) = true := by simp [hxn]
        have HT := hid (show true = RR by
          have h1 := HCT.out
          rw [hb] at h1
          have h2 : n ∈ l.take (j + 1) := by simpa using h1
          rw [← HRR.out]
          exact (List.contains_iff_mem.2 (List.mem_of_mem_take h2)).symm)
        clear hxn
        go_wp2_with fail
        go_ret
        exact ⟨by rw [← HT.out]; rfl, rfl⟩
      · have hb : (x == n) = false := by simp [hxn]
        have hjw : wrap64 ((j : Int) + 1) = ((j + 1 : Nat) : Int) := by unfold wrap64; omega
        have HR : Hid (wr = wr ∧ (l.take (j + 1)).contains n = false) := ⟨rfl, by rw [HCT.out, hb]⟩
        clear hxn
        go_wp2_with fail
        go_roundw
        case rel => exact ⟨j + 1, by omega, by first | rfl | (rw [hjw]) | simp, by first | exact HR.out | exact hid ⟨trivial, HR.out.2⟩⟩
        case measure => simp [intOf]; omega
    · have hnlt : ¬ (j : Int) < (m : Int) := by omega
      have HT := hid (show false = RR by
        have h1 := HI.out.2
        have h2 := HN.out
        rw [List.take_of_length_le (by omega)] at h1
        rw [← HRR.out, h1])
      go_wp2_with fail
      go_ret
      exact ⟨by rw [← HT.out]; rfl, rfl⟩
set_option maxRecDepth 100000 in
set_option maxHeartbeats 40000000 in
theorem late_any (xs : List Ec) (v : Value) (w : World) (hv : In EE w v xs) (hlen : xs.length ≤ 1073741824) :
    Calls Tryz.prog 12 #[v] w fun r w' => r = .returned (.bool (lateL [] (xs.map (·.e)))) ∧ Below w.heap.size w w' := by
  have HV : Hid (In EE w v xs) := hv
  obtain ⟨vb, vc, rfl, hc1, hc2⟩ := hv.slice
  obtain ⟨n, hn⟩ : ∃ n, xs.length = n := ⟨_, rfl⟩
  rw [hn] at hc1 HV hlen ⊢
  have HN : Hid (xs.length = n) := hn
  obtain ⟨RR, hRR⟩ : ∃ r, lateL [] (xs.map (·.e)) = r := ⟨_, rfl⟩
  have HRR : Hid (lateL [] (xs.map (·.e)) = RR) := hRR
  rw [hRR]
  clear hn hv hRR
  go_enter Tryz.func12, Tryz.ntmps12
  go_wp2_with fail
  go_loopw [3, 4] (fun o i wr => ∃ (j m : Nat) (ob : Option Addr) (oc : Nat), j ≤ n ∧ i = .int .i64 (j : Int) ∧ o = .slice ob m oc ∧ Hid (∃ X, R EI wr (.slice ob m oc) X ∧ X.length = m ∧ m ≤ j ∧ (∀ k, (Value.slice ob m oc).ownBlock = some k → w.heap.size ≤ k) ∧ Below w.heap.size w wr ∧ lateL X ((xs.map (·.e)).drop j) = RR)) (fun _ i _ => n - (intOf i).toNat)
  case atStart => exact ⟨0, 0, none, 0, Nat.zero_le _, rfl, rfl, [], R.nil _ _, rfl, Nat.le_refl _, (fun k hk => by simp [Value.ownBlock] at hk), Below.refl _ _, HRR.out⟩
  case round =>
    obtain ⟨j, m, ob, oc, hj, rfl, rfl, HI⟩ := hrel
    obtain ⟨X, hX, hXm, hmj, hXo, hB, hL⟩ := HI.out
    have hlenx := HN.out
    by_cases hlt : j < n
    · obtain ⟨B, off, cap, hvb, hBl, hcells⟩ := (HV.out.below hB).ent j (by omega)
      injection hvb with e1 e2 e3
      subst e1
      clear e2 e3
      have hdrop : (xs.map (·.e)).drop j = (xs[j]'(by omega)).e :: (xs.map (·.e)).drop (j + 1) := by
        rw [List.drop_eq_getElem_cons (by simp; omega)]
        simp
      rw [hdrop] at hL
      clear hdrop
      obtain ⟨x, hx⟩ : ∃ x, xs[j]'(by omega) = x := ⟨_, rfl⟩
      rw [hx] at hcells hL
      obtain ⟨⟨es, ⟨ey, el, et, ed, ep, ee, eX, ew, ec, eL⟩, eps, en⟩, pb, pn, pc⟩ := x
      simp only [env, Ec.p] at hcells
      unfold lateL at hL
      simp only at hL
      obtain ⟨W1, hW1⟩ : ∃ V, wr.alloc (.cells #[.int .i64 ey, .int .i64 el, .int .i64 et, .string ed, .int .i64 ep, .int .i64 ee, .bool eX, .int .i64 ew, .int .i64 ec, .int .i64 eL, .slice pb pn pc] 31) = V := ⟨_, rfl⟩
      obtain ⟨q, hq⟩ : ∃ q, wr.heap.size = q := ⟨_, rfl⟩
      have b1 : Below wr.heap.size wr W1 := by rw [← hW1]; exact bel1 _ _
      have g1 : W1.heap[q]? = some (.cells #[.int .i64 ey, .int .i64 el, .int .i64 et, .string ed, .int .i64 ep, .int .i64 ee, .bool eX, .int .i64 ew, .int .i64 ec, .int .i64 eL, .slice pb pn pc] 31 (0, 0)) := by rw [← hW1, ← hq, heap_al, if_pos rfl]
      have hB1 : Below w.heap.size w W1 := hB.trans (b1.mono hB.size)
      have hX1 : R EI W1 (.slice ob m oc) X := hX.below b1
      obtain ⟨q2, hq2⟩ : ∃ q, W1.heap.size = q := ⟨_, rfl⟩
      obtain ⟨W2, hW2⟩ : ∃ V, W1.alloc (.cells #[.int .i64 et] 2) = V := ⟨_, rfl⟩
      have b2 : Below W1.heap.size W1 W2 := by rw [← hW2]; exact bel1 _ _
      have g2 : W2.heap[q2]? = some (.cells #[.int .i64 et] 2 (0, 0)) := by rw [← hW2, ← hq2, heap_al, if_pos rfl]
      have hB2 : Below w.heap.size w W2 := hB1.trans (b2.mono hB1.size)
      obtain ⟨nb, nc, W3, hrun, hR3, hG3⟩ := app okI W2 (.slice ob m oc) X (hX1.below b2) (.slice (some ⟨q2, 0, none⟩) 1 1) [et] (in_one _ q2 _ _ 2 (0, 0) g2 rfl) (by simp only [EI, List.length_cons, List.length_nil]; omega)
      simp only [List.length_cons, List.length_nil, Nat.zero_add, hXm] at hrun hR3 hG3
      have hB3 : Below w.heap.size w W3 := hB2.trans (hG3.belowB hB2.size hXo)
      have hX3o : ∀ k, (Value.slice nb (m + 1) nc).ownBlock = some k → w.heap.size ≤ k := fun k hk => (hG3.own k hk).elim (hXo k) fun h => Nat.le_trans hB2.size h
      have HS3 : Hid (lateL (X ++ [et]) ((xs.map (·.e)).drop (j + 1)) = RR → ∃ X, R EI W3 (.slice nb (m + 1) nc) X ∧ X.length = m + 1 ∧ m + 1 ≤ j + 1 ∧ (∀ k, (Value.slice nb (m + 1) nc).ownBlock = some k → w.heap.size ≤ k) ∧ Below w.heap.size w W3 ∧ lateL X ((xs.map (·.e)).drop (j + 1)) = RR) := fun h => ⟨_, hR3, by simp [hXm], by omega, hX3o, hB3, h⟩
      have HS1 : Hid (lateL X ((xs.map (·.e)).drop (j + 1)) = RR → ∃ X, R EI W1 (.slice ob m oc) X ∧ X.length = m ∧ m ≤ j + 1 ∧ (∀ k, (Value.slice ob m oc).ownBlock = some k → w.heap.size ≤ k) ∧ Below w.heap.size w W1 ∧ lateL X ((xs.map (·.e)).drop (j + 1)) = RR) := fun h => ⟨_, hX1, hXm, by omega, hXo, hB1, h⟩
      have HC : Hid (Calls Tryz.prog 13 #[.slice ob m oc, .int .i64 et] W1 fun r w' => r = .returned (.bool (X.contains et)) ∧ w' = W1) := in_any X _ et W1 hX1.isIn (by omega)
      have HL := hid hL
      have HB1 := hid hB1
      simp only [EI] at hrun
      have HRUN := hid hrun
      have d0 := hcells 0 _ rfl
      have d1 := hcells 1 _ rfl
      have d2 := hcells 2 _ rfl
      have d3 := hcells 3 _ rfl
      have d4 := hcells 4 _ rfl
      have d5 := hcells 5 _ rfl
      have d6 := hcells 6 _ rfl
      have d7 := hcells 7 _ rfl
      have d8 := hcells 8 _ rfl
      have d9 := hcells 9 _ rfl
      have d10 := hcells 10 _ rfl
      have d11 := hcells 11 _ rfl
      simp only [Nat.add_zero] at d0
      have f0 : W1.cell? ⟨B, off + j * 12, none⟩ = some (.bool es) := (b1.cell hBl).trans d0
      have k0 := cell_blk g1 0
      have k2 := cell_blk g1 2
      simp only [List.getElem?_toArray, List.getElem?_cons_succ, List.getElem?_cons_zero] at k0 k2
      have hlti : (j : Int) < (n : Int) := by omega
      have hjw : wrap64 ((j : Int) + 1) = ((j + 1 : Nat) : Int) := by unfold wrap64; omega
      clear hcells hL hlenx hx HI hX hXm hmj hXo hB b1 g1 hB1 hX1 b2 g2 hB2 hR3 hG3 hB3 hX3o hrun
      go_upto_region 6 with fail
      try rw [hW1]
      try rw [hq]
      clear hW1 hq d0 d1 d2 d3 d4 d5 d6 d7 d8 d9 d10 d11
      by_cases h7 : ey = 7
      · have h7b : (ey == 7) = true := by simp [h7]
        have HT := hid (show true = RR by have := HL.out; rw [h7b] at this; simpa using this)
        clear h7
        go_wp2_with fail
        go_ret
        exact ⟨by rw [← HT.out]; rfl, HB1.out⟩
      · have h7b : (ey == 7) = false := by simp [h7]
        have fin : Hid (∀ b, (!es && !(et == 0) && X.contains et) = b → ((b = true ∧ true = RR) ∨ (b = false ∧ lateL (if (ey == 3 && es) = true then X ++ [et] else X) ((xs.map (·.e)).drop (j + 1)) = RR))) := fun b hb => by
          have := HL.out
          rw [h7b, hb] at this
          cases b
          · exact .inr ⟨rfl, by rwa [Bool.false_or, Bool.false_or] at this⟩
          · exact .inl ⟨rfl, this⟩
        clear h7 HL
        cases es
        · by_cases h0 : et = 0
          · have h0b : (et != 0) = false := by simp [h0]
            have HN1 := hid (show lateL X ((xs.map (·.e)).drop (j + 1)) = RR by
              have := fin.out false (by simp [h0])
              simpa using this)
            have HE := hid (HS1.out HN1.out)
            clear fin h0 HS1 HS3 HN1 HC
            by_cases h3 : ey = 3
            · have h3b : (ey == 3) = true := by simp [h3]
              clear h3
              go_wp2_with fail
              go_roundw
              case rel => exact ⟨j + 1, m, ob, oc, by omega, by first | rfl | (rw [hjw]) | simp, rfl, HE.out⟩
              case measure => simp [intOf]; omega
            · have h3b : (ey == 3) = false := by simp [h3]
              clear h3
              go_wp2_with fail
              go_roundw
              case rel => exact ⟨j + 1, m, ob, oc, by omega, by first | rfl | (rw [hjw]) | simp, rfl, HE.out⟩
              case measure => simp [intOf]; omega
          · have h0b : (et != 0) = true := by simp [h0]
            have fin2 := hid (fin.out _ rfl)
            clear fin
            go_wp2_with fail
            go_at_call 13
            refine HC.out.mono ?_
            rintro e V ⟨rfl, rfl⟩
            cases hc : X.contains et
            · have HN1 := hid (show lateL X ((xs.map (·.e)).drop (j + 1)) = RR by
                have := fin2.out
                rw [hc] at this
                simpa using this)
              have HE := hid (HS1.out HN1.out)
              clear fin2 h0 HS1 HS3 HN1 HC hc
              by_cases h3 : ey = 3
              · have h3b : (ey == 3) = true := by simp [h3]
                clear h3
                go_wp2_with fail
                go_roundw
                case rel => exact ⟨j + 1, m, ob, oc, by omega, by first | rfl | (rw [hjw]) | simp, rfl, HE.out⟩
                case measure => simp [intOf]; omega
              · have h3b : (ey == 3) = false := by simp [h3]
                clear h3
                go_wp2_with fail
                go_roundw
                case rel => exact ⟨j + 1, m, ob, oc, by omega, by first | rfl | (rw [hjw]) | simp, rfl, HE.out⟩
                case measure => simp [intOf]; omega
            · have HT := hid (show true = RR by
                have := fin2.out
                rw [hc] at this
                simpa [h0] using this)
              clear fin2 h0 HS1 HS3 HC hc
              go_wp2_with fail
              go_ret
              exact ⟨by rw [← HT.out]; rfl, HB1.out⟩
        · have fin2 := hid (fin.out false rfl)
          clear fin
          by_cases h3 : ey = 3
          · have h3b : (ey == 3) = true := by simp [h3]
            have HE := hid (HS3.out (by have := fin2.out; rw [h3b] at this; simpa using this))
            clear h3 fin2 HS1 HS3 HC
            go_upto_region 9 with fail
            go_upto_region 9 with fail
            go_wp2_with (at_builtin; refine Lib.wpList_append_run _ rfl _ _ _ _ rfl _ _ rfl rfl _ _ HRUN.out ?_)
            go_roundw
            case rel => exact ⟨j + 1, m + 1, nb, nc, by omega, by first | rfl | (rw [hjw]) | simp, rfl, HE.out⟩
            case measure => simp [intOf]; omega
          · have h3b : (ey == 3) = false := by simp [h3]
            have HE := hid (HS1.out (by have := fin2.out; rw [h3b] at this; simpa using this))
            clear h3 fin2 HS1 HS3 HC
            go_wp2_with fail
            go_roundw
            case rel => exact ⟨j + 1, m, ob, oc, by omega, by first | rfl | (rw [hjw]) | simp, rfl, HE.out⟩
            case measure => simp [intOf]; omega
    · have hnlt : ¬ (j : Int) < (n : Int) := by omega
      have HT := hid (show false = RR by
        rw [List.drop_eq_nil_of_le (by simp; omega)] at hL
        exact hL)
      have HBB := hid hB
      clear hX hXm hmj hXo hB hL HI
      go_wp2_with fail
      go_ret
      exact ⟨by rw [← HT.out]; rfl, HBB.out⟩
end Go.Proofs.YtfmljlflnpmceaaGreatDoor
