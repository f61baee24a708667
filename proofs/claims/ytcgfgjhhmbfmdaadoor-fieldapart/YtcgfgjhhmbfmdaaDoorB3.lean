/- The document's Value; FieldWords, walked. -/
import Derived.Test.YtcgfgjhhmbfmdaaDoorB2
import Derived.Test.YtcgfgjhhmbfmdaaDoorAg
namespace Go.Proofs.YtcgfgjhhmbfmdaaDoor
open Go.RowKit
set_option linter.unusedVariables false
set_option linter.unusedSimpArgs false

set_option maxHeartbeats 4000000 in
set_option maxRecDepth 100000 in
theorem rvalue_any (s : ByteArray) (w : World) (hs : s.size ≤ 140737488355328) : Calls Tryd.prog 13 #[.string s] w fun e w' => e = .returned (.bool (valB s)) ∧ w' = w := by
  have hC : Hid (∀ (x : UInt8) W, Calls Tryd.prog 43 #[.int .u8 (x.toNat : Int), .string barBytes] W fun e w' => e = .returned (.bool (inB barBytes x)) ∧ w' = W) := fun x W => among_any x barBytes W (by decide)
  have hE : Hid (∀ (x : UInt8) W, Calls Tryd.prog 43 #[.int .u8 (x.toNat : Int), .string blankBytes] W fun e w' => e = .returned (.bool (inB blankBytes x)) ∧ w' = W) := fun x W => among_any x blankBytes W (by decide)
  go_enter Tryd.func13, Tryd.ntmps13
  go_wp2_with fail
  go_loopw [4] (fun iv wr => ∃ i : Nat, iv = .int .i64 (i : Int) ∧ i ≤ s.size ∧ Hid (frontN s i) ∧ wr = w) (fun iv _ => s.size - (intOf iv).toNat)
  case atStart => exact ⟨0, rfl, by omega, fun j _ h => absurd h (by omega), rfl⟩
  case round =>
    obtain ⟨i, rfl, hi, hno, hw⟩ := hrel
    rw [hw]
    clear hw
    by_cases hlt : i < s.size
    · have hlt' : (i : Int) < (s.size : Int) := by omega
      obtain ⟨y, hy⟩ : ∃ y : UInt8, s[i]'hlt = y := ⟨_, rfl⟩
      have Hy : Hid (s[i]'hlt = y) := hy
      have hC' : Hid (∀ W, Calls Tryd.prog 43 #[.int .u8 (y.toNat : Int), .string barBytes] W fun e w' => e = .returned (.bool (inB barBytes y)) ∧ w' = W) := fun W => hC.out y W
      cases hin : inB barBytes y
      · rw [hin] at hC'
        unfold barBytes at hC'
        have HIN : Hid (inB barBytes y = false) := hin
        clear hin
        go_wp2_with (go_at_call 43; refine (hC'.out _).mono ?_; rintro e w' ⟨rfl, hw⟩; rw [hw])
        go_roundw
        case rel =>
          refine ⟨i + 1, by simp, by omega, fun j hj h => ?_, by first | rfl | trivial⟩
          by_cases hji : j = i
          · subst hji
            rw [Hy.out]
            exact HIN.out
          · exact hno.out j hj (by omega)
        case measure => simp [intOf]; omega
      · rw [hin] at hC'
        unfold barBytes at hC'
        have hf : Hid (valB s = false) := by
          show _ = _
          rw [val_ends, bar_some hno.out hlt (by rw [Hy.out]; exact hin)]
          simp
        clear hin
        go_wp2_with (go_at_call 43; refine (hC'.out _).mono ?_; rintro e w' ⟨rfl, hw⟩; rw [hw])
        go_ret
        exact ⟨by rw [hf.out]; rfl, rfl⟩
    · obtain rfl : i = s.size := by omega
      have hlt' : ¬ (s.size : Int) < (s.size : Int) := by omega
      have hv : Hid (valB s = (decide (s.size ≤ 4096) && endsB s)) := by
        show _ = _
        rw [val_ends, bar_none hno.out]
        simp
      by_cases h4 : s.size ≤ 4096
      · have h4' : (s.size : Int) ≤ 4096 := by omega
        by_cases h0 : s.size = 0
        · have h0' : ((s.size : Int) == 0) = true := by simp [h0]
          have hf : Hid (valB s = true) := by show _ = _; rw [hv.out]; simp [h4, endsB, h0]
          clear h0
          go_wp2_with fail
          go_ret
          exact ⟨by rw [hf.out]; rfl, rfl⟩
        · have h0' : ((s.size : Int) == 0) = false := beq_eq_false_iff_ne.2 (by omega)
          have h1 : 0 < s.size := by omega
          have h2 : s.size - 1 < s.size := by omega
          obtain ⟨m, hm⟩ : ∃ m, s.size - 1 = m := ⟨_, rfl⟩
          have hm' : (s.size : Int) - 1 = (m : Int) := by omega
          have hml : m < s.size := by omega
          obtain ⟨x, hx⟩ : ∃ x : UInt8, s[0]'h1 = x := ⟨_, rfl⟩
          obtain ⟨y, hy⟩ : ∃ y : UInt8, s[m]'hml = y := ⟨_, rfl⟩
          have he : Hid (valB s = (!inB blankBytes x && !inB blankBytes y)) := by
            show _ = _
            rw [hv.out]
            unfold endsB
            rw [dif_pos h1]
            subst hm
            rw [hx, hy]
            simp [h4]
          have e1 : Hid (∀ W, Calls Tryd.prog 43 #[.int .u8 (x.toNat : Int), .string blankBytes] W fun e w' => e = .returned (.bool (inB blankBytes x)) ∧ w' = W) := fun W => hE.out x W
          have e2 : Hid (∀ W, Calls Tryd.prog 43 #[.int .u8 (y.toNat : Int), .string blankBytes] W fun e w' => e = .returned (.bool (inB blankBytes y)) ∧ w' = W) := fun W => hE.out y W
          obtain ⟨X, hX⟩ : ∃ X, inB blankBytes x = X := ⟨_, rfl⟩
          obtain ⟨Y, hY⟩ : ∃ X, inB blankBytes y = X := ⟨_, rfl⟩
          rw [hX] at e1 he
          rw [hY] at e2 he
          unfold blankBytes at e1 e2
          have g1 : (0 : Int) < (s.size : Int) := by omega
          have g2 : (m : Int) < (s.size : Int) := by omega
          clear hX hY hv hC hE h0 hm hno
          cases X
          · go_wp2_with fail
            go_at_call 43
            refine (e1.out _).mono ?_
            rintro e w' ⟨rfl, hw⟩
            rw [hw]
            clear hw
            go_wp2_with fail
            go_at_call 43
            refine (e2.out _).mono ?_
            rintro e w' ⟨rfl, hw⟩
            rw [hw]
            clear hw
            go_wp2_with fail
            go_ret
            exact ⟨by rw [he.out]; rfl, rfl⟩
          · go_wp2_with fail
            go_at_call 43
            refine (e1.out _).mono ?_
            rintro e w' ⟨rfl, hw⟩
            rw [hw]
            clear hw
            go_wp2_with fail
            go_ret
            exact ⟨by rw [he.out]; rfl, rfl⟩
      · have h4' : ¬ (s.size : Int) ≤ 4096 := by omega
        have hf : Hid (valB s = false) := by show _ = _; rw [hv.out]; simp [h4]
        go_wp2_with fail
        go_ret
        exact ⟨by rw [hf.out]; rfl, rfl⟩

set_option maxHeartbeats 4000000 in
set_option maxRecDepth 100000 in
theorem fieldWords_any (s : ByteArray) (w : World) (ht : Tab w) (hs : s.size ≤ 140737488355328) : Calls Tryd.prog 3 #[.string s] w fun e w' => e = .returned (.bool true) ∧ Below w.heap.size w w' := by
  have h9 : Hid (Calls Tryd.prog 9 #[] w fun e w' => e = .returned (.bool true) ∧ Below w.heap.size w w') := head_any w ht
  have h10 : Hid (∀ W, Calls Tryd.prog 10 #[.string s] W fun e w' => e = .returned (.bool (nmB s)) ∧ Below W.heap.size W w') := fun W => name_any s W
  have h11 : Hid (∀ W, Calls Tryd.prog 11 #[.string s] W fun e w' => e = .returned (.bool (nmB s)) ∧ w' = W) := fun W => rname_any s W hs
  have h12 : Hid (∀ W, Calls Tryd.prog 12 #[.string s] W fun e w' => e = .returned (.bool (valB s)) ∧ Below W.heap.size W w') := fun W => value_any s W
  have h13 : Hid (∀ W, Calls Tryd.prog 13 #[.string s] W fun e w' => e = .returned (.bool (valB s)) ∧ w' = W) := fun W => rvalue_any s W hs
  obtain ⟨N, hN⟩ : ∃ N, nmB s = N := ⟨_, rfl⟩
  obtain ⟨V, hV⟩ : ∃ N, valB s = N := ⟨_, rfl⟩
  rw [hN] at h10 h11
  rw [hV] at h12 h13
  clear hN hV ht hs
  go_enter Tryd.func3, Tryd.ntmps3
  go_wp2_with fail
  go_at_call 9
  refine h9.out.mono ?_
  rintro e w1 ⟨rfl, b1⟩
  replace b1 : Hid (Below w.heap.size w w1) := b1
  go_wp2_with fail
  go_at_call 10
  refine (h10.out _).mono ?_
  rintro e w2 ⟨rfl, b2⟩
  have c2 : Hid (Below w.heap.size w w2) := b1.out.trans (b2.mono b1.out.size)
  clear b2
  go_wp2_with fail
  go_at_call 11
  refine (h11.out _).mono ?_
  rintro e w' ⟨rfl, hw⟩
  rw [hw]
  clear hw
  go_wp2_with fail
  go_at_call 12
  refine (h12.out _).mono ?_
  rintro e w3 ⟨rfl, b3⟩
  have c3 : Hid (Below w.heap.size w w3) := c2.out.trans (b3.mono c2.out.size)
  clear b3
  go_wp2_with fail
  go_at_call 13
  refine (h13.out _).mono ?_
  rintro e w' ⟨rfl, hw⟩
  rw [hw]
  clear hw
  go_wp2_with fail
  go_ret
  exact ⟨by first | rfl | simp, c3.out⟩
end Go.Proofs.YtcgfgjhhmbfmdaaDoor
