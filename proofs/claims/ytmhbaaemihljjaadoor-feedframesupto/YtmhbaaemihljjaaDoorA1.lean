import Derived.Test.YtmhbaaemihljjaaDoorM
namespace Go.Proofs.YtmhbaaemihljjaaDoor
open Go.RowKit
set_option linter.unusedVariables false
set_option linter.unusedSimpArgs false

set_option maxRecDepth 100000 in
set_option maxHeartbeats 800000 in
theorem number_any (s : ByteArray) (w : World) (hs : s.size ≤ 4) :
    Calls Tryd.prog 40 #[.string s] w fun e w' => e = .returned (.int .i64 (numS s : Int)) ∧ w' = w := by
  go_enter Tryd.func40, Tryd.ntmps40
  go_wp2
  go_loop [3, 7] (fun v i => ∃ k x : Nat, k ≤ s.size ∧ i = .int .i64 (k : Int) ∧ v = .int .i64 (x : Int) ∧ Hid (x = numL (s.data.toList.take k))) (fun _ i => s.size - (intOf i).toNat)
  case atStart => exact ⟨0, 0, by omega, rfl, rfl, rfl⟩
  case round =>
    obtain ⟨k, x, hk, rfl, rfl, H⟩ := hrel
    by_cases hlt : k < s.size
    · have hx : x < 16777216 := by
        have h1 := numL_lt (s.data.toList.take k)
        have h2 : (s.data.toList.take k).length ≤ 3 := by rw [List.length_take]; omega
        have h3 : 256 ^ (s.data.toList.take k).length ≤ 256 ^ 3 := Nat.pow_le_pow_right (by decide) h2
        have := H.out
        omega
      have hb : s[k].toNat < 256 := s[k].toNat_lt
      have ho := or_byte x s[k].toNat (by omega) hb
      have HN : Hid (x * 256 + s[k].toNat = numL (s.data.toList.take (k + 1))) := by
        show _ = _
        rw [take_num s k hlt, ← H.out]
      generalize hy : x * 256 + s[k].toNat = y at ho HN
      rw [Int.natCast_mul, show ((256 : Nat) : Int) = 256 from rfl] at ho
      clear hy H
      go_wp2
      go_round
      case rel => exact ⟨k + 1, y, by omega, by simp, by first | rfl | rw [ho], HN⟩
      case measure => simp [intOf]; omega
    · obtain rfl : k = s.size := by omega
      have HN : Hid (x = numS s) := by
        show _ = _
        rw [H.out, numS, List.take_of_length_le (by simp)]
      clear H
      go_wp2
      go_ret
      have h := HN.out
      subst h
      exact ⟨rfl, rfl⟩

/-- so many bytes of a number, the highest first -/
def be (n : Nat) (v : Int) : List UInt8 := (List.range n).map fun i => UInt8.ofNat ((v / ((256 ^ (n - 1 - i) : Nat) : Int) % 256).toNat)
theorem be_length (n : Nat) (v : Int) : (be n v).length = n := by simp [be]
theorem be_byte (n i : Nat) (v : Int) (h : i < n) : (be n v).take (i + 1) = (be n v).take i ++ [UInt8.ofNat ((v / ((256 ^ (n - 1 - i) : Nat) : Int) % 256).toNat)] := by
  rw [List.take_succ_eq_append_getElem (by rw [be_length]; exact h)]
  simp [be]
theorem u8_int (x : Int) : ((UInt8.ofNat (x % 256).toNat).toNat : Int) = x % 256 := by
  have h1 : 0 ≤ x % 256 := by omega
  have h2 : x % 256 < 256 := by omega
  rw [UInt8.toNat_ofNat']
  omega

/-- one byte more -/
theorem put_one {w wr : World} {o o0 : Value} {l m : List UInt8} (hR : Row wr o (l ++ m)) (hG : Gr w wr o0 o) (b : UInt8) (hl : l.length + m.length + 1 ≤ 140737488355328) :
    ∃ o' w', (Builtin.append_ #[34, 34] 34 #[o, .slice (some ⟨wr.heap.size, 0, none⟩) 1 1]).run Tryd.prog (wr.alloc (.cells #[.int .u8 (b.toNat : Int)] 5)) = .ok o' w' ∧ Row w' o' (l ++ (m ++ [b])) ∧ Gr w w' o0 o' := by
  have h := row_append (wr.alloc (.cells #[.int .u8 (b.toNat : Int)] 5)) o (l ++ m) (hR.alloc _) ⟨wr.heap.size, 0, none⟩ 1 [b] (by
    intro j u hj
    match j, hj with
    | 0, hj => simp [bs] at hj; subst hj; simp [Addr.add]) (by simp; omega)
  obtain ⟨o', w', h1, h2, h3⟩ := h
  exact ⟨o', w', h1, by rw [← List.append_assoc]; exact h2, (hG.trans (Gr.alloc _ _ _)).trans h3⟩

set_option maxRecDepth 100000 in
set_option maxHeartbeats 1600000 in
theorem putNumber2 (w : World) (o : Value) (l : List UInt8) (v : Int) (hR : Row w o l) (hl : l.length + 4 ≤ 140737488355328) :
    Calls Tryd.prog 39 #[o, .int .i64 v, .int .i64 2] w fun e w' => ∃ o', e = .returned o' ∧ Row w' o' (l ++ be 2 v) ∧ Gr w w' o o' := by
  have H0 : Hid (Row w o l) := hR
  clear hR
  go_enter Tryd.func39, Tryd.ntmps39
  go_wp2
  go_loopw [0, 9] (fun x i wr => ∃ k : Nat, k ≤ 2 ∧ i = .int .i64 (k : Int) ∧ Row wr x (l ++ (be 2 v).take k) ∧ Gr w wr o x) (fun _ i _ => 2 - (intOf i).toNat)
  case atStart => exact ⟨0, by omega, rfl, by simpa using H0.out, Gr.refl _ _⟩
  case round =>
    obtain ⟨k, hk, rfl, hRow, hG⟩ := hrel
    by_cases hlt : k < 2
    · obtain ⟨b, hb, hbe⟩ : ∃ b : UInt8, (b.toNat : Int) = v / ((256 ^ (2 - 1 - k) : Nat) : Int) % 256 ∧ Hid ((be 2 v).take (k + 1) = (be 2 v).take k ++ [b]) := ⟨_, u8_int _, be_byte 2 k v hlt⟩
      obtain ⟨o', w', hrun, hRow', hG'⟩ := put_one hRow hG b (by rw [List.length_take]; omega)
      rw [← hbe.out] at hRow'
      rw [hb] at hrun
      replace hrun : Hid _ := hrun
      clear hb hRow hG hbe
      obtain rfl | rfl : k = 0 ∨ k = 1 := by omega
      · have e1 : v / ((256 ^ (2 - 1 - 0) : Nat) : Int) % 256 = v / 256 % 256 := rfl
        rw [e1] at hrun
        go_wp2_with (at_builtin; refine Lib.wpList_append_run _ rfl (.tmp 12) (.tmp 21) 34 34 rfl _ _ rfl rfl _ _ hrun.out ?_)
        go_wp2
        go_roundw
        case rel => exact ⟨0 + 1, by omega, rfl, hRow', hG'⟩
        case measure => simp [intOf]
      · have e1 : v / ((256 ^ (2 - 1 - 1) : Nat) : Int) % 256 = v % 256 := by simp
        rw [e1] at hrun
        go_wp2_with (at_builtin; refine Lib.wpList_append_run _ rfl (.tmp 12) (.tmp 21) 34 34 rfl _ _ rfl rfl _ _ hrun.out ?_)
        go_wp2
        go_roundw
        case rel => exact ⟨1 + 1, by omega, rfl, hRow', hG'⟩
        case measure => simp [intOf]
    · obtain rfl : k = 2 := by omega
      rw [List.take_of_length_le (by rw [be_length]; omega)] at hRow
      go_wp2
      go_ret
      exact ⟨_, rfl, hRow, hG⟩

set_option maxRecDepth 100000 in
set_option maxHeartbeats 1600000 in
theorem putNumber3 (w : World) (o : Value) (l : List UInt8) (v : Int) (hR : Row w o l) (hl : l.length + 4 ≤ 140737488355328) :
    Calls Tryd.prog 39 #[o, .int .i64 v, .int .i64 3] w fun e w' => ∃ o', e = .returned o' ∧ Row w' o' (l ++ be 3 v) ∧ Gr w w' o o' := by
  have H0 : Hid (Row w o l) := hR
  clear hR
  go_enter Tryd.func39, Tryd.ntmps39
  go_wp2
  go_loopw [0, 9] (fun x i wr => ∃ k : Nat, k ≤ 3 ∧ i = .int .i64 (k : Int) ∧ Row wr x (l ++ (be 3 v).take k) ∧ Gr w wr o x) (fun _ i _ => 3 - (intOf i).toNat)
  case atStart => exact ⟨0, by omega, rfl, by simpa using H0.out, Gr.refl _ _⟩
  case round =>
    obtain ⟨k, hk, rfl, hRow, hG⟩ := hrel
    by_cases hlt : k < 3
    · obtain ⟨b, hb, hbe⟩ : ∃ b : UInt8, (b.toNat : Int) = v / ((256 ^ (3 - 1 - k) : Nat) : Int) % 256 ∧ Hid ((be 3 v).take (k + 1) = (be 3 v).take k ++ [b]) := ⟨_, u8_int _, be_byte 3 k v hlt⟩
      obtain ⟨o', w', hrun, hRow', hG'⟩ := put_one hRow hG b (by rw [List.length_take]; omega)
      rw [← hbe.out] at hRow'
      rw [hb] at hrun
      replace hrun : Hid _ := hrun
      clear hb hRow hG hbe
      obtain rfl | rfl | rfl : k = 0 ∨ k = 1 ∨ k = 2 := by omega
      · have e1 : v / ((256 ^ (3 - 1 - 0) : Nat) : Int) % 256 = v / 65536 % 256 := rfl
        rw [e1] at hrun
        go_wp2_with (at_builtin; refine Lib.wpList_append_run _ rfl (.tmp 12) (.tmp 21) 34 34 rfl _ _ rfl rfl _ _ hrun.out ?_)
        go_wp2
        go_roundw
        case rel => exact ⟨0 + 1, by omega, rfl, hRow', hG'⟩
        case measure => simp [intOf]
      · have e1 : v / ((256 ^ (3 - 1 - 1) : Nat) : Int) % 256 = v / 256 % 256 := rfl
        rw [e1] at hrun
        go_wp2_with (at_builtin; refine Lib.wpList_append_run _ rfl (.tmp 12) (.tmp 21) 34 34 rfl _ _ rfl rfl _ _ hrun.out ?_)
        go_wp2
        go_roundw
        case rel => exact ⟨1 + 1, by omega, rfl, hRow', hG'⟩
        case measure => simp [intOf]
      · have e1 : v / ((256 ^ (3 - 1 - 2) : Nat) : Int) % 256 = v % 256 := by simp
        rw [e1] at hrun
        go_wp2_with (at_builtin; refine Lib.wpList_append_run _ rfl (.tmp 12) (.tmp 21) 34 34 rfl _ _ rfl rfl _ _ hrun.out ?_)
        go_wp2
        go_roundw
        case rel => exact ⟨2 + 1, by omega, rfl, hRow', hG'⟩
        case measure => simp [intOf]
    · obtain rfl : k = 3 := by omega
      rw [List.take_of_length_le (by rw [be_length]; omega)] at hRow
      go_wp2
      go_ret
      exact ⟨_, rfl, hRow, hG⟩

set_option maxRecDepth 100000 in
set_option maxHeartbeats 1600000 in
theorem putNumber4 (w : World) (o : Value) (l : List UInt8) (v : Int) (hR : Row w o l) (hl : l.length + 4 ≤ 140737488355328) :
    Calls Tryd.prog 39 #[o, .int .i64 v, .int .i64 4] w fun e w' => ∃ o', e = .returned o' ∧ Row w' o' (l ++ be 4 v) ∧ Gr w w' o o' := by
  have H0 : Hid (Row w o l) := hR
  clear hR
  go_enter Tryd.func39, Tryd.ntmps39
  go_wp2
  go_loopw [0, 9] (fun x i wr => ∃ k : Nat, k ≤ 4 ∧ i = .int .i64 (k : Int) ∧ Row wr x (l ++ (be 4 v).take k) ∧ Gr w wr o x) (fun _ i _ => 4 - (intOf i).toNat)
  case atStart => exact ⟨0, by omega, rfl, by simpa using H0.out, Gr.refl _ _⟩
  case round =>
    obtain ⟨k, hk, rfl, hRow, hG⟩ := hrel
    by_cases hlt : k < 4
    · obtain ⟨b, hb, hbe⟩ : ∃ b : UInt8, (b.toNat : Int) = v / ((256 ^ (4 - 1 - k) : Nat) : Int) % 256 ∧ Hid ((be 4 v).take (k + 1) = (be 4 v).take k ++ [b]) := ⟨_, u8_int _, be_byte 4 k v hlt⟩
      obtain ⟨o', w', hrun, hRow', hG'⟩ := put_one hRow hG b (by rw [List.length_take]; omega)
      rw [← hbe.out] at hRow'
      rw [hb] at hrun
      replace hrun : Hid _ := hrun
      clear hb hRow hG hbe
      obtain rfl | rfl | rfl | rfl : k = 0 ∨ k = 1 ∨ k = 2 ∨ k = 3 := by omega
      · have e1 : v / ((256 ^ (4 - 1 - 0) : Nat) : Int) % 256 = v / 16777216 % 256 := rfl
        rw [e1] at hrun
        go_wp2_with (at_builtin; refine Lib.wpList_append_run _ rfl (.tmp 12) (.tmp 21) 34 34 rfl _ _ rfl rfl _ _ hrun.out ?_)
        go_wp2
        go_roundw
        case rel => exact ⟨0 + 1, by omega, rfl, hRow', hG'⟩
        case measure => simp [intOf]
      · have e1 : v / ((256 ^ (4 - 1 - 1) : Nat) : Int) % 256 = v / 65536 % 256 := rfl
        rw [e1] at hrun
        go_wp2_with (at_builtin; refine Lib.wpList_append_run _ rfl (.tmp 12) (.tmp 21) 34 34 rfl _ _ rfl rfl _ _ hrun.out ?_)
        go_wp2
        go_roundw
        case rel => exact ⟨1 + 1, by omega, rfl, hRow', hG'⟩
        case measure => simp [intOf]
      · have e1 : v / ((256 ^ (4 - 1 - 2) : Nat) : Int) % 256 = v / 256 % 256 := rfl
        rw [e1] at hrun
        go_wp2_with (at_builtin; refine Lib.wpList_append_run _ rfl (.tmp 12) (.tmp 21) 34 34 rfl _ _ rfl rfl _ _ hrun.out ?_)
        go_wp2
        go_roundw
        case rel => exact ⟨2 + 1, by omega, rfl, hRow', hG'⟩
        case measure => simp [intOf]
      · have e1 : v / ((256 ^ (4 - 1 - 3) : Nat) : Int) % 256 = v % 256 := by simp
        rw [e1] at hrun
        go_wp2_with (at_builtin; refine Lib.wpList_append_run _ rfl (.tmp 12) (.tmp 21) 34 34 rfl _ _ rfl rfl _ _ hrun.out ?_)
        go_wp2
        go_roundw
        case rel => exact ⟨3 + 1, by omega, rfl, hRow', hG'⟩
        case measure => simp [intOf]
    · obtain rfl : k = 4 := by omega
      rw [List.take_of_length_le (by rw [be_length]; omega)] at hRow
      go_wp2
      go_ret
      exact ⟨_, rfl, hRow, hG⟩

theorem putNumber_any (w : World) (o : Value) (l : List UInt8) (v : Int) (n : Nat) (hn : n = 2 ∨ n = 3 ∨ n = 4) (hR : Row w o l) (hl : l.length + 4 ≤ 140737488355328) :
    Calls Tryd.prog 39 #[o, .int .i64 v, .int .i64 (n : Int)] w fun e w' => ∃ o', e = .returned o' ∧ Row w' o' (l ++ be n v) ∧ Gr w w' o o' := by
  rcases hn with rfl | rfl | rfl
  · exact putNumber2 w o l v hR hl
  · exact putNumber3 w o l v hR hl
  · exact putNumber4 w o l v hR hl
end Go.Proofs.YtmhbaaemihljjaaDoor
