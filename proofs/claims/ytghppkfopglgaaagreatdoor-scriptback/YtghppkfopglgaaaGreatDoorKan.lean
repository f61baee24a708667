/- kindOf, moveOf. A struct stored into a block, whole or as a part of it. -/
import Derived.Test.YtghppkfopglgaaaGreatDoorRn
import Derived.Laws.CopyRow
import Derived.Laws.Tables
namespace Go.Proofs.YtghppkfopglgaaaGreatDoor
open Go.RowKit
set_option linter.unusedVariables false
set_option linter.unusedSimpArgs false
theorem idxL_at (l : List (List UInt8)) (s : ByteArray) (i : Nat) (hi : i < l.length) (e : bt l[i] = s) (hn : ∀ j (hj : j < l.length), j < i → bt l[j] ≠ s) : idxL l s = i := by
  unfold idxL
  have : l.findIdx? (fun x => x == s.data.toList) = some i := by
    rw [List.findIdx?_eq_some_iff_getElem]
    refine ⟨hi, by rw [← e, bt_toList]; simp, fun j hj => ?_⟩
    have := hn j (by omega) hj
    simp only [beq_iff_eq, Bool.not_eq_true, beq_eq_false_iff_ne]
    intro h
    exact this (ba_eq (by rw [bt_toList]; exact h))
  rw [this]
theorem idxL_no (l : List (List UInt8)) (s : ByteArray) (hn : ∀ j (hj : j < l.length), bt l[j] ≠ s) : idxL l s = 0 := by
  unfold idxL
  have : l.findIdx? (fun x => x == s.data.toList) = none := by
    rw [List.findIdx?_eq_none_iff]
    intro x hx
    obtain ⟨j, hj, rfl⟩ := List.getElem_of_mem hx
    simp only [beq_eq_false_iff_ne]
    intro h
    exact hn j hj (ba_eq (by rw [bt_toList]; exact h))
  rw [this]
set_option maxRecDepth 100000 in
set_option maxHeartbeats 8000000 in
theorem kindOf_any (s : ByteArray) (w : World) (hE : Env w) : Calls Tryz.prog 59 #[.string s] w fun e w' => e = .returned (.int .i64 (kindOf s : Nat)) ∧ w' = w := by
  obtain ⟨tk, hk⟩ := hE.kn
  obtain ⟨n0, e0⟩ : ∃ n, bt (kindL[0]'(by decide)) = n := ⟨_, rfl⟩
  obtain ⟨n1, e1⟩ : ∃ n, bt (kindL[1]'(by decide)) = n := ⟨_, rfl⟩
  obtain ⟨n2, e2⟩ : ∃ n, bt (kindL[2]'(by decide)) = n := ⟨_, rfl⟩
  obtain ⟨n3, e3⟩ : ∃ n, bt (kindL[3]'(by decide)) = n := ⟨_, rfl⟩
  obtain ⟨n4, e4⟩ : ∃ n, bt (kindL[4]'(by decide)) = n := ⟨_, rfl⟩
  obtain ⟨n5, e5⟩ : ∃ n, bt (kindL[5]'(by decide)) = n := ⟨_, rfl⟩
  obtain ⟨n6, e6⟩ : ∃ n, bt (kindL[6]'(by decide)) = n := ⟨_, rfl⟩
  obtain ⟨n7, e7⟩ : ∃ n, bt (kindL[7]'(by decide)) = n := ⟨_, rfl⟩
  obtain ⟨n8, e8⟩ : ∃ n, bt (kindL[8]'(by decide)) = n := ⟨_, rfl⟩
  obtain ⟨n9, e9⟩ : ∃ n, bt (kindL[9]'(by decide)) = n := ⟨_, rfl⟩
  obtain ⟨n10, e10⟩ : ∃ n, bt (kindL[10]'(by decide)) = n := ⟨_, rfl⟩
  have hk2 : w.heap[0]? = some (.cells #[.string n0, .string n1, .string n2, .string n3, .string n4, .string n5, .string n6, .string n7, .string n8, .string n9, .string n10] tk (0, 0)) := by
    rw [hk, ← e0, ← e1, ← e2, ← e3, ← e4, ← e5, ← e6, ← e7, ← e8, ← e9, ← e10]
    rfl
  clear hk
  have c0 := cell_blk hk2 0
  have c1 := cell_blk hk2 1
  have c2 := cell_blk hk2 2
  have c3 := cell_blk hk2 3
  have c4 := cell_blk hk2 4
  have c5 := cell_blk hk2 5
  have c6 := cell_blk hk2 6
  have c7 := cell_blk hk2 7
  have c8 := cell_blk hk2 8
  have c9 := cell_blk hk2 9
  have c10 := cell_blk hk2 10
  simp only [List.getElem?_toArray, List.getElem?_cons_zero, List.getElem?_cons_succ] at c0 c1 c2 c3 c4 c5 c6 c7 c8 c9 c10
  have l0 := heap_lt hk2
  have HAT := hid (idxL_at kindL s)
  have HNO := hid (idxL_no kindL s)
  have HNE : Hid (∀ j (hj : j < kindL.length), #[n0, n1, n2, n3, n4, n5, n6, n7, n8, n9, n10][j]? = some (bt kindL[j])) := hid (by
    intro j hj
    have hj : j < 11 := hj
    rcases j with _ | _ | _ | _ | _ | _ | _ | _ | _ | _ | _ | j
    all_goals first | (exact absurd hj (by omega)) | (simp [*])
    )
  clear hk2 hE e0 e1 e2 e3 e4 e5 e6 e7 e8 e9 e10
  go_enter Tryz.func59, Tryz.ntmps59
  go_wp2_with fail
  go_loopw [6] (fun cv wr => ∃ i : Nat, cv = .int .i64 (i : Int) ∧ i ≤ 11 ∧ wr = w ∧ Hid (∀ j (hj : j < kindL.length), j < i → bt kindL[j] ≠ s)) (fun cv _ => 11 - (intOf cv).toNat)
  case atStart => exact ⟨0, rfl, by omega, rfl, hid (fun j _ h => absurd h (by omega))⟩
  case round =>
    obtain ⟨i, hcv, hi, hwr, HN⟩ := hrel
    subst hwr
    obtain rfl | rfl | rfl | rfl | rfl | rfl | rfl | rfl | rfl | rfl | rfl | rfl : i = 0 ∨ i = 1 ∨ i = 2 ∨ i = 3 ∨ i = 4 ∨ i = 5 ∨ i = 6 ∨ i = 7 ∨ i = 8 ∨ i = 9 ∨ i = 10 ∨ i = 11 := by omega
    · replace hcv : _ = Value.int .i64 0 := hcv
      subst hcv
      have HB : Hid (bt (kindL[0]'(by decide)) = n0) := hid (by have := HNE.out 0 (by decide); simpa using this.symm)
      have hidx : (Instr.index 139 (Value.agg #[Value.string n0, Value.string n1, Value.string n2, Value.string n3, Value.string n4, Value.string n5, Value.string n6, Value.string n7, Value.string n8, Value.string n9, Value.string n10]) (Value.int .i64 0)).run Tryz.prog wr = .ok (Value.string n0) wr := by kernel_rfl
      by_cases hs : n0 = s
      · have hb := str_eq hs
        have HR : Hid (kindOf s = 0) := hid (HAT.out 0 (by decide) (HB.out.trans hs) (fun j hj h => HN.out j hj h))
        subst hs
        go_wp2_with fail
        go_ret
        rw [HR.out]
        exact ⟨rfl, rfl⟩
      · have hb := str_ne hs
        have HN2 : Hid (∀ j (hj : j < kindL.length), j < 1 → bt kindL[j] ≠ s) := hid (fun j hj h => by
          by_cases hji : j = 0
          · subst hji; intro e; exact hs (HB.out.symm.trans e)
          · exact HN.out j hj (by omega))
        go_wp2_with fail
        go_roundw
        case rel => exact ⟨1, rfl, by omega, by first | trivial | rfl, HN2⟩
        case measure => decide
    · replace hcv : _ = Value.int .i64 1 := hcv
      subst hcv
      have HB : Hid (bt (kindL[1]'(by decide)) = n1) := hid (by have := HNE.out 1 (by decide); simpa using this.symm)
      have hidx : (Instr.index 139 (Value.agg #[Value.string n0, Value.string n1, Value.string n2, Value.string n3, Value.string n4, Value.string n5, Value.string n6, Value.string n7, Value.string n8, Value.string n9, Value.string n10]) (Value.int .i64 1)).run Tryz.prog wr = .ok (Value.string n1) wr := by kernel_rfl
      by_cases hs : n1 = s
      · have hb := str_eq hs
        have HR : Hid (kindOf s = 1) := hid (HAT.out 1 (by decide) (HB.out.trans hs) (fun j hj h => HN.out j hj h))
        subst hs
        go_wp2_with fail
        go_ret
        rw [HR.out]
        exact ⟨rfl, rfl⟩
      · have hb := str_ne hs
        have HN2 : Hid (∀ j (hj : j < kindL.length), j < 2 → bt kindL[j] ≠ s) := hid (fun j hj h => by
          by_cases hji : j = 1
          · subst hji; intro e; exact hs (HB.out.symm.trans e)
          · exact HN.out j hj (by omega))
        go_wp2_with fail
        go_roundw
        case rel => exact ⟨2, rfl, by omega, by first | trivial | rfl, HN2⟩
        case measure => decide
    · replace hcv : _ = Value.int .i64 2 := hcv
      subst hcv
      have HB : Hid (bt (kindL[2]'(by decide)) = n2) := hid (by have := HNE.out 2 (by decide); simpa using this.symm)
      have hidx : (Instr.index 139 (Value.agg #[Value.string n0, Value.string n1, Value.string n2, Value.string n3, Value.string n4, Value.string n5, Value.string n6, Value.string n7, Value.string n8, Value.string n9, Value.string n10]) (Value.int .i64 2)).run Tryz.prog wr = .ok (Value.string n2) wr := by kernel_rfl
      by_cases hs : n2 = s
      · have hb := str_eq hs
        have HR : Hid (kindOf s = 2) := hid (HAT.out 2 (by decide) (HB.out.trans hs) (fun j hj h => HN.out j hj h))
        subst hs
        go_wp2_with fail
        go_ret
        rw [HR.out]
        exact ⟨rfl, rfl⟩
      · have hb := str_ne hs
        have HN2 : Hid (∀ j (hj : j < kindL.length), j < 3 → bt kindL[j] ≠ s) := hid (fun j hj h => by
          by_cases hji : j = 2
          · subst hji; intro e; exact hs (HB.out.symm.trans e)
          · exact HN.out j hj (by omega))
        go_wp2_with fail
        go_roundw
        case rel => exact ⟨3, rfl, by omega, by first | trivial | rfl, HN2⟩
        case measure => decide
    · replace hcv : _ = Value.int .i64 3 := hcv
      subst hcv
      have HB : Hid (bt (kindL[3]'(by decide)) = n3) := hid (by have := HNE.out 3 (by decide); simpa using this.symm)
      have hidx : (Instr.index 139 (Value.agg #[Value.string n0, Value.string n1, Value.string n2, Value.string n3, Value.string n4, Value.string n5, Value.string n6, Value.string n7, Value.string n8, Value.string n9, Value.string n10]) (Value.int .i64 3)).run Tryz.prog wr = .ok (Value.string n3) wr := by kernel_rfl
      by_cases hs : n3 = s
      · have hb := str_eq hs
        have HR : Hid (kindOf s = 3) := hid (HAT.out 3 (by decide) (HB.out.trans hs) (fun j hj h => HN.out j hj h))
        subst hs
        go_wp2_with fail
        go_ret
        rw [HR.out]
        exact ⟨rfl, rfl⟩
      · have hb := str_ne hs
        have HN2 : Hid (∀ j (hj : j < kindL.length), j < 4 → bt kindL[j] ≠ s) := hid (fun j hj h => by
          by_cases hji : j = 3
          · subst hji; intro e; exact hs (HB.out.symm.trans e)
          · exact HN.out j hj (by omega))
        go_wp2_with fail
        go_roundw
        case rel => exact ⟨4, rfl, by omega, by first | trivial | rfl, HN2⟩
        case measure => decide
    · replace hcv : _ = Value.int .i64 4 := hcv
      subst hcv
      have HB : Hid (bt (kindL[4]'(by decide)) = n4) := hid (by have := HNE.out 4 (by decide); simpa using this.symm)
      have hidx : (Instr.index 139 (Value.agg #[Value.string n0, Value.string n1, Value.string n2, Value.string n3, Value.string n4, Value.string n5, Value.string n6, Value.string n7, Value.string n8, Value.string n9, Value.string n10]) (Value.int .i64 4)).run Tryz.prog wr = .ok (Value.string n4) wr := by kernel_rfl
      by_cases hs : n4 = s
      · have hb := str_eq hs
        have HR : Hid (kindOf s = 4) := hid (HAT.out 4 (by decide) (HB.out.trans hs) (fun j hj h => HN.out j hj h))
        subst hs
        go_wp2_with fail
        go_ret
        rw [HR.out]
        exact ⟨rfl, rfl⟩
      · have hb := str_ne hs
        have HN2 : Hid (∀ j (hj : j < kindL.length), j < 5 → bt kindL[j] ≠ s) := hid (fun j hj h => by
          by_cases hji : j = 4
          · subst hji; intro e; exact hs (HB.out.symm.trans e)
          · exact HN.out j hj (by omega))
        go_wp2_with fail
        go_roundw
        case rel => exact ⟨5, rfl, by omega, by first | trivial | rfl, HN2⟩
        case measure => decide
    · replace hcv : _ = Value.int .i64 5 := hcv
      subst hcv
      have HB : Hid (bt (kindL[5]'(by decide)) = n5) := hid (by have := HNE.out 5 (by decide); simpa using this.symm)
      have hidx : (Instr.index 139 (Value.agg #[Value.string n0, Value.string n1, Value.string n2, Value.string n3, Value.string n4, Value.string n5, Value.string n6, Value.string n7, Value.string n8, Value.string n9, Value.string n10]) (Value.int .i64 5)).run Tryz.prog wr = .ok (Value.string n5) wr := by kernel_rfl
      by_cases hs : n5 = s
      · have hb := str_eq hs
        have HR : Hid (kindOf s = 5) := hid (HAT.out 5 (by decide) (HB.out.trans hs) (fun j hj h => HN.out j hj h))
        subst hs
        go_wp2_with fail
        go_ret
        rw [HR.out]
        exact ⟨rfl, rfl⟩
      · have hb := str_ne hs
        have HN2 : Hid (∀ j (hj : j < kindL.length), j < 6 → bt kindL[j] ≠ s) := hid (fun j hj h => by
          by_cases hji : j = 5
          · subst hji; intro e; exact hs (HB.out.symm.trans e)
          · exact HN.out j hj (by omega))
        go_wp2_with fail
        go_roundw
        case rel => exact ⟨6, rfl, by omega, by first | trivial | rfl, HN2⟩
        case measure => decide
    · replace hcv : _ = Value.int .i64 6 := hcv
      subst hcv
      have HB : Hid (bt (kindL[6]'(by decide)) = n6) := hid (by have := HNE.out 6 (by decide); simpa using this.symm)
      have hidx : (Instr.index 139 (Value.agg #[Value.string n0, Value.string n1, Value.string n2, Value.string n3, Value.string n4, Value.string n5, Value.string n6, Value.string n7, Value.string n8, Value.string n9, Value.string n10]) (Value.int .i64 6)).run Tryz.prog wr = .ok (Value.string n6) wr := by kernel_rfl
      by_cases hs : n6 = s
      · have hb := str_eq hs
        have HR : Hid (kindOf s = 6) := hid (HAT.out 6 (by decide) (HB.out.trans hs) (fun j hj h => HN.out j hj h))
        subst hs
        go_wp2_with fail
        go_ret
        rw [HR.out]
        exact ⟨rfl, rfl⟩
      · have hb := str_ne hs
        have HN2 : Hid (∀ j (hj : j < kindL.length), j < 7 → bt kindL[j] ≠ s) := hid (fun j hj h => by
          by_cases hji : j = 6
          · subst hji; intro e; exact hs (HB.out.symm.trans e)
          · exact HN.out j hj (by omega))
        go_wp2_with fail
        go_roundw
        case rel => exact ⟨7, rfl, by omega, by first | trivial | rfl, HN2⟩
        case measure => decide
    · replace hcv : _ = Value.int .i64 7 := hcv
      subst hcv
      have HB : Hid (bt (kindL[7]'(by decide)) = n7) := hid (by have := HNE.out 7 (by decide); simpa using this.symm)
      have hidx : (Instr.index 139 (Value.agg #[Value.string n0, Value.string n1, Value.string n2, Value.string n3, Value.string n4, Value.string n5, Value.string n6, Value.string n7, Value.string n8, Value.string n9, Value.string n10]) (Value.int .i64 7)).run Tryz.prog wr = .ok (Value.string n7) wr := by kernel_rfl
      by_cases hs : n7 = s
      · have hb := str_eq hs
        have HR : Hid (kindOf s = 7) := hid (HAT.out 7 (by decide) (HB.out.trans hs) (fun j hj h => HN.out j hj h))
        subst hs
        go_wp2_with fail
        go_ret
        rw [HR.out]
        exact ⟨rfl, rfl⟩
      · have hb := str_ne hs
        have HN2 : Hid (∀ j (hj : j < kindL.length), j < 8 → bt kindL[j] ≠ s) := hid (fun j hj h => by
          by_cases hji : j = 7
          · subst hji; intro e; exact hs (HB.out.symm.trans e)
          · exact HN.out j hj (by omega))
        go_wp2_with fail
        go_roundw
        case rel => exact ⟨8, rfl, by omega, by first | trivial | rfl, HN2⟩
        case measure => decide
    · replace hcv : _ = Value.int .i64 8 := hcv
      subst hcv
      have HB : Hid (bt (kindL[8]'(by decide)) = n8) := hid (by have := HNE.out 8 (by decide); simpa using this.symm)
      have hidx : (Instr.index 139 (Value.agg #[Value.string n0, Value.string n1, Value.string n2, Value.string n3, Value.string n4, Value.string n5, Value.string n6, Value.string n7, Value.string n8, Value.string n9, Value.string n10]) (Value.int .i64 8)).run Tryz.prog wr = .ok (Value.string n8) wr := by kernel_rfl
      by_cases hs : n8 = s
      · have hb := str_eq hs
        have HR : Hid (kindOf s = 8) := hid (HAT.out 8 (by decide) (HB.out.trans hs) (fun j hj h => HN.out j hj h))
        subst hs
        go_wp2_with fail
        go_ret
        rw [HR.out]
        exact ⟨rfl, rfl⟩
      · have hb := str_ne hs
        have HN2 : Hid (∀ j (hj : j < kindL.length), j < 9 → bt kindL[j] ≠ s) := hid (fun j hj h => by
          by_cases hji : j = 8
          · subst hji; intro e; exact hs (HB.out.symm.trans e)
          · exact HN.out j hj (by omega))
        go_wp2_with fail
        go_roundw
        case rel => exact ⟨9, rfl, by omega, by first | trivial | rfl, HN2⟩
        case measure => decide
    · replace hcv : _ = Value.int .i64 9 := hcv
      subst hcv
      have HB : Hid (bt (kindL[9]'(by decide)) = n9) := hid (by have := HNE.out 9 (by decide); simpa using this.symm)
      have hidx : (Instr.index 139 (Value.agg #[Value.string n0, Value.string n1, Value.string n2, Value.string n3, Value.string n4, Value.string n5, Value.string n6, Value.string n7, Value.string n8, Value.string n9, Value.string n10]) (Value.int .i64 9)).run Tryz.prog wr = .ok (Value.string n9) wr := by kernel_rfl
      by_cases hs : n9 = s
      · have hb := str_eq hs
        have HR : Hid (kindOf s = 9) := hid (HAT.out 9 (by decide) (HB.out.trans hs) (fun j hj h => HN.out j hj h))
        subst hs
        go_wp2_with fail
        go_ret
        rw [HR.out]
        exact ⟨rfl, rfl⟩
      · have hb := str_ne hs
        have HN2 : Hid (∀ j (hj : j < kindL.length), j < 10 → bt kindL[j] ≠ s) := hid (fun j hj h => by
          by_cases hji : j = 9
          · subst hji; intro e; exact hs (HB.out.symm.trans e)
          · exact HN.out j hj (by omega))
        go_wp2_with fail
        go_roundw
        case rel => exact ⟨10, rfl, by omega, by first | trivial | rfl, HN2⟩
        case measure => decide
    · replace hcv : _ = Value.int .i64 10 := hcv
      subst hcv
      have HB : Hid (bt (kindL[10]'(by decide)) = n10) := hid (by have := HNE.out 10 (by decide); simpa using this.symm)
      have hidx : (Instr.index 139 (Value.agg #[Value.string n0, Value.string n1, Value.string n2, Value.string n3, Value.string n4, Value.string n5, Value.string n6, Value.string n7, Value.string n8, Value.string n9, Value.string n10]) (Value.int .i64 10)).run Tryz.prog wr = .ok (Value.string n10) wr := by kernel_rfl
      by_cases hs : n10 = s
      · have hb := str_eq hs
        have HR : Hid (kindOf s = 10) := hid (HAT.out 10 (by decide) (HB.out.trans hs) (fun j hj h => HN.out j hj h))
        subst hs
        go_wp2_with fail
        go_ret
        rw [HR.out]
        exact ⟨rfl, rfl⟩
      · have hb := str_ne hs
        have HN2 : Hid (∀ j (hj : j < kindL.length), j < 11 → bt kindL[j] ≠ s) := hid (fun j hj h => by
          by_cases hji : j = 10
          · subst hji; intro e; exact hs (HB.out.symm.trans e)
          · exact HN.out j hj (by omega))
        go_wp2_with fail
        go_roundw
        case rel => exact ⟨11, rfl, by omega, by first | trivial | rfl, HN2⟩
        case measure => decide
    · replace hcv : _ = Value.int .i64 11 := hcv
      subst hcv
      have HR : Hid (kindOf s = 0) := hid (HNO.out (fun j hj => HN.out j hj (by have : j < 11 := hj; omega)))
      go_wp2_with fail
      go_ret
      rw [HR.out]
      exact ⟨rfl, rfl⟩
set_option maxRecDepth 100000 in
set_option maxHeartbeats 8000000 in
theorem moveOf_any (s : ByteArray) (w : World) (hE : Env w) : Calls Tryz.prog 90 #[.string s] w fun e w' => e = .returned (.int .i64 (moveOf s : Nat)) ∧ w' = w := by
  obtain ⟨tk, hk⟩ := hE.mn
  obtain ⟨n0, e0⟩ : ∃ n, bt (moveL[0]'(by decide)) = n := ⟨_, rfl⟩
  obtain ⟨n1, e1⟩ : ∃ n, bt (moveL[1]'(by decide)) = n := ⟨_, rfl⟩
  obtain ⟨n2, e2⟩ : ∃ n, bt (moveL[2]'(by decide)) = n := ⟨_, rfl⟩
  obtain ⟨n3, e3⟩ : ∃ n, bt (moveL[3]'(by decide)) = n := ⟨_, rfl⟩
  obtain ⟨n4, e4⟩ : ∃ n, bt (moveL[4]'(by decide)) = n := ⟨_, rfl⟩
  obtain ⟨n5, e5⟩ : ∃ n, bt (moveL[5]'(by decide)) = n := ⟨_, rfl⟩
  obtain ⟨n6, e6⟩ : ∃ n, bt (moveL[6]'(by decide)) = n := ⟨_, rfl⟩
  obtain ⟨n7, e7⟩ : ∃ n, bt (moveL[7]'(by decide)) = n := ⟨_, rfl⟩
  obtain ⟨n8, e8⟩ : ∃ n, bt (moveL[8]'(by decide)) = n := ⟨_, rfl⟩
  obtain ⟨n9, e9⟩ : ∃ n, bt (moveL[9]'(by decide)) = n := ⟨_, rfl⟩
  obtain ⟨n10, e10⟩ : ∃ n, bt (moveL[10]'(by decide)) = n := ⟨_, rfl⟩
  have hk2 : w.heap[1]? = some (.cells #[.string n0, .string n1, .string n2, .string n3, .string n4, .string n5, .string n6, .string n7, .string n8, .string n9, .string n10] tk (0, 0)) := by
    rw [hk, ← e0, ← e1, ← e2, ← e3, ← e4, ← e5, ← e6, ← e7, ← e8, ← e9, ← e10]
    rfl
  clear hk
  have c0 := cell_blk hk2 0
  have c1 := cell_blk hk2 1
  have c2 := cell_blk hk2 2
  have c3 := cell_blk hk2 3
  have c4 := cell_blk hk2 4
  have c5 := cell_blk hk2 5
  have c6 := cell_blk hk2 6
  have c7 := cell_blk hk2 7
  have c8 := cell_blk hk2 8
  have c9 := cell_blk hk2 9
  have c10 := cell_blk hk2 10
  simp only [List.getElem?_toArray, List.getElem?_cons_zero, List.getElem?_cons_succ] at c0 c1 c2 c3 c4 c5 c6 c7 c8 c9 c10
  have l0 := heap_lt hk2
  have HAT := hid (idxL_at moveL s)
  have HNO := hid (idxL_no moveL s)
  have HNE : Hid (∀ j (hj : j < moveL.length), #[n0, n1, n2, n3, n4, n5, n6, n7, n8, n9, n10][j]? = some (bt moveL[j])) := hid (by
    intro j hj
    have hj : j < 11 := hj
    rcases j with _ | _ | _ | _ | _ | _ | _ | _ | _ | _ | _ | j
    all_goals first | (exact absurd hj (by omega)) | (simp [*])
    )
  clear hk2 hE e0 e1 e2 e3 e4 e5 e6 e7 e8 e9 e10
  go_enter Tryz.func90, Tryz.ntmps90
  go_wp2_with fail
  go_loopw [6] (fun cv wr => ∃ i : Nat, cv = .int .i64 (i : Int) ∧ i ≤ 11 ∧ wr = w ∧ Hid (∀ j (hj : j < moveL.length), j < i → bt moveL[j] ≠ s)) (fun cv _ => 11 - (intOf cv).toNat)
  case atStart => exact ⟨0, rfl, by omega, rfl, hid (fun j _ h => absurd h (by omega))⟩
  case round =>
    obtain ⟨i, hcv, hi, hwr, HN⟩ := hrel
    subst hwr
    obtain rfl | rfl | rfl | rfl | rfl | rfl | rfl | rfl | rfl | rfl | rfl | rfl : i = 0 ∨ i = 1 ∨ i = 2 ∨ i = 3 ∨ i = 4 ∨ i = 5 ∨ i = 6 ∨ i = 7 ∨ i = 8 ∨ i = 9 ∨ i = 10 ∨ i = 11 := by omega
    · replace hcv : _ = Value.int .i64 0 := hcv
      subst hcv
      have HB : Hid (bt (moveL[0]'(by decide)) = n0) := hid (by have := HNE.out 0 (by decide); simpa using this.symm)
      have hidx : (Instr.index 139 (Value.agg #[Value.string n0, Value.string n1, Value.string n2, Value.string n3, Value.string n4, Value.string n5, Value.string n6, Value.string n7, Value.string n8, Value.string n9, Value.string n10]) (Value.int .i64 0)).run Tryz.prog wr = .ok (Value.string n0) wr := by kernel_rfl
      by_cases hs : n0 = s
      · have hb := str_eq hs
        have HR : Hid (moveOf s = 0) := hid (HAT.out 0 (by decide) (HB.out.trans hs) (fun j hj h => HN.out j hj h))
        subst hs
        go_wp2_with fail
        go_ret
        rw [HR.out]
        exact ⟨rfl, rfl⟩
      · have hb := str_ne hs
        have HN2 : Hid (∀ j (hj : j < moveL.length), j < 1 → bt moveL[j] ≠ s) := hid (fun j hj h => by
          by_cases hji : j = 0
          · subst hji; intro e; exact hs (HB.out.symm.trans e)
          · exact HN.out j hj (by omega))
        go_wp2_with fail
        go_roundw
        case rel => exact ⟨1, rfl, by omega, by first | trivial | rfl, HN2⟩
        case measure => decide
    · replace hcv : _ = Value.int .i64 1 := hcv
      subst hcv
      have HB : Hid (bt (moveL[1]'(by decide)) = n1) := hid (by have := HNE.out 1 (by decide); simpa using this.symm)
      have hidx : (Instr.index 139 (Value.agg #[Value.string n0, Value.string n1, Value.string n2, Value.string n3, Value.string n4, Value.string n5, Value.string n6, Value.string n7, Value.string n8, Value.string n9, Value.string n10]) (Value.int .i64 1)).run Tryz.prog wr = .ok (Value.string n1) wr := by kernel_rfl
      by_cases hs : n1 = s
      · have hb := str_eq hs
        have HR : Hid (moveOf s = 1) := hid (HAT.out 1 (by decide) (HB.out.trans hs) (fun j hj h => HN.out j hj h))
        subst hs
        go_wp2_with fail
        go_ret
        rw [HR.out]
        exact ⟨rfl, rfl⟩
      · have hb := str_ne hs
        have HN2 : Hid (∀ j (hj : j < moveL.length), j < 2 → bt moveL[j] ≠ s) := hid (fun j hj h => by
          by_cases hji : j = 1
          · subst hji; intro e; exact hs (HB.out.symm.trans e)
          · exact HN.out j hj (by omega))
        go_wp2_with fail
        go_roundw
        case rel => exact ⟨2, rfl, by omega, by first | trivial | rfl, HN2⟩
        case measure => decide
    · replace hcv : _ = Value.int .i64 2 := hcv
      subst hcv
      have HB : Hid (bt (moveL[2]'(by decide)) = n2) := hid (by have := HNE.out 2 (by decide); simpa using this.symm)
      have hidx : (Instr.index 139 (Value.agg #[Value.string n0, Value.string n1, Value.string n2, Value.string n3, Value.string n4, Value.string n5, Value.string n6, Value.string n7, Value.string n8, Value.string n9, Value.string n10]) (Value.int .i64 2)).run Tryz.prog wr = .ok (Value.string n2) wr := by kernel_rfl
      by_cases hs : n2 = s
      · have hb := str_eq hs
        have HR : Hid (moveOf s = 2) := hid (HAT.out 2 (by decide) (HB.out.trans hs) (fun j hj h => HN.out j hj h))
        subst hs
        go_wp2_with fail
        go_ret
        rw [HR.out]
        exact ⟨rfl, rfl⟩
      · have hb := str_ne hs
        have HN2 : Hid (∀ j (hj : j < moveL.length), j < 3 → bt moveL[j] ≠ s) := hid (fun j hj h => by
          by_cases hji : j = 2
          · subst hji; intro e; exact hs (HB.out.symm.trans e)
          · exact HN.out j hj (by omega))
        go_wp2_with fail
        go_roundw
        case rel => exact ⟨3, rfl, by omega, by first | trivial | rfl, HN2⟩
        case measure => decide
    · replace hcv : _ = Value.int .i64 3 := hcv
      subst hcv
      have HB : Hid (bt (moveL[3]'(by decide)) = n3) := hid (by have := HNE.out 3 (by decide); simpa using this.symm)
      have hidx : (Instr.index 139 (Value.agg #[Value.string n0, Value.string n1, Value.string n2, Value.string n3, Value.string n4, Value.string n5, Value.string n6, Value.string n7, Value.string n8, Value.string n9, Value.string n10]) (Value.int .i64 3)).run Tryz.prog wr = .ok (Value.string n3) wr := by kernel_rfl
      by_cases hs : n3 = s
      · have hb := str_eq hs
        have HR : Hid (moveOf s = 3) := hid (HAT.out 3 (by decide) (HB.out.trans hs) (fun j hj h => HN.out j hj h))
        subst hs
        go_wp2_with fail
        go_ret
        rw [HR.out]
        exact ⟨rfl, rfl⟩
      · have hb := str_ne hs
        have HN2 : Hid (∀ j (hj : j < moveL.length), j < 4 → bt moveL[j] ≠ s) := hid (fun j hj h => by
          by_cases hji : j = 3
          · subst hji; intro e; exact hs (HB.out.symm.trans e)
          · exact HN.out j hj (by omega))
        go_wp2_with fail
        go_roundw
        case rel => exact ⟨4, rfl, by omega, by first | trivial | rfl, HN2⟩
        case measure => decide
    · replace hcv : _ = Value.int .i64 4 := hcv
      subst hcv
      have HB : Hid (bt (moveL[4]'(by decide)) = n4) := hid (by have := HNE.out 4 (by decide); simpa using this.symm)
      have hidx : (Instr.index 139 (Value.agg #[Value.string n0, Value.string n1, Value.string n2, Value.string n3, Value.string n4, Value.string n5, Value.string n6, Value.string n7, Value.string n8, Value.string n9, Value.string n10]) (Value.int .i64 4)).run Tryz.prog wr = .ok (Value.string n4) wr := by kernel_rfl
      by_cases hs : n4 = s
      · have hb := str_eq hs
        have HR : Hid (moveOf s = 4) := hid (HAT.out 4 (by decide) (HB.out.trans hs) (fun j hj h => HN.out j hj h))
        subst hs
        go_wp2_with fail
        go_ret
        rw [HR.out]
        exact ⟨rfl, rfl⟩
      · have hb := str_ne hs
        have HN2 : Hid (∀ j (hj : j < moveL.length), j < 5 → bt moveL[j] ≠ s) := hid (fun j hj h => by
          by_cases hji : j = 4
          · subst hji; intro e; exact hs (HB.out.symm.trans e)
          · exact HN.out j hj (by omega))
        go_wp2_with fail
        go_roundw
        case rel => exact ⟨5, rfl, by omega, by first | trivial | rfl, HN2⟩
        case measure => decide
    · replace hcv : _ = Value.int .i64 5 := hcv
      subst hcv
      have HB : Hid (bt (moveL[5]'(by decide)) = n5) := hid (by have := HNE.out 5 (by decide); simpa using this.symm)
      have hidx : (Instr.index 139 (Value.agg #[Value.string n0, Value.string n1, Value.string n2, Value.string n3, Value.string n4, Value.string n5, Value.string n6, Value.string n7, Value.string n8, Value.string n9, Value.string n10]) (Value.int .i64 5)).run Tryz.prog wr = .ok (Value.string n5) wr := by kernel_rfl
      by_cases hs : n5 = s
      · have hb := str_eq hs
        have HR : Hid (moveOf s = 5) := hid (HAT.out 5 (by decide) (HB.out.trans hs) (fun j hj h => HN.out j hj h))
        subst hs
        go_wp2_with fail
        go_ret
        rw [HR.out]
        exact ⟨rfl, rfl⟩
      · have hb := str_ne hs
        have HN2 : Hid (∀ j (hj : j < moveL.length), j < 6 → bt moveL[j] ≠ s) := hid (fun j hj h => by
          by_cases hji : j = 5
          · subst hji; intro e; exact hs (HB.out.symm.trans e)
          · exact HN.out j hj (by omega))
        go_wp2_with fail
        go_roundw
        case rel => exact ⟨6, rfl, by omega, by first | trivial | rfl, HN2⟩
        case measure => decide
    · replace hcv : _ = Value.int .i64 6 := hcv
      subst hcv
      have HB : Hid (bt (moveL[6]'(by decide)) = n6) := hid (by have := HNE.out 6 (by decide); simpa using this.symm)
      have hidx : (Instr.index 139 (Value.agg #[Value.string n0, Value.string n1, Value.string n2, Value.string n3, Value.string n4, Value.string n5, Value.string n6, Value.string n7, Value.string n8, Value.string n9, Value.string n10]) (Value.int .i64 6)).run Tryz.prog wr = .ok (Value.string n6) wr := by kernel_rfl
      by_cases hs : n6 = s
      · have hb := str_eq hs
        have HR : Hid (moveOf s = 6) := hid (HAT.out 6 (by decide) (HB.out.trans hs) (fun j hj h => HN.out j hj h))
        subst hs
        go_wp2_with fail
        go_ret
        rw [HR.out]
        exact ⟨rfl, rfl⟩
      · have hb := str_ne hs
        have HN2 : Hid (∀ j (hj : j < moveL.length), j < 7 → bt moveL[j] ≠ s) := hid (fun j hj h => by
          by_cases hji : j = 6
          · subst hji; intro e; exact hs (HB.out.symm.trans e)
          · exact HN.out j hj (by omega))
        go_wp2_with fail
        go_roundw
        case rel => exact ⟨7, rfl, by omega, by first | trivial | rfl, HN2⟩
        case measure => decide
    · replace hcv : _ = Value.int .i64 7 := hcv
      subst hcv
      have HB : Hid (bt (moveL[7]'(by decide)) = n7) := hid (by have := HNE.out 7 (by decide); simpa using this.symm)
      have hidx : (Instr.index 139 (Value.agg #[Value.string n0, Value.string n1, Value.string n2, Value.string n3, Value.string n4, Value.string n5, Value.string n6, Value.string n7, Value.string n8, Value.string n9, Value.string n10]) (Value.int .i64 7)).run Tryz.prog wr = .ok (Value.string n7) wr := by kernel_rfl
      by_cases hs : n7 = s
      · have hb := str_eq hs
        have HR : Hid (moveOf s = 7) := hid (HAT.out 7 (by decide) (HB.out.trans hs) (fun j hj h => HN.out j hj h))
        subst hs
        go_wp2_with fail
        go_ret
        rw [HR.out]
        exact ⟨rfl, rfl⟩
      · have hb := str_ne hs
        have HN2 : Hid (∀ j (hj : j < moveL.length), j < 8 → bt moveL[j] ≠ s) := hid (fun j hj h => by
          by_cases hji : j = 7
          · subst hji; intro e; exact hs (HB.out.symm.trans e)
          · exact HN.out j hj (by omega))
        go_wp2_with fail
        go_roundw
        case rel => exact ⟨8, rfl, by omega, by first | trivial | rfl, HN2⟩
        case measure => decide
    · replace hcv : _ = Value.int .i64 8 := hcv
      subst hcv
      have HB : Hid (bt (moveL[8]'(by decide)) = n8) := hid (by have := HNE.out 8 (by decide); simpa using this.symm)
      have hidx : (Instr.index 139 (Value.agg #[Value.string n0, Value.string n1, Value.string n2, Value.string n3, Value.string n4, Value.string n5, Value.string n6, Value.string n7, Value.string n8, Value.string n9, Value.string n10]) (Value.int .i64 8)).run Tryz.prog wr = .ok (Value.string n8) wr := by kernel_rfl
      by_cases hs : n8 = s
      · have hb := str_eq hs
        have HR : Hid (moveOf s = 8) := hid (HAT.out 8 (by decide) (HB.out.trans hs) (fun j hj h => HN.out j hj h))
        subst hs
        go_wp2_with fail
        go_ret
        rw [HR.out]
        exact ⟨rfl, rfl⟩
      · have hb := str_ne hs
        have HN2 : Hid (∀ j (hj : j < moveL.length), j < 9 → bt moveL[j] ≠ s) := hid (fun j hj h => by
          by_cases hji : j = 8
          · subst hji; intro e; exact hs (HB.out.symm.trans e)
          · exact HN.out j hj (by omega))
        go_wp2_with fail
        go_roundw
        case rel => exact ⟨9, rfl, by omega, by first | trivial | rfl, HN2⟩
        case measure => decide
    · replace hcv : _ = Value.int .i64 9 := hcv
      subst hcv
      have HB : Hid (bt (moveL[9]'(by decide)) = n9) := hid (by have := HNE.out 9 (by decide); simpa using this.symm)
      have hidx : (Instr.index 139 (Value.agg #[Value.string n0, Value.string n1, Value.string n2, Value.string n3, Value.string n4, Value.string n5, Value.string n6, Value.string n7, Value.string n8, Value.string n9, Value.string n10]) (Value.int .i64 9)).run Tryz.prog wr = .ok (Value.string n9) wr := by kernel_rfl
      by_cases hs : n9 = s
      · have hb := str_eq hs
        have HR : Hid (moveOf s = 9) := hid (HAT.out 9 (by decide) (HB.out.trans hs) (fun j hj h => HN.out j hj h))
        subst hs
        go_wp2_with fail
        go_ret
        rw [HR.out]
        exact ⟨rfl, rfl⟩
      · have hb := str_ne hs
        have HN2 : Hid (∀ j (hj : j < moveL.length), j < 10 → bt moveL[j] ≠ s) := hid (fun j hj h => by
          by_cases hji : j = 9
          · subst hji; intro e; exact hs (HB.out.symm.trans e)
          · exact HN.out j hj (by omega))
        go_wp2_with fail
        go_roundw
        case rel => exact ⟨10, rfl, by omega, by first | trivial | rfl, HN2⟩
        case measure => decide
    · replace hcv : _ = Value.int .i64 10 := hcv
      subst hcv
      have HB : Hid (bt (moveL[10]'(by decide)) = n10) := hid (by have := HNE.out 10 (by decide); simpa using this.symm)
      have hidx : (Instr.index 139 (Value.agg #[Value.string n0, Value.string n1, Value.string n2, Value.string n3, Value.string n4, Value.string n5, Value.string n6, Value.string n7, Value.string n8, Value.string n9, Value.string n10]) (Value.int .i64 10)).run Tryz.prog wr = .ok (Value.string n10) wr := by kernel_rfl
      by_cases hs : n10 = s
      · have hb := str_eq hs
        have HR : Hid (moveOf s = 10) := hid (HAT.out 10 (by decide) (HB.out.trans hs) (fun j hj h => HN.out j hj h))
        subst hs
        go_wp2_with fail
        go_ret
        rw [HR.out]
        exact ⟨rfl, rfl⟩
      · have hb := str_ne hs
        have HN2 : Hid (∀ j (hj : j < moveL.length), j < 11 → bt moveL[j] ≠ s) := hid (fun j hj h => by
          by_cases hji : j = 10
          · subst hji; intro e; exact hs (HB.out.symm.trans e)
          · exact HN.out j hj (by omega))
        go_wp2_with fail
        go_roundw
        case rel => exact ⟨11, rfl, by omega, by first | trivial | rfl, HN2⟩
        case measure => decide
    · replace hcv : _ = Value.int .i64 11 := hcv
      subst hcv
      have HR : Hid (moveOf s = 0) := hid (HNO.out (fun j hj => HN.out j hj (by have : j < 11 := hj; omega)))
      go_wp2_with fail
      go_ret
      rw [HR.out]
      exact ⟨rfl, rfl⟩
end Go.Proofs.YtghppkfopglgaaaGreatDoor
namespace Go.Proofs.YtghppkfopglgaaaGreatDoor
open Go.RowKit
set_option linter.unusedVariables false
set_option linter.unusedSimpArgs false
def part (cur : Array Value) (off : Nat) (vs : Array Value) : Array Value := (cur.toList.take off ++ vs.toList ++ cur.toList.drop (off + vs.toList.length)).toArray
theorem run_store_part {P : Program} (w : World) (g off : Nat) (t ty : TypeId) (cur vs : Array Value) (hg : w.heap[g]? = some (.cells cur t (0, 0))) (hi : (P.info? ty).map (·.size) = some vs.size) (hle : off + vs.size ≤ cur.size) (h1 : vs.all (·.oneCell') = true) :
    (storeVar ty ⟨g, off, none⟩ (.agg vs)).run P w = .ok () (w.setRow g (part cur off vs)) := by
  have h := run_storeCells_at (P := P) g off t vs.toList 0 cur w hg (by simp; omega) (fun v hv => by
    rw [Array.all_eq_true_iff_forall_mem] at h1
    exact h1 v (by simpa using hv))
  cases hq : P.info? ty with
  | none => simp [hq] at hi
  | some i =>
    have hs : vs.size = i.size := by simp [hq] at hi; omega
    simp only [Nat.add_zero] at h
    simp [storeVar, sizeOf, typeInfo, hq, Value.cells, hs, h, part]
theorem wpList_store_part {P : Program} {ops : Array Oper} {rest : List Oper} {o : Oper} {a : Act} {w : World} {Q : Exit → Act → World → Prop} (hgd : o.guard = none) (ty : TypeId) (x y : Operand) (ho : o.op = .store ty x y)
    (g off : Nat) (vs : Array Value) (hx : a.eval x = .pointer (some ⟨g, off, none⟩)) (hy : a.eval y = .agg vs)
    (t : TypeId) (cur : Array Value) (hg : w.heap[g]? = some (.cells cur t (0, 0))) (hi : (P.info? ty).map (·.size) = some vs.size)
    (hle : off + vs.size ≤ cur.size) (h1 : vs.all (·.oneCell') = true)
    (h : wpList P ops Q rest (a.put o.dst undef) (w.setRow g (part cur off vs))) : wpList P ops Q (o :: rest) a w :=
  wpList_plain hgd fun _ hK => by
    unfold Oper.wp execOp
    simp only [ho, hx, hy, Instr.storeAt, Instr.sureAddr, Sem.run_bind, Sem.run_pure, Result.andThen_ok, run_store_part w g off t ty cur vs hg hi hle h1]
    exact hK _ _ h
theorem setRow_blk {w : World} {g : Nat} {cur cs : Array Value} {t : TypeId} {fz : Nat × Nat} (h : w.heap[g]? = some (.cells cur t fz)) : (w.setRow g cs).heap[g]? = some (.cells cs t fz) := by
  simp [World.setRow, Array.getElem?_modify, h]
theorem setRow_off {w : World} {g k : Nat} {cs : Array Value} (h : k ≠ g) : (w.setRow g cs).heap[k]? = w.heap[k]? := by
  simp only [World.setRow, Array.getElem?_modify]
  rw [if_neg (fun e => h e.symm)]
theorem Ks.setRow (A : Nat → Prop) (w : World) (g : Nat) (cs : Array Value) (h : A g) : Ks A w (w.setRow g cs) := ⟨rfl, rfl, rfl, by simp [World.setRow], fun k _ hk => setRow_off (fun e => hk (e ▸ h))⟩
end Go.Proofs.YtghppkfopglgaaaGreatDoor
