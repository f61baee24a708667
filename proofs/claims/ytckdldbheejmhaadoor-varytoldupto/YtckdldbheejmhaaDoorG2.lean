/- The document's trimmed. -/
import Derived.Test.YtckdldbheejmhaaDoorG1
namespace Go.Proofs.YtckdldbheejmhaaDoor
open Go.RowKit
set_option linter.unusedVariables false
set_option linter.unusedSimpArgs false
/-- a space or a tab -/
def blB (x : UInt8) : Bool := [(32 : UInt8), 9].contains x
theorem blB_iff {x : UInt8} : blB x = true ↔ x.toNat = 32 ∨ x.toNat = 9 := by
  unfold blB
  simp only [List.contains_cons, List.contains_nil, Bool.or_false, Bool.or_eq_true, beq_iff_eq]
  constructor
  · rintro (rfl | rfl)
    · exact .inl rfl
    · exact .inr rfl
  · rintro (h | h)
    · exact .inl (UInt8.toNat_inj.1 h)
    · exact .inr (UInt8.toNat_inj.1 h)
set_option maxRecDepth 100000 in
theorem blank_any (x : UInt8) (w : World) : Calls Tryd.prog 42 #[.int .u8 (x.toNat : Int)] w fun e w' => e = .returned (.bool (blB x)) ∧ w' = w := by
  have hx8 := x.toNat_lt
  by_cases h1 : x.toNat = 32
  · have HB : Hid (blB x = true) := blB_iff.2 (.inl h1)
    have h1' : (x.toNat : Int) = 32 := by omega
    rw [h1']
    clear h1 h1' hx8
    go_enter Tryd.func42, Tryd.ntmps42
    go_wp2_with fail
    go_ret
    exact ⟨by rw [HB.out]; first | rfl | simp, rfl⟩
  · have q1 : ((x.toNat : Int) == 32) = false := by simp; omega
    have q1' : ¬ (x.toNat : Int) = 32 := by omega
    by_cases h2 : x.toNat = 9
    · have HB : Hid (blB x = true) := blB_iff.2 (.inr h2)
      have h2' : (x.toNat : Int) = 9 := by omega
      rw [h2']
      clear h1 h2 h2' q1 q1' hx8
      go_enter Tryd.func42, Tryd.ntmps42
      go_wp2_with fail
      go_ret
      exact ⟨by rw [HB.out]; first | rfl | simp, rfl⟩
    · have q2 : ((x.toNat : Int) == 9) = false := by simp; omega
      have q2' : ¬ (x.toNat : Int) = 9 := by omega
      have HB : Hid (blB x = false) := by
        show _ = _
        cases h : blB x
        · rfl
        · rcases blB_iff.1 h with e | e
          · exact absurd e h1
          · exact absurd e h2
      clear h1 h2
      go_enter Tryd.func42, Tryd.ntmps42
      go_wp2_with fail
      go_ret
      exact ⟨by rw [HB.out]; first | rfl | simp, rfl⟩
theorem trim_two (l : List UInt8) (k m : Nat) (hk : k ≤ l.length) (hm : m ≤ l.length - k) (h1 : ∀ (j : Nat) b, j < k → l[j]? = some b → blB b = true) (h2 : ∀ b, l[k]? = some b → blB b = false) (h3 : ∀ (j : Nat) b, m ≤ j → (l.drop k)[j]? = some b → blB b = true) (h4 : ∀ b, 0 < m → (l.drop k)[m - 1]? = some b → blB b = false) : Lib.trimS l [32, 9] = (l.drop k).take m := by
  unfold Lib.trimS
  by_cases h0 : m = 0
  · subst h0
    have e : Lib.trimRightS l [32, 9] = l.take 0 := by
      refine Lib.trimRightS_take l _ 0 (Nat.zero_le _) (fun j b _ hb => ?_) (fun b h => absurd h (by omega))
      by_cases hj : j < k
      · exact h1 j b hj hb
      · refine h3 (j - k) b (Nat.zero_le _) ?_
        rw [List.getElem?_drop, show k + (j - k) = j by omega]
        exact hb
    rw [e]
    simp [Lib.trimLeftS]
  · have e : Lib.trimRightS l [32, 9] = l.take (k + m) := by
      refine Lib.trimRightS_take l _ (k + m) (by omega) (fun j b hj hb => ?_) (fun b _ hb => ?_)
      · refine h3 (j - k) b (by omega) ?_
        rw [List.getElem?_drop, show k + (j - k) = j by omega]
        exact hb
      · refine h4 b (by omega) ?_
        rw [List.getElem?_drop, show k + (m - 1) = k + m - 1 by omega]
        exact hb
    rw [e]
    have e2 : Lib.trimLeftS (l.take (k + m)) [32, 9] = (l.take (k + m)).drop k := by
      refine Lib.trimLeftS_drop _ _ k (by rw [List.length_take]; omega) (fun j b hj hb => ?_) (fun b hb => ?_)
      · rw [List.getElem?_take_of_lt (by omega)] at hb
        exact h1 j b hj hb
      · rw [List.getElem?_take_of_lt (by omega)] at hb
        exact h2 b hb
    rw [e2, List.drop_take]
    congr 1
    omega
def strSz : Value → Nat
  | .string u => u.size
  | _ => 0
theorem tail_list (u : ByteArray) : (u.extract 1 u.size).data.toList = u.data.toList.drop 1 := by
  rw [ByteArray.data_extract, Array.toList_extract]
  simp only [List.extract_eq_take_drop]
  exact List.take_of_length_le (by rw [List.length_drop, ← Lib.size_eq]; exact Nat.le_refl _)
theorem front_list (u : ByteArray) (n : Nat) : (u.extract 0 n).data.toList = u.data.toList.take n := by
  rw [ByteArray.data_extract, Array.toList_extract]
  simp only [List.extract_eq_take_drop, List.drop_zero, Nat.sub_zero]
set_option maxHeartbeats 4000000 in
set_option maxRecDepth 100000 in
theorem trimmed_any (s : ByteArray) (w : World) (hs : s.size ≤ 140737488355328) : Calls Tryd.prog 35 #[.string s] w fun e w' => e = .returned (.string ⟨(Lib.trimS s.data.toList [32, 9]).toArray⟩) ∧ w' = w := by
  obtain ⟨l, hl⟩ : ∃ l, s.data.toList = l := ⟨_, rfl⟩
  have HS : Hid (s.data.toList = l ∧ s.size = l.length) := ⟨hl, by rw [Lib.size_eq, hl]⟩
  rw [hl]
  clear hl
  have HZ : Hid (l.length ≤ 140737488355328) := by show _ ≤ _; rw [← HS.out.2]; exact hs
  clear hs
  go_enter Tryd.func35, Tryd.ntmps35
  go_wp2_with fail
  go_loopw [0] (fun sv' wr => ∃ (u : ByteArray) (k : Nat), sv' = .string u ∧ wr = w ∧ Hid (u.data.toList = l.drop k ∧ k ≤ l.length ∧ ∀ (j : Nat) b, j < k → l[j]? = some b → blB b = true)) (fun sv' _ => strSz sv')
  case atStart => exact ⟨s, 0, rfl, rfl, by rw [HS.out.1]; rfl, Nat.zero_le _, fun j b hj => absurd hj (by omega)⟩
  case round =>
    obtain ⟨u, k, rfl, hwr, hS⟩ := hrel
    replace hwr := hwr.symm
    subst hwr
    have hul : u.size = l.length - k := by rw [Lib.size_eq, hS.out.1, List.length_drop]
    have hu47 : u.size ≤ 140737488355328 := by have := HZ.out; omega
    have HU : Hid (u.size = l.length - k) := hul
    clear hul
    by_cases h0 : u.size = 0
    · have HST : Hid (∀ b, l[k]? = some b → blB b = false) := fun b hb => by
        rw [List.getElem?_eq_none (by have := HU.out; omega)] at hb
        cases hb
      have h0' : ¬ (0 : Int) < (u.size : Int) := by omega
      go_wp2_with fail
      go_loopw [0] (fun sv' wr => ∃ (v : ByteArray) (m : Nat), sv' = .string v ∧ wr = w ∧ Hid (v.data.toList = (l.drop k).take m ∧ m ≤ l.length - k ∧ ∀ (j : Nat) b, m ≤ j → (l.drop k)[j]? = some b → blB b = true)) (fun sv' _ => strSz sv')
      case atStart => exact ⟨u, l.length - k, rfl, rfl, by rw [hS.out.1, List.take_of_length_le (by rw [List.length_drop]; omega)], Nat.le_refl _, fun j b hj hb => by rw [List.getElem?_eq_none (by rw [List.length_drop]; omega)] at hb; cases hb⟩
      case round =>
        obtain ⟨v, m, rfl, hwr, hV⟩ := hrel
        replace hwr := hwr.symm
        subst hwr
        have HVL : Hid (v.size = m) := by show _ = _; rw [Lib.size_eq, hV.out.1, List.length_take, List.length_drop]; have := hV.out.2.1; omega
        have HV47 : Hid (v.size ≤ 140737488355328) := by show _ ≤ _; rw [HVL.out]; have := hV.out.2.1; have := HZ.out; omega
        clear hu47
        by_cases h0 : v.size = 0
        · have HE : Hid (v = ⟨(Lib.trimS l [32, 9]).toArray⟩) := by
            show _ = _
            rw [trim_two l k m hS.out.2.1 hV.out.2.1 hS.out.2.2 HST.out hV.out.2.2 (fun b hb => by have := HVL.out; omega), ← hV.out.1]
          have h0' : ¬ (0 : Int) < (v.size : Int) := by omega
          clear hV
          go_wp2_with fail
          go_ret
          exact ⟨by rw [← HE.out]; rfl, rfl⟩
        · obtain ⟨q, hq⟩ : ∃ q, v.size = q + 1 := ⟨v.size - 1, by omega⟩
          have hq47 : q ≤ 140737488355328 := by have := HV47.out; omega
          have h0' : (0 : Int) < (v.size : Int) := by omega
          have hi' : (0 : Int) ≤ (q : Int) := by omega
          have hql : q < v.size := by omega
          obtain ⟨x, hx⟩ : ∃ x : UInt8, v[q] = x := ⟨_, rfl⟩
          have HXL : Hid ((l.drop k)[q]? = some x) := by
            show _ = _
            have h1 : v.data.toList[q]? = some x := by
              rw [List.getElem?_eq_getElem (by rw [← Lib.size_eq]; exact hql), ← hx]
              simp <;> rfl
            rw [hV.out.1, List.getElem?_take_of_lt (by rw [← HVL.out]; exact hql)] at h1
            exact h1
          cases hb : blB x
          · have HE : Hid (v = ⟨(Lib.trimS l [32, 9]).toArray⟩) := by
              show _ = _
              rw [trim_two l k m hS.out.2.1 hV.out.2.1 hS.out.2.2 HST.out hV.out.2.2 (fun b _ hb' => by
                have hm : m - 1 = q := by have := HVL.out; omega
                rw [hm, HXL.out] at hb'
                injection hb' with hb'
                rw [← hb']; exact hb), ← hV.out.1]
            have HB : Hid (blB x = false) := hb
            clear hV hb h0
            go_wp2_with fail
            go_at_call 42
            refine (blank_any x _).mono ?_
            rintro e w' ⟨rfl, hww⟩
            replace hww := hww.symm
            subst hww
            rw [HB.out]
            go_wp2_with fail
            go_ret
            exact ⟨by rw [← HE.out]; rfl, rfl⟩
          · have HN : Hid ((v.extract 0 q).data.toList = (l.drop k).take q ∧ q ≤ l.length - k ∧ ∀ (j : Nat) b, q ≤ j → (l.drop k)[j]? = some b → blB b = true) := by
              have hm : m = q + 1 := by have := HVL.out; omega
              refine ⟨?_, by have := hV.out.2.1; omega, fun j b hj hb' => ?_⟩
              · rw [front_list, hV.out.1, List.take_take, hm, Nat.min_eq_left (by omega)]
              · by_cases e : j = q
                · rw [e, HXL.out] at hb'
                  injection hb' with hb'
                  rw [← hb']; exact hb
                · exact hV.out.2.2 j b (by omega) hb'
            have HB : Hid (blB x = true) := hb
            have HSZ : Hid ((v.extract 0 q).size = q) := by
              show _ = _
              rw [Lib.size_eq, HN.out.1, List.length_take, List.length_drop]
              have := HN.out.2.1
              omega
            clear hV hb h0
            go_wp2_with fail
            go_at_call 42
            refine (blank_any x _).mono ?_
            rintro e w' ⟨rfl, hww⟩
            replace hww := hww.symm
            subst hww
            rw [HB.out]
            go_wp2_with fail
            go_roundw
            case rel => exact ⟨v.extract 0 q, q, by first | rfl | simp, by first | rfl | trivial, HN.out⟩
            case measure => simp only [strSz]; have := HSZ.out; omega
    · have h0' : (0 : Int) < (u.size : Int) := by omega
      have h0n : 0 < u.size := by omega
      obtain ⟨x, hx⟩ : ∃ x : UInt8, u[0] = x := ⟨_, rfl⟩
      have HXL : Hid (l[k]? = some x) := by
        show _ = _
        have h1 : u.data.toList[0]? = some x := by
          rw [List.getElem?_eq_getElem (by rw [← Lib.size_eq]; exact h0n), ← hx]
          simp <;> rfl
        rw [hS.out.1, List.getElem?_drop] at h1
        exact h1
      cases hb : blB x
      · have HST : Hid (∀ b, l[k]? = some b → blB b = false) := fun b hb' => by
          rw [HXL.out] at hb'
          injection hb' with hb'
          rw [← hb']; exact hb
        have HB : Hid (blB x = false) := hb
        clear hb h0
        go_wp2_with fail
        go_at_call 42
        refine (blank_any x _).mono ?_
        rintro e w' ⟨rfl, hww⟩
        replace hww := hww.symm
        subst hww
        rw [HB.out]
        go_wp2_with fail
        go_loopw [0] (fun sv' wr => ∃ (v : ByteArray) (m : Nat), sv' = .string v ∧ wr = w ∧ Hid (v.data.toList = (l.drop k).take m ∧ m ≤ l.length - k ∧ ∀ (j : Nat) b, m ≤ j → (l.drop k)[j]? = some b → blB b = true)) (fun sv' _ => strSz sv')
        case atStart => exact ⟨u, l.length - k, rfl, rfl, by rw [hS.out.1, List.take_of_length_le (by rw [List.length_drop]; omega)], Nat.le_refl _, fun j b hj hb => by rw [List.getElem?_eq_none (by rw [List.length_drop]; omega)] at hb; cases hb⟩
        case round =>
          obtain ⟨v, m, rfl, hwr, hV⟩ := hrel
          replace hwr := hwr.symm
          subst hwr
          have HVL : Hid (v.size = m) := by show _ = _; rw [Lib.size_eq, hV.out.1, List.length_take, List.length_drop]; have := hV.out.2.1; omega
          have HV47 : Hid (v.size ≤ 140737488355328) := by show _ ≤ _; rw [HVL.out]; have := hV.out.2.1; have := HZ.out; omega
          clear hu47
          by_cases h0 : v.size = 0
          · have HE : Hid (v = ⟨(Lib.trimS l [32, 9]).toArray⟩) := by
              show _ = _
              rw [trim_two l k m hS.out.2.1 hV.out.2.1 hS.out.2.2 HST.out hV.out.2.2 (fun b hb => by have := HVL.out; omega), ← hV.out.1]
            have h0' : ¬ (0 : Int) < (v.size : Int) := by omega
            clear hV
            go_wp2_with fail
            go_ret
            exact ⟨by rw [← HE.out]; rfl, rfl⟩
          · obtain ⟨q, hq⟩ : ∃ q, v.size = q + 1 := ⟨v.size - 1, by omega⟩
            have hq47 : q ≤ 140737488355328 := by have := HV47.out; omega
            have h0' : (0 : Int) < (v.size : Int) := by omega
            have hi' : (0 : Int) ≤ (q : Int) := by omega
            have hql : q < v.size := by omega
            obtain ⟨x, hx⟩ : ∃ x : UInt8, v[q] = x := ⟨_, rfl⟩
            have HXL : Hid ((l.drop k)[q]? = some x) := by
              show _ = _
              have h1 : v.data.toList[q]? = some x := by
                rw [List.getElem?_eq_getElem (by rw [← Lib.size_eq]; exact hql), ← hx]
                simp <;> rfl
              rw [hV.out.1, List.getElem?_take_of_lt (by rw [← HVL.out]; exact hql)] at h1
              exact h1
            cases hb : blB x
            · have HE : Hid (v = ⟨(Lib.trimS l [32, 9]).toArray⟩) := by
                show _ = _
                rw [trim_two l k m hS.out.2.1 hV.out.2.1 hS.out.2.2 HST.out hV.out.2.2 (fun b _ hb' => by
                  have hm : m - 1 = q := by have := HVL.out; omega
                  rw [hm, HXL.out] at hb'
                  injection hb' with hb'
                  rw [← hb']; exact hb), ← hV.out.1]
              have HB : Hid (blB x = false) := hb
              clear hV hb h0
              go_wp2_with fail
              go_at_call 42
              refine (blank_any x _).mono ?_
              rintro e w' ⟨rfl, hww⟩
              replace hww := hww.symm
              subst hww
              rw [HB.out]
              go_wp2_with fail
              go_ret
              exact ⟨by rw [← HE.out]; rfl, rfl⟩
            · have HN : Hid ((v.extract 0 q).data.toList = (l.drop k).take q ∧ q ≤ l.length - k ∧ ∀ (j : Nat) b, q ≤ j → (l.drop k)[j]? = some b → blB b = true) := by
                have hm : m = q + 1 := by have := HVL.out; omega
                refine ⟨?_, by have := hV.out.2.1; omega, fun j b hj hb' => ?_⟩
                · rw [front_list, hV.out.1, List.take_take, hm, Nat.min_eq_left (by omega)]
                · by_cases e : j = q
                  · rw [e, HXL.out] at hb'
                    injection hb' with hb'
                    rw [← hb']; exact hb
                  · exact hV.out.2.2 j b (by omega) hb'
              have HB : Hid (blB x = true) := hb
              have HSZ : Hid ((v.extract 0 q).size = q) := by
                show _ = _
                rw [Lib.size_eq, HN.out.1, List.length_take, List.length_drop]
                have := HN.out.2.1
                omega
              clear hV hb h0
              go_wp2_with fail
              go_at_call 42
              refine (blank_any x _).mono ?_
              rintro e w' ⟨rfl, hww⟩
              replace hww := hww.symm
              subst hww
              rw [HB.out]
              go_wp2_with fail
              go_roundw
              case rel => exact ⟨v.extract 0 q, q, by first | rfl | simp, by first | rfl | trivial, HN.out⟩
              case measure => simp only [strSz]; have := HSZ.out; omega
      · have HN : Hid ((u.extract 1 u.size).data.toList = l.drop (k + 1) ∧ k + 1 ≤ l.length ∧ ∀ (j : Nat) b, j < k + 1 → l[j]? = some b → blB b = true) := by
          refine ⟨?_, by have := HU.out; omega, fun j b hj hb' => ?_⟩
          · rw [tail_list, hS.out.1, List.drop_drop]
          · by_cases e : j = k
            · rw [e, HXL.out] at hb'
              injection hb' with hb'
              rw [← hb']; exact hb
            · exact hS.out.2.2 j b (by omega) hb'
        have HSZ : Hid ((u.extract 1 u.size).size < u.size) := by
          show _ < _
          rw [Lib.size_eq, HN.out.1, List.length_drop, HU.out]
          have := HN.out.2.1
          omega
        have HB : Hid (blB x = true) := hb
        clear hS hb h0
        go_wp2_with fail
        go_at_call 42
        refine (blank_any x _).mono ?_
        rintro e w' ⟨rfl, hww⟩
        replace hww := hww.symm
        subst hww
        rw [HB.out]
        go_wp2_with fail
        go_roundw
        case rel => exact ⟨u.extract 1 u.size, k + 1, by first | rfl | simp, by first | rfl | trivial, HN.out⟩
        case measure => simp only [strSz]; exact HSZ.out
end Go.Proofs.YtckdldbheejmhaaDoor
