/- VaryTold: great letters. -/
import Derived.Test.YtckdldbheejmhaaDoorG1
namespace Go.Proofs.YtckdldbheejmhaaDoor
open Go.RowKit
set_option linter.unusedVariables false
set_option linter.unusedSimpArgs false
/-- A to Z for a to z -/
def grC (x : UInt8) : UInt8 := if 97 ≤ x.toNat ∧ x.toNat ≤ 122 then UInt8.ofNat (x.toNat - 32) else x
def grL (l : List UInt8) : List UInt8 := l.map grC
def grS (s : ByteArray) : ByteArray := bt (grL s.data.toList)
theorem grC_up {x : UInt8} (h1 : 97 ≤ x.toNat) (h2 : x.toNat ≤ 122) : (grC x).toNat = x.toNat - 32 := by
  unfold grC
  rw [if_pos ⟨h1, h2⟩, UInt8.toNat_ofNat']
  omega
theorem grC_id {x : UInt8} (h : ¬ (97 ≤ x.toNat ∧ x.toNat ≤ 122)) : grC x = x := if_neg h
set_option maxHeartbeats 4000000 in
set_option maxRecDepth 100000 in
theorem great_any (s : ByteArray) (w : World) (hs : s.size ≤ 140737488351232) : Calls Tryd.prog 12 #[.string s] w fun e w' => e = .returned (.string (grS s)) ∧ Below w.heap.size w w' := by
  have HL : Hid (s.data.toList.length = s.size) := (Lib.size_eq s).symm
  go_enter Tryd.func12, Tryd.ntmps12
  go_wp2_with fail
  go_loopw [3, 4, 5] (fun bv iv _ wr => ∃ (k : Nat) (b : Option Addr) (c : Nat), iv = .int .i64 (k : Int) ∧ bv = .slice b k c ∧ k ≤ s.size ∧ Hid (R EB wr (.slice b k c) (grL (s.data.toList.take k)) ∧ Below w.heap.size w wr ∧ ∀ j, (Value.slice b k c).ownBlock = some j → w.heap.size ≤ j)) (fun _ iv _ _ => s.size - (intOf iv).toNat)
  case atStart => exact ⟨0, none, 0, rfl, rfl, by omega, by simpa [grL] using R.nil EB w, Below.refl _ _, fun j hj => by simp [Value.ownBlock] at hj⟩
  case round =>
    obtain ⟨k, b, c, rfl, rfl, hk, hS⟩ := hrel
    by_cases hlt : k < s.size
    · have hlt' : (k : Int) < (s.size : Int) := by omega
      obtain ⟨x, hx⟩ : ∃ x : UInt8, s[k] = x := ⟨_, rfl⟩
      have kl : k < s.data.toList.length := by rw [HL.out]; exact hlt
      have hxl : s.data.toList[k]'kl = x := by rw [← hx]; simp; rfl
      have HN : Hid (∀ y : UInt8, grC x = y → ∃ b2 c2 w2, (Builtin.append_ #[50, 50] 50 #[.slice b k c, .slice (some ⟨wr.heap.size, 0, none⟩) 1 1]).run Tryd.prog (wr.alloc (.cells #[.int .u8 (y.toNat : Int)] 5)) = .ok (.slice b2 (k + 1) c2) w2 ∧ R EB w2 (.slice b2 (k + 1) c2) (grL (s.data.toList.take (k + 1))) ∧ Below w.heap.size w w2 ∧ ∀ j, (Value.slice b2 (k + 1) c2).ownBlock = some j → w.heap.size ≤ j) := fun y hy => by
        have ba := bel1 wr (.cells #[.int .u8 (y.toNat : Int)] 5)
        obtain ⟨b2, c2, w2, e1, e2, e3⟩ := app okB (wr.alloc (.cells #[.int .u8 (y.toNat : Int)] 5)) _ _ (R.below hS.out.1 ba) (.slice (some ⟨wr.heap.size, 0, none⟩) 1 1) [y] (in_one (x := y) _ _ #[.int .u8 (y.toNat : Int)] 5 (0, 0) (by rw [heap_al, if_pos rfl]) rfl) (by simp only [EB, grL, List.length_map, List.length_take, List.length_singleton]; omega)
        have el : (grL (s.data.toList.take k)).length + [y].length = k + 1 := by simp only [grL, List.length_map, List.length_take, List.length_singleton]; omega
        rw [el] at e1 e2 e3
        refine ⟨b2, c2, w2, e1, ?_, ?_, fun j hj => ?_⟩
        · rw [List.take_succ_eq_append_getElem kl, hxl, grL, List.map_append]
          simp only [List.map_cons, List.map_nil, hy]
          exact e2
        · exact hS.out.2.1.trans (Below.trans (ba.mono hS.out.2.1.size) (e3.belowB (Nat.le_trans hS.out.2.1.size ba.size) hS.out.2.2))
        · rcases e3.own j hj with e | e
          · exact hS.out.2.2 j e
          · exact Nat.le_trans (Nat.le_trans hS.out.2.1.size ba.size) e
      have hx8 := x.toNat_lt
      clear hS hxl kl
      by_cases h1 : 97 ≤ x.toNat
      · have h1' : (97 : Int) ≤ (x.toNat : Int) := by omega
        by_cases h2 : x.toNat ≤ 122
        · have h2' : (x.toNat : Int) ≤ 122 := by omega
          have hy := grC_up h1 h2
          obtain ⟨y, hyy⟩ : ∃ y, grC x = y := ⟨_, rfl⟩
          rw [hyy] at hy
          have hw2 : IntKind.u8.wrap ((x.toNat : Int) - 32) = (y.toNat : Int) := by rw [IntKind.wrap_u8]; omega
          obtain ⟨b2, c2, w2, a1, a2⟩ := HN.out y hyy
          replace a1 : Hid _ := a1
          replace a2 : Hid _ := a2
          clear HN hyy hy
          skip
          go_wp2_with (at_builtin; refine Lib.wpList_append_run _ rfl _ _ _ _ rfl _ _ rfl rfl _ _ a1.out ?_)
          go_roundw
          case rel => exact ⟨k + 1, b2, c2, by simp, by first | rfl | simp, by omega, a2.out⟩
          case measure => simp [intOf]; omega
        · have h2' : ¬ (x.toNat : Int) ≤ 122 := by omega
          obtain ⟨b2, c2, w2, a1, a2⟩ := HN.out x (grC_id (by omega))
          replace a1 : Hid _ := a1
          replace a2 : Hid _ := a2
          clear HN
          skip
          go_wp2_with (at_builtin; refine Lib.wpList_append_run _ rfl _ _ _ _ rfl _ _ rfl rfl _ _ a1.out ?_)
          go_roundw
          case rel => exact ⟨k + 1, b2, c2, by simp, by first | rfl | simp, by omega, a2.out⟩
          case measure => simp [intOf]; omega
      · have h1' : ¬ (97 : Int) ≤ (x.toNat : Int) := by omega
        obtain ⟨b2, c2, w2, a1, a2⟩ := HN.out x (grC_id (by omega))
        replace a1 : Hid _ := a1
        replace a2 : Hid _ := a2
        clear HN
        skip
        go_wp2_with (at_builtin; refine Lib.wpList_append_run _ rfl _ _ _ _ rfl _ _ rfl rfl _ _ a1.out ?_)
        go_roundw
        case rel => exact ⟨k + 1, b2, c2, by simp, by first | rfl | simp, by omega, a2.out⟩
        case measure => simp [intOf]; omega
    · obtain rfl : k = s.size := by omega
      have hlt' : ¬ (s.size : Int) < (s.size : Int) := by omega
      have HB : Hid (Below w.heap.size w wr) := hS.out.2.1
      have hR : R EB wr (.slice b s.size c) (grL s.data.toList) := by
        have h := hS.out.1
        rw [← HL.out, List.take_length] at h
        rw [HL.out] at h
        exact h
      clear hS
      have hcv2 : Sem.run Tryd.prog (convert 50 9 (.slice b s.size c)) wr = .ok (.string (grS s)) wr := conv_row' (R.isIn hR)
      clear hR
      go_wp2_with fail
      go_ret
      exact ⟨rfl, HB.out⟩
end Go.Proofs.YtckdldbheejmhaaDoor
