/- The document's small letters. -/
import Derived.Test.YtbifmikndpeafaaDoorA1
namespace Go.Proofs.YtbifmikndpeafaaDoor
open Go.RowKit
set_option linter.unusedVariables false
set_option linter.unusedSimpArgs false
set_option maxRecDepth 100000 in
theorem conv_none (w : World) : Sem.run Tryd.prog (convert 33 9 (.slice none 0 0)) w = .ok (.string ⟨#[]⟩) w := by
  simp [convert, Conv.bytesToString, go_sem, Tryd.underlying33, Tryd.underlying5, Tryd.underlying9]
  rfl
set_option maxRecDepth 100000 in
theorem conv_row' {w : World} {b : Option Addr} {n c : Nat} {l : List UInt8} (h : In EB w (.slice b n c) l) : Sem.run Tryd.prog (convert 33 9 (.slice b n c)) w = .ok (.string (bt l)) w := by
  have h' := h
  rcases h with ⟨e, rfl⟩ | ⟨a, cap, e, h1, h2, hc⟩
  · injection e with e1 e2 e3
    subst e1 e2 e3
    exact conv_none w
  · injection e with e1 e2 e3
    subst e1 e2 e3
    exact run_convert_bytes_back (P := Tryd.prog) w 33 9 5 a c l Tryd.underlying33 Tryd.underlying5 Tryd.underlying9 (fun j hj => by
      have := hc j (.int .u8 (l[j].toNat : Int)) (by rw [csB, List.getElem?_map, List.getElem?_eq_getElem hj]; rfl)
      exact this)
set_option maxHeartbeats 4000000 in
set_option maxRecDepth 100000 in
theorem rsmall_any (s : ByteArray) (w : World) (hs : s.size ≤ 140737488351232) : Calls Tryd.prog 33 #[.string s] w fun e w' => e = .returned (.string (smS s)) ∧ Below w.heap.size w w' := by
  have HL : Hid (s.data.toList.length = s.size) := (Lib.size_eq s).symm
  go_enter Tryd.func33, Tryd.ntmps33
  go_wp2_with fail
  go_loopw [3, 4, 5] (fun bv iv _ wr => ∃ (k : Nat) (b : Option Addr) (c : Nat), iv = .int .i64 (k : Int) ∧ bv = .slice b k c ∧ k ≤ s.size ∧ Hid (R EB wr (.slice b k c) (smL (s.data.toList.take k)) ∧ Below w.heap.size w wr ∧ ∀ j, (Value.slice b k c).ownBlock = some j → w.heap.size ≤ j)) (fun _ iv _ _ => s.size - (intOf iv).toNat)
  case atStart => exact ⟨0, none, 0, rfl, rfl, by omega, by simpa [smL] using R.nil EB w, Below.refl _ _, fun j hj => by simp [Value.ownBlock] at hj⟩
  case round =>
    obtain ⟨k, b, c, rfl, rfl, hk, hS⟩ := hrel
    by_cases hlt : k < s.size
    · have hlt' : (k : Int) < (s.size : Int) := by omega
      obtain ⟨x, hx⟩ : ∃ x : UInt8, s[k] = x := ⟨_, rfl⟩
      have kl : k < s.data.toList.length := by rw [HL.out]; exact hlt
      have hxl : s.data.toList[k]'kl = x := by rw [← hx]; simp; rfl
      have HN : Hid (∀ y : UInt8, smC x = y → ∃ b2 c2 w2, (Builtin.append_ #[33, 33] 33 #[.slice b k c, .slice (some ⟨wr.heap.size, 0, none⟩) 1 1]).run Tryd.prog (wr.alloc (.cells #[.int .u8 (y.toNat : Int)] 5)) = .ok (.slice b2 (k + 1) c2) w2 ∧ R EB w2 (.slice b2 (k + 1) c2) (smL (s.data.toList.take (k + 1))) ∧ Below w.heap.size w w2 ∧ ∀ j, (Value.slice b2 (k + 1) c2).ownBlock = some j → w.heap.size ≤ j) := fun y hy => by
        have ba := bel1 wr (.cells #[.int .u8 (y.toNat : Int)] 5)
        obtain ⟨b2, c2, w2, e1, e2, e3⟩ := app okB (wr.alloc (.cells #[.int .u8 (y.toNat : Int)] 5)) _ _ (R.below hS.out.1 ba) (.slice (some ⟨wr.heap.size, 0, none⟩) 1 1) [y] (in_one (x := y) _ _ #[.int .u8 (y.toNat : Int)] 5 (0, 0) (by rw [heap_al, if_pos rfl]) rfl) (by simp only [EB, smL, List.length_map, List.length_take, List.length_singleton]; omega)
        have el : (smL (s.data.toList.take k)).length + [y].length = k + 1 := by simp only [smL, List.length_map, List.length_take, List.length_singleton]; omega
        rw [el] at e1 e2 e3
        refine ⟨b2, c2, w2, e1, ?_, ?_, fun j hj => ?_⟩
        · rw [List.take_succ_eq_append_getElem kl, hxl, smL, List.map_append]
          simp only [List.map_cons, List.map_nil, hy]
          exact e2
        · exact hS.out.2.1.trans (Below.trans (ba.mono hS.out.2.1.size) (e3.belowB (Nat.le_trans hS.out.2.1.size ba.size) hS.out.2.2))
        · rcases e3.own j hj with e | e
          · exact hS.out.2.2 j e
          · exact Nat.le_trans (Nat.le_trans hS.out.2.1.size ba.size) e
      have hx8 := x.toNat_lt
      clear hS hxl kl
      by_cases h1 : 65 ≤ x.toNat
      · have h1' : (65 : Int) ≤ (x.toNat : Int) := by omega
        by_cases h2 : x.toNat ≤ 90
        · have h2' : (x.toNat : Int) ≤ 90 := by omega
          have hy := smC_up h1 h2
          obtain ⟨y, hyy⟩ : ∃ y, smC x = y := ⟨_, rfl⟩
          rw [hyy] at hy
          have hw2 : IntKind.u8.wrap ((x.toNat : Int) + 32) = (y.toNat : Int) := by rw [IntKind.wrap_u8]; omega
          obtain ⟨b2, c2, w2, a1, a2⟩ := HN.out y hyy
          replace a1 : Hid _ := a1
          replace a2 : Hid _ := a2
          clear HN hyy hy
          skip
          go_wp2_with (at_builtin; refine Lib.wpList_append_run _ rfl _ _ _ _ rfl _ _ rfl rfl _ _ a1.out ?_)
          go_roundw
          case rel => exact ⟨k + 1, b2, c2, by simp, by first | rfl | simp, by omega, a2.out⟩
          case measure => simp [intOf]; omega
        · have h2' : ¬ (x.toNat : Int) ≤ 90 := by omega
          obtain ⟨b2, c2, w2, a1, a2⟩ := HN.out x (smC_id (by omega))
          replace a1 : Hid _ := a1
          replace a2 : Hid _ := a2
          clear HN
          skip
          go_wp2_with (at_builtin; refine Lib.wpList_append_run _ rfl _ _ _ _ rfl _ _ rfl rfl _ _ a1.out ?_)
          go_roundw
          case rel => exact ⟨k + 1, b2, c2, by simp, by first | rfl | simp, by omega, a2.out⟩
          case measure => simp [intOf]; omega
      · have h1' : ¬ (65 : Int) ≤ (x.toNat : Int) := by omega
        obtain ⟨b2, c2, w2, a1, a2⟩ := HN.out x (smC_id (by omega))
        replace a1 : Hid _ := a1
        replace a2 : Hid _ := a2
        clear HN
        skip
        go_wp2_with (at_builtin; refine Lib.wpList_append_run _ rfl _ _ _ _ rfl _ _ rfl rfl _ _ a1.out ?_)
        go_roundw
        case rel => exact ⟨k + 1, b2, c2, by simp, by first | rfl | simp, by omega, a2.out⟩
        case measure => simp [intOf]; omega
    · obtain rfl : k = s.size := by omega
      have hlt' : ¬ (s.size : Int) < (s.size : Int) := by omega
      have HB : Hid (Below w.heap.size w wr) := hS.out.2.1
      have hR : R EB wr (.slice b s.size c) (smL s.data.toList) := by
        have h := hS.out.1
        rw [← HL.out, List.take_length] at h
        rw [HL.out] at h
        exact h
      clear hS
      have hcv2 : Sem.run Tryd.prog (convert 33 9 (.slice b s.size c)) wr = .ok (.string (smS s)) wr := conv_row' (R.isIn hR)
      clear hR
      go_wp2_with fail
      go_ret
      exact ⟨rfl, HB.out⟩
end Go.Proofs.YtbifmikndpeafaaDoor
