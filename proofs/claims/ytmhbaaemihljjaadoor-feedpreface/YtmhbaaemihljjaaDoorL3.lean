/- FeedPreface: the walk. -/
import Derived.Test.YtmhbaaemihljjaaDoorL2
namespace Go.Proofs.YtmhbaaemihljjaaDoor
open Go.RowKit
set_option linter.unusedVariables false
set_option linter.unusedSimpArgs false

theorem conv_new (X : UInt8) (W : World) : (convert 34 9 (.slice (some ⟨W.heap.size, 0, none⟩) 1 1)).run Tryd.prog (W.alloc (.cells #[.int .u8 (X.toNat : Int)] 5)) = .ok (.string ⟨#[X]⟩) (W.alloc (.cells #[.int .u8 (X.toNat : Int)] 5)) :=
  run_convert_bytes_back (P := Tryd.prog) (W.alloc (.cells #[.int .u8 (X.toNat : Int)] 5)) 34 9 5 ⟨W.heap.size, 0, none⟩ 1 [X] Tryd.underlying34 Tryd.underlying5 Tryd.underlying9 (fun j hj => by
    obtain rfl : j = 0 := by simpa using hj
    have ha : (⟨W.heap.size, 0, none⟩ : Addr).add 0 = ⟨W.heap.size, 0, none⟩ := by unfold Addr.add; split <;> simp_all
    rw [ha, cell_of_row _ _ _ _ _ _ (heap_alloc_new W _)]
    rfl)

theorem pre_ext (j : Nat) (h : j < 24) : (prefaceB.extract j (j + 1)).data.toList = [preL[j]] := by
  rw [ByteArray.data_extract, Array.toList_extract, List.extract_eq_take_drop, pre_data, show j + 1 - j = 1 by omega]
  rw [List.drop_eq_getElem_cons (by rw [preL_len]; exact h)]
  rfl
theorem push_pre (j : Nat) (h : j < 24) : pushS ⟨prefaceB, preL.take j, 16384, 0⟩ (prefaceB.extract j (j + 1)) = ⟨prefaceB, preL.take (j + 1), 16384, 0⟩ := by
  have e : preL.take (j + 1) = preL.take j ++ [preL[j]] := List.take_succ_eq_append_getElem (by rw [preL_len]; exact h)
  unfold pushS
  rw [if_pos rfl, pre_ext j h, e]
theorem push_dead (s : ByteArray) : pushS (deadS 1) s = deadS 1 := if_neg (by decide)

set_option maxRecDepth 100000 in
set_option maxHeartbeats 8000000 in
theorem feedPreface_walk (at_ by_ : Int) (more : ByteArray) (w : World) (hK : Kinds w) (hw : 1 ≤ w.heap.size) (hmore : more.size ≤ 140737488351232) (K : Nat) (hK24 : K < 24) (hk : (at_.tmod 24 < 0 ∧ -(at_.tmod 24) = (K : Int)) ∨ (¬ at_.tmod 24 < 0 ∧ at_.tmod 24 = (K : Int))) :
    Calls Tryd.prog 3 #[.int .i64 at_, .int .u8 by_, .string more] w fun e w' => e = .returned (.bool true) ∧ Below w.heap.size w w' := by
  have hb24 : at_.tmod 24 < 24 ∧ -24 < at_.tmod 24 := by
    rcases hk with ⟨_, h⟩ | ⟨_, h⟩ <;> omega
  have hhead := head_any w hK hw
  have HA : Hid _ := All.start hK hw
  obtain ⟨X, hX, hXne⟩ := xor_odd preL[K].toNat by_ (UInt8.toNat_lt _)
  have hXne' : X ≠ preL[K] := fun e => hXne (by rw [e])
  replace hX : bits .xor .u8 (((⟨#[80, 82, 73, 32, 42, 32, 72, 84, 84, 80, 47, 50, 46, 48, 13, 10, 13, 10, 83, 77, 13, 10, 13, 10]⟩ : ByteArray)[K]'hK24).toNat : Int) (bits .or .u8 by_ 1) = (X.toNat : Int) := hX
  have hcv := conv_new X
  obtain ⟨b1, b2⟩ := hb24
  have HX : Hid _ := hXne'
  clear hXne hXne'
  rcases hk with ⟨h1, h2⟩ | ⟨h1, h2⟩
  all_goals
    go_enter Tryd.func3, Tryd.ntmps3
    go_wp2_with (first | (go_at_call 9; refine hhead.mono ?_; rintro e W ⟨rfl, hB⟩))
    have h0 := HA.out.later hB
    refine (new_all h0 true 16384).mono ?_
    clear hB
    rintro e W ⟨g1, rfl, h3, -⟩
    replace h3 : Hid (All w W [(g1, .slice none 0 0, ⟨prefaceB, [], 16384, 0⟩)]) := h3
    clear h0
    go_wp2_with fail
    refine (new_all h3.out true 16384).mono ?_
    rintro e W ⟨g2, rfl, h4, -⟩
    replace h4 : Hid (All w W [(g1, .slice none 0 0, ⟨prefaceB, [], 16384, 0⟩), (g2, .slice none 0 0, ⟨prefaceB, [], 16384, 0⟩)]) := h4
    clear h3
    go_wp2_with fail
    go_loopw [11] (fun i W => ∃ j : Nat, j ≤ K ∧ i = .int .i64 (j : Int) ∧ ∃ v1, All w W [(g1, v1, ⟨prefaceB, preL.take j, 16384, 0⟩), (g2, .slice none 0 0, ⟨prefaceB, [], 16384, 0⟩)]) (fun i _ => (K : Int).toNat - (intOf i).toNat)
    case atStart => exact ⟨0, Nat.zero_le _, rfl, _, h4.out⟩
    case round =>
      obtain ⟨j, hj, rfl, v1, hA⟩ := hrel
      replace hA : Hid _ := hA
      by_cases hlt : j < K
      · have hlt' : (j : Int) < (K : Int) := by omega
        go_wp2_with fail
        refine (push_all hA.out 0 (g := g1) (v := v1) (S := ⟨prefaceB, preL.take j, 16384, 0⟩) rfl (prefaceB.extract j (j + 1)) (by rw [ByteArray.size_extract, pre_size, List.length_take]; omega)).mono ?_
        rintro e W1 ⟨rfl, v1, h5, -⟩
        rw [push_pre j (by omega)] at h5
        replace h5 : Hid (All w W1 [(g1, v1, ⟨prefaceB, preL.take (j + 1), 16384, 0⟩), (g2, .slice none 0 0, ⟨prefaceB, [], 16384, 0⟩)]) := h5
        clear hA
        go_wp2_with fail
        refine (next_all h5.out 0 (g := g1) (v := v1) (S := ⟨prefaceB, preL.take (j + 1), 16384, 0⟩) rfl _ (next_pre (j + 1) (by omega))).mono ?_
        rintro e W2 ⟨pb, pl, pc, v1, rfl, -, -, h6, -⟩
        replace h6 : Hid (All w W2 [(g1, v1, ⟨prefaceB, preL.take (j + 1), 16384, 0⟩), (g2, .slice none 0 0, ⟨prefaceB, [], 16384, 0⟩)]) := h6
        clear h5
        simp only [Fr.zero]
        obtain ⟨hA, -, b14, kt⟩ := box2 h6.out Fr.zero (.slice pb pl pc) 0 0
        obtain ⟨d11, d12, -, -⟩ := box_cells b14
        have hw1 := wait_all hA 0 (g := g1) (v := v1) (S := ⟨prefaceB, preL.take (j + 1), 16384, 0⟩) rfl
        have hlen : (List.take (j + 1) preL).length = j + 1 := by rw [List.length_take, preL_len]; omega
        simp only [hlen] at hw1
        have hfin : Hid (All w _ _) := hA
        clear hA kt b14 h6 hlen
        simp only [fv, Fr.zero] at d11 d12 hw1 hfin
        go_wp2_with (first | (go_at_call 13; refine hw1.mono ?_; rintro e W ⟨rfl, rfl⟩))
        go_roundw
        case rel => exact ⟨j + 1, by omega, by go_num, v1, hfin.out⟩
        case measure => simp [intOf]; omega
      · have hlt' : ¬ (j : Int) < (K : Int) := by omega
        obtain rfl : j = K := by omega
        go_wp2_with fail
        refine (push_all (hA.out.alloc _) 0 (g := g1) (v := v1) (S := ⟨prefaceB, preL.take j, 16384, 0⟩) rfl ⟨#[X]⟩ (by rw [List.length_take]; show _ + 1 ≤ _; omega)).mono ?_
        rintro e W1 ⟨rfl, v1, h5, -⟩
        replace h5 : Hid (All w W1 [(g1, v1, ⟨prefaceB, preL.take j ++ [X], 16384, 0⟩), (g2, .slice none 0 0, ⟨prefaceB, [], 16384, 0⟩)]) := h5
        clear hA
        go_wp2_with fail
        refine (next_all h5.out 0 (g := g1) (v := v1) (S := ⟨prefaceB, preL.take j ++ [X], 16384, 0⟩) rfl _ (next_wrong j hK24 X HX.out)).mono ?_
        rintro e W2 ⟨pb, pl, pc, v1, rfl, -, -, h6, -⟩
        replace h6 : Hid (All w W2 [(g1, v1, deadS 1), (g2, .slice none 0 0, ⟨prefaceB, [], 16384, 0⟩)]) := h6
        clear h5
        simp only [Fr.zero]
        obtain ⟨hA, -, b18, kt⟩ := box2 h6.out Fr.zero (.slice pb pl pc) 1 0
        obtain ⟨d0, d1, -, -⟩ := box_cells b18
        have hw1 := wait_all hA 0 (g := g1) (v := v1) (S := deadS 1) rfl
        have hwa : Hid (w.heap.size ≤ W2.heap.size + 1) := by have := h6.out.bel.size; show _ ≤ _; omega
        replace hA : Hid (All w _ _) := hA
        replace b18 : Hid _ := b18
        clear kt h6
        simp only [fv, Fr.zero] at d0 d1 hw1 hA b18
        go_wp2_with (first | (go_at_call 13; refine hw1.mono ?_; rintro e W ⟨rfl, rfl⟩))
        obtain ⟨a18, ha18⟩ : ∃ a18, a18 = W2.heap.size + 1 := ⟨_, rfl⟩
        rw [← ha18] at b18 hwa ⊢
        clear ha18 d0 d1 hw1
        refine (push_all hA.out 0 (g := g1) (v := v1) (S := deadS 1) rfl (prefaceB ++ more) (by rw [ByteArray.size_append, pre_size]; show 0 + _ ≤ _; omega)).mono ?_
        rintro e W3 ⟨rfl, v1, h5, kt⟩
        rw [push_dead] at h5
        replace h5 : Hid (All w W3 [(g1, v1, deadS 1), (g2, .slice none 0 0, ⟨prefaceB, [], 16384, 0⟩)]) := h5
        replace b18 : Hid (W3.heap[a18]? = some (.cells #[.int .i64 1, .int .i64 0] 30 (0, 0))) := kt.box b18.out
        clear hA kt
        go_wp2_with fail
        refine (next_all h5.out 0 (g := g1) (v := v1) (S := deadS 1) rfl _ next_dead).mono ?_
        rintro e W4 ⟨pb, pl, pc, v1, rfl, -, -, hB, kt⟩
        replace hB : All w W4 [(g1, v1, deadS 1), (g2, .slice none 0 0, ⟨prefaceB, [], 16384, 0⟩)] := hB
        replace b18 : W4.heap[a18]? = some (.cells #[.int .i64 1, .int .i64 0] 30 (0, 0)) := kt.box b18.out
        clear h5 kt
        simp only [Fr.zero]
        obtain ⟨d0, d1, f0, f1⟩ := box_cells b18
        obtain ⟨hA, b18'⟩ := box_set hB a18 1 0 1 0 b18 hwa.out
        have hw1 := wait_all hA 0 (g := g1) (v := v1) (S := deadS 1) rfl
        replace hA : Hid (All w _ _) := hA
        replace b18' : Hid _ := b18'
        clear hB b18
        go_wp2_with (first | (go_at_call 13; refine hw1.mono ?_; rintro e W ⟨rfl, rfl⟩))
        clear d0 d1 f0 f1 hw1
        refine (push_all hA.out 1 (g := g2) (v := .slice none 0 0) (S := ⟨prefaceB, [], 16384, 0⟩) rfl prefaceB (by decide)).mono ?_
        rintro e W5 ⟨rfl, v2, h5, kt⟩
        replace h5 : Hid (All w W5 [(g1, v1, deadS 1), (g2, v2, ⟨prefaceB, preL, 16384, 0⟩)]) := h5
        have b18 : Hid (W5.heap[a18]? = some (.cells #[.int .i64 1, .int .i64 0] 30 (0, 0))) := kt.box b18'.out
        clear hA kt b18'
        go_wp2_with fail
        refine (next_all h5.out 1 (g := g2) (v := v2) (S := ⟨prefaceB, preL, 16384, 0⟩) rfl _ next_full).mono ?_
        rintro e W6 ⟨pb, pl, pc, v2, rfl, -, -, hB, kt⟩
        replace hB : All w W6 [(g1, v1, deadS 1), (g2, v2, ⟨⟨#[]⟩, [], 16384, 0⟩)] := hB
        replace b18 : W6.heap[a18]? = some (.cells #[.int .i64 1, .int .i64 0] 30 (0, 0)) := kt.box b18.out
        clear h5 kt
        simp only [Fr.zero]
        obtain ⟨d0, d1, f0, f1⟩ := box_cells b18
        obtain ⟨hA, b18'⟩ := box_set hB a18 1 0 0 0 b18 hwa.out
        have hw1 := wait_all hA 1 (g := g2) (v := v2) (S := ⟨⟨#[]⟩, [], 16384, 0⟩) rfl
        replace hA : Hid (All w _ _) := hA
        replace b18' : Hid _ := b18'
        clear hB b18
        go_wp2_with (first | (go_at_call 13; refine hw1.mono ?_; rintro e W ⟨rfl, rfl⟩))
        clear d0 d1 f0 f1 hw1
        refine (push_all hA.out 1 (g := g2) (v := v2) (S := ⟨⟨#[]⟩, [], 16384, 0⟩) rfl _ (by decide)).mono ?_
        rintro e W7 ⟨rfl, v2, h5, kt⟩
        replace h5 : Hid (All w W7 [(g1, v1, deadS 1), (g2, v2, ⟨⟨#[]⟩, pingL, 16384, 0⟩)]) := h5
        have b18 : Hid (W7.heap[a18]? = some (.cells #[.int .i64 0, .int .i64 0] 30 (0, 0))) := kt.box b18'.out
        clear hA kt b18'
        go_wp2_with fail
        refine (next_all h5.out 1 (g := g2) (v := v2) (S := ⟨⟨#[]⟩, pingL, 16384, 0⟩) rfl _ next_ping).mono ?_
        rintro e W8 ⟨pb, pl, pc, v2, rfl, -, -, hB, kt⟩
        replace b18 : W8.heap[a18]? = some (.cells #[.int .i64 0, .int .i64 0] 30 (0, 0)) := kt.box b18.out
        have hne : ¬ a18 = W8.heap.size := Nat.ne_of_lt (Array.getElem?_eq_some_iff.1 b18).1
        clear h5
        simp only [pingF]
        replace kt : Kt W8 (W8.alloc (.cells (fv pingF (.slice pb pl pc)) 28)) := Kt.alloc _ _
        replace hB := hB.alloc (.cells (fv pingF (.slice pb pl pc)) 28)
        replace b18 := kt.box b18
        obtain ⟨d0, d1, f0, f1⟩ := box_cells b18
        obtain ⟨hA, b18'⟩ := box_set hB a18 0 0 0 0 b18 hwa.out
        have hfin : Hid _ := hA.bel
        clear hB b18 hA b18' kt
        simp only [fv, pingF] at d0 d1 f0 f1 hfin
        go_wp2_with fail
        go_ret
        exact ⟨rfl, hfin.out⟩

theorem feedPreface_any (at_ by_ : Int) (more : ByteArray) (w : World) (hK : Kinds w) (hw : 1 ≤ w.heap.size) (hmore : more.size ≤ 140737488351232) :
    Calls Tryd.prog 3 #[.int .i64 at_, .int .u8 by_, .string more] w fun e w' => e = .returned (.bool true) ∧ Below w.heap.size w w' := by
  have h1 : at_.tmod 24 < 24 := Int.tmod_lt_of_pos _ (by decide)
  have h2 : -24 < at_.tmod 24 := by
    have := Int.tmod_lt_of_pos (-at_) (b := 24) (by decide)
    rw [Int.neg_tmod] at this
    omega
  by_cases h : at_.tmod 24 < 0
  · exact feedPreface_walk at_ by_ more w hK hw hmore (-(at_.tmod 24)).toNat (by omega) (.inl ⟨h, by omega⟩)
  · exact feedPreface_walk at_ by_ more w hK hw hmore (at_.tmod 24).toNat (by omega) (.inr ⟨h, by omega⟩)
end Go.Proofs.YtmhbaaemihljjaaDoor
