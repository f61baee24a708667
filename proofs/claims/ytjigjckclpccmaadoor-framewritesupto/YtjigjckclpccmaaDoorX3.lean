/- The document's Put and weight. -/
import Derived.Test.YtjigjckclpccmaaDoorX2
import Derived.Test.YtjigjckclpccmaaDoorC4
namespace Go.Proofs.YtjigjckclpccmaaDoor
open Go.RowKit
set_option linter.unusedVariables false
set_option linter.unusedSimpArgs false

set_option maxRecDepth 100000 in
set_option maxHeartbeats 4000000 in
theorem rput2 (w : World) (o : Value) (l : List UInt8) (v : Int) (hR : Row w o l) (hl : l.length + 4 ≤ 140737488355328) :
    Calls Tryd.prog 35 #[o, .int .i64 v, .int .i64 2] w fun e w' => ∃ o', e = .returned o' ∧ Row w' o' (l ++ be 2 v) ∧ Gr w w' o o' := by
  have H0 : Hid (Row w o l) := hR
  clear hR
  go_enter Tryd.func35, Tryd.ntmps35
  go_wp2_with fail
  go_loopw [0, 7] (fun x i wr => ∃ k : Nat, k ≤ 2 ∧ i = .int .i64 (1 - (k : Int)) ∧ Row wr x (l ++ (be 2 v).take k) ∧ Gr w wr o x) (fun _ i _ => (intOf i + 1).toNat)
  case atStart => exact ⟨0, by omega, rfl, by simpa using H0.out, Gr.refl _ _⟩
  case round =>
    obtain ⟨k, hk, hx, hRow, hG⟩ := hrel
    by_cases hlt : k < 2
    · obtain ⟨b, hb, hbe⟩ : ∃ b : UInt8, (b.toNat : Int) = v / ((256 ^ (2 - 1 - k) : Nat) : Int) % 256 ∧ Hid ((be 2 v).take (k + 1) = (be 2 v).take k ++ [b]) := ⟨_, u8_int _, be_byte 2 k v hlt⟩
      obtain ⟨o', w', hrun, hRow', hG'⟩ := put_one hRow hG b (by rw [List.length_take]; omega)
      rw [← hbe.out] at hRow'
      rw [hb] at hrun
      replace hrun : Hid _ := hrun
      clear hb hRow hG hbe
      rcases (by omega : k = 0 ∨ k = 1) with rfl | rfl
      · replace hx : u7 = .int .i64 1 := hx
        subst hx
        have e1 : v / ((256 ^ (2 - 1 - 0) : Nat) : Int) % 256 = v / 256 % 256 := rfl
        rw [e1] at hrun
        clear e1
        go_wp2_with (at_builtin; refine Lib.wpList_append_run _ rfl (.tmp 14) (.tmp 20) 56 56 rfl _ _ rfl rfl _ _ hrun.out ?_)
        go_wp2
        go_roundw
        case rel => exact ⟨1, by omega, rfl, hRow', hG'⟩
        case measure => simp [intOf]
      · replace hx : u7 = .int .i64 0 := hx
        subst hx
        have e1 : v / ((256 ^ (2 - 1 - 1) : Nat) : Int) % 256 = v % 256 := by simp
        rw [e1] at hrun
        clear e1
        go_wp2_with (at_builtin; refine Lib.wpList_append_run _ rfl (.tmp 14) (.tmp 20) 56 56 rfl _ _ rfl rfl _ _ hrun.out ?_)
        go_wp2
        go_roundw
        case rel => exact ⟨2, by omega, rfl, hRow', hG'⟩
        case measure => simp [intOf]
    · obtain rfl : k = 2 := by omega
      replace hx : u7 = .int .i64 (-1) := hx
      subst hx
      rw [List.take_of_length_le (by rw [be_length]; omega)] at hRow
      go_wp2
      go_ret
      exact ⟨_, rfl, hRow, hG⟩

set_option maxRecDepth 100000 in
set_option maxHeartbeats 4000000 in
theorem rput3 (w : World) (o : Value) (l : List UInt8) (v : Int) (hR : Row w o l) (hl : l.length + 4 ≤ 140737488355328) :
    Calls Tryd.prog 35 #[o, .int .i64 v, .int .i64 3] w fun e w' => ∃ o', e = .returned o' ∧ Row w' o' (l ++ be 3 v) ∧ Gr w w' o o' := by
  have H0 : Hid (Row w o l) := hR
  clear hR
  go_enter Tryd.func35, Tryd.ntmps35
  go_wp2_with fail
  go_loopw [0, 7] (fun x i wr => ∃ k : Nat, k ≤ 3 ∧ i = .int .i64 (2 - (k : Int)) ∧ Row wr x (l ++ (be 3 v).take k) ∧ Gr w wr o x) (fun _ i _ => (intOf i + 1).toNat)
  case atStart => exact ⟨0, by omega, rfl, by simpa using H0.out, Gr.refl _ _⟩
  case round =>
    obtain ⟨k, hk, hx, hRow, hG⟩ := hrel
    by_cases hlt : k < 3
    · obtain ⟨b, hb, hbe⟩ : ∃ b : UInt8, (b.toNat : Int) = v / ((256 ^ (3 - 1 - k) : Nat) : Int) % 256 ∧ Hid ((be 3 v).take (k + 1) = (be 3 v).take k ++ [b]) := ⟨_, u8_int _, be_byte 3 k v hlt⟩
      obtain ⟨o', w', hrun, hRow', hG'⟩ := put_one hRow hG b (by rw [List.length_take]; omega)
      rw [← hbe.out] at hRow'
      rw [hb] at hrun
      replace hrun : Hid _ := hrun
      clear hb hRow hG hbe
      rcases (by omega : k = 0 ∨ k = 1 ∨ k = 2) with rfl | rfl | rfl
      · replace hx : u7 = .int .i64 2 := hx
        subst hx
        have e1 : v / ((256 ^ (3 - 1 - 0) : Nat) : Int) % 256 = v / 65536 % 256 := rfl
        rw [e1] at hrun
        clear e1
        go_wp2_with (at_builtin; refine Lib.wpList_append_run _ rfl (.tmp 14) (.tmp 20) 56 56 rfl _ _ rfl rfl _ _ hrun.out ?_)
        go_wp2
        go_roundw
        case rel => exact ⟨1, by omega, rfl, hRow', hG'⟩
        case measure => simp [intOf]
      · replace hx : u7 = .int .i64 1 := hx
        subst hx
        have e1 : v / ((256 ^ (3 - 1 - 1) : Nat) : Int) % 256 = v / 256 % 256 := rfl
        rw [e1] at hrun
        clear e1
        go_wp2_with (at_builtin; refine Lib.wpList_append_run _ rfl (.tmp 14) (.tmp 20) 56 56 rfl _ _ rfl rfl _ _ hrun.out ?_)
        go_wp2
        go_roundw
        case rel => exact ⟨2, by omega, rfl, hRow', hG'⟩
        case measure => simp [intOf]
      · replace hx : u7 = .int .i64 0 := hx
        subst hx
        have e1 : v / ((256 ^ (3 - 1 - 2) : Nat) : Int) % 256 = v % 256 := by simp
        rw [e1] at hrun
        clear e1
        go_wp2_with (at_builtin; refine Lib.wpList_append_run _ rfl (.tmp 14) (.tmp 20) 56 56 rfl _ _ rfl rfl _ _ hrun.out ?_)
        go_wp2
        go_roundw
        case rel => exact ⟨3, by omega, rfl, hRow', hG'⟩
        case measure => simp [intOf]
    · obtain rfl : k = 3 := by omega
      replace hx : u7 = .int .i64 (-1) := hx
      subst hx
      rw [List.take_of_length_le (by rw [be_length]; omega)] at hRow
      go_wp2
      go_ret
      exact ⟨_, rfl, hRow, hG⟩

set_option maxRecDepth 100000 in
set_option maxHeartbeats 4000000 in
theorem rput4 (w : World) (o : Value) (l : List UInt8) (v : Int) (hR : Row w o l) (hl : l.length + 4 ≤ 140737488355328) :
    Calls Tryd.prog 35 #[o, .int .i64 v, .int .i64 4] w fun e w' => ∃ o', e = .returned o' ∧ Row w' o' (l ++ be 4 v) ∧ Gr w w' o o' := by
  have H0 : Hid (Row w o l) := hR
  clear hR
  go_enter Tryd.func35, Tryd.ntmps35
  go_wp2_with fail
  go_loopw [0, 7] (fun x i wr => ∃ k : Nat, k ≤ 4 ∧ i = .int .i64 (3 - (k : Int)) ∧ Row wr x (l ++ (be 4 v).take k) ∧ Gr w wr o x) (fun _ i _ => (intOf i + 1).toNat)
  case atStart => exact ⟨0, by omega, rfl, by simpa using H0.out, Gr.refl _ _⟩
  case round =>
    obtain ⟨k, hk, hx, hRow, hG⟩ := hrel
    by_cases hlt : k < 4
    · obtain ⟨b, hb, hbe⟩ : ∃ b : UInt8, (b.toNat : Int) = v / ((256 ^ (4 - 1 - k) : Nat) : Int) % 256 ∧ Hid ((be 4 v).take (k + 1) = (be 4 v).take k ++ [b]) := ⟨_, u8_int _, be_byte 4 k v hlt⟩
      obtain ⟨o', w', hrun, hRow', hG'⟩ := put_one hRow hG b (by rw [List.length_take]; omega)
      rw [← hbe.out] at hRow'
      rw [hb] at hrun
      replace hrun : Hid _ := hrun
      clear hb hRow hG hbe
      rcases (by omega : k = 0 ∨ k = 1 ∨ k = 2 ∨ k = 3) with rfl | rfl | rfl | rfl
      · replace hx : u7 = .int .i64 3 := hx
        subst hx
        have e1 : v / ((256 ^ (4 - 1 - 0) : Nat) : Int) % 256 = v / 16777216 % 256 := rfl
        rw [e1] at hrun
        clear e1
        go_wp2_with (at_builtin; refine Lib.wpList_append_run _ rfl (.tmp 14) (.tmp 20) 56 56 rfl _ _ rfl rfl _ _ hrun.out ?_)
        go_wp2
        go_roundw
        case rel => exact ⟨1, by omega, rfl, hRow', hG'⟩
        case measure => simp [intOf]
      · replace hx : u7 = .int .i64 2 := hx
        subst hx
        have e1 : v / ((256 ^ (4 - 1 - 1) : Nat) : Int) % 256 = v / 65536 % 256 := rfl
        rw [e1] at hrun
        clear e1
        go_wp2_with (at_builtin; refine Lib.wpList_append_run _ rfl (.tmp 14) (.tmp 20) 56 56 rfl _ _ rfl rfl _ _ hrun.out ?_)
        go_wp2
        go_roundw
        case rel => exact ⟨2, by omega, rfl, hRow', hG'⟩
        case measure => simp [intOf]
      · replace hx : u7 = .int .i64 1 := hx
        subst hx
        have e1 : v / ((256 ^ (4 - 1 - 2) : Nat) : Int) % 256 = v / 256 % 256 := rfl
        rw [e1] at hrun
        clear e1
        go_wp2_with (at_builtin; refine Lib.wpList_append_run _ rfl (.tmp 14) (.tmp 20) 56 56 rfl _ _ rfl rfl _ _ hrun.out ?_)
        go_wp2
        go_roundw
        case rel => exact ⟨3, by omega, rfl, hRow', hG'⟩
        case measure => simp [intOf]
      · replace hx : u7 = .int .i64 0 := hx
        subst hx
        have e1 : v / ((256 ^ (4 - 1 - 3) : Nat) : Int) % 256 = v % 256 := by simp
        rw [e1] at hrun
        clear e1
        go_wp2_with (at_builtin; refine Lib.wpList_append_run _ rfl (.tmp 14) (.tmp 20) 56 56 rfl _ _ rfl rfl _ _ hrun.out ?_)
        go_wp2
        go_roundw
        case rel => exact ⟨4, by omega, rfl, hRow', hG'⟩
        case measure => simp [intOf]
    · obtain rfl : k = 4 := by omega
      replace hx : u7 = .int .i64 (-1) := hx
      subst hx
      rw [List.take_of_length_le (by rw [be_length]; omega)] at hRow
      go_wp2
      go_ret
      exact ⟨_, rfl, hRow, hG⟩

set_option maxRecDepth 100000 in
set_option maxHeartbeats 4000000 in
theorem weight_any (w : World) (o : Value) (l : List UInt8) (f : Fr) (p : Value) (hR : Row w o l) (hl : l.length + 8 ≤ 140737488355328) (hd0 : 0 ≤ f.dep) (hd1 : f.dep < 2147483648) (hw1 : 1 ≤ f.wt) (hw2 : f.wt ≤ 256) :
    Calls Tryd.prog 48 #[o, .agg (fv f p)] w fun e w' => ∃ o', e = .returned o' ∧ Row w' o' (l ++ prioB f) ∧ Gr w w' o o' := by
  have hdep : depS f = (if f.excl then f.dep + 2147483648 else f.dep) := by
    unfold depS
    split <;> omega
  obtain ⟨ty, fl, st, data, pad, dep, excl, wt, code, last⟩ := f
  simp only at hd0 hd1 hw1 hw2 hdep
  have hb1 : Below w.heap.size w (w.alloc (.cells (fv ⟨ty, fl, st, data, pad, dep, excl, wt, code, last⟩ p) 28)) := (Below.refl _ w).alloc (Nat.le_refl _) _
  have hR1 := hR.below hb1
  have hG1 := Gr.below hb1 o
  obtain ⟨g, hg⟩ : ∃ g, w.heap.size = g := ⟨_, rfl⟩
  have c7 : (w.alloc (.cells (fv ⟨ty, fl, st, data, pad, dep, excl, wt, code, last⟩ p) 28)).cell? ⟨g, 7, none⟩ = some (.int .i64 wt) := by
    rw [← hg]
    exact cell_of_row _ _ _ _ _ _ (heap_alloc_new _ _)
  have hglt : g < (w.alloc (.cells (fv ⟨ty, fl, st, data, pad, dep, excl, wt, code, last⟩ p) 28)).heap.size := by rw [← hg]; simp
  have hog : o.ownBlock ≠ some g := fun e => by have := hR.lt g e; omega
  obtain ⟨D, hD⟩ : ∃ D, depS ⟨ty, fl, st, data, pad, dep, excl, wt, code, last⟩ = D := ⟨_, rfl⟩
  unfold prioB
  rw [hD]
  rw [hD] at hdep
  simp only
  have c35 : Calls Tryd.prog 35 #[o, .int .i64 D, .int .i64 4] (w.alloc (.cells (fv ⟨ty, fl, st, data, pad, dep, excl, wt, code, last⟩ p) 28)) fun e w' => ∃ o', e = .returned o' ∧ w'.cell? ⟨g, 7, none⟩ = some (.int .i64 wt) ∧ g < w'.heap.size ∧ Hid (Row w' o' (l ++ be 4 D) ∧ Gr w w' o o') := by
    refine (rput4 _ o l D hR1 (by omega)).mono ?_
    rintro e w' ⟨o', rfl, h1, h2⟩
    refine ⟨o', rfl, ?_, Nat.lt_of_lt_of_le hglt h2.size, h1, hG1.trans h2⟩
    have hblk := h2.block g hglt hog
    have c7' := c7
    unfold World.cell? at c7' ⊢
    rw [hblk]
    exact c7'
  have hap : ∀ (W : World) (o' : Value), Hid (Row W o' (l ++ be 4 D) ∧ Gr w W o o') → ∃ o2 W2, (Builtin.append_ #[56, 56] 56 #[o', .slice (some ⟨W.heap.size, 0, none⟩) 1 1]).run Tryd.prog (W.alloc (.cells #[.int .u8 (wt - 1)] 5)) = .ok o2 W2 ∧ Hid (Row W2 o2 (l ++ (be 4 D ++ [b8 (wt - 1)])) ∧ Gr w W2 o o2) := by
    intro W o' h
    obtain ⟨o2, W2, h1, h2, h3⟩ := put_one (m := be 4 D) h.out.1 h.out.2 (b8 (wt - 1)) (by rw [be_length]; omega)
    have e : ((b8 (wt - 1)).toNat : Int) = wt - 1 := (u8_int _).trans (by omega)
    rw [e] at h1
    exact ⟨o2, W2, h1, h2, h3⟩
  unfold fv at c35
  simp only at c35
  clear hb1 hR1 hG1 c7 hR hD hog hglt
  cases excl
  · simp only [Bool.false_eq_true, if_false] at hdep
    subst hdep
    unfold fv
    go_enter Tryd.func48, Tryd.ntmps48
    go_wp2_with fail
    refine c35.mono ?_
    rintro e w1 ⟨o', rfl, d7, hl7, HS⟩
    obtain ⟨o2, W2, hrun, HF⟩ := hap w1 o' HS
    clear hap c35 HS
    go_wp2_with (at_builtin; refine Lib.wpList_append_run _ rfl (.tmp 16) (.tmp 21) 56 56 rfl _ _ rfl rfl _ _ hrun ?_; clear hrun)
    go_ret
    exact ⟨_, rfl, HF.out.1, HF.out.2⟩
  · simp only [if_true] at hdep
    have hadd : dep + 2147483647 + 1 = D := by omega
    clear hdep
    unfold fv
    go_enter Tryd.func48, Tryd.ntmps48
    go_wp2_with fail
    refine c35.mono ?_
    rintro e w1 ⟨o', rfl, d7, hl7, HS⟩
    obtain ⟨o2, W2, hrun, HF⟩ := hap w1 o' HS
    clear hap c35 HS
    go_wp2_with (at_builtin; refine Lib.wpList_append_run _ rfl (.tmp 16) (.tmp 21) 56 56 rfl _ _ rfl rfl _ _ hrun ?_; clear hrun)
    go_ret
    exact ⟨_, rfl, HF.out.1, HF.out.2⟩
end Go.Proofs.YtjigjckclpccmaaDoor
