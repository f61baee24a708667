/- Value; the words. -/
import Derived.Test.YtcadlpmopplkeaaDoorA6
namespace Go.Proofs.YtcadlpmopplkeaaDoor
open Go.RowKit
open Go.Shelf
set_option linter.unusedVariables false
set_option linter.unusedSimpArgs false

theorem info78 : (Tryd.prog.info? 148).map (fun i => (i.zero, i.size)) = some (some (.agg (Array.replicate 256 (.bool false))), 256) := by kernel_rfl
theorem zero78 : ∀ w, (zeroValue 148).run Tryd.prog w = .ok (.agg (Array.replicate 256 (.bool false))) w := (zero_of_info info78).1

theorem indexAny_any (s chars : ByteArray) (w : World) (h2 : 2 ≤ chars.size) (hcz : chars.size ≤ 1000000) (ha : Asc chars) (hs : s.size ≤ 1000000) :
    Calls Tryd.prog 100 #[.string s, .string chars] w fun e w' => e = .returned (.int .i64 (Lib.indexAny s.data.toList chars.data.toList)) ∧ Below w.heap.size w w' := by
  by_cases h8 : s.size ≤ 8
  · exact indexAny_short s chars w h2 hcz ha h8
  · refine (Tryd.strings_IndexAny_long zero78 s chars w h2 (by omega) (by omega) (by omega) (asc_get ha)).mono ?_
    rintro e w' ⟨rfl, rfl⟩
    exact ⟨rfl, bel2 w _ _⟩

set_option maxHeartbeats 1000000 in
theorem containsAny_any (s chars : ByteArray) (w : World) (h2 : 2 ≤ chars.size) (hcz : chars.size ≤ 1000000) (ha : Asc chars) (hs : s.size ≤ 1000000) :
    Calls Tryd.prog 89 #[.string s, .string chars] w fun e w' => e = .returned (.bool (decide (0 ≤ Lib.indexAny s.data.toList chars.data.toList))) ∧ Below w.heap.size w w' := by
  have hC : Hid (Calls Tryd.prog 100 #[.string s, .string chars] w fun e w' => e = .returned (.int .i64 (Lib.indexAny s.data.toList chars.data.toList)) ∧ Below w.heap.size w w') := indexAny_any s chars w h2 hcz ha hs
  clear ha h2 hcz hs
  go_enter Tryd.func89, Tryd.ntmps89
  go_wp2_with (go_at_call 100; refine hC.out.mono ?_; rintro e w' ⟨rfl, hb⟩)
  go_ret
  exact ⟨rfl, hb⟩

theorem trim_any (s cut : ByteArray) (w : World) (hs : s.size ≤ 1000000) (hc : cut.size ≤ 1000000) (ha : Asc cut) :
    Calls Tryd.prog 90 #[.string s, .string cut] w fun e w' => e = .returned (.string ⟨(Lib.trimS s.data.toList cut.data.toList).toArray⟩) ∧ Below w.heap.size w w' :=
  Any.strings_Trim_laid Tryd.lays160 info78 s cut w (by omega) (by omega) (asc_get ha)

def barBytes : ByteArray := ⟨#[0, 10, 13]⟩
def blankBytes : ByteArray := ⟨#[32, 9]⟩
/-- what Value tells -/
def valB (s : ByteArray) : Bool := decide (s.size ≤ 4096) && (!decide (0 ≤ Lib.indexAny s.data.toList barBytes.data.toList)) && ((⟨(Lib.trimS s.data.toList blankBytes.data.toList).toArray⟩ : ByteArray).toList == s.toList)

set_option maxHeartbeats 4000000 in
theorem value_any (s : ByteArray) (w : World) : Calls Tryd.prog 72 #[.string s] w fun e w' => e = .returned (.bool (valB s)) ∧ Below w.heap.size w w' := by
  by_cases h : s.size ≤ 4096
  · have hC : Hid (∀ W, Calls Tryd.prog 89 #[.string s, .string barBytes] W fun e w' => e = .returned (.bool (decide (0 ≤ Lib.indexAny s.data.toList barBytes.data.toList))) ∧ Below W.heap.size W w') := fun W => containsAny_any s barBytes W (by decide) (by decide) (asc_list (by decide)) (by omega)
    have hT : Hid (∀ W, Calls Tryd.prog 90 #[.string s, .string blankBytes] W fun e w' => e = .returned (.string ⟨(Lib.trimS s.data.toList blankBytes.data.toList).toArray⟩) ∧ Below W.heap.size W w') := fun W => trim_any s blankBytes W (by omega) (by decide) (asc_list (by decide))
    have hv : valB s = ((!decide (0 ≤ Lib.indexAny s.data.toList barBytes.data.toList)) && ((⟨(Lib.trimS s.data.toList blankBytes.data.toList).toArray⟩ : ByteArray).toList == s.toList)) := by unfold valB; simp [h]
    rw [hv]
    clear hv
    obtain ⟨C, hCC⟩ : ∃ C, decide (0 ≤ Lib.indexAny s.data.toList barBytes.data.toList) = C := ⟨_, rfl⟩
    obtain ⟨T, hTT⟩ : ∃ T : ByteArray, (⟨(Lib.trimS s.data.toList blankBytes.data.toList).toArray⟩ : ByteArray) = T := ⟨_, rfl⟩
    rw [hCC] at hC ⊢
    rw [hTT] at hT ⊢
    unfold barBytes at hC
    unfold blankBytes at hT
    have h' : (s.size : Int) ≤ 4096 := by omega
    clear hCC hTT h
    cases C
    · go_enter Tryd.func72, Tryd.ntmps72
      go_wp2_with fail
      go_at_call 89
      refine (hC.out _).mono ?_
      rintro e w1 ⟨rfl, hb1⟩
      replace hb1 : Hid (Below w.heap.size w w1) := hb1
      go_wp2_with fail
      go_at_call 90
      refine (hT.out _).mono ?_
      rintro e w2 ⟨rfl, hb2⟩
      have hb3 : Hid (Below w.heap.size w w2) := hb1.out.trans (hb2.mono hb1.out.size)
      clear hb2 hb1
      go_wp2_with fail
      go_ret
      exact ⟨rfl, hb3.out⟩
    · go_enter Tryd.func72, Tryd.ntmps72
      go_wp2_with fail
      go_at_call 89
      refine (hC.out _).mono ?_
      rintro e w1 ⟨rfl, hb1⟩
      replace hb1 : Hid (Below w.heap.size w w1) := hb1
      go_wp2_with fail
      go_ret
      exact ⟨rfl, hb1.out⟩
  · have hv : valB s = false := by unfold valB; simp [h]
    rw [hv]
    have h' : ¬ (s.size : Int) ≤ 4096 := by omega
    clear hv h
    go_enter Tryd.func72, Tryd.ntmps72
    go_wp2_with fail
    go_ret
    exact ⟨rfl, Below.refl _ _⟩

/-- the words -/
def nmB (s : ByteArray) : Bool := consB nameB 64 s
set_option maxHeartbeats 1000000 in
theorem name_any (s : ByteArray) (w : World) : Calls Tryd.prog 71 #[.string s] w fun e w' => e = .returned (.bool (nmB s)) ∧ Below w.heap.size w w' := by
  have hC : Hid (Calls Tryd.prog 81 #[.string s, .int .i64 64, .func (.func 88) #[] #[]] w fun e w' => e = .returned (.bool (consB nameB 64 s)) ∧ Below w.heap.size w w') := consists_any 88 nameB kd_name s 64 w en39
  unfold nmB
  go_enter Tryd.func71, Tryd.ntmps71
  go_wp2_with (go_at_call 81; refine hC.out.mono ?_; rintro e w' ⟨rfl, hb⟩)
  go_ret
  exact ⟨rfl, hb⟩
theorem consB_size {B : Int → Bool} {m : Int} {s : ByteArray} (h : consB B m s = true) : 0 < s.size := by
  unfold consB at h
  simp only [Bool.and_eq_true, decide_eq_true_eq] at h
  omega
def first0 (s : ByteArray) : Int := ((s.get! 0).toNat : Int)
theorem first_eq {s : ByteArray} (h : 0 < s.size) : ((s[0]'h).toNat : Int) = first0 s := by
  unfold first0
  rw [show s.get! 0 = s[0]'h by simpa using get_at s 0 h]
def schemeB (s : ByteArray) : Bool := consB schB 64 s && lowB (first0 s)
def pathB (s m : ByteArray) : Bool := if (s.toList == [42]) = true then (m.toList == [79, 80, 84, 73, 79, 78, 83]) else consB visB 4096 s && (first0 s == 47)
end Go.Proofs.YtcadlpmopplkeaaDoor
