/- The document's pseudo, barred; the kinds of the document's words. -/
import Derived.Test.YtcgfgjhhmbfmdaaDoorB2
import Derived.Test.YtcgfgjhhmbfmdaaDoorB3
import Derived.Test.YtcgfgjhhmbfmdaaDoorAe
namespace Go.Proofs.YtcgfgjhhmbfmdaaDoor
open Go.RowKit
set_option linter.unusedVariables false
set_option linter.unusedSimpArgs false

theorem extract_list (s : ByteArray) (i : Nat) : (s.extract i s.size).data.toList = s.data.toList.drop i := by
  have : s.data.toList.length = s.size := by simp
  simp only [ByteArray.data_extract, Array.toList_extract, List.extract_eq_take_drop]
  rw [List.take_of_length_le (by rw [List.length_drop]; omega)]
theorem pre_colon (l : List UInt8) : Lib.hasPrefix l [58] = true ↔ ∃ r, l = 58 :: r := by
  unfold Lib.hasPrefix
  cases l with
  | nil => simp
  | cons a r =>
    constructor
    · intro h
      simp only [List.isPrefixOf, Bool.and_true, beq_iff_eq] at h
      exact ⟨r, by rw [h]⟩
    · rintro ⟨r', h⟩
      injection h with h1 h2
      subst h1
      rfl
theorem pseudo_no {s : ByteArray} (h : ∀ hs : 0 < s.size, s[0]'hs ≠ 58) : pseudoB s = false := by
  unfold pseudoB
  cases e : Lib.hasPrefix s.data.toList colonS.data.toList
  · rfl
  · obtain ⟨r, hr⟩ := (pre_colon _).1 e
    have hs : 0 < s.size := by rw [Lib.size_eq, hr]; simp
    have h0 := Lib.data_getElem? s 0 hs
    rw [hr] at h0
    exact absurd (by simpa using h0.symm) (h hs)
theorem pseudo_yes {s : ByteArray} (hs : 0 < s.size) (h : s[0]'hs = 58) : pseudoB s = nmB (s.extract 1 s.size) := by
  have h0 := Lib.data_getElem? s 0 hs
  rw [h] at h0
  obtain ⟨r, hr⟩ : ∃ r, s.data.toList = 58 :: r := by
    cases hl : s.data.toList with
    | nil => rw [hl] at h0; simp at h0
    | cons a r => rw [hl] at h0; simp at h0; exact ⟨r, by rw [h0]⟩
  unfold pseudoB Lib.trimPrefix
  have hp : Lib.hasPrefix s.data.toList colonS.data.toList = true := (pre_colon _).2 ⟨r, hr⟩
  rw [hp, if_pos rfl, Bool.true_and]
  congr 1
  have := extract_list s 1
  cases hx : s.extract 1 s.size with
  | mk d =>
    rw [hx] at this
    simp only at this
    rw [show colonS.data.toList.length = 1 by rfl, ← this]

set_option maxHeartbeats 4000000 in
set_option maxRecDepth 100000 in
theorem rpseudo_any (s : ByteArray) (w : World) (hs : s.size ≤ 140737488355328) : Calls Tryd.prog 80 #[.string s] w fun e w' => e = .returned (.bool (pseudoB s)) ∧ w' = w := by
  have hN : Hid (∀ W, Calls Tryd.prog 11 #[.string (s.extract 1 s.size)] W fun e w' => e = .returned (.bool (nmB (s.extract 1 s.size))) ∧ w' = W) := fun W => rname_any _ W (by rw [show (s.extract 1 s.size).size = s.size - 1 by simp]; omega)
  by_cases h0 : 0 < s.size
  · have h0' : (0 : Int) < (s.size : Int) := by omega
    have h1' : (1 : Int) ≤ (s.size : Int) := by omega
    obtain ⟨y, hy⟩ : ∃ y : UInt8, s[0]'h0 = y := ⟨_, rfl⟩
    by_cases h58 : y = 58
    · have hp : Hid (pseudoB s = nmB (s.extract 1 s.size)) := pseudo_yes h0 (hy.trans h58)
      have he : ((y.toNat : Int) == 58) = true := by rw [h58]; rfl
      obtain ⟨N, hNN⟩ : ∃ N, nmB (s.extract 1 s.size) = N := ⟨_, rfl⟩
      rw [hNN] at hN hp
      clear h58 hNN
      go_enter Tryd.func80, Tryd.ntmps80
      go_wp2_with (go_at_call 11; refine (hN.out _).mono ?_; rintro e w' ⟨rfl, hw⟩; rw [hw]; clear hw)
      go_ret
      exact ⟨by rw [hp.out]; rfl, rfl⟩
    · have hp : Hid (pseudoB s = false) := pseudo_no fun _ e => h58 (hy.symm.trans e)
      have he : ((y.toNat : Int) == 58) = false := beq_eq_false_iff_ne.2 fun e => h58 (UInt8.toNat_inj.1 (by show y.toNat = 58; omega))
      clear h58
      go_enter Tryd.func80, Tryd.ntmps80
      go_wp2_with fail
      go_ret
      exact ⟨by rw [hp.out]; rfl, rfl⟩
  · have h0' : ¬ (0 : Int) < (s.size : Int) := by omega
    have hp : Hid (pseudoB s = false) := pseudo_no fun h => absurd h h0
    go_enter Tryd.func80, Tryd.ntmps80
    go_wp2_with fail
    go_ret
    exact ⟨by rw [hp.out]; rfl, rfl⟩

set_option maxHeartbeats 2000000 in
set_option maxRecDepth 100000 in
theorem rbarred_any (f : Fd) (w : World) : Calls Tryd.prog 81 #[.agg (fdv f)] w fun e w' => e = .returned (.bool (barredB f)) ∧ Below w.heap.size w w' := by
  have hb : Hid (Below w.heap.size w (w.alloc (.cells (fdv f) 34))) := bel1 w _
  unfold barredB
  unfold fdv at hb ⊢
  cases h1 : f.n.toList == [99, 111, 110, 110, 101, 99, 116, 105, 111, 110]
  · cases h2 : f.n.toList == [107, 101, 101, 112, 45, 97, 108, 105, 118, 101]
    · cases h3 : f.n.toList == [112, 114, 111, 120, 121, 45, 99, 111, 110, 110, 101, 99, 116, 105, 111, 110]
      · cases h4 : f.n.toList == [116, 114, 97, 110, 115, 102, 101, 114, 45, 101, 110, 99, 111, 100, 105, 110, 103]
        · cases h5 : f.n.toList == [117, 112, 103, 114, 97, 100, 101]
          · cases h6 : f.n.toList == [116, 101]
            all_goals
              simp only [if_true, if_false, Bool.false_eq_true]
              go_enter Tryd.func81, Tryd.ntmps81
              go_wp2_with fail
              go_ret
              exact ⟨rfl, hb.out⟩
          · simp only [if_true, if_false, Bool.false_eq_true]
            go_enter Tryd.func81, Tryd.ntmps81
            go_wp2_with fail
            go_ret
            exact ⟨rfl, hb.out⟩
        · simp only [if_true, if_false, Bool.false_eq_true]
          go_enter Tryd.func81, Tryd.ntmps81
          go_wp2_with fail
          go_ret
          exact ⟨rfl, hb.out⟩
      · simp only [if_true, if_false, Bool.false_eq_true]
        go_enter Tryd.func81, Tryd.ntmps81
        go_wp2_with fail
        go_ret
        exact ⟨rfl, hb.out⟩
    · simp only [if_true, if_false, Bool.false_eq_true]
      go_enter Tryd.func81, Tryd.ntmps81
      go_wp2_with fail
      go_ret
      exact ⟨rfl, hb.out⟩
  · simp only [if_true]
    go_enter Tryd.func81, Tryd.ntmps81
    go_wp2_with fail
    go_ret
    exact ⟨rfl, hb.out⟩

def methC : ByteArray := ⟨nameC.data ++ #[65, 66, 67, 68, 69, 70, 71, 72, 73, 74, 75, 76, 77, 78, 79, 80, 81, 82, 83, 84, 85, 86, 87, 88, 89, 90]⟩
def lowC : ByteArray := ⟨#[97, 98, 99, 100, 101, 102, 103, 104, 105, 106, 107, 108, 109, 110, 111, 112, 113, 114, 115, 116, 117, 118, 119, 120, 121, 122]⟩
def digC : ByteArray := ⟨#[48, 49, 50, 51, 52, 53, 54, 55, 56, 57]⟩
def schC : ByteArray := ⟨lowC.data ++ digC.data ++ #[43, 45, 46]⟩
theorem meth_bytes : ((List.range 256).all fun n => inB methC (UInt8.ofNat n) == (methB (n : Int) && decide (n < 128))) = true := by decide +kernel
theorem sch_bytes : ((List.range 256).all fun n => inB schC (UInt8.ofNat n) == (schB (n : Int) && decide (n < 128))) = true := by decide +kernel
theorem dig_bytes : ((List.range 256).all fun n => inB digC (UInt8.ofNat n) == (digB (n : Int) && decide (n < 128))) = true := by decide +kernel
theorem low_bytes : ((List.range 256).all fun n => inB lowC (UInt8.ofNat n) == lowB (n : Int)) = true := by decide +kernel
theorem kind_byte {C : ByteArray} {B : Int → Bool} (hk : ((List.range 256).all fun n => inB C (UInt8.ofNat n) == (B (n : Int) && decide (n < 128))) = true) (x : UInt8) : inB C x = (B (x.toNat : Int) && decide (x.toNat < 128)) := by
  have h := List.all_eq_true.1 hk x.toNat (List.mem_range.2 x.toNat_lt)
  simpa using h
theorem made_kind {C : ByteArray} {B : Int → Bool} (hk : ((List.range 256).all fun n => inB C (UInt8.ofNat n) == (B (n : Int) && decide (n < 128))) = true) (m : Int) (s : ByteArray) : madeB m C s = consB B m s := by
  unfold madeB consB allB
  have : s.data.toList.all (fun x => inB C x) = s.data.toList.all (fun x => B (x.toNat : Int) && decide (x.toNat < 128)) := by
    congr 1
    funext x
    exact kind_byte hk x
  rw [this, Bool.and_assoc, Bool.and_comm]

set_option maxHeartbeats 1000000 in
set_option maxRecDepth 100000 in
theorem rmethod_any (s : ByteArray) (w : World) (hs : s.size ≤ 140737488355328) : Calls Tryd.prog 55 #[.string s] w fun e w' => e = .returned (.bool (consB methB 64 s)) ∧ w' = w := by
  have hC : Hid (Calls Tryd.prog 40 #[.string s, .int .i64 64, .string methC] w fun e w' => e = .returned (.bool (consB methB 64 s)) ∧ w' = w) := by
    have := made_any s methC 64 w hs (by decide)
    rw [made_kind meth_bytes] at this
    exact this
  rw [show methC = ⟨#[97, 98, 99, 100, 101, 102, 103, 104, 105, 106, 107, 108, 109, 110, 111, 112, 113, 114, 115, 116, 117, 118, 119, 120, 121, 122, 48, 49, 50, 51, 52, 53, 54, 55, 56, 57, 33, 35, 36, 37, 38, 39, 42, 43, 45, 46, 94, 95, 126, 124, 96, 65, 66, 67, 68, 69, 70, 71, 72, 73, 74, 75, 76, 77, 78, 79, 80, 81, 82, 83, 84, 85, 86, 87, 88, 89, 90]⟩ by rfl] at hC
  go_enter Tryd.func55, Tryd.ntmps55
  go_wp2_with (go_at_call 40; refine hC.out.mono ?_; rintro e w' ⟨rfl, hw⟩; rw [hw]; clear hw)
  go_ret
  exact ⟨rfl, rfl⟩
set_option maxHeartbeats 1000000 in
set_option maxRecDepth 100000 in
theorem rscheme_any (s : ByteArray) (w : World) (hs : s.size ≤ 140737488355328) : Calls Tryd.prog 56 #[.string s] w fun e w' => e = .returned (.bool (schemeB s)) ∧ w' = w := by
  have hC : Hid (∀ W, Calls Tryd.prog 40 #[.string s, .int .i64 64, .string schC] W fun e w' => e = .returned (.bool (consB schB 64 s)) ∧ w' = W) := fun W => by
    have := made_any s schC 64 W hs (by decide)
    rw [made_kind sch_bytes] at this
    exact this
  rw [show schC = ⟨#[97, 98, 99, 100, 101, 102, 103, 104, 105, 106, 107, 108, 109, 110, 111, 112, 113, 114, 115, 116, 117, 118, 119, 120, 121, 122, 48, 49, 50, 51, 52, 53, 54, 55, 56, 57, 43, 45, 46]⟩ by rfl] at hC
  have hA : Hid (∀ (x : UInt8) W, Calls Tryd.prog 43 #[.int .u8 (x.toNat : Int), .string lowC] W fun e w' => e = .returned (.bool (inB lowC x)) ∧ w' = W) := fun x W => among_any x lowC W (by decide)
  unfold schemeB
  cases hc : consB schB 64 s
  · rw [hc] at hC
    clear hc hA
    go_enter Tryd.func56, Tryd.ntmps56
    go_wp2_with (go_at_call 40; refine (hC.out _).mono ?_; rintro e w' ⟨rfl, hw⟩; rw [hw]; clear hw)
    go_ret
    exact ⟨rfl, rfl⟩
  · have h0 := consB_size hc
    have h0' : (0 : Int) < (s.size : Int) := by omega
    obtain ⟨y, hy⟩ : ∃ y : UInt8, s[0]'h0 = y := ⟨_, rfl⟩
    have hl : Hid (lowB (first0 s) = inB lowC y) := by
      show _ = _
      rw [← first_eq h0, hy]
      have h := List.all_eq_true.1 low_bytes y.toNat (List.mem_range.2 y.toNat_lt)
      exact (beq_iff_eq.1 (by simpa using h)).symm
    have hA' : Hid (∀ W, Calls Tryd.prog 43 #[.int .u8 (y.toNat : Int), .string lowC] W fun e w' => e = .returned (.bool (inB lowC y)) ∧ w' = W) := fun W => hA.out y W
    obtain ⟨L, hL⟩ : ∃ L, inB lowC y = L := ⟨_, rfl⟩
    rw [hL] at hA' hl
    rw [hc] at hC
    unfold lowC at hA'
    rw [hl.out]
    clear hc hA hL hl
    go_enter Tryd.func56, Tryd.ntmps56
    go_wp2_with (first | (go_at_call 40; refine (hC.out _).mono ?_; rintro e w' ⟨rfl, hw⟩; rw [hw]; clear hw) | (go_at_call 43; refine (hA'.out _).mono ?_; rintro e w' ⟨rfl, hw⟩; rw [hw]; clear hw))
    go_ret
    exact ⟨rfl, rfl⟩

set_option maxHeartbeats 4000000 in
set_option maxRecDepth 100000 in
theorem rshown_any (s : ByteArray) (w : World) (hs : s.size ≤ 140737488355328) : Calls Tryd.prog 57 #[.string s] w fun e w' => e = .returned (.bool (consB visB 4096 s)) ∧ w' = w := by
  go_enter Tryd.func57, Tryd.ntmps57
  go_wp2_with fail
  go_loopw [3] (fun iv wr => ∃ i : Nat, iv = .int .i64 (i : Int) ∧ i ≤ s.size ∧ Hid (frontB visB s i) ∧ wr = w) (fun iv _ => s.size - (intOf iv).toNat)
  case atStart => exact ⟨0, rfl, by omega, fun j _ h => absurd h (by omega), rfl⟩
  case round =>
    obtain ⟨i, rfl, hi, hno, hw⟩ := hrel
    rw [hw]
    clear hw
    by_cases hlt : i < s.size
    · have hlt' : (i : Int) < (s.size : Int) := by omega
      obtain ⟨y, hy⟩ : ∃ y : UInt8, s[i]'hlt = y := ⟨_, rfl⟩
      have Hy : Hid (s[i]'hlt = y) := hy
      by_cases h33 : y.toNat < 33
      · have a1 : (y.toNat : Int) < 33 := by omega
        have hf : Hid (consB visB 4096 s = false) := by
          show _ = _
          unfold consB
          rw [all_false hlt (by rw [Hy.out]; unfold visB; simp; intros; omega)]
          simp
        clear h33
        go_wp2_with fail
        go_ret
        exact ⟨by rw [hf.out]; rfl, rfl⟩
      · have a1 : ¬ (y.toNat : Int) < 33 := by omega
        by_cases h126 : 126 < y.toNat
        · have a2 : (126 : Int) < (y.toNat : Int) := by omega
          have hf : Hid (consB visB 4096 s = false) := by
            show _ = _
            unfold consB
            rw [all_false hlt (by rw [Hy.out]; unfold visB; simp; intros; omega)]
            simp
          clear h33 h126
          go_wp2_with fail
          go_ret
          exact ⟨by rw [hf.out]; rfl, rfl⟩
        · have a2 : ¬ (126 : Int) < (y.toNat : Int) := by omega
          have HV : Hid ((visB (y.toNat : Int) && decide (y.toNat < 128)) = true) := by show _ = _; unfold visB; simp; omega
          clear h33 h126
          go_wp2_with fail
          go_roundw
          case rel =>
            refine ⟨i + 1, by simp, by omega, fun j hj h => ?_, by first | rfl | trivial⟩
            by_cases hji : j = i
            · subst hji
              rw [Hy.out]
              exact HV.out
            · exact hno.out j hj (by omega)
          case measure => simp [intOf]; omega
    · obtain rfl : i = s.size := by omega
      have hlt' : ¬ (s.size : Int) < (s.size : Int) := by omega
      have hf : Hid (consB visB 4096 s = (decide (1 ≤ s.size) && decide ((s.size : Int) ≤ 4096))) := by show _ = _; unfold consB; rw [hno.out.all, Bool.and_true]
      by_cases h1 : 1 ≤ s.size
      · have h1' : (1 : Int) ≤ (s.size : Int) := by omega
        go_wp2_with fail
        go_ret
        exact ⟨by rw [hf.out]; simp [h1], rfl⟩
      · have h1' : ¬ (1 : Int) ≤ (s.size : Int) := by omega
        go_wp2_with fail
        go_ret
        exact ⟨by rw [hf.out]; simp [h1], rfl⟩
set_option maxHeartbeats 4000000 in
set_option maxRecDepth 100000 in
theorem rpath_any (s m : ByteArray) (w : World) (hs : s.size ≤ 140737488355328) : Calls Tryd.prog 58 #[.string s, .string m] w fun e w' => e = .returned (.bool (pathB s m)) ∧ w' = w := by
  have hC : Hid (∀ W, Calls Tryd.prog 57 #[.string s] W fun e w' => e = .returned (.bool (consB visB 4096 s)) ∧ w' = W) := fun W => rshown_any s W hs
  unfold pathB
  cases hst : s.toList == [42]
  · rw [if_neg (by simp)]
    cases hc : consB visB 4096 s
    · rw [hc] at hC
      clear hc
      go_enter Tryd.func58, Tryd.ntmps58
      go_wp2_with (go_at_call 57; refine (hC.out _).mono ?_; rintro e w' ⟨rfl, hw⟩; rw [hw]; clear hw)
      go_ret
      exact ⟨rfl, rfl⟩
    · have h0 := consB_size hc
      have h0' : (0 : Int) < (s.size : Int) := by omega
      have hf := first_eq h0
      rw [hc] at hC
      obtain ⟨F, hF⟩ : ∃ F, (first0 s == 47) = F := ⟨_, rfl⟩
      rw [hF]
      clear hc
      cases F
      all_goals
        go_enter Tryd.func58, Tryd.ntmps58
        go_wp2_with (go_at_call 57; refine (hC.out _).mono ?_; rintro e w' ⟨rfl, hw⟩; rw [hw]; clear hw)
        go_ret
        exact ⟨rfl, rfl⟩
  · rw [if_pos rfl]
    have hl : s.toList = [42] := by simpa using hst
    have hd : s.data.toList = [42] := by rw [← ByteArray.toList_eq]; exact hl
    have hsz : s.size = 1 := by rw [Lib.size_eq, hd]; rfl
    have hc : consB visB 4096 s = true := by
      unfold consB allB
      rw [hd, hsz]
      decide
    have h0 : 0 < s.size := by omega
    have h0' : (0 : Int) < (s.size : Int) := by omega
    have hf : ((s[0]'h0).toNat : Int) = 42 := by
      have := Lib.data_getElem? s 0 h0
      rw [hd] at this
      simp at this
      rw [← this]
      rfl
    rw [hc] at hC
    clear hc hl hd hsz
    go_enter Tryd.func58, Tryd.ntmps58
    go_wp2_with (go_at_call 57; refine (hC.out _).mono ?_; rintro e w' ⟨rfl, hw⟩; rw [hw]; clear hw)
    go_ret
    exact ⟨rfl, rfl⟩
end Go.Proofs.YtcgfgjhhmbfmdaaDoor
