/- statusOf, ReadResponse. -/
import Derived.Test.YtcadlpmopplkeaaDoorAc
namespace Go.Proofs.YtcadlpmopplkeaaDoor
open Go.RowKit Go.Maps
set_option linter.unusedVariables false
set_option linter.unusedSimpArgs false

/-- the number that digits tell -/
def numL (l : List UInt8) : Int := l.foldl (fun n x => 10 * n + ((x.toNat : Int) - 48)) 0
theorem numL_succ (l : List UInt8) (i : Nat) (h : i < l.length) : numL (l.take (i + 1)) = 10 * numL (l.take i) + ((l[i].toNat : Int) - 48) := by
  unfold numL
  rw [List.take_succ_eq_append_getElem h, List.foldl_append]
  rfl
def stB (s : ByteArray) : Bool := consB digB 3 s && decide (100 ≤ numL s.data.toList) && decide (numL s.data.toList ≤ 599)
def stN (s : ByteArray) : Int := if stB s = true then numL s.data.toList else 0

theorem dig_at {s : ByteArray} (h : consB digB 3 s = true) : s.size ≤ 3 ∧ ∀ i (hi : i < s.size), 48 ≤ (s[i]'hi).toNat ∧ (s[i]'hi).toNat ≤ 57 := by
  unfold consB allB at h
  simp only [Bool.and_eq_true, decide_eq_true_eq, List.all_eq_true] at h
  refine ⟨by omega, fun i hi => ?_⟩
  have := (h.2 (s[i]'hi) (by simp [ByteArray.getElem_eq_getElem_data])).1
  unfold digB at this
  simp only [Bool.and_eq_true, decide_eq_true_eq] at this
  omega

set_option maxHeartbeats 4000000 in
set_option maxRecDepth 100000 in
theorem statusOf_any (s : ByteArray) (w : World) : Calls Tryd.prog 65 #[.string s] w fun e w' => e = .returned (.tuple #[.int .i64 (stN s), .bool (stB s)]) ∧ Below w.heap.size w w' := by
  have hC : Hid (Calls Tryd.prog 81 #[.string s, .int .i64 3, .func (.func 82) #[] #[]] w fun e w' => e = .returned (.bool (consB digB 3 s)) ∧ Below w.heap.size w w') := consists_any 82 digB kd_digit s 3 w en63
  cases hc : consB digB 3 s
  · have h1 : stB s = false := by unfold stB; rw [hc]; rfl
    have h2 : stN s = 0 := by unfold stN; rw [h1]; rfl
    rw [h1, h2]
    rw [hc] at hC
    clear hc h1 h2
    go_enter Tryd.func65, Tryd.ntmps65
    go_wp2_with fail
    go_at_call 81
    refine hC.out.mono ?_
    rintro e w1 ⟨rfl, hb⟩
    replace hb : Hid (Below w.heap.size w w1) := hb
    go_wp2_with fail
    go_ret2
    exact ⟨rfl, hb.out⟩
  · obtain ⟨hs3, hdg⟩ := dig_at hc
    have HD : Hid (∀ i (hi : i < s.size), 48 ≤ (s[i]'hi).toNat ∧ (s[i]'hi).toNat ≤ 57) := hdg
    have HS : Hid (stB s = (decide (100 ≤ numL s.data.toList) && decide (numL s.data.toList ≤ 599))) := by show _ = _; unfold stB; rw [hc, Bool.true_and]
    rw [hc] at hC
    clear hc hdg
    go_enter Tryd.func65, Tryd.ntmps65
    go_wp2_with fail
    go_at_call 81
    refine hC.out.mono ?_
    rintro e w1 ⟨rfl, hb⟩
    replace hb : Hid (Below w.heap.size w w1) := hb
    go_wp2_with fail
    go_loopg [4, 6] s.size (fun g nv _ wx => ∃ (i : Nat) (N : Int), i + g = s.size ∧ wx = w1.iter s i ∧ nv = .int .i64 N ∧ 0 ≤ N ∧ N < 1000 ∧ Hid (N = numL (s.data.toList.take i) ∧ (i = 0 → N = 0) ∧ (i = 1 → N ≤ 9) ∧ (i = 2 → N ≤ 99)))
    case atStart => exact ⟨0, 0, by omega, rfl, rfl, by omega, by omega, by simp [numL], fun _ => rfl, fun h => absurd h (by omega), fun h => absurd h (by omega)⟩
    case round =>
      obtain ⟨i, N, hig, rfl, rfl, hN0, hN1, hN⟩ := hrel
      cases gk with
      | zero =>
        obtain rfl : i = s.size := by omega
        have hnx := run_next_end (P := Tryd.prog) w1 s s.size
        have hNN : Hid (N = numL s.data.toList) := by
          have := hN.out.1
          rw [show s.data.toList.take s.size = s.data.toList from List.take_of_length_le (by simp)] at this
          exact this
        have hbb : Hid (Below w.heap.size w (w1.iter s s.size)) := hb.out.trans ((iter_bel w1 s s.size).mono hb.out.size)
        clear hN
        by_cases h1 : N < 100
        · have hst : Hid (stB s = false ∧ stN s = 0) := by
            have : stB s = false := by rw [HS.out, ← hNN.out]; simp; omega
            exact ⟨this, by unfold stN; rw [this]; rfl⟩
          go_wp2_with fail
          go_ret2
          exact ⟨by rw [hst.out.1, hst.out.2]; rfl, hbb.out⟩
        · by_cases h2 : 599 < N
          · have hst : Hid (stB s = false ∧ stN s = 0) := by
              have : stB s = false := by rw [HS.out, ← hNN.out]; simp; omega
              exact ⟨this, by unfold stN; rw [this]; rfl⟩
            go_wp2_with fail
            go_ret2
            exact ⟨by rw [hst.out.1, hst.out.2]; rfl, hbb.out⟩
          · have hst : Hid (stB s = true ∧ stN s = N) := by
              have : stB s = true := by rw [HS.out, ← hNN.out]; simp; omega
              exact ⟨this, by unfold stN; rw [this, if_pos rfl]; exact hNN.out.symm⟩
            go_wp2_with fail
            go_ret2
            exact ⟨by rw [hst.out.1, hst.out.2]; rfl, hbb.out⟩
      | succ g =>
        have hi : i < s.size := by omega
        obtain ⟨x, hx⟩ : ∃ x : UInt8, s[i]'hi = x := ⟨_, rfl⟩
        have hd := HD.out i hi
        rw [hx] at hd
        obtain ⟨hd1, hd2⟩ := hd
        have hnx := fun ty => run_next_ascii (P := Tryd.prog) w1 s i ty hi (by rw [hx]; omega)
        rw [hx] at hnx
        have hNx : Hid (10 * N + ((x.toNat : Int) - 48) = numL (s.data.toList.take (i + 1))) := by
          show _ = _
          rw [numL_succ _ _ (by simpa using hi), ← hN.out.1, show s.data.toList[i]'(by simpa using hi) = s[i]'hi from rfl, hx]
        have hNb : Hid ((i = 0 → N = 0) ∧ (i = 1 → N ≤ 9) ∧ (i = 2 → N ≤ 99) ∧ i ≤ 2) := ⟨hN.out.2.1, hN.out.2.2.1, hN.out.2.2.2, by omega⟩
        have hN2 : 10 * N + ((x.toNat : Int) - 48) < 1000 := by
          have := hNb.out
          have : i = 0 ∨ i = 1 ∨ i = 2 := by omega
          rcases this with h | h | h
          · have := hNb.out.1 h; omega
          · have := hNb.out.2.1 h; omega
          · have := hNb.out.2.2.1 h; omega
        have hx32 : wrap32 ((x.toNat : Int) - 48) = (x.toNat : Int) - 48 := by unfold wrap32; omega
        clear hx hN
        go_wp2_with fail
        go_roundg g
        case measure => omega
        case rel =>
          refine ⟨i + 1, 10 * N + ((x.toNat : Int) - 48), by omega, rfl, by first | rfl | simp, by omega, by omega, hNx.out, fun h => absurd h (by omega), fun h => ?_, fun h => ?_⟩
          · have := hNb.out.1 (by omega); omega
          · have := hNb.out.2.1 (by omega); omega
end Go.Proofs.YtcadlpmopplkeaaDoor
