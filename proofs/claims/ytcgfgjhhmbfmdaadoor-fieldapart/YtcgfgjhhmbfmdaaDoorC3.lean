/- looked. -/
import Derived.Test.YtcgfgjhhmbfmdaaDoorD0
namespace Go.Proofs.YtcgfgjhhmbfmdaaDoor
open Go.RowKit
set_option linter.unusedVariables false
set_option linter.unusedSimpArgs false

def SzOk (l : List Fd) : Prop := (∀ f ∈ l, f.n.size ≤ 140737488355328 ∧ f.v.size ≤ 140737488355328) ∧ l.length * 40 ≤ 140737488355328
set_option maxHeartbeats 20000000 in
set_option maxRecDepth 100000 in
theorem rlooked_any (s : SV) (l : List Fd) (n : Nat) (w : World) (hI : In EFd w (sv s) l) (hz : SzOk l) (hn : n ≤ 64) :
    Calls Tryd.prog 53 #[sv s, .int .i64 (n : Int)] w fun e w' => e = .returned (.int .i64 (lkE l n)) ∧ Below w.heap.size w w' := by
  have HI : Hid (In EFd w (sv s) l) := hI
  have HZ : Hid (SzOk l) := hz
  obtain ⟨sb, sl, sc⟩ := s
  have es : sl = l.length := by obtain ⟨_, _, e, _⟩ := hI.slice; simp only [sv] at e; injection e
  have hcap : l.length ≤ sc ∧ sc ≤ 9223372036854775807 := by obtain ⟨_, _, e, q1, q2⟩ := hI.slice; simp only [sv] at e; injection e with _ _ e; subst e; exact ⟨q1, q2⟩
  subst es
  simp only [sv] at HI ⊢
  obtain ⟨hcap1, hcap2⟩ := hcap
  clear hI hz
  by_cases h1 : 64 < l.length
  · have e1 : lkE l n = 3 := by unfold lkE; rw [if_pos h1]
    rw [e1]
    have h1' : (64 : Int) < (l.length : Int) := by omega
    clear h1 e1
    go_enter Tryd.func53, Tryd.ntmps53
    go_wp2_with fail
    go_ret
    exact ⟨rfl, Below.refl _ _⟩
  · have h1' : ¬ (64 : Int) < (l.length : Int) := by omega
    have HL : Hid (lkE l n = if l.any wrongB = true then 130 else if hbAny l n = true then 131 else if l.length < n then 131 else 0) := by show _ = _; unfold lkE; rw [if_neg h1]
    have HN : Hid (∀ (x : ByteArray), x.size ≤ 140737488355328 → ∀ W, Calls Tryd.prog 11 #[.string x] W fun e w' => e = .returned (.bool (nmB x)) ∧ w' = W) := fun x hx W => rname_any x W hx
    have HP : Hid (∀ (x : ByteArray), x.size ≤ 140737488355328 → ∀ W, Calls Tryd.prog 80 #[.string x] W fun e w' => e = .returned (.bool (pseudoB x)) ∧ w' = W) := fun x hx W => rpseudo_any x W hx
    have HV : Hid (∀ (x : ByteArray), x.size ≤ 140737488355328 → ∀ W, Calls Tryd.prog 13 #[.string x] W fun e w' => e = .returned (.bool (valB x)) ∧ w' = W) := fun x hx W => rvalue_any x W hx
    have HB : Hid (∀ (x : Fd) W, Calls Tryd.prog 81 #[.agg #[.string x.n, .string x.v, .bool x.nv]] W fun e w' => e = .returned (.bool (barredB x)) ∧ Below W.heap.size W w') := fun x W => rbarred_any x W
    go_enter Tryd.func53, Tryd.ntmps53
    go_wp2_with fail
    go_loopw [4, 5] (fun rv iv wr => ∃ k : Nat, rv = .int .i64 0 ∧ iv = .int .i64 (k : Int) ∧ k ≤ l.length ∧ Hid (∀ j (hj : j < l.length), j < k → wrongB l[j] = false) ∧ Hid (Below w.heap.size w wr)) (fun _ iv _ => l.length - (intOf iv).toNat)
    case atStart => exact ⟨0, rfl, rfl, by omega, fun j _ h => absurd h (by omega), Below.refl _ _⟩
    case round =>
      obtain ⟨k, rfl, rfl, hk, hno, hb⟩ := hrel
      by_cases hlt : k < l.length
      · obtain ⟨Bk, off, cap, e, hc⟩ := HI.out.fd k hlt
        injection e with e1 e2 e3
        subst e1
        clear e2 e3
        obtain ⟨c0, c1, c2⟩ := hc wr hb.out
        have hlt' : (k : Int) < (l.length : Int) := by omega
        have hzx := HZ.out.1 l[k] (List.getElem_mem hlt)
        have hwr : Hid (wrongB l[k] = true → lkE l n = 130) := fun h => by
          rw [HL.out, if_pos (List.any_eq_true.2 ⟨_, List.getElem_mem hlt, h⟩)]
        have hnx : Hid (wrongB l[k] = false → ∀ j (hj : j < l.length), j < k + 1 → wrongB l[j] = false) := fun h j hj hjk => by
          by_cases hjk' : j = k
          · subst hjk'; exact h
          · exact hno.out j hj (by omega)
        obtain ⟨x, hx⟩ : ∃ x, l[k] = x := ⟨_, rfl⟩
        rw [hx] at c0 c1 c2 hzx hwr hnx
        have n1 : Hid (∀ W, Calls Tryd.prog 11 #[.string x.n] W fun e w' => e = .returned (.bool (nmB x.n)) ∧ w' = W) := HN.out x.n hzx.1
        have p1 : Hid (∀ W, Calls Tryd.prog 80 #[.string x.n] W fun e w' => e = .returned (.bool (pseudoB x.n)) ∧ w' = W) := HP.out x.n hzx.1
        have v1 : Hid (∀ W, Calls Tryd.prog 13 #[.string x.v] W fun e w' => e = .returned (.bool (valB x.v)) ∧ w' = W) := HV.out x.v hzx.2
        unfold wrongB at hwr hnx
        obtain ⟨N, hN⟩ : ∃ N, nmB x.n = N := ⟨_, rfl⟩
        obtain ⟨Q, hQ⟩ : ∃ N, pseudoB x.n = N := ⟨_, rfl⟩
        obtain ⟨V, hV⟩ : ∃ N, valB x.v = N := ⟨_, rfl⟩
        rw [hN] at n1
        rw [hQ] at p1
        rw [hV] at v1
        rw [hN, hQ, hV] at hwr hnx
        clear hc hzx hx hN hQ hV hno
        cases N <;> cases V <;> cases Q
        all_goals
          go_wp2_with (first | (go_at_call 11; refine (n1.out _).mono ?_; rintro e w' ⟨rfl, hw⟩; rw [hw]; clear hw) | (go_at_call 80; refine (p1.out _).mono ?_; rintro e w' ⟨rfl, hw⟩; rw [hw]; clear hw) | (go_at_call 13; refine (v1.out _).mono ?_; rintro e w' ⟨rfl, hw⟩; rw [hw]; clear hw))
          first
          | (go_ret; exact ⟨by rw [hwr.out rfl]; rfl, hb.out⟩)
          | (go_roundw
             case rel => exact ⟨k + 1, rfl, by simp, by omega, hnx.out rfl, hb.out⟩
             case measure => simp [intOf]; omega)
      · obtain rfl : k = l.length := by omega
        have hlt' : ¬ (l.length : Int) < (l.length : Int) := by omega
        have HL2 : Hid (lkE l n = if hbAny l n = true then 131 else if l.length < n then 131 else 0) := by
          show _ = _
          rw [HL.out, if_neg]
          rw [List.any_eq_true]
          rintro ⟨f, hf, hw⟩
          obtain ⟨j, hj, e⟩ := List.getElem_of_mem hf
          rw [← e, hno.out j hj hj] at hw
          cases hw
        clear hno HL
        go_wp2_with fail
        go_loopw [4, 6] (fun rv iv wr' => ∃ k : Nat, rv = .int .i64 0 ∧ iv = .int .i64 (k : Int) ∧ k ≤ l.length ∧ Hid (∀ j (hj : j < l.length), j < k → hbB n j l[j] = false) ∧ Hid (Below w.heap.size w wr')) (fun _ iv _ => l.length - (intOf iv).toNat)
        case atStart => exact ⟨0, rfl, rfl, by omega, fun j _ h => absurd h (by omega), hb.out⟩
        case round =>
          rename_i wx
          clear hb hk hlt
          obtain ⟨k, rfl, rfl, hk, hno, hb⟩ := hrel
          by_cases hlt : k < l.length
          · obtain ⟨Bk, off, cap, e, hc⟩ := HI.out.fd k hlt
            injection e with e1 e2 e3
            subst e1
            clear e2 e3
            obtain ⟨c0, c1, c2⟩ := hc _ hb.out
            have hlt' : (k : Int) < (l.length : Int) := by omega
            have hzx := HZ.out.1 l[k] (List.getElem_mem hlt)
            have hwr : Hid (hbB n k l[k] = true → lkE l n = 131) := fun h => by
              rw [HL2.out, if_pos (hbAny_true hlt h)]
            have hnx : Hid (hbB n k l[k] = false → ∀ j (hj : j < l.length), j < k + 1 → hbB n j l[j] = false) := fun h j hj hjk => by
              by_cases hjk' : j = k
              · subst hjk'; exact h
              · exact hno.out j hj (by omega)
            obtain ⟨x, hx⟩ : ∃ x, l[k] = x := ⟨_, rfl⟩
            rw [hx] at c0 c1 c2 hzx hwr hnx
            have p1 : Hid (∀ W, Calls Tryd.prog 80 #[.string x.n] W fun e w' => e = .returned (.bool (pseudoB x.n)) ∧ w' = W) := HP.out x.n hzx.1
            have b1 : Hid (∀ W, Below w.heap.size w W → Calls Tryd.prog 81 #[.agg #[.string x.n, .string x.v, .bool x.nv]] W fun e w' => e = .returned (.bool (barredB x)) ∧ Hid (Below w.heap.size w w')) := fun W hW => by
              refine (HB.out x W).mono ?_
              rintro e w' ⟨rfl, h⟩
              exact ⟨rfl, hW.trans (h.mono hW.size)⟩
            unfold hbB at hwr hnx
            obtain ⟨Q, hQ⟩ : ∃ N, pseudoB x.n = N := ⟨_, rfl⟩
            obtain ⟨V, hV⟩ : ∃ N, barredB x = N := ⟨_, rfl⟩
            rw [hQ] at p1
            rw [hV] at b1
            rw [hQ, hV] at hwr hnx
            clear hc hzx hx hQ hV hno
            by_cases hkn : k < n
            · have hkn' : (k : Int) < (n : Int) := by omega
              rw [show decide (k < n) = true by simpa using hkn] at hwr hnx
              clear hkn
              cases Q <;> cases V
              all_goals
                go_wp2_with fail
                go_at_call 80
                refine (p1.out _).mono ?_
                rintro e w' ⟨rfl, hw⟩
                rw [hw]
                clear hw
                go_wp2_with (go_at_call 81; refine (b1.out _ hb.out).mono ?_; rintro e w2 ⟨rfl, hb2⟩)
                first
                | (go_ret; exact ⟨by rw [hwr.out rfl]; rfl, by first | exact hb2.out | exact hb.out⟩)
                | (go_roundw
                   case rel => exact ⟨k + 1, rfl, by simp, by omega, hnx.out rfl, hb2.out⟩
                   case measure => simp [intOf]; omega)
            · have hkn' : ¬ (k : Int) < (n : Int) := by omega
              rw [show decide (k < n) = false by simpa using hkn] at hwr hnx
              clear hkn
              cases Q <;> cases V
              all_goals
                go_wp2_with fail
                go_at_call 80
                refine (p1.out _).mono ?_
                rintro e w' ⟨rfl, hw⟩
                rw [hw]
                clear hw
                go_wp2_with (go_at_call 81; refine (b1.out _ hb.out).mono ?_; rintro e w2 ⟨rfl, hb2⟩)
                first
                | (go_ret; exact ⟨by rw [hwr.out rfl]; rfl, by first | exact hb2.out | exact hb.out⟩)
                | (go_roundw
                   case rel => exact ⟨k + 1, rfl, by simp, by omega, hnx.out rfl, hb2.out⟩
                   case measure => simp [intOf]; omega)
          · obtain rfl : k = l.length := by omega
            have hlt' : ¬ (l.length : Int) < (l.length : Int) := by omega
            have HL3 : Hid (lkE l n = if l.length < n then 131 else 0) := by
              show _ = _
              rw [HL2.out, if_neg]
              rw [hbAny_false fun j hj => hno.out j hj hj]
              decide
            clear hno HL2
            by_cases hln : l.length < n
            · have hln' : (l.length : Int) < (n : Int) := by omega
              rw [if_pos hln] at HL3
              clear hln
              go_wp2_with fail
              go_ret
              exact ⟨by rw [HL3.out]; rfl, hb.out⟩
            · have hln' : ¬ (l.length : Int) < (n : Int) := by omega
              rw [if_neg hln] at HL3
              clear hln
              go_wp2_with fail
              go_ret
              exact ⟨by rw [HL3.out]; rfl, hb.out⟩
end Go.Proofs.YtcgfgjhhmbfmdaaDoor
