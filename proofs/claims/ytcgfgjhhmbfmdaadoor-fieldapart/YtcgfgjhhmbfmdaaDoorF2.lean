/- The document's decimal, WriteResponse. -/
import Derived.Test.YtcgfgjhhmbfmdaaDoorC5
import Derived.Test.YtcgfgjhhmbfmdaaDoorC6
namespace Go.Proofs.YtcgfgjhhmbfmdaaDoor
open Go.RowKit Go.Maps
set_option linter.unusedVariables false
set_option linter.unusedSimpArgs false

theorem nDigits_le : ∀ (k u : Nat), u < 10 ^ (k + 1) → Lib.nDigits u ≤ k + 1
  | 0, u, h => by rw [Lib.nDigits_small (by simpa using h)]; omega
  | k + 1, u, h => by
    by_cases h10 : u < 10
    · rw [Lib.nDigits_small h10]; omega
    · rw [Lib.nDigits_big h10]
      have := nDigits_le k (u / 10) (by rw [Nat.pow_succ] at h; omega)
      omega
theorem dec_small {u : Nat} (h : u < 10) : Lib.decDigits u = [UInt8.ofNat (48 + u)] := by rw [Lib.decDigits, dif_pos h]
theorem dec_big {u : Nat} (h : ¬ u < 10) : Lib.decDigits u = Lib.decDigits (u / 10) ++ [UInt8.ofNat (48 + u % 10)] := by rw [Lib.decDigits, dif_neg h]
def dgB (r : Nat) : UInt8 := UInt8.ofNat (48 + r)
def dgS (r : Nat) (S : ByteArray) : ByteArray := ⟨#[dgB r]⟩ ++ S
theorem dgS_list (r : Nat) (S : ByteArray) : (dgS r S).data.toList = dgB r :: S.data.toList := by
  unfold dgS
  simp [ByteArray.data_append]
theorem dgS_size (r : Nat) (S : ByteArray) : (dgS r S).size = S.size + 1 := by
  rw [Lib.size_eq, dgS_list, Lib.size_eq]; simp

set_option maxHeartbeats 8000000 in
set_option maxRecDepth 100000 in
theorem decimal_any (n : Int) (h0 : -9223372036854775808 ≤ n) (h1 : n ≤ 9223372036854775807) (w : World) : Calls Tryd.prog 61 #[.int .i64 n] w fun e w' => e = .returned (.string (itoaS n)) ∧ Below w.heap.size w w' := by
  have hdig : ∀ S : ByteArray, ∀ m : Nat, Lib.decDigits m ++ S.data.toList = Lib.decDigits n.natAbs → S.size ≤ 40 := fun S m h => by
    have h2 := congrArg List.length h
    rw [List.length_append, Lib.decDigits_length, Lib.decDigits_length] at h2
    have h3 : Lib.nDigits n.natAbs ≤ 19 + 1 := nDigits_le 19 n.natAbs (by
      have : n.natAbs ≤ 9223372036854775808 := by omega
      omega)
    rw [Lib.size_eq]
    omega
  replace hdig : Hid _ := hdig
  go_enter Tryd.func61, Tryd.ntmps61
  go_wp2_with fail
  go_loopw [3, 4, 5] (fun sv' mv _ wr => ∃ (S : ByteArray) (M : Int), sv' = .string S ∧ mv = .int .i64 M ∧ -9223372036854775808 ≤ M ∧ M ≤ 9223372036854775807 ∧ Hid (Lib.decDigits M.natAbs ++ S.data.toList = Lib.decDigits n.natAbs ∧ Below w.heap.size w wr)) (fun _ mv _ _ => (intOf mv).natAbs)
  case atStart => exact ⟨⟨#[]⟩, n, rfl, rfl, h0, h1, by simp, Below.refl _ _⟩
  case round =>
    obtain ⟨S, M, rfl, rfl, hM0, hM1, hinv⟩ := hrel
    have hS : S.size ≤ 40 := hdig.out S _ hinv.out.1
    obtain ⟨r, hr⟩ : ∃ r, M.natAbs % 10 = r := ⟨_, rfl⟩
    obtain ⟨T, hT⟩ : ∃ T, M.tmod 10 = T := ⟨_, rfl⟩
    obtain ⟨Q, hQ⟩ : ∃ Q, M.tdiv 10 = Q := ⟨_, rfl⟩
    have hr9 : r ≤ 9 := by omega
    have hQa : Q.natAbs = M.natAbs / 10 := by rw [← hQ, Int.natAbs_tdiv]; rfl
    have hTa : T.natAbs = r := by rw [← hT, Int.natAbs_tmod, ← hr]; rfl
    have hQ0 : -9223372036854775808 ≤ Q ∧ Q ≤ 9223372036854775807 := by omega
    have hconv : ∀ W : World, Sem.run Tryd.prog (convert 51 9 (.slice (some ⟨W.heap.size, 0, none⟩) 1 1)) (W.alloc (.cells #[.int .u8 (48 + (r : Int))] 5)) = .ok (.string ⟨#[dgB r]⟩) (W.alloc (.cells #[.int .u8 (48 + (r : Int))] 5)) := fun W =>
      run_convert_bytes_back (P := Tryd.prog) _ 51 9 5 ⟨W.heap.size, 0, none⟩ 1 [dgB r] Tryd.underlying51 Tryd.underlying5 Tryd.underlying9 (fun j hj => by
        have hj0 : j = 0 := by simpa using hj
        subst hj0
        rw [Addr.add_lit, cell_blk (by rw [heap_al, if_pos rfl])]
        simp [dgB]
        omega)
    have hnx : Hid (Q ≠ 0 → Lib.decDigits Q.natAbs ++ (dgS r S).data.toList = Lib.decDigits n.natAbs) := fun hq => by
      have h10 : ¬ M.natAbs < 10 := by omega
      rw [← hinv.out.1, dec_big h10, dgS_list, hQa, hr, List.append_assoc]
      rfl
    have hend : Hid (Q = 0 → (dgS r S).data.toList = Lib.decDigits n.natAbs) := fun hq => by
      have h10 : M.natAbs < 10 := by omega
      rw [← hinv.out.1, dec_small h10, dgS_list, ← hr, Nat.mod_eq_of_lt h10]
      rfl
    have hb2 : Hid (Below w.heap.size w (wr.alloc (.cells #[.int .u8 (48 + (r : Int))] 5))) := hinv.out.2.trans ((bel1 wr _).mono hinv.out.2.size)
    have hms : Hid (Q ≠ 0 → Q.natAbs < M.natAbs) := fun hq => by omega
    have hsz : ¬ (1 + S.size > 9223372036854775807) := by omega
    have hdg : (⟨#[dgB r]⟩ : ByteArray) ++ S = dgS r S := rfl
    obtain ⟨hQ1, hQ2⟩ := hQ0
    clear hinv hr hQa
    by_cases hTn : T < 0
    · have hneg : -T = (r : Int) := by omega
      have hw1 : wrap64 (-T) = (r : Int) := by unfold wrap64; omega
      clear hTa
      by_cases hq : Q = 0
      · have hfin : Hid ((dgS r S).data.toList = Lib.decDigits n.natAbs) := hend.out hq
        have hsz2 : Hid ((dgS r S).size ≤ 41) := by show _ ≤ _; rw [dgS_size]; omega
        subst hq
        clear hnx hend hms
        by_cases hn : n < 0
        · have hA : Hid ((⟨#[45]⟩ : ByteArray) ++ dgS r S = itoaS n) := by
            show _ = _
            apply ba_eq
            unfold itoaS Lib.itoa
            rw [if_pos hn]
            simp [ByteArray.data_append, hfin.out]
          have hsz3 : ¬ (1 + (dgS r S).size > 9223372036854775807) := by have := hsz2.out; omega
          go_wp2_with fail
          go_ret
          exact ⟨by first | rfl | (rw [← hA.out]; rfl) | (rw [← hA.out]; simp [hdg]), hb2.out⟩
        · have hA : Hid (dgS r S = itoaS n) := by
            show _ = _
            apply ba_eq
            unfold itoaS Lib.itoa
            rw [if_neg hn, hfin.out]
            congr 1
            omega
          go_wp2_with fail
          go_ret
          exact ⟨by first | rfl | (rw [← hA.out]; rfl) | (rw [← hA.out]; simp [hdg]), hb2.out⟩
      · have hq' : (Q == 0) = false := beq_eq_false_iff_ne.2 hq
        have HQ : Hid (Q ≠ 0) := hq
        clear hq
        go_wp2_with fail
        go_roundw
        case rel => exact ⟨dgS r S, Q, by first | rfl | simp [hdg], by first | rfl | simp, hQ1, hQ2, hnx.out HQ.out, hb2.out⟩
        case measure => exact hms.out HQ.out
    · have hpos : T = (r : Int) := by omega
      have hTn' : ¬ (r : Int) < 0 := by omega
      rw [hpos] at hT
      clear hTa hTn hpos
      by_cases hq : Q = 0
      · have hfin : Hid ((dgS r S).data.toList = Lib.decDigits n.natAbs) := hend.out hq
        have hsz2 : Hid ((dgS r S).size ≤ 41) := by show _ ≤ _; rw [dgS_size]; omega
        subst hq
        clear hnx hend hms
        by_cases hn : n < 0
        · have hA : Hid ((⟨#[45]⟩ : ByteArray) ++ dgS r S = itoaS n) := by
            show _ = _
            apply ba_eq
            unfold itoaS Lib.itoa
            rw [if_pos hn]
            simp [ByteArray.data_append, hfin.out]
          have hsz3 : ¬ (1 + (dgS r S).size > 9223372036854775807) := by have := hsz2.out; omega
          go_wp2_with fail
          go_ret
          exact ⟨by first | rfl | (rw [← hA.out]; rfl) | (rw [← hA.out]; simp [hdg]), hb2.out⟩
        · have hA : Hid (dgS r S = itoaS n) := by
            show _ = _
            apply ba_eq
            unfold itoaS Lib.itoa
            rw [if_neg hn, hfin.out]
            congr 1
            omega
          go_wp2_with fail
          go_ret
          exact ⟨by first | rfl | (rw [← hA.out]; rfl) | (rw [← hA.out]; simp [hdg]), hb2.out⟩
      · have hq' : (Q == 0) = false := beq_eq_false_iff_ne.2 hq
        have HQ : Hid (Q ≠ 0) := hq
        clear hq
        go_wp2_with fail
        go_roundw
        case rel => exact ⟨dgS r S, Q, by first | rfl | simp [hdg], by first | rfl | simp, hQ1, hQ2, hnx.out HQ.out, hb2.out⟩
        case measure => exact hms.out HQ.out
end Go.Proofs.YtcgfgjhhmbfmdaaDoor
