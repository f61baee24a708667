/- The document's digits, Print. -/
import Derived.Test.YtbifmikndpeafaaDoorD2
import Derived.Test.YtbifmikndpeafaaDoorB5
namespace Go.Proofs.YtbifmikndpeafaaDoor
open Go.RowKit
set_option linter.unusedVariables false
set_option linter.unusedSimpArgs false
def dgB (r : Nat) : UInt8 := UInt8.ofNat (48 + r)
def dgS (r : Nat) (S : ByteArray) : ByteArray := ⟨#[dgB r]⟩ ++ S
theorem dgS_list (r : Nat) (S : ByteArray) : (dgS r S).data.toList = dgB r :: S.data.toList := by
  unfold dgS
  simp [ByteArray.data_append]
theorem dgS_size (r : Nat) (S : ByteArray) : (dgS r S).size = S.size + 1 := by
  rw [Lib.size_eq, dgS_list, Lib.size_eq]; simp
/-- the digits of a number; of 0 none -/
def dz (m : Nat) : List UInt8 := if m = 0 then [] else Lib.decDigits m
theorem dz_step {m : Nat} (h : 0 < m) : dz m = dz (m / 10) ++ [dgB (m % 10)] := by
  unfold dz
  rw [if_neg (by omega)]
  by_cases h10 : m < 10
  · rw [dec_small h10, if_pos (by omega)]
    simp [dgB, Nat.mod_eq_of_lt h10]
  · rw [dec_big h10, if_neg (by omega)]
    rfl
set_option maxHeartbeats 8000000 in
set_option maxRecDepth 100000 in
theorem digits_any (u : Nat) (h0 : 1 ≤ u) (h1 : u ≤ 65535) (w : World) : Calls Tryd.prog 31 #[.int .i64 (u : Int)] w fun e w' => e = .returned (.string (decS u)) ∧ Below w.heap.size w w' := by
  have hdig : ∀ S : ByteArray, ∀ m : Nat, dz m ++ S.data.toList = dz u → S.size ≤ 5 := fun S m h => by
    have h2 := congrArg List.length h
    have h3 : (dz u).length ≤ 5 := by unfold dz; split; simp; exact dec_len 4 u (by omega)
    rw [List.length_append] at h2
    rw [Lib.size_eq]
    omega
  have HU : Hid (dz u = Lib.decDigits u) := by show _ = _; unfold dz; rw [if_neg (by omega)]
  replace hdig : Hid _ := hdig
  clear h0
  go_enter Tryd.func31, Tryd.ntmps31
  go_wp2_with fail
  go_loopw [0, 3] (fun mv sv' wr => ∃ (S : ByteArray) (M : Nat), sv' = .string S ∧ mv = .int .i64 (M : Int) ∧ M ≤ 65535 ∧ Hid (dz M ++ S.data.toList = dz u ∧ Below w.heap.size w wr)) (fun mv _ _ => (intOf mv).natAbs)
  case atStart => exact ⟨⟨#[]⟩, u, rfl, rfl, h1, by simp, Below.refl _ _⟩
  case round =>
    obtain ⟨S, M, rfl, rfl, hM1, hinv⟩ := hrel
    have hS : S.size ≤ 5 := hdig.out S _ hinv.out.1
    by_cases hM : 0 < M
    · have hM' : (M : Int) > 0 := by omega
      obtain ⟨r, hr⟩ : ∃ r, M % 10 = r := ⟨_, rfl⟩
      obtain ⟨Q, hQ⟩ : ∃ Q, M / 10 = Q := ⟨_, rfl⟩
      have hr9 : r ≤ 9 := by omega
      have hT : (M : Int).tmod 10 = (r : Int) := by rw [← hr, Int.tmod_eq_emod_of_nonneg (by omega)]; omega
      have hD : (M : Int).tdiv 10 = (Q : Int) := by rw [← hQ, Int.tdiv_eq_ediv_of_nonneg (by omega)]; omega
      have hconv : ∀ W : World, Sem.run Tryd.prog (convert 33 9 (.slice (some ⟨W.heap.size, 0, none⟩) 1 1)) (W.alloc (.cells #[.int .u8 (48 + (r : Int))] 5)) = .ok (.string ⟨#[dgB r]⟩) (W.alloc (.cells #[.int .u8 (48 + (r : Int))] 5)) := fun W =>
        run_convert_bytes_back (P := Tryd.prog) _ 33 9 5 ⟨W.heap.size, 0, none⟩ 1 [dgB r] Tryd.underlying33 Tryd.underlying5 Tryd.underlying9 (fun j hj => by
          have hj0 : j = 0 := by simpa using hj
          subst hj0
          rw [Addr.add_lit, cell_blk (by rw [heap_al, if_pos rfl])]
          simp [dgB]
          omega)
      have HN : Hid (dz Q ++ (dgS r S).data.toList = dz u) := by
        show _ = _
        rw [← hinv.out.1, dz_step hM, hQ, hr, dgS_list, List.append_assoc]
        rfl
      have hb2 : Hid (Below w.heap.size w (wr.alloc (.cells #[.int .u8 (48 + (r : Int))] 5))) := hinv.out.2.trans ((bel1 wr _).mono hinv.out.2.size)
      have hsz : ¬ (1 + S.size > 9223372036854775807) := by omega
      have hdg : (⟨#[dgB r]⟩ : ByteArray) ++ S = dgS r S := rfl
      have hQM : Q < M := by omega
      have hw8 : IntKind.u8.wrap (48 + (r : Int)) = 48 + (r : Int) := by rw [IntKind.wrap_u8]; omega
      clear hinv hr hQ
      go_wp2_with fail
      go_roundw
      case rel => exact ⟨dgS r S, Q, by first | rfl | simp [hdg], by first | rfl | simp, by omega, HN.out, hb2.out⟩
      case measure => simp [intOf]; omega
    · obtain rfl : M = 0 := by omega
      have hM' : ¬ ((0 : Nat) : Int) > 0 := by omega
      have HF : Hid (decS u = S) := by
        show _ = _
        have := hinv.out.1
        have e0 : dz 0 = [] := rfl
        rw [e0, List.nil_append, HU.out] at this
        apply ba_eq
        rw [this, decS, bt_list]
      have hb2 : Hid (Below w.heap.size w wr) := hinv.out.2
      clear hinv
      go_wp2_with fail
      go_ret
      exact ⟨by rw [HF.out]; rfl, hb2.out⟩
end Go.Proofs.YtbifmikndpeafaaDoor
