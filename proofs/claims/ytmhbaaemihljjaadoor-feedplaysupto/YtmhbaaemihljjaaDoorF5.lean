/- The document's Read, whole. -/
import Derived.Test.YtmhbaaemihljjaaDoorF2
import Derived.Test.YtmhbaaemihljjaaDoorF4
namespace Go.Proofs.YtmhbaaemihljjaaDoor
open Go.RowKit
set_option linter.unusedVariables false
set_option linter.unusedSimpArgs false

theorem sr2 (S : Int) (h : srS 2 S = true) : S ≠ 0 := by
  simpa [srS] using h

theorem rd_any (T X : Nat) (S : Int) (P : ByteArray) (hX : X < 256) (hPs : P.size ≤ 65536) (hmask : hasF (X : Int) 8 = true → T = 0 ∨ T = 1 ∨ T = 5 ∨ 10 ≤ T)
    (hl : ftS (kd (T : Int) (X : Int)).1 (kd (T : Int) (X : Int)).2.1 ((P.size : Int) - ((if (decide ((T : Int) < 10) && hasF (X : Int) 8) then 1 else 0 : Nat) : Int)) = true) (w : World) :
    Calls Tryd.prog 48 #[.agg #[.int .i64 (T : Int), .int .i64 (X : Int), .int .i64 S, .string ⟨#[]⟩, .int .i64 0, .int .i64 0, .bool false, .int .i64 0, .int .i64 0, .int .i64 0, .slice none 0 0], .string P] w fun e w' => RPost w (rdS T X S P (decide ((T : Int) < 10) && hasF (X : Int) 8)) e w' := by
  cases hpd : (decide ((T : Int) < 10) && hasF (X : Int) 8) with
  | false =>
    rw [hpd] at hl
    simp only [Bool.false_eq_true, if_false, Int.natCast_zero, Int.sub_zero] at hl
    exact rd_plain T X S P hX hPs hpd hl w
  | true =>
    rw [hpd] at hl
    simp only [if_true, Int.natCast_one] at hl
    rw [Bool.and_eq_true, decide_eq_true_eq] at hpd
    obtain ⟨h10, h8⟩ := hpd
    have hT : T = 0 ∨ T = 1 ∨ T = 5 := by rcases hmask h8 with h | h | h | h <;> omega
    have hfact : (kd (T : Int) (X : Int)).1 = 72 ∧ (ahS T X : Int) = 1 + (kd (T : Int) (X : Int)).2.1 ∧ 0 ≤ (kd (T : Int) (X : Int)).2.1 := by
      rcases hT with rfl | rfl | rfl
      · simp [kd, ahS, mpS, h8]
      · cases h32 : hasF (X : Int) 32 <;> simp [kd, ahS, mpS, h8, h32]
      · simp [kd, ahS, mpS, h8]
    rw [hfact.1] at hl
    exact rd_padded T X S P hX hPs h8 hT _ hl rfl hfact.1 hfact.2.1 hfact.2.2 w

theorem ref_any (s : ByteArray) (most : Int) (w : World) :
    Calls Tryd.prog 34 #[.string s, .int .i64 most] w fun e w' => RPost w (readS s most) e w' := by
  by_cases h : s.size < 9
  · exact ref_short s most w h
  · have h3 : numS (s.extract 0 3) < 16777216 := by
      have h1 := numL_lt (s.extract 0 3).data.toList
      have h2 : (s.extract 0 3).data.toList.length ≤ 3 := by
        have : (s.extract 0 3).data.toList.length = (s.extract 0 3).size := by simp
        rw [this, ByteArray.size_extract]; omega
      have h4 : 256 ^ (s.extract 0 3).data.toList.length ≤ 256 ^ 3 := Nat.pow_le_pow_right (by decide) h2
      unfold numS
      omega
    by_cases hm : min (max most 16384) 65536 < (numS (s.extract 0 3) : Int)
    · exact ref_long s most w h _ rfl hm
    · by_cases hw : s.size < 9 + numS (s.extract 0 3)
      · exact ref_wanted s most w h _ _ rfl hm rfl hw h3
      · obtain ⟨N, hN⟩ : ∃ N, N = numS (s.extract 0 3) := ⟨_, rfl⟩
        obtain ⟨M, hM⟩ : ∃ M, M = 9 + N := ⟨_, rfl⟩
        have hN16 : N ≤ 65536 := by omega
        have hwM : ¬ s.size < M := by omega
        have hm' : ¬ min (max most 16384) 65536 < (N : Int) := by rw [hN]; exact hm
        obtain ⟨B, hB⟩ : ∃ B, B = s.extract 0 M := ⟨_, rfl⟩
        have hBs : B.size = M := by rw [hB, ByteArray.size_extract]; omega
        obtain ⟨P, hP⟩ : ∃ P, P = s.extract 9 M := ⟨_, rfl⟩
        have hPs : P.size = N := by rw [hP, ByteArray.size_extract]; omega
        have hPB : B.extract 9 B.size = P := by rw [hBs, hB, hP, ByteArray.extract_extract]; congr 1; omega
        have hb3 : byteAt B 3 = s[3].toNat := by rw [hB, byteAt_extract s 0 M 3 (by omega) (by omega), Nat.zero_add, byteAt_eq s 3 (by omega)]
        have hb4 : byteAt B 4 = s[4].toNat := by rw [hB, byteAt_extract s 0 M 4 (by omega) (by omega), Nat.zero_add, byteAt_eq s 4 (by omega)]
        have h59 : B.extract 5 9 = s.extract 5 9 := by rw [hB, ByteArray.extract_extract]; congr 1; omega
        obtain ⟨X, hXf, hX8, hmask⟩ := fl_byte B
        obtain ⟨T, hT⟩ : ∃ T, T = byteAt B 3 := ⟨_, rfl⟩
        obtain ⟨S, hS⟩ : ∃ S, S = stS B := ⟨_, rfl⟩
        have hSv : (numS (s.extract 5 9) : Int) % 2147483648 = S := by rw [hS]; unfold stS; rw [h59]
        have hty : tyS B = (T : Int) := by rw [hT]; rfl
        have hki : kiS B = (min (T : Int) 10).toNat := by unfold kiS; rw [hty]
        have hX : bits .and .i64 (s[4].toNat : Int) (kflags (min (T : Int) 10).toNat) = (X : Int) := by
          rw [← hXf, ← hki]
          unfold flS
          rw [hb4]
        rw [← hT] at hmask
        obtain ⟨pd, hpd⟩ : ∃ pd, pd = (decide ((T : Int) < 10) && hasF (X : Int) 8) := ⟨_, rfl⟩
        have hparse : parseS B = parseB (T : Int) S (X : Int) (min (T : Int) 10).toNat pd P (kd (T : Int) (X : Int)) := by
          unfold parseS pdS
          rw [hty, hXf, hki, hPB, ← hS, ← hpd]
        have hread : readS s most = (if (parseS B).2.1 ≠ 0 ∧ (parseS B).2.2 = 0 then ((Fr.zero, []), 0, (parseS B).2) else ((parseS B).1, (M : Int), (parseS B).2)) := by
          unfold readS
          rw [if_neg h, ← hN, if_neg hm', ← hM, if_neg hwM, ← hB]
        have hS0 : 0 ≤ S ∧ S < 2147483648 := by rw [← hSv]; omega
        by_cases hs : srS T S = true
        · have hbad := (sr_eq T S hS0.1 hS0.2).1 hs
          by_cases hl : lrS T X P.size = true
          · have hft := hl
            rw [lr_eq T X P.size hmask] at hft
            have hft' : ¬ ftS (kd (T : Int) (X : Int)).1 (kd (T : Int) (X : Int)).2.1 ((P.size : Int) - ((if pd then 1 else 0 : Nat) : Int)) = false := by rw [hpd, hft]; simp
            have hrd : readS s most = rdS T X S P pd := by
              by_cases h2 : ftS (kd (T : Int) (X : Int)).1 (kd (T : Int) (X : Int)).2.1 ((P.size : Int) - ((if pd then byteAt P 0 else 0 : Nat) : Int) - ((if pd then 1 else 0 : Nat) : Int)) = false
              · have hp3 : parseS B = ((Fr.zero, []), 1, 0) := by
                  rw [hparse]
                  unfold parseB
                  rw [if_neg hbad, if_neg hft', if_pos h2]
                rw [hread, hp3, if_pos (by simp)]
                unfold rdS
                rw [if_pos h2]
              · have hp3 : parseS B = (takeS (kd (T : Int) (X : Int)).2.2.2 ⟨(T : Int), (X : Int), S, ⟨#[]⟩, ((if pd then byteAt P 0 else 0 : Nat) : Int), 0, false, 0, 0, 0⟩ (P.extract (if pd then 1 else 0) (P.size - (if pd then byteAt P 0 else 0))), 0, 0) := by
                  rw [hparse]
                  unfold parseB
                  rw [if_neg hbad, if_neg hft', if_neg h2]
                rw [hread, hp3, if_neg (by simp)]
                unfold rdS
                rw [if_neg h2, show ((9 + P.size : Nat) : Int) = (M : Int) by omega]
            rw [hrd, hpd]
            exact ref_gr s most w N M T X S _ P _ h hN hm' hM hwM hN16 (by rw [hT, hb3]) hSv rfl hX hX8 hP hs hl (fun W => rd_any T X S P hX8 (by omega) hmask hft W)
          · have hlf : lrS T X P.size = false := by simpa using hl
            have hft := hlf
            rw [lr_eq T X P.size hmask, ← hpd] at hft
            have hp2 : parseS B = ((Fr.zero, []), 6, if (T : Int) = 2 then S else 0) := by
              rw [hparse]
              unfold parseB
              rw [if_neg hbad, if_pos hft]
            by_cases h2 : T = 2
            · have hSne : S ≠ 0 := by rw [h2] at hs; exact sr2 S hs
              refine ref_gp s most w N M T X S _ P _ h hN hm' hM hwM hN16 (by rw [hT, hb3]) hSv rfl hX hX8 hP hs hlf h2 ?_
              rw [hread, hp2, if_pos (show (T : Int) = 2 by omega), if_neg (by simp [hSne])]
            · refine ref_gl s most w N M T X S _ P _ h hN hm' hM hwM hN16 (by rw [hT, hb3]) hSv rfl hX hX8 hP hs hlf h2 ?_
              rw [hread, hp2, if_neg (show ¬ (T : Int) = 2 by omega), if_pos (by simp)]
        · have hsf : srS T S = false := by simpa using hs
          have hbad : S < kfrom (min (T : Int) 10).toNat ∨ kto (min (T : Int) 10).toNat < S := by
            apply Classical.byContradiction
            intro hn
            exact hs ((sr_eq T S hS0.1 hS0.2).2 hn)
          refine ref_gs s most w N M T X S _ P _ h hN hm' hM hwM hN16 (by rw [hT, hb3]) hSv rfl hX hX8 hP hsf ?_
          rw [hread, hparse]
          unfold parseB
          rw [if_pos hbad, if_pos (by simp)]
end Go.Proofs.YtmhbaaemihljjaaDoor
