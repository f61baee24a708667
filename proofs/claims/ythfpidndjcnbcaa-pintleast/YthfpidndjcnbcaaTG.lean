import Derived.Test.YthfpidndjcnbcaaTE
namespace Go.Proofs.Ythfpidndjcnbcaa
open Go.RowKit

theorem put_form (p f v : Nat) (hp1 : 1 ≤ p) (hp8 : p ≤ 8) (hf : f ≤ 255) (hlo : lo p f = 0) (hv : v ≤ 2147483647) :
    putI (p : Int) (f : Int) (v : Int) = (if v < fl p then [B8 (f + v)] else B8 (f + fl p) :: enc 5 (v - fl p), 0) := by
  have hu : upB (f : Int) p = true := by unfold upB; simp; omega
  have hl : 1 ≤ (p : Int) ∧ (p : Int) ≤ 8 := by omega
  have hb : ¬ (upB (f : Int) p = false ∨ (v : Int) < 0) := by rw [hu]; simp
  have hbig : ¬ (2147483647 < (v : Int)) := by omega
  by_cases hlt : v < fl p
  · simp only [putI, if_pos hl, putL, if_neg hb, if_neg hbig, Int.toNat_natCast, if_pos hlt]
  · simp only [putI, if_pos hl, putL, if_neg hb, if_neg hbig, Int.toNat_natCast, if_neg hlt]

theorem strOf_extract (s : ByteArray) (l : List UInt8) (m : Nat) (h : s.data.toList.take m = l) : strOf l = s.extract 0 m := by
  apply ByteArray.ext
  apply Array.toList_inj.1
  rw [extract_list, h]; rfl

theorem pintLeast_any (n : Int) (s : ByteArray) (w : World) (hs : s.size ≤ 9223372036854775807) :
    Calls Try.prog 4 #[.int .i64 n, .string s] w fun e w' => e = .returned (.bool true) ∧ Below w.heap.size w w' := by
  obtain ⟨p, hp, hp1, hp8⟩ := prefix_nat n
  have hT := takeS_legal p s hp1 hp8
  rw [take_said] at hT
  by_cases he : (takeS (p : Int) s).2.2 = 0
  case neg => exact least_no n p s w hs hp _ rfl he
  generalize hS : saidN p s.data.toList = x at hT
  obtain ⟨v, m⟩ := x
  have hm : m ≠ 0 := by
    intro h0
    rw [hT, h0] at he
    simp only [ans, if_true] at he
    split at he <;> simp at he
  have hv : ¬ 2147483647 < v := by
    intro h0
    rw [hT] at he
    simp [ans, hm, h0] at he
  have hT' : takeS (p : Int) s = (v, m, 0) := by rw [hT]; simp [ans, hm, hv]
  have hcut := said_cut p s.data.toList (by rw [hS]; exact hm)
  rw [hS] at hcut
  obtain ⟨g1, g2, g6, _⟩ := hcut
  simp only at g1 g2 g6
  have hlen : s.data.toList.length = s.size := by simp
  rw [hlen] at g2
  have h0 : 0 < s.size := by omega
  have hcs := list_cons s h0
  have hx8 := s[0].toNat_lt
  have hlole := lo_le p s[0].toNat
  have hlox : lo p s[0].toNat ≤ s[0].toNat := Nat.mod_le _ _
  obtain ⟨f, hf⟩ : ∃ f, f = s[0].toNat - lo p s[0].toNat := ⟨_, rfl⟩
  have hflo : lo p f = 0 := by rw [hf]; exact lo_up p _
  have hup : bits .andNot .i64 (s[0].toNat : Int) (fl p : Int) = (f : Int) := by rw [up_bits _ p hx8 hp8, hf]
  have hput := put_form p f v hp1 hp8 (by omega) hflo (by omega)
  by_cases hc : lo p s[0].toNat < fl p
  · rw [hcs] at hS
    simp only [saidN, if_pos hc, Prod.mk.injEq] at hS
    obtain ⟨hv1, hm1⟩ := hS
    have e1 : f + v = s[0].toNat := by omega
    rw [if_pos (by omega), e1, B8_c] at hput
    refine least_yes n p v m f s (strOf [s[0]]) w hs hp hp1 hp8 hT' g1 g2 g6 (by omega) h0 hup (fun w => put_at _ _ _ _ 0 hput w) (by rw [strOf_size]; simp) (by rw [strOf_size]; simp; omega) ?_ ?_
    · intro _
      apply strOf_extract
      rw [hcs, ← hm1]; simp
    · intro k hk _ h1
      exact absurd (strOf_size [s[0]]) h1
  · have hfull : lo p s[0].toNat = fl p := by omega
    have hS' : sd 5 0 (fl p) (s.data.toList.drop 1) = (v, m) := by
      rw [hcs] at hS
      simp only [saidN, if_neg hc] at hS
      exact hS
    obtain ⟨R, hR, hleast⟩ := sd_least 5 0 (fl p) v m _ hS' hm
    have hR' : v = fl p + R := by simpa using hR
    have e1 : f + fl p = s[0].toNat := by omega
    have e2 : v - fl p = R := by omega
    rw [if_neg (by omega), e1, B8_c, e2] at hput
    obtain ⟨q1, q2⟩ := hleast 5 (by omega)
    have hel := enc_length 5 R 5 (by omega) (by omega) (by omega)
    refine least_yes n p v m f s (strOf (s[0] :: enc 5 R)) w hs hp hp1 hp8 hT' g1 g2 g6 (by omega) h0 hup (fun w => put_at _ _ _ _ 0 hput w) (by rw [strOf_size]; simp) (by rw [strOf_size]; simp; omega) ?_ ?_
    · intro heq
      rw [strOf_size, List.length_cons] at heq
      apply strOf_extract
      have hm2 : m = (m - (0 + 1)) + 1 := by omega
      rw [hcs, hm2, List.take_succ_cons, ← q2 (by omega)]
    · intro k hk hkk _ h6
      have hsz := strOf_size (s[0] :: enc 5 R)
      rw [List.length_cons] at hsz
      obtain ⟨init, x, z1, z2⟩ := encZ_eq 5 R (by omega)
      have hil : init.length + 1 = (enc 5 R).length := by rw [z1]; simp
      have hk2 : k = init.length + 1 := by omega
      have hkx : (strOf (s[0] :: enc 5 R))[k] = x := by
        have hh : (s[0] :: enc 5 R)[k]'(by rw [List.length_cons]; omega) = x := by
          subst hk2
          simp [z1]
        exact hh
      rw [hkx]
      have el : ((strOf (s[0] :: enc 5 R)).extract 0 k ++ (⟨#[B8 (128 + x.toNat % 128), 0]⟩ : ByteArray)).data.toList = s[0] :: encZ 5 R := by
        rw [ByteArray.data_append, Array.toList_append, extract_list, strOf_list, z2, z1, hk2]
        simp
      rw [takeS_legal p _ hp1 hp8, el, take_said]
      have hsaid : saidN p (s[0] :: encZ 5 R) = (v, (enc 5 R).length + 2) := by
        simp only [saidN, if_neg hc]
        rw [sd_encZ 5 5 0 (fl p) R (by omega) (by omega)]
        simp only [Nat.pow_zero, Nat.mul_one, Prod.mk.injEq]
        omega
      rw [hsaid, hsz]
      simp [ans, hv]
end Go.Proofs.Ythfpidndjcnbcaa
