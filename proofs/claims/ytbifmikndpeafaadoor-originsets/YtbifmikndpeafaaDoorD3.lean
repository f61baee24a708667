/- The document's port. -/
import Derived.Test.YtbifmikndpeafaaDoorD2
namespace Go.Proofs.YtbifmikndpeafaaDoor
open Go.RowKit
set_option linter.unusedVariables false
set_option linter.unusedSimpArgs false
def dg (x : UInt8) : Bool := decide (48 ≤ x.toNat ∧ x.toNat ≤ 57)
def dv (a : Nat) (c : UInt8) : Nat := 10 * a + (c.toNat - 48)
def numF (a : Nat) (l : List UInt8) : Nat := l.foldl dv a
theorem numF_nil (a : Nat) : numF a [] = a := List.foldl_nil
theorem numF_cons (a : Nat) (c : UInt8) (r : List UInt8) : numF a (c :: r) = numF (10 * a + (c.toNat - 48)) r := List.foldl_cons ..
theorem numF_app (l : List UInt8) (c : UInt8) (a : Nat) : numF a (l ++ [c]) = 10 * numF a l + (c.toNat - 48) := by
  unfold numF
  rw [List.foldl_append, List.foldl_cons, List.foldl_nil]
  rfl
theorem numF_ge (l : List UInt8) : ∀ a, a * 10 ^ l.length ≤ numF a l := by
  induction l with
  | nil => intro a; simp [numF_nil]
  | cons x r ih =>
    intro a
    have := ih (10 * a + (x.toNat - 48))
    rw [numF_cons, List.length_cons]
    refine Nat.le_trans ?_ this
    rw [Nat.pow_succ, Nat.mul_comm (10 ^ r.length) 10, ← Nat.mul_assoc, Nat.mul_comm a 10]
    exact Nat.mul_le_mul_right _ (by omega)
theorem numF_ge' (l : List UInt8) (a : Nat) : a ≤ numF a l := Nat.le_trans (Nat.le_mul_of_pos_right _ (Nat.pow_pos (by decide))) (numF_ge l a)
theorem numF_lt (l : List UInt8) (h : l.all dg = true) : ∀ a, numF a l < (a + 1) * 10 ^ l.length := by
  induction l with
  | nil => intro a; simp [numF_nil]
  | cons x r ih =>
    intro a
    rw [List.all_cons, Bool.and_eq_true] at h
    have hx : 48 ≤ x.toNat ∧ x.toNat ≤ 57 := of_decide_eq_true h.1
    have := ih h.2 (10 * a + (x.toNat - 48))
    rw [numF_cons, List.length_cons]
    refine Nat.lt_of_lt_of_le this ?_
    rw [Nat.pow_succ, Nat.mul_comm (10 ^ r.length) 10, ← Nat.mul_assoc]
    exact Nat.mul_le_mul_right _ (by omega)
def okV : Lib.NumEnd Nat → Nat
  | .ok u => u
  | _ => 0
theorem parse_all (l : List UInt8) : ∀ a, a ≤ 65535 → okV (Lib.parseUintM 65535 a l) = if l.all dg = true ∧ numF a l ≤ 65535 then numF a l else 0 := by
  induction l with
  | nil => intro a ha; simp [Lib.parseUintM, okV, numF_nil, ha]
  | cons x r ih =>
    intro a ha
    rw [Lib.parseUintM]
    by_cases hx : 48 ≤ x.toNat ∧ x.toNat ≤ 57
    · rw [if_pos hx, if_neg (by omega)]
      have hdx : dg x = true := decide_eq_true hx
      simp only [List.all_cons, hdx, Bool.true_and, numF_cons]
      by_cases hm : 65535 < a * 10 + (x.toNat - 48)
      · rw [if_pos hm, if_neg]
        · rfl
        · intro h
          have := numF_ge' r (10 * a + (x.toNat - 48))
          omega
      · rw [if_neg hm, show a * 10 + (x.toNat - 48) = 10 * a + (x.toNat - 48) by omega]
        exact ih _ (by omega)
    · rw [if_neg hx, if_neg]
      · rfl
      · rw [List.all_cons, Bool.and_eq_true]
        intro h
        exact hx (of_decide_eq_true h.1.1)
theorem pt_eq (d : ByteArray) : ptN d = if zeroB d.data.toList = false ∧ d.data.toList ≠ [] ∧ d.data.toList.all dg = true ∧ numF 0 d.data.toList ≤ 65535 then numF 0 d.data.toList else 0 := by
  have h0 : ptN d = if zeroB d.data.toList = true then 0 else okV (Lib.parseUintB 16 d.data.toList) := by
    unfold ptN
    split
    · rfl
    · cases Lib.parseUintB 16 d.data.toList <;> rfl
  rw [h0]
  cases hz : zeroB d.data.toList
  · rw [if_neg (by simp)]
    unfold Lib.parseUintB
    by_cases he : d.data.toList = []
    · rw [if_pos he, if_neg (fun h => h.2.1 he)]
      rfl
    · rw [if_neg he, show 2 ^ 16 - 1 = 65535 from rfl, parse_all _ 0 (by omega)]
      by_cases hc : d.data.toList.all dg = true ∧ numF 0 d.data.toList ≤ 65535
      · rw [if_pos hc, if_pos ⟨rfl, he, hc⟩]
      · rw [if_neg hc, if_neg (fun h => hc h.2.2)]
  · rw [if_pos rfl, if_neg (by simp)]
/-- the document's port -/
def rpN (l : List UInt8) : Nat := if (1 ≤ l.length ∧ l.length ≤ 5) ∧ zeroB l = false ∧ l.all dg = true then numF 0 l else 0
theorem rp_le (l : List UInt8) : rpN l ≤ 99999 := by
  unfold rpN
  split
  · rename_i h
    have h1 := numF_lt l h.2.2 0
    have h2 : 10 ^ l.length ≤ 10 ^ 5 := Nat.pow_le_pow_right (by decide) h.1.2
    omega
  · omega
theorem rp_pt (d : ByteArray) : ((1 ≤ rpN d.data.toList ∧ rpN d.data.toList ≤ 65535) → ptN d = rpN d.data.toList) ∧ (¬ (1 ≤ rpN d.data.toList ∧ rpN d.data.toList ≤ 65535) → ptN d = 0) := by
  rw [pt_eq]
  unfold rpN
  by_cases hc : (1 ≤ d.data.toList.length ∧ d.data.toList.length ≤ 5) ∧ zeroB d.data.toList = false ∧ d.data.toList.all dg = true
  · rw [if_pos hc]
    have hne : d.data.toList ≠ [] := fun e => by rw [e] at hc; simp at hc
    constructor
    · intro h
      rw [if_pos ⟨hc.2.1, hne, hc.2.2, h.2⟩]
    · intro h
      by_cases h2 : numF 0 d.data.toList ≤ 65535
      · rw [if_pos ⟨hc.2.1, hne, hc.2.2, h2⟩]
        omega
      · rw [if_neg (fun hh => h2 hh.2.2.2)]
  · rw [if_neg hc]
    constructor
    · intro h
      omega
    · intro _
      rw [if_neg]
      rintro ⟨h1, h2, h3, h4⟩
      apply hc
      refine ⟨⟨?_, ?_⟩, h1, h3⟩
      · cases hl : d.data.toList with
        | nil => exact absurd hl h2
        | cons => simp
      · cases hl : d.data.toList with
        | nil => simp
        | cons x r =>
          rw [hl] at h1 h3 h4
          rw [List.all_cons, Bool.and_eq_true] at h3
          have hx : 48 ≤ x.toNat ∧ x.toNat ≤ 57 := of_decide_eq_true h3.1
          have hx0 : ¬ x.toNat = 48 := of_decide_eq_false h1
          rw [numF_cons] at h4
          have h5 := numF_ge r (10 * 0 + (x.toNat - 48))
          by_cases hr : r.length ≤ 4
          · simp; omega
          · exfalso
            have h6 : 10 ^ 5 ≤ 10 ^ r.length := Nat.pow_le_pow_right (by decide) (by omega)
            have h7 : 1 * 10 ^ r.length ≤ (10 * 0 + (x.toNat - 48)) * 10 ^ r.length := Nat.mul_le_mul_right _ (by omega)
            omega
theorem dg_take {l : List UInt8} {i : Nat} (hi : i < l.length) (h : (l.take i).all dg = true) (hx : dg l[i] = true) : (l.take (i + 1)).all dg = true := by
  rw [List.take_succ_eq_append_getElem hi, List.all_append, h]
  simp [hx]
theorem dg_no {l : List UInt8} {i : Nat} (hi : i < l.length) (hx : dg l[i] = false) : l.all dg = false := by
  cases e : l.all dg
  · rfl
  · have := List.all_eq_true.1 e _ (List.getElem_mem hi)
    rw [hx] at this
    cases this
set_option maxHeartbeats 4000000 in
set_option maxRecDepth 100000 in
theorem rport_any (s : ByteArray) (w : World) : Calls Tryd.prog 40 #[.string s] w fun e w' => e = .returned (.int .i64 (rpN s.data.toList : Int)) ∧ w' = w := by
  have HL : Hid (s.data.toList.length = s.size) := (Lib.size_eq s).symm
  by_cases h1 : s.size < 1
  · have a1 : (s.size : Int) < 1 := by omega
    have HF : Hid (rpN s.data.toList = 0) := by show _ = _; unfold rpN; rw [HL.out, if_neg (by omega)]
    rw [HF.out]
    clear h1
    go_enter Tryd.func40, Tryd.ntmps40
    go_wp2_with fail
    go_ret
    exact ⟨rfl, rfl⟩
  · have a1 : ¬ (s.size : Int) < 1 := by omega
    by_cases h5 : s.size > 5
    · have a5 : (s.size : Int) > 5 := by omega
      have HF : Hid (rpN s.data.toList = 0) := by show _ = _; unfold rpN; rw [HL.out, if_neg (by omega)]
      rw [HF.out]
      clear h1 h5
      go_enter Tryd.func40, Tryd.ntmps40
      go_wp2_with fail
      go_ret
      exact ⟨rfl, rfl⟩
    · have a5 : ¬ (s.size : Int) > 5 := by omega
      have h00 : 0 < s.size := by omega
      have h00' : (0 : Int) < (s.size : Int) := by omega
      obtain ⟨x, hx⟩ : ∃ x : UInt8, s[0]'h00 = x := ⟨_, rfl⟩
      have HZ : Hid (zeroB s.data.toList = decide (x.toNat = 48)) := by
        show _ = _
        have := drop_at h00 hx
        rw [List.drop_zero] at this
        rw [this]
        rfl
      have h55 : s.size ≤ 5 := by omega
      by_cases h48 : x.toNat = 48
      · have a6 : ((x.toNat : Int) == 48) = true := by rw [h48]; rfl
        have HF : Hid (rpN s.data.toList = 0) := by show _ = _; unfold rpN; rw [HZ.out, decide_eq_true h48, if_neg (by simp)]
        rw [HF.out]
        clear h1 h5 h48
        go_enter Tryd.func40, Tryd.ntmps40
        go_wp2_with fail
        go_ret
        exact ⟨rfl, rfl⟩
      · have a6 : ((x.toNat : Int) == 48) = false := beq_eq_false_iff_ne.2 (by omega)
        have HR : Hid (rpN s.data.toList = if s.data.toList.all dg = true then numF 0 s.data.toList else 0) := by
          show _ = _
          unfold rpN
          rw [HL.out, HZ.out, decide_eq_false h48]
          by_cases hd : s.data.toList.all dg = true
          · rw [if_pos ⟨⟨by omega, by omega⟩, rfl, hd⟩, if_pos hd]
          · rw [if_neg (fun h => hd h.2.2), if_neg hd]
        clear h1 h5 h48 HZ
        go_enter Tryd.func40, Tryd.ntmps40
        go_wp2_with fail
        clear hx a6
        go_loopw [3, 4] (fun nv iv wr => ∃ i a : Nat, nv = .int .i64 (a : Int) ∧ iv = .int .i64 (i : Int) ∧ i ≤ s.size ∧ a ≤ 99999 ∧ Hid ((s.data.toList.take i).all dg = true ∧ numF 0 (s.data.toList.take i) = a ∧ wr = w)) (fun _ iv _ => s.size - (intOf iv).toNat)
        case atStart => exact ⟨0, 0, rfl, rfl, by omega, by omega, by simp, by simp [numF_nil], rfl⟩
        case round =>
          obtain ⟨i, a, rfl, rfl, hi, ha, hJ⟩ := hrel
          have hww := hJ.out.2.2
          have hI : Hid ((s.data.toList.take i).all dg = true ∧ numF 0 (s.data.toList.take i) = a) := ⟨hJ.out.1, hJ.out.2.1⟩
          rw [hww]
          clear hww hJ
          by_cases hlt : i < s.size
          · have hlt' : (i : Int) < (s.size : Int) := by omega
            obtain ⟨y, hy⟩ : ∃ y : UInt8, s[i]'hlt = y := ⟨_, rfl⟩
            have HLt : Hid (i < s.data.toList.length) := by rw [HL.out]; exact hlt
            have HY : Hid (s.data.toList[i]'HLt.out = y) := by show _ = _; rw [← hy]; exact getL hlt
            have hy8 := y.toNat_lt
            by_cases hd : 48 ≤ y.toNat ∧ y.toNat ≤ 57
            · obtain ⟨d, hd'⟩ : ∃ d : Nat, y.toNat - 48 = d := ⟨_, rfl⟩
              have b1 : ¬ (y.toNat : Int) < 48 := by omega
              have b2 : ¬ (y.toNat : Int) > 57 := by omega
              have hw1 : IntKind.u8.wrap ((y.toNat : Int) - 48) = (d : Int) := by rw [IntKind.wrap_u8]; omega
              have HN : Hid ((s.data.toList.take (i + 1)).all dg = true ∧ numF 0 (s.data.toList.take (i + 1)) = 10 * a + d) := by
                refine ⟨dg_take HLt.out hI.out.1 (by rw [HY.out]; exact decide_eq_true hd), ?_⟩
                rw [List.take_succ_eq_append_getElem HLt.out, numF_app, hI.out.2, HY.out, hd']
              have hlim : 10 * a + d ≤ 99999 := by
                have h1 := numF_lt _ HN.out.1 0
                rw [HN.out.2, List.length_take] at h1
                have h2 : 10 ^ (min (i + 1) s.data.toList.length) ≤ 10 ^ 5 := Nat.pow_le_pow_right (by decide) (by omega)
                omega
              clear hd hI HY hd'
              go_wp2_with fail
              go_roundw
              case rel => exact ⟨i + 1, 10 * a + d, by simp, by simp, by omega, by omega, HN.out.1, HN.out.2, by first | rfl | trivial⟩
              case measure => simp [intOf]; omega
            · have HF : Hid (rpN s.data.toList = 0) := by
                show _ = _
                rw [HR.out, dg_no HLt.out (by rw [HY.out]; exact decide_eq_false hd)]
                rfl
              by_cases b1 : (y.toNat : Int) < 48
              · clear hd hI HY
                go_wp2_with fail
                go_ret
                exact ⟨by rw [HF.out]; rfl, rfl⟩
              · have b2 : (y.toNat : Int) > 57 := by omega
                clear hd hI HY
                go_wp2_with fail
                go_ret
                exact ⟨by rw [HF.out]; rfl, rfl⟩
          · obtain rfl : i = s.size := by omega
            have hlt' : ¬ (s.size : Int) < (s.size : Int) := by omega
            have HF : Hid (rpN s.data.toList = a) := by
              show _ = _
              have := hI.out
              rw [← HL.out, List.take_length] at this
              rw [HR.out, if_pos this.1, this.2]
            clear hI
            go_wp2_with fail
            go_ret
            exact ⟨by rw [HF.out]; rfl, rfl⟩
end Go.Proofs.YtbifmikndpeafaaDoor
