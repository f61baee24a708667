/- FrameOne's plain facts: bytes, flags, and where the data lies. -/
import Derived.Test.YtjigjckclpccmaaDoorR4
namespace Go.Proofs.YtjigjckclpccmaaDoor
open Go.RowKit
set_option linter.unusedVariables false
set_option linter.unusedSimpArgs false

theorem num3 (b : ByteArray) (h : 3 ≤ b.size) : numS (b.extract 0 3) = byteAt b 0 * 65536 + byteAt b 1 * 256 + byteAt b 2 := by
  have e : (b.extract 0 3).data.toList = b.data.toList.take 3 := by
    rw [ByteArray.data_extract, Array.toList_extract, List.extract_eq_take_drop]
    rfl
  have h2 := take_num b 2 (by omega)
  have h1 := take_num b 1 (by omega)
  have h0 := take_num b 0 (by omega)
  unfold numS
  rw [e, h2, h1, h0, byteAt_eq b 0 (by omega), byteAt_eq b 1 (by omega), byteAt_eq b 2 (by omega)]
  simp [numL]
  omega

theorem asm_bytes (f : Fr) (ps : List (Int × Int)) (b : ByteArray) (h3 : 9 ≤ b.size) (hN : (wholeB f ps).length = numS (b.extract 0 3)) (ht : f.ty = (byteAt b 3 : Int)) (i : Nat) (hi : i < 4) : byteAt (asmB f ps) i = byteAt b i := by
  have h0 := byteAt_lt b 0
  have h1 := byteAt_lt b 1
  have h2 := byteAt_lt b 2
  have h4 := byteAt_lt b 3
  rw [num3 b (by omega)] at hN
  rw [asmB_bt]
  rcases (by omega : i = 0 ∨ i = 1 ∨ i = 2 ∨ i = 3) with rfl | rfl | rfl | rfl
  · rw [bt_at _ 0 (UInt8.ofNat (((wholeB f ps).length : Int) / 65536 % 256).toNat) (by rw [head_list, be3]; rfl), u8_nat]
    omega
  · rw [bt_at _ 1 (UInt8.ofNat (((wholeB f ps).length : Int) / 256 % 256).toNat) (by rw [head_list, be3]; rfl), u8_nat]
    omega
  · rw [bt_at _ 2 (UInt8.ofNat (((wholeB f ps).length : Int) % 256).toNat) (by rw [head_list, be3]; rfl), u8_nat]
    omega
  · rw [bt_at _ 3 (b8 f.ty) (by rw [head_list, be3]; rfl)]
    have := b8_nat f.ty (by omega) (by omega)
    omega

theorem take_data (k4 : Nat) (g : Fr) (hg : g.data = ⟨#[]⟩) (P : ByteArray) : (takeS k4 g P).1.data = ⟨#[]⟩ ∨ ∃ o, (takeS k4 g P).1.data = P.extract o P.size := by
  unfold takeS
  repeat' split
  · exact .inr ⟨5, rfl⟩
  · exact .inl hg
  · exact .inl hg
  · exact .inl hg
  · exact .inr ⟨4, rfl⟩
  · exact .inr ⟨8, rfl⟩
  · exact .inl hg
  · exact .inr ⟨0, by simp [dataS]⟩

/-- the data lies among the bytes -/
theorem parse_data (b : ByteArray) (f : Fr) (ps : List (Int × Int)) (h9 : 9 ≤ b.size) (h : parseS b = ((f, ps), 0, 0)) : f.data = ⟨#[]⟩ ∨ ∃ i, i + f.data.size ≤ (b.extract 9 b.size).size ∧ (b.extract 9 b.size).extract i (i + f.data.size) = f.data := by
  unfold parseS at h
  obtain ⟨R, hR⟩ : ∃ R, b.extract 9 b.size = R := ⟨_, rfl⟩
  rw [hR] at h ⊢
  unfold parseB at h
  by_cases c1 : stS b < kfrom (kiS b) ∨ kto (kiS b) < stS b
  · rw [if_pos c1] at h; simp at h
  rw [if_neg c1] at h
  by_cases c2 : ftS (kd (tyS b) (flS b)).1 (kd (tyS b) (flS b)).2.1 ((R.size : Int) - ((if pdS b then 1 else 0 : Nat) : Int)) = false
  · rw [if_pos c2] at h; simp at h
  rw [if_neg c2] at h
  by_cases c3 : ftS (kd (tyS b) (flS b)).1 (kd (tyS b) (flS b)).2.1 ((R.size : Int) - ((if pdS b then byteAt R 0 else 0 : Nat) : Int) - ((if pdS b then 1 else 0 : Nat) : Int)) = false
  · rw [if_pos c3] at h; simp at h
  rw [if_neg c3] at h
  have ht := congrArg (fun q => q.1.1.data) h
  simp only at ht
  rcases take_data (kd (tyS b) (flS b)).2.2.2 ⟨tyS b, flS b, stS b, ⟨#[]⟩, ((if pdS b then byteAt R 0 else 0 : Nat) : Int), 0, false, 0, 0, 0⟩ rfl (R.extract (if pdS b then 1 else 0) (R.size - (if pdS b then byteAt R 0 else 0))) with hd | ⟨o, hd⟩
  · exact .inl (ht.symm.trans hd)
  · have hd' := ht.symm.trans hd
    obtain ⟨a, ha⟩ : ∃ a, (if pdS b then 1 else 0 : Nat) = a := ⟨_, rfl⟩
    obtain ⟨c, hc⟩ : ∃ c, R.size - (if pdS b then byteAt R 0 else 0) = c := ⟨_, rfl⟩
    rw [ha, hc] at hd'
    have hcl : c ≤ R.size := by omega
    rw [ByteArray.extract_extract] at hd'
    have hmin : min (a + (R.extract a c).size) c = c ∨ c < a := by
      rw [ByteArray.size_extract]
      omega
    by_cases hlt : a + o < c
    · have hm : min (a + (R.extract a c).size) c = c := by omega
      rw [hm] at hd'
      have hs : f.data.size = c - (a + o) := by rw [hd', ByteArray.size_extract]; omega
      refine .inr ⟨a + o, by omega, ?_⟩
      rw [hs, show a + o + (c - (a + o)) = c by omega, hd']
    · refine .inl ?_
      rw [hd']
      apply ByteArray.ext
      apply Array.eq_empty_of_size_eq_zero
      have : (R.extract (a + o) (min (a + (R.extract a c).size) c)).size = 0 := by rw [ByteArray.size_extract]; omega
      exact this
end Go.Proofs.YtjigjckclpccmaaDoor
