/- A builder made in the call; isPlain. Quote. -/
import Derived.Test.YtghppkfopglgaaaGreatDoorKab
import Derived.Test.YtghppkfopglgaaaGreatDoorSh
import Derived.Deep.Cut
import Derived.Deep.CutRange
namespace Go.Proofs.YtghppkfopglgaaaGreatDoor
open Go.RowKit
set_option linter.unusedVariables false
set_option linter.unusedSimpArgs false
theorem hid {p : Prop} (h : p) : Hid p := h
/-- a builder at b, its bytes' row from B on -/
def Bu (B b : Nat) (l : List UInt8) (w : World) : Prop := Lib.IsBuilderF 78 5 B b (Lib.byteCells l) w
theorem bc_app (l m : List UInt8) : Lib.byteCells (l ++ m) = Lib.byteCells l ++ Lib.byteCells m := by simp [Lib.byteCells]
theorem bu_byte (B b : Nat) (l : List UInt8) (c : UInt8) (w : World) (h : Bu B b l w) (hl : l.length + 1 ≤ 140737488355328) (hB : B ≤ w.heap.size) :
    Calls Tryz.prog 20 #[.pointer (some ⟨b, 0, none⟩), .int .u8 (c.toNat : Int)] w fun e w' => e = .returned .nilIface ∧ Bu B b (l ++ [c]) w' ∧ Below B w w' ∧ Lib.OthersKept 5 (some b) w w' := by
  refine (Tryz.Builder_WriteByte_k B b _ (c.toNat : Int) w h (by rw [Lib.byteCells_length]; exact hl) hB).mono ?_
  rintro e w' ⟨rfl, h1, h2, h3⟩
  refine ⟨rfl, ?_, h2, h3⟩
  unfold Bu
  rw [bc_app]
  exact .inr h1
theorem strCells_eq (s : ByteArray) : Lib.strCells s = Lib.byteCells s.data.toList := by
  unfold Lib.strCells Lib.byteCells
  rfl
theorem bu_str (B b : Nat) (l : List UInt8) (s : ByteArray) (w : World) (h : Bu B b l w) (hl : l.length + s.size ≤ 140737488355328) (hB : B ≤ w.heap.size) :
    Calls Tryz.prog 22 #[.pointer (some ⟨b, 0, none⟩), .string s] w fun e w' => e = .returned (.tuple #[.int .i64 s.size, .nilIface]) ∧ Bu B b (l ++ s.data.toList) w' ∧ Below B w w' ∧ Lib.OthersKept 5 (some b) w w' := by
  refine (Tryz.Builder_WriteString_k B b _ s w h (by rw [Lib.byteCells_length]; exact hl) hB).mono ?_
  rintro e w' ⟨rfl, h1, h2, h3⟩
  refine ⟨rfl, ?_, h2, h3⟩
  unfold Bu
  rw [bc_app, ← strCells_eq]
  exact .inr h1
theorem bu_string (B b : Nat) (l : List UInt8) (w : World) (h : Bu B b l w) (hB : B ≤ w.heap.size) :
    Calls Tryz.prog 23 #[.pointer (some ⟨b, 0, none⟩)] w fun e w' => e = .returned (.string (bt l)) ∧ Bu B b l w' ∧ Below B w w' ∧ Lib.OthersKept 5 (some b) w w' :=
  Tryz.Builder_String_any_k B b l w h hB
theorem bat_below {T : TypeId} {B b : Nat} {p : Value} {bs : List Value} {w w' : World} (h : Lib.BuilderAtF T 5 B b p bs w) (hb : Below w.heap.size w w') : Lib.BuilderAtF T 5 B b p bs w' := by
  obtain ⟨hB, v, hbk, hown, hne⟩ := h
  refine ⟨hB, v, (hb.block b (heap_lt hbk)).trans hbk, hown.kept (row := none) ⟨hb.os, hb.tape, hb.output, hb.size, fun k hk _ => hb.block k hk⟩ ?_, hne⟩
  cases v.ownBlock with
  | none => exact .inl rfl
  | some k => exact .inr (by simp)
theorem bu_below {B b : Nat} {l : List UInt8} {w w' : World} (h : Bu B b l w) (hb : Below w.heap.size w w') : Bu B b l w' := h.elim (fun h => .inl (bat_below h hb)) fun h => .inr (bat_below h hb)
theorem bu_new (w : World) : Bu w.heap.size w.heap.size [] (w.alloc (.cells #[.pointer none, .slice none 0 0] 78)) := by
  refine .inl ⟨Nat.le_refl _, .slice none 0 0, ?_, ?_, by simp [Value.ownBlock]⟩
  · rw [heap_al, if_pos rfl]
  · exact World.ownsRowF_of (World.ownsRow_nil _ _ _ _)
set_option maxRecDepth 100000 in
theorem plain_any (c : UInt8) (w : World) : Calls Tryz.prog 21 #[.int .u8 (c.toNat : Int)] w fun e w' => e = .returned (.bool (isPl c)) ∧ w' = w := by
  obtain ⟨n, hn⟩ : ∃ n, c.toNat = n := ⟨_, rfl⟩
  unfold isPl
  rw [hn]
  clear hn
  by_cases h1 : 32 ≤ n
  · by_cases h2 : n ≤ 126
    · have e1 : decide ((32 : Int) ≤ (n : Int)) = true := by simpa using (by omega : (32 : Int) ≤ n)
      have e2 : decide ((n : Int) ≤ 126) = true := by simpa using (by omega : (n : Int) ≤ 126)
      go_enter Tryz.func21, Tryz.ntmps21
      go_wp2
      go_ret
      simp [h1, h2]
    · have e1 : decide ((32 : Int) ≤ (n : Int)) = true := by simpa using (by omega : (32 : Int) ≤ n)
      have e2 : decide ((n : Int) ≤ 126) = false := by simpa using (by omega : ¬ (n : Int) ≤ 126)
      go_enter Tryz.func21, Tryz.ntmps21
      go_wp2
      go_ret
      simp [h1, h2]
  · have e1 : decide ((32 : Int) ≤ (n : Int)) = false := by simpa using (by omega : ¬ (32 : Int) ≤ n)
    go_enter Tryz.func21, Tryz.ntmps21
    go_wp2
    go_ret
    simp [h1]
end Go.Proofs.YtghppkfopglgaaaGreatDoor
namespace Go.Proofs.YtghppkfopglgaaaGreatDoor
open Go.RowKit
set_option linter.unusedVariables false
set_option linter.unusedSimpArgs false
theorem qtC_len : ∀ c : UInt8, (qtC c).length ≤ 4 := all_u8 (by decide +kernel)
theorem flat_le (l : List UInt8) : (l.flatMap qtC).length ≤ 4 * l.length := by
  induction l with
  | nil => simp
  | cons c l ih => have := qtC_len c; simp only [List.flatMap_cons, List.length_append, List.length_cons]; omega
theorem take_flat (l : List UInt8) (i : Nat) (h : i < l.length) : (l.take (i + 1)).flatMap qtC = (l.take i).flatMap qtC ++ qtC l[i] := by
  rw [List.take_add_one, List.getElem?_eq_getElem h, List.flatMap_append]
  simp
theorem hexAt : ∀ (q : Nat) (h : q < 16), (⟨#[48, 49, 50, 51, 52, 53, 54, 55, 56, 57, 97, 98, 99, 100, 101, 102]⟩ : ByteArray)[q]'h = hexS.getD q 0 := by
  intro q h
  rcases (show q = 0 ∨ q = 1 ∨ q = 2 ∨ q = 3 ∨ q = 4 ∨ q = 5 ∨ q = 6 ∨ q = 7 ∨ q = 8 ∨ q = 9 ∨ q = 10 ∨ q = 11 ∨ q = 12 ∨ q = 13 ∨ q = 14 ∨ q = 15 by omega) with rfl | rfl | rfl | rfl | rfl | rfl | rfl | rfl | rfl | rfl | rfl | rfl | rfl | rfl | rfl | rfl <;> rfl
theorem wrapI (i : Nat) (h : i ≤ 4611686018427387904) : Value.int .i64 (wrap64 ((i : Int) + 1)) = .int .i64 ((i + 1 : Nat) : Int) := by
  have : wrap64 ((i : Int) + 1) = ((i + 1 : Nat) : Int) := by unfold wrap64; omega
  rw [this]
/-- what is in the builder behind i bytes -/
def qtI (s : ByteArray) (i : Nat) : List UInt8 := 34 :: (s.data.toList.take i).flatMap qtC
set_option maxRecDepth 100000 in
set_option maxHeartbeats 4000000 in
theorem quote_any (s : ByteArray) (w : World) (hs : s.size ≤ 17592186044416) :
    Calls Tryz.prog 10 #[.string s] w fun e w' => e = .returned (.string (bt (qtS s.data.toList))) ∧ Below w.heap.size w w' := by
  obtain ⟨b, hb⟩ : ∃ b, w.heap.size = b := ⟨_, rfl⟩
  obtain ⟨W1, hW1⟩ : ∃ V, w.alloc (.cells #[.pointer none, .slice none 0 0] 78) = V := ⟨_, rfl⟩
  have hn : Bu b b [] W1 := by rw [← hW1, ← hb]; exact bu_new w
  have h1 : Below b w W1 := by rw [← hW1, ← hb]; exact bel1 _ _
  have hz : b ≤ W1.heap.size := by rw [← hW1, ← hb]; simp
  have HP : Hid (Calls Tryz.prog 20 #[.pointer (some ⟨b, 0, none⟩), .int .u8 34] W1 fun e w' => e = .returned .nilIface ∧ Bu b b [34] w' ∧ Below b w w') := by
    refine (bu_byte b b [] 34 W1 hn (by simp) hz).mono ?_
    rintro e w' ⟨rfl, h2, h3, _⟩
    exact ⟨rfl, h2, h1.trans h3⟩
  have HW1 := hid hW1
  have HB := hid hb
  have HS := hid hs
  clear hn h1 hz hW1 hb hs
  go_enter Tryz.func10, Tryz.ntmps10
  go_upto_region 2 with fail
  rw [HW1.out, HB.out]
  go_wp2_with fail
  go_at_call 20
  refine HP.out.mono ?_
  rintro e W2 ⟨rfl, h2, h3⟩
  have HJ : Hid (Bu b b (qtI s 0) W2 ∧ Below b w W2) := ⟨by simpa [qtI] using h2, h3⟩
  clear h2 h3 HP HW1
  go_wp2_with fail
  go_loopw [9] (fun iv wr => ∃ i : Nat, iv = .int .i64 (i : Int) ∧ i ≤ s.size ∧ Hid (Bu b b (qtI s i) wr ∧ Below b w wr)) (fun iv _ => s.size - (intOf iv).toNat)
  case atStart => exact ⟨0, rfl, Nat.zero_le _, HJ⟩
  case round =>
    obtain ⟨i, rfl, hle, HI⟩ := hrel
    clear HJ
    by_cases hlt : i < s.size
    · have hltI : (i : Int) < (s.size : Int) := by omega
      obtain ⟨c, hc⟩ : ∃ c, s[i] = c := ⟨_, rfl⟩
      have hcl : s.data.toList[i]'(by simpa using hlt) = c := hc
      have hbb : b ≤ wr.heap.size := Nat.le_trans (by have := HB.out; omega) HI.out.2.size
      have hsz : (qtI s i).length ≤ 4 * s.size + 1 := by
        have := flat_le (s.data.toList.take i)
        have h2 : (s.data.toList.take i).length ≤ i := by simp; omega
        unfold qtI; simp only [List.length_cons]; omega
      have HX : Hid (qtI s (i + 1) = qtI s i ++ qtC c) := by
        show _ = _
        unfold qtI
        rw [take_flat _ _ (by simpa using hlt), hcl]
        rfl
      clear hcl
      cases hp : isPl c with
      | false =>
        have h1 := plain_any c wr
        rw [hp] at h1
        have HP := hid h1
        have HW := hid (bu_str b b (qtI s i) ⟨#[92, 120]⟩ wr HI.out.1 (by have := HS.out; show _ + 2 ≤ _; omega) hbb)
        clear h1
        go_upto_region 7 with fail
        clear hc
        go_wp2_with fail
        go_at_call 21
        refine HP.out.mono ?_
        rintro e V ⟨rfl, e2⟩
        subst e2
        go_wp2_with fail
        go_at_call 22
        refine HW.out.mono ?_
        rintro e V ⟨rfl, h2, h3, h4⟩
        obtain ⟨q, hq⟩ : ∃ q : Nat, c.toNat / 16 = q := ⟨_, rfl⟩
        obtain ⟨r, hr⟩ : ∃ r : Nat, c.toNat % 16 = r := ⟨_, rfl⟩
        have hqi : (c.toNat : Int) / 16 = (q : Int) := by omega
        have hri : (c.toNat : Int) % 16 = (r : Int) := by omega
        have hq16 : q < 16 := by have := c.toNat_lt; omega
        have hr16 : r < 16 := by omega
        have hqI : (q : Int) < 16 := by omega
        have hrI : (r : Int) < 16 := by omega
        have HQ := hid (bu_byte b b _ (hexS.getD q 0) V h2 (by have := HS.out; simp; omega) (Nat.le_trans hbb h3.size))
        have h03 := HI.out.2.trans h3
        have HL : Hid ((qtI s i ++ [92, 120]).length + 2 ≤ 140737488355328) := by show _ ≤ _; have := HS.out; simp; omega
        have HZ : Hid (b ≤ V.heap.size) := Nat.le_trans hbb h3.size
        clear h2 h4 HW HP hbb hsz
        go_wp2_with fail
        rw [hexAt q hq16]
        go_at_call 20
        refine HQ.out.mono ?_
        rintro e V2 ⟨rfl, h2, h4, _⟩
        have HQ2 := hid (bu_byte b b _ (hexS.getD r 0) V2 h2 (by have := HL.out; simp at this ⊢; omega) (Nat.le_trans HZ.out h4.size))
        have h05 := h03.trans h4
        clear h2 HQ
        go_wp2_with fail
        rw [hexAt r hr16]
        go_at_call 20
        refine HQ2.out.mono ?_
        rintro e V3 ⟨rfl, h2, h6, _⟩
        have HE : Hid (Bu b b (qtI s (i + 1)) V3 ∧ Below b w V3) := ⟨by
          rw [HX.out]
          have : qtC c = [92, 120] ++ [hexS.getD q 0] ++ [hexS.getD r 0] := by
            unfold qtC
            rw [hp, if_neg (by simp), hq, hr]
            rfl
          rw [this, ← List.append_assoc, ← List.append_assoc]
          exact h2, h05.trans h6⟩
        clear h2 HQ2 HL HZ h3 h4 h6 h03 h05 HX HI hq hr hqi hri hq16 hr16 hqI hrI
        go_wp2_with fail
        go_roundw
        case rel => exact ⟨i + 1, wrapI i (by have := HS.out; omega), by omega, HE.out⟩
        case measure => rw [wrapI i (by have := HS.out; omega)]; show s.size - ((i + 1 : Nat) : Int).toNat < s.size - ((i : Nat) : Int).toNat; simp only [Int.toNat_natCast]; omega
      | true =>
        have h1 := plain_any c wr
        rw [hp] at h1
        have HP := hid h1
        clear h1
        by_cases hq : c = 34 ∨ c = 92
        · have HW := hid (bu_byte b b (qtI s i) 92 wr HI.out.1 (by have := HS.out; omega) hbb)
          have HE0 : Hid (∀ V, Bu b b (qtI s i ++ [92]) V → Below b wr V → Calls Tryz.prog 20 #[.pointer (some ⟨b, 0, none⟩), .int .u8 (c.toNat : Int)] V fun e w' => e = .returned .nilIface ∧ Bu b b (qtI s (i + 1)) w' ∧ Below b w w') := fun V h2 h3 => by
            refine (bu_byte b b _ c V h2 (by have := HS.out; simp; omega) (Nat.le_trans hbb h3.size)).mono ?_
            rintro e w' ⟨rfl, h4, h5, _⟩
            refine ⟨rfl, ?_, HI.out.2.trans (h3.trans h5)⟩
            rw [HX.out]
            have : qtC c = [92] ++ [c] := by unfold qtC; rw [hp, if_pos rfl, if_pos hq]; rfl
            rw [this, ← List.append_assoc]
            exact h4
          clear hsz HX hbb HI
          rcases hq with rfl | rfl
          all_goals
            go_upto_region 7 with fail
            clear hc
            go_wp2_with fail
            go_at_call 21
            refine HP.out.mono ?_
            rintro e V ⟨rfl, e2⟩
            subst e2
            go_wp2_with fail
            go_at_call 20
            refine HW.out.mono ?_
            rintro e V ⟨rfl, h2, h3, h4⟩
            have HQ := hid (HE0.out V h2 h3)
            clear h2 h3 h4 HW HP HE0
            go_wp2_with fail
            go_at_call 20
            refine HQ.out.mono ?_
            rintro e V2 ⟨rfl, h2, h3⟩
            have HE : Hid (Bu b b (qtI s (i + 1)) V2 ∧ Below b w V2) := ⟨h2, h3⟩
            clear h2 h3 HQ
            go_wp2_with fail
            go_roundw
            case rel => exact ⟨i + 1, wrapI i (by have := HS.out; omega), by omega, HE.out⟩
            case measure => rw [wrapI i (by have := HS.out; omega)]; show s.size - ((i + 1 : Nat) : Int).toNat < s.size - ((i : Nat) : Int).toNat; simp only [Int.toNat_natCast]; omega
        · have HW := hid (bu_byte b b (qtI s i) c wr HI.out.1 (by have := HS.out; omega) hbb)
          have hq1 : (c.toNat == 34) = false := by simpa using fun e => hq (.inl (UInt8.toNat_inj.1 e))
          have hq2 : (c.toNat == 92) = false := by simpa using fun e => hq (.inr (UInt8.toNat_inj.1 e))
          have hq3 : ((c.toNat : Int) == 34) = false := by simpa using fun e : (c.toNat : Int) = 34 => hq (.inl (UInt8.toNat_inj.1 (by show c.toNat = 34; omega)))
          have hq4 : ((c.toNat : Int) == 92) = false := by simpa using fun e : (c.toNat : Int) = 92 => hq (.inr (UInt8.toNat_inj.1 (by show c.toNat = 92; omega)))
          have HC : Hid (qtC c = [c]) := by show _ = _; unfold qtC; rw [hp, if_pos rfl, if_neg hq]
          clear hsz hbb hq
          go_upto_region 7 with fail
          clear hc
          go_wp2_with fail
          go_at_call 21
          refine HP.out.mono ?_
          rintro e V ⟨rfl, e2⟩
          subst e2
          go_wp2_with fail
          go_at_call 20
          refine HW.out.mono ?_
          rintro e V2 ⟨rfl, h2, h3, _⟩
          have HE : Hid (Bu b b (qtI s (i + 1)) V2 ∧ Below b w V2) := ⟨by rw [HX.out, HC.out]; exact h2, HI.out.2.trans h3⟩
          clear h2 h3 HW HP HX HC HI hq1 hq2 hq3 hq4
          go_wp2_with fail
          go_roundw
          case rel => exact ⟨i + 1, wrapI i (by have := HS.out; omega), by omega, HE.out⟩
          case measure => rw [wrapI i (by have := HS.out; omega)]; show s.size - ((i + 1 : Nat) : Int).toNat < s.size - ((i : Nat) : Int).toNat; simp only [Int.toNat_natCast]; omega
    · have hz : i = s.size := by omega
      have hltI : ¬ (i : Int) < (s.size : Int) := by omega
      have hbb : b ≤ wr.heap.size := Nat.le_trans (by have := HB.out; omega) HI.out.2.size
      have hsz : (qtI s i).length ≤ 4 * s.size + 1 := by
        have := flat_le (s.data.toList.take i)
        have h2 : (s.data.toList.take i).length ≤ i := by simp; omega
        unfold qtI; simp only [List.length_cons]; omega
      have HW := hid (bu_byte b b (qtI s i) 34 wr HI.out.1 (by have := HS.out; omega) hbb)
      have HT : Hid (qtI s i ++ [34] = qtS s.data.toList) := by
        show _ = _
        unfold qtI qtS
        rw [hz, List.take_of_length_le (by simp)]
        rfl
      have HI2 := hid (And.intro HI.out.2 hbb)
      clear HI hsz hbb hz hlt
      go_wp2_with fail
      go_at_call 20
      refine HW.out.mono ?_
      rintro e V2 ⟨rfl, h2, h3, _⟩
      rw [HT.out] at h2
      have HQ := hid (bu_string b b _ V2 h2 (Nat.le_trans HI2.out.2 h3.size))
      have HF := hid (HI2.out.1.trans h3)
      clear h2 h3 HW HT HI2
      go_wp2_with fail
      go_at_call 23
      refine HQ.out.mono ?_
      rintro e V3 ⟨rfl, _, h3, _⟩
      have h4 := HF.out.trans h3
      rw [← HB.out] at h4
      clear h3 HQ HF
      go_wp2_with fail
      go_ret
      exact ⟨rfl, h4⟩
end Go.Proofs.YtghppkfopglgaaaGreatDoor
