/- Escapes. unquoted. What start-up lays; numbers. What the listed variables give. The witness's world. Words; strings.Cut at a blank; firstWord. -/
import Derived.Test.YtghppkfopglgaaaGreatDoorQc
import Derived.Test.YtghppkfopglgaaaGreatDoorCards
import Derived.Test.YtghppkfopglgaaaGreatDoorTie
import Derived.WalkKit
import Derived.ProofKit
import Derived.OpenShut
import Derived.SizedLaws
import Derived.LaidLaws
import Derived.Deep.DeepHandedRow
import Derived.Deep.SlicePairs
import Derived.Lib.LaidTab
namespace Go.Proofs.YtghppkfopglgaaaGreatDoor
open Go.RowKit
set_option linter.unusedVariables false
set_option linter.unusedSimpArgs false
/-- what stands behind a backslash: the byte that is meant and how many bytes the escape has -/
def escS : List UInt8 → Option (UInt8 × Nat)
  | [] => none
  | x :: r1 => if x = 34 ∨ x = 92 then some (x, 2) else if x = 120 then
      match r1 with
      | h :: l :: _ => if hexOk h l then some (hexB h l, 4) else none
      | _ => none
    else none
theorem escS_cons (x : UInt8) (r1 : List UInt8) : escS (x :: r1) = if x = 34 ∨ x = 92 then some (x, 2) else if x = 120 then (match r1 with | h :: l :: _ => if hexOk h l then some (hexB h l, 4) else none | _ => none) else none := rfl
/-- what escaped tells -/
def EsP (l : List UInt8) (v : Int) (n : Int) : Prop := match escS l with | none => v = 0 ∧ n = 0 | some (c, k) => v = (c.toNat : Int) ∧ n = (k : Int)
theorem drop_ext (s : ByteArray) (k : Nat) : (s.extract k s.size).data.toList = s.data.toList.drop k := by
  rw [Lib.extract_data, List.take_of_length_le]
  simp only [List.length_drop, Array.length_toList]
  exact Nat.le_refl _
set_option maxRecDepth 100000 in
set_option maxHeartbeats 4000000 in
theorem escaped_any (s : ByteArray) (c0 : UInt8) (l : List UInt8) (hs0 : s.data.toList = c0 :: l) (w : World) : Calls Tryz.prog 110 #[.string s] w fun e w' =>
    (∃ v n : Int, e = .returned (.tuple #[.int .u8 v, .int .i64 n]) ∧ EsP l v n) ∧ Below w.heap.size w w' := by
  have hsz : s.size = l.length + 1 := by
    have : s.size = s.data.toList.length := by rw [Array.length_toList]; rfl
    rw [this, hs0]; rfl
  by_cases hs : s.size < 2
  · have hsI : (s.size : Int) < 2 := by omega
    have hl : l = [] := List.eq_nil_of_length_eq_zero (by omega)
    subst hl
    clear hs0 hsz
    go_enter Tryz.func110, Tryz.ntmps110
    go_wp2
    go_ret2
    exact ⟨⟨0, 0, rfl, rfl, rfl⟩, Below.refl _ _⟩
  · have hsI : ¬ (s.size : Int) < 2 := by omega
    have h1 : 1 < s.size := by omega
    have h2 : 2 ≤ s.size := by omega
    have h1I : (1 : Int) < (s.size : Int) := by omega
    have h2I : (2 : Int) ≤ (s.size : Int) := by omega
    obtain ⟨x, hx⟩ : ∃ x, s[1] = x := ⟨_, rfl⟩
    obtain ⟨r, hr⟩ := two_of s h1
    rw [hx, hs0] at hr
    injection hr with _ hr
    have HL := hid hr
    clear hr
    by_cases hq : x = 34 ∨ x = 92
    · have HE : Hid (EsP l (x.toNat : Int) 2) := by
        show EsP l _ _
        rw [HL.out]
        unfold EsP
        rw [escS_cons, if_pos hq]
        exact ⟨rfl, rfl⟩
      clear hs0 hsz HL
      rcases hq with rfl | rfl
      all_goals
        go_enter Tryz.func110, Tryz.ntmps110
        go_wp2
        go_ret2
        exact ⟨⟨_, _, rfl, HE.out⟩, Below.refl _ _⟩
    · have hq1 : (x.toNat == 34) = false := by simpa using fun e => hq (.inl (UInt8.toNat_inj.1 e))
      have hq2 : (x.toNat == 92) = false := by simpa using fun e => hq (.inr (UInt8.toNat_inj.1 e))
      have hq3 : ((x.toNat : Int) == 34) = false := by simpa using fun e : (x.toNat : Int) = 34 => hq (.inl (UInt8.toNat_inj.1 (by show x.toNat = 34; omega)))
      have hq4 : ((x.toNat : Int) == 92) = false := by simpa using fun e : (x.toNat : Int) = 92 => hq (.inr (UInt8.toNat_inj.1 (by show x.toNat = 92; omega)))
      by_cases hy : x = 120
      · subst hy
        have hd : (s.extract 2 s.size).data.toList = r := by rw [drop_ext, hs0, HL.out]; rfl
        have HX := hid (fun V => hexByte_any (s.extract 2 s.size) V)
        have HE : Hid (∀ (v : Int) (ok : Bool), HbP (s.extract 2 s.size) v ok → (ok = true → EsP l v 4) ∧ (ok = false → EsP l 0 0)) := fun v ok hP => by
          unfold HbP at hP
          rw [hd] at hP
          rw [HL.out]
          unfold EsP
          rw [escS_cons, if_neg (by decide), if_pos rfl]
          constructor
          · intro e
            rcases hP.1 with h | ⟨h, l', r', h3, h4, h5⟩
            · rw [e] at h; cases h
            · rw [h3]; simp only; rw [h4, if_pos rfl]; exact ⟨h5, rfl⟩
          · intro e
            rcases hP.2 with h | h | ⟨h, l', r', h3, h4⟩
            · rw [e] at h; cases h
            · have hl2 : r.length < 2 := by
                have : (s.extract 2 s.size).size = (s.extract 2 s.size).data.toList.length := by rw [Array.length_toList]; rfl
                rw [this, hd] at h; exact h
              match r, hl2 with
              | [], _ => exact ⟨rfl, rfl⟩
              | [_], _ => exact ⟨rfl, rfl⟩
            · rw [h3]; show (match (if hexOk h l' = true then some (hexB h l', 4) else none) with | none => _ | some (c, k) => _); rw [h4, if_neg (by simp)]; exact ⟨rfl, rfl⟩
        clear hs0 hsz HL hd hq hq1 hq2 hq3 hq4
        go_enter Tryz.func110, Tryz.ntmps110
        go_upto_region 9 with fail
        clear hx
        go_wp2_with fail
        go_at_call 116
        refine (HX.out _).mono ?_
        rintro e V ⟨⟨v, ok, rfl, hP⟩, hB⟩
        have HP := hid (HE.out v ok hP)
        have HB := hid hB
        clear hP hB HX HE
        cases ok
        · go_wp2_with fail
          go_ret2
          exact ⟨⟨_, _, rfl, HP.out.2 (by first | rfl | trivial)⟩, HB.out⟩
        · go_wp2_with fail
          go_ret2
          exact ⟨⟨_, _, rfl, HP.out.1 (by first | rfl | trivial)⟩, HB.out⟩
      · have hy3 : ((x.toNat : Int) == 120) = false := by simpa using fun e : (x.toNat : Int) = 120 => hy (UInt8.toNat_inj.1 (by show x.toNat = 120; omega))
        have HE : Hid (EsP l 0 0) := by
          show EsP l _ _
          rw [HL.out]
          unfold EsP
          rw [escS_cons, if_neg hq, if_neg hy]
          exact ⟨rfl, rfl⟩
        clear hs0 hsz HL hq hy
        go_enter Tryz.func110, Tryz.ntmps110
        go_wp2
        go_ret2
        exact ⟨⟨_, _, rfl, HE.out⟩, Below.refl _ _⟩
end Go.Proofs.YtghppkfopglgaaaGreatDoor
namespace Go.Proofs.YtghppkfopglgaaaGreatDoor
open Go.RowKit
set_option linter.unusedVariables false
set_option linter.unusedSimpArgs false
theorem sz_eq (s : ByteArray) : s.size = s.data.toList.length := by rw [Array.length_toList]; rfl
/-- behind i bytes: what is in the builder, and what is left -/
def UqR (s : ByteArray) (l : List UInt8) (i : Nat) (acc : List UInt8) : Prop := unq l = (unq (s.data.toList.drop i)).map (fun p => (acc ++ p.1, p.2)) ∧ acc.length ≤ i
theorem uq_plain {s : ByteArray} {l acc : List UInt8} {i : Nat} {c : UInt8} {r : List UInt8} (h : UqR s l i acc) (hd : s.data.toList.drop i = c :: r) (h1 : isPl c = true) (h2 : c ≠ 34) (h3 : c ≠ 92) : UqR s l (i + 1) (acc ++ [c]) := by
  refine ⟨?_, by have := h.2; simp; omega⟩
  have e : s.data.toList.drop (i + 1) = r := by rw [← List.drop_drop, hd]; rfl
  rw [h.1, hd, unq_c c h1 h2 h3, e, unqAdd]
  cases unq r <;> simp
theorem uq_esc {s : ByteArray} {l acc : List UInt8} {i k : Nat} {x : UInt8} {r : List UInt8} (h : UqR s l i acc) (hd : s.data.toList.drop i = 92 :: r) (he : escS r = some (x, k)) : UqR s l (i + k) (acc ++ [x]) ∧ 2 ≤ k ∧ k ≤ 4 ∧ i + k ≤ s.size := by
  have hk : unq (92 :: r) = unqAdd x (s.data.toList.drop (i + k)) ∧ 2 ≤ k ∧ k ≤ 4 ∧ k ≤ r.length + 1 := by
    have e : s.data.toList.drop (i + k) = (92 :: r).drop k := by rw [← List.drop_drop, hd]
    rw [e]
    cases r with
    | nil => cases he
    | cons y r1 =>
      rw [escS_cons] at he
      split at he
      · rename_i hq
        cases he
        refine ⟨unq_e _ hq r1, by omega, by omega, by simp⟩
      · split at he
        · rename_i hy
          rw [hy]
          split at he
          · split at he
            · rename_i h' l' r2 ho
              cases he
              refine ⟨?_, by omega, by omega, by simp⟩
              unfold unq
              rw [if_neg (by decide), if_neg (by decide), if_pos rfl]
              simp only
              rw [if_neg (by decide), if_pos (by decide), if_pos ho]
              rfl
            · cases he
          · cases he
        · cases he
  obtain ⟨h1, h2, h3, h4⟩ := hk
  refine ⟨⟨?_, by have := h.2; simp; omega⟩, h2, h3, ?_⟩
  · rw [h.1, hd, h1, unqAdd]
    cases unq (s.data.toList.drop (i + k)) <;> simp
  · have := congrArg List.length hd
    rw [List.length_drop, ← sz_eq] at this
    simp at this
    omega
theorem esc_none {r : List UInt8} (h : escS r = none) : unq (92 :: r) = none := by
  unfold unq
  rw [if_neg (by decide), if_neg (by decide), if_pos rfl]
  cases r with
  | nil => rfl
  | cons y r1 =>
    rw [escS_cons] at h
    simp only
    split at h
    · cases h
    · rename_i h1
      rw [if_neg h1]
      split at h
      · rename_i h2
        rw [if_pos h2]
        match r1, h with
        | [], _ => rfl
        | [_], _ => rfl
        | h' :: l' :: r2, h =>
          simp only at h ⊢
          split at h
          · cases h
          · rename_i h3; rw [if_neg h3]
      · rename_i h2; rw [if_neg h2]
/-- what unquoted tells -/
def UqP (s : ByteArray) (l : List UInt8) (t : ByteArray) (n : Int) : Prop := match unq l with | none => t = noS ∧ n = 0 | some p => t = bt p.1 ∧ n = (s.size : Int) - p.2.length
theorem uq_end {s : ByteArray} {l acc : List UInt8} {i : Nat} (h : UqR s l i acc) (hn : unq (s.data.toList.drop i) = none) : UqP s l noS 0 := by
  unfold UqP
  rw [h.1, hn]
  exact ⟨rfl, rfl⟩
theorem uq_ok {s : ByteArray} {l acc r : List UInt8} {i : Nat} (h : UqR s l i acc) (hd : s.data.toList.drop i = 34 :: r) : UqP s l (bt acc) ((i + 1 : Nat) : Int) := by
  have hu : unq (34 :: r) = some ([], r) := by unfold unq; rw [if_pos rfl]
  have hl := congrArg List.length hd
  rw [List.length_drop, ← sz_eq] at hl
  simp at hl
  unfold UqP
  rw [h.1, hd, hu]
  simp only [Option.map_some, List.append_nil]
  exact ⟨trivial, by omega⟩
theorem drop_at (s : ByteArray) (i : Nat) (h : i < s.size) : s.data.toList.drop i = s[i] :: s.data.toList.drop (i + 1) := by
  rw [List.drop_eq_getElem_cons (by rw [← sz_eq]; exact h)]
  rfl
set_option maxRecDepth 100000 in
set_option maxHeartbeats 8000000 in
theorem unquoted_any (s : ByteArray) (l : List UInt8) (hl : s.data.toList = 34 :: l) (w : World) (hs : s.size ≤ 17592186044416) :
    Calls Tryz.prog 92 #[.string s] w fun e w' => (∃ t n, e = .returned (.tuple #[.string t, .int .i64 n]) ∧ UqP s l t n) ∧ Below w.heap.size w w' := by
  obtain ⟨b, hb⟩ : ∃ b, w.heap.size = b := ⟨_, rfl⟩
  obtain ⟨W1, hW1⟩ : ∃ V, w.alloc (.cells #[.pointer none, .slice none 0 0] 78) = V := ⟨_, rfl⟩
  have hn : Bu b b [] W1 := by rw [← hW1, ← hb]; exact bu_new w
  have h1 : Below b w W1 := by rw [← hW1, ← hb]; exact bel1 _ _
  have HJ : Hid (Bu b b [] W1 ∧ Below b w W1 ∧ UqR s l 1 []) := ⟨hn, h1, by rw [hl]; simp, by simp⟩
  have hs1 : Hid (1 ≤ s.size) := by show 1 ≤ s.size; rw [sz_eq, hl]; simp
  have HW1 := hid hW1
  have HB := hid hb
  have HS := hid hs
  clear hn h1 hW1 hb hs hl
  go_enter Tryz.func92, Tryz.ntmps92
  go_wp2_with fail
  go_step3
  go_wp2_with fail
  rw [HW1.out, HB.out]
  clear HW1
  go_step3
  go_wp2_with fail
  go_loopw [5, 6] (fun zv iv wr => ∃ (i : Nat) (acc : List UInt8), zv = .int .i64 0 ∧ iv = .int .i64 (i : Int) ∧ i ≤ s.size ∧ Hid (Bu b b acc wr ∧ Below b w wr ∧ UqR s l i acc)) (fun _ iv _ => s.size - (intOf iv).toNat)
  case atStart => exact ⟨1, [], rfl, rfl, hs1.out, HJ.out⟩
  case round =>
    obtain ⟨i, acc, rfl, rfl, hle, HI⟩ := hrel
    clear HJ hs1
    by_cases hlt : i < s.size
    · have hltI : (i : Int) < (s.size : Int) := by omega
      have hleI : (i : Int) ≤ (s.size : Int) := by omega
      obtain ⟨c, hc⟩ : ∃ c, s[i] = c := ⟨_, rfl⟩
      have hd := drop_at s i hlt
      rw [hc] at hd
      have HD := hid hd
      clear hd
      have hbb : b ≤ wr.heap.size := Nat.le_trans (by have := HB.out; omega) HI.out.2.1.size
      have HL := hid hlt
      by_cases hq : c = 34
      · subst hq
        have HP : Hid (UqP s l (bt acc) (wrap64 ((i : Int) + 1))) := by
          have := uq_ok HI.out.2.2 HD.out
          have e : wrap64 ((i : Int) + 1) = ((i + 1 : Nat) : Int) := by have := HS.out; unfold wrap64; omega
          show UqP _ _ _ _
          rw [e]
          exact this
        have HT := hid (bu_string b b _ wr HI.out.1 hbb)
        have HF := hid HI.out.2.1
        clear hbb HI HD hle
        have hw1 : wrap64 ((i : Int) + 1) = ((i + 1 : Nat) : Int) := by have := HS.out; unfold wrap64; omega
        have hnz : (((i + 1 : Nat) : Int) == 0) = false := by simp; omega
        go_wp2_with fail
        go_at_call 23
        refine HT.out.mono ?_
        rintro e V ⟨rfl, _, h3, _⟩
        have h4 := HF.out.trans h3
        rw [← HB.out] at h4
        clear h3 HT HF hw1 hnz hc
        go_wp2_with fail
        simp (config := { zetaDelta := true }) only [go_sem, Exit.noGoto_ret]
        go_ret2
        exact ⟨⟨_, _, rfl, HP.out⟩, h4⟩
      · have hq3 : ((c.toNat : Int) == 34) = false := by simpa using fun e : (c.toNat : Int) = 34 => hq (UInt8.toNat_inj.1 (by show c.toNat = 34; omega))
        have hq1 : (c.toNat == 34) = false := by simpa using fun e => hq (UInt8.toNat_inj.1 e)
        have hp0 := plain_any c wr
        cases hp : isPl c with
        | false =>
          rw [hp] at hp0
          have HPl := hid hp0
          have HP : Hid (UqP s l noS 0) := uq_end HI.out.2.2 (by rw [HD.out]; unfold unq; rw [if_neg hq, hp, if_pos rfl])
          have HF := hid HI.out.2.1
          clear hp0 hbb HI HD hle hq hp
          go_wp2_with fail
          go_at_call 21
          refine HPl.out.mono ?_
          rintro e V ⟨rfl, e2⟩
          subst e2
          have h4 := HF.out
          rw [← HB.out] at h4
          clear hc HPl HF
          go_wp2_with fail
          simp (config := { zetaDelta := true }) only [go_sem, Exit.noGoto_ret]
          go_ret2
          exact ⟨⟨_, _, rfl, HP.out⟩, h4⟩
        | true =>
          rw [hp] at hp0
          have HPl := hid hp0
          clear hp0
          by_cases hs2 : c = 92
          · subst hs2
            have HX := hid (fun V => escaped_any (s.extract i s.size) 92 (s.data.toList.drop (i + 1)) (by rw [drop_ext, HD.out]) V)
            have HF := hid (And.intro HI.out.1 (And.intro HI.out.2.1 hbb))
            have HR := hid HI.out.2.2
            clear hbb HI hle hq hp
            go_wp2_with fail
            go_at_call 21
            refine HPl.out.mono ?_
            rintro e V ⟨rfl, e2⟩
            subst e2
            clear hc HPl
            go_wp2_with fail
            go_at_call 110
            refine (HX.out _).mono ?_
            rintro e V ⟨⟨v, n, rfl, hE⟩, hB⟩
            unfold EsP at hE
            cases he : escS (s.data.toList.drop (i + 1)) with
            | none =>
              rw [he] at hE
              obtain ⟨rfl, rfl⟩ := hE
              have HP : Hid (UqP s l noS 0) := uq_end HR.out (by rw [HD.out]; exact esc_none he)
              have h4 := HF.out.2.1.trans (hB.mono HF.out.2.2)
              rw [← HB.out] at h4
              clear hB HF HX HD HR he
              go_wp2_with fail
              simp (config := { zetaDelta := true }) only [go_sem, Exit.noGoto_ret]
              go_ret2
              exact ⟨⟨_, _, rfl, HP.out⟩, h4⟩
            | some p =>
              obtain ⟨x, k⟩ := p
              rw [he] at hE
              obtain ⟨rfl, rfl⟩ := hE
              obtain ⟨u1, u2, u3, u4⟩ := uq_esc HR.out HD.out he
              have hB2 : Bu b b acc V := bu_below HF.out.1 hB
              have HW := hid (bu_byte b b acc x V hB2 (by have := HR.out.2; have := HL.out; have := HS.out; omega) (Nat.le_trans HF.out.2.2 hB.size))
              have HU := hid (And.intro u1 (And.intro u4 (HF.out.2.1.trans (hB.mono HF.out.2.2))))
              have hkz : (((k : Nat) : Int) == 0) = false := by simp; omega
              have hk1 : wrap64 ((k : Int) - 1) = ((k - 1 : Nat) : Int) := by unfold wrap64; omega
              have hk2 : wrap64 ((i : Int) + ((k - 1 : Nat) : Int)) = ((i + k - 1 : Nat) : Int) := by have := HS.out; have := HL.out; unfold wrap64; omega
              have hk3 : wrap64 (((i + k - 1 : Nat) : Int) + 1) = ((i + k : Nat) : Int) := by have := HS.out; have := HL.out; unfold wrap64; omega
              have HK := hid u2
              clear u1 u2 u3 u4 hB hB2 HF HX HD HR he
              go_wp2_with fail
              go_at_call 20
              refine HW.out.mono ?_
              rintro e V2 ⟨rfl, h2, h3, _⟩
              have HE : Hid (Bu b b (acc ++ [x]) V2 ∧ Below b w V2 ∧ UqR s l (i + k) (acc ++ [x])) := ⟨h2, HU.out.2.2.trans h3, HU.out.1⟩
              have hle2 := HU.out.2.1
              clear h2 h3 HW HU
              go_wp2_with fail
              go_roundw
              case rel => exact ⟨i + k, acc ++ [x], rfl, by first | rfl | rw [hk3], hle2, HE.out⟩
              case measure => (try rw [hk3]); have := HK.out; have := HL.out; show s.size - ((i + k : Nat) : Int).toNat < s.size - ((i : Nat) : Int).toNat; simp only [Int.toNat_natCast]; omega
          · have hs3 : ((c.toNat : Int) == 92) = false := by simpa using fun e : (c.toNat : Int) = 92 => hs2 (UInt8.toNat_inj.1 (by show c.toNat = 92; omega))
            have hs1 : (c.toNat == 92) = false := by simpa using fun e => hs2 (UInt8.toNat_inj.1 e)
            have HU := hid (And.intro (uq_plain HI.out.2.2 HD.out hp hq hs2) HI.out.2.1)
            have HW := hid (bu_byte b b acc c wr HI.out.1 (by have := HI.out.2.2.2; have := HS.out; omega) hbb)
            have hk3 : wrap64 ((i : Int) + 1) = ((i + 1 : Nat) : Int) := by have := HS.out; unfold wrap64; omega
            clear HD HI hbb hle hq hp hs2
            go_wp2_with fail
            go_at_call 21
            refine HPl.out.mono ?_
            rintro e V ⟨rfl, e2⟩
            subst e2
            clear hc HPl
            go_wp2_with fail
            go_at_call 20
            refine HW.out.mono ?_
            rintro e V2 ⟨rfl, h2, h3, _⟩
            have HE : Hid (Bu b b (acc ++ [c]) V2 ∧ Below b w V2 ∧ UqR s l (i + 1) (acc ++ [c])) := ⟨h2, HU.out.2.trans h3, HU.out.1⟩
            clear h2 h3 HW HU hq1 hq3 hs1 hs3
            go_wp2_with fail
            go_roundw
            case rel => exact ⟨i + 1, acc ++ [c], rfl, by first | rfl | rw [hk3], HL.out, HE.out⟩
            case measure => (try rw [hk3]); have := HL.out; show s.size - ((i + 1 : Nat) : Int).toNat < s.size - ((i : Nat) : Int).toNat; simp only [Int.toNat_natCast]; omega
    · have hltI : ¬ (i : Int) < (s.size : Int) := by omega
      have HP : Hid (UqP s l noS 0) := uq_end HI.out.2.2 (by rw [List.drop_of_length_le (by rw [← sz_eq]; omega)]; rfl)
      have h4 := HI.out.2.1
      rw [← HB.out] at h4
      clear HI hlt hle
      go_wp2_with fail
      go_ret2
      exact ⟨⟨_, _, rfl, HP.out⟩, h4⟩
end Go.Proofs.YtghppkfopglgaaaGreatDoor
namespace Go.Proofs.YtghppkfopglgaaaGreatDoor
open Go.RowKit
set_option linter.unusedVariables false
set_option linter.unusedSimpArgs false
theorem ba_eq {a b : ByteArray} (h : a.data.toList = b.data.toList) : a = b := by
  cases a; cases b; simp only at h; congr 1; exact Array.toList_inj.1 h
theorem str_eq {a b : ByteArray} (h : a = b) : (a.toList == b.toList) = true := by simp [h]
theorem str_ne {a b : ByteArray} (h : a ≠ b) : (a.toList == b.toList) = false := by
  rw [beq_eq_false_iff_ne]
  intro e
  rw [ByteArray.toList_eq, ByteArray.toList_eq] at e
  exact h (ba_eq e)

def namesC (l : List (List UInt8)) : Array Value := (l.map fun x => Value.string (bt x)).toArray
/-- the package's variables, and the library's that are read -/
structure Env (w : World) : Prop where
  kn : ∃ t, w.heap[0]? = some (.cells (namesC kindL) t (0, 0))
  mn : ∃ t, w.heap[1]? = some (.cells (namesC moveL) t (0, 0))
  tab : Lib.TabIs Tryz.prog w "internal/strconv.uint64pow10" .u64 Lib.pow10Tab
  es : ∃ tp p, w.var? Tryz.prog "strconv.ErrSyntax" = some #[.iface tp p]
  er : ∃ tp p, w.var? Tryz.prog "strconv.ErrRange" = some #[.iface tp p]
  sz : 8 ≤ w.heap.size
theorem gTab : Tryz.prog.globalNamed "internal/strconv.uint64pow10" = some 2 := by kernel_rfl
theorem gEs : Tryz.prog.globalNamed "strconv.ErrSyntax" = some 6 := by kernel_rfl
theorem gEr : Tryz.prog.globalNamed "strconv.ErrRange" = some 7 := by kernel_rfl
theorem Env.of {w w' : World} (h : Env w) (hs : w.heap.size ≤ w'.heap.size) (hb : ∀ k, k < 8 → w'.heap[k]? = w.heap[k]?) : Env w' := by
  obtain ⟨⟨t1, h1⟩, ⟨t2, h2⟩, h3, ⟨tp, p, h4⟩, ⟨tq, q, h5⟩, h6⟩ := h
  refine ⟨⟨t1, (hb 0 (by omega)).trans h1⟩, ⟨t2, (hb 1 (by omega)).trans h2⟩, ?_, ⟨tp, p, ?_⟩, ⟨tq, q, ?_⟩, by omega⟩
  · unfold Lib.TabIs World.var? at h3 ⊢
    rw [gTab, Option.bind_some] at h3 ⊢
    rw [hb 2 (by omega)]
    exact h3
  · unfold World.var? at h4 ⊢
    rw [gEs, Option.bind_some] at h4 ⊢
    rw [hb 6 (by omega)]
    exact h4
  · unfold World.var? at h5 ⊢
    rw [gEr, Option.bind_some] at h5 ⊢
    rw [hb 7 (by omega)]
    exact h5
theorem Env.below {w w' : World} (h : Env w) (hb : Below w.heap.size w w') : Env w' := h.of hb.size fun k hk => hb.block k (by have := h.sz; omega)
theorem Env.belowB {w w' : World} {B : Nat} (h : Env w) (h8 : 8 ≤ B) (hb : Below B w w') : Env w' := h.of hb.size fun k hk => hb.block k (by omega)
theorem grow_below (w : World) (os : Array Obj) : Below w.heap.size w (Go.Sort.grow w os) :=
  ⟨rfl, rfl, rfl, by simp [Go.Sort.grow], fun k hk => by simp [Go.Sort.grow, Array.getElem?_append, hk]⟩
theorem format_any (n : Int) (h : I64 n) (w : World) (ht : Env w) : Calls Tryz.prog 31 #[.int .i64 n, .int .i64 10] w fun e w' => e = .returned (.string (bt (Lib.itoa n))) ∧ Below w.heap.size w w' := by
  refine (Tryz.strconv_FormatInt_10 n h.1 h.2 w ht.tab).mono ?_
  rintro e w' ⟨rfl, k, os, rfl⟩
  exact ⟨rfl, (below_drewN (Below.refl _ w) k).trans (show Below w.heap.size (w.drewN k) _ from grow_below (w.drewN k) os)⟩
theorem itoa_any (n : Int) (h : I64 n) (w : World) (ht : Env w) : Calls Tryz.prog 30 #[.int .i64 n] w fun e w' => e = .returned (.string (bt (Lib.itoa n))) ∧ Below w.heap.size w w' := by
  refine (Tryz.strconv_Itoa n h.1 h.2 w ht.tab).mono ?_
  rintro e w' ⟨rfl, k, os, rfl⟩
  exact ⟨rfl, (below_drewN (Below.refl _ w) k).trans (show Below w.heap.size (w.drewN k) _ from grow_below (w.drewN k) os)⟩
set_option maxRecDepth 100000 in
set_option maxHeartbeats 4000000 in
theorem number_any (s : ByteArray) (hs : s.size ≤ 140737488355328) (w : World) (hE : Env w) : Calls Tryz.prog 89 #[.string s] w fun e w' => e = .returned (.tuple #[.int .i64 (numV s.data.toList), .bool (numB s.data.toList)]) ∧ Below w.heap.size w w' := by
  obtain ⟨r, hr⟩ : ∃ r, Lib.parseIntB 64 s.data.toList = r := ⟨_, rfl⟩
  cases r with
  | ok v =>
    have hv : I64 v := by
      have := Lib.parseIntB_bounds hr
      unfold I64
      simp at this
      omega
    have HN : Hid (numV s.data.toList = v ∧ numB s.data.toList = decide (Lib.itoa v = s.data.toList)) := by
      show _ ∧ _
      unfold numV numB
      rw [hr]
      exact ⟨rfl, rfl⟩
    have HP : Hid (Calls Tryz.prog 109 #[.string s, .int .i64 10, .int .i64 64] w fun e w' => e = .returned (.tuple #[.int .i64 v, .nilIface]) ∧ Below w.heap.size w w') := by
      refine (Tryz.strconv_ParseInt_10_at64_ok s (by omega) v hr w).mono ?_
      rintro e w' ⟨rfl, rfl | ⟨t, rfl⟩⟩
      · exact ⟨rfl, Below.refl _ _⟩
      · exact ⟨rfl, Lib.bytesWorld_below _ _ _⟩
    have HF : Hid (∀ V, Below w.heap.size w V → Calls Tryz.prog 31 #[.int .i64 v, .int .i64 10] V fun e w' => e = .returned (.string (bt (Lib.itoa v))) ∧ Below V.heap.size V w') := fun V hV => format_any v hv V (hE.below hV)
    by_cases he : Lib.itoa v = s.data.toList
    · have hts : bt (Lib.itoa v) = s := by rw [he, bt_data]
      rw [hts] at HF
      have hb : numB s.data.toList = true := by rw [HN.out.2]; simpa using he
      have hv2 := HN.out.1
      clear hr hv hE hs he hts HN
      go_enter Tryz.func89, Tryz.ntmps89
      go_wp2_with fail
      go_at_call 109
      refine HP.out.mono ?_
      rintro e V ⟨rfl, hB⟩
      have HQ := hid (HF.out V hB)
      have HB := hid hB
      clear HP HF hB
      go_wp2_with fail
      go_at_call 31
      refine HQ.out.mono ?_
      rintro e V2 ⟨rfl, h2⟩
      have h3 := HB.out.trans (h2.mono HB.out.size)
      clear h2 HB HQ
      go_wp2_with fail
      go_ret2
      exact ⟨by rw [hv2, hb]; rfl, h3⟩
    · obtain ⟨t, ht⟩ : ∃ t, bt (Lib.itoa v) = t := ⟨_, rfl⟩
      have hne : (t.toList == s.toList) = false := by
        refine str_ne fun e => he ?_
        rw [← e, ← ht]
        rfl
      rw [ht] at HF
      have hb : numB s.data.toList = false := by rw [HN.out.2]; simpa using he
      have hv2 := HN.out.1
      clear hr hv hE hs he ht HN
      go_enter Tryz.func89, Tryz.ntmps89
      go_wp2_with fail
      go_at_call 109
      refine HP.out.mono ?_
      rintro e V ⟨rfl, hB⟩
      have HQ := hid (HF.out V hB)
      have HB := hid hB
      clear HP HF hB
      go_wp2_with fail
      go_at_call 31
      refine HQ.out.mono ?_
      rintro e V2 ⟨rfl, h2⟩
      have h3 := HB.out.trans (h2.mono HB.out.size)
      clear h2 HB HQ
      go_wp2_with fail
      go_ret2
      exact ⟨by rw [hv2, hb]; rfl, h3⟩
  | «syntax» =>
    obtain ⟨tp, p, hes⟩ := hE.es
    have HN : numV s.data.toList = 0 ∧ numB s.data.toList = false := by
      unfold numV numB
      rw [hr]
      exact ⟨rfl, rfl⟩
    have HP := hid (Tryz.strconv_ParseInt_10_at64_syntax_var s (by omega) hr tp p w hes)
    clear hr hE hs hes
    go_enter Tryz.func89, Tryz.ntmps89
    go_wp2_with fail
    go_at_call 109
    refine HP.out.mono ?_
    rintro e V ⟨B, rfl, _, _, hB⟩
    clear HP
    go_wp2_with fail
    go_ret2
    exact ⟨by rw [HN.1, HN.2]; rfl, hB⟩
  | range =>
    obtain ⟨tp, p, hes⟩ := hE.er
    have HN : numV s.data.toList = Lib.intSat 64 s.data.toList ∧ numB s.data.toList = false := by
      unfold numV numB
      rw [hr]
      exact ⟨rfl, rfl⟩
    have HP := hid (Tryz.strconv_ParseInt_10_at64_range_var s (by omega) hr tp p w hes)
    obtain ⟨y, hy⟩ : ∃ y, Lib.intSat 64 s.data.toList = y := ⟨_, rfl⟩
    rw [hy] at HP HN
    clear hr hE hs hes hy
    go_enter Tryz.func89, Tryz.ntmps89
    go_wp2_with fail
    go_at_call 109
    refine HP.out.mono ?_
    rintro e V ⟨B, rfl, _, _, hB⟩
    clear HP
    go_wp2_with fail
    go_ret2
    exact ⟨by rw [HN.1, HN.2]; rfl, hB⟩
end Go.Proofs.YtghppkfopglgaaaGreatDoor
namespace Go.Proofs.YtghppkfopglgaaaGreatDoor
open Go.ChangeShapes Go.WideShapes Go.ChangeAt Go.RowKit Go.Deep
set_option linter.unusedVariables false
set_option linter.unusedSimpArgs false
theorem own : ownKnob Tryz.prog.godebug = none := by kernel_rfl
theorem laidOut : laidOutB Tryz.prog = true := by kernel_rfl
theorem weights_of {H : Type} {ts : List TypeId} {ds : List (DataW H)} (h : (DataW.weightsEach Tryz.prog ts ds).all (· ≤ reachBytes) = true) {j : Nat} {t : TypeId} {d : DataW H} (ht : ts[j]? = some t) (hd : ds[j]? = some d) :
    ∀ n ∈ d.weights Tryz.prog t, n ≤ reachBytes := fun n hn => by
  have := List.all_eq_true.1 h n (DataW.weights_mem_each ht hd n hn)
  simpa using this
theorem gKn : Tryz.prog.globalNamed "herald/script.kindNames" = some 0 := by kernel_rfl
theorem gKnT : (Tryz.prog.globals[0]?).map (·.type) = some 139 := by kernel_rfl
theorem gMn : Tryz.prog.globalNamed "herald/script.moveNames" = some 1 := by kernel_rfl
theorem gMnT : (Tryz.prog.globals[1]?).map (·.type) = some 139 := by kernel_rfl
theorem cells139 : Tryz.prog.cellsOf 139 = 11 := by kernel_rfl
theorem cells9 : Tryz.prog.cellsOf 9 = 1 := by kernel_rfl
theorem laid_mem {W : World} {n : String} {d : DataW Unit} : ∀ {laid : List (String × DataW Unit)} {ps : List MemPlace}, DataW.LaidVars Tryz.prog W laid ps → (n, d) ∈ laid →
    ∃ g t cs fuel p, Tryz.prog.globalNamed n = some g ∧ (Tryz.prog.globals[g]?).map (·.type) = some t ∧ W.var? Tryz.prog n = some cs ∧ DataW.trod (fun _ => ()) Tryz.prog W 0 (fun _ => true) false fuel t cs.toList = some (d, p) ∧ ∀ x ∈ MemPlace.row ⟨g, 0, none⟩ cs.size, x ∈ ps
  | [], _, _, hm => by cases hm
  | (n', d') :: r, ps, h, hm => by
    obtain ⟨g, t, cs, fuel, p, q, h1, h2, h3, h4, h5, h6⟩ := h
    rcases List.mem_cons.1 hm with e | hm
    · cases e
      exact ⟨g, t, cs, fuel, p, h1, h2, h3, h4, fun x hx => by rw [h6]; exact List.mem_append_left _ (List.mem_append_left _ hx)⟩
    · obtain ⟨g', t', cs', fuel', p', k1, k2, k3, k4, k5⟩ := laid_mem h5 hm
      exact ⟨g', t', cs', fuel', p', k1, k2, k3, k4, fun x hx => by rw [h6]; exact List.mem_append_right _ (k5 x hx)⟩
theorem str_of_trod {w : World} {base : Nat} {sp : Nat → Bool} {held : Bool} {fuel : Nat} {c : Value} {b : List UInt8} {q : List MemPlace}
    (h : DataW.trod (H := Unit) (fun _ => ()) Tryz.prog w base sp held fuel 9 [c] = some (.lit (.string b), q)) : c = .string (bt b) := by
  cases fuel with
  | zero => simp [DataW.trod] at h
  | succ fuel =>
    cases c with
    | string s =>
      simp [DataW.trod, Tryz.underlying9] at h
      obtain ⟨_, rfl, _⟩ := h
      congr 1
    | _ => simp [DataW.trod, Tryz.underlying9] at h
theorem names_of_laid {W : World} {laid : List (String × DataW Unit)} (h : laidMet Tryz.prog laid W) {n : String} {L : List (List UInt8)} (hL : L.length = 11) (hm : (n, DataW.agg (L.map fun x => DataW.lit (.string x))) ∈ laid) {g : Nat} (hg : Tryz.prog.globalNamed n = some g) (ht : (Tryz.prog.globals[g]?).map (·.type) = some 139) :
    ∃ t, W.heap[g]? = some (.cells (namesC L) t (0, 0)) := by
  obtain ⟨ps, hv, _, hcell⟩ := h
  obtain ⟨g', t', cs, fuel, p, k1, k2, k3, k4, k5⟩ := laid_mem hv hm
  obtain rfl := Option.some.inj (hg.symm.trans k1)
  obtain rfl := Option.some.inj (ht.symm.trans k2)
  obtain ⟨xs, m, _, hx, hl, hxl, hall⟩ := DataW.trod_array Tryz.underlying139 k4
  rw [cells139] at hl
  simp only [cells9, Nat.mul_one] at hall
  have hcs : cs = namesC L := by
    apply Array.ext'
    have hmap : xs.map (·.1) = L.map fun x => DataW.lit (.string x) := by
      have := congrArg Prod.fst hx
      simp only [DataW.agg.injEq] at this
      exact this.symm
    unfold namesC
    apply List.ext_getElem?
    intro i
    by_cases hi : i < 11
    · have h1 := hall i hi
      have hc : i < cs.toList.length := by omega
      rw [List.drop_eq_getElem_cons hc, List.take_succ_cons, List.take_zero] at h1
      have h2 : (xs.map (·.1))[i]? = some (.lit (.string (L[i]'(by omega)))) := by
        rw [hmap, List.getElem?_map, List.getElem?_eq_getElem (by omega)]
        rfl
      rw [List.getElem?_map] at h2
      cases hxi : xs[i]? with
      | none => rw [hxi] at h2; cases h2
      | some y =>
        rw [hxi] at h1 h2
        obtain ⟨y1, y2⟩ := y
        simp only [Option.map_some, Option.some.injEq] at h2
        subst h2
        have := str_of_trod h1
        rw [List.getElem?_eq_getElem hc, this]
        simp only [List.getElem?_map]
        rw [List.getElem?_eq_getElem (by omega)]
        rfl
    · rw [List.getElem?_eq_none (by omega)]
      simp only [List.getElem?_map]
      rw [List.getElem?_eq_none (by omega)]
      rfl
  have hpl : MemPlace.cell g 0 ∈ ps := by
    refine k5 _ ?_
    have : cs.size = 11 := by simpa using hl
    rw [this]
    show MemPlace.cell g 0 ∈ MemPlace.row ⟨g, 0, none⟩ 11
    simp [MemPlace.row]
  obtain ⟨⟨c', t'', hc⟩, _⟩ := hcell g 0 hpl
  refine ⟨t'', ?_⟩
  have hv : W.var? Tryz.prog n = some c' := by
    simp [World.var?, hg, hc]
  rw [k3] at hv
  rw [hc, ← Option.some.inj hv, hcs]
theorem kindL_lit : kindL = [[], [119, 111, 114, 108, 100], [], [114, 111, 117, 110, 100, 115], [97, 110, 115, 119, 101, 114, 115], [108, 111, 103], [99, 97, 99, 104, 101], [112, 105, 112, 101, 115], [115, 116, 105, 108, 108], [100, 101, 97, 100], [116, 114, 97, 99, 101]] := by decide +kernel
theorem moveL_lit : moveL = [[], [97, 115, 107], [99, 97, 110, 99, 101, 108], [115, 101, 114, 118, 101, 114], [99, 108, 105, 101, 110, 116], [116, 111, 115, 101, 114, 118, 101, 114], [116, 111, 99, 108, 105, 101, 110, 116], [116, 105, 99, 107], [112, 117, 116], [115, 101, 116], [102, 111, 114, 103, 101]] := by decide +kernel
theorem kn_dat : (Rows.laid_herald_script_kindNames : DataW Unit) = .agg (kindL.map fun x => .lit (.string x)) := by rw [kindL_lit]; rfl
theorem mn_dat : (Rows.laid_herald_script_moveNames : DataW Unit) = .agg (moveL.map fun x => .lit (.string x)) := by rw [moveL_lit]; rfl
theorem iface_laid {W : World} {laid : List (String × DataW Unit)} (h : laidMet Tryz.prog laid W) {n nm : String} {d : DataW Unit} (hm : (n, DataW.iface nm d) ∈ laid) {g : Nat} (hg : Tryz.prog.globalNamed n = some g) (ht : (Tryz.prog.globals[g]?).map (·.type) = some 80) : ∃ tp p, W.var? Tryz.prog n = some #[.iface tp p] := by
  obtain ⟨ps, hv, _, _⟩ := h
  obtain ⟨g', t, cs, fuel, p, k1, k2, k3, k4, _⟩ := laid_mem hv hm
  obtain rfl := Option.some.inj (hg.symm.trans k1)
  obtain rfl := Option.some.inj (ht.symm.trans k2)
  obtain ⟨_, u, v, e, _⟩ := iface_of_trod Tryz.underlying80 k4
  refine ⟨u, v, ?_⟩
  rw [k3]
  congr 1
  cases cs with
  | mk l => simp only at e; rw [e]
theorem tab_laid {W : World} {laid : List (String × DataW Unit)} (h : laidMet Tryz.prog laid W) (hm : ("internal/strconv.uint64pow10", (Rows.laid_internal_strconv_uint64pow10 : DataW Unit)) ∈ laid) {t e : TypeId} {n : Nat} (ht : (Tryz.prog.globals[2]?).map (·.type) = some t) (hu : Tryz.prog.underlying t = some (.array n e)) (he : Tryz.prog.underlying e = some (.int .u64)) (hce : Tryz.prog.cellsOf e = 1) (hct : Tryz.prog.cellsOf t = n) : Lib.TabIs Tryz.prog W "internal/strconv.uint64pow10" .u64 Lib.pow10Tab := by
  obtain ⟨ps, hv, _, _⟩ := h
  obtain ⟨g', t', cs, fuel, p, k1, k2, k3, k4, _⟩ := laid_mem hv hm
  obtain rfl := Option.some.inj (gTab.symm.trans k1)
  obtain rfl := Option.some.inj (ht.symm.trans k2)
  unfold Lib.TabIs
  rw [k3]
  rw [show (Rows.laid_internal_strconv_uint64pow10 : DataW Unit) = Lib.tabData .u64 Lib.pow10Tab from rfl] at k4
  rw [← Lib.cells_of_tab hu he hce hct k4]
theorem pow_ty : (Tryz.prog.globals[2]?).map (·.type) = some 167 := by kernel_rfl
theorem es_ty : (Tryz.prog.globals[6]?).map (·.type) = some 80 := by kernel_rfl
theorem er_ty : (Tryz.prog.globals[7]?).map (·.type) = some 80 := by kernel_rfl
theorem pow_cells : Tryz.prog.cellsOf 167 = Lib.pow10Tab.length := by kernel_rfl
theorem env_of_laid {W : World} {laid : List (String × DataW Unit)} (h : laidMet Tryz.prog laid W) (h1 : ("internal/strconv.uint64pow10", (Rows.laid_internal_strconv_uint64pow10 : DataW Unit)) ∈ laid) (h2 : ("strconv.ErrRange", (Rows.laid_strconv_ErrRange : DataW Unit)) ∈ laid) (h3 : ("strconv.ErrSyntax", (Rows.laid_strconv_ErrSyntax : DataW Unit)) ∈ laid) (h4 : ("herald/script.kindNames", (Rows.laid_herald_script_kindNames : DataW Unit)) ∈ laid) (h5 : ("herald/script.moveNames", (Rows.laid_herald_script_moveNames : DataW Unit)) ∈ laid) : Env W := by
  have ⟨tr, pr, her⟩ := iface_laid h h2 gEr er_ty
  rw [kn_dat] at h4
  rw [mn_dat] at h5
  refine ⟨names_of_laid h (by decide) h4 gKn gKnT, names_of_laid h (by decide) h5 gMn gMnT, tab_laid h h1 pow_ty Tryz.underlying167 Tryz.underlying124 (by kernel_rfl) (by kernel_rfl), iface_laid h h3 gEs es_ty, ⟨tr, pr, her⟩, ?_⟩
  unfold World.var? at her
  rw [gEr, Option.bind_some] at her
  by_cases hs : 7 < W.heap.size
  · omega
  · rw [Array.getElem?_eq_none (by omega)] at her
    cases her
end Go.Proofs.YtghppkfopglgaaaGreatDoor
namespace Go.Proofs.YtghppkfopglgaaaGreatDoor
open Go.ChangeShapes Go.WideShapes Go.ChangeAt Go.RowKit Go.Deep
set_option linter.unusedVariables false
set_option linter.unusedSimpArgs false
/-- the listed tables, cell by cell -/
def leafD : DataW Unit → List Value
  | .lit (.int k z) => [.int k z]
  | .lit (.string b) => [.string (bt b)]
  | _ => []
def rowD : DataW Unit → List Value
  | .agg l => l.flatMap leafD
  | _ => []
def cPow : Array Value := (rowD Rows.laid_internal_strconv_uint64pow10).toArray
def c32 : Array Value := (rowD Rows.laid_math_bits_deBruijn32tab).toArray
def c64 : Array Value := (rowD Rows.laid_math_bits_deBruijn64tab).toArray
def cKn : Array Value := (rowD Rows.laid_herald_script_kindNames).toArray
def cMn : Array Value := (rowD Rows.laid_herald_script_moveNames).toArray
def cSyn : Array Value := #[.iface 197 (.pointer (some ⟨13, 0, none⟩))]
def cRng : Array Value := #[.iface 197 (.pointer (some ⟨14, 0, none⟩))]
def synS : ByteArray := ⟨#[105, 110, 118, 97, 108, 105, 100, 32, 115, 121, 110, 116, 97, 120]⟩
def rngS : ByteArray := ⟨#[118, 97, 108, 117, 101, 32, 111, 117, 116, 32, 111, 102, 32, 114, 97, 110, 103, 101]⟩
theorem wf_I64 {n : Int} (h : (Lit.int .i64 n).wf = true) : I64 n := by
  simp [Lit.wf] at h
  have h1 : IntKind.i64.min = -9223372036854775808 := by decide
  rw [h1] at h
  exact h
end Go.Proofs.YtghppkfopglgaaaGreatDoor
namespace Go.Proofs.YtghppkfopglgaaaGreatDoor
open Go.RowKit
set_option linter.unusedVariables false
set_option linter.unusedSimpArgs false
def wdv (x : Wd) : Array Value := #[.int .i64 (x.k : Int), .string x.t]
def EW : El Wd := ⟨88, 115, 2, 24, fun x => (wdv x).toList⟩
theorem okW : EW.Ok := ⟨Tryz.underlying88, by kernel_rfl, by decide, by decide, fun _ => rfl, fun a u hu => by
  simp [EW, wdv] at hu
  rcases hu with rfl | rfl <;> rfl⟩
theorem idx_take : ∀ (l : List UInt8), (Lib.indexByte l 32 = -1 ∧ l.takeWhile (· ≠ 32) = l) ∨ ∃ i : Nat, Lib.indexByte l 32 = (i : Int) ∧ i < l.length ∧ l.takeWhile (· ≠ 32) = l.take i
  | [] => .inl ⟨rfl, rfl⟩
  | c :: l => by
    unfold Lib.indexByte
    by_cases hc : c = 32
    · subst hc
      refine .inr ⟨0, by simp, by simp, by simp⟩
    · have hb : (c == 32) = false := by simpa using hc
      rw [hb, if_neg (by simp), List.takeWhile_cons_of_pos (by simpa using hc)]
      rcases idx_take l with ⟨h1, h2⟩ | ⟨i, h1, h2, h3⟩
      · rw [h1, h2]; exact .inl ⟨by simp, rfl⟩
      · rw [h1, h3]
        refine .inr ⟨i + 1, ?_, by simp; omega, by simp⟩
        rw [if_neg (by simp)]
        omega
set_option maxRecDepth 100000 in
set_option maxHeartbeats 4000000 in
theorem cut_any (s : ByteArray) (hs : s.size ≤ 140737488355328) (w : World) : Calls Tryz.prog 111 #[.string s, .string ⟨#[32]⟩] w fun e w' => (∃ r b, e = .returned (.tuple #[.string (bt (s.data.toList.takeWhile (· ≠ 32))), .string r, .bool b])) ∧ Below w.heap.size w w' := by
  have HX := hid (fun V => Tryz.stringslite_Index_one s 32 V)
  rcases idx_take s.data.toList with ⟨h1, h2⟩ | ⟨i, h1, h2, h3⟩
  · rw [h1] at HX
    have HT : Hid (bt (s.data.toList.takeWhile (· ≠ 32)) = s) := by show _ = _; rw [h2, bt_data]
    clear h1 h2 hs
    go_enter Tryz.func111, Tryz.ntmps111
    go_wp2_with fail
    go_at_call 117
    refine (HX.out _).mono ?_
    rintro e V ⟨rfl, e2⟩
    subst e2
    clear HX
    go_wp2_with fail
    go_ret3
    exact ⟨⟨_, _, by rw [HT.out]; rfl⟩, Below.refl _ _⟩
  · rw [← sz_eq] at h2
    rw [h1] at HX
    have hi1 : (i : Int) ≤ (s.size : Int) := by omega
    have hi0 : (0 : Int) ≤ (i : Int) := by omega
    have hi2 : i ≤ s.size := by omega
    have hw1 : wrap64 ((i : Int) + 1) = ((i + 1 : Nat) : Int) := by unfold wrap64; omega
    have hw2 : IntKind.i64.wrap ((i : Int) + 1) = ((i + 1 : Nat) : Int) := by rw [IntKind.wrap_i64]; omega
    have hi3 : ((i + 1 : Nat) : Int) ≤ (s.size : Int) := by omega
    have hi4 : (0 : Int) ≤ ((i + 1 : Nat) : Int) := by omega
    have hi5 : i + 1 ≤ s.size := by omega
    have HT : Hid (bt (s.data.toList.takeWhile (· ≠ 32)) = s.extract 0 i) := by
      show _ = _
      rw [h3]
      refine ba_eq ?_
      rw [Lib.extract_data]
      simp [bt_toList]
    clear h1 h2 h3 hs
    go_enter Tryz.func111, Tryz.ntmps111
    go_wp2_with fail
    go_at_call 117
    refine (HX.out _).mono ?_
    rintro e V ⟨rfl, e2⟩
    subst e2
    clear HX
    go_wp2_with fail
    go_region
    all_goals
      go_wp2_with fail
      go_ret3
      exact ⟨⟨_, _, by rw [HT.out]; rfl⟩, by (repeat (first | exact Below.refl _ _ | refine Below.drew ?_))⟩
set_option maxRecDepth 100000 in
theorem scut_any (s : ByteArray) (hs : s.size ≤ 140737488355328) (w : World) : Calls Tryz.prog 93 #[.string s, .string ⟨#[32]⟩] w fun e w' => (∃ r b, e = .returned (.tuple #[.string (bt (s.data.toList.takeWhile (· ≠ 32))), .string r, .bool b])) ∧ Below w.heap.size w w' := by
  have HX := hid (cut_any s hs w)
  obtain ⟨t, ht⟩ : ∃ t, bt (s.data.toList.takeWhile (· ≠ 32)) = t := ⟨_, rfl⟩
  rw [ht] at HX ⊢
  clear hs ht
  go_enter Tryz.func93, Tryz.ntmps93
  go_wp2_with fail
  go_at_call 111
  refine HX.out.mono ?_
  rintro e V ⟨⟨r, b, rfl⟩, hB⟩
  clear HX
  go_wp2_with fail
  go_ret3
  exact ⟨⟨_, _, rfl⟩, hB⟩
end Go.Proofs.YtghppkfopglgaaaGreatDoor
