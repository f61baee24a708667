/- The printer's builder, in a block of its own type: copyCheck, WriteString, Len, String. The printer: isFull, lay, line, word. Script: one line without its end; quoted texts in the longest way, and wrong ones. Script: numbers read, and what is none. -/
import Derived.Test.YtghppkfopglgaaaGreatDoorKap
import Derived.Test.YtghppkfopglgaaaGreatDoorKab
namespace Go.Proofs.YtghppkfopglgaaaGreatDoor
open Go.RowKit
set_option linter.unusedVariables false
set_option linter.unusedSimpArgs false
/-- the printer at g holds these bytes -/
def Pb (g : Nat) (l : List UInt8) (w : World) : Prop :=
  (l = [] ∧ w.heap[g]? = some (.cells #[.pointer none, .slice none 0 0] 119 (0, 0))) ∨ (l ≠ [] ∧ Lib.BuilderAtF 119 5 g g (.pointer (some ⟨g, 0, none⟩)) (Lib.byteCells l) w)
theorem Pb.is {g : Nat} {l : List UInt8} {w : World} (h : Pb g l w) : Lib.IsBuilderF 119 5 g g (Lib.byteCells l) w := by
  rcases h with ⟨rfl, h⟩ | ⟨_, h⟩
  · exact .inl ⟨Nat.le_refl _, .slice none 0 0, h, World.ownsRowF_nil _ _ _ _, by simp [Value.ownBlock]⟩
  · exact .inr h
theorem Pb.lt {g : Nat} {l : List UInt8} {w : World} (h : Pb g l w) : g < w.heap.size := by
  rcases h with ⟨_, h⟩ | ⟨_, h⟩
  · exact heap_lt h
  · exact h.lt
theorem Pb.below {g : Nat} {l : List UInt8} {w w' : World} (h : Pb g l w) (hb : Below w.heap.size w w') : Pb g l w' := by
  rcases h with ⟨e, h⟩ | ⟨e, h⟩
  · exact .inl ⟨e, (hb.block _ (heap_lt h)).trans h⟩
  · exact .inr ⟨e, bat_below h hb⟩
/-- what the printer's work keeps: all below it, and all that is no row of bytes -/
structure Fr (g : Nat) (w w' : World) : Prop where
  bel : Below g w w'
  kb : ∀ k c t, k ≠ g → w.heap[k]? = some (.cells c t (0, 0)) → t ≠ 5 → w'.heap[k]? = some (.cells c t (0, 0))
theorem Fr.refl (g : Nat) (w : World) : Fr g w w := ⟨Below.refl _ _, fun _ _ _ _ h _ => h⟩
theorem Fr.trans {g : Nat} {a b c : World} (h : Fr g a b) (k : Fr g b c) : Fr g a c := ⟨h.bel.trans k.bel, fun i cs t hi hc ht => k.kb i cs t hi (h.kb i cs t hi hc ht) ht⟩
theorem Fr.set {g : Nat} (w : World) (i : Nat) (v : Value) (hg : g < w.heap.size) : Fr g w (w.setCell ⟨g, i, none⟩ v) :=
  ⟨(Ks.setCell (fun k => k = g) w g i v rfl).below (Nat.le_of_lt hg) (fun i hi => by omega), fun k c t hk hc _ => (setCell_other w g k i v hk).trans hc⟩
theorem Fr.below {g : Nat} {w w' : World} (h : Below w.heap.size w w') (hg : g ≤ w.heap.size) : Fr g w w' := ⟨h.mono hg, fun k c t _ hc _ => (h.block k (heap_lt hc)).trans hc⟩
set_option maxRecDepth 100000 in
set_option maxHeartbeats 4000000 in
theorem pb_used (b : Nat) (w : World) (h0 : w.cell? ⟨b, 0, none⟩ = some (.pointer (some ⟨b, 0, none⟩))) :
    Calls Tryz.prog 39 #[.pointer (some ⟨b, 0, none⟩)] w fun e w' => e = .returned (.tuple #[]) ∧ w' = w := by
  obtain ⟨j, hj⟩ : ∃ j, Tryz.prog.info? 78 = some j := ⟨_, rfl⟩
  go_enter Tryz.func39, Tryz.ntmps39
  go_wp2
  rw [Lib.run_neq_ptr_same (tp := 76) (te := 78) w _ Tryz.underlying76 hj]
  go_wp2
  go_end0
  exact ⟨rfl, rfl⟩
set_option maxRecDepth 100000 in
set_option maxHeartbeats 4000000 in
theorem pb_fresh (b : Nat) (w : World) (h : w.heap[b]? = some (.cells #[.pointer none, .slice none 0 0] 119 (0, 0))) :
    Calls Tryz.prog 39 #[.pointer (some ⟨b, 0, none⟩)] w fun e w' => e = .returned (.tuple #[]) ∧ w' = w.setCell ⟨b, 0, none⟩ (.pointer (some ⟨b, 0, none⟩)) := by
  obtain ⟨j, hj⟩ : ∃ j, Tryz.prog.info? 78 = some j := ⟨_, rfl⟩
  have hjs : j.size ≠ 0 := by
    have : (Tryz.prog.info? 78).map (·.size) = some 2 := by kernel_rfl
    rw [hj] at this
    simp at this
    omega
  have h0 := cell_blk h 0
  have hfz := frozen_blk h 0
  have hlt := heap_lt h
  have hsh : w.shape? b = some (119, 2) := by simp [World.shape?, h]
  simp only [List.getElem?_toArray, List.getElem?_cons_zero] at h0
  clear h
  go_enter Tryz.func39, Tryz.ntmps39
  go_wp2
  rw [Lib.run_to_unsafe w ⟨b, 0, none⟩ (src := 76) (dst := 127) Tryz.underlying76 Tryz.underlying127 hj hjs hsh (Nat.zero_lt_succ 1)]
  simp only [Result.andThen]
  rw [Oper.upon_value]
  go_wp2
  rw [run_callFunc_extern Tryz.func54 (by kernel_rfl) (by kernel_rfl) (by kernel_rfl) (e := Extern.AbiNoEscape.same) (by kernel_rfl)]
  rw [Lib.run_noEscape]
  simp only [Result.andThen]
  rw [Oper.upon_value]
  go_wp2
  rw [Lib.run_from_unsafe w ⟨b, 0, none⟩ (src := 127) (dst := 76) (u := 78) Tryz.underlying127 Tryz.underlying76 hj hsh (by kernel_rfl)]
  simp only [Result.andThen]
  rw [Oper.upon_value]
  go_wp2
  go_end0
  exact ⟨rfl, rfl⟩
theorem pb_check (g : Nat) (l : List UInt8) (w : World) (h : Pb g l w) : Calls Tryz.prog 39 #[.pointer (some ⟨g, 0, none⟩)] w fun e w' => e = .returned (.tuple #[]) ∧ Lib.BuilderAtF 119 5 g g (.pointer (some ⟨g, 0, none⟩)) (Lib.byteCells l) w' ∧ Fr g w w' := by
  rcases h with ⟨rfl, h⟩ | ⟨_, h⟩
  · refine (pb_fresh g w h).mono ?_
    rintro e w' ⟨rfl, rfl⟩
    have hb := setCell_block w g 0 (.pointer (some ⟨g, 0, none⟩)) _ _ _ h
    exact ⟨rfl, ⟨Nat.le_refl _, .slice none 0 0, hb, World.ownsRowF_nil _ _ _ _, by simp [Value.ownBlock]⟩, Fr.set w 0 _ (heap_lt h)⟩
  · refine (pb_used g w h.cell0).mono ?_
    rintro e w' ⟨rfl, rfl⟩
    exact ⟨rfl, h, Fr.refl _ _⟩
set_option maxRecDepth 100000 in
set_option maxHeartbeats 4000000 in
theorem pb_len (g : Nat) (l : List UInt8) (w : World) (h : Pb g l w) : Calls Tryz.prog 47 #[.pointer (some ⟨g, 0, none⟩)] w fun e w' => e = .returned (.int .i64 l.length) ∧ w' = w := by
  obtain ⟨p, ao, cap, hb⟩ : ∃ p ao cap, w.heap[g]? = some (.cells #[p, .slice ao l.length cap] 119 (0, 0)) := by
    rcases h with ⟨rfl, h⟩ | ⟨_, _, v, h, hown, _⟩
    · exact ⟨_, _, _, h⟩
    · rw [Lib.byteCells_length] at hown
      rcases hown.2 with ⟨rfl, h0⟩ | ⟨g', cap, cur, fz, rfl, _⟩
      · exact ⟨_, none, 0, by rw [h0]; exact h⟩
      · exact ⟨_, _, _, h⟩
  have c1 := cell_blk hb 1
  have hl := heap_lt hb
  simp only [List.getElem?_toArray, List.getElem?_cons_zero, List.getElem?_cons_succ] at c1
  clear h hb
  generalize l.length = n at c1 ⊢
  go_enter Tryz.func47, Tryz.ntmps47
  go_wp2
  go_ret
  exact ⟨rfl, rfl⟩
set_option maxRecDepth 100000 in
set_option maxHeartbeats 4000000 in
theorem pb_str (g : Nat) (l : List UInt8) (s : ByteArray) (w : World) (h : Pb g l w) (hs : s.size ≠ 0) (hl : l.length + s.size ≤ 140737488355328) :
    Calls Tryz.prog 22 #[.pointer (some ⟨g, 0, none⟩), .string s] w fun e w' => e = .returned (.tuple #[.int .i64 s.size, .nilIface]) ∧ Pb g (l ++ s.data.toList) w' ∧ Fr g w w' := by
  obtain ⟨i0, hi, hz0, hz1, hz2⟩ := info_parts (P := Tryz.prog) (e := 5) (z := .int .u8 0) (size := 1) (bytes := 1) (by kernel_rfl)
  have hlt := h.lt
  have HC := hid (pb_check g l w h)
  clear h
  go_enter Tryz.func22, Tryz.ntmps22
  go_wp2_with fail
  go_at_call 39
  refine HC.out.mono ?_
  rintro e w1 ⟨rfl, ⟨_, v, hbk, hown, hne⟩, hb1⟩
  have c0 := cell_blk hbk 0
  have c1 := cell_blk hbk 1
  simp only [List.getElem?_toArray, List.getElem?_cons_zero, List.getElem?_cons_succ] at c0 c1
  have hlt1 := heap_lt hbk
  rw [Lib.byteCells_length] at hown
  obtain ⟨va, vn, vc, rfl⟩ : ∃ a n c, v = .slice a n c := by
    rcases hown.2 with ⟨rfl, h0⟩ | ⟨g', cap, cur, fz, rfl, _⟩
    · exact ⟨_, _, _, rfl⟩
    · exact ⟨_, _, _, rfl⟩
  go_wp2_with (at_builtin; refine Lib.wpList_append_own_stringF _ rfl _ _ 24 9 rfl g 5 i0 Tryz.underlying24 Tryz.underlying9 hi hz0 hz1 hz2 _ _ _ rfl hown s rfl ?c3 ?c4 ?c5 ?_)
  case c3 => unfold maxLen; omega
  case c4 => omega
  case c5 => omega
  intro v' w2 hown' hgrow _
  have hb2 : w2.heap[g]? = some (.cells #[.pointer (some ⟨g, 0, none⟩), .slice va vn vc] 119 (0, 0)) := by
    rw [hgrow.block g hlt1 (fun e => hne e.symm)]
    exact hbk
  have hfr : Fr g w1 w2 := ⟨(Below.refl g w1).grown hgrow (Nat.le_of_lt hlt1) (fun k hk => (hown.lt k hk).1), fun k c t hk hc ht => by
    rw [hgrow.block k (heap_lt hc) (fun e => ?_)]
    · exact hc
    · rcases hown.2 with ⟨e0, _⟩ | ⟨g', cap, cur, fz, e0, _, hg', _⟩
      · rw [e0] at e; simp [Value.ownBlock] at e
      · rw [e0] at e
        have e2 : k = g' := by simpa [Value.ownBlock] using e
        subst e2
        rw [hg'] at hc
        injection hc with hc
        injection hc with _ q2
        exact ht q2.symm⟩
  have d0 := cell_blk hb2 0
  have d1 := cell_blk hb2 1
  have f1 := frozen_blk hb2 1
  have l2 := heap_lt hb2
  simp only [List.getElem?_toArray, List.getElem?_cons_zero, List.getElem?_cons_succ] at d0 d1
  obtain ⟨ao, n', cap, rfl⟩ : ∃ ao n' cap, v' = .slice ao n' cap := by
    rcases hown'.2 with ⟨hv, _⟩ | ⟨g, cap, cur, fz, hv, _⟩
    · exact ⟨_, _, _, hv⟩
    · exact ⟨_, _, _, hv⟩
  go_wp2_with fail
  go_ret2
  refine ⟨rfl, .inr ⟨fun e => hs ?_, ?_⟩, (hb1.trans hfr).trans (Fr.set w2 1 _ l2)⟩
  · rw [sz_eq, (List.append_eq_nil_iff.1 e).2]
    rfl
  · refine Lib.BuilderAtF.put (T := 119) (e := 5) (Nat.le_refl _) hb2 (bs' := Lib.byteCells (l ++ s.data.toList)) ?_ (by decide)
    rw [bc_app, ← strCells_eq]
    simpa [Lib.strCells_length, Lib.byteCells_length] using hown'
set_option maxRecDepth 100000 in
set_option maxHeartbeats 4000000 in
theorem pb_string (g : Nat) (l : List UInt8) (w : World) (h : Pb g l w) : Calls Tryz.prog 23 #[.pointer (some ⟨g, 0, none⟩)] w fun e w' => e = .returned (.string (bt l)) ∧ Below g w w' := by
  rcases h with ⟨rfl, h⟩ | ⟨hne, _, v, h, hown, hv⟩
  · have c1 : w.drew.cell? ⟨g, 1, none⟩ = some (.slice none 0 0) := cell_blk (w := w.drew) h 1
    have hl := heap_lt h
    have hSD : (Builtin.unsafeSliceData_ #[24] 104 #[.slice none 0 0]).run Tryz.prog w.drew = .ok (.pointer none) w.drew := rfl
    have hUS : (Builtin.unsafeString_ #[104, 3] 9 #[.pointer none, .int .i64 0]).run Tryz.prog w.drew = .ok (.string .empty) w.drew := Lib.run_unsafeString_none w.drew _ _ _ none
    clear h
    go_enter Tryz.func23, Tryz.ntmps23
    go_wp2
    go_region
    all_goals (go_wp2; go_ret; exact ⟨rfl, (Below.refl _ w).drew⟩)
  · rw [Lib.byteCells_length] at hown
    have hl0 : l.length ≠ 0 := by simpa using hne
    rcases hown.2 with ⟨_, h0⟩ | ⟨g', cap, cur, fz, rfl, hgg, hg, hfz, hnc, hcm, hcs, htake⟩
    · exact absurd h0 hl0
    · have c1 : w.drew.cell? ⟨g, 1, none⟩ = some (.slice (some ⟨g', 0, none⟩) l.length cap) := cell_blk (w := w.drew) h 1
      have hl := heap_lt h
      have hSD : (Builtin.unsafeSliceData_ #[24] 104 #[.slice (some ⟨g', 0, none⟩) l.length cap]).run Tryz.prog w.drew = .ok (.pointer (some ⟨g', 0, none⟩)) w.drew := Lib.run_unsafeSliceData_row _ _ _ _ _ _ (by omega)
      have hUS : (Builtin.unsafeString_ #[104, 3] 9 #[.pointer (some ⟨g', 0, none⟩), .int .i64 l.length]).run Tryz.prog w.drew = .ok (.string ⟨l.toArray⟩) (w.drew.freeze ⟨g', 0, none⟩ l.length) := by
        refine Lib.run_unsafeString_row w.drew 104 3 9 5 Tryz.underlying104 (by kernel_rfl) g' cur.size (by have hg' : w.drew.heap[g']? = some (.cells cur 5 fz) := hg; simp [World.shape?, hg']) l hne (by omega) (by unfold maxLen at hcm; omega) ?_
        intro j x hx
        exact hown.cells (g := g') rfl j (.int .u8 x.toNat) (by simp [Lib.byteCells, hx])
      have HF : Hid (Below g w (w.drew.freeze ⟨g', 0, none⟩ l.length)) := hid (Lib.below_freeze (Below.drew (Below.refl g w)) (p := ⟨g', 0, none⟩) hgg _)
      clear h hown hv htake hcs hcm hnc hfz hg
      generalize l.length = n at *
      go_enter Tryz.func23, Tryz.ntmps23
      go_wp2
      go_region
      all_goals (go_wp2; go_ret; exact ⟨rfl, HF.out⟩)
end Go.Proofs.YtghppkfopglgaaaGreatDoor
namespace Go.Proofs.YtghppkfopglgaaaGreatDoor
open Go.RowKit
set_option linter.unusedVariables false
set_option linter.unusedSimpArgs false
def fullB (l : List UInt8) : Bool := decide (65536 < l.length)
def layL (l : List UInt8) (s : ByteArray) : List UInt8 := if fullB l then l else l ++ s.data.toList
def layA (l : List UInt8) (ps : List ByteArray) : List UInt8 := ps.foldl layL l
def lineL (l : List UInt8) (s : ByteArray) : List UInt8 := layL (if l = [] then l else layL l ⟨#[10]⟩) s
def wordL (l : List UInt8) (s : ByteArray) : List UInt8 := layL (layL l ⟨#[32]⟩) s
/-- how long it may get -/
def Okl (l : List UInt8) : Prop := l.length ≤ 1114113
theorem okl_lay {l : List UInt8} (h : Okl l) (s : ByteArray) (hs : s.size ≤ 1048576) : Okl (layL l s) := by
  unfold Okl layL fullB at *
  split
  · exact h
  · rename_i hf
    simp only [decide_eq_true_eq] at hf
    rw [List.length_append, ← sz_eq]
    omega
set_option maxRecDepth 100000 in
set_option maxHeartbeats 4000000 in
theorem full_any (g : Nat) (l : List UInt8) (w : World) (h : Pb g l w) : Calls Tryz.prog 75 #[.pointer (some ⟨g, 0, none⟩)] w fun e w' => e = .returned (.bool (fullB l)) ∧ w' = w := by
  have HL := hid (pb_len g l w h)
  have hlt := h.lt
  obtain ⟨n, hn⟩ : ∃ n, l.length = n := ⟨_, rfl⟩
  rw [hn] at HL
  unfold fullB
  rw [hn]
  clear h hn
  by_cases hf : 65536 < n
  · have e1 : decide ((65536 : Int) < (n : Int)) = true := by simpa using (by omega : (65536 : Int) < n)
    rw [decide_eq_true hf]
    clear hf
    go_enter Tryz.func75, Tryz.ntmps75
    go_wp2_with fail
    go_at_call 47
    refine HL.out.mono ?_
    rintro e V ⟨rfl, e2⟩
    subst e2
    go_wp2_with fail
    go_ret
    exact ⟨rfl, rfl⟩
  · have e1 : decide ((65536 : Int) < (n : Int)) = false := by simpa using (by omega : ¬ (65536 : Int) < n)
    rw [decide_eq_false hf]
    clear hf
    go_enter Tryz.func75, Tryz.ntmps75
    go_wp2_with fail
    go_at_call 47
    refine HL.out.mono ?_
    rintro e V ⟨rfl, e2⟩
    subst e2
    go_wp2_with fail
    go_ret
    exact ⟨rfl, rfl⟩
set_option maxRecDepth 100000 in
set_option maxHeartbeats 4000000 in
theorem lay_any (g : Nat) (l : List UInt8) (s : ByteArray) (w : World) (h : Pb g l w) (hs : s.size ≠ 0) (hs2 : s.size ≤ 1048576) : Calls Tryz.prog 48 #[.pointer (some ⟨g, 0, none⟩), .string s] w fun e w' => e = .returned (.tuple #[]) ∧ Pb g (layL l s) w' ∧ Fr g w w' := by
  have HF := hid (full_any g l w h)
  have HP := hid h
  have hlt := h.lt
  unfold layL
  cases hf : fullB l with
  | true =>
    rw [hf] at HF
    clear h hf
    go_enter Tryz.func48, Tryz.ntmps48
    go_wp2_with fail
    go_at_call 75
    refine HF.out.mono ?_
    rintro e V ⟨rfl, e2⟩
    subst e2
    go_wp2_with fail
    go_end0
    exact ⟨rfl, HP.out, Fr.refl _ _⟩
  | false =>
    have HW := hid (pb_str g l s w h hs (by
      have : l.length ≤ 65536 := by simpa [fullB] using hf
      omega))
    rw [hf] at HF
    clear h hf
    go_enter Tryz.func48, Tryz.ntmps48
    go_wp2_with fail
    go_at_call 75
    refine HF.out.mono ?_
    rintro e V ⟨rfl, e2⟩
    subst e2
    go_wp2_with fail
    go_at_call 22
    refine HW.out.mono ?_
    rintro e V ⟨rfl, h1, h2⟩
    go_wp2_with fail
    go_end0
    exact ⟨rfl, h1, h2⟩
set_option maxRecDepth 100000 in
set_option maxHeartbeats 4000000 in
theorem word_any (g : Nat) (l : List UInt8) (s : ByteArray) (w : World) (h : Pb g l w) (hs : s.size ≠ 0) (hs2 : s.size ≤ 1048576) : Calls Tryz.prog 73 #[.pointer (some ⟨g, 0, none⟩), .string s] w fun e w' => e = .returned (.tuple #[]) ∧ Pb g (wordL l s) w' ∧ Fr g w w' := by
  have H1 := hid (lay_any g l ⟨#[32]⟩ w h (by decide) (by decide))
  have H2 := hid (fun V (hV : Pb g (layL l ⟨#[32]⟩) V) => lay_any g _ s V hV hs hs2)
  have hlt := h.lt
  clear h
  go_enter Tryz.func73, Tryz.ntmps73
  go_wp2_with fail
  go_at_call 48
  refine H1.out.mono ?_
  rintro e V ⟨rfl, h1, h2⟩
  go_wp2_with fail
  go_at_call 48
  refine (H2.out V h1).mono ?_
  rintro e V2 ⟨rfl, h3, h4⟩
  go_wp2_with fail
  go_end0
  exact ⟨rfl, h3, h2.trans h4⟩
set_option maxRecDepth 100000 in
set_option maxHeartbeats 4000000 in
theorem line_any (g : Nat) (l : List UInt8) (s : ByteArray) (w : World) (h : Pb g l w) (hs : s.size ≠ 0) (hs2 : s.size ≤ 1048576) : Calls Tryz.prog 70 #[.pointer (some ⟨g, 0, none⟩), .string s] w fun e w' => e = .returned (.tuple #[]) ∧ Pb g (lineL l s) w' ∧ Fr g w w' := by
  have HL := hid (pb_len g l w h)
  have H1 := hid (lay_any g l ⟨#[10]⟩ w h (by decide) (by decide))
  have H2 := hid (fun l V (hV : Pb g l V) => lay_any g l s V hV hs hs2)
  have HP := hid h
  have hlt := h.lt
  obtain ⟨n, hn⟩ : ∃ n, l.length = n := ⟨_, rfl⟩
  rw [hn] at HL
  unfold lineL
  clear h
  by_cases hl : l = []
  · rw [if_pos hl]
    have e1 : ¬ 0 < n := by rw [← hn, hl]; simp
    clear hn
    go_enter Tryz.func70, Tryz.ntmps70
    go_wp2_with fail
    go_at_call 47
    refine HL.out.mono ?_
    rintro e V ⟨rfl, e2⟩
    subst e2
    go_wp2_with fail
    go_at_call 48
    refine (H2.out _ _ HP.out).mono ?_
    rintro e V2 ⟨rfl, h3, h4⟩
    go_wp2_with fail
    go_end0
    exact ⟨rfl, h3, h4⟩
  · rw [if_neg hl]
    have e1 : 0 < n := by have := List.length_pos_iff.2 hl; omega
    clear hn
    go_enter Tryz.func70, Tryz.ntmps70
    go_wp2_with fail
    go_at_call 47
    refine HL.out.mono ?_
    rintro e V ⟨rfl, e2⟩
    subst e2
    go_wp2_with fail
    go_at_call 48
    refine H1.out.mono ?_
    rintro e V1 ⟨rfl, h1, h2⟩
    go_wp2_with fail
    go_at_call 48
    refine (H2.out _ _ h1).mono ?_
    rintro e V2 ⟨rfl, h3, h4⟩
    go_wp2_with fail
    go_end0
    exact ⟨rfl, h3, h2.trans h4⟩
end Go.Proofs.YtghppkfopglgaaaGreatDoor
namespace Go.Proofs.YtghppkfopglgaaaGreatDoor
open Go.RowKit
set_option linter.unusedVariables false
set_option linter.unusedSimpArgs false
/-- a text of one line -/
theorem lns_one : ∀ (x : List UInt8), (∀ c ∈ x, c ≠ 10) → x ≠ [] → lns x = [x]
  | [], _, h => absurd rfl h
  | [c], h, _ => by
    unfold lns
    rw [if_neg (h c (by simp))]
    rfl
  | c :: d :: x, h, _ => by
    rw [lns, if_neg (h c (by simp)), lns_one (d :: x) (fun e he => h e (by simp at he ⊢; exact .inr he)) (by simp)]
    rfl
theorem trimN_no (x : List UInt8) (h : ∀ c ∈ x, c ≠ 10) : trimN x = x := by
  unfold trimN Lib.trimSuffix Lib.hasSuffix
  rw [if_neg]
  intro e
  have h2 : (10 : UInt8) ∈ x.drop (x.length - 1) := by
    have e3 : [10] <:+ x := by
      first | exact e | exact List.isSuffixOf_iff_suffix.1 e | (simp at e; exact e)
    obtain ⟨t, rfl⟩ := e3
    simp
  exact h 10 (List.mem_of_mem_drop h2) rfl
theorem wds_line (x : List UInt8) (h : ∀ c ∈ x, c ≠ 10) (hs : silB x = false) : wds x = (wol x).getD [] ++ [eW] := by
  have hx : x ≠ [] := by rintro rfl; simp [silB] at hs
  unfold wds
  rw [lns_one x h hx]
  simp only [List.map_cons, List.map_nil, List.flatMap_cons, List.flatMap_nil, List.append_nil, trimN_no x h]
  rw [hs, if_neg (by simp)]
  rfl
theorem long_line (x : List UInt8) (h : ∀ c ∈ x, c ≠ 10) (hl : x.length ≤ 4096) : longB x = false := by
  unfold longB
  by_cases hx : x = []
  · subst hx; rfl
  · rw [lns_one x h hx]
    simp only [List.any_cons, List.any_nil, trimN_no x h, List.length_singleton, Bool.or_false, Bool.or_eq_false_iff, decide_eq_false_iff_not]
    omega
/-- one line that is not made of words -/
theorem parse_none (x : List UInt8) (h : ∀ c ∈ x, c ≠ 10) (hl : x.length ≤ 4096) (hs : silB x = false) (hw : wol x = none) : parseL x = ([], 260) := by
  unfold parseL
  rw [long_line x h hl, if_neg (by simp), wds_line x h hs, hw]
  show (if (cmsL [eW]).2 = true then _ else _) = _
  rw [if_neg (by decide +kernel)]
/-- one line that is made of words -/
theorem parse_line (x : List UInt8) (h : ∀ c ∈ x, c ≠ 10) (hl : x.length ≤ 4096) (hs : silB x = false) (l : List Wd) (hw : wol x = some l) : parseL x = (if (cmsL (l ++ [eW])).2 then ((cmsL (l ++ [eW])).1, 0) else ([], 260)) := by
  unfold parseL
  rw [long_line x h hl, if_neg (by simp), wds_line x h hs, hw]
  rfl
/-- the longest way -/
def hxC (c : UInt8) : List UInt8 := [92, 120, hexS.getD (c.toNat / 16) 0, hexS.getD (c.toNat % 16) 0]
theorem unq_hx (s r : List UInt8) : unq (s.flatMap hxC ++ r) = (unq r).map fun p => (s ++ p.1, p.2) := by
  induction s with
  | nil => simp
  | cons c s ih =>
    rw [List.flatMap_cons, List.append_assoc]
    show unq (92 :: 120 :: _ :: _ :: (s.flatMap hxC ++ r)) = _
    rw [unq_x, unqAdd, ih]
    cases unq r <;> simp
theorem unq_nil : unq [] = none := by unfold unq; rfl
theorem unq_end (r : List UInt8) : unq (34 :: r) = some ([], r) := by unfold unq; rw [if_pos rfl]
theorem unq_bad (c : UInt8) (r : List UInt8) (h : isPl c = false) : unq (c :: r) = none := by
  unfold unq
  rw [if_neg (by rintro rfl; exact absurd h (by decide)), if_pos h]
theorem unq_q (r : List UInt8) : unq (92 :: 113 :: r) = none := by
  unfold unq
  rw [if_neg (by decide), if_neg (by decide), if_pos rfl]
  simp only
  rw [if_neg (by decide), if_neg (by decide)]
theorem unq_A0 (r : List UInt8) : unq (92 :: 120 :: 65 :: 48 :: r) = none := by
  unfold unq
  rw [if_neg (by decide), if_neg (by decide), if_pos rfl]
  simp only
  rw [if_neg (by decide), if_pos (by decide), if_neg (by decide)]
def hdF : List UInt8 := [102, 111, 114, 103, 101, 32, 53, 32]
def wFo : Wd := bW (bt [102, 111, 114, 103, 101])
def w5 : Wd := nW 5
theorem gd_hd : GdW wFo ∧ GdW w5 := ⟨.inr ⟨rfl, by decide +kernel, by decide +kernel⟩, nW_gd 5⟩
theorem wol_hd (x : List UInt8) : wol (hdF ++ x) = (wol x).map fun l => wFo :: w5 :: l := by
  have h1 : fw (hdF ++ x) = some (wFo, 32 :: ([53, 32] ++ x)) := by
    have := fw_more wFo gd_hd.1 ([53, 32] ++ x)
    rwa [show wtx wFo = [102, 111, 114, 103, 101] by decide +kernel] at this
  have h2 : fw ([53, 32] ++ x) = some (w5, 32 :: x) := by
    have := fw_more w5 gd_hd.2 x
    rwa [show wtx w5 = [53] by decide +kernel] at this
  rw [wol_more h1, wol_more h2]
  cases wol x <;> rfl
theorem fw_q (x : List UInt8) : fw (34 :: x) = (unq x).map fun p => (⟨1, bt p.1⟩, p.2) := by
  unfold fw
  simp only
  rw [if_pos trivial]
theorem wol_none {x : List UInt8} (h : fw x = none) : wol x = none := by
  rw [wol]
  split
  · rfl
  · rename_i e; rw [h] at e; cases e
  · rename_i e; rw [h] at e; cases e
theorem wol_q_none (x : List UInt8) (h : unq x = none) : wol (hdF ++ 34 :: x) = none := by
  rw [wol_hd, wol_none (by rw [fw_q, h]; rfl)]
  rfl
theorem wol_q_some (x s : List UInt8) (h : unq x = some (s, [])) : wol (hdF ++ 34 :: x) = some [wFo, w5, qW (bt s)] := by
  have h2 : fw (34 :: x) = some (qW (bt s), []) := by rw [fw_q, h]; rfl
  rw [wol_hd, wol_of h2]
  rfl
def cmF (s : List UInt8) : Cm := { Cm.of 2 with m := { Mv.z with k := 10, n := 5, by' := bt s } }
theorem cms_F (s : List UInt8) : cmsL ([wFo, w5, qW (bt s)] ++ [eW]) = ([cmF s], true) := by
  have h := cms_hit [cmF s] (by
    intro c hc
    rw [List.mem_singleton] at hc
    subst hc
    refine ⟨⟨?_, ?_, ?_⟩, ?_⟩ <;> simp [cmF, Cm.of, WoOk, MvOk, PgOk, SiOk, I64, Mv.z, Wo.z, Si.z, Pg.z, KOk])
  have e : flW ([cmF s].flatMap cmW) = [wFo, w5, qW (bt s)] ++ [eW] := by
    simp [flW, cmW, cmF, Cm.of, mvW]
    exact ⟨rfl, rfl⟩
  rw [e] at h
  rw [h]
  rfl
theorem parse_q_some (x s : List UInt8) (h : unq x = some (s, [])) (h10 : ∀ c ∈ x, c ≠ 10) (hl : x.length ≤ 4087) : parseL (hdF ++ 34 :: x) = ([cmF s], 0) := by
  have ht : ∀ c ∈ hdF ++ 34 :: x, c ≠ 10 := by
    intro c hc
    rcases List.mem_append.1 hc with h | h
    · exact (by decide : ∀ c ∈ hdF, c ≠ 10) c h
    · rcases List.mem_cons.1 h with rfl | h
      · decide
      · exact h10 c h
  rw [parse_line _ ht (by simp [hdF]; omega) rfl _ (wol_q_some x s h), cms_F, if_pos rfl]
theorem parse_q_none (x : List UInt8) (h : unq x = none) (h10 : ∀ c ∈ x, c ≠ 10) (hl : x.length ≤ 4087) : parseL (hdF ++ 34 :: x) = ([], 260) := by
  have ht : ∀ c ∈ hdF ++ 34 :: x, c ≠ 10 := by
    intro c hc
    rcases List.mem_append.1 hc with h | h
    · exact (by decide : ∀ c ∈ hdF, c ≠ 10) c h
    · rcases List.mem_cons.1 h with rfl | h
      · decide
      · exact h10 c h
  exact parse_none _ ht (by simp [hdF]; omega) rfl (wol_q_none x h)
/-- bytes of a quoted text -/
theorem qt_range : ∀ c : UInt8, ∀ d ∈ qtC c, 32 ≤ d.toNat ∧ d.toNat ≤ 126 := all_u8 (by decide +kernel)
theorem hx_range : ∀ c : UInt8, ∀ d ∈ hxC c, 32 ≤ d.toNat ∧ d.toNat ≤ 126 := all_u8 (by decide +kernel)
theorem qt_le : ∀ c : UInt8, (qtC c).length ≤ 4 := all_u8 (by decide +kernel)
theorem qtS_range (s : List UInt8) : ∀ d ∈ qtS s, 32 ≤ d.toNat ∧ d.toNat ≤ 126 := by
  intro d hd
  unfold qtS at hd
  rcases List.mem_cons.1 hd with rfl | h
  · decide
  · rcases List.mem_append.1 h with h | h
    · obtain ⟨c, _, hc⟩ := List.mem_flatMap.1 h
      exact qt_range c d hc
    · rw [List.mem_singleton] at h; subst h; decide
theorem hxS_len (s : List UInt8) : (s.flatMap hxC).length = 4 * s.length := by
  induction s with
  | nil => rfl
  | cons c s ih => rw [List.flatMap_cons, List.length_append, ih]; simp [hxC]; omega
theorem qtS_len (s : List UInt8) : (qtS s).length ≤ 4 * s.length + 2 := by
  have : (s.flatMap qtC).length ≤ 4 * s.length := by
    induction s with
    | nil => simp
    | cons c s ih =>
      have := qt_le c
      rw [List.flatMap_cons, List.length_append, List.length_cons]
      omega
  unfold qtS
  rw [List.length_cons, List.length_append, List.length_singleton]
  omega
/-- what ScriptQuotes asks of Parse -/
theorem parse_quote (s : List UInt8) (h : s.length ≤ 900) : parseL (hdF ++ qtS s) = ([cmF s], 0) := by
  have hq := qtS_len s
  have hr := qtS_range s
  unfold qtS at hq hr ⊢
  refine parse_q_some _ s (unq_qt s []) (fun c hc e => ?_) (by rw [List.length_cons] at hq; omega)
  have := hr c (List.mem_cons_of_mem _ hc)
  subst e
  exact absurd this (by decide)
def lgS (s : List UInt8) : List UInt8 := 34 :: (s.flatMap hxC ++ [34])
theorem hxS_ne (s : List UInt8) : ∀ d ∈ s.flatMap hxC, d ≠ 10 := by
  intro d hd
  obtain ⟨c, _, hc⟩ := List.mem_flatMap.1 hd
  have := hx_range c d hc
  rintro rfl
  exact absurd this (by decide)
theorem parse_long (s : List UInt8) (h : s.length ≤ 900) : parseL (hdF ++ lgS s) = ([cmF s], 0) := by
  unfold lgS
  refine parse_q_some _ s (by rw [unq_hx, unq_end]; simp) (fun c hc => ?_) (by rw [List.length_append, hxS_len, List.length_singleton]; omega)
  rcases List.mem_append.1 hc with h | h
  · exact hxS_ne s c h
  · rw [List.mem_singleton] at h; subst h; decide
/-- cut short -/
theorem parse_cut (s : List UInt8) (h : s.length ≤ 900) : parseL (hdF ++ (lgS s).take ((lgS s).length - 1)) = ([], 260) := by
  have : (lgS s).take ((lgS s).length - 1) = 34 :: s.flatMap hxC := by
    unfold lgS
    simp only [List.length_cons, List.length_append, List.length_nil]
    rw [show ((s.flatMap hxC).length + (0 + 1) + 1 - 1) = (s.flatMap hxC).length + 1 by omega, List.take_succ_cons, List.take_left']
    rfl
  rw [this]
  refine parse_q_none _ ?_ (hxS_ne s) (by rw [hxS_len]; omega)
  have := unq_hx s []
  rw [List.append_nil, unq_nil] at this
  exact this
/-- something put in at an escape's beginning -/
theorem lgS_split (s : List UInt8) (j : Nat) (h : j ≤ s.length) : (lgS s).take (1 + 4 * j) = 34 :: (s.take j).flatMap hxC ∧ (lgS s).drop (1 + 4 * j) = (s.drop j).flatMap hxC ++ [34] := by
  have e : s.flatMap hxC = (s.take j).flatMap hxC ++ (s.drop j).flatMap hxC := by rw [← List.flatMap_append, List.take_append_drop]
  have hl : ((s.take j).flatMap hxC).length = 4 * j := by rw [hxS_len, List.length_take]; omega
  unfold lgS
  rw [e, show 1 + 4 * j = 4 * j + 1 by omega, List.take_succ_cons, List.drop_succ_cons, List.append_assoc]
  exact ⟨by rw [List.take_left' hl], by rw [List.drop_left' hl]⟩
theorem parse_put (s : List UInt8) (j : Nat) (y : List UInt8) (hj : j ≤ s.length) (h : s.length ≤ 900) (hy : y.length ≤ 400) (h10 : ∀ c ∈ y, c ≠ 10) (hn : ∀ r, unq (y ++ r) = none) : parseL (hdF ++ ((lgS s).take (1 + 4 * j) ++ (y ++ (lgS s).drop (1 + 4 * j)))) = ([], 260) := by
  obtain ⟨e1, e2⟩ := lgS_split s j hj
  rw [e1, e2, List.cons_append]
  refine parse_q_none _ ?_ ?_ ?_
  · rw [unq_hx, hn]; rfl
  · intro c hc
    rcases List.mem_append.1 hc with h | h
    · exact hxS_ne _ c h
    · rcases List.mem_append.1 h with h | h
      · exact h10 c h
      · rcases List.mem_append.1 h with h | h
        · exact hxS_ne _ c h
        · rw [List.mem_singleton] at h; subst h; decide
  · simp only [List.length_append, hxS_len, List.length_take, List.length_drop, List.length_singleton]
    omega
end Go.Proofs.YtghppkfopglgaaaGreatDoor
namespace Go.Proofs.YtghppkfopglgaaaGreatDoor
open Go.RowKit
set_option linter.unusedVariables false
set_option linter.unusedSimpArgs false
theorem cms_no (w : Wd) (l : List Wd) (h : (Rd.cm ⟨w :: l, false⟩).2 = Rd.no) : (cmsL (w :: l)).2 = false := by
  unfold cmsL
  have e : loopR cmR (w :: l).length ⟨w :: l, false⟩ = ([(Rd.cm ⟨w :: l, false⟩).1], Rd.no) := by
    have : cmR ⟨w :: l, false⟩ = some ((Rd.cm ⟨w :: l, false⟩).1, Rd.no) := by rw [← h]; rfl
    have hn : ∀ n, loopR cmR n Rd.no = ([], Rd.no) := by intro n; cases n <;> rfl
    rw [List.length_cons]
    simp only [loopR, this, hn]
  rw [e]
  rfl
def wRo : Wd := bW (kdB 3)
theorem cm_ro (l : List Wd) : (Rd.cm ⟨wRo :: l, false⟩).2 = (Rd.nu ⟨l, false⟩).2.el := by
  unfold Rd.cm Rd.cm1
  simp only [wRo, bW, nx_hit, name_tab.2.1]
theorem no_el : Rd.no.el = Rd.no := rfl
theorem ro_num (y : ByteArray) (l : List Wd) (h : numB y.data.toList = false) : (cmsL (wRo :: ⟨0, y⟩ :: l)).2 = false := by
  refine cms_no _ _ ?_
  rw [cm_ro]
  unfold Rd.nu
  rw [nx_hit]
  simp only
  rw [h, if_neg (by simp), no_el]
theorem nx_miss (w : Wd) (l : List Wd) (b : Bool) (k : Nat) (h : w.k ≠ k) : Rd.nx ⟨w :: l, b⟩ k = (noS, Rd.no) := by
  unfold Rd.nx
  simp only
  rw [if_neg h]
theorem ro_kind (w : Wd) (l : List Wd) (h : w.k ≠ 0) : (cmsL (wRo :: w :: l)).2 = false := by
  refine cms_no _ _ ?_
  rw [cm_ro]
  unfold Rd.nu
  rw [nx_miss w l _ _ h]
  simp only
  rw [show (if numB noS.data.toList = true then Rd.no else Rd.no) = Rd.no by simp, no_el]
theorem ro_more (v w : Wd) (l : List Wd) (h0 : v.k = 0) (h : w.k ≠ 2) : (cmsL (wRo :: v :: w :: l)).2 = false := by
  refine cms_no _ _ ?_
  rw [cm_ro]
  obtain ⟨k, t⟩ := v
  simp only at h0
  subst h0
  unfold Rd.nu
  rw [nx_hit]
  simp only
  split
  · unfold Rd.el
    rw [nx_miss w l _ _ h]
  · exact no_el
def hdR : List UInt8 := [114, 111, 117, 110, 100, 115, 32]
theorem gd_ro : GdW wRo := gd_tab.1 ⟨3, by decide⟩ (.inr (by decide))
theorem wol_ro (x : List UInt8) : wol (hdR ++ x) = (wol x).map fun l => wRo :: l := by
  have h1 : fw (hdR ++ x) = some (wRo, 32 :: x) := by
    have := fw_more wRo gd_ro x
    rwa [show wtx wRo = [114, 111, 117, 110, 100, 115] by decide +kernel] at this
  rw [wol_more h1]
/-- a line of rounds whose words are bad -/
theorem parse_ro (x : List UInt8) (l : List Wd) (hw : wol x = some l) (h : (cmsL (wRo :: (l ++ [eW]))).2 = false) (h10 : ∀ c ∈ x, c ≠ 10) (hl : x.length ≤ 4089) : parseL (hdR ++ x) = ([], 260) := by
  have ht : ∀ c ∈ hdR ++ x, c ≠ 10 := by
    intro c hc
    rcases List.mem_append.1 hc with h | h
    · exact (by decide : ∀ c ∈ hdR, c ≠ 10) c h
    · exact h10 c h
  rw [parse_line _ ht (by simp [hdR]; omega) rfl (wRo :: l) (by rw [wol_ro, hw]; rfl)]
  rw [if_neg (by rw [List.cons_append, h]; simp)]
theorem br_ne : ∀ c : UInt8, brC c = true → c ≠ 10 ∧ c ≠ 32 ∧ c ≠ 34 := all_u8 (by decide +kernel)
/-- a bare word of any bytes but blanks -/
theorem fw_bare9 (c : UInt8) (x : List UInt8) (h : c ≠ 34) (hx : ∀ d ∈ c :: x, d ≠ 32) : fw (c :: x) = some (⟨0, bt (c :: x)⟩, []) := by
  have h1 : ∀ l : List UInt8, (∀ d ∈ l, d ≠ 32) → l.takeWhile (· ≠ 32) = l ∧ l.dropWhile (· ≠ 32) = [] := by
    intro l hl
    induction l with
    | nil => exact ⟨rfl, rfl⟩
    | cons a l ih =>
      have ha := hl a (by simp)
      have := ih (fun d hd => hl d (by simp [hd]))
      simp [List.takeWhile_cons, List.dropWhile_cons, ha, this.1, this.2]
      simpa using this
  unfold fw
  simp only
  rw [if_neg h, (h1 _ hx).1, (h1 _ hx).2]
theorem wol_bare (c : UInt8) (x : List UInt8) (h : c ≠ 34) (hx : ∀ d ∈ c :: x, d ≠ 32) : wol (c :: x) = some [⟨0, bt (c :: x)⟩] := wol_of (fw_bare9 c x h hx)
theorem itoa_br (n : Int) : (Lib.itoa n).all brC = true ∧ Lib.itoa n ≠ [] := by
  rcases nW_gd n with h | ⟨_, h1, h2⟩
  · cases h
  · exact ⟨h2, h1⟩
theorem itoa_mem (n : Int) : ∀ c ∈ Lib.itoa n, c ≠ 10 ∧ c ≠ 32 ∧ c ≠ 34 := fun c hc => br_ne c (List.all_eq_true.1 (itoa_br n).1 c hc)
/-- digits of a number other than nought do not begin with one -/
theorem dec_nz : ∀ u : Nat, u ≠ 0 → ∃ c x, Lib.decDigits u = c :: x ∧ c ≠ 48 := by
  intro u
  induction u using Nat.strongRecOn with
  | _ u ih =>
    intro hu
    rw [Lib.decDigits]
    split
    · rename_i h
      refine ⟨_, _, rfl, ?_⟩
      intro e
      have := congrArg UInt8.toNat e
      rw [dig_nat u h] at this
      simp at this
      omega
    · rename_i h
      obtain ⟨c, x, e, hc⟩ := ih (u / 10) (by omega) (by omega)
      rw [e]
      exact ⟨c, _, rfl, hc⟩
theorem itoa_head (v : Int) (c : UInt8) (x : List UInt8) (h : Lib.itoa v = c :: x) : (c ≠ 43) ∧ (c = 48 → x = []) := by
  unfold Lib.itoa at h
  split at h
  · rename_i hv
    cases h
    exact ⟨by decide, fun e => absurd e (by decide)⟩
  · rename_i hv
    by_cases h0 : v.natAbs = 0
    · have : v = 0 := by omega
      subst this
      have e : Lib.decDigits (0 : Int).natAbs = [48] := by decide +kernel
      first
      | (rw [e] at h; cases h; exact ⟨by decide, fun _ => rfl⟩)
      | (rw [show Lib.decDigits (0 : Int).toNat = [48] by decide +kernel] at h; cases h; exact ⟨by decide, fun _ => rfl⟩)
    · have hn : ∃ u : Nat, u ≠ 0 ∧ Lib.decDigits u = c :: x := by
        first
        | exact ⟨v.natAbs, h0, h⟩
        | exact ⟨v.toNat, by omega, h⟩
      obtain ⟨u, hu, e⟩ := hn
      obtain ⟨c', x', e', hc⟩ := dec_nz u hu
      obtain ⟨c2, x2, e2, r1, r2⟩ := dec_head u
      rw [e'] at e e2
      cases e
      cases e2
      refine ⟨?_, fun e => absurd e hc⟩
      rintro rfl
      exact absurd r1 (by decide)
theorem numB_false (l : List UInt8) (h : ∀ v, Lib.itoa v ≠ l) : numB l = false := by
  unfold numB
  split
  · rename_i v _; simp [h v]
  · rfl
theorem num_zero (d : List UInt8) (h : d ≠ []) : numB (48 :: d) = false := numB_false _ fun v e => h ((itoa_head v 48 d e).2 rfl)
theorem num_plus (d : List UInt8) : numB (43 :: d) = false := numB_false _ fun v e => (itoa_head v 43 d e).1 rfl
theorem num_nil : numB [] = false := numB_false _ fun v => (itoa_br v).2
theorem itoa_len (n : Int) (h1 : -9223372036854775808 ≤ n) (h2 : n ≤ 9223372036854775807) : (Lib.itoa n).length ≤ 30 := by
  have hd : ∀ (k u : Nat), u < 10 ^ k → k ≠ 0 → (Lib.decDigits u).length ≤ k := by
    intro k
    induction k with
    | zero => intro u _ h; exact absurd rfl h
    | succ k ih =>
      intro u hu _
      rw [Lib.decDigits]
      split
      · simp
      · rename_i h
        by_cases hk : k = 0
        · subst hk; omega
        · have := ih (u / 10) (by rw [Nat.pow_succ] at hu; omega) hk
          simp
          omega
  have h10 : (10 : Nat) ^ 25 = 10000000000000000000000000 := by decide
  unfold Lib.itoa
  split
  · have := hd 25 n.natAbs (by rw [h10]; omega) (by decide)
    rw [List.length_cons]
    omega
  · have := hd 25 n.toNat (by rw [h10]; omega) (by decide)
    omega
/-- what ScriptNumbers asks of Parse -/
theorem num_line (n : Int) (hn : I64 n) (d : List UInt8) (hd : Lib.itoa n = d) :
    parseL (hdR ++ 48 :: d) = ([], 260) ∧ parseL (hdR ++ 43 :: d) = ([], 260) ∧ parseL (hdR ++ 32 :: d) = ([], 260) ∧ parseL (hdR ++ (d ++ [32])) = ([], 260) ∧ parseL (hdR ++ 34 :: (d ++ [34])) = ([], 260) ∧ parseL (hdR ++ (d ++ 32 :: d)) = ([], 260) := by
  have hl := itoa_len n hn.1 hn.2
  have hm := itoa_mem n
  have hb := itoa_br n
  have hg : GdW (nW n) := nW_gd n
  have hk : (nW n).k = 0 := rfl
  have hx : wtx (nW n) = d := hd
  rw [hd] at hl hm hb
  clear hd hn
  generalize nW n = N at hg hx hk
  refine ⟨?_, ?_, ?_, ?_, ?_, ?_⟩
  · refine parse_ro _ _ (wol_bare 48 d (by decide) ?_) (ro_num _ _ (num_zero d hb.2)) ?_ (by simp; omega)
    · intro c hc; rcases List.mem_cons.1 hc with rfl | h; decide; exact (hm c h).2.1
    · intro c hc; rcases List.mem_cons.1 hc with rfl | h; decide; exact (hm c h).1
  · refine parse_ro _ _ (wol_bare 43 d (by decide) ?_) (ro_num _ _ (num_plus d)) ?_ (by simp; omega)
    · intro c hc; rcases List.mem_cons.1 hc with rfl | h; decide; exact (hm c h).2.1
    · intro c hc; rcases List.mem_cons.1 hc with rfl | h; decide; exact (hm c h).1
  · have h1 : fw (32 :: d) = some (⟨0, noS⟩, 32 :: d) := by unfold fw; simp [bt]
    have h2 : wol d = some [N] := by
      have := wol_of (fw_end N hg)
      rwa [hx] at this
    refine parse_ro _ [⟨0, noS⟩, N] (by rw [wol_more h1, h2]; rfl) (ro_num noS [N, eW] (by rw [show noS.data.toList = ([] : List UInt8) from rfl]; exact num_nil)) ?_ (by simp; omega)
    intro c hc; rcases List.mem_cons.1 hc with rfl | h; decide; exact (hm c h).1
  · have h1 : fw (d ++ [32]) = some (N, 32 :: []) := by
      have := fw_more N hg []
      rwa [hx] at this
    have h2 : wol [] = some [⟨0, noS⟩] := wol_of rfl
    refine parse_ro _ [N, ⟨0, noS⟩] (by rw [wol_more h1, h2]; rfl) (ro_more N ⟨0, noS⟩ [eW] hk (by show (0 : Nat) ≠ 2; decide)) ?_ (by simp; omega)
    intro c hc; rcases List.mem_append.1 hc with h | h; exact (hm c h).1; rw [List.mem_singleton] at h; subst h; decide
  · have hu : unq (d ++ [34]) = some (d, []) := by
      have h34 : ∀ (l : List UInt8), (∀ c ∈ l, isPl c = true ∧ c ≠ 34 ∧ c ≠ 92) → unq (l ++ [34]) = some (l, []) := by
        intro l
        induction l with
        | nil => intro _; exact unq_end []
        | cons c l ih =>
          intro h
          obtain ⟨p1, p2, p3⟩ := h c (by simp)
          rw [List.cons_append, unq_c c p1 p2 p3, unqAdd, ih (fun e he => h e (by simp [he]))]
          rfl
      have hbp : ∀ c : UInt8, brC c = true → isPl c = true ∧ c ≠ 34 ∧ c ≠ 92 := all_u8 (by decide +kernel)
      exact h34 d fun c hc => hbp c (List.all_eq_true.1 hb.1 c hc)
    have h1 : fw (34 :: (d ++ [34])) = some (⟨1, bt d⟩, []) := by rw [fw_q, hu]; rfl
    refine parse_ro _ _ (wol_of h1) (ro_kind _ _ (by show (1 : Nat) ≠ 0; decide)) ?_ (by simp; omega)
    intro c hc
    rcases List.mem_cons.1 hc with rfl | h
    · decide
    · rcases List.mem_append.1 h with h | h
      · exact (hm c h).1
      · rw [List.mem_singleton] at h; subst h; decide
  · have h1 : fw (d ++ 32 :: d) = some (N, 32 :: d) := by
      have := fw_more N hg d
      rwa [hx] at this
    have h2 : wol d = some [N] := by
      have := wol_of (fw_end N hg)
      rwa [hx] at this
    refine parse_ro _ [N, N] (by rw [wol_more h1, h2]; rfl) (ro_more N N [eW] hk (by rw [hk]; decide)) ?_ (by simp; omega)
    intro c hc
    rcases List.mem_append.1 hc with h | h
    · exact (hm c h).1
    · rcases List.mem_cons.1 h with rfl | h
      · decide
      · exact (hm c h).1
theorem num_fix : parseL "rounds".toUTF8.data.toList = ([], 260) ∧ parseL "rounds 9223372036854775808".toUTF8.data.toList = ([], 260) ∧ parseL "rounds -9223372036854775809".toUTF8.data.toList = ([], 260) ∧ parseL "rounds -0".toUTF8.data.toList = ([], 260) := by
  have hR : wol "rounds".toUTF8.data.toList = some [wRo] := by
    rw [show "rounds".toUTF8.data.toList = wtx wRo by decide +kernel]
    exact wol_of (fw_end wRo gd_ro)
  refine ⟨?_, ?_, ?_, ?_⟩
  · rw [parse_line _ (by decide +kernel) (by decide +kernel) (by decide +kernel) _ hR, show [wRo] ++ [eW] = wRo :: eW :: [] from rfl, if_neg (by rw [ro_kind eW [] (by decide)]; simp)]
  · rw [show "rounds 9223372036854775808".toUTF8.data.toList = hdR ++ 57 :: "223372036854775808".toUTF8.data.toList by decide +kernel]
    exact parse_ro _ _ (wol_bare 57 _ (by decide) (by decide +kernel)) (ro_num _ _ (by rw [bt_toList]; decide +kernel)) (by decide +kernel) (by decide +kernel)
  · rw [show "rounds -9223372036854775809".toUTF8.data.toList = hdR ++ 45 :: "9223372036854775809".toUTF8.data.toList by decide +kernel]
    exact parse_ro _ _ (wol_bare 45 _ (by decide) (by decide +kernel)) (ro_num _ _ (by rw [bt_toList]; decide +kernel)) (by decide +kernel) (by decide +kernel)
  · rw [show "rounds -0".toUTF8.data.toList = hdR ++ 45 :: [48] by decide +kernel]
    exact parse_ro _ _ (wol_bare 45 _ (by decide) (by decide +kernel)) (ro_num _ _ (by rw [bt_toList]; decide +kernel)) (by decide +kernel) (by decide +kernel)
/-- two commands with numbers, printed and read -/
def cm3 (n : Int) : Cm := { Cm.of 3 with n := n }
def cm7 (m : Int) : Cm := { Cm.of 2 with m := { Mv.z with k := 7, n := m } }
theorem pr_nums (n m : Int) : prT [cm3 n, cm7 m] = hdR ++ (Lib.itoa n ++ 10 :: [116, 105, 99, 107, 32] ++ (Lib.itoa m ++ [10])) := by
  have h3 : wtx wRo = [114, 111, 117, 110, 100, 115] := by decide +kernel
  have h7 : wtx (bW (mvB 7)) = [116, 105, 99, 107] := by decide +kernel
  have hn : ∀ n, wtx (nW n) = Lib.itoa n := fun n => rfl
  have e : [cm3 n, cm7 m].flatMap cmW = [[wRo, nW n], [bW (mvB 7), nW m]] := by
    simp [cmW, cm3, cm7, Cm.of, mvW]
    rfl
  unfold prT
  rw [e]
  simp only [txt, List.flatMap_cons, List.flatMap_nil, ltx, h3, h7, hn, hdR]
  simp
theorem parse_nums (n m : Int) (hn : I64 n) (hm : I64 m) : parseL (prT [cm3 n, cm7 m]) = ([cm3 n, cm7 m], 0) := by
  have hok : ∀ c ∈ [cm3 n, cm7 m], CmOk c ∧ KOk c := by
    intro c hc
    simp only [List.mem_cons, List.not_mem_nil, or_false] at hc
    rcases hc with rfl | rfl
    · refine ⟨⟨?_, ?_, ?_⟩, ?_⟩ <;> first | exact hn | simp [cm3, Cm.of, WoOk, MvOk, PgOk, SiOk, I64, Mv.z, Wo.z, Si.z, Pg.z, KOk]
    · refine ⟨⟨?_, ⟨hm, ?_, ?_⟩, ?_⟩, ?_⟩ <;> simp [cm7, Cm.of, WoOk, MvOk, PgOk, SiOk, I64, Mv.z, Wo.z, Si.z, Pg.z, KOk]
  have hl : longB (prT [cm3 n, cm7 m]) = false := by
    have a := itoa_len n hn.1 hn.2
    have b := itoa_len m hm.1 hm.2
    have e : prT [cm3 n, cm7 m] = (hdR ++ Lib.itoa n) ++ 10 :: (([116, 105, 99, 107, 32] ++ Lib.itoa m) ++ 10 :: []) := by rw [pr_nums]; simp
    have q1 : ∀ c ∈ hdR ++ Lib.itoa n, c ≠ 10 := by
      intro c hc
      rcases List.mem_append.1 hc with h | h
      · exact (by decide : ∀ c ∈ hdR, c ≠ 10) c h
      · exact (itoa_mem n c h).1
    have q2 : ∀ c ∈ [116, 105, 99, 107, 32] ++ Lib.itoa m, c ≠ 10 := by
      intro c hc
      rcases List.mem_append.1 hc with h | h
      · exact (by decide : ∀ c ∈ ([116, 105, 99, 107, 32] : List UInt8), c ≠ 10) c h
      · exact (itoa_mem m c h).1
    unfold longB
    rw [e, lns_line _ _ q1, lns_line _ _ q2]
    simp only [lns, List.any_cons, List.any_nil, trimN_ln]
    simp only [hdR, List.length_append, List.length_cons, List.length_nil, Bool.or_false, Bool.or_eq_false_iff, decide_eq_false_iff_not]
    exact ⟨⟨by omega, by omega, by omega⟩, by simp⟩
  rw [parse_prT _ hok hl]
  rfl
end Go.Proofs.YtghppkfopglgaaaGreatDoor
