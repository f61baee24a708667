/- bytes; the law's word. -/
import Derived.Test.YtacboeeimnikdaaDoorF3
import Derived.Lib.BufferWrite
namespace Go.Proofs.YtacboeeimnikdaaDoor
open Go.RowKit Go.Maps
open Go.Shelf
set_option linter.unusedVariables false
set_option linter.unusedSimpArgs false

def EB : El UInt8 := ⟨90, 5, 1, 1, fun x => [.int .u8 (x.toNat : Int)]⟩
theorem okB : EB.Ok := ⟨Tryd.underlying90, by kernel_rfl, by decide, by decide, fun _ => rfl, fun a u hu => by
  simp only [EB, List.mem_cons, List.not_mem_nil, or_false] at hu
  rcases hu with rfl; rfl⟩
def bt (l : List UInt8) : ByteArray := ⟨l.toArray⟩
theorem bt_list (l : List UInt8) : (bt l).data.toList = l := by simp [bt]
theorem bt_size (l : List UInt8) : (bt l).size = l.length := by rw [Lib.size_eq, bt_list]
theorem bt_self (s : ByteArray) : bt s.data.toList = s := by cases s; simp [bt]
theorem csB (l : List UInt8) : EB.cs l = l.map fun x => Value.int .u8 (x.toNat : Int) := by
  induction l with
  | nil => rfl
  | cons a r ih => simp only [El.cs, List.flatMap_cons, EB, List.cons_append, List.nil_append, List.map_cons] at ih ⊢; rw [ih]
theorem csB_str (s : ByteArray) : Lib.strCells s = EB.cs s.data.toList := by rw [csB]; simp [Lib.strCells]

set_option maxRecDepth 100000 in
theorem conv_none (w : World) : Sem.run Tryd.prog (convert 90 9 (.slice none 0 0)) w = .ok (.string ⟨#[]⟩) w := by
  simp [convert, Conv.bytesToString, go_sem, Tryd.underlying90, Tryd.underlying5, Tryd.underlying9]
  rfl
set_option maxRecDepth 100000 in
theorem conv_row' {w : World} {b : Option Addr} {n c : Nat} {l : List UInt8} (h : In EB w (.slice b n c) l) : Sem.run Tryd.prog (convert 90 9 (.slice b n c)) w = .ok (.string (bt l)) w := by
  have h' := h
  rcases h with ⟨e, rfl⟩ | ⟨a, cap, e, h1, h2, hc⟩
  · injection e with e1 e2 e3
    subst e1 e2 e3
    exact conv_none w
  · injection e with e1 e2 e3
    subst e1 e2 e3
    exact run_convert_bytes_back (P := Tryd.prog) w 90 9 5 a c l Tryd.underlying90 Tryd.underlying5 Tryd.underlying9 (fun j hj => by
      have := hc j (.int .u8 (l[j].toNat : Int)) (by rw [csB, List.getElem?_map, List.getElem?_eq_getElem hj]; rfl)
      exact this)


def ltr (x : UInt8) : UInt8 := 97 + x % 4
theorem ltr_nat (x : UInt8) : (ltr x).toNat = 97 + x.toNat % 4 := by
  unfold ltr
  rw [UInt8.toNat_add, UInt8.toNat_mod]
  have : x.toNat % 4 < 4 := Nat.mod_lt _ (by omega)
  show (97 + x.toNat % 4) % 256 = _
  omega
def wdL (s : ByteArray) (k : Nat) : List UInt8 := 112 :: (s.data.toList.take k).map ltr
theorem wdL_succ (s : ByteArray) (k : Nat) (h : k < s.size) : wdL s (k + 1) = wdL s k ++ [ltr (s[k]'h)] := by
  unfold wdL
  have h' : k < s.data.toList.length := by rw [← Lib.size_eq]; exact h
  rw [List.take_succ_eq_append_getElem h', List.map_append]
  simp
  rfl
def wdS (s : ByteArray) : ByteArray := bt (wdL s 2)
theorem wdL_two (s : ByteArray) (k : Nat) (h : k = s.size ∨ k = 2) (h2 : k ≤ 2) : wdL s k = wdL s 2 := by
  rcases h with h | h
  · unfold wdL
    have e := Lib.size_eq s
    rw [List.take_of_length_le (by omega), List.take_of_length_le (by omega)]
  · rw [h]
set_option maxHeartbeats 4000000 in
set_option maxRecDepth 100000 in
theorem word_any (s : ByteArray) (w : World) : Calls Tryd.prog 18 #[.string s] w fun e w' => e = .returned (.string (wdS s)) ∧ Below w.heap.size w w' := by
  go_enter Tryd.func18, Tryd.ntmps18
  go_wp2_with fail
  go_loopw [3, 4] (fun yv kv wr => ∃ (k : Nat) (y : SV), yv = sv y ∧ kv = .int .i64 (k : Int) ∧ k ≤ s.size ∧ k ≤ 2 ∧ Hid (R EB wr (sv y) (wdL s k) ∧ (∀ j, (sv y).ownBlock = some j → w.heap.size ≤ j) ∧ Below w.heap.size w wr)) (fun _ kv _ => s.size - (intOf kv).toNat)
  case atStart => exact ⟨0, (some ⟨w.heap.size, 0, none⟩, 1, 1), rfl, rfl, by omega, by omega, R.one okB (112 : UInt8) (by rw [heap_al, if_pos rfl]; rfl) rfl, fun j hj => by simp [sv, Value.ownBlock] at hj; omega, bel1 _ _⟩
  case round =>
    obtain ⟨k, ⟨yb, yl, yc⟩, rfl, rfl, hk, hk2, hG⟩ := hrel
    simp only [sv]
    by_cases hlt : k < s.size ∧ k < 2
    · obtain ⟨hi, h2⟩ := hlt
      have l1 : (k : Int) < (s.size : Int) := by omega
      have l2 : (k : Int) < 2 := by omega
      obtain ⟨x, hx⟩ : ∃ x : UInt8, s[k]'hi = x := ⟨_, rfl⟩
      have HX : Hid (wdL s (k + 1) = wdL s k ++ [ltr x]) := by rw [← hx]; exact wdL_succ s k hi
      obtain ⟨W2, hW2⟩ : ∃ W2, W2 = wr.alloc (.cells #[.int .u8 (97 + (x.toNat : Int) % 4)] 5) := ⟨_, rfl⟩
      have hv : (97 + (x.toNat : Int) % 4) = (((ltr x).toNat : Nat) : Int) := by rw [ltr_nat]; omega
      have hIn : In EB W2 (.slice (some ⟨wr.heap.size, 0, none⟩) 1 1) [ltr x] := in_one (E := EB) _ _ (ltr x) #[.int .u8 (97 + (x.toNat : Int) % 4)] 5 (0, 0) (by rw [hW2, heap_al, if_pos rfl]) (by rw [hv]; rfl)
      obtain ⟨bs, cc, w5, hrun, hR5, hG5⟩ := Go.Proofs.YtacboeeimnikdaaDoor.app okB W2 (sv (yb, yl, yc)) (wdL s k) (by rw [hW2]; exact hG.out.1.below (bel1 _ _)) _ [ltr x] hIn (by simp [EB, wdL]; omega)
      have hB2 : Below w.heap.size w W2 := by rw [hW2]; exact hG.out.2.2.trans ((bel1 _ _).mono hG.out.2.2.size)
      obtain ⟨m, hm⟩ : ∃ m, m = (wdL s k).length + [ltr x].length := ⟨_, rfl⟩
      rw [← hm] at hrun hR5 hG5
      simp only [sv] at hrun
      rw [hW2] at hrun
      have HRUN : Hid ((Builtin.append_ #[90, 90] 90 #[.slice yb yl yc, .slice (some ⟨wr.heap.size, 0, none⟩) 1 1]).run Tryd.prog (wr.alloc (.cells #[.int .u8 (97 + (x.toNat : Int) % 4)] 5)) = .ok (.slice bs m cc) w5) := hrun
      have HN : Hid (R EB w5 (sv (bs, m, cc)) (wdL s (k + 1)) ∧ (∀ j, (sv (bs, m, cc)).ownBlock = some j → w.heap.size ≤ j) ∧ Below w.heap.size w w5) := ⟨by rw [HX.out]; exact hR5, fun j hj => by
          rcases hG5.own j hj with h' | h'
          · exact hG.out.2.1 j h'
          · have := hB2.size; omega, hB2.trans (hG5.belowB hB2.size hG.out.2.1)⟩
      clear hrun hR5 hG5 hIn hB2 hW2 hv hm
      go_wp2_with (at_builtin; refine Lib.wpList_append_run _ rfl _ _ _ _ rfl _ _ rfl rfl _ _ HRUN.out ?_)
      go_roundw
      case rel => exact ⟨k + 1, (bs, m, cc), rfl, by simp, by omega, by omega, HN.out⟩
      case measure => simp [intOf]; omega
    · have hKe : Hid (k = s.size ∨ k = 2) := by show _ ∨ _; omega
      have HK2 : Hid (k ≤ 2) := hk2
      have HEX : ¬ (k : Int) < (s.size : Int) ∨ ((k : Int) < (s.size : Int) ∧ ¬ (k : Int) < 2) := by omega
      have hcv := conv_row' (w := wr) (b := yb) (n := yl) (c := yc) hG.out.1.isIn
      have HF : Hid (bt (wdL s k) = wdS s) := by show _ = _; unfold wdS; rw [wdL_two s k hKe.out HK2.out]
      rw [HF.out] at hcv
      rcases HEX with h1 | ⟨h1, h2⟩
      · go_wp2_with fail
        go_ret
        exact ⟨rfl, hG.out.2.2⟩
      · go_wp2_with fail
        go_ret
        exact ⟨rfl, hG.out.2.2⟩
end Go.Proofs.YtacboeeimnikdaaDoor
