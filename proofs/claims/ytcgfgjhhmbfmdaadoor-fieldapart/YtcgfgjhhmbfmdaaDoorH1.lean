/- word, value: a name and a value made of any text. -/
import Derived.Test.YtcgfgjhhmbfmdaaDoorD0
import Derived.Test.YtcgfgjhhmbfmdaaDoorC6
namespace Go.Proofs.YtcgfgjhhmbfmdaaDoor
open Go.RowKit Go.Maps
set_option linter.unusedVariables false
set_option linter.unusedSimpArgs false

def EB : El UInt8 := ⟨51, 5, 1, 1, fun x => [.int .u8 (x.toNat : Int)]⟩
theorem okB : EB.Ok := ⟨Tryd.underlying51, by kernel_rfl, by decide, by decide, fun _ => rfl, fun a u hu => by
  simp only [EB, List.mem_cons, List.not_mem_nil, or_false] at hu
  rcases hu with rfl; rfl⟩
def bt (l : List UInt8) : ByteArray := ⟨l.toArray⟩
theorem bt_list (l : List UInt8) : (bt l).data.toList = l := by simp [bt]
theorem bt_size (l : List UInt8) : (bt l).size = l.length := by rw [Lib.size_eq, bt_list]
theorem csB (l : List UInt8) : EB.cs l = l.map fun x => Value.int .u8 (x.toNat : Int) := by
  induction l with
  | nil => rfl
  | cons a r ih => simp only [El.cs, List.flatMap_cons, EB, List.cons_append, List.nil_append, List.map_cons] at ih ⊢; rw [ih]
set_option maxRecDepth 100000 in
theorem conv_row {w : World} {b : Option Addr} {n c : Nat} {l : List UInt8} (h : In EB w (.slice b n c) l) (hl : 0 < l.length) : Sem.run Tryd.prog (convert 51 9 (.slice b n c)) w = .ok (.string (bt l)) w := by
  rcases h with ⟨_, rfl⟩ | ⟨a, cap, e, h1, h2, hc⟩
  · exact absurd hl (by simp)
  · injection e with e1 e2 e3
    subst e1 e2 e3
    exact run_convert_bytes_back (P := Tryd.prog) w 51 9 5 a c l Tryd.underlying51 Tryd.underlying5 Tryd.underlying9 (fun j hj => by
      have := hc j (.int .u8 (l[j].toNat : Int)) (by rw [csB, List.getElem?_map, List.getElem?_eq_getElem hj]; rfl)
      exact this)

/-- a letter -/
def ltr (x : UInt8) : UInt8 := UInt8.ofNat (97 + x.toNat % 26)
def wordL (s : ByteArray) : List UInt8 := 120 :: ((s.data.toList.take 30).map ltr)
def wordS (s : ByteArray) : ByteArray := bt (wordL s)
/-- no barred byte -/
def dot (x : UInt8) : UInt8 := if x = 0 ∨ x = 10 ∨ x = 13 then 46 else x
def valueL (s : ByteArray) : List UInt8 := (118 :: ((s.data.toList.take 300).map dot)) ++ [119]
def valueS (s : ByteArray) : ByteArray := bt (valueL s)

theorem ltr_name (x : UInt8) : (nameB ((ltr x).toNat : Int) && decide ((ltr x).toNat < 128)) = true := by
  have h : ∀ r : Fin 26, (nameB ((UInt8.ofNat (97 + r.val)).toNat : Int) && decide ((UInt8.ofNat (97 + r.val)).toNat < 128)) = true := by decide +kernel
  exact h ⟨x.toNat % 26, Nat.mod_lt _ (by decide)⟩
theorem word_name (s : ByteArray) : nmB (wordS s) = true := by
  unfold nmB consB allB wordS
  rw [bt_size, bt_list]
  simp only [Bool.and_eq_true, decide_eq_true_eq, List.all_eq_true]
  refine ⟨⟨by simp [wordL], by simp [wordL, List.length_take]; omega⟩, fun x hx => ?_⟩
  unfold wordL at hx
  rcases List.mem_cons.1 hx with rfl | hx
  · decide
  · obtain ⟨y, _, rfl⟩ := List.mem_map.1 hx
    have := ltr_name y
    simpa [Bool.and_eq_true] using this
theorem word_free (s : ByteArray) (v : ByteArray) (b : Bool) : barredB ⟨wordS s, v, b⟩ = false := by
  have hp : (wordS s).toList = 120 :: ((s.data.toList.take 30).map ltr) := by rw [ByteArray.toList_eq]; exact bt_list _
  have key : ∀ (a : UInt8) (r : List UInt8), a ≠ 120 → ((wordS s).toList == a :: r) = false := fun a r ha => by
    rw [beq_eq_false_iff_ne, hp]
    intro e
    injection e with e1 _
    exact ha e1.symm
  unfold barredB
  simp only
  rw [key _ _ (by decide), key _ _ (by decide), key _ _ (by decide), key _ _ (by decide), key _ _ (by decide), key _ _ (by decide)]
  simp
theorem dot_bar (x : UInt8) : inB barBytes (dot x) = false := by
  unfold dot
  split
  · decide
  · rename_i h
    unfold inB barBytes
    simp only [List.contains_eq_mem, decide_eq_false_iff_not, List.mem_cons, List.not_mem_nil, or_false]
    exact h
theorem value_val (s : ByteArray) : valB (valueS s) = true := by
  have hl : (valueS s).data.toList = valueL s := bt_list _
  have hsz : (valueS s).size = (valueL s).length := bt_size _
  have hlen : (valueL s).length ≤ 302 ∧ 2 ≤ (valueL s).length := by simp [valueL, List.length_take]; omega
  have hmem : ∀ x ∈ valueL s, inB barBytes x = false := fun x hx => by
    unfold valueL at hx
    rcases List.mem_append.1 hx with hx | hx
    · rcases List.mem_cons.1 hx with rfl | hx
      · decide
      · obtain ⟨y, _, rfl⟩ := List.mem_map.1 hx
        exact dot_bar y
    · simp only [List.mem_cons, List.not_mem_nil, or_false] at hx
      subst hx
      decide
  have hfront : frontN (valueS s) (valueS s).size := fun j h _ => by
    refine hmem _ ?_
    rw [← hl]
    simp [ByteArray.getElem_eq_getElem_data]
  rw [val_ends, bar_none hfront]
  unfold endsB
  have h0 : 0 < (valueS s).size := by omega
  rw [dif_pos h0]
  have g0 : (valueS s)[0]'h0 = 118 := by
    have := Lib.data_getElem? (valueS s) 0 h0
    rw [hl] at this
    simpa [valueL] using this.symm
  have g1 : (valueS s)[(valueS s).size - 1]'(by omega) = 119 := by
    have := Lib.data_getElem? (valueS s) ((valueS s).size - 1) (by omega)
    rw [hl] at this
    have e : (valueL s)[(valueS s).size - 1]? = some 119 := by
      rw [hsz, ← List.getLast?_eq_getElem?]
      unfold valueL
      exact List.getLast?_concat
    rw [e] at this
    exact (Option.some.inj this).symm
  rw [g0, g1]
  have : (valueS s).size ≤ 4096 := by omega
  simp [this]
  decide
theorem word_size (s : ByteArray) : (wordS s).size ≤ 31 := by rw [wordS, bt_size]; simp [wordL, List.length_take]; omega
theorem value_size (s : ByteArray) : (valueS s).size ≤ 302 := by rw [valueS, bt_size]; simp [valueL, List.length_take]; omega

theorem take_map_succ (f : UInt8 → UInt8) (l : List UInt8) (k : Nat) (h : k < l.length) : (l.take (k + 1)).map f = (l.take k).map f ++ [f l[k]] := by
  rw [List.take_succ_eq_append_getElem h, List.map_append]
  rfl
/-- one byte more -/
theorem app_byte {w : World} {b : Option Addr} {n c : Nat} {l : List UInt8} (x : UInt8) (h : R EB w (.slice b n c) l) (hn : l.length ≤ 100000) :
    ∃ b' c' w', (Builtin.append_ #[51, 51] 51 #[.slice b n c, .slice (some ⟨w.heap.size, 0, none⟩) 1 1]).run Tryd.prog (w.alloc (.cells #[.int .u8 (x.toNat : Int)] 5)) = .ok (.slice b' (n + 1) c') w' ∧ R EB w' (.slice b' (n + 1) c') (l ++ [x]) ∧ Gr (w.alloc (.cells #[.int .u8 (x.toNat : Int)] 5)) w' (.slice b n c) (.slice b' (n + 1) c') := by
  have hin : In EB (w.alloc (.cells #[.int .u8 (x.toNat : Int)] 5)) (.slice (some ⟨w.heap.size, 0, none⟩) 1 1) [x] := in_one _ _ _ #[.int .u8 (x.toNat : Int)] 5 (0, 0) (by rw [heap_al, if_pos rfl]) rfl
  obtain ⟨e1, _, _⟩ := slice_len h.isIn
  obtain ⟨b', c', w', g1, g2, g3⟩ := app okB _ _ _ (h.below (bel1 w _)) _ _ hin (by simp only [EB, List.length_singleton]; omega)
  rw [← e1] at g1 g2 g3
  exact ⟨b', c', w', g1, g2, g3⟩

set_option maxHeartbeats 4000000 in
set_option maxRecDepth 100000 in
theorem word_any (s : ByteArray) (w : World) (hs : s.size ≤ 140737488355328) : Calls Tryd.prog 51 #[.string s] w fun e w' => e = .returned (.string (wordS s)) ∧ Below w.heap.size w w' := by
  have hr0 : R EB (w.alloc (.cells #[.int .u8 120] 5)) (.slice (some ⟨w.heap.size, 0, none⟩) 1 1) [120] := R.one okB _ (by rw [heap_al, if_pos rfl]; rfl) rfl
  have b0 := bel1 w (.cells #[.int .u8 120] 5)
  have HS : Hid (R EB (w.alloc (.cells #[.int .u8 120] 5)) (.slice (some ⟨w.heap.size, 0, none⟩) 1 1) [120] ∧ Below w.heap.size w (w.alloc (.cells #[.int .u8 120] 5))) := ⟨hr0, b0⟩
  clear hr0 b0
  go_enter Tryd.func51, Tryd.ntmps51
  go_wp2_with fail
  go_loopw [3, 4] (fun vv iv wr => ∃ (k : Nat) (b : Option Addr) (n c : Nat), iv = .int .i64 (k : Int) ∧ k ≤ s.size ∧ k ≤ 30 ∧ vv = .slice b n c ∧ Hid (R EB wr (.slice b n c) (120 :: ((s.data.toList.take k).map ltr)) ∧ (∀ i, (Value.slice b n c).ownBlock = some i → w.heap.size ≤ i) ∧ Below w.heap.size w wr)) (fun _ iv _ => s.size - (intOf iv).toNat)
  case atStart => exact ⟨0, _, _, _, rfl, by omega, by omega, rfl, by simpa using HS.out.1, fun i hi => by simp [Value.ownBlock] at hi; omega, HS.out.2⟩
  case round =>
    obtain ⟨k, b, n, c, rfl, hk, hk30, rfl, hv⟩ := hrel
    clear HS
    by_cases hlt : k < s.size
    · have hlt' : (k : Int) < (s.size : Int) := by omega
      by_cases h30 : k < 30
      · have h30' : (k : Int) < 30 := by omega
        obtain ⟨x, hx⟩ : ∃ x : UInt8, s[k]'hlt = x := ⟨_, rfl⟩
        obtain ⟨r1, r2, r3⟩ := hv.out
        obtain ⟨b', c', w', g1, g2, g3⟩ := app_byte (ltr x) r1 (by simp [List.length_take]; omega)
        have hxl : (ltr x).toNat = 97 + x.toNat % 26 := by
          unfold ltr
          rw [UInt8.toNat_ofNat']
          have := Nat.mod_lt x.toNat (show 26 > 0 by decide)
          omega
        rw [hxl] at g1 g3
        have hbl : Below w.heap.size w (wr.alloc (.cells #[.int .u8 ((97 + x.toNat % 26 : Nat) : Int)] 5)) := r3.trans ((bel1 wr _).mono r3.size)
        have HNX : Hid (R EB w' (.slice b' (n + 1) c') (120 :: ((s.data.toList.take (k + 1)).map ltr)) ∧ (∀ i, (Value.slice b' (n + 1) c').ownBlock = some i → w.heap.size ≤ i) ∧ Below w.heap.size w w') := by
          refine ⟨?_, fun i hi => ?_, hbl.trans (g3.belowB hbl.size r2)⟩
          · rw [take_map_succ ltr s.data.toList k (by rw [← Lib.size_eq]; exact hlt)]
            rw [show s.data.toList[k]'(by rw [← Lib.size_eq]; exact hlt) = x from hx]
            exact g2
          · rcases g3.own i hi with e | e
            · exact r2 i e
            · exact Nat.le_trans hbl.size e
        have hr : (x.toNat : Int) % 26 = ((x.toNat % 26 : Nat) : Int) := by omega
        obtain ⟨r, hrr⟩ : ∃ r, x.toNat % 26 = r := ⟨_, rfl⟩
        have hr26 : r < 26 := by rw [← hrr]; exact Nat.mod_lt _ (by decide)
        rw [hrr] at hr g1
        have htm : (x.toNat : Int).tmod 26 = (r : Int) := by rw [Int.tmod_eq_emod_of_nonneg (by omega)]; exact hr
        rw [show ((97 + r : Nat) : Int) = 97 + (r : Int) by omega] at g1
        replace g1 : Hid _ := g1
        clear g2 g3 r1 r2 r3 hv hbl hxl hrr
        go_wp2_with (at_builtin; refine Lib.wpList_append_run _ rfl _ _ _ _ rfl _ _ rfl rfl _ _ g1.out ?_)
        go_roundw
        case rel => exact ⟨k + 1, b', n + 1, c', by simp, by omega, by omega, rfl, HNX.out⟩
        case measure => simp [intOf]; omega
      · obtain rfl : k = 30 := by omega
        have h30' : ¬ (30 : Int) < 30 := by omega
        have hcv : Sem.run Tryd.prog (convert 51 9 (.slice b n c)) wr = .ok (.string (wordS s)) wr := conv_row (R.isIn hv.out.1) (Nat.zero_lt_succ _)
        have HB : Hid (Below w.heap.size w wr) := hv.out.2.2
        clear hv
        go_wp2_with fail
        go_ret
        exact ⟨rfl, HB.out⟩
    · obtain rfl : k = s.size := by omega
      have hlt' : ¬ (s.size : Int) < (s.size : Int) := by omega
      have HF : Hid (bt (120 :: ((s.data.toList.take s.size).map ltr)) = wordS s) := by
        show _ = _
        unfold wordS wordL
        rw [List.take_of_length_le (by rw [← Lib.size_eq]; exact Nat.le_refl _), List.take_of_length_le (by rw [← Lib.size_eq]; exact hk30)]
      have hcv : Sem.run Tryd.prog (convert 51 9 (.slice b n c)) wr = .ok (.string (wordS s)) wr := by
        have := conv_row (R.isIn hv.out.1) (Nat.zero_lt_succ _)
        rw [HF.out] at this
        exact this
      have HB : Hid (Below w.heap.size w wr) := hv.out.2.2
      clear hv
      go_wp2_with fail
      go_ret
      exact ⟨rfl, HB.out⟩

set_option maxHeartbeats 4000000 in
set_option maxRecDepth 100000 in
theorem value_made (s : ByteArray) (w : World) (hs : s.size ≤ 140737488355328) : Calls Tryd.prog 52 #[.string s] w fun e w' => e = .returned (.string (valueS s)) ∧ Below w.heap.size w w' := by
  have hr0 : R EB (w.alloc (.cells #[.int .u8 118] 5)) (.slice (some ⟨w.heap.size, 0, none⟩) 1 1) [118] := R.one okB _ (by rw [heap_al, if_pos rfl]; rfl) rfl
  have b0 := bel1 w (.cells #[.int .u8 118] 5)
  have HS : Hid (R EB (w.alloc (.cells #[.int .u8 118] 5)) (.slice (some ⟨w.heap.size, 0, none⟩) 1 1) [118] ∧ Below w.heap.size w (w.alloc (.cells #[.int .u8 118] 5))) := ⟨hr0, b0⟩
  clear hr0 b0
  go_enter Tryd.func52, Tryd.ntmps52
  go_wp2_with fail
  go_loopw [3, 4, 5] (fun vv iv _ wr => ∃ (k : Nat) (b : Option Addr) (n c : Nat), iv = .int .i64 (k : Int) ∧ k ≤ s.size ∧ k ≤ 300 ∧ vv = .slice b n c ∧ Hid (R EB wr (.slice b n c) (118 :: ((s.data.toList.take k).map dot)) ∧ (∀ i, (Value.slice b n c).ownBlock = some i → w.heap.size ≤ i) ∧ Below w.heap.size w wr)) (fun _ iv _ _ => s.size - (intOf iv).toNat)
  case atStart => exact ⟨0, _, _, _, rfl, by omega, by omega, rfl, by simpa using HS.out.1, fun i hi => by simp [Value.ownBlock] at hi; omega, HS.out.2⟩
  case round =>
    obtain ⟨k, b, n, c, rfl, hk, hk30, rfl, hv⟩ := hrel
    clear HS
    have FIN : Hid ((s.data.toList.take k).map dot = (s.data.toList.take 300).map dot → ∃ b' c' w', Hid ((Builtin.append_ #[51, 51] 51 #[.slice b n c, .slice (some ⟨wr.heap.size, 0, none⟩) 1 1]).run Tryd.prog (wr.alloc (.cells #[.int .u8 119] 5)) = .ok (.slice b' (n + 1) c') w') ∧ Sem.run Tryd.prog (convert 51 9 (.slice b' (n + 1) c')) w' = .ok (.string (valueS s)) w' ∧ Hid (Below w.heap.size w w')) := fun hh => by
      obtain ⟨r1, r2, r3⟩ := hv.out
      obtain ⟨b', c', w', g1, g2, g3⟩ := app_byte 119 r1 (by simp [List.length_take]; omega)
      have hbl : Below w.heap.size w (wr.alloc (.cells #[.int .u8 119] 5)) := r3.trans ((bel1 wr _).mono r3.size)
      refine ⟨b', c', w', g1, ?_, hbl.trans (g3.belowB hbl.size r2)⟩
      have := conv_row g2.isIn (by simp)
      rw [hh] at this
      exact this
    by_cases hlt : k < s.size
    · have hlt' : (k : Int) < (s.size : Int) := by omega
      by_cases h30 : k < 300
      · have h30' : (k : Int) < 300 := by omega
        obtain ⟨x, hx⟩ : ∃ x : UInt8, s[k]'hlt = x := ⟨_, rfl⟩
        obtain ⟨r1, r2, r3⟩ := hv.out
        obtain ⟨b', c', w', g1, g2, g3⟩ := app_byte (dot x) r1 (by simp [List.length_take]; omega)
        have hbl : Below w.heap.size w (wr.alloc (.cells #[.int .u8 ((dot x).toNat : Int)] 5)) := r3.trans ((bel1 wr _).mono r3.size)
        have HNX : Hid (R EB w' (.slice b' (n + 1) c') (118 :: ((s.data.toList.take (k + 1)).map dot)) ∧ (∀ i, (Value.slice b' (n + 1) c').ownBlock = some i → w.heap.size ≤ i) ∧ Below w.heap.size w w') := by
          refine ⟨?_, fun i hi => ?_, hbl.trans (g3.belowB hbl.size r2)⟩
          · rw [take_map_succ dot s.data.toList k (by rw [← Lib.size_eq]; exact hlt)]
            rw [show s.data.toList[k]'(by rw [← Lib.size_eq]; exact hlt) = x from hx]
            exact g2
          · rcases g3.own i hi with e | e
            · exact r2 i e
            · exact Nat.le_trans hbl.size e
        clear g2 g3 r1 r2 r3 hv hbl FIN
        by_cases hd : x = 0 ∨ x = 10 ∨ x = 13
        · have hdx : dot x = 46 := by unfold dot; rw [if_pos hd]
          rw [hdx] at g1
          replace g1 : Hid _ := g1
          have hxn : x.toNat = 0 ∨ x.toNat = 10 ∨ x.toNat = 13 := by rcases hd with rfl | rfl | rfl <;> simp
          clear hd hdx
          have hx' : ((s[k]'hlt).toNat : Int) = (x.toNat : Int) := by rw [hx]
          rcases hxn with h | h | h
          all_goals
            rw [h] at hx'
            clear h hx
            go_wp2_with (at_builtin; refine Lib.wpList_append_run _ rfl _ _ _ _ rfl _ _ rfl rfl _ _ g1.out ?_)
            go_roundw
            case rel => exact ⟨k + 1, b', n + 1, c', by simp, by omega, by omega, rfl, HNX.out⟩
            case measure => simp [intOf]; omega
        · have hdx : dot x = x := by unfold dot; rw [if_neg hd]
          rw [hdx] at g1
          replace g1 : Hid _ := g1
          have h0 : ((x.toNat : Int) == 0) = false := beq_eq_false_iff_ne.2 fun e => hd (.inl (UInt8.toNat_inj.1 (by show x.toNat = 0; omega)))
          have h10 : ((x.toNat : Int) == 10) = false := beq_eq_false_iff_ne.2 fun e => hd (.inr (.inl (UInt8.toNat_inj.1 (by show x.toNat = 10; omega))))
          have h13 : ((x.toNat : Int) == 13) = false := beq_eq_false_iff_ne.2 fun e => hd (.inr (.inr (UInt8.toNat_inj.1 (by show x.toNat = 13; omega))))
          clear hd hdx
          go_wp2_with (at_builtin; refine Lib.wpList_append_run _ rfl _ _ _ _ rfl _ _ rfl rfl _ _ g1.out ?_)
          go_roundw
          case rel => exact ⟨k + 1, b', n + 1, c', by simp, by omega, by omega, rfl, HNX.out⟩
          case measure => simp [intOf]; omega
      · obtain rfl : k = 300 := by omega
        have h30' : ¬ (300 : Int) < 300 := by omega
        obtain ⟨b', c', w', g1, g2, g3⟩ := FIN.out rfl
        clear hv FIN
        go_wp2_with (at_builtin; refine Lib.wpList_append_run _ rfl _ _ _ _ rfl _ _ rfl rfl _ _ g1.out ?_)
        go_ret
        exact ⟨rfl, g3.out⟩
    · obtain rfl : k = s.size := by omega
      have hlt' : ¬ (s.size : Int) < (s.size : Int) := by omega
      obtain ⟨b', c', w', g1, g2, g3⟩ := FIN.out (by rw [List.take_of_length_le (by rw [← Lib.size_eq]; exact Nat.le_refl _), List.take_of_length_le (by rw [← Lib.size_eq]; exact hk30)])
      clear hv FIN
      go_wp2_with (at_builtin; refine Lib.wpList_append_run _ rfl _ _ _ _ rfl _ _ rfl rfl _ _ g1.out ?_)
      go_ret
      exact ⟨rfl, g3.out⟩
end Go.Proofs.YtcgfgjhhmbfmdaaDoor
