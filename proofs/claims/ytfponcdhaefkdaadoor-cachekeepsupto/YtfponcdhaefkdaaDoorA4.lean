/- Small. -/
import Derived.Test.YtfponcdhaefkdaaDoorA1
import Derived.Lib.ConvBytes
import Derived.Lib.Strings
namespace Go.Proofs.YtfponcdhaefkdaaDoor
open Go.RowKit
set_option linter.unusedVariables false
set_option linter.unusedSimpArgs false

def EB : El UInt8 := ⟨103, 5, 1, 1, fun x => [.int .u8 (x.toNat : Int)]⟩
theorem okB : EB.Ok := ⟨Tryd.underlying103, by kernel_rfl, by decide, by decide, fun _ => rfl, fun a u hu => by
  simp only [EB, List.mem_cons, List.not_mem_nil, or_false] at hu
  rcases hu with rfl; rfl⟩
def bt (l : List UInt8) : ByteArray := ⟨l.toArray⟩
theorem bt_list (l : List UInt8) : (bt l).data.toList = l := by simp [bt]
theorem bt_size (l : List UInt8) : (bt l).size = l.length := by rw [Lib.size_eq, bt_list]
theorem bt_self (s : ByteArray) : bt s.data.toList = s := by cases s; simp [bt]
theorem csB (l : List UInt8) : EB.cs l = l.map fun x => Value.int .u8 (x.toNat : Int) := by
  induction l with
  | nil => rfl
  | cons a r ih => simp only [El.cs, List.flatMap_cons, EB, List.cons_append, List.nil_append, List.map_cons] at ih ⊢; rw [ih]
set_option maxRecDepth 100000 in
theorem conv_row {w : World} {b : Option Addr} {n c : Nat} {l : List UInt8} (h : In EB w (.slice b n c) l) (hl : 0 < l.length) : Sem.run Tryd.prog (convert 103 9 (.slice b n c)) w = .ok (.string (bt l)) w := by
  rcases h with ⟨_, rfl⟩ | ⟨a, cap, e, h1, h2, hc⟩
  · exact absurd hl (by simp)
  · injection e with e1 e2 e3
    subst e1 e2 e3
    exact run_convert_bytes_back (P := Tryd.prog) w 103 9 5 a c l Tryd.underlying103 Tryd.underlying5 Tryd.underlying9 (fun j hj => by
      have := hc j (.int .u8 (l[j].toNat : Int)) (by rw [csB, List.getElem?_map, List.getElem?_eq_getElem hj]; rfl)
      exact this)

/-- a to z for A to Z -/
def smC (x : UInt8) : UInt8 := if 65 ≤ x.toNat ∧ x.toNat ≤ 90 then UInt8.ofNat (x.toNat + 32) else x
def smL (l : List UInt8) : List UInt8 := l.map smC
def smS (s : ByteArray) : ByteArray := bt (smL s.data.toList)
theorem smC_up {x : UInt8} (h1 : 65 ≤ x.toNat) (h2 : x.toNat ≤ 90) : (smC x).toNat = x.toNat + 32 := by
  unfold smC
  rw [if_pos ⟨h1, h2⟩, UInt8.toNat_ofNat']
  omega
theorem smC_id {x : UInt8} (h : ¬ (65 ≤ x.toNat ∧ x.toNat ≤ 90)) : smC x = x := if_neg h

/-- Block b begins with these bytes, which may be written. -/
structure Sb (W : World) (b : Nat) (l : List UInt8) : Prop where
  lt : b < W.heap.size
  cell : ∀ j (h : j < l.length), W.cell? ⟨b, j, none⟩ = some (.int .u8 (l[j].toNat : Int))
  fz : ∀ j, j < l.length → W.frozen? ⟨b, j, none⟩ = false
theorem Sb.below {W W' : World} {b : Nat} {l : List UInt8} (h : Sb W b l) (hb : Below W.heap.size W W') : Sb W' b l := by
  have e := hb.block b h.lt
  refine ⟨Nat.lt_of_lt_of_le h.lt hb.size, fun j hj => ?_, fun j hj => ?_⟩
  · rw [← h.cell j hj]; unfold World.cell?; simp only [e]
  · rw [← h.fz j hj]; unfold World.frozen?; simp only [e]
theorem Sb.new (w : World) (s : ByteArray) : Sb (Lib.bytesWorld w 5 s) w.heap.size s.data.toList := by
  have hn := Lib.bytesWorld_at_new w 5 s
  have hl : s.data.toList.length = s.size := (Lib.size_eq s).symm
  refine ⟨heap_lt hn, fun j hj => ?_, fun j hj => ?_⟩
  · have := Lib.bytesWorld_cell w 5 s j (by rw [← hl]; exact hj)
    rw [this]
    have hj' : j < s.data.size := by simpa using hj
    rw [List.getD_eq_getElem?_getD, Array.getElem?_toList, Array.getElem?_eq_getElem hj']; rfl
  · unfold World.frozen?
    simp only [hn]
    have : (Lib.bytesCells w 5 s).size ≥ s.size := by simp [Lib.bytesCells]
    simp
    intro h
    omega
theorem bytesWorld_below (w : World) (s : ByteArray) : Below w.heap.size w (Lib.bytesWorld w 5 s) :=
  ⟨rfl, rfl, rfl, by rw [Lib.bytesWorld_size]; omega, fun k hk => Lib.bytesWorld_at_old w 5 s k hk⟩
theorem Sb.set {W : World} {b : Nat} {l : List UInt8} (h : Sb W b l) (k : Nat) (hk : k < l.length) (x : UInt8) : Sb (W.setCell ⟨b, k, none⟩ (.int .u8 (x.toNat : Int))) b (l.set k x) := by
  have hc := h.cell k hk
  obtain ⟨c, t, fz, hb⟩ : ∃ c t fz, W.heap[b]? = some (.cells c t fz) := by
    unfold World.cell? at hc
    split at hc
    · rename_i c t fz hb
      exact ⟨c, t, fz, hb⟩
    · cases hc
  have hn := setCell_block W b k (.int .u8 (x.toNat : Int)) c t fz hb
  have hsz : k < c.size := by
    rw [cell_blk hb] at hc
    exact (Array.getElem?_eq_some_iff.1 hc).1
  refine ⟨heap_lt hn, fun j hj => ?_, fun j hj => ?_⟩
  · rw [cell_blk hn]
    have hj' : j < l.length := by simpa using hj
    by_cases e : k = j
    · subst e
      simp [hsz]
    · have := h.cell j hj'
      rw [cell_blk hb] at this
      rw [Array.getElem?_setIfInBounds_ne e, this, List.getElem_set_ne e]
  · have hj' : j < l.length := by simpa using hj
    have := h.fz j hj'
    unfold World.frozen? at this ⊢
    simp only [hb] at this
    simp only [hn]
    exact this
theorem Sb.conv {W : World} {b : Nat} {l : List UInt8} (h : Sb W b l) (cap : Nat) : Sem.run Tryd.prog (convert 103 9 (.slice (some ⟨b, 0, none⟩) l.length cap)) W = .ok (.string (bt l)) W :=
  run_convert_bytes_back (P := Tryd.prog) W 103 9 5 ⟨b, 0, none⟩ cap l Tryd.underlying103 Tryd.underlying5 Tryd.underlying9 (fun j hj => by
    rw [Addr.add_lit, Nat.zero_add]
    exact h.cell j hj)
theorem sm_succ (l : List UInt8) (k : Nat) (h : k < l.length) : smL (l.take (k + 1)) ++ l.drop (k + 1) = (smL (l.take k) ++ l.drop k).set k (smC l[k]) := by
  unfold smL
  rw [List.take_succ_eq_append_getElem h, List.map_append, List.set_append_right _ _ (by simp; omega)]
  have : k - (List.map smC (List.take k l)).length = 0 := by simp; omega
  rw [this, List.drop_eq_getElem_cons h, List.set_cons_zero]
  simp

set_option maxHeartbeats 4000000 in
set_option maxRecDepth 100000 in
theorem small_any (s : ByteArray) (w : World) (hs : s.size ≤ 140737488355328) : Calls Tryd.prog 30 #[.string s] w fun e w' => e = .returned (.string (smS s)) ∧ Below w.heap.size w w' := by
  have hcv := Lib.run_convert_string_bytes (P := Tryd.prog) w 9 103 5 s Tryd.underlying9 Tryd.underlying103 Tryd.underlying5
  have S0 : Hid (Sb (Lib.bytesWorld w 5 s) w.heap.size s.data.toList ∧ Below w.heap.size w (Lib.bytesWorld w 5 s)) := ⟨Sb.new w s, bytesWorld_below w s⟩
  have hcap : s.size ≤ grownCap w s.size 0 5 := grownCap_ge w s.size 0 5
  obtain ⟨C, hC⟩ : ∃ C, grownCap w s.size 0 5 = C := ⟨_, rfl⟩
  rw [hC] at hcv hcap
  obtain ⟨wb, hwb⟩ : ∃ x, Lib.bytesWorld w 5 s = x := ⟨_, rfl⟩
  rw [hwb] at hcv S0
  have HL : Hid (s.data.toList.length = s.size) := (Lib.size_eq s).symm
  clear hC hwb
  go_enter Tryd.func30, Tryd.ntmps30
  go_wp2_with fail
  go_loopw [4, 5, 10] (fun _ _ iv wr => ∃ k : Nat, iv = .int .i64 (k : Int) ∧ k ≤ s.size ∧ Hid (Sb wr w.heap.size (smL (s.data.toList.take k) ++ s.data.toList.drop k) ∧ Below w.heap.size w wr)) (fun _ _ iv _ => s.size - (intOf iv).toNat)
  case atStart => exact ⟨0, rfl, by omega, by simpa [smL] using S0.out.1, S0.out.2⟩
  case round =>
    obtain ⟨k, rfl, hk, hS⟩ := hrel
    clear S0 hcv
    by_cases hlt : k < s.size
    · have hlt' : (k : Int) < (s.size : Int) := by omega
      have kl : k < s.data.toList.length := by rw [HL.out]; exact hlt
      have kl2 : k < (smL (s.data.toList.take k) ++ s.data.toList.drop k).length := by rw [List.length_append, smL, List.length_map, List.length_take, List.length_drop]; omega
      obtain ⟨x, hx⟩ : ∃ x : UInt8, s.data.toList[k]'kl = x := ⟨_, rfl⟩
      have c0 := hS.out.1.cell k kl2
      have f0 := hS.out.1.fz k kl2
      have l0 := hS.out.1.lt
      have hxk : (smL (s.data.toList.take k) ++ s.data.toList.drop k)[k]'kl2 = x := by
        rw [List.getElem_append_right (by rw [smL, List.length_map, List.length_take]; omega)]
        simp only [smL, List.length_map, List.length_take, List.getElem_drop]
        rw [← hx]
        congr 1
        omega
      rw [hxk] at c0
      have HN : Hid (∀ y : UInt8, smC x = y → Sb (wr.setCell ⟨w.heap.size, k, none⟩ (.int .u8 (y.toNat : Int))) w.heap.size (smL (s.data.toList.take (k + 1)) ++ s.data.toList.drop (k + 1)) ∧ Below w.heap.size w (wr.setCell ⟨w.heap.size, k, none⟩ (.int .u8 (y.toNat : Int)))) := fun y hy => by
        rw [sm_succ _ k kl, hx, hy]
        exact ⟨hS.out.1.set k kl2 y, hS.out.2.setCell (p := ⟨w.heap.size, k, none⟩) (Nat.le_refl _) _⟩
      have HI : Hid (smC x = x → Sb wr w.heap.size (smL (s.data.toList.take (k + 1)) ++ s.data.toList.drop (k + 1)) ∧ Below w.heap.size w wr) := fun hy => by
        refine ⟨?_, hS.out.2⟩
        rw [sm_succ _ k kl, hx, hy]
        have := hS.out.1
        rw [← hxk, List.set_getElem_self]
        exact this
      have hx8 := x.toNat_lt
      clear hS hxk hx kl kl2
      by_cases h1 : 65 ≤ x.toNat
      · have h1' : (65 : Int) ≤ (x.toNat : Int) := by omega
        by_cases h2 : x.toNat ≤ 90
        · have h2' : (x.toNat : Int) ≤ 90 := by omega
          have hy := smC_up h1 h2
          obtain ⟨y, hyy⟩ : ∃ y, smC x = y := ⟨_, rfl⟩
          have HN2 := HN.out y hyy
          rw [hyy] at hy
          have hw1 : IntKind.u8.wrap ((x.toNat : Int) - 65) = (x.toNat : Int) - 65 := by rw [IntKind.wrap_u8]; omega
          have hw2 : IntKind.u8.wrap ((x.toNat : Int) - 65 + 97) = (y.toNat : Int) := by rw [IntKind.wrap_u8]; omega
          replace HN2 : Hid _ := HN2
          clear HN HI hyy hy
          go_wp2_with fail
          go_roundw
          case rel => exact ⟨k + 1, by simp, by omega, HN2.out⟩
          case measure => simp [intOf]; omega
        · have h2' : ¬ (x.toNat : Int) ≤ 90 := by omega
          have HN2 : Hid _ := HI.out (smC_id (by omega))
          clear HN HI
          go_wp2_with fail
          go_roundw
          case rel => exact ⟨k + 1, by simp, by omega, HN2.out⟩
          case measure => simp [intOf]; omega
      · have h1' : ¬ (65 : Int) ≤ (x.toNat : Int) := by omega
        have HN2 : Hid _ := HI.out (smC_id (by omega))
        clear HN HI
        go_wp2_with fail
        go_roundw
        case rel => exact ⟨k + 1, by simp, by omega, HN2.out⟩
        case measure => simp [intOf]; omega
    · obtain rfl : k = s.size := by omega
      have hlt' : ¬ (s.size : Int) < (s.size : Int) := by omega
      have HB : Hid (Below w.heap.size w wr) := hS.out.2
      have hcv2 : Sem.run Tryd.prog (convert 103 9 (.slice (some ⟨w.heap.size, 0, none⟩) s.size C)) wr = .ok (.string (smS s)) wr := by
        have h := hS.out.1
        rw [← HL.out, List.take_length, List.drop_length, List.append_nil] at h
        have h2 := h.conv C
        rw [show (smL s.data.toList).length = s.size by rw [smL, List.length_map, HL.out]] at h2
        exact h2
      clear hS
      go_wp2_with fail
      go_ret
      exact ⟨rfl, HB.out⟩
end Go.Proofs.YtfponcdhaefkdaaDoor
