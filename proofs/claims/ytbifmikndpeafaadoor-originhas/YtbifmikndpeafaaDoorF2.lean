/- How an origin may be spelt. -/
import Derived.Test.YtbifmikndpeafaaDoorF1
import Derived.Test.YtbifmikndpeafaaDoorD4
namespace Go.Proofs.YtbifmikndpeafaaDoor
open Go.RowKit
set_option linter.unusedVariables false
set_option linter.unusedSimpArgs false
def upB (m : Int) (i : Nat) : Bool := bits .and .u64 (m / 2 ^ (i % 60)) 1 == 1
def upC (b : Bool) (x : UInt8) : UInt8 := if b = true ∧ 97 ≤ x.toNat ∧ x.toNat ≤ 122 then UInt8.ofNat (x.toNat - 32) else x
def up (m : Int) (l : List UInt8) : List UInt8 := l.mapIdx fun i x => upC (upB m i) x
theorem up_snoc (m : Int) (l : List UInt8) (x : UInt8) : up m (l ++ [x]) = up m l ++ [upC (upB m l.length) x] := by
  unfold up
  rw [List.mapIdx_concat]
theorem up_len (m : Int) (l : List UInt8) : (up m l).length = l.length := by simp [up]
theorem upC_no {b : Bool} {x : UInt8} (h : ¬ (b = true ∧ 97 ≤ x.toNat ∧ x.toNat ≤ 122)) : upC b x = x := if_neg h
theorem upC_yes {x : UInt8} (h1 : 97 ≤ x.toNat) (h2 : x.toNat ≤ 122) : (upC true x).toNat = x.toNat - 32 := by
  unfold upC
  rw [if_pos ⟨rfl, h1, h2⟩, UInt8.toNat_ofNat']
  omega
theorem up_zero (l : List UInt8) : up 0 l = l := by
  have h0 : ∀ i, upB 0 i = false := fun i => by
    unfold upB
    rw [Int.zero_ediv]
    decide
  unfold up
  apply List.ext_getElem
  · simp
  · intro i h1 h2
    rw [List.getElem_mapIdx, h0, upC_no (by simp)]
/-- a host's byte -/
def hoC (x : UInt8) : Prop := lbB x = true ∨ x.toNat = 45 ∨ x.toNat = 46
theorem sm_up {x : UInt8} (h : hoC x) (b : Bool) : smC (upC b x) = x ∧ (upC b x).toNat ≠ 58 ∧ (upC b x).toNat ≠ 47 := by
  have hx : x.toNat = 45 ∨ x.toNat = 46 ∨ (48 ≤ x.toNat ∧ x.toNat ≤ 57) ∨ (97 ≤ x.toNat ∧ x.toNat ≤ 122) := by
    rcases h with h | h | h
    · rcases lbB_iff.1 h with h | h <;> omega
    · omega
    · omega
  by_cases hc : b = true ∧ 97 ≤ x.toNat ∧ x.toNat ≤ 122
  · obtain ⟨rfl, h1, h2⟩ := hc
    have h3 := upC_yes h1 h2
    refine ⟨?_, by omega, by omega⟩
    apply UInt8.toNat_inj.1
    rw [smC_up (by omega) (by omega), h3]
    omega
  · rw [upC_no hc]
    refine ⟨smC_id (by omega), by omega, by omega⟩
theorem sm_upL {l : List UInt8} (h : ∀ x ∈ l, hoC x) (m : Int) : (up m l).map smC = l ∧ 58 ∉ up m l := by
  constructor
  · unfold up
    apply List.ext_getElem
    · simp
    · intro i h1 h2
      rw [List.getElem_map, List.getElem_mapIdx]
      exact (sm_up (h _ (List.getElem_mem h2)) _).1
  · intro hm
    unfold up at hm
    obtain ⟨i, hi, e⟩ := List.mem_mapIdx.1 hm
    have := (sm_up (h _ (List.getElem_mem hi)) (upB m i)).2.1
    rw [e] at this
    exact this rfl
/-- an authority: the host's letters made great, the port behind, if it must or shall be named -/
def spT (o : Og) (nm : Bool) : Bool := nm || !decide (o.p = usP o.s)
def spL (o : Og) (m : Int) (nm : Bool) : List UInt8 := up m o.h.data.toList ++ (if spT o nm = true then 58 :: Lib.decDigits o.p.toNat else [])
def spS (o : Og) (m : Int) (nm : Bool) : ByteArray := bt (spL o m nm)
theorem spL_len {o : Og} (h : rtB o = true) (m : Int) (nm : Bool) : (spL o m nm).length ≤ 300 := by
  obtain ⟨h1, h2, h3, h4⟩ := rtB_iff.1 h
  have h5 := host_size h2
  have h6 := Lib.size_eq o.h
  have h7 := dec_len 4 o.p.toNat (by omega)
  unfold spL
  rw [List.length_append, up_len]
  split
  · simp; omega
  · simp; omega
/-- bytes that grow while another row is read -/
def Rg (V : World) (g : Nat) (wr : World) (v : Value) (L : List UInt8) : Prop := R EB wr v L ∧ Below V.heap.size V wr ∧ (∀ j, v.ownBlock = some j → V.heap.size ≤ j ∧ j ≠ g) ∧ g < wr.heap.size
theorem Rg.app {V wr : World} {g : Nat} {b : Option Addr} {k c : Nat} {L : List UInt8} (h : Rg V g wr (.slice b k c) L) (hk : k = L.length) (hl : L.length + 1 ≤ 140737488355328) (x : UInt8) :
    ∃ b2 c2 w2, (Builtin.append_ #[33, 33] 33 #[.slice b k c, .slice (some ⟨wr.heap.size, 0, none⟩) 1 1]).run Tryd.prog (wr.alloc (.cells #[.int .u8 (x.toNat : Int)] 5)) = .ok (.slice b2 (k + 1) c2) w2 ∧ Rg V g w2 (.slice b2 (k + 1) c2) (L ++ [x]) ∧ w2.heap[g]? = wr.heap[g]? := by
  subst hk
  have ba := bel1 wr (.cells #[.int .u8 (x.toNat : Int)] 5)
  obtain ⟨b2, c2, w2, e1, e2, e3⟩ := Go.Proofs.YtbifmikndpeafaaDoor.app okB (wr.alloc (.cells #[.int .u8 (x.toNat : Int)] 5)) _ _ (R.below h.1 ba) (.slice (some ⟨wr.heap.size, 0, none⟩) 1 1) [x] (in_one (x := x) _ _ #[.int .u8 (x.toNat : Int)] 5 (0, 0) (by rw [heap_al, if_pos rfl]) rfl) (by simp only [EB, List.length_singleton]; omega)
  have el : L.length + [x].length = L.length + 1 := rfl
  rw [el] at e1 e2 e3
  have hg := h.2.2.2
  have hg1 : w2.heap[g]? = wr.heap[g]? := by
    rw [e3.block g (by rw [size_al]; omega) (fun e => (h.2.2.1 g e).2 rfl)]
    exact ba.block g hg
  refine ⟨b2, c2, w2, e1, ⟨e2, ?_, fun j hj => ?_, ?_⟩, hg1⟩
  · exact h.2.1.trans (Below.trans (ba.mono h.2.1.size) (e3.belowB (Nat.le_trans h.2.1.size ba.size) (fun j hj => (h.2.2.1 j hj).1)))
  · rcases e3.own j hj with e | e
    · exact h.2.2.1 j e
    · rw [size_al] at e
      have := h.2.1.size
      omega
  · have := e3.size
    rw [size_al] at this
    omega
end Go.Proofs.YtbifmikndpeafaaDoor
