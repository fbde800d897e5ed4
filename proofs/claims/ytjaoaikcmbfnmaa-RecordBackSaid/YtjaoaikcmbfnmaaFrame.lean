/- What the last steps of all claims of this seat share. -/
import Derived.Test.YtjaoaikcmbfnmaaRows
import Derived.Test.YtjaoaikcmbfnmaaRr
import Derived.Deep.Slices
import Derived.ProofKit
import Derived.OpenShut
import Derived.ShutString
import Derived.ChangeOld
namespace Go.Proofs.Ytjaoaikcmbfnmaa
open Go.ChangeShapes Go.WideShapes Go.ChangeAt Go.RowKit

theorem own : ownKnob Try.prog.godebug = none := by kernel_rfl
theorem laidOut : laidOutB Try.prog = true := by kernel_rfl

theorem rd_of_nil (W : World) : ∃ l, Rd W W.heap.size none 0 0 l := ⟨[], Rd.nil _ _ _ _⟩

/-- A slice of bytes that came in reads as a list of bytes. -/
theorem rd_of {W : World} {x : Addr} {len cap : Nat} {zs : List Int} (hl : len ≤ cap) (hz : zs.length = cap)
    (hcell : ∀ i, i < zs.length → W.cell? (x.add i) = some (.int .u8 (zs.getD i 0))) (hwz : ∀ n ∈ zs, (Lit.int .u8 n).wf = true) :
    ∃ l, Rd W W.heap.size (some x) len cap l := by
  refine ⟨(zs.take len).map fun z => UInt8.ofNat z.toNat, by rw [List.length_map, List.length_take]; omega, hl, fun hn => ⟨x, rfl, ?_, fun j u hu => ?_⟩⟩
  · have h := hcell 0 (by omega)
    have := block_lt_of_cell h
    rwa [add_block] at this
  · rw [List.getElem?_map, List.getElem?_take] at hu
    split at hu
    · rename_i hj
      have hjl : j < zs.length := by omega
      rw [List.getElem?_eq_getElem hjl] at hu
      simp only [Option.map_some, Option.some.injEq] at hu
      subst hu
      rw [hcell j hjl]
      have hb := bounds_u8 (hwz zs[j] (List.getElem_mem _))
      have hg : zs.getD j 0 = zs[j] := by simp [List.getD, List.getElem?_eq_getElem hjl]
      rw [hg, B8]
      have : (UInt8.ofNat (zs[j]).toNat).toNat = (zs[j]).toNat := by simp; omega
      rw [this, Int.toNat_of_nonneg hb.1]
    · simp at hu

/-- The byte that a cell holds. -/
def byteIn : Value → UInt8 | .int _ z => UInt8.ofNat z.toNat | _ => 0

/-- An array of bytes that came in. -/
theorem open_bytes {H : Type} {enc : TypeId × Value → H} {W : World} {r : Reach} {b0 : Nat} {base : Nat} {spare : Nat → Bool} {held : Bool} {t : TypeId} {n : Nat} {v : Value} {d : DataW H} {p : List MemPlace}
    (hu : Try.prog.underlying t = some (.array n 5)) (hC : Try.prog.cellsOf t = n) (hv : Value.okWide Try.prog W r b0 t v) (h : DataW.Trod enc Try.prog W base spare held t v d p) :
    ∃ l, v = .agg (cs8 l).toArray ∧ l.length = n := by
  unfold Value.okWide at hv
  rw [hu] at hv
  obtain ⟨cs, rfl, hsz, _⟩ := hv
  obtain ⟨fuel, hf⟩ := h
  obtain ⟨xs, m, _, _, hl, hxs, hi⟩ := DataW.trod_array hu hf
  have h5 : Try.prog.cellsOf 5 = 1 := by kernel_rfl
  simp only [Value.cells] at hl hi
  refine ⟨cs.toList.map byteIn, ?_, by simp [hsz, hC]⟩
  congr 1
  apply Array.toList_inj.1
  simp only [cs8, List.map_map]
  apply List.ext_getElem?
  intro i
  rcases Nat.lt_or_ge i n with hlt | hge
  · have hk := hi i hlt
    rw [h5, Nat.mul_one] at hk
    have hil : i < cs.toList.length := by rw [hl, hC]; exact hlt
    rw [List.drop_eq_getElem_cons hil] at hk
    simp only [List.take_succ_cons, List.take_zero] at hk
    have hx : i < xs.length := by omega
    rw [List.getElem?_eq_getElem hx] at hk
    obtain ⟨z, hz, _, hwz⟩ := DataW.trod_int Try.underlying5 hk
    have hb := bounds_u8 hwz
    simp only [List.cons.injEq, and_true] at hz
    rw [List.getElem?_map, List.getElem?_eq_getElem hil, hz]
    simp only [Option.map_some, Function.comp_apply, byteIn, B8]
    have : (UInt8.ofNat z.toNat).toNat = z.toNat := by simp; omega
    rw [this, Int.toNat_of_nonneg hb.1]
  · rw [List.getElem?_eq_none (by rw [hl, hC]; exact hge), List.getElem?_eq_none (by rw [List.length_map, hl, hC]; exact hge)]

/-- A slice of numbers that came in: its cells hold the numbers l. -/
def Ri (k : IntKind) (w : World) (top : Nat) (A : Option Addr) (n c : Nat) (l : List Int) : Prop :=
  l.length = n ∧ n ≤ c ∧ (∀ z ∈ l, (Lit.int k z).wf = true) ∧ (0 < n → ∃ ad, A = some ad ∧ ad.block < top ∧ ∀ j u, l[j]? = some u → w.cell? (ad.add j) = some (.int k u))
theorem ri_of_nil {k : IntKind} (W : World) : ∃ l, Ri k W W.heap.size none 0 0 l := ⟨[], rfl, Nat.le_refl _, by simp, fun h => absurd h (by omega)⟩
theorem ri_of {k : IntKind} {W : World} {x : Addr} {len cap : Nat} {zs : List Int} (hl : len ≤ cap) (hz : zs.length = cap)
    (hcell : ∀ i, i < zs.length → W.cell? (x.add i) = some (.int k (zs.getD i 0))) (hwz : ∀ n ∈ zs, (Lit.int k n).wf = true) :
    ∃ l, Ri k W W.heap.size (some x) len cap l := by
  refine ⟨zs.take len, by rw [List.length_take]; omega, hl, fun z hzm => hwz z (List.mem_of_mem_take hzm), fun hn => ⟨x, rfl, ?_, fun j u hu => ?_⟩⟩
  · have h := hcell 0 (by omega)
    have := block_lt_of_cell h
    rwa [add_block] at this
  · rw [List.getElem?_take] at hu
    split at hu
    · rename_i hj
      have hjl : j < zs.length := by omega
      rw [hcell j hjl]
      simp [List.getD, hu]
    · cases hu


set_option maxRecDepth 8192
theorem cells5' : Try.prog.cellsOf 5 = 1 := by kernel_rfl
theorem cells26 : Try.prog.cellsOf 26 = 1 := by kernel_rfl
theorem cells31 : Try.prog.cellsOf 31 = 2 := by kernel_rfl
section
variable {H : Type} {enc : TypeId × Value → H} {W : World} {base : Nat} {held : Bool}
/-- A record's Data that came in. -/
theorem data_of {fuel : Nat} {cs : List Value} {x : DataW H × List MemPlace} (h : DataW.trod enc Try.prog W base (fun _ => true) held fuel 26 cs = some x) :
    ∃ A c d, cs = [.slice A d.length c] ∧ Rd W W.heap.size A d.length c d := by
  rcases open_ints Try.underlying26 Try.underlying5 (by kernel_rfl) h with ⟨hcs, _⟩ | ⟨x, l, c, zs, hcs, _, hl, hm, hz, _, hcell, hwz⟩
  · exact ⟨none, 0, [], hcs, Rd.nil _ _ _ _⟩
  · obtain ⟨d, hd⟩ := rd_of hl (by simpa using hz) hcell hwz
    have := hd.len
    subst this
    exact ⟨_, _, d, hcs, hd⟩
/-- A record that came in. -/
theorem rec_of {fuel : Nat} {cs : List Value} {x : DataW H × List MemPlace} (h : DataW.trod enc Try.prog W base (fun _ => true) held fuel 31 cs = some x) : ∃ v : Rv, cs = v.cells ∧ v.ok W W.heap.size := by
  obtain ⟨xs, n, rfl, _, hl, hxs, hf⟩ := DataW.trod_struct Try.underlying31 h
  rw [cells31] at hl
  match cs, hl with
  | [c0, c1], _ =>
    have h0 : DataW.trod enc Try.prog W base (fun _ => true) held n 5 (([c0, c1].drop 0).take (Try.prog.cellsOf 5)) = xs[0]? := hf 0 _ rfl
    have h1 : DataW.trod enc Try.prog W base (fun _ => true) held n 26 (([c0, c1].drop 1).take (Try.prog.cellsOf 26)) = xs[1]? := hf 1 _ rfl
    rw [cells5'] at h0
    rw [cells26] at h1
    simp only [List.drop_zero, List.drop_succ_cons, List.take_succ_cons, List.take_zero] at h0 h1
    have s : ∀ i, i < 2 → ∃ y, xs[i]? = some y := fun i hi => ⟨_, List.getElem?_eq_getElem (by rw [hxs]; exact hi)⟩
    obtain ⟨y0, e0⟩ := s 0 (by omega)
    obtain ⟨y1, e1⟩ := s 1 (by omega)
    rw [e0] at h0
    rw [e1] at h1
    obtain ⟨z0, g0, _, w0⟩ := DataW.trod_int Try.underlying5 h0
    obtain ⟨A, c, d, g1, hd⟩ := data_of h1
    have hb := bounds_u8 w0
    refine ⟨⟨UInt8.ofNat z0.toNat, d, A, c⟩, ?_, hd⟩
    have t2 : ((UInt8.ofNat z0.toNat).toNat : Int) = z0 := by
      have : (UInt8.ofNat z0.toNat).toNat = z0.toNat := by simp; omega
      rw [this, Int.toNat_of_nonneg hb.1]
    simp only [List.cons.injEq, and_true] at g0 g1
    simp only [Rv.cells, t2, g0, g1]
theorem open_rec {r : Reach} {b0 : Nat} {v : Value} {d : DataW H} {p : List MemPlace} (hv : Value.okWide Try.prog W r b0 31 v) (h : DataW.Trod enc Try.prog W base (fun _ => true) held 31 v d p) :
    ∃ x : Rv, v = .agg x.cells.toArray ∧ x.ok W W.heap.size := by
  unfold Value.okWide at hv
  rw [Try.underlying31] at hv
  obtain ⟨cs, rfl, hsz, _⟩ := hv
  obtain ⟨fuel, hf⟩ := h
  obtain ⟨x, hx, ho⟩ := rec_of hf
  refine ⟨x, ?_, ho⟩
  rw [← hx]
  rfl
/-- Records that came in. -/
theorem open_recs {A : Option Addr} {n c : Nat} {d : DataW H} {p : List MemPlace} (h : DataW.Trod enc Try.prog W base (fun _ => true) held 39 (.slice A n c) d p) : ∃ l, Rs W W.heap.size A n c l := by
  obtain ⟨fuel, hf⟩ := h
  rcases Go.Deep.open_slice Try.underlying39 hf with ⟨hcs, _⟩ | ⟨a, len, cap, m, k, D, Pl, hcs, hb, hl, hm, hmm, _, hx⟩
  · simp [Value.cells] at hcs
    obtain ⟨rfl, rfl, rfl⟩ := hcs
    exact ⟨[], Rs.nil _ _ _ _⟩
  · simp [Value.cells] at hcs
    obtain ⟨rfl, rfl, rfl⟩ := hcs
    rw [cells31] at hx
    have hle : n ≤ m := by rw [hmm]; split <;> omega
    have hex : ∀ i, ∃ v : Rv, i < n → (∀ j u, v.cells[j]? = some u → W.cell? (a.add (i * 2 + j)) = some u) ∧ v.ok W W.heap.size := fun i => by
      by_cases hi : i < n
      · obtain ⟨cs', h1, h2⟩ := hx i (by omega)
        obtain ⟨v, hv, ho⟩ := rec_of h2
        refine ⟨v, fun _ => ⟨fun j u hu => ?_, ho⟩⟩
        have hj : j < 2 := (List.getElem?_eq_some_iff.1 hu).1
        have := (World.cells?_some h1).2.2 j hj
        rw [hv, hu, add_add] at this
        exact this
      · exact ⟨⟨0, [], none, 0⟩, fun h => absurd h hi⟩
    have hch := Classical.axiomOfChoice hex
    obtain ⟨F, hF⟩ := hch
    refine ⟨(List.range n).map F, by simp, hl, fun x hx => ?_, fun hn => ⟨a, rfl, ?_, fun j x hx i v hv => ?_⟩⟩
    · obtain ⟨i, hi, rfl⟩ := List.mem_map.1 hx
      exact (hF i (by simpa using hi)).2
    · have := (hF 0 hn).1 0 _ rfl
      have := block_lt_of_cell this
      rwa [add_block] at this
    · simp only [List.getElem?_map, Option.map_eq_some_iff] at hx
      obtain ⟨i', hi, rfl⟩ := hx
      have hj := (List.getElem?_eq_some_iff.1 hi).1
      simp only [List.length_range] at hj
      have : i' = j := by simpa using (List.getElem?_eq_some_iff.1 hi).2.symm
      subst this
      exact (hF i' hj).1 i v hv
end
end Go.Proofs.Ytjaoaikcmbfnmaa
