/- What the last steps of all claims of this seat share. -/
import Derived.Test.YtdfaliadkpdfpaaRows
import Derived.Test.YtdfaliadkpdfpaaMem
import Derived.ProofKit
import Derived.OpenShut
import Derived.ShutString
import Derived.ChangeOld
namespace Go.Proofs.Ytdfaliadkpdfpaa
set_option linter.unusedSimpArgs false
set_option linter.unusedVariables false
open Go.ChangeShapes Go.WideShapes Go.ChangeAt Go.RowKit

theorem own : ownKnob Try.prog.godebug = none := by kernel_rfl
theorem laidOut : laidOutB Try.prog = true := by kernel_rfl

theorem rd_of_nil (W : World) : ∃ l, Rd W W.heap.size none 0 0 l := ⟨[], Rd.nil _ _ _ _⟩

/-- A slice of bytes that came in reads as a list of bytes. -/
theorem rd_of {W : World} {x : Addr} {len cap : Nat} {zs : List Int} (hl : len ≤ cap) (hz : zs.length = cap)
    (hcell : ∀ i, i < zs.length → W.cell? (x.add i) = some (.int .u8 (zs.getD i 0))) (hwz : ∀ n ∈ zs, (Lit.int .u8 n).wf = true) :
    ∃ l, Rd W W.heap.size (some x) len cap l := by
  refine ⟨(zs.take len).map fun z => UInt8.ofNat z.toNat, by rw [List.length_map, List.length_take]; omega, hl, fun hn => ⟨x, rfl, ?_, fun j u hu => ?_⟩⟩
  · have h := hcell 0 (by omega)
    have := block_lt_of_cell h
    rwa [add_block] at this
  · rw [List.getElem?_map, List.getElem?_take] at hu
    split at hu
    · rename_i hj
      have hjl : j < zs.length := by omega
      rw [List.getElem?_eq_getElem hjl] at hu
      simp only [Option.map_some, Option.some.injEq] at hu
      subst hu
      rw [hcell j hjl]
      have hb := bounds_u8 (hwz zs[j] (List.getElem_mem _))
      have hg : zs.getD j 0 = zs[j] := by simp [List.getD, List.getElem?_eq_getElem hjl]
      rw [hg, B8]
      have : (UInt8.ofNat (zs[j]).toNat).toNat = (zs[j]).toNat := by simp; omega
      rw [this, Int.toNat_of_nonneg hb.1]
    · simp at hu

/-- The byte that a cell holds. -/
def byteIn : Value → UInt8 | .int _ z => UInt8.ofNat z.toNat | _ => 0

/-- An array of bytes that came in. -/
theorem open_bytes {H : Type} {enc : TypeId × Value → H} {W : World} {r : Reach} {b0 : Nat} {base : Nat} {spare : Nat → Bool} {held : Bool} {t : TypeId} {n : Nat} {v : Value} {d : DataW H} {p : List MemPlace}
    (hu : Try.prog.underlying t = some (.array n 5)) (hC : Try.prog.cellsOf t = n) (hv : Value.okWide Try.prog W r b0 t v) (h : DataW.Trod enc Try.prog W base spare held t v d p) :
    ∃ l, v = .agg (cs8 l).toArray ∧ l.length = n := by
  unfold Value.okWide at hv
  rw [hu] at hv
  obtain ⟨cs, rfl, hsz, _⟩ := hv
  obtain ⟨fuel, hf⟩ := h
  obtain ⟨xs, m, _, _, hl, hxs, hi⟩ := DataW.trod_array hu hf
  have h5 : Try.prog.cellsOf 5 = 1 := by kernel_rfl
  simp only [Value.cells] at hl hi
  refine ⟨cs.toList.map byteIn, ?_, by simp [hsz, hC]⟩
  congr 1
  apply Array.toList_inj.1
  simp only [cs8, List.map_map]
  apply List.ext_getElem?
  intro i
  rcases Nat.lt_or_ge i n with hlt | hge
  · have hk := hi i hlt
    rw [h5, Nat.mul_one] at hk
    have hil : i < cs.toList.length := by rw [hl, hC]; exact hlt
    rw [List.drop_eq_getElem_cons hil] at hk
    simp only [List.take_succ_cons, List.take_zero] at hk
    have hx : i < xs.length := by omega
    rw [List.getElem?_eq_getElem hx] at hk
    obtain ⟨z, hz, _, hwz⟩ := DataW.trod_int Try.underlying5 hk
    have hb := bounds_u8 hwz
    simp only [List.cons.injEq, and_true] at hz
    rw [List.getElem?_map, List.getElem?_eq_getElem hil, hz]
    simp only [Option.map_some, Function.comp_apply, byteIn, B8]
    have : (UInt8.ofNat z.toNat).toNat = z.toNat := by simp; omega
    rw [this, Int.toNat_of_nonneg hb.1]
  · rw [List.getElem?_eq_none (by rw [hl, hC]; exact hge), List.getElem?_eq_none (by rw [List.length_map, hl, hC]; exact hge)]

/-- A slice of numbers that came in: its cells hold the numbers l. -/
def Ri (k : IntKind) (w : World) (top : Nat) (A : Option Addr) (n c : Nat) (l : List Int) : Prop :=
  l.length = n ∧ n ≤ c ∧ (∀ z ∈ l, (Lit.int k z).wf = true) ∧ (0 < n → ∃ ad, A = some ad ∧ ad.block < top ∧ ∀ j u, l[j]? = some u → w.cell? (ad.add j) = some (.int k u))
theorem ri_of_nil {k : IntKind} (W : World) : ∃ l, Ri k W W.heap.size none 0 0 l := ⟨[], rfl, Nat.le_refl _, by simp, fun h => absurd h (by omega)⟩
theorem ri_of {k : IntKind} {W : World} {x : Addr} {len cap : Nat} {zs : List Int} (hl : len ≤ cap) (hz : zs.length = cap)
    (hcell : ∀ i, i < zs.length → W.cell? (x.add i) = some (.int k (zs.getD i 0))) (hwz : ∀ n ∈ zs, (Lit.int k n).wf = true) :
    ∃ l, Ri k W W.heap.size (some x) len cap l := by
  refine ⟨zs.take len, by rw [List.length_take]; omega, hl, fun z hzm => hwz z (List.mem_of_mem_take hzm), fun hn => ⟨x, rfl, ?_, fun j u hu => ?_⟩⟩
  · have h := hcell 0 (by omega)
    have := block_lt_of_cell h
    rwa [add_block] at this
  · rw [List.getElem?_take] at hu
    split at hu
    · rename_i hj
      have hjl : j < zs.length := by omega
      rw [hcell j hjl]
      simp [List.getD, hu]
    · cases hu

end Go.Proofs.Ytdfaliadkpdfpaa
