/- What the last steps of all claims of this seat share. -/
import Derived.Test.YtilcgnghhfiflaaRows
import Derived.Test.YtilcgnghhfiflaaMem
import Derived.ProofKit
import Derived.OpenShut
import Derived.ShutString
import Derived.ChangeOld
namespace Go.Proofs.Ytilcgnghhfiflaa
open Go.ChangeShapes Go.WideShapes Go.ChangeAt Go.RowKit

theorem own : ownKnob Try.prog.godebug = none := by kernel_rfl
theorem laidOut : laidOutB Try.prog = true := by kernel_rfl

theorem rd_of_nil (W : World) : ∃ l, Rd W W.heap.size none 0 0 l := ⟨[], Rd.nil _ _ _ _⟩

/-- A slice of bytes that came in reads as a list of bytes. -/
theorem rd_of {W : World} {x : Addr} {len cap : Nat} {zs : List Int} (hl : len ≤ cap) (hz : zs.length = cap)
    (hcell : ∀ i, i < zs.length → W.cell? (x.add i) = some (.int .u8 (zs.getD i 0))) (hwz : ∀ n ∈ zs, (Lit.int .u8 n).wf = true) :
    ∃ l, Rd W W.heap.size (some x) len cap l := by
  refine ⟨(zs.take len).map fun z => UInt8.ofNat z.toNat, by rw [List.length_map, List.length_take]; omega, hl, fun hn => ⟨x, rfl, ?_, fun j u hu => ?_⟩⟩
  · have h := hcell 0 (by omega)
    have := block_lt_of_cell h
    rwa [add_block] at this
  · rw [List.getElem?_map, List.getElem?_take] at hu
    split at hu
    · rename_i hj
      have hjl : j < zs.length := by omega
      rw [List.getElem?_eq_getElem hjl] at hu
      simp only [Option.map_some, Option.some.injEq] at hu
      subst hu
      rw [hcell j hjl]
      have hb := bounds_u8 (hwz zs[j] (List.getElem_mem _))
      have hg : zs.getD j 0 = zs[j] := by simp [List.getD, List.getElem?_eq_getElem hjl]
      rw [hg, B8]
      have : (UInt8.ofNat (zs[j]).toNat).toNat = (zs[j]).toNat := by simp; omega
      rw [this, Int.toNat_of_nonneg hb.1]
    · simp at hu

end Go.Proofs.Ytilcgnghhfiflaa
