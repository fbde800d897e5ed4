/- The words, and the calls over them: Sum512, Sum, Piece, Start, StartShort. -/
import Derived.Test.YtjaoaikcmbfnmaaSum
import Derived.Test.YtjaoaikcmbfnmaaKw
namespace Go.Proofs.Ytjaoaikcmbfnmaa
set_option maxRecDepth 8192
open Go.RowKit

def ALL : List UInt64 := KK ++ (startL ++ startS)
theorem ALL_length : (cs64 ALL).length = 96 := by decide +kernel

theorem wpList_buildTo {ops : Array Oper} {rest : List Oper} {o : Oper} {a : Act} {w : World} {Q : Exit → Act → World → Prop} (hg : o.guard = none) (k : Nat) (_ : o.dst = some k) (t : TypeId) (parts : Array (Nat × Operand)) (ho : o.op = .build t parts) (cells : Array Value)
    (hf : Try.prog.built t (parts.map fun (i, x) => (i, a.eval x)).toList = some cells)
    (h : wpList Try.prog ops Q rest (a.put o.dst (.agg cells)) w) : wpList Try.prog ops Q (o :: rest) a w :=
  wpList_build hg t parts ho (by rw [hf]; rfl) (by rw [hf]; exact h)

set_option maxHeartbeats 1600000 in
theorem words_any (w : World) : Calls Try.prog 30 #[] w fun e w' => e = .returned (.agg (cs64 ALL).toArray) ∧ Below w.heap.size w w' := by
  have HL := Lib.hid ALL_length
  have hb : Below w.heap.size w (w.alloc (.cells z49.toArray 68)) := bl_alloc (bl0 w) _
  have HB := Lib.hid (Bk.new w z49 68)
  go_enter Try.func30, Try.ntmps30
  go_wp2_with (first | (refine wpList_alloc_z rfl 68 rfl z49 zero49 ?_) | (refine wpList_buildTo rfl 1 rfl 65 _ rfl (cs64 KK).toArray (by kernel_rfl) ?_) | (refine wpList_buildTo rfl 2 rfl 66 _ rfl (cs64 startL).toArray (by kernel_rfl) ?_) | (refine wpList_buildTo rfl 3 rfl 66 _ rfl (cs64 startS).toArray (by kernel_rfl) ?_) | (refine wpList_buildTo rfl 4 rfl 68 _ rfl (cs64 ALL).toArray (by kernel_rfl) ?_) | (refine wpList_store_bk rfl 68 _ _ rfl w.heap.size rfl (cs64 ALL) z49 rfl HB.out (by rw [HL.out]; exact info49) (by rw [HL.out]; exact len_z49) (cs64_one _) ?_))
  exact ret_bk rfl w.heap.size _ _ rfl rfl (HB.out.setRow _) Try.underlying68 rfl (by rw [HL.out]; exact info49) ⟨rfl, bl_setRow hb (Nat.le_refl _) _⟩

/-- Words at a place of all words. -/
theorem ALL_at (o n : Nat) (l : List UInt64) (hl : ALL.drop o = l ++ ALL.drop (o + n)) : ∀ (j : Nat) (u : Value), (cs64 l)[j]? = some u → (cs64 ALL)[o + j]? = some u := by
  intro j u hj
  have hlt : j < l.length := by have := (List.getElem?_eq_some_iff.1 hj).1; rwa [cs64_length] at this
  rw [cs64, List.getElem?_map] at hj ⊢
  rw [← List.getElem?_drop, hl, List.getElem?_append_left hlt]
  exact hj
theorem long_at : ∀ (j : Nat) (u : Value), (cs64 startL)[j]? = some u → (cs64 ALL)[80 + j]? = some u := ALL_at 80 8 startL (by decide +kernel)
theorem short_at : ∀ (j : Nat) (u : Value), (cs64 startS)[j]? = some u → (cs64 ALL)[88 + j]? = some u := ALL_at 88 8 startS (by decide +kernel)
theorem KK_len : 80 ≤ ALL.length := by decide +kernel
theorem startL_length : startL.length = 8 := by decide +kernel
theorem startS_length : startS.length = 8 := by decide +kernel

theorem eat_length (KA : List UInt64) : ∀ (n : Nat) (st : List UInt64) (l : List UInt8), st.length = 8 → (eat KA n st l).length = 8
  | 0, _, _, h => h
  | n + 1, st, _, h => eat_length KA n _ _ (mix_length KA st _ h)
/-- SHA-512 of all bytes l, and SHA-512/256. -/
def sumL (l : List UInt8) : List UInt8 := sumOf ALL startL l
def sumS (l : List UInt8) : List UInt8 := (sumOf ALL startS l).take 32

theorem Rl.more {w : World} {top top' m : Nat} {B : Option Addr} {L : List (List UInt8)} (h : Rl w top B m L) (ht : top ≤ top') : Rl w top' B m L :=
  ⟨h.1, fun j x hx => by
    obtain ⟨ad, A, n, c, e, hl, hc, hr, hA⟩ := h.2 j x hx
    exact ⟨ad, A, n, c, e, by omega, hc, hr.more ht, fun a ha => Nat.lt_of_lt_of_le (hA a ha) ht⟩⟩

set_option maxHeartbeats 1600000 in
theorem Sum_any {B : Option Addr} {m c : Nat} {L : List (List UInt8)} (w : World) (hL : Rl w w.heap.size B m L) (hm : m ≤ 1073741824) (hT : L.flatten.length ≤ 1073741824) :
    Calls Try.prog 21 #[.slice B m c] w fun e w' => e = .returned (.agg (cs8 (sumS L.flatten)).toArray) ∧ Below w.heap.size w w' := by
  have HL := Lib.hid hL
  have HT := Lib.hid hT
  have hsl : (sumOf ALL startS L.flatten).length = 64 := by rw [sumOf, signs_length, eat_length _ _ _ _ startS_length]
  have HSL := Lib.hid (show (cs8 (sumOf ALL startS L.flatten)).length = 64 by rw [cs8_length, hsl])
  have HSU := Lib.hid (show sumS L.flatten = (sumOf ALL startS L.flatten).take 32 from rfl)
  have HAL := Lib.hid ALL_length
  have HTL := Lib.hid (show (cs8 (sumS L.flatten)).length = 32 by rw [cs8_length, sumS, List.length_take, hsl]; rfl)
  have HSUM := Lib.hid (show ∀ (w3 : World) (gk : Nat), Rl w3 w3.heap.size B m L → Bk w3 gk (cs64 ALL) → Calls Try.prog 31 #[.pointer (some ⟨gk, 0, none⟩), .agg (cs64 startS).toArray, .slice B m c] w3 fun e w' => e = .returned (.agg (cs8 (sumOf ALL startS L.flatten)).toArray) ∧ Below w3.heap.size w3 w' from fun w3 gk h k => sum_any w3 h hm HT.out startS_length KK_len k)
  clear hL hT hsl
  generalize sumS L.flatten = S at HSU HTL ⊢
  generalize sumOf ALL startS L.flatten = S64 at HSL HSU HSUM
  go_enter Try.func21, Try.ntmps21
  go_wp2_with (refine wpList_alloc_z rfl 23 rfl z36 zero36 ?_)
  have HR0 := Lib.hid (Bk.new w z36 23)
  have HB0 := Lib.hid (bl_alloc (bl0 w) (.cells z36.toArray 23))
  have hs0 : (w.alloc (.cells z36.toArray 23)).heap.size = w.heap.size + 1 := by simp
  generalize w.alloc (.cells z36.toArray 23) = w1 at HR0 HB0 hs0 ⊢
  refine (words_any w1).mono ?_; rintro e w2 ⟨rfl, hb2⟩
  have HB2 := Lib.hid (bl_call HB0.out hb2)
  have HR2 := Lib.hid (HR0.out.keep hb2)
  have hs2 := hb2.size
  clear hb2 HB0 HR0
  have HZ := Lib.hid (Bk.new w2 z49 68)
  have HG := Lib.hid (HZ.out.setRow (cs64 ALL))
  have HB3 := Lib.hid (bl_setRow (bl_alloc HB2.out (.cells z49.toArray 68)) (show w.heap.size ≤ w2.heap.size by omega) (cs64 ALL).toArray)
  have HR3 := Lib.hid ((HR2.out.old (.cells z49.toArray 68)).other (show w.heap.size ≠ w2.heap.size by omega) (cs64 ALL).toArray)
  have hst := Lib.hid (show (cs64 startS).length = 8 by rw [cs64_length, startS_length])
  have hlo := Lib.hid ((HG.out).range short_at)
  go_wp2_with (first | (refine wpList_alloc_z rfl 68 rfl z49 zero49 ?_) | (refine wpList_store_bk rfl 68 _ _ rfl w2.heap.size rfl (cs64 ALL) z49 rfl HZ.out (by rw [HAL.out]; exact info49) (by rw [HAL.out]; exact len_z49) (cs64_one _) ?_) | (refine wpList_load_at rfl 66 _ rfl ⟨w2.heap.size, 88, none⟩ rfl (cs64 startS) _ hlo.out Try.underlying66 rfl (by rw [hst.out]; exact info38) ?_))
  clear hlo
  generalize (w2.alloc (.cells z49.toArray 68)).setRow w2.heap.size (cs64 ALL).toArray = w3 at HG HB3 HR3 ⊢
  generalize w2.heap.size = gk at HG ⊢
  refine (HSUM.out w3 gk ((HL.out.below HB3.out).more HB3.out.size) HG.out).mono ?_; rintro e w4 ⟨rfl, hb4⟩
  have HR4 := Lib.hid (HR3.out.keep hb4)
  have HB4 := Lib.hid (bl_call HB3.out hb4)
  have hs4 := hb4.size
  have hs3 := HB3.out.size
  have HR5 := Lib.hid ((HR4.out.old (.cells z33.toArray 70)).other (show w.heap.size ≠ w4.heap.size by have := HR4.out.lt; omega) (cs8 S64).toArray)
  have HB5 := Lib.hid (bl_setRow (bl_alloc HB4.out (.cells z33.toArray 70)) (show w.heap.size ≤ w4.heap.size by omega) (cs8 S64).toArray)
  have HZ4 := Lib.hid (Bk.new w4 z33 70)
  have HW5 := Lib.hid (HZ4.out.setRow (cs8 S64))
  have hsl2 := run_slice_hi (g := w4.heap.size) Try.underlying70 (show 32 ≤ 64 by decide) (by decide)
  have hcut : Hid (∀ j u, (cs8 S)[j]? = some u → ((w4.alloc (.cells z33.toArray 70)).setRow w4.heap.size (cs8 S64).toArray).cell? ((⟨w4.heap.size, 0, none⟩ : Addr).add j) = some u) := Lib.hid (HW5.out.range (fun j u hj => by
    rw [HSU.out, cs8, List.map_take, List.getElem?_take] at hj
    split at hj
    · rw [Nat.zero_add]; exact hj
    · cases hj))
  clear hb4
  go_wp2_with (first | (refine wpList_alloc_z rfl 70 rfl z33 zero33 ?_) | (refine wpList_store_bk rfl 70 _ _ rfl w4.heap.size rfl (cs8 S64) z33 rfl HZ4.out (by rw [HSL.out]; exact info33) (by rw [HSL.out]; exact len_z33) (cs8_all _) ?_) | (refine wpList_arrayAt rfl 23 _ rfl rfl Try.underlying23 (by omega) ?_) | (refine wpList_load_at rfl 23 _ rfl _ rfl (cs8 S) _ hcut.out Try.underlying23 rfl (by rw [HTL.out]; exact info36) ?_) | (refine wpList_store_bk rfl 23 _ _ rfl w.heap.size rfl (cs8 S) z36 rfl HR5.out (by rw [HTL.out]; exact info36) (by rw [HTL.out]; exact len_z36) (cs8_all _) ?_))
  exact ret_bk rfl w.heap.size _ _ rfl rfl (HR5.out.setRow _) Try.underlying23 rfl (by rw [HTL.out]; exact info36) ⟨rfl, bl_setRow HB5.out (Nat.le_refl _) _⟩
end Go.Proofs.Ytjaoaikcmbfnmaa
