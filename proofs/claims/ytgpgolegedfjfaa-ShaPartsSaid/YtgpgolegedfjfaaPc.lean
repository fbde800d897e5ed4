/- Piece, Start, StartShort, and the kit's Pick. -/
import Derived.Test.YtgpgolegedfjfaaWw
namespace Go.Proofs.Ytgpgolegedfjfaa
open Go.RowKit


set_option maxHeartbeats 1600000 in
theorem Piece_any (st : List UInt64) (p : List UInt8) (w : World) (hs : st.length = 8) (hp : p.length = 128) :
    Calls Try.prog 17 #[.agg (cs64 st).toArray, .agg (cs8 p).toArray] w fun e w' => e = .returned (.agg (cs64 (mix ALL st p)).toArray) ∧ Below w.heap.size w w' := by
  have HSL := Lib.hid (show (cs64 st).length = 8 by rw [cs64_length, hs])
  have HPL := Lib.hid (show (cs8 p).length = 128 by rw [cs8_length, hp])
  have hml := mix_length ALL st p hs
  have HML := Lib.hid (show (cs64 (mix ALL st p)).length = 8 by rw [cs64_length, hml])
  have HMX := Lib.hid (show ∀ (w3 : World) (gk : Nat), Bk w3 gk (cs64 ALL) → Calls Try.prog 23 #[.pointer (some ⟨gk, 0, none⟩), .agg (cs64 st).toArray, .agg (cs8 p).toArray] w3 fun e w' => e = .returned (.agg (cs64 (mix ALL st p)).toArray) ∧ Below w3.heap.size w3 w' from fun w3 gk h => mixed_any ALL st p gk w3 hs hp KK_len h)
  have HAL := Lib.hid ALL_length
  clear hml
  generalize mix ALL st p = M at HML HMX ⊢
  have HB0 := Lib.hid (bl_alloc (bl_alloc (bl_alloc (bl0 w) (.cells (cs64 st).toArray 38)) (.cells (cs8 p).toArray 41)) (.cells z38.toArray 38))
  have HA0 := Lib.hid (((Bk.new w (cs64 st) 38).old (.cells (cs8 p).toArray 41)).old (.cells z38.toArray 38))
  have HP0 : Hid (Bk (((w.alloc (.cells (cs64 st).toArray 38)).alloc (.cells (cs8 p).toArray 41)).alloc (.cells z38.toArray 38)) (w.heap.size + 1) (cs8 p)) := Lib.hid (by
    have := (Bk.new (w.alloc (.cells (cs64 st).toArray 38)) (cs8 p) 41).old (.cells z38.toArray 38)
    simpa using this)
  have HR0 : Hid (Bk (((w.alloc (.cells (cs64 st).toArray 38)).alloc (.cells (cs8 p).toArray 41)).alloc (.cells z38.toArray 38)) (w.heap.size + 1 + 1) z38) := Lib.hid (by
    have := Bk.new ((w.alloc (.cells (cs64 st).toArray 38)).alloc (.cells (cs8 p).toArray 41)) z38 38
    simpa using this)
  go_enter Try.func17, Try.ntmps17
  go_wp2_with (refine wpList_alloc_z rfl 38 rfl z38 zero38 ?_)
  have hs0 : (((w.alloc (.cells (cs64 st).toArray 38)).alloc (.cells (cs8 p).toArray 41)).alloc (.cells z38.toArray 38)).heap.size = w.heap.size + 3 := by simp
  generalize ((w.alloc (.cells (cs64 st).toArray 38)).alloc (.cells (cs8 p).toArray 41)).alloc (.cells z38.toArray 38) = w1 at HB0 HA0 HP0 HR0 hs0 ⊢
  refine (words_any w1).mono ?_; rintro e w2 ⟨rfl, hb2⟩
  have HB2 := Lib.hid (bl_call HB0.out hb2)
  have HA2 := Lib.hid (HA0.out.keep hb2)
  have HP2 := Lib.hid (HP0.out.keep hb2)
  have HR2 := Lib.hid (HR0.out.keep hb2)
  have hs2 := hb2.size
  clear hb2 HB0 HA0 HP0 HR0
  have HZ := Lib.hid (Bk.new w2 z49 49)
  have HG := Lib.hid (HZ.out.setRow (cs64 ALL))
  have HB3 := Lib.hid (bl_setRow (bl_alloc HB2.out (.cells z49.toArray 49)) (show w.heap.size ≤ w2.heap.size by omega) (cs64 ALL).toArray)
  have HA3 := Lib.hid ((HA2.out.old (.cells z49.toArray 49)).other (show w.heap.size ≠ w2.heap.size by omega) (cs64 ALL).toArray)
  have HP3 := Lib.hid ((HP2.out.old (.cells z49.toArray 49)).other (show w.heap.size + 1 ≠ w2.heap.size by omega) (cs64 ALL).toArray)
  have HR3 := Lib.hid ((HR2.out.old (.cells z49.toArray 49)).other (show w.heap.size + 1 + 1 ≠ w2.heap.size by omega) (cs64 ALL).toArray)
  go_wp2_with (first | (refine wpList_alloc_z rfl 49 rfl z49 zero49 ?_) | (refine wpList_store_bk rfl 49 _ _ rfl w2.heap.size rfl (cs64 ALL) z49 rfl HZ.out (by rw [HAL.out]; exact info49) (by rw [HAL.out]; exact len_z49) (cs64_one _) ?_) | (refine wpList_load_at rfl 38 _ rfl ⟨w.heap.size, 0, none⟩ rfl (cs64 st) _ (HA3.out.at_) Try.underlying38 rfl (by rw [HSL.out]; exact info38) ?_) | (refine wpList_load_at rfl 41 _ rfl ⟨w.heap.size + 1, 0, none⟩ rfl (cs8 p) _ (HP3.out.at_) Try.underlying41 rfl (by rw [HPL.out]; exact info41) ?_))
  refine (HMX.out _ _ HG.out).mono ?_; rintro e w4 ⟨rfl, hb4⟩
  have HR4 := Lib.hid (HR3.out.keep hb4)
  have HB4 := Lib.hid (bl_call HB3.out hb4)
  go_wp2_with (refine wpList_store_bk rfl 38 _ _ rfl (w.heap.size + 1 + 1) rfl (cs64 M) z38 rfl HR4.out (by rw [HML.out]; exact info38) (by rw [HML.out]; exact len_z38) (cs64_one _) ?_)
  exact ret_bk rfl (w.heap.size + 1 + 1) _ _ rfl rfl (HR4.out.setRow _) Try.underlying38 rfl (by rw [HML.out]; exact info38) ⟨rfl, bl_setRow HB4.out (by omega) _⟩

theorem wpList_fieldTo {ops : Array Oper} {rest : List Oper} {o : Oper} {a : Act} {w : World} {Q : Exit → Act → World → Prop} (hg : o.guard = none) (t : TypeId) (x : Operand) (i : Nat) (ho : o.op = .field t x i) (v : Value)
    (hf : (Instr.field t (a.eval x) i).run Try.prog w = .ok v w)
    (h : wpList Try.prog ops Q rest (a.put o.dst v) w) : wpList Try.prog ops Q (o :: rest) a w :=
  wpList_plain hg fun _ hK => by
    have hk := hK _ _ h
    unfold Oper.wp execOp
    simp only [ho, Sem.run_bind, hf, Result.andThen_ok]
    exact hk

set_option maxHeartbeats 1600000 in
theorem Start_any (w : World) : Calls Try.prog 13 #[] w fun e w' => e = .returned (.agg (cs64 startL).toArray) ∧ Below w.heap.size w w' := by
  have hfd : ∀ w : World, (Instr.field 49 (.agg (cs64 ALL).toArray) 1).run Try.prog w = .ok (.agg (cs64 startL).toArray) w := fun _ => by kernel_rfl
  have HF := Lib.hid hfd
  have HSL := Lib.hid (show (cs64 startL).length = 8 by rw [cs64_length, startL_length])
  clear hfd
  go_enter Try.func13, Try.ntmps13
  go_wp2_with (refine wpList_alloc_z rfl 38 rfl z38 zero38 ?_)
  have HR0 := Lib.hid (Bk.new w z38 38)
  have HB0 := Lib.hid (bl_alloc (bl0 w) (.cells z38.toArray 38))
  generalize w.alloc (.cells z38.toArray 38) = w1 at HR0 HB0 ⊢
  refine (words_any w1).mono ?_; rintro e w2 ⟨rfl, hb2⟩
  have HB2 := Lib.hid (bl_call HB0.out hb2)
  have HR2 := Lib.hid (HR0.out.keep hb2)
  go_wp2_with (first | (refine wpList_fieldTo rfl 49 _ 1 rfl (.agg (cs64 startL).toArray) (HF.out _) ?_) | (refine wpList_store_bk rfl 38 _ _ rfl w.heap.size rfl (cs64 startL) z38 rfl HR2.out (by rw [HSL.out]; exact info38) (by rw [HSL.out]; exact len_z38) (cs64_one _) ?_))
  exact ret_bk rfl w.heap.size _ _ rfl rfl (HR2.out.setRow _) Try.underlying38 rfl (by rw [HSL.out]; exact info38) ⟨rfl, bl_setRow HB2.out (Nat.le_refl _) _⟩

set_option maxHeartbeats 1600000 in
theorem StartShort_any (w : World) : Calls Try.prog 14 #[] w fun e w' => e = .returned (.agg (cs64 startS).toArray) ∧ Below w.heap.size w w' := by
  have hfd : ∀ w : World, (Instr.field 49 (.agg (cs64 ALL).toArray) 2).run Try.prog w = .ok (.agg (cs64 startS).toArray) w := fun _ => by kernel_rfl
  have HF := Lib.hid hfd
  have HSL := Lib.hid (show (cs64 startS).length = 8 by rw [cs64_length, startS_length])
  clear hfd
  go_enter Try.func14, Try.ntmps14
  go_wp2_with (refine wpList_alloc_z rfl 38 rfl z38 zero38 ?_)
  have HR0 := Lib.hid (Bk.new w z38 38)
  have HB0 := Lib.hid (bl_alloc (bl0 w) (.cells z38.toArray 38))
  generalize w.alloc (.cells z38.toArray 38) = w1 at HR0 HB0 ⊢
  refine (words_any w1).mono ?_; rintro e w2 ⟨rfl, hb2⟩
  have HB2 := Lib.hid (bl_call HB0.out hb2)
  have HR2 := Lib.hid (HR0.out.keep hb2)
  go_wp2_with (first | (refine wpList_fieldTo rfl 49 _ 2 rfl (.agg (cs64 startS).toArray) (HF.out _) ?_) | (refine wpList_store_bk rfl 38 _ _ rfl w.heap.size rfl (cs64 startS) z38 rfl HR2.out (by rw [HSL.out]; exact info38) (by rw [HSL.out]; exact len_z38) (cs64_one _) ?_))
  exact ret_bk rfl w.heap.size _ _ rfl rfl (HR2.out.setRow _) Try.underlying38 rfl (by rw [HSL.out]; exact info38) ⟨rfl, bl_setRow HB2.out (Nat.le_refl _) _⟩
end Go.Proofs.Ytgpgolegedfjfaa
