/- Write that may not be; Read. -/
import Derived.Test.YtphifbhgocjhcaaFb
namespace Go.Proofs.Ytphifbhgocjhcaa
set_option linter.unusedSimpArgs false
set_option linter.unusedVariables false
open Go.RowKit Go.Maps

section
variable {w : World} {p s m : Nat} {B : List UInt8} {C : Ca}

theorem write_bad (h : Dk w p s m B C) (i : Int) {A : Option Addr} {n c : Nat} (hb : ¬ (0 ≤ i ∧ i < C.length ∧ n = 256)) :
    Calls Try.prog 12 #[ptr p, .int .i64 i, .slice A n c] w fun e w' => e = .returned (.int .i64 2) ∧ w' = w := by
  have HM := Lib.hid (made_any h)
  have HH := has_any h i
  clear h
  by_cases hi : 0 ≤ i ∧ i < C.length
  · have hn : ¬ (n : Int) = 256 := fun e => hb ⟨hi.1, hi.2, by omega⟩
    rw [decide_eq_true hi] at HH
    have HH := Lib.hid HH
    clear hb hi
    go_enter Try.func12, Try.ntmps12
    go_wp2_with (first | (go_at_call 31; refine HM.out.mono ?_; rintro e w' ⟨rfl, rfl⟩) | (go_at_call 32; refine HH.out.mono ?_; rintro e w' ⟨rfl, rfl⟩))
    go_ret
    exact ⟨rfl, rfl⟩
  · rw [decide_eq_false hi] at HH
    have HH := Lib.hid HH
    clear hb hi
    go_enter Try.func12, Try.ntmps12
    go_wp2_with (first | (go_at_call 31; refine HM.out.mono ?_; rintro e w' ⟨rfl, rfl⟩) | (go_at_call 32; refine HH.out.mono ?_; rintro e w' ⟨rfl, rfl⟩))
    go_ret
    exact ⟨rfl, rfl⟩
theorem write_nil (w : World) (i : Value) (v : Value) : Calls Try.prog 12 #[.pointer none, i, v] w fun e w' => e = .returned (.int .i64 1) ∧ w' = w := by
  go_enter Try.func12, Try.ntmps12
  go_wp2_with (go_at_call 31; refine (made_nil _).mono ?_; rintro e w' ⟨rfl, rfl⟩)
  go_ret
  exact ⟨rfl, rfl⟩
theorem read_nil (w : World) (i : Value) : Calls Try.prog 11 #[.pointer none, i] w fun e w' => e = .returned (.tuple #[.slice none 0 0, .int .i64 1]) ∧ w' = w := by
  go_enter Try.func11, Try.ntmps11
  go_wp2_with (go_at_call 31; refine (made_nil _).mono ?_; rintro e w' ⟨rfl, rfl⟩)
  go_ret2
  exact ⟨rfl, rfl⟩
theorem read_bad (h : Dk w p s m B C) (i : Int) (hb : ¬ (0 ≤ i ∧ i < C.length)) :
    Calls Try.prog 11 #[ptr p, .int .i64 i] w fun e w' => e = .returned (.tuple #[.slice none 0 0, .int .i64 2]) ∧ w' = w := by
  have HM := Lib.hid (made_any h)
  have HH := has_any h i
  clear h
  rw [decide_eq_false hb] at HH
  have HH := Lib.hid HH
  clear hb
  go_enter Try.func11, Try.ntmps11
  go_wp2_with (first | (go_at_call 31; refine HM.out.mono ?_; rintro e w' ⟨rfl, rfl⟩) | (go_at_call 32; refine HH.out.mono ?_; rintro e w' ⟨rfl, rfl⟩))
  go_ret2
  exact ⟨rfl, rfl⟩

theorem look_some {i : Nat} {x : List UInt8} (h : C.getD i none = some x) : look B C i = x := by unfold look; rw [h]; rfl
theorem look_none {i : Nat} (h : C.getD i none = none) : look B C i = sect B i := by unfold look; rw [h]; rfl
/-- What lies in a block that does not change reads as it did. -/
theorem Rd.kpN {w' : World} {may : Nat → Prop} {top g n c : Nat} {l : List UInt8} (h : Rd w top (some ⟨g, 0, none⟩) n c l) (hk : Kp may w w') (hg : g < w.heap.size) (hm : ¬ may g) : Rd w' top (some ⟨g, 0, none⟩) n c l :=
  ⟨h.1, h.2.1, fun hn => by
    obtain ⟨ad, e, hb, hc⟩ := h.2.2 hn
    injection e with e
    subst e
    exact ⟨_, rfl, hb, fun j u hu => (hk.cell (by rw [add_block]; exact hg) (by rw [add_block]; exact hm)).trans (hc j u hu)⟩⟩
/-- A new variable of an array's type. -/
theorem wpList_alloc_z {ops : Array Oper} {rest : List Oper} {o : Oper} {a : Act} {Q : Exit → Act → World → Prop} (hgd : o.guard = none) (T : TypeId) (ho : o.op = .alloc T) (z : List Value) (hz : ∀ w, (zeroValue T).run Try.prog w = .ok (.agg z.toArray) w)
    (h : wpList Try.prog ops Q rest (a.put o.dst (.pointer (some ⟨w.heap.size, 0, none⟩))) (w.alloc (.cells z.toArray T))) : wpList Try.prog ops Q (o :: rest) a w := by
  refine wpList_plain hgd fun K hK => ?_
  unfold Oper.wp execOp
  simp only [ho, Sem.run_bind, hz, Result.andThen_ok, Sem.run_pure, go_sem]
  exact hK _ _ h
theorem zero63L : ∀ w, (zeroValue 63).run Try.prog w = .ok (.agg (cs8 (List.replicate 256 0)).toArray) w := fun w => by
  have := Try.zeroValue63 w
  rw [zero63] at this
  exact this
theorem info63 : (Try.prog.info? 63).map (·.size) = some 256 := by kernel_rfl
theorem setRow_new (w : World) (Z cs : Array Value) (t : TypeId) : (w.alloc (.cells Z t)).setRow w.heap.size cs = w.alloc (.cells cs t) := by
  have h : ((w.heap.push (.cells Z t)).modify w.heap.size fun o => match o with | .cells _ t fr => .cells cs t fr | o => o) = w.heap.push (.cells cs t) := by
    apply Array.ext
    · simp
    · intro i h1 h2
      rw [Array.getElem_modify]
      by_cases hi : w.heap.size = i
      · subst hi; simp
      · rw [if_neg hi]
        simp only [Array.size_modify, Array.size_push] at h1
        rw [Array.getElem_push_lt (by omega), Array.getElem_push_lt (by omega)]
  exact congrArg (fun h => ({ w with heap := h } : World)) h
/-- A sector stored into the newest variable. -/
theorem wpList_store_fresh {ops : Array Oper} {rest : List Oper} {o : Oper} {a : Act} {Q : Exit → Act → World → Prop} {Z : List UInt8} {t : TypeId} (hgd : o.guard = none) (x y : Operand) (ho : o.op = .store 63 x y)
    (hx : a.eval x = .pointer (some ⟨w.heap.size, 0, none⟩)) {l : List UInt8} (hy : a.eval y = sec l) (hZ : Z.length = 256) (hl : l.length = 256)
    (h : wpList Try.prog ops Q rest (a.put o.dst undef) (w.alloc (.cells (cs8 l).toArray t))) : wpList Try.prog ops Q (o :: rest) a (w.alloc (.cells (cs8 Z).toArray t)) := by
  refine wpList_plain hgd fun K hK => wp_store_row 63 x y ho w.heap.size (cs8 l).toArray hx hy t (cs8 Z).toArray (heap_alloc_new w _) (by rw [info63]; simp [cs8_length, hl]) (by simp [cs8_length, hZ, hl]) (all_oneCell_toArray (cs8_one l)) ?_
  rw [setRow_new]
  exact hK _ _ h
/-- A sector, loaded. -/
theorem wpList_load_sec {ops : Array Oper} {rest : List Oper} {o : Oper} {a : Act} {Q : Exit → Act → World → Prop} (hgd : o.guard = none) (x : Operand) (ho : o.op = .load 63 x)
    {ad : Addr} (hx : a.eval x = .pointer (some ad)) {l : List UInt8} (hl : l.length = 256) (hc : ∀ j u, l[j]? = some u → w.cell? (ad.add j) = some (B8 u))
    (h : wpList Try.prog ops Q rest (a.put o.dst (sec l)) w) : wpList Try.prog ops Q (o :: rest) a w := by
  refine wpList_plain hgd fun K hK => ?_
  unfold Oper.wp
  rw [exec_load_sec ho hx hl hc]
  exact hK _ _ h
theorem Bk.cells (h : Bk w s B) {i : Nat} : ∀ j u, (sect B i)[j]? = some u → w.cell? ((⟨s, i * 256, none⟩ : Addr).add j) = some (B8 u) := by
  intro j u hu
  rw [Addr.add_mid, Nat.mul_comm]
  simp only [sect, List.getElem?_take] at hu
  split at hu
  · exact h.cell (by rw [← hu, List.getElem?_drop])
  · cases hu
theorem Dk.bound (h : Dk w p s m B C) {i : Nat} (hi : i < C.length) : 256 * i + 256 ≤ B.length := by have := h.hB; omega

set_option maxRecDepth 100000 in
theorem read_ok (h : Dk w p s m B C) (i : Nat) (hi : i < C.length) :
    Calls Try.prog 11 #[ptr p, .int .i64 (i : Int)] w fun e w' => e = .returned (.tuple #[.slice (some ⟨w.heap.size, 0, none⟩) 256 256, .int .i64 0]) ∧ Rd w' w'.heap.size (some ⟨w.heap.size, 0, none⟩) 256 256 (look B C i) ∧ Below w.heap.size w w' := by
  have HM := Lib.hid (made_any h)
  have HH := has_any h (i : Int)
  rw [decide_eq_true ⟨by omega, by omega⟩] at HH
  have HH := Lib.hid HH
  have HD := Lib.hid h
  have h1 := h.h1
  obtain ⟨cap, hc, hc2, c0, c1⟩ := h.c0
  have d0 : ∀ o, (w.alloc o).cell? ⟨p, 0, none⟩ = some (.slice (some ⟨s, 0, none⟩) C.length cap) := fun o => by rw [World.cell?_of_block (Below.heap_alloc w o p h.plt)]; exact c0
  have hlk := h.look_ok (i := i) (by omega)
  have HV := Lib.hid (valAt_len h.hC i)
  have HL := Lib.hid (look_len h.hC (h.bound hi))
  have HZ : (List.replicate 256 (0 : UInt8)).length = 256 := List.length_replicate
  have fin : ∀ (W : World), W = w.alloc (.cells (cs8 (look B C i)).toArray 63) → Rd W W.heap.size (some ⟨w.heap.size, 0, none⟩) 256 256 (look B C i) ∧ Below w.heap.size w W := by
    rintro W rfl
    have hl := look_len h.hC (h.bound hi)
    have := Rd.of_block (heap_alloc_new w (.cells (cs8 (look B C i)).toArray 63)) (top := (w.alloc (.cells (cs8 (look B C i)).toArray 63)).heap.size) (by simp)
    rw [hl] at this
    exact ⟨this, bl_alloc (bl0 w) _⟩
  cases hg : C.getD i none with
  | some x =>
    rw [hg] at hlk
    have e1 : valAt C i = look B C i := by rw [val_some hg, look_some hg]
    rw [e1] at hlk HV
    clear h hg e1
    have FIN := Lib.hid fin
    clear fin
    generalize look B C i = L at *
    go_enter Try.func11, Try.ntmps11
    go_wp2_with (first | (go_at_call 31; refine HM.out.mono ?_; rintro e w' ⟨rfl, rfl⟩) | (go_at_call 32; refine HH.out.mono ?_; rintro e w' ⟨rfl, rfl⟩) | (refine wpList_alloc_z rfl 63 rfl _ zero63L ?_) | (refine wpList_store_fresh rfl _ _ rfl rfl rfl HZ HL.out ?_))
    go_ret2
    obtain ⟨r1, r2⟩ := FIN.out _ rfl
    exact ⟨rfl, r1, r2⟩
  | none =>
    rw [hg] at hlk
    have e1 := look_none (B := B) hg
    have HB : ∀ o, Hid (∀ j u, (look B C i)[j]? = some u → (w.alloc o).cell? ((⟨s, i * 256, none⟩ : Addr).add j) = some (B8 u)) := fun o => Lib.hid (by
      rw [e1]
      exact ((h.old (bl_alloc (bl0 w) o)).hs).cells)
    clear h hg e1
    have FIN := Lib.hid fin
    clear fin
    generalize look B C i = L at *
    generalize valAt C i = V at *
    go_enter Try.func11, Try.ntmps11
    go_wp2_with (first | (go_at_call 31; refine HM.out.mono ?_; rintro e w' ⟨rfl, rfl⟩) | (go_at_call 32; refine HH.out.mono ?_; rintro e w' ⟨rfl, rfl⟩) | (refine wpList_alloc_z rfl 63 rfl _ zero63L ?_) | (refine wpList_store_fresh rfl _ _ rfl rfl rfl HZ HV.out ?_) | (refine wpList_store_fresh rfl _ _ rfl rfl rfl HV.out HL.out ?_) | (refine wpList_load_sec rfl _ rfl rfl HL.out (HB _).out ?_))
    go_ret2
    obtain ⟨r1, r2⟩ := FIN.out _ rfl
    exact ⟨rfl, r1, r2⟩
end
end Go.Proofs.Ytphifbhgocjhcaa
