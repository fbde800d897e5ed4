package disk

import (
	"bytes"
	"math"
	"slices"
	"testing"

	"headwater/api"
)

const size = api.SectorSize

// filled is a sector's bytes that are told from those of any other v: no two places of it are alike either.
func filled(v int) []byte {
	b := make([]byte, size)
	for i := range b {
		b[i] = byte(i) ^ byte(v*7+v>>8)
	}
	b[0], b[size-1] = byte(v), byte(v>>8)
	return b
}

// image is so many sectors, each filled with another value.
func image(n int) []byte {
	var b []byte
	for i := range n {
		b = append(b, filled(i+1)...)
	}
	return b
}

func fresh(t *testing.T, n int) *Disk {
	t.Helper()
	d, err := New(n)
	if err != api.OK || d == nil {
		t.Fatalf("New(%d): %v", n, err)
	}
	return d
}

func of(t *testing.T, b []byte) *Disk {
	t.Helper()
	d, err := Of(b)
	if err != api.OK || d == nil {
		t.Fatalf("Of of %d bytes: %v", len(b), err)
	}
	return d
}

func write(t *testing.T, d *Disk, at int, b []byte) {
	t.Helper()
	if err := d.Write(at, b); err != api.OK {
		t.Fatalf("Write(%d): %v", at, err)
	}
}

func flush(t *testing.T, d *Disk) {
	t.Helper()
	if err := d.Flush(); err != api.OK {
		t.Fatalf("Flush: %v", err)
	}
}

func crash(t *testing.T, d *Disk, keep ...bool) {
	t.Helper()
	if err := d.Crash(keep); err != api.OK {
		t.Fatalf("Crash(%v): %v", keep, err)
	}
}

// model is a disk as the chapter tells it, of all its sectors: what is on the disk itself, what was written there, whether it is cached.
type model struct {
	base, over [][]byte
	cached     []bool
}

func modelOf(image []byte) *model {
	m := &model{}
	for c := range slices.Chunk(image, size) {
		m.base, m.over, m.cached = append(m.base, c), append(m.over, c), append(m.cached, false)
	}
	return m
}

func (m *model) clone() *model {
	return &model{slices.Clone(m.base), slices.Clone(m.over), slices.Clone(m.cached)}
}

func (m *model) write(at int, b []byte) { m.over[at], m.cached[at] = b, true }

// end has the cached sectors on the disk of which keep tells so, by their place among the cached ones.
func (m *model) end(keep func(i int) bool) {
	i := 0
	for at := range m.base {
		if m.cached[at] {
			if keep(i) {
				m.base[at] = m.over[at]
			}
			i++
		}
		m.over[at], m.cached[at] = m.base[at], false
	}
}

func (m *model) flush() { m.end(func(int) bool { return true }) }

func (m *model) crash(keep []bool) {
	m.end(func(i int) bool { return i < len(keep) && keep[i] })
}

func (m *model) numbers() []int {
	var list []int
	for at, c := range m.cached {
		if c {
			list = append(list, at)
		}
	}
	return list
}

// same looks at all that d answers, which has to be what m tells.
func same(t *testing.T, d *Disk, m *model) {
	t.Helper()
	if n := d.Size(); n != len(m.base) {
		t.Fatalf("Size: %d, not %d", n, len(m.base))
	}
	for at := range m.over {
		if b, err := d.Read(at); err != api.OK || !bytes.Equal(b, m.over[at]) {
			t.Fatalf("Read(%d): %v, other bytes", at, err)
		}
	}
	if c := d.Cached(); !slices.Equal(c, m.numbers()) {
		t.Fatalf("Cached: %v, not %v", c, m.numbers())
	}
	if !bytes.Equal(d.Image(), slices.Concat(m.base...)) {
		t.Fatal("Image: other bytes")
	}
}

func TestExamples(t *testing.T) {
	ones, twos := bytes.Repeat([]byte{1}, size), bytes.Repeat([]byte{2}, size)
	noughts := make([]byte, size)
	for _, x := range []struct {
		keep         []bool
		want0, want1 []byte
	}{
		{[]bool{false, true}, noughts, twos},
		{nil, noughts, noughts},
	} {
		d := fresh(t, 2)
		write(t, d, 0, ones)
		write(t, d, 1, twos)
		crash(t, d, x.keep...)
		same(t, d, modelOf(slices.Concat(x.want0, x.want1)))
	}
}

func TestP71New(t *testing.T) {
	for _, n := range []int{math.MinInt, -size, -1, 0, api.MaxSectors + 1, api.MaxSectors * size, math.MaxInt} {
		if d, err := New(n); d != nil || err != api.ErrArg {
			t.Errorf("New(%d): %v, %v", n, d, err)
		}
	}
	for _, n := range []int{1, 2, 3, 255, 256, api.MaxSectors - 1, api.MaxSectors} {
		same(t, fresh(t, n), modelOf(make([]byte, n*size)))
	}
}

func TestP71Of(t *testing.T) {
	most := image(api.MaxSectors + 1)
	for _, n := range []int{0, 1, size - 1, size + 1, 2*size - 1, 2*size + 1, size*api.MaxSectors - 1, size*api.MaxSectors + 1, len(most)} {
		if d, err := Of(most[:n]); d != nil || err != api.ErrArg {
			t.Errorf("Of of %d bytes: %v, %v", n, d, err)
		}
	}
	if d, err := Of(nil); d != nil || err != api.ErrArg {
		t.Errorf("Of(nil): %v, %v", d, err)
	}
	for _, n := range []int{1, 2, 3, 255, 256, api.MaxSectors - 1, api.MaxSectors} {
		same(t, of(t, most[:n*size]), modelOf(most[:n*size]))
	}
}

func TestP72ReadOfNoSector(t *testing.T) {
	for _, n := range []int{1, 3, api.MaxSectors} {
		d := of(t, image(n))
		write(t, d, n-1, filled(9))
		for _, at := range []int{math.MinInt, -1, n, n + 1, api.MaxSectors, math.MaxInt} {
			if b, err := d.Read(at); b != nil || err != api.ErrArg {
				t.Errorf("%d sectors, Read(%d): %v, %v", n, at, b, err)
			}
		}
	}
}

func TestP72WriteThatMayNotBe(t *testing.T) {
	d, m := of(t, image(3)), modelOf(image(3))
	write(t, d, 1, filled(9))
	m.write(1, filled(9))
	for _, at := range []int{math.MinInt, -1, 3, 4, api.MaxSectors, math.MaxInt} {
		if err := d.Write(at, filled(8)); err != api.ErrArg {
			t.Errorf("Write(%d): %v", at, err)
		}
		if err := d.Write(at, nil); err != api.ErrArg {
			t.Errorf("Write(%d) of nothing: %v", at, err)
		}
	}
	for _, n := range []int{0, 1, size - 1, size + 1, 2 * size} {
		for at := range 3 {
			if err := d.Write(at, make([]byte, n)); err != api.ErrArg {
				t.Errorf("Write(%d) of %d bytes: %v", at, n, err)
			}
		}
	}
	same(t, d, m)
}

func TestP72WriteIsCached(t *testing.T) {
	d, m := of(t, image(5)), modelOf(image(5))
	for i, at := range []int{3, 0, 4, 3, 1, 3, 2, 0} {
		b := filled(100 + i)
		write(t, d, at, b)
		m.write(at, b)
		same(t, d, m)
	}
	if !bytes.Equal(d.Image(), image(5)) {
		t.Error("what is written alone is on the disk itself")
	}
}

func TestP72SameBytesAreCachedToo(t *testing.T) {
	d := of(t, image(2))
	write(t, d, 1, filled(2))
	if c := d.Cached(); !slices.Equal(c, []int{1}) {
		t.Errorf("Cached: %v", c)
	}
}

func TestP72Flush(t *testing.T) {
	d, m := of(t, image(4)), modelOf(image(4))
	for i := range 3 {
		flush(t, d)
		same(t, d, m)
		for _, at := range []int{2, 0, 2} {
			b := filled(50 + 10*i + at)
			write(t, d, at, b)
			m.write(at, b)
		}
		flush(t, d)
		m.flush()
		same(t, d, m)
	}
}

func TestP72Cached(t *testing.T) {
	const n = 1000
	d := fresh(t, n)
	var want []int
	for i := range n {
		if at := i * 337 % n; at%3 != 1 {
			write(t, d, at, filled(at))
			want = append(want, at)
		}
	}
	slices.Sort(want)
	for range 3 {
		if c := d.Cached(); !slices.Equal(c, want) {
			t.Fatal("Cached: not rising, or others")
		}
	}
}

// everyKeep gives all keeps of up to so many.
func everyKeep(most int) func(func([]bool) bool) {
	return func(give func([]bool) bool) {
		for n := range most + 1 {
			for bits := range 1 << n {
				keep := make([]bool, n)
				for i := range keep {
					keep[i] = bits>>i&1 == 1
				}
				if !give(keep) {
					return
				}
			}
		}
	}
}

func TestP72Crash(t *testing.T) {
	for _, cached := range [][]int{nil, {0}, {4}, {3, 1}, {4, 0, 2}, {1, 3, 2, 0}, {4, 3, 2, 1, 0}} {
		for keep := range everyKeep(len(cached) + 2) {
			d, m := of(t, image(5)), modelOf(image(5))
			for i, at := range cached {
				write(t, d, at, filled(90-i))
				write(t, d, at, filled(100+i))
				m.write(at, filled(100+i))
			}
			crash(t, d, keep...)
			m.crash(keep)
			same(t, d, m)
		}
	}
}

func TestP72CrashOfManySectors(t *testing.T) {
	const n = 300
	d, m := of(t, image(n)), modelOf(image(n))
	keep := make([]bool, n+5)
	for i := range keep {
		keep[i] = i*i%7 < 3
	}
	for i := range n {
		if at := i * 77 % n; at%4 != 2 {
			write(t, d, at, filled(1000+i))
			m.write(at, filled(1000+i))
		}
	}
	crash(t, d, keep...)
	m.crash(keep)
	same(t, d, m)
}

func TestP72Clone(t *testing.T) {
	d, m := of(t, image(4)), modelOf(image(4))
	for _, at := range []int{3, 1} {
		write(t, d, at, filled(20+at))
		m.write(at, filled(20+at))
	}
	c, cm := d.Clone(), m.clone()
	if c == nil || c == d {
		t.Fatal("no other disk")
	}
	same(t, c, cm)
	write(t, c, 3, filled(30))
	cm.write(3, filled(30))
	write(t, c, 0, filled(31))
	cm.write(0, filled(31))
	same(t, d, m)
	same(t, c, cm)
	flush(t, d)
	m.flush()
	same(t, c, cm)
	crash(t, c, false, false, true)
	cm.crash([]bool{false, false, true})
	same(t, d, m)
	same(t, c, cm)
	cc := c.Clone()
	write(t, cc, 2, filled(40))
	flush(t, cc)
	same(t, c, cm)
}

func TestP72CloneOfNothingCached(t *testing.T) {
	d := fresh(t, 2)
	c := d.Clone()
	write(t, c, 1, filled(5))
	write(t, d, 0, filled(6))
	if !slices.Equal(c.Cached(), []int{1}) || !slices.Equal(d.Cached(), []int{0}) {
		t.Error("the two share a cache")
	}
}

func TestP72Nobodys(t *testing.T) {
	for name, d := range map[string]*Disk{"nil": nil, "zero": {}} {
		for _, at := range []int{-1, 0, 1} {
			if b, err := d.Read(at); b != nil || err != api.ErrNil {
				t.Errorf("%s: Read(%d): %v, %v", name, at, b, err)
			}
			for _, b := range [][]byte{nil, filled(1), make([]byte, 3)} {
				if err := d.Write(at, b); err != api.ErrNil {
					t.Errorf("%s: Write(%d): %v", name, at, err)
				}
			}
		}
		if err := d.Flush(); err != api.ErrNil {
			t.Errorf("%s: Flush: %v", name, err)
		}
		for _, keep := range [][]bool{nil, {true}} {
			if err := d.Crash(keep); err != api.ErrNil {
				t.Errorf("%s: Crash: %v", name, err)
			}
		}
		if c, n, i, o := d.Cached(), d.Size(), d.Image(), d.Clone(); len(c) != 0 || n != 0 || len(i) != 0 || o != nil {
			t.Errorf("%s: %v, %d, %v, %v", name, c, n, i, o)
		}
	}
}

// draws are numbers that are thrown about, always the same ones.
type draws uint64

func (d *draws) below(n int) int {
	*d = *d*6364136223846793005 + 1442695040888963407
	return int(uint64(*d)>>33) % n
}

func (d *draws) keep(most int) []bool {
	keep := make([]bool, d.below(most+1))
	for i := range keep {
		keep[i] = d.below(2) == 1
	}
	return keep
}

// TestP73AnyScript: what was written last is read; a crash takes back some of what was not flushed, and nothing else.
func TestP73AnyScript(t *testing.T) {
	for seed := range 40 {
		draw := draws(seed)
		n := 1 + draw.below(9)
		d, m := of(t, image(n)), modelOf(image(n))
		for step := range 200 {
			switch draw.below(8) {
			case 0:
				flush(t, d)
				m.flush()
			case 1:
				keep := draw.keep(n + 2)
				crash(t, d, keep...)
				m.crash(keep)
			case 2:
				d, m = d.Clone(), m.clone()
			case 3:
				d, m = of(t, d.Image()), modelOf(d.Image())
			default:
				at, b := draw.below(n), filled(draw.below(1<<16))
				write(t, d, at, b)
				m.write(at, b)
				if got, err := d.Read(at); err != api.OK || !bytes.Equal(got, b) {
					t.Fatalf("seed %d, step %d: not what was written last", seed, step)
				}
			}
			same(t, d, m)
		}
	}
}

func TestP73CrashBehindFlush(t *testing.T) {
	for keep := range everyKeep(4) {
		d, m := fresh(t, 3), modelOf(make([]byte, 3*size))
		for _, at := range []int{2, 0} {
			write(t, d, at, filled(at+1))
			m.write(at, filled(at+1))
		}
		flush(t, d)
		m.flush()
		crash(t, d, keep...)
		same(t, d, m)
		crash(t, d, keep...)
		same(t, d, m)
	}
}

// TestP73LostIsLost: what a crash took back does not come again with a flush, nor with a later crash.
func TestP73LostIsLost(t *testing.T) {
	d, m := of(t, image(2)), modelOf(image(2))
	write(t, d, 0, filled(10))
	crash(t, d)
	same(t, d, m)
	flush(t, d)
	same(t, d, m)
	write(t, d, 1, filled(11))
	m.write(1, filled(11))
	crash(t, d, true, true)
	m.crash([]bool{true, true})
	same(t, d, m)
}

// spoil changes all bytes, those of the spare room too.
func spoil(b []byte) {
	b = b[:cap(b)]
	for i := range b {
		b[i] ^= 0xa5
	}
}

func TestRuleAnswersAreNew(t *testing.T) {
	d, m := of(t, image(3)), modelOf(image(3))
	write(t, d, 1, filled(9))
	m.write(1, filled(9))
	for at := range 3 {
		a, _ := d.Read(at)
		b, _ := d.Read(at)
		spoil(a)
		if !bytes.Equal(b, m.over[at]) {
			t.Errorf("two answers of Read(%d) share memory", at)
		}
	}
	spoil(d.Image())
	numbers := d.Cached()
	for i := range numbers[:cap(numbers)] {
		numbers[:cap(numbers)][i] = -1
	}
	same(t, d, m)
}

func TestRuleHandedInIsNotKept(t *testing.T) {
	im := slices.Grow(image(2), 100)
	want := slices.Clone(im[:cap(im)])
	d, m := of(t, im), modelOf(image(2))
	b := append(filled(9), 1, 2, 3)[:size]
	write(t, d, 1, b)
	m.write(1, filled(9))
	keep := []bool{false, true, true}
	write(t, d, 0, filled(8))
	m.write(0, filled(8))
	crash(t, d, keep[:2]...)
	m.crash(keep[:2])
	if !bytes.Equal(im[:cap(im)], want) || !bytes.Equal(b[:size+3], append(filled(9), 1, 2, 3)) || !slices.Equal(keep, []bool{false, true, true}) {
		t.Error("what was handed in is changed")
	}
	spoil(im)
	spoil(b)
	same(t, d, m)
}

// TestRuleSpareRoomIsNotRead: keeps behind the end are none.
func TestRuleSpareRoomIsNotRead(t *testing.T) {
	keep := []bool{true, true, true}
	d := fresh(t, 2)
	write(t, d, 0, filled(1))
	write(t, d, 1, filled(2))
	if err := d.Crash(keep[:1]); err != api.OK {
		t.Fatal(err)
	}
	same(t, d, modelOf(slices.Concat(filled(1), make([]byte, size))))
	if e, err := Of(image(1)[:0]); e != nil || err != api.ErrArg {
		t.Error("an image's spare room is read")
	}
	if err := d.Write(0, filled(3)[:size-1]); err != api.ErrArg {
		t.Error("spare room of what is written is read")
	}
}

func TestT6AnyArguments(t *testing.T) {
	numbers := []int{math.MinInt, math.MinInt32, -1, 0, 1, size, api.MaxSectors, math.MaxInt32, math.MaxInt}
	made, _ := New(2)
	for _, d := range []*Disk{nil, {}, made} {
		for _, n := range numbers {
			d.Read(n)
			for _, b := range [][]byte{nil, {}, {1}, filled(1), make([]byte, size+1)} {
				d.Write(n, b)
				Of(b)
			}
			if n < 0 || n > api.MaxSectors {
				New(n)
			}
		}
		for _, keep := range [][]bool{nil, {}, {true}, make([]bool, 5)} {
			d.Crash(keep)
			d.Flush()
		}
		d.Cached()
		d.Size()
		d.Image()
		d.Clone()
	}
}
