package chain

import (
	"bytes"
	"fmt"
	"math"
	"math/rand"
	"slices"
	"testing"

	"pawl/api"
	"pawl/wire"
)

func sameSkip(a, b Skip) bool {
	return bytes.Equal(a.Of, b.Of) && a.N == b.N && bytes.Equal(a.Key, b.Key)
}

// several returns a store of n keys, and these, the oldest first.
func several(n int) (*Store, []Skip) {
	s := &Store{}
	var all []Skip
	for i := range n {
		x := Skip{[]byte{byte(i / 3)}, uint32(i % 3), filler(i)}
		s.Put(x)
		all = append(all, x)
	}
	return s, all
}

// expectAll: the store has these keys, in this order, and no others.
func expectAll(t *testing.T, s *Store, want []Skip) {
	t.Helper()
	if s.Len() != len(want) || !slices.EqualFunc(s.All(), want, sameSkip) {
		t.Fatalf("All = %v, Len %d, not %v", s.All(), s.Len(), want)
	}
	for _, x := range want {
		if got, ok := s.Get(x.Of, x.N); !ok || !bytes.Equal(got, x.Key) {
			t.Fatalf("Get(%x, %d) = %x, %v, not %x", x.Of, x.N, got, ok, x.Key)
		}
	}
}

// expectNone: the store has no such key.
func expectNone(t *testing.T, s *Store, of []byte, n uint32) {
	t.Helper()
	before := s.All()
	if got, ok := s.Get(of, n); ok || len(got) != 0 {
		t.Errorf("Get(%x, %d) = %x, %v", of, n, got, ok)
	}
	if s.Drop(of, n) {
		t.Errorf("Drop(%x, %d)", of, n)
	}
	if !slices.EqualFunc(s.All(), before, sameSkip) {
		t.Errorf("Get or Drop of nothing has changed the store")
	}
}

func TestEmptyStore(t *testing.T) {
	var s Store
	expectAll(t, &s, nil)
	expectNone(t, &s, nil, 0)
	expectNone(t, &s, []byte("a"), 1)
	s.Put(Skip{})
	expectAll(t, &s, []Skip{{}})
	if !s.Drop(nil, 0) {
		t.Error("Drop of a key without bytes")
	}
	expectAll(t, &s, nil)
}

func TestPutUpToMaxStore(t *testing.T) {
	for n := range api.MaxStore + 1 {
		s, all := several(n)
		expectAll(t, s, all)
	}
}

func TestPutBeyondMaxStore(t *testing.T) {
	for more := 1; more <= 2*api.MaxStore; more++ {
		s, all := several(api.MaxStore + more)
		expectAll(t, s, all[more:])
		for _, x := range all[:more] {
			expectNone(t, s, x.Of, x.N)
		}
	}
}

// TestPutTwice: the later key is the newest one, and none of the others goes, even if there are MaxStore.
func TestPutTwice(t *testing.T) {
	for _, n := range []int{1, 2, 5, api.MaxStore - 1, api.MaxStore} {
		for i := range n {
			for _, key := range [][]byte{nil, []byte("another"), filler(i)} {
				s, all := several(n)
				x := Skip{all[i].Of, all[i].N, key}
				s.Put(x)
				expectAll(t, s, append(slices.Delete(all, i, i+1), x))
			}
		}
	}
}

// TestUnlikeNames: keys are one only if both their Of and their N are.
func TestUnlikeNames(t *testing.T) {
	var s Store
	var all []Skip
	for _, of := range [][]byte{nil, {0}, {1}, {0, 0}, {1, 0}, {0, 1}, filler(32)} {
		for _, n := range []uint32{0, 1, 256, math.MaxUint32} {
			x := Skip{of, n, fmt.Append(nil, of, n)}
			expectNone(t, &s, of, n)
			s.Put(x)
			all = append(all, x)
			expectAll(t, &s, all)
		}
	}
	for len(all) > 0 {
		i := len(all) / 2
		if !s.Drop(all[i].Of, all[i].N) {
			t.Errorf("Drop(%x, %d)", all[i].Of, all[i].N)
		}
		expectNone(t, &s, all[i].Of, all[i].N)
		all = slices.Delete(all, i, i+1)
		expectAll(t, &s, all)
	}
}

func TestNilNameIsEmpty(t *testing.T) {
	for _, a := range [][]byte{nil, {}} {
		for _, b := range [][]byte{nil, {}} {
			var s Store
			s.Put(Skip{a, 1, []byte("key")})
			s.Put(Skip{b, 1, []byte("other")})
			expectAll(t, &s, []Skip{{b, 1, []byte("other")}})
			if !s.Drop(a, 1) || s.Len() != 0 {
				t.Errorf("Drop(%v, 1): the store has %v", a, s.All())
			}
		}
	}
}

// TestStoreWalk holds a store and its copies against lists that are searched.
func TestStoreWalk(t *testing.T) {
	source := rand.New(rand.NewSource(10))
	s := &Store{}
	var want []Skip
	for i := range 20000 {
		of, n := []byte{byte(source.Intn(4))}, uint32(source.Intn(15))
		at := slices.IndexFunc(want, func(x Skip) bool { return x.Of[0] == of[0] && x.N == n })
		switch source.Intn(8) {
		case 0, 1:
			got, ok := s.Get(of, n)
			if ok != (at >= 0) || ok && !bytes.Equal(got, want[at].Key) || !ok && len(got) != 0 {
				t.Fatalf("step %d: Get(%x, %d) = %x, %v", i, of, n, got, ok)
			}
		case 2:
			if s.Drop(of, n) != (at >= 0) {
				t.Fatalf("step %d: Drop(%x, %d)", i, of, n)
			}
			if at >= 0 {
				want = slices.Delete(want, at, at+1)
			}
		case 3:
			s = s.Copy()
		default:
			x := Skip{of, n, fmt.Append(nil, i)}
			s.Put(x)
			if at >= 0 {
				want = slices.Delete(want, at, at+1)
			}
			want = append(want, x)
			want = want[max(0, len(want)-api.MaxStore):]
		}
		expectAll(t, s, want)
	}
}

func TestCopyIsIndependent(t *testing.T) {
	for _, n := range []int{0, 1, 5, api.MaxStore} {
		s, all := several(n)
		c, d := s.Copy(), s.Copy()
		expectAll(t, c, all)
		more := Skip{[]byte("more"), 1, []byte("key")}
		c.Put(more)
		s.Put(Skip{[]byte("more"), 1, []byte("other")})
		s.Drop([]byte{0}, 0)
		expectAll(t, d, all)
		expectAll(t, c, append(slices.Clone(all), more)[max(0, n+1-api.MaxStore):])
		for _, x := range s.All() {
			s.Drop(x.Of, x.N)
		}
		expectAll(t, s, nil)
		expectAll(t, d, all)
		for _, x := range d.All() {
			d.Put(Skip{x.Of, x.N, []byte("changed")})
		}
		expectAll(t, c, append(slices.Clone(all), more)[max(0, n+1-api.MaxStore):])
	}
}

// TestStoresOwnMemory: what is in a store is changed by nothing that a caller has.
func TestStoresOwnMemory(t *testing.T) {
	var s Store
	of, key := []byte("of"), []byte("key")
	want := []Skip{{[]byte("of"), 1, []byte("key")}, {[]byte("of"), 2, []byte("key")}}
	s.Put(Skip{of, 1, key})
	s.Put(Skip{of, 2, key})
	c := s.Copy()
	expectBytes(t, "the Of that was given", of, []byte("of"))
	expectBytes(t, "the key that was given", key, []byte("key"))
	clear(of)
	clear(key)
	expectAll(t, &s, want)
	got, _ := s.Get([]byte("of"), 1)
	clear(got)
	_ = append(got, filler(9)...)
	all := s.All()
	clear(all[0].Of)
	clear(all[0].Key)
	_ = append(all[0].Of, filler(9)...)
	_ = append(all[0].Key, filler(9)...)
	if !sameSkip(all[1], want[1]) {
		t.Errorf("two keys of one answer share memory: %v", all[1])
	}
	all[0] = Skip{}
	_ = append(all[:1], Skip{})
	expectAll(t, &s, want)
	expectAll(t, c, want)
}

func laid(s *Store) []byte {
	var w wire.Writer
	s.Lay(&w)
	return w.Done()
}

func TestLay(t *testing.T) {
	var s Store
	expectBytes(t, "Lay of nothing", laid(&s), []byte{0, 0})
	s.Put(Skip{[]byte("ab"), 0x01020304, []byte("xyz")})
	s.Put(Skip{nil, math.MaxUint32, nil})
	want := []byte{
		0, 2,
		0, 0, 0, 2, 'a', 'b', 1, 2, 3, 4, 0, 0, 0, 3, 'x', 'y', 'z',
		0, 0, 0, 0, 255, 255, 255, 255, 0, 0, 0, 0,
	}
	expectBytes(t, "Lay", laid(&s), want)
	expectBytes(t, "Lay once more", laid(&s), want)
	var w wire.Writer
	w.Flag(true)
	s.Lay(&w)
	expectBytes(t, "Lay behind other data", w.Flag(true).Done(), append(append([]byte{1}, want...), 1))
	s.Lay(nil)
	expectBytes(t, "Lay after Lay to nothing", laid(&s), want)
}

func TestReadWhatIsLaid(t *testing.T) {
	for n := range api.MaxStore + 3 {
		s, all := several(n)
		all = all[max(0, n-api.MaxStore):]
		data := laid(s)
		r := wire.Read(append(bytes.Clone(data), 7, 8))
		got, ok := Read(r)
		if !ok || r.Left() != 2 || r.Num(2) != 0x0708 {
			t.Fatalf("Read of %d keys: %v", n, ok)
		}
		expectAll(t, got, all)
		expectBytes(t, "Lay of what was read", laid(got), data)
		got.Put(Skip{[]byte("more"), 1, []byte("key")})
		expectAll(t, s, all)
	}
}

// TestReadLongKeys: nothing bounds the bytes of a key.
func TestReadLongKeys(t *testing.T) {
	var s Store
	want := []Skip{{filler(api.MaxBytes + 1), 1, nil}, {nil, 1, filler(3 * api.MaxBytes)}}
	for _, x := range want {
		s.Put(x)
	}
	got, ok := Read(wire.Read(laid(&s)))
	if !ok {
		t.Fatal("Read of long keys")
	}
	expectAll(t, got, want)
}

func expectUnread(t *testing.T, what string, r *wire.Reader) {
	t.Helper()
	if s, ok := Read(r); ok || s != nil {
		t.Errorf("%s: Read = %v, %v", what, s, ok)
	}
}

func TestReadCut(t *testing.T) {
	s, _ := several(4)
	data := laid(s)
	for n := range data {
		expectUnread(t, "data that is cut", wire.Read(data[:n]))
	}
}

func TestReadNoStore(t *testing.T) {
	expectUnread(t, "a nil reader", nil)
	expectUnread(t, "nothing", wire.Read(nil))
	bad := wire.Read([]byte{0, 0, 0, 0})
	bad.Num(-1)
	expectUnread(t, "a reader after an error", bad)
	_, all := several(api.MaxStore + 1)
	for _, n := range []uint64{api.MaxStore + 1, 256, 1<<16 - 1} {
		var w wire.Writer
		w.Num(n, 2)
		for i := range n {
			w.Bytes(fmt.Append(nil, i)).Num(i, 4).Bytes(all[1].Key)
		}
		expectUnread(t, "more keys than a store has", wire.Read(w.Done()))
	}
	for _, at := range []int{2, 10} { // the lengths of Of and of Key
		for _, high := range []byte{1, 127, 128, 255} {
			data := append([]byte{0, 1, 0, 0, 0, 0, 0, 0, 0, 0, 0, 0, 0, 0}, filler(40)...)
			data[at] = high
			expectUnread(t, "a great length", wire.Read(data))
		}
	}
}

// TestReadTwice: no store has two keys of the same Of and N.
func TestReadTwice(t *testing.T) {
	for _, n := range []int{2, 3, api.MaxStore} {
		_, all := several(n)
		for i := range n {
			for k := range n {
				var w wire.Writer
				w.Num(uint64(n), 2)
				for j, x := range all {
					if j == k {
						x.Of, x.N = all[i].Of, all[i].N
					}
					w.Bytes(x.Of).Num(uint64(x.N), 4).Bytes(x.Key)
				}
				r := wire.Read(w.Done())
				if i != k {
					expectUnread(t, "a key that is there twice", r)
				} else if s, ok := Read(r); !ok {
					t.Errorf("Read = %v, %v", s, ok)
				}
			}
		}
	}
}

// TestReadAnything: data is a store exactly if what is read is laid as that data.
func TestReadAnything(t *testing.T) {
	source := rand.New(rand.NewSource(11))
	taken := 0
	for range 100000 {
		data := make([]byte, source.Intn(40))
		for i := range data {
			data[i] = byte(source.Intn(3) / 2) // mostly 0, else 1
		}
		if len(data) > 1 {
			data[0], data[1] = 0, byte(source.Intn(4))
		}
		r := wire.Read(data)
		s, ok := Read(r)
		if !ok {
			if s != nil {
				t.Fatalf("Read(%x) = %v, false", data, s)
			}
			continue
		}
		taken++
		if got := laid(s); !bytes.Equal(got, data[:len(data)-r.Left()]) {
			t.Fatalf("Read(%x) is laid as %x", data, got)
		}
	}
	if taken < 1000 {
		t.Errorf("only %d stores are read", taken)
	}
}

func TestReadOwnMemory(t *testing.T) {
	s, all := several(5)
	data := laid(s)
	got, ok := Read(wire.Read(data))
	clear(data)
	if !ok {
		t.Fatal("Read")
	}
	expectAll(t, got, all)
}

func TestNilStore(t *testing.T) {
	var s *Store
	s.Put(Skip{[]byte("of"), 1, []byte("key")})
	expectAll(t, s, nil)
	expectNone(t, s, nil, 0)
	expectNone(t, s, []byte("of"), 1)
	expectBytes(t, "Lay of a nil store", laid(s), []byte{0, 0})
	s.Lay(nil)
	c := s.Copy()
	expectAll(t, c, nil)
	x := Skip{[]byte("of"), 1, []byte("key")}
	c.Put(x)
	expectAll(t, c, []Skip{x})
}
