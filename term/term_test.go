package term

import (
	"math"
	"math/rand"
	"slices"
	"testing"
)

func same(a, b Term) bool {
	return a.Kind == b.Kind && slices.Equal(a.Of, b.Of) && a.Text == b.Text && a.N == b.N
}

// several has terms of which no two are alike, among them such as could be confused in a name.
func several() []Term {
	var l []Term
	for _, kind := range []byte{0, Atom, Raw, Signed, Signed + 1, ',', '-', '1', ':', 255} {
		for _, of := range [][]int{nil, {0}, {1}, {-1}, {0, 0}, {0, 1}, {1, 0}, {1, 1}, {11}, {1, 1, 1}, {1, 11}, {11, 1}, {math.MaxInt}, {math.MinInt}} {
			for _, text := range []string{"", ":", ",1:", "1:", "1", "0", "\x00", "\x00\x00", "T", "\xff\xfe", "a", "ab"} {
				for _, n := range []int{0, 1, -1, 11, 255, 256, math.MaxInt, math.MinInt} {
					l = append(l, Term{kind, of, text, n})
				}
			}
		}
	}
	return l
}

func expect(t *testing.T, what string, got, want int) {
	t.Helper()
	if got != want {
		t.Fatalf("%s = %d, not %d", what, got, want)
	}
}

// expectAll: the table has these terms, in this order, and no others.
func expectAll(t *testing.T, b *Table, want []Term) {
	t.Helper()
	expect(t, "Len", b.Len(), len(want))
	for i, x := range want {
		if got, ok := b.Get(i); !ok || !same(got, x) {
			t.Fatalf("Get(%d) = %v, %v, not %v", i, got, ok, x)
		}
		if at, ok := b.Find(x); !ok || at != i {
			t.Fatalf("Find(%v) = %d, %v, not %d", x, at, ok, i)
		}
	}
}

func TestKinds(t *testing.T) {
	for i, kind := range []byte{Atom, Raw, Public, Agreed, Derive, Sealed, Signed} {
		if int(kind) != i+1 {
			t.Errorf("the kind %d is %d", i+1, kind)
		}
	}
}

func TestPutOnce(t *testing.T) {
	b, l := New(), several()
	expectAll(t, b, nil)
	for i, x := range l {
		if at, ok := b.Find(x); ok || at != 0 {
			t.Fatalf("Find(%v) = %d, %v before it is put", x, at, ok)
		}
		expect(t, "Len after Find", b.Len(), i)
		expect(t, "Put", b.Put(x), i)
		expect(t, "Put once more", b.Put(x), i)
		expect(t, "Len after Put", b.Len(), i+1)
	}
	expectAll(t, b, l)
	for i := range l {
		k := len(l) - 1 - i
		expect(t, "Put of a term from before", b.Put(l[k]), k)
	}
	expectAll(t, b, l)
}

func TestNoneIsEmpty(t *testing.T) {
	for _, of := range [][]int{nil, {}} {
		b := New()
		expect(t, "Put", b.Put(Term{Kind: Raw, Of: of, Text: "a"}), 0)
		expect(t, "Put of nil", b.Put(Term{Kind: Raw, Text: "a"}), 0)
		expect(t, "Put of an empty slice", b.Put(Term{Kind: Raw, Of: []int{}, Text: "a"}), 0)
		expectAll(t, b, []Term{{Kind: Raw, Text: "a"}})
		expectAll(t, b, []Term{{Kind: Raw, Of: []int{}, Text: "a"}})
	}
}

func TestNoSuchIndex(t *testing.T) {
	b := New()
	for n := range 3 {
		for _, i := range []int{n, n + 1, 100, -1, -2, math.MaxInt, math.MinInt, 1 << 32, math.MinInt + n} {
			if got, ok := b.Get(i); ok || !same(got, Term{}) {
				t.Errorf("Get(%d) of %d terms = %v, %v", i, n, got, ok)
			}
		}
		b.Put(Term{Kind: Atom, Of: []int{7}, Text: "a", N: n + 1})
	}
}

// TestWalk holds a table against a list that is searched from its beginning.
func TestWalk(t *testing.T) {
	source := rand.New(rand.NewSource(5))
	b := New()
	var l []Term
	for range 3000 {
		x := Term{Kind: byte(source.Intn(3)), N: source.Intn(3) - 1}
		for range source.Intn(4) {
			x.Of = append(x.Of, source.Intn(13)-1)
		}
		for range source.Intn(3) {
			x.Text += string("01,:"[source.Intn(4)])
		}
		want := slices.IndexFunc(l, func(y Term) bool { return same(x, y) })
		if at, ok := b.Find(x); ok != (want >= 0) || at != max(want, 0) {
			t.Fatalf("Find(%v) = %d, %v, not %d", x, at, ok, want)
		}
		if want < 0 {
			want = len(l)
			l = append(l, x)
		}
		expect(t, "Put", b.Put(x), want)
	}
	expectAll(t, b, l)
}

func TestLongTerm(t *testing.T) {
	of := make([]int, 5000)
	for i := range of {
		of[i] = i
	}
	text := string(make([]byte, 1<<20))
	l := []Term{{Kind: Sealed, Of: of, Text: text}, {Kind: Sealed, Of: of, Text: text[1:]}, {Kind: Sealed, Of: of[1:], Text: text}}
	b := New()
	for i, x := range l {
		expect(t, "Put", b.Put(x), i)
	}
	expectAll(t, b, l)
}

// TestOwnMemory: what is in a table is changed by nothing that a caller has.
func TestOwnMemory(t *testing.T) {
	b := New()
	given := []int{3, 1, 4, 1, 5}
	want := Term{Agreed, slices.Clone(given[1:4]), "text", 9}
	expect(t, "Put", b.Put(Term{Agreed, given[1:4], "text", 9}), 0)
	if !slices.Equal(given, []int{3, 1, 4, 1, 5}) {
		t.Fatalf("Put made of its argument %v", given)
	}
	clear(given)
	expectAll(t, b, []Term{want})
	first, _ := b.Get(0)
	second, _ := b.Get(0)
	clear(first.Of)
	_ = append(first.Of, 7)
	if !same(second, want) {
		t.Error("two results share memory")
	}
	expectAll(t, b, []Term{want})
	expect(t, "Put of the changed term", b.Put(first), 1)
	expectAll(t, b, []Term{want, {Agreed, []int{0, 0, 0}, "text", 9}})
}

func TestTablesApart(t *testing.T) {
	a, b := New(), New()
	expect(t, "Put", a.Put(Term{Kind: Atom, N: 1}), 0)
	expectAll(t, b, nil)
	expect(t, "Put", b.Put(Term{Kind: Atom, N: 2}), 0)
	expectAll(t, a, []Term{{Kind: Atom, N: 1}})
	expectAll(t, b, []Term{{Kind: Atom, N: 2}})
}

func TestAgree(t *testing.T) {
	b := New()
	var atoms, publics []int
	for i := range 4 {
		atoms = append(atoms, b.Put(Term{Kind: Atom, N: i + 1}))
		publics = append(publics, b.Put(Term{Kind: Public, Of: []int{atoms[i]}}))
	}
	n := b.Len()
	for i, x := range atoms {
		for k, y := range atoms {
			at := b.Agree(x, publics[k])
			if got, ok := b.Get(at); !ok || !same(got, Term{Kind: Agreed, Of: []int{min(x, y), max(x, y)}}) {
				t.Errorf("Agree(%d, Public of %d) = %v, %v", x, y, got, ok)
			}
			expect(t, "Agree from the other side", b.Agree(y, publics[i]), at)
			expect(t, "Agree once more", b.Agree(x, publics[k]), at)
		}
	}
	expect(t, "Len", b.Len(), n+4*5/2)
}

// TestAgreeWithPublicOfPublic: whatever a Public is of, it is that which is agreed with.
func TestAgreeWithPublicOfPublic(t *testing.T) {
	b := New()
	kept := Term{Kind: Raw, Text: "a"}
	for kind := range Signed + 2 {
		b.Put(kept)
		a := b.Put(Term{Kind: kind, Of: []int{0}, Text: "x", N: 1})
		public := b.Put(Term{Kind: Public, Of: []int{a}})
		twice := b.Put(Term{Kind: Public, Of: []int{public}})
		for _, r := range []struct{ secret, other, low, high int }{
			{0, public, 0, a}, {a, public, a, a}, {public, public, a, public}, {twice, public, a, twice},
			{0, twice, 0, public}, {a, twice, a, public}, {public, twice, public, public}, {twice, twice, public, twice},
		} {
			got, ok := b.Get(b.Agree(r.secret, r.other))
			if !ok || !same(got, Term{Kind: Agreed, Of: []int{r.low, r.high}}) {
				t.Errorf("Agree(%d, %d) = %v, %v", r.secret, r.other, got, ok)
			}
		}
	}
}

// TestAgreeWithNoPublic: the order is then that of the arguments.
func TestAgreeWithNoPublic(t *testing.T) {
	b := New()
	for kind := range Signed + 2 {
		if kind != Public {
			b.Put(Term{Kind: kind, Of: []int{0}, Text: "a", N: 1})
		}
	}
	b.Put(Term{Kind: Public})
	b.Put(Term{Kind: Public, Of: []int{0, 1}})
	b.Put(Term{Kind: Public, Of: []int{0, 0}})
	n := b.Len()
	others := []int{-1, math.MinInt, math.MaxInt, 1 << 20}
	for i := range n {
		others = append(others, i)
	}
	for _, secret := range []int{0, 3, n - 1, -1, -2, 1 << 20, math.MinInt, math.MaxInt} {
		for _, other := range others {
			want := Term{Kind: Agreed, Of: []int{secret, other}, N: 1}
			before := b.Len()
			if at, ok := b.Find(want); ok {
				t.Fatalf("%v is there already: %d", want, at)
			}
			expect(t, "Agree", b.Agree(secret, other), before)
			if got, ok := b.Get(before); !ok || !same(got, want) {
				t.Errorf("Agree(%d, %d) = %v, %v", secret, other, got, ok)
			}
			expect(t, "Agree once more", b.Agree(secret, other), before)
			expect(t, "Len", b.Len(), before+1)
		}
	}
}

// TestAgreeUnlike: with a secret and with its Public one agrees on different things.
func TestAgreeUnlike(t *testing.T) {
	b := New()
	a, c := b.Put(Term{Kind: Atom, N: 1}), b.Put(Term{Kind: Atom, N: 2})
	public := b.Put(Term{Kind: Public, Of: []int{c}})
	l := []int{b.Agree(a, public), b.Agree(a, c), b.Agree(c, a), b.Agree(public, a)}
	slices.Sort(l)
	expect(t, "the number of terms", len(slices.Compact(l)), 4)
	expect(t, "what Agree finds", b.Agree(a, public), b.Put(Term{Kind: Agreed, Of: []int{a, c}}))
	expect(t, "what Agree finds", b.Agree(c, a), b.Put(Term{Kind: Agreed, Of: []int{c, a}, N: 1}))
}

func TestNilTable(t *testing.T) {
	var b *Table
	for _, x := range several()[:50] {
		expect(t, "Put", b.Put(x), -1)
		if at, ok := b.Find(x); ok || at != 0 {
			t.Errorf("Find(%v) = %d, %v", x, at, ok)
		}
	}
	for _, i := range []int{0, 1, -1, math.MaxInt} {
		if x, ok := b.Get(i); ok || !same(x, Term{}) {
			t.Errorf("Get(%d) = %v, %v", i, x, ok)
		}
		if at, ok := b.Place(Bytes(i)); ok || at != 0 {
			t.Errorf("Place of the bytes of %d = %d, %v", i, at, ok)
		}
		expect(t, "Read", b.Read(Bytes(i)), -1)
		expect(t, "Agree", b.Agree(i, i), -1)
		expect(t, "Agree", b.Agree(0, i), -1)
	}
	expect(t, "Read of nothing", b.Read(nil), -1)
	expect(t, "Len", b.Len(), 0)
}

func TestZeroTable(t *testing.T) {
	var b Table
	expectAll(t, &b, nil)
	expect(t, "Put", b.Put(Term{Kind: Atom, N: 1}), 0)
	expectAll(t, &b, []Term{{Kind: Atom, N: 1}})
}
