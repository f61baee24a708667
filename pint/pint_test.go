package pint_test

import (
	"math"
	"math/rand"
	"strings"
	"testing"

	"herald/api"
	"herald/pint"
)

func wantPut(t *testing.T, prefix, first int, v int64, want string) {
	t.Helper()
	if b, e := pint.Put(prefix, first, v); b != want || e != api.OK {
		t.Errorf("P2.1: Put(%d, %d, %d) = % x, %d, want % x", prefix, first, v, b, e, want)
	}
}

func wantPutRefused(t *testing.T, prefix, first int, v int64, want api.Errno) {
	t.Helper()
	if b, e := pint.Put(prefix, first, v); b != "" || e != want {
		t.Errorf("P2.1: Put(%d, %d, %d) = % x, %d, want error %d", prefix, first, v, b, e, want)
	}
}

func wantTake(t *testing.T, prefix int, b string, v int64, n int) {
	t.Helper()
	if x, k, e := pint.Take(prefix, b); x != v || k != n || e != api.OK {
		t.Errorf("P2.1: Take(%d, % x) = %d, %d, %d, want %d, %d", prefix, b, x, k, e, v, n)
	}
}

func wantTakeRefused(t *testing.T, prefix int, b string, want api.Errno) {
	t.Helper()
	if x, k, e := pint.Take(prefix, b); x != 0 || k != 0 || e != want {
		t.Errorf("P2.1: Take(%d, % x) = %d, %d, %d, want error %d", prefix, b, x, k, e, want)
	}
}

func wantTakeAsModel(t *testing.T, prefix int, b string) {
	t.Helper()
	v, n, e := modelTake(prefix, b)
	if e != api.OK {
		wantTakeRefused(t, prefix, b, e)
		return
	}
	wantTake(t, prefix, b, v, n)
}

// back: P2.2.
func back(t *testing.T, prefix, first int, v int64, behind string) {
	t.Helper()
	b, e := pint.Put(prefix, first, v)
	x, n, f := pint.Take(prefix, b+behind)
	if e != api.OK || f != api.OK || x != v || n != len(b) {
		t.Errorf("P2.2: Put(%d, %d, %d) = % x, %d, which with % x behind it is read back as %d, %d, %d", prefix, first, v, b, e, behind, x, n, f)
	}
}

// least: P2.3, of one form that Take takes. It tells whether Take does.
func least(t *testing.T, prefix int, b string) bool {
	t.Helper()
	v, n, e := pint.Take(prefix, b)
	if e != api.OK {
		return false
	}
	first := int(b[0]) >> prefix << prefix
	p, f := pint.Put(prefix, first, v)
	if f != api.OK || len(p) > n || len(p) == n && p != b[:n] {
		t.Errorf("P2.3: Put(%d, %d, %d) = % x, %d, but % x says the same", prefix, first, v, p, f, b[:n])
	}
	return true
}

// ownBytes: P2.4, of one form that Take takes.
func ownBytes(t *testing.T, prefix int, b string) {
	t.Helper()
	v, n, e := pint.Take(prefix, b)
	if e != api.OK {
		return
	}
	if x, k, f := pint.Take(prefix, b[:n]); x != v || k != n || f != api.OK {
		t.Errorf("P2.4: Take(%d, % x) = %d, %d, but of just its bytes %d, %d, %d", prefix, b, v, n, x, k, f)
	}
	for cut := range n {
		if x, k, f := pint.Take(prefix, b[:cut]); x != 0 || k != 0 || f != api.ErrShort {
			t.Errorf("P2.4: Take(%d, % x) = %d, %d, %d, want ErrShort", prefix, b[:cut], x, k, f)
		}
	}
}

// uppers has every first that may stand with a prefix.
func uppers(prefix int) []int {
	var list []int
	for first := 0; first < 256; first += 1 << prefix {
		list = append(list, first)
	}
	return list
}

// numbers has those at which a prefix's forms change: around full, around each
// group more, around the greatest, and some that a generator makes.
func numbers(prefix int) []int64 {
	full := int64(1)<<prefix - 1
	list := []int64{0, 1, 2, 10, 42, 1337, greatest - 1, greatest}
	for shift := 0; shift < 31; shift++ {
		for d := int64(-2); d <= 2; d++ {
			list = append(list, 1<<shift+d, full+1<<shift+d)
		}
	}
	g := rand.New(rand.NewSource(int64(prefix)))
	for range 500 {
		list = append(list, g.Int63n(1<<(1+g.Intn(31))))
	}
	var legal []int64
	for _, v := range list {
		if 0 <= v && v <= greatest {
			legal = append(legal, v)
		}
	}
	return legal
}

// eachForm gives forms of up to six bytes behind the first, of a few telling
// ones; the sixth is to be seen not to count, nor any where the first isn't full.
func eachForm(do func(prefix int, b string)) {
	telling := []string{"\x00", "\x01", "\x07", "\x08", "\x7f", "\x80", "\x81", "\xff"}
	forms := []string{""}
	for at := 0; len(forms[at]) < 5; at++ {
		for _, c := range telling {
			forms = append(forms, forms[at]+c)
		}
	}
	for prefix := 1; prefix <= 8; prefix++ {
		full := byte(1<<prefix - 1)
		for _, form := range forms {
			do(prefix, string([]byte{full})+form)
			do(prefix, "\xff"+form+"\x00")
			do(prefix, string([]byte{full &^ 1})+form)
		}
	}
}

// eachShort gives every form of up to two bytes behind a full first one, and
// every first byte.
func eachShort(do func(prefix int, b string)) {
	for prefix := 1; prefix <= 8; prefix++ {
		do(prefix, "")
		for c := range 256 {
			do(prefix, string([]byte{byte(c)}))
			for d := range 256 {
				do(prefix, string([]byte{byte(c), byte(d)}))
				do(prefix, string([]byte{0xff, byte(c), byte(d)}))
			}
		}
	}
}

func TestPutTold(t *testing.T) {
	for _, x := range []struct {
		prefix, first int
		v             int64
		bytes         string
	}{
		{5, 0, 10, "\x0a"}, {5, 0, 1337, "\x1f\x9a\x0a"}, {8, 0, 42, "\x2a"},
		{5, 0, 31, "\x1f\x00"}, {5, 0, 30, "\x1e"}, {7, 128, 127, "\xff\x00"}, {7, 128, 126, "\xfe"},
		{1, 254, 0, "\xfe"}, {1, 254, 1, "\xff\x00"}, {8, 0, 2147483647, "\xff\x80\xfe\xff\xff\x07"},
		{1, 0, 0, "\x00"}, {1, 0, 1, "\x01\x00"}, {1, 0, 2, "\x01\x01"}, // the least prefix
		{8, 0, 0, "\x00"}, {8, 0, 254, "\xfe"}, {8, 0, 255, "\xff\x00"}, // the greatest one
		{5, 224, 10, "\xea"}, {4, 16, 14, "\x1e"}, {4, 16, 15, "\x1f\x00"}, // upper bits stay
		{5, 0, 158, "\x1f\x7f"}, {5, 0, 159, "\x1f\x80\x01"}, // one group is full, and one more
		{5, 0, 31 + 1<<14 - 1, "\x1f\xff\x7f"}, {5, 0, 31 + 1<<14, "\x1f\x80\x80\x01"},
		{5, 0, 31 + 1<<21 - 1, "\x1f\xff\xff\x7f"}, {5, 0, 31 + 1<<21, "\x1f\x80\x80\x80\x01"},
		{5, 0, 31 + 1<<28 - 1, "\x1f\xff\xff\xff\x7f"}, {5, 0, 31 + 1<<28, "\x1f\x80\x80\x80\x80\x01"},
		{1, 0, 2147483647, "\x01\xfe\xff\xff\xff\x07"},
	} {
		wantPut(t, x.prefix, x.first, x.v, x.bytes)
	}
}

func TestPutRefused(t *testing.T) {
	for _, x := range []struct {
		prefix, first int
		v             int64
		e             api.Errno
	}{
		{0, 0, 1, api.ErrArg}, {9, 0, 1, api.ErrArg}, {5, 16, 1, api.ErrArg}, {5, 256, 1, api.ErrArg},
		{5, -32, 1, api.ErrArg}, {5, 0, -1, api.ErrArg}, {5, 0, 2147483648, api.ErrInt}, {9, 0, 2147483648, api.ErrArg},
		{5, 16, 2147483648, api.ErrArg}, {5, 256, 2147483648, api.ErrArg}, {5, -32, 2147483648, api.ErrArg}, // ErrArg comes first
		{1, 1, 0, api.ErrArg}, {8, 128, 0, api.ErrArg}, {8, 256, 0, api.ErrArg}, {8, -256, 0, api.ErrArg},
		{1, 254, 2147483648, api.ErrInt}, {8, 0, 1 << 32, api.ErrInt}, {8, 0, math.MaxInt64, api.ErrInt},
		{8, 0, math.MinInt64, api.ErrArg}, {0, 0, 0, api.ErrArg}, {0, 255, 0, api.ErrArg},
	} {
		wantPutRefused(t, x.prefix, x.first, x.v, x.e)
	}
}

var wrongPrefixes = []int{math.MinInt, math.MinInt + 1, -256, -8, -1, 0, 9, 10, 16, 31, 32, 33, 63, 64, 65, 256 + 5, math.MaxInt}

func TestPutWrongPrefix(t *testing.T) {
	for _, prefix := range wrongPrefixes {
		for _, first := range []int{math.MinInt, -1, 0, 128, 256, math.MaxInt} {
			for _, v := range []int64{math.MinInt64, -1, 0, 31, greatest, greatest + 1, math.MaxInt64} {
				wantPutRefused(t, prefix, first, v, api.ErrArg)
			}
		}
	}
}

func TestPutEveryFirst(t *testing.T) {
	for prefix := 1; prefix <= 8; prefix++ {
		legal := map[int]bool{}
		for _, first := range uppers(prefix) {
			legal[first] = true
		}
		firsts := []int{math.MinInt, math.MaxInt, math.MaxInt - 255, 1 << 16}
		for first := -600; first < 900; first++ {
			firsts = append(firsts, first)
		}
		for _, first := range firsts {
			if !legal[first] {
				wantPutRefused(t, prefix, first, 0, api.ErrArg)
				wantPutRefused(t, prefix, first, greatest+1, api.ErrArg)
				continue
			}
			wantPut(t, prefix, first, 0, string([]byte{byte(first)}))
			wantPutRefused(t, prefix, first, -1, api.ErrArg)
			wantPutRefused(t, prefix, first, greatest+1, api.ErrInt)
		}
	}
}

func TestPutNumbers(t *testing.T) {
	for prefix := 1; prefix <= 8; prefix++ {
		for _, v := range numbers(prefix) {
			wantPut(t, prefix, 0, v, modelPut(prefix, 0, v))
			last := 256 - 1<<prefix
			wantPut(t, prefix, last, v, modelPut(prefix, last, v))
		}
		for _, first := range uppers(prefix) {
			for v := range int64(600) {
				wantPut(t, prefix, first, v, modelPut(prefix, first, v))
			}
		}
	}
}

func TestTakeTold(t *testing.T) {
	for _, x := range []struct {
		prefix int
		b      string
		v      int64
		n      int
	}{
		{5, "\x1f\x9a\x0a\x77", 1337, 3}, {5, "\xea", 10, 1}, {5, "\x1f\x9a\x8a\x00", 1337, 4},
		{5, "\x1f\x80\x80\x80\x80\x00", 31, 6}, {8, "\xff\x80\xfe\xff\xff\x07", 2147483647, 6},
		{1, "\x00", 0, 1}, {1, "\xfe\xff\xff", 0, 1}, {1, "\x01\x00", 1, 2}, {1, "\xff\x00\x80", 1, 2},
		{8, "\xfe", 254, 1}, {8, "\xff\x00", 255, 2}, {7, "\x7f\x00", 127, 2}, {7, "\xfe\x00", 126, 1},
		{5, "\x1f\x80\x00", 31, 3}, {5, "\x1f\x80\x80\x00", 31, 4}, {5, "\x1f\x80\x80\x80\x00", 31, 5}, // groups of 0
		{5, "\xff\x81\x80\x80\x80\x00\xff", 32, 6},
		{1, "\x01\xfe\xff\xff\xff\x07", 2147483647, 6},
	} {
		wantTake(t, x.prefix, x.b, x.v, x.n)
	}
}

func TestTakeRefused(t *testing.T) {
	for _, x := range []struct {
		prefix int
		b      string
		e      api.Errno
	}{
		{5, "", api.ErrShort}, {5, "\x1f", api.ErrShort}, {5, "\x1f\x9a", api.ErrShort}, {5, "\x1f\x80\x80\x80\x80", api.ErrShort},
		{5, "\x1f\x80\x80\x80\x80\x80", api.ErrInt}, {5, "\x1f\x80\x80\x80\x80\x80\x00", api.ErrInt},
		{5, "\x1f\x80\x80\x80\x80\x80\xff\xff", api.ErrInt},
		{8, "\xff\x81\xfe\xff\xff\x07", api.ErrInt}, {5, "\x1f\xff\xff\xff\xff\x7f", api.ErrInt}, {0, "", api.ErrArg},
		{5, "\xff\xff\xff\xff\xff", api.ErrShort},                                                // four groups: not too great yet
		{5, "\x1f\x80\x80\x80\x80\x08", api.ErrInt}, {1, "\x01\xff\xff\xff\xff\x07", api.ErrInt}, // one above the greatest
		{8, "\xff\x80\x80\x80\x80\x10", api.ErrInt}, // 2 to the power 32: its lower 32 bits alone are small
		{5, "\x1f\x80\x80\x80\x80\x10\x00", api.ErrInt},
	} {
		wantTakeRefused(t, x.prefix, x.b, x.e)
	}
}

func TestTakeWrongPrefix(t *testing.T) {
	for _, prefix := range wrongPrefixes {
		for _, b := range []string{"", "\x00", "\x0a", "\xff", "\xff\x00", "\xff\x80\x80\x80\x80\x80", "\xff\xff\xff\xff\xff\x7f"} {
			wantTakeRefused(t, prefix, b, api.ErrArg)
		}
	}
}

func TestTakeEveryShortOne(t *testing.T) {
	eachShort(func(prefix int, b string) { wantTakeAsModel(t, prefix, b) })
}

func TestTakeForms(t *testing.T) {
	eachForm(func(prefix int, b string) { wantTakeAsModel(t, prefix, b) })
}

// Around the greatest number the sum of the groups, not their count, decides.
func TestTakeGreatest(t *testing.T) {
	for prefix := 1; prefix <= 8; prefix++ {
		full := int64(1)<<prefix - 1
		for d := int64(-300); d <= 300; d++ {
			rest := greatest + d - full
			b := []byte{byte(full)}
			for i := range 5 {
				b = append(b, byte(rest>>(7*i)&0x7f|0x80))
			}
			b[5] -= 0x80
			if d > 0 {
				wantTakeRefused(t, prefix, string(b), api.ErrInt)
			} else {
				wantTake(t, prefix, string(b), greatest+d, 6)
			}
		}
	}
}

// Long texts are not looked at behind the number.
func TestTakeLong(t *testing.T) {
	for prefix := 1; prefix <= 8; prefix++ {
		for c := range 256 {
			wantTakeAsModel(t, prefix, strings.Repeat(string([]byte{byte(c)}), 5000))
		}
	}
}

func TestThereAndBack(t *testing.T) {
	behind := []string{"", "\x00", "\x7f", "\x80", "\xff", "\x00\x00\x00\x00\x00\x00", "\x80\x80\x80\x80\x80\x80\x00", "\xff\xff\xff\xff\xff\xff\xff", "\x1f\x9a\x0a"}
	for prefix := 1; prefix <= 8; prefix++ {
		for _, v := range numbers(prefix) {
			for _, x := range behind {
				back(t, prefix, 0, v, x)
				back(t, prefix, 256-1<<prefix, v, x)
			}
		}
		for _, first := range uppers(prefix) {
			for v := range int64(600) {
				back(t, prefix, first, v, "\xff")
			}
		}
	}
}

func TestLeast(t *testing.T) {
	taken := 0
	look := func(prefix int, b string) {
		if least(t, prefix, b) {
			taken++
		}
	}
	eachShort(look)
	eachForm(look)
	if taken < 100000 {
		t.Errorf("P2.3: only %d forms were taken", taken)
	}
}

// What the first byte's upper bits are changes nothing but themselves.
func TestLeastUpperBits(t *testing.T) {
	for prefix := 1; prefix <= 8; prefix++ {
		for _, v := range numbers(prefix) {
			plain, _ := pint.Put(prefix, 0, v)
			for _, first := range uppers(prefix) {
				b, e := pint.Put(prefix, first, v)
				if e != api.OK || b[1:] != plain[1:] || int(b[0]) != int(plain[0])+first {
					t.Errorf("P2.3: Put(%d, %d, %d) = % x, %d, with no upper bits % x", prefix, first, v, b, e, plain)
				}
			}
		}
	}
}

func TestJustItsOwnBytes(t *testing.T) {
	look := func(prefix int, b string) {
		ownBytes(t, prefix, b)
		ownBytes(t, prefix, b+"\x00\xff")
	}
	eachShort(look)
	eachForm(look)
}

// R4: nothing is kept from call to call, not of a refused one either.
func TestSameAgain(t *testing.T) {
	for range 3 {
		wantPutRefused(t, 5, 0, greatest+1, api.ErrInt)
		wantTakeRefused(t, 5, "\x1f\x9a", api.ErrShort)
		wantTakeRefused(t, 5, "\x1f\xff\xff\xff\xff\xff", api.ErrInt)
		wantPut(t, 5, 0, 1337, "\x1f\x9a\x0a")
		wantTake(t, 5, "\x1f\x9a\x0a", 1337, 3)
	}
}

func FuzzTake(f *testing.F) {
	for _, b := range []string{"", "\x0a", "\x1f\x9a\x0a\x77", "\x1f\x80\x80\x80\x80\x00", "\xff\x80\xfe\xff\xff\x07", "\xff\x80\x80\x80\x80\x80"} {
		f.Add(5, b)
		f.Add(8, b)
		f.Add(0, b)
	}
	f.Fuzz(func(t *testing.T, prefix int, b string) {
		if prefix < 1 || prefix > 8 {
			wantTakeRefused(t, prefix, b, api.ErrArg)
			return
		}
		wantTakeAsModel(t, prefix, b)
		least(t, prefix, b)
		ownBytes(t, prefix, b)
	})
}

func FuzzPut(f *testing.F) {
	f.Add(5, 0, int64(1337))
	f.Add(8, 0, int64(greatest))
	f.Add(1, 254, int64(greatest+1))
	f.Add(9, 256, int64(-1))
	f.Fuzz(func(t *testing.T, prefix, first int, v int64) {
		if prefix < 1 || prefix > 8 || first < 0 || first > 255 || first%(1<<prefix) != 0 || v < 0 {
			wantPutRefused(t, prefix, first, v, api.ErrArg)
			return
		}
		if v > greatest {
			wantPutRefused(t, prefix, first, v, api.ErrInt)
			return
		}
		wantPut(t, prefix, first, v, modelPut(prefix, first, v))
		back(t, prefix, first, v, "\x80")
	})
}
