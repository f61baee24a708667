package text_test

import (
	"math"
	"math/rand"
	"strings"
	"testing"
	"unsafe"

	"herald/api"
	"herald/huff"
	"herald/pint"
	"herald/text"
)

const greatest = 65536 // bytes that a text may have where it is put

var forms = []int{text.Plain, text.Coded, text.Shorter}

func wantPut(t *testing.T, s string, how int, want string) {
	t.Helper()
	if b, e := text.Put(s, how); b != want || e != api.OK {
		t.Errorf("P3.1: Put(%.40q of %d bytes, %d) = % .40x of %d bytes, %d, want % .40x of %d bytes", s, len(s), how, b, len(b), e, want, len(want))
	}
}

func wantPutRefused(t *testing.T, s string, how int, want api.Errno) {
	t.Helper()
	if b, e := text.Put(s, how); b != "" || e != want {
		t.Errorf("P3.1: Put(%.40q of %d bytes, %d) = % .40x, %d, want error %d", s, len(s), how, b, e, want)
	}
}

func wantTake(t *testing.T, b string, most int, s string, n int) {
	t.Helper()
	if x, k, e := text.Take(b, most); x != s || k != n || e != api.OK {
		t.Errorf("P3.1: Take(% .40x of %d bytes, %d) = %.40q of %d bytes, %d, %d, want %.40q of %d bytes, %d", b, len(b), most, x, len(x), k, e, s, len(s), n)
	}
}

func wantTakeRefused(t *testing.T, b string, most int, want api.Errno) {
	t.Helper()
	if x, k, e := text.Take(b, most); x != "" || k != 0 || e != want {
		t.Errorf("P3.1: Take(% .40x of %d bytes, %d) = %.40q, %d, %d, want error %d", b, len(b), most, x, k, e, want)
	}
}

func wantTakeAsModel(t *testing.T, b string, most int) {
	t.Helper()
	s, n, e := modelTake(b, most)
	if e != api.OK {
		wantTakeRefused(t, b, most, e)
		return
	}
	wantTake(t, b, most, s, n)
}

// back: P3.2, of one text in one form.
func back(t *testing.T, s string, how int, behind string) {
	t.Helper()
	b, e := text.Put(s, how)
	if e != api.OK {
		t.Errorf("P3.2: Put(%.40q of %d bytes, %d): error %d", s, len(s), how, e)
		return
	}
	for _, most := range []int{len(s), len(s) + 1, math.MaxInt} {
		if x, n, f := text.Take(b+behind, most); x != s || n != len(b) || f != api.OK {
			t.Errorf("P3.2: %.40q of %d bytes, form %d, with % .40x behind it and most %d is read back as %.40q, %d, %d", s, len(s), how, behind, most, x, n, f)
		}
	}
	for _, most := range []int{len(s) - 1, -1, math.MinInt} {
		if x, n, f := text.Take(b+behind, most); x != "" || n != 0 || f != api.ErrLong {
			t.Errorf("P3.2: %.40q of %d bytes, form %d, with most %d is read back as %.40q, %d, %d, want ErrLong", s, len(s), how, most, x, n, f)
		}
	}
}

// shorter: P3.3, of one text.
func shorter(t *testing.T, s string) {
	t.Helper()
	plain, e := text.Put(s, text.Plain)
	coded, f := text.Put(s, text.Coded)
	b, g := text.Put(s, text.Shorter)
	if e != api.OK || f != api.OK || g != api.OK {
		t.Errorf("P3.3: Put(%.40q of %d bytes): errors %d, %d, %d", s, len(s), e, f, g)
	}
	if len(b) != min(len(plain), len(coded)) || b != plain && b != coded {
		t.Errorf("P3.3: of %.40q of %d bytes the shorter form has %d bytes, the plain one %d, the coded one %d", s, len(s), len(b), len(plain), len(coded))
	}
}

// ownBytes: P3.4, of one list of bytes, if Take takes it.
func ownBytes(t *testing.T, b string, most int) {
	t.Helper()
	s, n, e := text.Take(b, most)
	if e != api.OK {
		return
	}
	if x, k, f := text.Take(b[:n], most); x != s || k != n || f != api.OK {
		t.Errorf("P3.4: Take(% .40x, %d) = %.40q, %d, but of just its bytes %.40q, %d, %d", b, most, s, n, x, k, f)
	}
	for cut := range n {
		if cut > 600 && cut < n-3 {
			continue
		}
		if x, k, f := text.Take(b[:cut], most); x != "" || k != 0 || f != api.ErrShort {
			t.Errorf("P3.4: Take of %d of the %d bytes of % .40x is %.40q, %d, %d, want ErrShort", cut, n, b, x, k, f)
		}
	}
}

// oneOfTwo: P3.5, of one list of bytes, if Take takes it and its length has
// pint's own bytes. It tells whether that is so.
func oneOfTwo(t *testing.T, b string) bool {
	t.Helper()
	s, n, e := text.Take(b, math.MaxInt)
	if e != api.OK || len(s) > greatest {
		return false
	}
	length, k, _ := pint.Take(7, b)
	if own, _ := pint.Put(7, int(b[0])/128*128, length); len(own) != k {
		return false
	}
	plain, _ := text.Put(s, text.Plain)
	coded, _ := text.Put(s, text.Coded)
	if b[:n] != plain && b[:n] != coded {
		t.Errorf("P3.5: % .40x is taken as %.40q, whose forms are % .40x and % .40x", b[:n], s, plain, coded)
	}
	return true
}

// longerLengths has every form of a length that pint takes: its own and those
// with groups of 0 behind, up to five bytes behind the first.
func longerLengths(upper, n int) []string {
	own := modelLength(upper, n)
	list := []string{own}
	if n < 127 {
		return list
	}
	for b := []byte(own); len(b) < 6; {
		b[len(b)-1] |= 0x80
		b = append(b, 0)
		list = append(list, string(b))
	}
	return list
}

// telling has texts at which the forms change: around the lengths of one and
// two bytes and of two and three, plain and coded, and what a generator makes.
func telling() []string {
	list := []string{"", "a", "X", "\x00", "\x0a", "\xff", "\x00\xff", "no-cache", "302", "www.example.com"}
	for _, c := range []string{"a", "e", "@", "X", "\x00", "\x0a", "\xff"} {
		bits := len(huff.Encode(strings.Repeat(c, 8))) // of one c: eight of them fill bytes
		for _, n := range []int{126, 127, 128, 127 + 127, 127 + 128, 127 + 129} {
			for d := -2; d <= 2; d++ {
				list = append(list, strings.Repeat(c, n+d), strings.Repeat(c, max(0, n*8/bits+d)))
			}
		}
	}
	g := rand.New(rand.NewSource(3))
	for range 300 {
		b := make([]byte, g.Intn(1<<g.Intn(10)))
		for i := range b {
			b[i] = byte(g.Intn(256))
			if g.Intn(8) > 0 {
				b[i] = byte('a' + g.Intn(26))
			}
		}
		list = append(list, string(b))
	}
	return list
}

// great has texts of as many bytes as may be put.
func great() []string {
	var list []string
	for _, c := range []string{"a", "X", "\x00", "\x0a", "\xff"} {
		list = append(list, strings.Repeat(c, greatest), strings.Repeat(c, greatest-1))
	}
	return list
}

// eachBytes gives every list of up to two bytes, every one of three whose first
// says that two follow, and lists of up to five telling bytes behind the first.
func eachBytes(do func(b string)) {
	do("")
	for c := range 256 {
		do(string([]byte{byte(c)}))
		for d := range 256 {
			do(string([]byte{byte(c), byte(d)}))
			do(string([]byte{0x82, byte(c), byte(d)}))
			do(string([]byte{0x02, byte(c), byte(d)}))
		}
	}
	pieces := []string{"\x00", "\x07", "\x1f", "\x7f", "\x80", "\xff"}
	rests := []string{""}
	for at := 0; len(rests[at]) < 5; at++ {
		for _, c := range pieces {
			rests = append(rests, rests[at]+c)
		}
	}
	for _, first := range []string{"\x00", "\x01", "\x03", "\x04", "\x7e", "\x7f", "\x80", "\x81", "\x83", "\x84", "\xfe", "\xff"} {
		for _, rest := range rests {
			do(first + rest)
		}
	}
}

func TestPutTold(t *testing.T) {
	at := strings.Repeat("@", 128)
	x := strings.Repeat("X", greatest)
	for _, c := range []struct {
		s     string
		how   int
		bytes string
	}{
		{"a", text.Plain, "\x01\x61"}, {"a", text.Coded, "\x81\x1f"}, {"a", text.Shorter, "\x01\x61"},
		{"", text.Plain, "\x00"}, {"", text.Coded, "\x80"}, {"", text.Shorter, "\x00"},
		{"www.example.com", text.Shorter, "\x8c\xf1\xe3\xc2\xe5\xf2\x3a\x6b\xa0\xab\x90\xf4\xff"},
		{"www.example.com", text.Plain, "\x0fwww.example.com"},
		{at[:126], text.Plain, "\x7e" + at[:126]}, {at[:127], text.Plain, "\x7f\x00" + at[:127]}, {at, text.Plain, "\x7f\x01" + at},
		{"X", text.Coded, "\x81\xfc"}, {"X", text.Shorter, "\x01X"}, // as many bytes each
		{"aa", text.Shorter, "\x02aa"}, {"aaa", text.Shorter, "\x82\x18\xc7"}, // and one fewer
		{"\x00", text.Coded, "\x82\xff\xc7"}, {"\x00", text.Shorter, "\x01\x00"}, // one more
		{x[:126], text.Coded, "\xfe" + strings.Repeat("\xfc", 126)}, {x[:126], text.Shorter, "\x7e" + x[:126]},
		{x[:127], text.Coded, "\xff\x00" + strings.Repeat("\xfc", 127)}, {x[:127], text.Shorter, "\x7f\x00" + x[:127]},
		{x[:128], text.Coded, "\xff\x01" + strings.Repeat("\xfc", 128)}, {x[:128], text.Shorter, "\x7f\x01" + x[:128]},
		{x, text.Plain, "\x7f\x81\xff\x03" + x}, {x, text.Coded, "\xff\x81\xff\x03" + strings.Repeat("\xfc", greatest)},
		{x, text.Shorter, "\x7f\x81\xff\x03" + x},
	} {
		wantPut(t, c.s, c.how, c.bytes)
	}
}

func TestPutRefused(t *testing.T) {
	long := strings.Repeat("a", greatest+1)
	for _, how := range []int{3, -1, 4, 5, -2, 128, 256, 1 << 32, math.MaxInt, math.MinInt} {
		wantPutRefused(t, "", how, api.ErrArg)
		wantPutRefused(t, "a", how, api.ErrArg)
		wantPutRefused(t, long[:greatest], how, api.ErrArg)
		wantPutRefused(t, long, how, api.ErrArg) // ahead of ErrLong
	}
	for _, how := range forms {
		wantPutRefused(t, long, how, api.ErrLong) // the code alone has few enough bytes
		wantPutRefused(t, long+long, how, api.ErrLong)
		wantPutRefused(t, strings.Repeat("\xff", greatest+1), how, api.ErrLong)
	}
}

func TestPutTexts(t *testing.T) {
	for _, s := range append(telling(), great()...) {
		for _, how := range forms {
			wantPut(t, s, how, modelPut(s, how))
		}
	}
}

func TestTakeTold(t *testing.T) {
	at := strings.Repeat("@", 127)
	for _, c := range []struct {
		b    string
		most int
		s    string
		n    int
	}{
		{"\x01\x61\x62", 1, "a", 2}, {"\x81\x1f", 1, "a", 2}, {"\x00", 0, "", 1}, {"\x80", 0, "", 1},
		{"\x7f\x80\x00" + at, 127, at, 130}, {"\x7f\x00" + at, 127, at, 129}, {"\x7e" + at, 126, at[:126], 127},
		{"\x00\xff\xff", 5, "", 1}, {"\x80\x00", 5, "", 1}, {"\x02\x81\x1f", 2, "\x81\x1f", 3},
		{"\x82\x64\x02", 3, "302", 3}, {"\x01\x61", math.MaxInt, "a", 2},
	} {
		wantTake(t, c.b, c.most, c.s, c.n)
	}
}

func TestTakeRefused(t *testing.T) {
	at := strings.Repeat("@", 127)
	for _, c := range []struct {
		b    string
		most int
		e    api.Errno
	}{
		{"\x00", -1, api.ErrLong}, {"\x80", -1, api.ErrLong}, {"\x01\x61", 0, api.ErrLong}, {"\x81\x1f", 0, api.ErrLong},
		{"", 5, api.ErrShort}, {"\x02\x61", 5, api.ErrShort}, {"\x82\x1f", 5, api.ErrShort}, {"\x7f", 5, api.ErrShort},
		{"\x7f\xff\xff\xff\xff\xff", 5, api.ErrInt}, {"\x81\x18", 5, api.ErrHuff}, {"\x81\xff", 5, api.ErrHuff},
		{"\x82\x18\x00", 0, api.ErrHuff}, {"\x02\x61", 0, api.ErrShort},
		{"", -1, api.ErrShort}, {"\x7f\xff\xff\xff\xff\xff", -1, api.ErrInt}, // most is looked at last
		{"\x82\x64\x02", 2, api.ErrLong}, {"\x02\x61\x61", 1, api.ErrLong}, // the text counts, not its code
		{"\x82\xff", -1, api.ErrShort}, {"\x81\xff", -1, api.ErrHuff}, // the bytes' number comes ahead of their code
		{"\x7f\x00" + at[1:], 127, api.ErrShort}, {"\xff\x00" + at[1:], 127, api.ErrShort},
		{"\x7f\x80\xff\xff\xff\x07" + at, 127, api.ErrShort}, {"\x7f\x81\xff\xff\xff\x07" + at, 127, api.ErrInt}, // the greatest length, and one more
		{"\xff\x80\xff\xff\xff\x07" + at, 127, api.ErrShort}, {"\xff\x81\xff\xff\xff\x07" + at, 127, api.ErrInt},
	} {
		wantTakeRefused(t, c.b, c.most, c.e)
	}
}

func TestTakeBytes(t *testing.T) {
	eachBytes(func(b string) {
		for _, most := range []int{-1, 0, 1, 2, 3, 5} {
			wantTakeAsModel(t, b, most)
		}
	})
}

// What limits Put doesn't limit Take: it goes by most alone.
func TestTakeLong(t *testing.T) {
	for _, s := range []string{strings.Repeat("a", greatest+1), strings.Repeat("\xff", 3*greatest)} {
		for _, b := range []string{modelPlain(s), modelCoded(s)} {
			wantTake(t, b, len(s), s, len(b))
			wantTakeRefused(t, b, len(s)-1, api.ErrLong)
			wantTakeRefused(t, b[:len(b)-1], len(s), api.ErrShort)
		}
	}
}

func TestThereAndBack(t *testing.T) {
	for _, s := range telling() {
		for _, how := range forms {
			for _, behind := range []string{"", "\x00", "\x7f", "\x80", "\xff", "\xff\xff\xff\xff", "\x01\x61", s} {
				back(t, s, how, behind)
			}
		}
	}
	for _, s := range great() {
		for _, how := range forms {
			back(t, s, how, "\xff")
		}
	}
}

func TestEveryByteThereAndBack(t *testing.T) {
	for c := range 256 {
		for d := range 256 {
			s := string([]byte{byte(c), byte(d)})
			for _, how := range forms {
				back(t, s[:1], how, s)
				back(t, s, how, "\xff")
			}
		}
	}
}

func TestShorter(t *testing.T) {
	for _, s := range append(telling(), great()...) {
		shorter(t, s)
	}
	for c := range 256 {
		for n := range 300 {
			shorter(t, strings.Repeat(string([]byte{byte(c)}), n))
		}
	}
}

func TestJustItsOwnBytes(t *testing.T) {
	eachBytes(func(b string) { ownBytes(t, b, 5) })
	for _, s := range append(telling(), great()...) {
		for _, how := range forms {
			b, _ := text.Put(s, how)
			ownBytes(t, b+"\x00\xff", len(s))
		}
	}
}

func TestLongerLengths(t *testing.T) {
	for _, s := range append(telling(), great()...) {
		c := huff.Encode(s)
		for _, length := range longerLengths(0, len(s)) {
			wantTake(t, length+s+"\xff", len(s), s, len(length)+len(s))
			wantTakeRefused(t, length+s, len(s)-1, api.ErrLong)
		}
		for _, length := range longerLengths(128, len(c)) {
			wantTake(t, length+c+"\xff", len(s), s, len(length)+len(c))
			wantTakeRefused(t, length+c, len(s)-1, api.ErrLong)
		}
	}
}

func TestTwoForms(t *testing.T) {
	taken := 0
	eachBytes(func(b string) {
		if oneOfTwo(t, b) {
			taken++
		}
	})
	if taken < 60000 {
		t.Errorf("P3.5: only %d lists of bytes were taken", taken)
	}
	for _, s := range telling() {
		for _, b := range []string{modelPlain(s), modelCoded(s)} {
			if !oneOfTwo(t, b+"\x00") {
				t.Errorf("P3.5: % .40x is not taken", b)
			}
		}
	}
}

// within tells whether s stands in b's memory.
func within(s, b string) bool {
	at := uintptr(unsafe.Pointer(unsafe.StringData(s)))
	begin := uintptr(unsafe.Pointer(unsafe.StringData(b)))
	return begin <= at && at < begin+uintptr(len(b))
}

// R3: a short text doesn't hold on to the whole of the bytes that it came in.
func TestNewMemory(t *testing.T) {
	s := strings.Repeat("X", 200)
	for _, how := range forms {
		b, _ := text.Put(s, how)
		if within(b, s) {
			t.Errorf("R3: Put's form %d shares memory with its text", how)
		}
		if x, _, _ := text.Take(b, len(s)); within(x, b) {
			t.Errorf("R3: Take's text shares memory with its form %d", how)
		}
	}
}

// R4: nothing is kept from call to call, not of a refused one either.
func TestSameAgain(t *testing.T) {
	for range 3 {
		wantPutRefused(t, "a", 3, api.ErrArg)
		wantTakeRefused(t, "\x02\x61", 5, api.ErrShort)
		wantTakeRefused(t, "\x81\x18", 5, api.ErrHuff)
		wantTakeRefused(t, "\x01\x61", 0, api.ErrLong)
		wantPut(t, "aaa", text.Shorter, "\x82\x18\xc7")
		wantTake(t, "\x82\x18\xc7", 3, "aaa", 3)
	}
}

func FuzzPut(f *testing.F) {
	for _, s := range []string{"", "a", "X", "\x00\xff", "www.example.com"} {
		for how := -1; how <= 3; how++ {
			f.Add(s, how)
		}
	}
	f.Fuzz(func(t *testing.T, s string, how int) {
		if how < text.Plain || how > text.Shorter {
			wantPutRefused(t, s, how, api.ErrArg)
			return
		}
		if len(s) > greatest {
			wantPutRefused(t, s, how, api.ErrLong)
			return
		}
		wantPut(t, s, how, modelPut(s, how))
		back(t, s, how, "\x80")
		shorter(t, s)
	})
}

func FuzzTake(f *testing.F) {
	for _, b := range []string{"", "\x01\x61\x62", "\x82\x64\x02", "\x82\x18\x00", "\x7f\x80\x00", "\xff\xff\xff\xff\xff\xff"} {
		f.Add(b, 5)
		f.Add(b, 0)
		f.Add(b, -1)
	}
	f.Fuzz(func(t *testing.T, b string, most int) {
		wantTakeAsModel(t, b, most)
		ownBytes(t, b, most)
		oneOfTwo(t, b)
	})
}
