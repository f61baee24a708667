package field_test

import (
	"fmt"
	"strings"
	"testing"

	"herald/api"
	"herald/field"
	"herald/lists"
)

// placed are texts with a byte by itself, first, in the middle and last.
func placed(b byte) []string {
	s := string([]byte{b})
	return []string{s, s + "aa", "a" + s + "a", "aa" + s}
}

// TestEveryByteOfNames: P13.1: Name, names and pseudo names in lists.
func TestEveryByteOfNames(t *testing.T) {
	taken := 0
	for b := range 256 {
		for _, s := range placed(byte(b)) {
			right := strings.IndexByte(letters+digits+marks, byte(b)) >= 0
			wantName(t, s, right)
			switch {
			case right:
				taken++
				wantRequest(t, lists.Joined(someRequest()[:4], p(s, "v")), api.Request{Method: "GET", Scheme: "https", Authority: "a.test", Path: "/p", Fields: lists.Of(s, "v")})
				wantResponse(t, lists.Of(":status", "200", s, "v"), api.Response{Status: 200, Fields: lists.Of(s, "v")})
				wantNoRequest(t, lists.Put(someRequest(), 0, p(":"+s, "v")), headError)
				wantNoResponse(t, lists.Put(someResponse(), 1, p(":"+s, "v")), headError)
			case s == ":aa": // a pseudo name, though an unknown one
				wantNoRequest(t, lists.Joined(someRequest(), p(s, "v")), headError)
				wantNoResponse(t, lists.Joined(someResponse(), p(s, "v")), headError)
			default:
				wantNoRequest(t, lists.Joined(someRequest(), p(s, "v")), fieldError)
				wantNoResponse(t, lists.Joined(someResponse(), p(s, "v")), fieldError)
				wantNoRequest(t, lists.Put(someRequest(), 0, p(":"+s, "v")), fieldError)
				wantNoResponse(t, lists.Put(someResponse(), 1, p(":"+s, "v")), fieldError)
			}
		}
	}
	if taken != 4*51 {
		t.Errorf("%d of the names were tried as right ones, want %d", taken, 4*51)
	}
}

// TestEveryByteOfValues: P13.1, of plain fields and of pseudo fields.
func TestEveryByteOfValues(t *testing.T) {
	taken := 0
	for b := range 256 {
		for i, s := range placed(byte(b)) {
			blank := b == 32 || b == 9
			right := b != 0 && b != 10 && b != 13 && (!blank || i == 2)
			wantValue(t, s, right)
			if right {
				taken++
				wantRequest(t, lists.Joined(someRequest()[:4], p("a", s)), api.Request{Method: "GET", Scheme: "https", Authority: "a.test", Path: "/p", Fields: lists.Of("a", s)})
				wantResponse(t, lists.Of(":status", "200", "a", s), api.Response{Status: 200, Fields: lists.Of("a", s)})
				continue
			}
			wantNoRequest(t, lists.Joined(someRequest(), p("a", s)), fieldError)
			wantNoResponse(t, lists.Joined(someResponse(), p("a", s)), fieldError)
			for at := range 4 {
				wantNoRequest(t, lists.Instead(someRequest(), at, p(someRequest()[at].Name, s)), fieldError)
			}
			wantNoRequest(t, lists.Put(someRequest(), 0, p(":unknown", s)), fieldError)
			wantNoResponse(t, lists.Of(":status", s), fieldError)
		}
	}
	if taken != 3*251+253 {
		t.Errorf("%d of the values were tried as right ones, want %d", taken, 3*251+253)
	}
}

// TestEveryByteOfHeads: P13.1: methods, schemes, authorities and paths, read and written.
func TestEveryByteOfHeads(t *testing.T) {
	for at, c := range []struct {
		ahead, first, later string // what stands ahead of the text, and which bytes it may begin and go on with
	}{
		{"", letters + capitals + digits + marks, letters + capitals + digits + marks},
		{"", letters, letters + digits + "+-."},
		{"", visible, visible},
		{"", "/", visible},
		{"/", visible, visible},
	} {
		at = min(at, 3)
		name := someRequest()[at].Name
		for b := range 256 {
			for i, s := range placed(byte(b)) {
				s, may := c.ahead+s, c.later
				if i < 2 {
					may = c.first
				}
				want := api.OK
				switch {
				case !modelValue(s):
					want = fieldError
				case name == ":path" && s[0] != '/' || strings.IndexByte(may, byte(b)) < 0:
					want = headError
				}
				wantHead(t, at, s, want)
			}
		}
	}
}

// wantHead reads and writes a request with a text as the value of a pseudo field.
func wantHead(t *testing.T, at int, s string, want api.Errno) {
	t.Helper()
	l := lists.Instead(someRequest(), at, p(someRequest()[at].Name, s))
	if _, e := field.ReadRequest(l); e != want {
		t.Errorf("P13.1: ReadRequest(%s): %d, want %d", lists.Shown(l), e, want)
	}
	wantRead(t, l)
	q := api.Request{Method: l[0].Value, Scheme: l[1].Value, Authority: l[2].Value, Path: l[3].Value, Fields: l[4:], Body: "b"}
	wantWriteRequest(t, q)
}

// TestPairsOfBytes: P13.1: all texts of two bytes.
func TestPairsOfBytes(t *testing.T) {
	for a := range 256 {
		for b := range 256 {
			s := string([]byte{byte(a), byte(b)})
			wantName(t, s, modelName(s))
			wantValue(t, s, modelValue(s))
		}
	}
}

// TestRunes: P13.1: no letter of more than one byte is of a name or of a head, whatever its low bits are; every one is of a value.
func TestRunes(t *testing.T) {
	for r := rune(128); r <= 0x10ffff; r++ {
		s := string(r)
		wantName(t, s, false)
		wantName(t, "a"+s+"a", false)
		wantValue(t, s, true)
		if t.Failed() {
			return
		}
	}
	for r := rune(128); r < 0x1800; r++ {
		for at := range 4 {
			s := "a" + string(r)
			if at == 3 {
				s = "/" + string(r)
			}
			if _, e := field.ReadRequest(lists.Instead(someRequest(), at, p(someRequest()[at].Name, s))); e != headError {
				t.Fatalf("P13.1: with %s %q: %d", someRequest()[at].Name, s, e)
			}
		}
	}
}

// TestLengths: P13.1: 0, 1, the greatest and one above it.
func TestLengths(t *testing.T) {
	long := strings.Repeat("a", 1<<20)
	for _, n := range []int{0, 1, 2, 63, 64, 65, 66, 128, 256, 256 + 64, 4096, 1<<16 + 1, 1 << 20} {
		fits := n >= 1 && n <= 64
		wantName(t, long[:n], fits)
		want := headError
		switch {
		case n > 4096:
			want = fieldError
		case fits:
			want = api.OK
		}
		wantHead(t, 0, long[:n], want)
		wantHead(t, 1, long[:n], want)
		plainError, pseudoError := fieldError, fieldError
		if fits {
			plainError, pseudoError = api.OK, headError
		}
		if _, e := field.ReadResponse(lists.Of(":status", "200", long[:n], "v")); e != plainError {
			t.Errorf("P13.1: with a name of %d bytes: %d, want %d", n, e, plainError)
		}
		wantNoResponse(t, lists.Of(":status", "200", ":"+long[:n], "v"), pseudoError)
		wantNoRequest(t, lists.Joined(lists.Of(":"+long[:n], "v"), someRequest()...), pseudoError)
	}
	for _, n := range []int{0, 1, 2, 64, 65, 4095, 4096, 4097, 8192, 1<<16 + 1, 1 << 20} {
		fits := n <= 4096
		wantValue(t, long[:n], fits)
		want := api.OK
		if !fits {
			want = fieldError
		}
		if _, e := field.ReadResponse(lists.Of(":status", "200", "a", long[:n])); e != want {
			t.Errorf("P13.1: with a value of %d bytes: %d, want %d", n, e, want)
		}
		if n == 0 {
			want = headError
		}
		wantHead(t, 2, long[:n], want)
		if n > 0 {
			wantHead(t, 3, "/"+long[:n-1], want)
		}
	}
	wantHead(t, 3, "", headError)
}

// TestBlanksOfValues: P13.1: blanks and tabs within, and at the ends, of values of several bytes.
func TestBlanksOfValues(t *testing.T) {
	for _, s := range []string{"a  b", "a\t \tb", "\xa0a\xa0", "\x0ba", "a\x0c", "\x1f", "\x7f", "\u2003a\u2003", "\u0085", "a \xff", "\xff\tb"} {
		wantValue(t, s, true)
	}
	for _, s := range []string{" ", "\t", "  ", " \t ", "a  ", "\t\ta", "a \t", "\xff ", "\t\xff", "a\x00", "\x00a", "a\rb", "\r\n", "\xe4\xb8\n", "\xc3\r", "\xf0\x00"} {
		wantValue(t, s, false)
	}
	wantValue(t, " "+strings.Repeat("a", 4095), false)
	wantValue(t, "a"+strings.Repeat(" ", 4094)+"a", true)
	wantValue(t, "a"+strings.Repeat(" ", 4095), false)
	wantValue(t, strings.Repeat("a", 4095)+"\n", false)
	wantValue(t, "a"+strings.Repeat(" ", 4096), false)
}

// TestSchemes: P13.1: the first byte is a letter, whatever follows.
func TestSchemes(t *testing.T) {
	for _, s := range []string{"a", "http", "https", "a+", "a-", "a.", "a9", "z+-.0z", "h" + strings.Repeat("9", 63)} {
		wantHead(t, 1, s, api.OK)
	}
	for _, s := range []string{"", "9", "+", "-a", ".a", "9a", "Http", "htTp", "http:", "a_b", "a/b", "a~", "h" + strings.Repeat("9", 64)} {
		wantHead(t, 1, s, headError)
	}
}

// TestPaths: P13.1: the text * goes with OPTIONS alone, and by itself alone.
func TestPaths(t *testing.T) {
	for _, c := range []struct {
		method, path string
		want         api.Errno
	}{
		{"OPTIONS", "*", api.OK}, {"OPTIONS", "/", api.OK}, {"OPTIONS", "/*", api.OK},
		{"OPTIONS", "", headError}, {"OPTIONS", "**", headError}, {"OPTIONS", "*/", headError}, {"OPTIONS", "a", headError}, {"OPTIONS", "+", headError}, {"OPTIONS", "* ", fieldError},
		{"GET", "*", headError}, {"options", "*", headError}, {"OPTION", "*", headError}, {"OPTIONSS", "*", headError}, {"Options", "*", headError}, {"*", "*", headError}, {"", "*", headError},
		{"GET", "/*", api.OK}, {"GET", "//", api.OK}, {"GET", "/?#[]", api.OK}, {"GET", "http://a/", headError}, {"GET", "?", headError}, {"GET", "a/", headError},
	} {
		for _, pseudo := range orders(lists.Of(":method", c.method, ":scheme", "http", ":authority", "a", ":path", c.path)) {
			if _, e := field.ReadRequest(pseudo); e != c.want {
				t.Errorf("P13.1: ReadRequest(%s): %d, want %d", lists.Shown(pseudo), e, c.want)
			}
			wantRead(t, pseudo)
		}
		wantWriteRequest(t, api.Request{Method: c.method, Scheme: "http", Authority: "a", Path: c.path})
	}
}

// TestAuthorities: P13.1: an authority is any visible text, a path's form and others too.
func TestAuthorities(t *testing.T) {
	for _, s := range []string{"a", "A.TEST:80", "[::1]:443", "u@h", "/", "*", "\"<>\\^\x60{|}", "~"} {
		wantHead(t, 2, s, api.OK)
	}
	for _, s := range []string{"", "a b", "a\tb", "\x7f", "a\x1f", "\x80", "\u00e9"} {
		wantHead(t, 2, s, headError)
	}
}

// TestStatuses: P13.1: every number around the right ones, with and without zeros ahead.
func TestStatuses(t *testing.T) {
	taken := 0
	for n := -1100; n <= 6100; n++ {
		for _, form := range []string{"%d", "%03d", "%04d", "+%d", "0%d", "%d0"} {
			s := fmt.Sprintf(form, n)
			r, e := field.ReadResponse(lists.Of(":status", s, "a", "b"))
			if e == api.OK {
				taken++
				if len(s) != 3 || fmt.Sprint(r.Status) != s || r.Status < 100 || r.Status > 599 || !lists.Same(r.Fields, lists.Of("a", "b")) {
					t.Errorf("P13.1: the status %q is read as %s", s, lists.ShownResponse(r))
				}
			}
			wantRead(t, lists.Of(":status", s, "a", "b"))
		}
	}
	// 500 by %d and as many by %03d, and 10 to 59 with a 0 behind.
	if taken != 500+500+50 {
		t.Errorf("P13.1: %d of the statuses are taken", taken)
	}
}

// TestStatusTexts: P13.1: every byte in the place of each digit, and texts that are no three digits.
func TestStatusTexts(t *testing.T) {
	for _, right := range []string{"100", "200", "555", "599"} {
		for at := range 3 {
			for b := range 256 {
				s := right[:at] + string([]byte{byte(b)}) + right[at+1:]
				wantRead(t, lists.Of(":status", s))
				_, e := field.ReadResponse(lists.Of(":status", s))
				if b >= '1' && b <= '5' && e != api.OK {
					t.Errorf("P13.1: the status %q: %d", s, e)
				}
				if (b < '0' || b > '9') && e != headError && modelValue(s) {
					t.Errorf("P13.1: the status %q: %d", s, e)
				}
			}
		}
	}
	for _, s := range []string{"", "2", "20", "2000", "20000000000000000000000", "200200", "-200", "2e2", "0x1", "0b1", "1_0", "20.", ".20", "2 0", "\u0662\u0660\u0660", "\uff12\uff10\uff10", "\u0662", "\u0967", "OK", "two", "18446744073709551816", "4294967496"} {
		wantNoResponse(t, lists.Of(":status", s), headError)
	}
	for _, s := range []string{" 200", "200 ", "20 ", "200\n", "\x00200", strings.Repeat("2", 4097)} {
		wantNoResponse(t, lists.Of(":status", s), fieldError)
	}
}
