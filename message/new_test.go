package message_test

import (
	"fmt"
	"strings"
	"testing"

	"herald/api"
	"herald/lists"
)

// TestErrorsOfTheList: each ground that the field layer has, of both kinds.
func TestErrorsOfTheList(t *testing.T) {
	for _, c := range []struct {
		request bool
		l       []api.Field
		want    api.Errno
	}{
		{true, lists.Filled(someRequest(), 65), api.ErrLong},
		{false, lists.Filled(someResponse("200"), 65), api.ErrLong},
		{true, someRequest(p("Accept", "x")), api.ErrField},
		{true, someRequest(p("accept", "x\n")), api.ErrField},
		{true, someRequest(p("Content-Length", "5")), api.ErrField},
		{false, someResponse("200", p("", "x")), api.ErrField},
		{false, someResponse("200", p("accept", " x")), api.ErrField},
		{true, nil, api.ErrHead},
		{false, nil, api.ErrHead},
		{true, someRequest()[1:], api.ErrHead},
		{true, someRequest(p(":path", "/")), api.ErrHead},
		{true, someRequest(p("connection", "close")), api.ErrHead},
		{true, someRequest(p(":content-length", "5")), api.ErrHead},
		{true, someResponse("200"), api.ErrHead},
		{false, someRequest(), api.ErrHead},
		{false, someResponse("99"), api.ErrHead},
		{false, someResponse("600"), api.ErrHead},
		{false, someResponse("200", p("te", "gzip")), api.ErrHead},
		{false, someResponse("200", p(":status", "200")), api.ErrHead},
	} {
		for _, method := range []string{"", "GET", "HEAD", "a b\x00"} {
			wantNone(t, c.request, method, c.l, c.want)
		}
	}
}

// TestEveryStatus: those below 200 are refused, the others are taken, whatever the method.
func TestEveryStatus(t *testing.T) {
	for n := range 700 {
		for _, method := range []string{"GET", "HEAD"} {
			l := someResponse(fmt.Sprint(n))
			if n < 200 || n > 599 {
				wantNone(t, false, method, l, api.ErrHead)
				continue
			}
			b := begun(t, false, method, l)
			if r := b.m.Response(); r.Status != n {
				t.Errorf("P14.1: of the status %d: %s", n, lists.ShownResponse(r))
			}
		}
	}
}

// TestFirstGround: where several grounds hold, the first that the chapter names is told.
func TestFirstGround(t *testing.T) {
	wrong, twice := declares("x"), declares("5")
	wantNone(t, false, "GET", lists.Filled(someResponse("100", wrong, p("A", "b")), 65), api.ErrLong)
	wantNone(t, false, "GET", lists.Filled(someResponse("200", twice, twice), 65), api.ErrLong)
	wantNone(t, true, "GET", lists.Filled(someRequest(twice, twice), 65), api.ErrLong)
	wantNone(t, false, "GET", someResponse("100", wrong, p("A", "b")), api.ErrField)
	wantNone(t, false, "GET", someResponse("200", twice, twice, p("A", "b")), api.ErrField)
	wantNone(t, false, "GET", someResponse("200", declares("5 ")), api.ErrField)
	wantNone(t, false, "GET", someResponse("200", twice, declares("\t5")), api.ErrField)
	wantNone(t, true, "GET", someRequest(wrong, p("A", "b")), api.ErrField)
	wantNone(t, true, "GET", someRequest(twice, twice, p("upgrade", "b")), api.ErrHead)
	for _, status := range []string{"100", "199", "99", "600"} {
		wantNone(t, false, "GET", someResponse(status, wrong), api.ErrHead)
		wantNone(t, false, "HEAD", someResponse(status, twice, twice), api.ErrHead)
	}
	wantNone(t, false, "GET", someResponse("200", wrong, wrong), api.ErrBody)
}

// TestNothingDeclared: names that only look like the one are plain fields.
func TestNothingDeclared(t *testing.T) {
	for _, f := range []api.Field{p("content-lengt", "1"), p("content-length-", "1"), p("content_length", "1"), p("x-content-length", "x"), p("content-type", "2"), p("length", "-1")} {
		for _, text := range []string{"", "a", "abc"} {
			b := response(t, "200", f, f)
			b.wantData(t, text, true, api.OK)
			b = begun(t, true, "", someRequest(f, f))
			b.wantData(t, text, true, api.OK)
		}
	}
}

// TestDeclaredOnce: once is right, at every place behind the pseudo fields; twice
// or more often is wrong, though the values be alike.
func TestDeclaredOnce(t *testing.T) {
	for _, c := range []struct {
		request bool
		head    []api.Field
	}{{true, someRequest()}, {false, someResponse("200")}} {
		full := lists.Filled(c.head, 63)
		for at := len(c.head); at <= len(full); at++ {
			for _, f := range []api.Field{declares("3"), never("content-length", "3")} {
				l := lists.Put(full, at, f)
				b := begun(t, c.request, "", l)
				b.wantData(t, "abc", true, api.OK)
				begun(t, c.request, "", l).wantData(t, "abcd", true, api.ErrBody)
				begun(t, c.request, "", l).wantData(t, "ab", true, api.ErrBody)
			}
		}
		short := lists.Filled(c.head, 61)
		for _, other := range []string{"3", "4", "0", "x", "", "03"} {
			for at := len(c.head); at <= len(short); at++ {
				wantNone(t, c.request, "", lists.Put(lists.Put(short, at, declares("3")), len(c.head), declares(other)), api.ErrBody)
				wantNone(t, c.request, "", lists.Joined(lists.Put(short, at, declares("3")), declares(other)), api.ErrBody)
				wantNone(t, c.request, "", lists.Joined(lists.Put(short, at, declares(other)), declares("3"), declares("3")), api.ErrBody)
			}
		}
	}
	var many []api.Field
	for range 60 {
		many = append(many, declares("3"))
	}
	wantNone(t, true, "", someRequest(many...), api.ErrBody)
	wantNone(t, true, "", someRequest(append(many, declares("3"))...), api.ErrLong)
}

// TestLengthTexts: the edges of the value, of both kinds, bodiless too.
func TestLengthTexts(t *testing.T) {
	right := []string{"0", "1", "9", "00", "05", "0000000000", "0000000001", "1000000000", "1999999999", "2147483639", "2147483646", "2147483647", "0999999999", "999999999", "65536", "65537", "0000065536"}
	wrong := []string{
		"", "-", "+", "-0", "-1", "+0", "+5", "5-", "5+", "0x5", "0b1", "0o7", "1_0", "_1", "1_", "5a", "a5", "a", "5.0", "5.", ".5", "1e3", "5,5", "5, 5", "5 5", "5\t5", "5;", "\"5\"",
		"2147483648", "2147483650", "2147483657", "2147484647", "2200000000", "3000000000", "4294967295", "4294967296", "4294967301", "9999999999",
		"00000000000", "00000000005", "02147483647", "12345678901", "18446744073709551615", "18446744073709551616", "18446744073709551621", strings.Repeat("0", 20) + "5", strings.Repeat("1", 4096),
		"\u0665", "\uff15", "\xb5", "5\x7f", "\x01", "\u00b2", "nil", "-2147483649",
	}
	heads := func(s string) []*both {
		f := declares(s)
		return []*both{
			newBoth(t, true, "HEAD", someRequest(f)), newBoth(t, false, "GET", someResponse("200", f)), newBoth(t, false, "HEAD", someResponse("200", f)),
			newBoth(t, false, "GET", someResponse("204", f)), newBoth(t, false, "GET", someResponse("304", f)),
		}
	}
	for _, s := range right {
		for i, b := range heads(s) {
			if b == nil {
				t.Errorf("P14.1: content-length %s of head %d is refused", lists.ShownText(s), i)
			}
		}
	}
	for _, s := range wrong {
		for i, b := range heads(s) {
			if b != nil {
				t.Errorf("P14.1: content-length %s of head %d is taken", lists.ShownText(s), i)
			}
		}
		wantNone(t, false, "GET", someResponse("200", declares(s)), api.ErrBody)
	}
}

// TestLengthBytes: every byte at every place of a value of 1 to 3, of 10 and of 11 bytes.
func TestLengthBytes(t *testing.T) {
	for _, base := range []string{"1", "12", "123", "1234567890", "12345678901"} {
		for at := range len(base) {
			for c := range 256 {
				s := base[:at] + string([]byte{byte(c)}) + base[at+1:]
				newBoth(t, true, "", someRequest(declares(s)))
				newBoth(t, false, "GET", someResponse("200", declares(s)))
			}
		}
	}
	for c := range 256 {
		for d := range 256 {
			newBoth(t, false, "GET", someResponse("200", declares(string([]byte{byte(c), byte(d)}))))
		}
	}
}

// TestEveryLength: each number says how long, written with zeros ahead too.
func TestEveryLength(t *testing.T) {
	for n := range 1200 {
		for _, form := range []string{"%d", "%05d", "%010d"} {
			s := fmt.Sprintf(form, n)
			b := response(t, "200", declares(s))
			b.wantData(t, strings.Repeat("a", n), true, api.OK)
			if n > 0 {
				response(t, "200", declares(s)).wantData(t, strings.Repeat("a", n-1), true, api.ErrBody)
			}
			response(t, "200", declares(s)).wantData(t, strings.Repeat("a", n+1), false, api.ErrBody)
		}
	}
}

// TestMethods: a response to HEAD, and to no other method, is bodiless.
func TestMethods(t *testing.T) {
	for _, more := range [][]api.Field{nil, {declares("0")}, {declares("1")}, {declares("70000")}} {
		l := someResponse("200", more...)
		begun(t, false, "HEAD", l).wantEnd(t, api.OK)
		b := begun(t, false, "HEAD", l)
		b.wantData(t, "", false, api.OK)
		b.wantData(t, "", true, api.OK)
		b.wantWhole(t, true, "")
		begun(t, false, "HEAD", l).wantData(t, "a", true, api.ErrBody)
		begun(t, false, "HEAD", l).wantData(t, "a", false, api.ErrBody)
	}
	for _, method := range []string{"", "head", "Head", "HEADS", "HEA", " HEAD", "HEAD ", "HEAD\x00", "\x00HEAD", "HE AD", "GET", "POST", "OPTIONS", "\u041dEAD", strings.Repeat("HEAD", 100)} {
		begun(t, false, method, someResponse("200", declares("1"))).wantData(t, "a", true, api.OK)
		begun(t, false, method, someResponse("200", declares("1"))).wantEnd(t, api.ErrBody)
		begun(t, false, method, someResponse("200")).wantData(t, "a", true, api.OK)
	}
}

// TestBodilessStatus: 204 and 304, and no other status, whatever is declared.
func TestBodilessStatus(t *testing.T) {
	for n := 200; n <= 599; n++ {
		for _, method := range []string{"GET", "HEAD"} {
			status := fmt.Sprint(n)
			without := n == 204 || n == 304 || method == "HEAD"
			for _, length := range []string{"", "0", "1", "2"} {
				l := someResponse(status)
				if length != "" {
					l = someResponse(status, declares(length))
				}
				takesOne := begun(t, false, method, l).Data(t, "a", true) == api.OK
				takesNone := begun(t, false, method, l).End(t) == api.OK
				if takesOne != (!without && (length == "" || length == "1")) {
					t.Errorf("P14.3: %s to %s, length %q: taken with one byte: %v", status, method, length, takesOne)
				}
				if takesNone != (without || length == "" || length == "0") {
					t.Errorf("P14.3: %s to %s, length %q: taken without bytes: %v", status, method, length, takesNone)
				}
			}
		}
	}
}

// TestRequestOfHead: what a request's method is, told either way, makes it no bodiless message.
func TestRequestOfHead(t *testing.T) {
	for _, method := range []string{"HEAD", "GET", ""} {
		for _, own := range []string{"HEAD", "GET", "POST"} {
			l := someRequest()
			l[0].Value = own
			begun(t, true, method, l).wantData(t, "abc", true, api.OK)
			begun(t, true, method, l).wantEnd(t, api.OK)
			l = lists.Joined(l, declares("3"))
			b := begun(t, true, method, l)
			b.wantData(t, "abc", true, api.OK)
			b.wantWhole(t, true, "abc")
			begun(t, true, method, l).wantEnd(t, api.ErrBody)
			begun(t, true, method, l).wantData(t, "abcd", false, api.ErrBody)
		}
	}
}

// TestOtherKindIsZero: a request tells no response, and the other way about, at any time.
func TestOtherKindIsZero(t *testing.T) {
	for _, end := range []func(*both){
		func(*both) {},
		func(b *both) { b.wantData(t, "ab", false, api.OK) },
		func(b *both) { b.wantData(t, "abc", true, api.OK) },
		func(b *both) { b.wantData(t, "abcd", true, api.ErrBody) },
	} {
		q := begun(t, true, "", someRequest(declares("3"), p("x", "y")))
		end(q)
		if r := q.m.Response(); !lists.SameResponse(r, api.Response{}) {
			t.Errorf("P14.1: %v: Response() = %s", q.done, lists.ShownResponse(r))
		}
		if r := q.m.Request(); r.Path != "/p" || !lists.Same(r.Fields, lists.Of("content-length", "3", "x", "y")) {
			t.Errorf("P14.1: %v: Request() = %s", q.done, lists.ShownRequest(r))
		}
		s := response(t, "404", declares("3"), p("x", "y"))
		end(s)
		if r := s.m.Request(); !lists.SameRequest(r, api.Request{}) {
			t.Errorf("P14.1: %v: Request() = %s", s.done, lists.ShownRequest(r))
		}
		if r := s.m.Response(); r.Status != 404 || !lists.Same(r.Fields, lists.Of("content-length", "3", "x", "y")) {
			t.Errorf("P14.1: %v: Response() = %s", s.done, lists.ShownResponse(r))
		}
	}
}
