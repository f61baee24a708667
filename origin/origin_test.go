package origin_test

import (
	"fmt"
	"slices"
	"strconv"
	"strings"
	"testing"

	"herald/api"
	"herald/lists"
	"herald/origin"
)

// shown is origins as an error tells them.
func shown(l ...api.Origin) string {
	var all []string
	for _, o := range l {
		all = append(all, fmt.Sprintf("{%q %q %d}", o.Scheme, o.Host, o.Port))
	}
	return strings.Join(all, " ")
}

// holdParse holds Parse against the model, and what it tells to P15.3; whether it
// told an origin.
func holdParse(t *testing.T, text string) bool {
	t.Helper()
	o, e := origin.Parse(text)
	if want, wantError := modelParse(text); o != want || e != wantError {
		t.Errorf("P15.1: Parse(%q) = %v, %d, want %v, %d", text, o, e, want, wantError)
		return false
	}
	if e != api.OK {
		return false
	}
	printed, e := origin.Print(o)
	plain := inSmallLetters(text)
	if want := strings.TrimSuffix(plain, ":"+strconv.Itoa(usualPorts[o.Scheme])); printed != want || e != api.OK {
		t.Errorf("P15.3: Parse(%q) is %v, Print of it %q, %d, want %q", text, o, printed, e, want)
	}
	return true
}

func wantParse(t *testing.T, text string, want api.Origin) {
	t.Helper()
	if o, e := origin.Parse(text); o != want || e != api.OK {
		t.Errorf("P15.1: Parse(%q) = %v, %d, want %v", text, o, e, want)
	}
	holdParse(t, text)
}

func wantNoParse(t *testing.T, text string) {
	t.Helper()
	if o, e := origin.Parse(text); o != (api.Origin{}) || e != originError {
		t.Errorf("P15.1: Parse(%q) = %v, %d, want ErrOrigin", text, o, e)
	}
	holdParse(t, text)
}

// holdPrint holds Print against the model, and what it tells to P15.3; whether it
// told a text.
func holdPrint(t *testing.T, o api.Origin) bool {
	t.Helper()
	s, e := origin.Print(o)
	if want, wantError := modelPrint(o); s != want || e != wantError {
		t.Errorf("P15.2: Print(%s) = %q, %d, want %q, %d", shown(o), s, e, want, wantError)
		return false
	}
	if e != api.OK {
		return false
	}
	if back, e := origin.Parse(s); back != o || e != api.OK {
		t.Errorf("P15.3: Print(%v) is %q, Parse of it %v, %d", o, s, back, e)
	}
	return true
}

func wantPrint(t *testing.T, o api.Origin, want string) {
	t.Helper()
	if s, e := origin.Print(o); s != want || e != api.OK {
		t.Errorf("P15.2: Print(%v) = %q, %d, want %q", o, s, e, want)
	}
	holdPrint(t, o)
}

func wantNoPrint(t *testing.T, o api.Origin) {
	t.Helper()
	if s, e := origin.Print(o); s != "" || e != originError {
		t.Errorf("P15.2: Print(%s) = %q, %d, want ErrOrigin", shown(o), s, e)
	}
	holdPrint(t, o)
}

// both are a set and the list that it was made of, which is its model.
type both struct {
	s *origin.Set
	l []api.Origin
}

// holdOf holds Of against the model; nil: there is no such set.
func holdOf(t *testing.T, l []api.Origin) *both {
	t.Helper()
	s, e := origin.Of(l)
	want := modelOf(l)
	if e != want || (s == nil) != (want != api.OK) {
		t.Fatalf("P15.4: Of(%s): %d, nil %v, want %d", shown(l...), e, s == nil, want)
	}
	if s == nil {
		return nil
	}
	b := &both{s, slices.Clone(l)}
	b.look(t, "P15.4")
	return b
}

func wantSet(t *testing.T, l ...api.Origin) *both {
	t.Helper()
	b := holdOf(t, l)
	if b == nil {
		t.Fatalf("P15.4: Of(%s) is no set", shown(l...))
	}
	return b
}

func wantNoSet(t *testing.T, want api.Errno, l ...api.Origin) {
	t.Helper()
	if s, e := origin.Of(l); s != nil || e != want {
		t.Errorf("P15.4: Of(%s): %d, nil %v, want %d", shown(l...), e, s == nil, want)
	}
	holdOf(t, l)
}

func (b *both) look(t *testing.T, promise string) {
	t.Helper()
	if got := b.s.List(); !slices.Equal(got, b.l) {
		t.Errorf("%s: Of(%v): List() = %v", promise, b.l, got)
	}
}

// holdHas holds Has against the model.
func (b *both) holdHas(t *testing.T, scheme, authority string) bool {
	t.Helper()
	got := b.s.Has(scheme, authority)
	if want := modelHas(b.l, scheme, authority); got != want {
		t.Errorf("P15.5: Of(%v): Has(%q, %q) = %v, want %v", b.l, scheme, authority, got, want)
	}
	return got
}

func (b *both) wantHas(t *testing.T, scheme, authority string, want bool) {
	t.Helper()
	if got := b.holdHas(t, scheme, authority); got != want {
		t.Errorf("P15.5: Of(%v): Has(%q, %q) = %v, want %v", b.l, scheme, authority, got, want)
	}
}

func TestExampleOne(t *testing.T) {
	wantParse(t, "https://example.com", api.Origin{Scheme: "https", Host: "example.com", Port: 443})
	wantParse(t, "HTTP://Example.COM:8080", api.Origin{Scheme: "http", Host: "example.com", Port: 8080})
	wantParse(t, "https://example.com:443", api.Origin{Scheme: "https", Host: "example.com", Port: 443})
	wantPrint(t, api.Origin{Scheme: "https", Host: "example.com", Port: 443}, "https://example.com")
}

func TestExampleTwo(t *testing.T) {
	for _, text := range []string{"example.com", "https://", "https://a/", "https://a:", "https://a:0", "https://a:08", "https://a:65536", "https://u@a", "https://-a", "https://a..b", "ftp://a", "https:/a"} {
		wantNoParse(t, text)
	}
}

func TestExampleThree(t *testing.T) {
	wantPrint(t, of("http", "a", 443), "http://a:443")
	wantNoPrint(t, of("https", "A", 443))
	wantNoPrint(t, of("https", "a", 0))
	wantNoPrint(t, of("", "a", 1))
}

func TestExampleFour(t *testing.T) {
	b := wantSet(t, of("https", "example.com", 443), of("http", "a", 8080))
	b.wantHas(t, "https", "example.com", true)
	b.wantHas(t, "https", "EXAMPLE.com:443", true)
	b.wantHas(t, "http", "a:8080", true)
	b.wantHas(t, "http", "example.com", false)
	b.wantHas(t, "https", "example.com:80", false)
	b.wantHas(t, "http", "a", false)
	b.wantHas(t, "HTTPS", "example.com", false)
	b.wantHas(t, "https", "u@example.com", false)
	b.wantHas(t, "https", "", false)
}

func TestExampleFive(t *testing.T) {
	a := of("https", "a", 443)
	wantNoSet(t, api.ErrTwice, a, a)
	many := someOrigins(17)
	wantNoSet(t, api.ErrFull, many...)
	many[16] = many[2]
	wantNoSet(t, api.ErrTwice, many...)
	for _, none := range [][]api.Origin{nil, {}} {
		b := wantSet(t, none...)
		if l := b.s.List(); len(l) != 0 {
			t.Errorf("P15.4: of none: List() = %v", l)
		}
		b.wantHas(t, "https", "a", false)
		b.wantHas(t, "", "", false)
	}
}

// TestNumbers: the errors and the limit are those that the chapter has.
func TestNumbers(t *testing.T) {
	if api.ErrOrigin != originError || api.ErrTwice != twiceError || api.ErrFull != fullError || api.MaxOrigins != mostOrigins {
		t.Error("the errors or the limit have other numbers")
	}
}

// TestAlike: R4, the same calls answer the same, each time.
func TestAlike(t *testing.T) {
	l := someOrigins(16)
	first := wantSet(t, l...)
	for range 50 {
		again := wantSet(t, l...)
		again.look(t, "R4")
		first.look(t, "R4")
		for _, o := range l {
			holdPrint(t, o)
			first.wantHas(t, o.Scheme, o.Host+":"+strconv.Itoa(o.Port), true)
			again.wantHas(t, o.Scheme, o.Host+":"+strconv.Itoa(o.Port), true)
		}
		lists.Scribble(again.s.List(), api.Origin{})
	}
}
