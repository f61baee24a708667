package vary_test

import (
	"strings"
	"testing"

	"herald/api"
	"herald/lists"
	"herald/vary"
)

// holdMatch holds Match against the model, both ways about.
func holdMatch(t *testing.T, a, b api.Request, names []string) bool {
	t.Helper()
	got, turned := vary.Match(a, b, names), vary.Match(b, a, names)
	if want := modelMatch(a, b, names); got != want {
		t.Errorf("P16.2: Match(%s, %s, %q) = %v", lists.ShownRequest(a), lists.ShownRequest(b), names, got)
	}
	if got != turned {
		t.Errorf("P16.3: Match(%s, %s, %q) = %v, the other way about %v", lists.ShownRequest(a), lists.ShownRequest(b), names, got, turned)
	}
	return got
}

func wantMatch(t *testing.T, want bool, a, b api.Request, names ...string) {
	t.Helper()
	if got := holdMatch(t, a, b, names); got != want {
		t.Errorf("P16.2: Match(%s, %s, %q) = %v", lists.ShownRequest(a), lists.ShownRequest(b), names, got)
	}
	for _, r := range []api.Request{a, b} {
		if !vary.Match(r, r, names) {
			t.Errorf("P16.3: %s isn't like itself by %q", lists.ShownRequest(r), names)
		}
	}
}

func TestMatchExamples(t *testing.T) {
	p := getWith("accept", "1", "accept", "2")
	wantMatch(t, true, p, getWith("accept", "1", "y", "z", "accept", "2"), "accept")
	for _, q := range []api.Request{getWith("accept", "2", "accept", "1"), getWith("accept", "1"), getWith("accept", "1,2")} {
		wantMatch(t, false, p, q, "accept")
		wantMatch(t, true, p, q)
	}
	head, large := p, p
	head.Method, large.Path = "HEAD", "/X"
	for _, q := range []api.Request{head, large} {
		wantMatch(t, false, p, q, "accept")
		wantMatch(t, false, p, q)
	}

	wantMatch(t, false, getX(), getWith("x", ""), "x")
}

// TestHeads: each of the four texts counts, byte by byte, whatever the names are.
func TestHeads(t *testing.T) {
	p := getWith("a", "1")
	for i, text := range heads(&p) {
		others := append(bent(*text), "", *text+*text, strings.ToUpper(*text), strings.ToLower(*text), " "+*text, *text+"\x00", strings.Repeat("x", 70000))
		for _, other := range others {
			q := p
			*heads(&q)[i] = other
			wantMatch(t, *text == other, p, q)
			wantMatch(t, *text == other, p, q, "a")
		}
	}
	for _, other := range []api.Request{
		{Method: "GE", Scheme: "Thttps", Authority: "a.b", Path: "/x"},
		{Method: "GET", Scheme: "http", Authority: "sa.b", Path: "/x"},
		{Method: "GET", Scheme: "https", Authority: "a.b/", Path: "x"},
		{Method: "https", Scheme: "GET", Authority: "a.b", Path: "/x"},
		{Method: "GET", Scheme: "a.b", Authority: "https", Path: "/x"},
		{Method: "GET", Scheme: "https", Authority: "/x", Path: "a.b"},
		{Method: "GET", Scheme: "https", Authority: "a.b:443", Path: "/x"},
		{Method: "GET", Scheme: "https", Authority: "a.b", Path: "/%78"},
		{},
	} {
		wantMatch(t, false, p, other)
		wantMatch(t, false, getX(), other)
	}
}

// TestHeadIsNoField: the four texts aren't reached by the names of pseudo fields,
// nor do such fields stand for them.
func TestHeadIsNoField(t *testing.T) {
	wantMatch(t, true, getX(), getX(), ":method", ":path", "method")
	wantMatch(t, true, getX(), getWith(":method", "PUT"))
	wantMatch(t, false, getX(), getWith(":method", "GET"), ":method")
	other := getWith(":path", "/x")
	other.Path = "/y"
	wantMatch(t, false, getX(), other, ":path")
}

// TestValues: as many, one by one, in their order, byte by byte.
func TestValues(t *testing.T) {
	with := func(values ...string) api.Request {
		r := getX()
		for _, v := range values {
			r.Fields = append(r.Fields, api.Field{Name: "n", Value: v})
		}
		return r
	}
	all := [][]string{
		{}, {""}, {"", ""}, {"1"}, {"1", "2"}, {"2", "1"}, {"1", "1"}, {"1", "2", "1"}, {"1", "1", "2"}, {"1", ""}, {"", "1"}, {"12"}, {"1,2"}, {"1, 2"}, {"2,1"}, {"1,"}, {",1"}, {","},
		{" 1"}, {"1 "}, {"\t1"}, {"1\x00"}, {"\x00"}, {"1\n2"}, {"a"}, {"A"}, {"\u00e9"}, {"e\u0301"}, {"\xe9"}, {"\ufffd"}, {"\xff"}, {"01"}, {"1.0"}, {strings.Repeat("1", 70000)}, {strings.Repeat("1", 69999) + "2"},
	}
	for i, a := range all {
		for j, b := range all {
			wantMatch(t, i == j, with(a...), with(b...), "n")
			wantMatch(t, true, with(a...), with(b...))
			wantMatch(t, true, with(a...), with(b...), "m")
			wantMatch(t, true, with(a...), with(b...), "N", "", "n ")
		}
	}
	for _, other := range bent("gzip") {
		wantMatch(t, other == "gzip", with("gzip"), with(other), "n")
		wantMatch(t, other == "gzip", with("x", "gzip"), with("x", other), "n")
		wantMatch(t, other == "gzip", with("gzip", "x"), with(other, "x"), "n")
	}
}

// TestNoField: none of a name is unlike one that is empty.
func TestNoField(t *testing.T) {
	wantMatch(t, true, getX(), getX(), "x")
	wantMatch(t, true, getWith("x", ""), getWith("x", ""), "x")
	wantMatch(t, false, getX(), getWith("x", ""), "x")
	wantMatch(t, false, getWith("y", ""), getWith("x", ""), "x")
	wantMatch(t, false, getWith("y", "", "x", ""), getWith("y", ""), "x", "y")
	wantMatch(t, true, getWith("y", "", "x", ""), getWith("y", ""), "y")
	wantMatch(t, false, getWith("", ""), getX(), "")
	wantMatch(t, true, getWith("", ""), getX(), "x")
}

// TestWhichNames: each name of the list counts, as often as it stands there,
// wherever it stands.
func TestWhichNames(t *testing.T) {
	p := getWith("a", "1", "b", "2", "c", "3")
	for _, c := range []struct {
		other   api.Request
		unlike  string // the name that tells
		likeFor []string
	}{
		{getWith("a", "9", "b", "2", "c", "3"), "a", []string{"b", "c", "d"}},
		{getWith("a", "1", "b", "9", "c", "3"), "b", []string{"a", "c", "d"}},
		{getWith("a", "1", "b", "2", "c", "9"), "c", []string{"a", "b", "d"}},
		{getWith("a", "1", "b", "2", "c", "3", "d", "4"), "d", []string{"a", "b", "c"}},
		{getWith("b", "2", "c", "3"), "a", []string{"b", "c", "d"}},
	} {
		wantMatch(t, true, p, c.other)
		wantMatch(t, true, p, c.other, c.likeFor...)
		wantMatch(t, true, p, c.other, append(c.likeFor, c.likeFor...)...)
		wantMatch(t, false, p, c.other, c.unlike)
		wantMatch(t, false, p, c.other, c.unlike, c.unlike)
		for at := range len(c.likeFor) + 1 {
			names := append(append(append([]string{}, c.likeFor[:at]...), c.unlike), c.likeFor[at:]...)
			wantMatch(t, false, p, c.other, names...)
		}
	}
	wantMatch(t, false, p, getWith("a", "2", "b", "1", "c", "3"), "a", "b")
	wantMatch(t, false, getWith("a", "1"), getWith("b", "1"), "a", "b")
	wantMatch(t, true, p, getWith("c", "3", "b", "2", "a", "1"), "a", "b", "c")
	// The star is a name like others.
	wantMatch(t, true, p, p, "*")
	wantMatch(t, false, getWith("*", "1"), getWith("*", "2"), "*")
	if !vary.Match(p, p, []string{}) || !vary.Match(p, p, nil) {
		t.Error("P16.2: a request isn't like itself by no names")
	}
}

// TestLettersOfNames: a name and a field are held against one another byte by byte.
func TestLettersOfNames(t *testing.T) {
	wantMatch(t, true, getWith("accept", "1"), getWith("accept", "2"), "Accept")
	wantMatch(t, true, getWith("Accept", "1"), getWith("Accept", "2"), "accept")
	wantMatch(t, false, getWith("Accept", "1"), getWith("Accept", "2"), "Accept")
	wantMatch(t, true, getWith("accept", "1"), getWith("accept", "1", "Accept", "2"), "accept")
	wantMatch(t, false, getWith("accept", "1"), getWith("Accept", "1"), "accept")
	wantMatch(t, false, getWith("accept", "1"), getWith("Accept", "1"), "Accept")
	for _, other := range bent("name") {
		wantMatch(t, other == "name", getWith("name", "1"), getWith(other, "1"), "name")
		wantMatch(t, other != "name", getWith("name", "1"), getWith("name", "2"), other)
		wantMatch(t, other != "name", getWith("name", "1"), getWith("name", "1", other, "1"), "name")
	}
}

// TestNotLookedAt: bodies, other fields, and Never.
func TestNotLookedAt(t *testing.T) {
	p := getWith("accept", "1", "accept", "2")
	other := getX(api.Field{Name: "y", Value: "1"}, api.Field{Name: "accept", Value: "1", Never: true}, api.Field{Name: "Accept", Value: "1"}, api.Field{Name: "accept", Value: "2"}, api.Field{Name: "", Value: "accept", Never: true})
	other.Body = strings.Repeat("b", 70000)
	wantMatch(t, true, p, other, "accept")
	wantMatch(t, true, p, other)
	wantMatch(t, false, p, other, "accept", "y")
	empty := getX()
	empty.Body = "accept"
	wantMatch(t, true, p, empty)
	wantMatch(t, true, getX(), empty, "accept", "body")
	wantMatch(t, false, p, empty, "accept")
	never := getX(api.Field{Name: "accept", Value: "1", Never: true}, api.Field{Name: "accept", Value: "2", Never: true})
	wantMatch(t, true, p, never, "accept")
}

// TestWrongRequests: what no request may be is held against others all the same.
func TestWrongRequests(t *testing.T) {
	all := []api.Request{
		{}, {Method: " "}, {Method: "\x00"}, {Scheme: "HTTPS"}, {Authority: "a b"}, {Path: "x"}, {Path: "\xff"}, {Path: "\ufffd"},
		{Fields: lists.Of("", "")}, {Fields: lists.Of("A", " ")}, {Fields: lists.Of("A", "  ")}, {Fields: lists.Of(":path", "/")}, {Fields: lists.Of("a\n", "\n")}, {Fields: lists.Of("\xff", "\x00")},
		{Fields: lists.Filled(nil, 65)}, {Fields: lists.Filled(nil, 66)}, {Fields: lists.Filled(lists.Of("A", " "), 1000)},
	}
	for _, names := range [][]string{nil, {""}, {"A", ":path", "a\n", "\xff"}, {"x-65", "\ufffd"}, {"x-65", "x-999", "A", "", ":path"}} {
		for i, a := range all {
			for j, b := range all {
				if got := holdMatch(t, a, b, names); i == j && !got {
					t.Errorf("P16.3: %s isn't like itself by %q", lists.ShownRequest(a), names)
				}
			}
		}
	}
	wantMatch(t, false, all[14], all[15], "x-65")
	wantMatch(t, true, all[14], all[15], "x-64")
	wantMatch(t, true, all[0], all[16], "x-0")
}

// TestNamesAndMatch: the names that a response tells say which requests it answers.
func TestNamesAndMatch(t *testing.T) {
	names, _ := vary.Names(varying("Accept, X-A"))
	wantMatch(t, true, getWith("accept", "1", "x-a", "2"), getWith("x-a", "2", "accept", "1", "x-b", "3"), names...)
	wantMatch(t, false, getWith("accept", "1", "x-a", "2"), getWith("accept", "1", "x-a", "3"), names...)
	wantMatch(t, false, getWith("accept", "1", "x-a", "2"), getWith("accept", "1"), names...)
	wantMatch(t, true, getWith("Accept", "1"), getWith("Accept", "2"), names...)
}
