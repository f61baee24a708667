package site_test

import (
	"fmt"
	"slices"
	"strings"
	"testing"

	"herald/api"
	"herald/lists"
)

// wantBody asks a page with these fields, by GET and by HEAD.
func wantBody(t *testing.T, p api.Page, body string, fields ...api.Field) {
	t.Helper()
	told := lists.Of("content-length", fmt.Sprint(len(body)))
	if p.Vary != "" {
		told = lists.Joined(told, lists.Of("vary", p.Vary)...)
	}
	b := wantSite(t, p)
	for _, want := range []struct{ method, body string }{{"GET", body}, {"HEAD", ""}} {
		r := api.Request{Method: want.method, Authority: p.Authority, Path: p.Path, Fields: fields}
		a, e := b.holdServe(t, 1, r)
		if e != api.OK || !lists.SameResponse(a, api.Response{Status: p.Status, Fields: told, Body: want.body}) {
			t.Errorf("P17.1: %s: Serve(1, %s) = %s, %d, want the body %s", shown(p), lists.ShownRequest(r), lists.ShownResponse(a), e, lists.ShownText(body))
		}
	}
}

// TestFirstValue: of several fields of the name the first one counts, also where
// just a later one has a choice.
func TestFirstValue(t *testing.T) {
	p := varied("/", "accept", "x", "ex", "y", "why", "z", "zed")
	for _, c := range []struct {
		body   string
		fields []string
	}{
		{"ex", []string{"accept", "x"}}, {"why", []string{"accept", "y"}}, {"zed", []string{"accept", "z"}},
		{"ex", []string{"accept", "x", "accept", "y"}}, {"why", []string{"accept", "y", "accept", "x", "accept", "x"}},
		{"zed", []string{"accept", "w", "accept", "x"}}, {"zed", []string{"accept", "", "accept", "x"}}, {"zed", nil},
		{"ex", []string{"a", "y", "accept", "x", "b", "z"}}, {"ex", []string{"", "y", "accept", "x"}}, {"zed", []string{"x", "x", "y", "y"}},
		{"zed", []string{"accept", "X"}}, {"zed", []string{"accept", "x "}}, {"zed", []string{"accept", " x"}}, {"zed", []string{"accept", "x,y"}}, {"zed", []string{"accept", "xx"}}, {"zed", []string{"accept", "x\x00"}},
	} {
		wantBody(t, p, c.body, lists.Of(c.fields...)...)
	}
}

// TestWhichField: just the one that Vary names, byte by byte.
func TestWhichField(t *testing.T) {
	p := varied("/", "accept", "x", "ex", "y", "why")
	for _, name := range []string{"", "Accept", "ACCEPT", "accepT", "accept ", " accept", "accep", "accept-", "xaccept", "accept\x00", ":accept", "vary", "*", "x", "y", "content-length", "\u0430ccept"} {
		wantBody(t, p, "why", lists.Of(name, "x")...)
		wantBody(t, p, "ex", lists.Of(name, "y", "accept", "x", name, "y")...)
	}
	for _, name := range []string{"connection", "te", "vary", "content-length", "host", "**", "~"} {
		p.Vary = name
		wantBody(t, p, "ex", lists.Of("accept", "y", name, "x")...)
		wantBody(t, p, "why", lists.Of("accept", "x")...)
	}
}

// TestEmptyValue: none and an empty one are the same, and have a choice where
// there is one for "".
func TestEmptyValue(t *testing.T) {
	empty := lists.Of("accept", "")
	for _, fields := range [][]api.Field{nil, {}, empty, lists.Of("accept", "", "accept", "x"), lists.Of("Accept", "x"), lists.Of("b", "x")} {
		wantBody(t, varied("/", "accept", "", "none", "x", "ex", "y", "why"), "none", fields...)
		wantBody(t, varied("/", "accept", "x", "ex", "", "none", "y", "why"), "none", fields...)
		wantBody(t, varied("/", "accept", "x", "ex", "y", "why", "", "none"), "none", fields...)
		wantBody(t, varied("/", "accept", "x", "ex", "y", "why"), "why", fields...)
		wantBody(t, varied("/", "accept", "", "none"), "none", fields...)
	}
	wantBody(t, varied("/", "accept", "", "none", "y", "why"), "why", lists.Of("accept", "w")...)
}

// TestLoneChoice: where Vary names no field the only choice is answered, whatever
// fields there are, of that name too.
func TestLoneChoice(t *testing.T) {
	for _, vary := range []string{"", "*"} {
		for _, name := range []string{"", "*", "accept", "vary"} {
			for _, value := range []string{"", "*", "x", "y"} {
				wantBody(t, varied("/", vary, "", "only"), "only", lists.Of(name, value)...)
				wantBody(t, varied("/", vary, "", ""), "", lists.Of("accept", "x", name, value, name, "")...)
			}
		}
		wantBody(t, varied("/", vary, "", "only"), "only")
	}
	// A name that begins like the star is a name.
	wantBody(t, varied("/", "**", "x", "ex", "y", "why"), "ex", lists.Of("*", "y", "**", "x")...)
	for _, value := range []string{"", "x", "z"} {
		wantBody(t, varied("/", "accept", "x", "one"), "one", lists.Of("accept", value)...)
	}
}

// TestEveryChoice: each of as many as there may be, in every place, by its value.
func TestEveryChoice(t *testing.T) {
	for n := 1; n <= 8; n++ {
		var texts []string
		for i := range n {
			texts = append(texts, strings.Repeat("v", i), fmt.Sprint("body ", i))
		}
		p := varied("/", "x-v", texts...)
		for range n {
			for _, c := range p.Choices {
				wantBody(t, p, c.Body, lists.Of("x-v", c.Value)...)
			}
			last := p.Choices[n-1].Body
			wantBody(t, p, last, lists.Of("x-v", strings.Repeat("v", n))...)
			wantBody(t, p, last, lists.Of("x-v", "V")...)
			p.Choices = append(slices.Clone(p.Choices[1:]), p.Choices[0])
		}
	}
}

// TestWrongRequests: what no request may be is answered all the same.
func TestWrongRequests(t *testing.T) {
	p := varied("/", "accept", "x", "ex", "y", "why")
	for _, l := range [][]api.Field{
		lists.Of("", ""), lists.Of("A", " "), lists.Of(":path", "/none"), lists.Of(":method", "POST"), lists.Of(":status", "500"), lists.Of("connection", "close"), lists.Of("a\n", "\n"), lists.Of("\xff", "\x00"),
		lists.Filled(nil, 64), lists.Filled(nil, 65), lists.Filled(nil, 5000), lists.Of("content-length", "7"), lists.Of("te", "gzip"),
	} {
		wantBody(t, p, "ex", lists.Joined(l, lists.Of("accept", "x")...)...)
		wantBody(t, p, "why", l...)
		wantBody(t, p, "ex", lists.Joined(lists.Of("accept", "x"), l...)...)
	}
	for _, value := range []string{" x", "x\n", "\x00", strings.Repeat("x", 4097), strings.Repeat("x", 100000)} {
		wantBody(t, p, "why", lists.Of("accept", value, "accept", "x")...)
	}
}

// unlike are requests that differ from one just in what no answer may hang on:
// fields of other names, later fields of the same name, where they stand, Never,
// Scheme, Body.
func unlike(r api.Request, vary string) []api.Request {
	var all []api.Request
	add := func(change func(*api.Request)) {
		other := r
		other.Fields = slices.Clone(r.Fields)
		change(&other)
		all = append(all, other)
	}
	for _, s := range []string{"", "http", "HTTPS", "ftp", "\xff", " "} {
		add(func(o *api.Request) { o.Scheme = s })
		add(func(o *api.Request) { o.Body = s + "body" })
	}
	for at := range len(r.Fields) + 1 {
		for _, name := range []string{"", "x-other", "Accept", "ACCEPT", ":path", ":method", "content-length", "range", "if-none-match", "authorization", "cookie"} {
			add(func(o *api.Request) {
				o.Fields = lists.Put(r.Fields, at, api.Field{Name: name, Value: "x", Never: at == 0})
			})
		}
		if at < len(r.Fields) {
			add(func(o *api.Request) { o.Fields[at].Never = !o.Fields[at].Never })
		}
	}
	add(func(o *api.Request) { o.Fields = lists.Filled(r.Fields, 70) })
	first := slices.IndexFunc(r.Fields, func(f api.Field) bool { return f.Name == vary })
	if first < 0 {
		add(func(o *api.Request) { o.Fields = append(o.Fields, api.Field{Name: vary}) })
		return all
	}
	add(func(o *api.Request) { o.Fields = lists.Joined(r.Fields, lists.Of(vary, "x", vary, "", vary, "y")...) })
	add(func(o *api.Request) { o.Fields = lists.Put(r.Fields, first+1, api.Field{Name: vary, Value: "y"}) })
	add(func(o *api.Request) { o.Fields = []api.Field{r.Fields[first]} })
	return all
}

// TestWhatAnswersHangOn: P17.2, at each of some versions.
func TestWhatAnswersHangOn(t *testing.T) {
	b := wantSite(t, plain("/", "plain"), varied("/q", "accept", "x", "ex", "y", "why", "", "none"))
	b.wantPut(t, varied("/", "*", "", "star"), api.OK)
	b.wantPut(t, varied("/q", "x-v", "1", "one", "2", "two"), api.OK)
	b.wantPut(t, varied("/", "accept", "y", "why", "x", "ex"), api.OK)
	asks := 0
	for _, method := range []string{"GET", "HEAD", "PUT"} {
		for _, path := range []string{"/", "/q", "/none"} {
			for _, fields := range [][]string{nil, {"accept", "x"}, {"accept", "y", "x-v", "1"}, {"x-v", "1", "accept", "x"}, {"b", "1", "accept", "", "x-v", "2"}} {
				r := asked(method, path, fields...)
				for v := int64(0); v <= 5; v++ {
					want, wantError := b.holdServe(t, v, r)
					for _, other := range unlike(r, varyAt(b, v, r)) {
						asks++
						if a, e := b.holdServe(t, v, other); !lists.SameResponse(a, want) || e != wantError {
							t.Errorf("P17.2: at version %d %s and %s: %s, %d, and %s, %d", v, lists.ShownRequest(r), lists.ShownRequest(other), lists.ShownResponse(want), wantError, lists.ShownResponse(a), e)
						}
					}
				}
			}
		}
	}
	if asks < 5000 {
		t.Errorf("%d pairs of requests: too few to tell", asks)
	}
}

// varyAt is the Vary of the page that a request asks for at a version; without
// one any name will do.
func varyAt(b *both, v int64, r api.Request) string {
	if v >= 1 && v <= int64(len(b.versions)) {
		for _, p := range b.versions[v-1] {
			if p.Authority == r.Authority && p.Path == r.Path {
				return p.Vary
			}
		}
	}
	return "accept"
}
