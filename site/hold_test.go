package site_test

import (
	"fmt"
	"slices"
	"testing"

	"herald/api"
	"herald/field"
	"herald/lists"
	"herald/site"
)

// both are a site and its model.
type both struct {
	s        *site.Site
	versions [][]api.Page
}

// holdNew holds New against the model; nil: there is no such site.
func holdNew(t *testing.T, pages []api.Page) *both {
	t.Helper()
	s, e := site.New(pages)
	want := modelNew(pages)
	if e != want || (s == nil) != (want != api.OK) {
		t.Fatalf("P17.1: New(%s): %d, nil %v, want %d", shown(pages...), e, s == nil, want)
	}
	if s == nil {
		return nil
	}
	b := &both{s, [][]api.Page{ownPages(pages)}}
	b.holdVersion(t)
	return b
}

func wantSite(t *testing.T, pages ...api.Page) *both {
	t.Helper()
	b := holdNew(t, pages)
	if b == nil {
		t.Fatalf("P17.1: New(%s) is no site", shown(pages...))
	}
	return b
}

func wantNoSite(t *testing.T, want api.Errno, pages ...api.Page) {
	t.Helper()
	if s, e := site.New(pages); s != nil || e != want {
		t.Errorf("P17.1: New(%s): %d, nil %v, want %d", shown(pages...), e, s == nil, want)
	}
	holdNew(t, pages)
}

// holdPut holds Put against the model.
func (b *both) holdPut(t *testing.T, p api.Page) api.Errno {
	t.Helper()
	e := b.s.Put(p)
	next, want := modelPut(b.versions[len(b.versions)-1], p)
	if e != want {
		t.Fatalf("P17.1: Put(%s) behind version %d: %d, want %d", shown(p), len(b.versions), e, want)
	}
	if want == api.OK {
		b.versions = append(b.versions, next)
	}
	b.holdVersion(t)
	return e
}

func (b *both) wantPut(t *testing.T, p api.Page, want api.Errno) {
	t.Helper()
	if e := b.holdPut(t, p); e != want {
		t.Errorf("P17.1: Put(%s) behind version %d: %d, want %d", shown(p), len(b.versions), e, want)
	}
}

func (b *both) holdVersion(t *testing.T) {
	t.Helper()
	if got := b.s.Version(); got != int64(len(b.versions)) {
		t.Errorf("P17.1: Version() = %d, want %d", got, len(b.versions))
	}
}

// holdHas holds Has against the model.
func (b *both) holdHas(t *testing.T, v int64, authority, path string) bool {
	t.Helper()
	got, want := b.s.Has(v, authority, path), false
	if v >= 1 && v <= int64(len(b.versions)) {
		want = slices.ContainsFunc(b.versions[v-1], func(p api.Page) bool { return p.Authority == authority && p.Path == path })
	}
	if got != want {
		t.Errorf("P17.1: Has(%d, %s, %s) = %v of %d versions", v, lists.ShownText(authority), lists.ShownText(path), got, len(b.versions))
	}
	return got
}

func (b *both) wantHas(t *testing.T, v int64, authority, path string, want bool) {
	t.Helper()
	if got := b.holdHas(t, v, authority, path); got != want {
		t.Errorf("P17.1: Has(%d, %s, %s) = %v of %d versions", v, lists.ShownText(authority), lists.ShownText(path), got, len(b.versions))
	}
}

// holdServe holds Serve against the model, and what it answers to P17.4.
func (b *both) holdServe(t *testing.T, v int64, r api.Request) (api.Response, api.Errno) {
	t.Helper()
	a, e := b.s.Serve(v, r)
	want, wantError := modelServe(b.versions, v, r)
	if !lists.SameResponse(a, want) || e != wantError {
		t.Errorf("P17.1: Serve(%d, %s) = %s, %d, want %s, %d", v, lists.ShownRequest(r), lists.ShownResponse(a), e, lists.ShownResponse(want), wantError)
	}
	if e != api.OK {
		return a, e
	}
	if _, e := field.WriteResponse(a); e != api.OK {
		t.Errorf("P17.4: Serve(%d, %s) = %s, of which WriteResponse says %d", v, lists.ShownRequest(r), lists.ShownResponse(a), e)
	}
	if r.Method == "HEAD" {
		b.holdHead(t, v, r, a)
	}
	return a, api.OK
}

// holdHead holds what a HEAD was answered against what a GET is.
func (b *both) holdHead(t *testing.T, v int64, r api.Request, a api.Response) {
	t.Helper()
	r.Method = "GET"
	whole, e := b.s.Serve(v, r)
	sizes := field.Values(whole.Fields, "content-length")
	if e != api.OK || len(sizes) != 1 || sizes[0] != fmt.Sprint(len(whole.Body)) {
		t.Errorf("P17.4: Serve(%d, %s) = %s, %d: content-length %q", v, lists.ShownRequest(r), lists.ShownResponse(whole), e, sizes)
	}
	whole.Body = ""
	if !lists.SameResponse(a, whole) {
		t.Errorf("P17.4: Serve(%d, %s) = %s but for the Body, HEAD %s", v, lists.ShownRequest(r), lists.ShownResponse(whole), lists.ShownResponse(a))
	}
}

func (b *both) wantServe(t *testing.T, v int64, r api.Request, status int, body string, fields ...string) {
	t.Helper()
	want := api.Response{Status: status, Fields: lists.Of(fields...), Body: body}
	if a, e := b.holdServe(t, v, r); !lists.SameResponse(a, want) || e != api.OK {
		t.Errorf("P17.1: Serve(%d, %s) = %s, %d, want %s", v, lists.ShownRequest(r), lists.ShownResponse(a), e, lists.ShownResponse(want))
	}
}

func (b *both) wantNoVersion(t *testing.T, v int64, r api.Request) {
	t.Helper()
	if a, e := b.holdServe(t, v, r); !lists.SameResponse(a, api.Response{}) || e != noneError {
		t.Errorf("P17.1: Serve(%d, %s) = %s, %d, want ErrNone", v, lists.ShownRequest(r), lists.ShownResponse(a), e)
	}
	b.wantHas(t, v, r.Authority, r.Path, false)
}

// look asks for every target that there is, or was put in vain, at each version
// and beside them.
func (b *both) look(t *testing.T, beside ...api.Page) {
	t.Helper()
	b.holdVersion(t)
	for _, p := range slices.Concat(beside, b.versions[len(b.versions)-1]) {
		for v := int64(-1); v <= int64(len(b.versions))+2; v++ {
			b.holdHas(t, v, p.Authority, p.Path)
			for _, r := range requestsFor(p) {
				b.holdServe(t, v, r)
			}
		}
	}
}
